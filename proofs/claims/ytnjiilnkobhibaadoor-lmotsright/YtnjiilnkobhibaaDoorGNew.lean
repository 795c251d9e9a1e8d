/- Contract of the document's New. -/
import Derived.Test.YtnjiilnkobhibaaDoorJoin
import Derived.Test.YtnjiilnkobhibaaDoorHaE
import Derived.Test.YtnjiilnkobhibaaDoorGEn32
import Derived.Test.YtnjiilnkobhibaaDoorGEn64
import Derived.Test.YtnjiilnkobhibaaDoorHSum
namespace Go.Proofs.YtnjiilnkobhibaaDoor
open Go.RowKit
set_option linter.unusedVariables false
set_option linter.unusedSimpArgs false

set_option maxHeartbeats 2000000 in
set_option maxRecDepth 100000 in
theorem rnew_1 (w : World) :
    Calls Tryd.prog 60 #[.int .i64 1] w fun e w' => e = .returned (.tuple #[.agg (hv 1 (ini 1) (.slice none 0 0) 0), .int .i64 0]) ∧ Below w.heap.size w w' := by
  have hO0 := (Hb.new w 0 (List.replicate 8 0) (.slice none 0 0) 0).below (keep_alloc _ (.cells (hv 1 (ini 1) (.slice none 0 0) 0) 81))
  have hb0 := keep_trans (keep_alloc w (.cells (hv 0 (List.replicate 8 0) (.slice none 0 0) 0) 81)) (keep_alloc _ (.cells (hv 1 (ini 1) (.slice none 0 0) 0) 81))
  go_enter Tryd.func60, Tryd.ntmps60
  go_wp2
  refine bodyPost_ret (v := .tuple #[.agg (hv 1 (ini 1) (.slice none 0 0) 0), .int .i64 0]) ?_ rfl ⟨rfl, ?_⟩
  · have e : hv 1 (ini 1) (.slice none 0 0) 0 = #[.int .i64 1, .int .u64 1779033703, .int .u64 3144134277, .int .u64 1013904242, .int .u64 2773480762, .int .u64 1359893119, .int .u64 2600822924, .int .u64 528734635, .int .u64 1541459225, .slice none 0 0, .int .u64 0] := by kernel_rfl
    rw [e]
    simp [results, Tryd.results60, go_sem]
  · exact keep_trans (keep_alloc _ _) (keep_alloc _ _)
set_option maxHeartbeats 2000000 in
set_option maxRecDepth 100000 in
theorem rnew_2 (w : World) :
    Calls Tryd.prog 60 #[.int .i64 2] w fun e w' => e = .returned (.tuple #[.agg (hv 2 (ini 2) (.slice none 0 0) 0), .int .i64 0]) ∧ Below w.heap.size w w' := by
  have hO0 := (Hb.new w 0 (List.replicate 8 0) (.slice none 0 0) 0).below (keep_alloc _ (.cells (hv 2 (ini 2) (.slice none 0 0) 0) 81))
  have hb0 := keep_trans (keep_alloc w (.cells (hv 0 (List.replicate 8 0) (.slice none 0 0) 0) 81)) (keep_alloc _ (.cells (hv 2 (ini 2) (.slice none 0 0) 0) 81))
  go_enter Tryd.func60, Tryd.ntmps60
  go_wp2
  refine bodyPost_ret (v := .tuple #[.agg (hv 2 (ini 2) (.slice none 0 0) 0), .int .i64 0]) ?_ rfl ⟨rfl, ?_⟩
  · have e : hv 2 (ini 2) (.slice none 0 0) 0 = #[.int .i64 2, .int .u64 14680500436340154072, .int .u64 7105036623409894663, .int .u64 10473403895298186519, .int .u64 1526699215303891257, .int .u64 7436329637833083697, .int .u64 10282925794625328401, .int .u64 15784041429090275239, .int .u64 5167115440072839076, .slice none 0 0, .int .u64 0] := by kernel_rfl
    rw [e]
    simp [results, Tryd.results60, go_sem]
  · exact keep_trans (keep_alloc _ _) (keep_alloc _ _)
set_option maxHeartbeats 2000000 in
set_option maxRecDepth 100000 in
theorem rnew_3 (w : World) :
    Calls Tryd.prog 60 #[.int .i64 3] w fun e w' => e = .returned (.tuple #[.agg (hv 3 (ini 3) (.slice none 0 0) 0), .int .i64 0]) ∧ Below w.heap.size w w' := by
  have hO0 := (Hb.new w 0 (List.replicate 8 0) (.slice none 0 0) 0).below (keep_alloc _ (.cells (hv 3 (ini 3) (.slice none 0 0) 0) 81))
  have hb0 := keep_trans (keep_alloc w (.cells (hv 0 (List.replicate 8 0) (.slice none 0 0) 0) 81)) (keep_alloc _ (.cells (hv 3 (ini 3) (.slice none 0 0) 0) 81))
  go_enter Tryd.func60, Tryd.ntmps60
  go_wp2
  refine bodyPost_ret (v := .tuple #[.agg (hv 3 (ini 3) (.slice none 0 0) 0), .int .i64 0]) ?_ rfl ⟨rfl, ?_⟩
  · have e : hv 3 (ini 3) (.slice none 0 0) 0 = #[.int .i64 3, .int .u64 7640891576956012808, .int .u64 13503953896175478587, .int .u64 4354685564936845355, .int .u64 11912009170470909681, .int .u64 5840696475078001361, .int .u64 11170449401992604703, .int .u64 2270897969802886507, .int .u64 6620516959819538809, .slice none 0 0, .int .u64 0] := by kernel_rfl
    rw [e]
    simp [results, Tryd.results60, go_sem]
  · exact keep_trans (keep_alloc _ _) (keep_alloc _ _)

set_option maxHeartbeats 2000000 in
set_option maxRecDepth 100000 in
theorem rnew_0 (kind : Int) (w : World) (h1 : ¬ kind = 1) (h2 : ¬ kind = 2) (h3 : ¬ kind = 3) :
    Calls Tryd.prog 60 #[.int .i64 kind] w fun e w' => e = .returned (.tuple #[.agg (hv 0 (List.replicate 8 0) (.slice none 0 0) 0), .int .i64 9]) ∧ Below w.heap.size w w' := by
  go_enter Tryd.func60, Tryd.ntmps60
  go_wp2
  refine bodyPost_ret (v := .tuple #[.agg (hv 0 (List.replicate 8 0) (.slice none 0 0) 0), .int .i64 9]) ?_ rfl ⟨rfl, ?_⟩
  · unfold hv
    simp [results, Tryd.results60, go_sem, el]
  · exact keep_trans (keep_alloc _ _) (keep_alloc _ _)
end Go.Proofs.YtnjiilnkobhibaaDoor

/- The document's Add, End and Sum, of whatever kind; New and Sum of the code, of whatever kind. -/
namespace Go.Proofs.YtnjiilnkobhibaaDoor
open Go.RowKit
set_option linter.unusedVariables false
set_option linter.unusedSimpArgs false

theorem fill_left (c : Bool) (l : List Nat) (s : Nat) : fill c (left c l).length s = fill c l.length s := by
  unfold fill room
  rw [left_length, Nat.mod_mod]
/-- a sum's end is that of its parts -/
theorem endS_parts (c : Bool) (E b : List Nat) (s n : Nat) : endS c (eat c E b) (left c b) s n = endS c E b s n := by
  unfold endS
  rw [fill_left, ← eat_parts]
theorem rEnd_new (kind : Int) (ws : List Nat) (tv : Value) (tl : List Nat) (size : Nat) (w : World) (h8 : ws.length = 8) (hu : Under (wm (wide kind)) ws) (hRt : Row .u8 256 w tv tl) (tT : Tidy tv) (htl : tl.length < bz (wide kind)) (hsz : size < 1152921504606846976) :
    Calls Tryd.prog 61 #[.agg (hv kind ws tv size)] w fun e w' => ∃ v', e = .returned v' ∧ Row .u8 256 w' v' (endS (wide kind) ws tl size (outn kind)) ∧ New w.heap.size v' ∧ Below w.heap.size w w' := by
  cases hk : wide kind with
  | false => rw [hk] at hu htl; exact rend_new32 kind hk ws tv tl size w h8 hu hRt tT htl hsz
  | true => rw [hk] at hu htl; exact rend_new64 kind hk ws tv tl size w h8 hu hRt tT htl hsz
theorem rEnd_any (kind : Int) (ws : List Nat) (tv : Value) (tl : List Nat) (size : Nat) (w : World) (h8 : ws.length = 8) (hu : Under (wm (wide kind)) ws) (hRt : Row .u8 256 w tv tl) (tT : Tidy tv) (htl : tl.length < bz (wide kind)) (hsz : size < 1152921504606846976) :
    Calls Tryd.prog 61 #[.agg (hv kind ws tv size)] w fun e w' => ∃ v', e = .returned v' ∧ Row .u8 256 w' v' (endS (wide kind) ws tl size (outn kind)) ∧ Below w.heap.size w w' := by
  cases hk : wide kind with
  | false => rw [hk] at hu htl; exact rend_any32 kind hk ws tv tl size w h8 hu hRt tT htl hsz
  | true => rw [hk] at hu htl; exact rend_any64 kind hk ws tv tl size w h8 hu hRt tT htl hsz
theorem rAdd_any (kind : Int) (ws : List Nat) (tv bv : Value) (tl b : List Nat) (size : Nat) (w : World) (h8 : ws.length = 8) (hu : Under (wm (wide kind)) ws) (hRt : Row .u8 256 w tv tl) (tT : Tidy tv) (hRb : Row .u8 256 w bv b) (tB : Tidy bv) (htl : tl.length ≤ 100000) (hbl : b.length ≤ 100000) (hsz : size < 1152921504606846976) :
    Calls Tryd.prog 62 #[.agg (hv kind ws tv size), bv] w fun e w' => ∃ v', e = .returned (.agg (hv kind (eat (wide kind) ws (tl ++ b)) v' (size + b.length))) ∧ Row .u8 256 w' v' (left (wide kind) (tl ++ b)) ∧ Tidy v' ∧ Below w.heap.size w w' := by
  cases hk : wide kind with
  | false => rw [hk] at hu; exact radd_any32 kind hk ws tv bv tl b size w h8 hu hRt tT hRb tB htl hbl hsz
  | true => rw [hk] at hu; exact radd_any64 kind hk ws tv bv tl b size w h8 hu hRt tT hRb tB htl hbl hsz

set_option maxHeartbeats 2000000 in
set_option maxRecDepth 100000 in
theorem rsum_new (kind : Int) (E : List Nat) (bv : Value) (b : List Nat) (w : World) (h8 : E.length = 8) (hu : Under (wm (wide kind)) E) (hR : Row .u8 256 w bv b) (tB : Tidy bv) (hbl : b.length ≤ 100000)
    (hnew : Calls Tryd.prog 60 #[.int .i64 kind] w fun e w' => e = .returned (.tuple #[.agg (hv kind E (.slice none 0 0) 0), .int .i64 0]) ∧ Below w.heap.size w w') :
    Calls Tryd.prog 49 #[.int .i64 kind, bv] w fun e w' => ∃ v', e = .returned (.tuple #[v', .int .i64 0]) ∧ Row .u8 256 w' v' (endS (wide kind) E b b.length (outn kind)) ∧ New w.heap.size v' ∧ Below w.heap.size w w' := by
  obtain ⟨ba, bc, rfl⟩ := hR.form
  have hadd := fun w1 (hb1 : Below w.heap.size w w1) => rAdd_any kind E (.slice none 0 0) _ [] b 0 w1 h8 hu (Row.nil _ _ _) tidy_nil (hR.below hb1) tB (by decide) hbl (by decide)
  have hend := fun w1 v1 (hR1 : Row .u8 256 w1 v1 (left (wide kind) b)) (hT1 : Tidy v1) => rEnd_new kind (eat (wide kind) E b) v1 (left (wide kind) b) b.length w1 (eat_len _ h8) (eat_under _ hu) hR1 hT1 (left_lt _ _) (by omega)
  rw [endS_parts] at hend
  simp only [List.nil_append, Nat.zero_add] at hadd
  unfold hv at hadd hend hnew
  generalize eat (wide kind) E b = X at *
  generalize left (wide kind) b = L at *
  go_enter Tryd.func49, Tryd.ntmps49
  go_wp2_with (first
    | (go_at_call 60; refine hnew.mono ?_; rintro e w1 ⟨rfl, hb1⟩)
    | (go_at_call 62; refine (hadd _ (keep_trans hb1 (keep_alloc _ _))).mono ?_; rintro e w2 ⟨v2, rfl, hR2, hT2, hb2⟩)
    | (go_at_call 61; refine (hend _ _ hR2 hT2).mono ?_; rintro e w3 ⟨v3, rfl, hR3, hN3, hb3⟩)
    | fail)
  go_ret2
  exact ⟨_, rfl, hR3, hN3.mono (keep_trans (keep_trans hb1 (keep_alloc _ _)) hb2).size, keep_trans (keep_trans (keep_trans hb1 (keep_alloc _ _)) hb2) hb3⟩
theorem rsum_of (kind : Int) (E : List Nat) (bv : Value) (b : List Nat) (w : World) (h8 : E.length = 8) (hu : Under (wm (wide kind)) E) (hR : Row .u8 256 w bv b) (tB : Tidy bv) (hbl : b.length ≤ 100000)
    (hnew : Calls Tryd.prog 60 #[.int .i64 kind] w fun e w' => e = .returned (.tuple #[.agg (hv kind E (.slice none 0 0) 0), .int .i64 0]) ∧ Below w.heap.size w w') :
    Calls Tryd.prog 49 #[.int .i64 kind, bv] w fun e w' => ∃ v', e = .returned (.tuple #[v', .int .i64 0]) ∧ Row .u8 256 w' v' (endS (wide kind) E b b.length (outn kind)) ∧ Below w.heap.size w w' :=
  (rsum_new kind E bv b w h8 hu hR tB hbl hnew).mono fun e w' ⟨v', h1, h2, _, h3⟩ => ⟨v', h1, h2, h3⟩
set_option maxHeartbeats 2000000 in
set_option maxRecDepth 100000 in
theorem rsum_0 (kind : Int) (bv : Value) (w : World) (h1 : ¬ kind = 1) (h2 : ¬ kind = 2) (h3 : ¬ kind = 3) :
    Calls Tryd.prog 49 #[.int .i64 kind, bv] w fun e w' => e = .returned (.tuple #[.slice none 0 0, .int .i64 9]) ∧ Below w.heap.size w w' := by
  have hnew := rnew_0 kind w h1 h2 h3
  unfold hv at *
  go_enter Tryd.func49, Tryd.ntmps49
  go_wp2_with (first
    | (go_at_call 60; refine hnew.mono ?_; rintro e w1 ⟨rfl, hb1⟩)
    | fail)
  go_ret2
  exact ⟨rfl, keep_trans hb1 (keep_alloc _ _)⟩

/-- New and Sum, of whatever kind: what is told -/
def NewE (F : FuncId) (kind : Int) (k : Int) (E : List Nat) (c : Int) (w : World) : Prop := Calls Tryd.prog F #[.int .i64 kind] w fun e w' => e = .returned (.tuple #[.agg (hv k E (.slice none 0 0) 0), .int .i64 c]) ∧ Below w.heap.size w w'
def SumE (F : FuncId) (kind : Int) (bv : Value) (s : List Nat) (c : Int) (w : World) : Prop := Calls Tryd.prog F #[.int .i64 kind, bv] w fun e w' => ∃ v', e = .returned (.tuple #[v', .int .i64 c]) ∧ Row .u8 256 w' v' s ∧ Below w.heap.size w w'
/-- both New, and both Sum, tell the same -/
theorem both_all (kind : Int) (b : List Nat) (hbl : b.length ≤ 100000) : ∃ (k : Int) (E : List Nat) (c : Int) (s : List Nat), E.length = 8 ∧ Under 18446744073709551616 E ∧
    (∀ w, Roots w → NewE 47 kind k E c w) ∧ (∀ w, NewE 60 kind k E c w) ∧
    (∀ w bv, Roots w → Row .u8 256 w bv b → Tidy bv → SumE 40 kind bv s c w) ∧ (∀ w bv, Row .u8 256 w bv b → Tidy bv → SumE 49 kind bv s c w) := by
  by_cases h1 : kind = 1
  · subst h1
    refine ⟨1, ini 1, 0, endS (wide 1) (ini 1) b b.length (outn 1), by decide, dec_under (by decide), fun w hT => new_1 w hT, fun w => rnew_1 w, fun w bv hT hR tB => ?_, fun w bv hR tB => ?_⟩
    · exact (sum_1 bv b w hT hR tB hbl).mono fun e w' ⟨v', he, hO, hb⟩ => ⟨v', he, hO.row, hb⟩
    · exact rsum_of 1 (ini 1) bv b w (by decide) (dec_under (by decide)) hR tB hbl (rnew_1 w)
  · by_cases h2 : kind = 2
    · subst h2
      refine ⟨2, ini 2, 0, endS (wide 2) (ini 2) b b.length (outn 2), by decide, dec_under (by decide), fun w hT => new_2 w hT, fun w => rnew_2 w, fun w bv hT hR tB => ?_, fun w bv hR tB => ?_⟩
      · exact (sum_2 bv b w hT hR tB hbl).mono fun e w' ⟨v', he, hO, hb⟩ => ⟨v', he, hO.row, hb⟩
      · exact rsum_of 2 (ini 2) bv b w (by decide) (dec_under (by decide)) hR tB hbl (rnew_2 w)
    · by_cases h3 : kind = 3
      · subst h3
        refine ⟨3, ini 3, 0, endS (wide 3) (ini 3) b b.length (outn 3), by decide, dec_under (by decide), fun w hT => new_3 w hT, fun w => rnew_3 w, fun w bv hT hR tB => ?_, fun w bv hR tB => ?_⟩
        · exact (sum_3 bv b w hT hR tB hbl).mono fun e w' ⟨v', he, hO, hb⟩ => ⟨v', he, hO.row, hb⟩
        · exact rsum_of 3 (ini 3) bv b w (by decide) (dec_under (by decide)) hR tB hbl (rnew_3 w)
      · refine ⟨0, List.replicate 8 0, 9, [], by decide, dec_under (by decide), fun w _ => new_0 kind w h1 h2 h3, fun w => rnew_0 kind w h1 h2 h3, fun w bv hT hR tB => ?_, fun w bv hR tB => ?_⟩
        · exact (sum_0 kind bv w h1 h2 h3).mono fun e w' ⟨he, hb⟩ => ⟨_, he, Row.nil _ _ _, hb⟩
        · exact (rsum_0 kind bv w h1 h2 h3).mono fun e w' ⟨he, hb⟩ => ⟨_, he, Row.nil _ _ _, hb⟩
end Go.Proofs.YtnjiilnkobhibaaDoor
