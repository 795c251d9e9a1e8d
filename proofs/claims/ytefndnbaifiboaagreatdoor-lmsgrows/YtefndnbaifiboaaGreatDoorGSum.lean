/- The document's Add, End and Sum, of whatever kind; New and Sum of the code, of whatever kind. -/
import Derived.Test.YtefndnbaifiboaaGreatDoorGEn32
import Derived.Test.YtefndnbaifiboaaGreatDoorGEn64
import Derived.Test.YtefndnbaifiboaaGreatDoorHEnd
import Derived.Test.YtefndnbaifiboaaGreatDoorLmC
import Derived.Test.YtefndnbaifiboaaGreatDoorBack
import Derived.Test.YtefndnbaifiboaaGreatDoorPApp
import Derived.Test.YtefndnbaifiboaaGreatDoorBe
namespace Go.Proofs.YtefndnbaifiboaaGreatDoor
open Go.RowKit
set_option linter.unusedVariables false
set_option linter.unusedSimpArgs false

theorem fill_left (c : Bool) (l : List Nat) (s : Nat) : fill c (left c l).length s = fill c l.length s := by
  unfold fill room
  rw [left_length, Nat.mod_mod]
/-- a sum's end is that of its parts -/
theorem endS_parts (c : Bool) (E b : List Nat) (s n : Nat) : endS c (eat c E b) (left c b) s n = endS c E b s n := by
  unfold endS
  rw [fill_left, ← eat_parts]
theorem rEnd_new (kind : Int) (ws : List Nat) (tv : Value) (tl : List Nat) (size : Nat) (w : World) (h8 : ws.length = 8) (hu : Under (wm (wide kind)) ws) (hRt : Row .u8 256 w tv tl) (tT : Tidy tv) (htl : tl.length < bz (wide kind)) (hsz : size < 1152921504606846976) :
    Calls Tryz.prog 101 #[.agg (hv kind ws tv size)] w fun e w' => ∃ v', e = .returned v' ∧ Row .u8 256 w' v' (endS (wide kind) ws tl size (outn kind)) ∧ New w.heap.size v' ∧ Below w.heap.size w w' := by
  cases hk : wide kind with
  | false => rw [hk] at hu htl; exact rend_new32 kind hk ws tv tl size w h8 hu hRt tT htl hsz
  | true => rw [hk] at hu htl; exact rend_new64 kind hk ws tv tl size w h8 hu hRt tT htl hsz
theorem rEnd_any (kind : Int) (ws : List Nat) (tv : Value) (tl : List Nat) (size : Nat) (w : World) (h8 : ws.length = 8) (hu : Under (wm (wide kind)) ws) (hRt : Row .u8 256 w tv tl) (tT : Tidy tv) (htl : tl.length < bz (wide kind)) (hsz : size < 1152921504606846976) :
    Calls Tryz.prog 101 #[.agg (hv kind ws tv size)] w fun e w' => ∃ v', e = .returned v' ∧ Row .u8 256 w' v' (endS (wide kind) ws tl size (outn kind)) ∧ Below w.heap.size w w' := by
  cases hk : wide kind with
  | false => rw [hk] at hu htl; exact rend_any32 kind hk ws tv tl size w h8 hu hRt tT htl hsz
  | true => rw [hk] at hu htl; exact rend_any64 kind hk ws tv tl size w h8 hu hRt tT htl hsz
theorem rAdd_any (kind : Int) (ws : List Nat) (tv bv : Value) (tl b : List Nat) (size : Nat) (w : World) (h8 : ws.length = 8) (hu : Under (wm (wide kind)) ws) (hRt : Row .u8 256 w tv tl) (tT : Tidy tv) (hRb : Row .u8 256 w bv b) (tB : Tidy bv) (htl : tl.length ≤ 100000) (hbl : b.length ≤ 100000) (hsz : size < 1152921504606846976) :
    Calls Tryz.prog 102 #[.agg (hv kind ws tv size), bv] w fun e w' => ∃ v', e = .returned (.agg (hv kind (eat (wide kind) ws (tl ++ b)) v' (size + b.length))) ∧ Row .u8 256 w' v' (left (wide kind) (tl ++ b)) ∧ Tidy v' ∧ Below w.heap.size w w' := by
  cases hk : wide kind with
  | false => rw [hk] at hu; exact radd_any32 kind hk ws tv bv tl b size w h8 hu hRt tT hRb tB htl hbl hsz
  | true => rw [hk] at hu; exact radd_any64 kind hk ws tv bv tl b size w h8 hu hRt tT hRb tB htl hbl hsz

set_option maxHeartbeats 2000000 in
set_option maxRecDepth 100000 in
theorem rsum_new (kind : Int) (E : List Nat) (bv : Value) (b : List Nat) (w : World) (h8 : E.length = 8) (hu : Under (wm (wide kind)) E) (hR : Row .u8 256 w bv b) (tB : Tidy bv) (hbl : b.length ≤ 100000)
    (hnew : Calls Tryz.prog 100 #[.int .i64 kind] w fun e w' => e = .returned (.tuple #[.agg (hv kind E (.slice none 0 0) 0), .int .i64 0]) ∧ Below w.heap.size w w') :
    Calls Tryz.prog 93 #[.int .i64 kind, bv] w fun e w' => ∃ v', e = .returned (.tuple #[v', .int .i64 0]) ∧ Row .u8 256 w' v' (endS (wide kind) E b b.length (outn kind)) ∧ New w.heap.size v' ∧ Below w.heap.size w w' := by
  obtain ⟨ba, bc, rfl⟩ := hR.form
  have hadd := fun w1 (hb1 : Below w.heap.size w w1) => rAdd_any kind E (.slice none 0 0) _ [] b 0 w1 h8 hu (Row.nil _ _ _) tidy_nil (hR.below hb1) tB (by decide) hbl (by decide)
  have hend := fun w1 v1 (hR1 : Row .u8 256 w1 v1 (left (wide kind) b)) (hT1 : Tidy v1) => rEnd_new kind (eat (wide kind) E b) v1 (left (wide kind) b) b.length w1 (eat_len _ h8) (eat_under _ hu) hR1 hT1 (left_lt _ _) (by omega)
  rw [endS_parts] at hend
  simp only [List.nil_append, Nat.zero_add] at hadd
  unfold hv at hadd hend hnew
  generalize eat (wide kind) E b = X at *
  generalize left (wide kind) b = L at *
  go_enter Tryz.func93, Tryz.ntmps93
  go_wp2_with (first
    | (go_at_call 100; refine hnew.mono ?_; rintro e w1 ⟨rfl, hb1⟩)
    | (go_at_call 102; refine (hadd _ (keep_trans hb1 (keep_alloc _ _))).mono ?_; rintro e w2 ⟨v2, rfl, hR2, hT2, hb2⟩)
    | (go_at_call 101; refine (hend _ _ hR2 hT2).mono ?_; rintro e w3 ⟨v3, rfl, hR3, hN3, hb3⟩)
    | fail)
  go_ret2
  exact ⟨_, rfl, hR3, hN3.mono (keep_trans (keep_trans hb1 (keep_alloc _ _)) hb2).size, keep_trans (keep_trans (keep_trans hb1 (keep_alloc _ _)) hb2) hb3⟩
theorem rsum_of (kind : Int) (E : List Nat) (bv : Value) (b : List Nat) (w : World) (h8 : E.length = 8) (hu : Under (wm (wide kind)) E) (hR : Row .u8 256 w bv b) (tB : Tidy bv) (hbl : b.length ≤ 100000)
    (hnew : Calls Tryz.prog 100 #[.int .i64 kind] w fun e w' => e = .returned (.tuple #[.agg (hv kind E (.slice none 0 0) 0), .int .i64 0]) ∧ Below w.heap.size w w') :
    Calls Tryz.prog 93 #[.int .i64 kind, bv] w fun e w' => ∃ v', e = .returned (.tuple #[v', .int .i64 0]) ∧ Row .u8 256 w' v' (endS (wide kind) E b b.length (outn kind)) ∧ Below w.heap.size w w' :=
  (rsum_new kind E bv b w h8 hu hR tB hbl hnew).mono fun e w' ⟨v', h1, h2, _, h3⟩ => ⟨v', h1, h2, h3⟩
set_option maxHeartbeats 2000000 in
set_option maxRecDepth 100000 in
theorem rsum_0 (kind : Int) (bv : Value) (w : World) (h1 : ¬ kind = 1) (h2 : ¬ kind = 2) (h3 : ¬ kind = 3) :
    Calls Tryz.prog 93 #[.int .i64 kind, bv] w fun e w' => e = .returned (.tuple #[.slice none 0 0, .int .i64 9]) ∧ Below w.heap.size w w' := by
  have hnew := rnew_0 kind w h1 h2 h3
  unfold hv at *
  go_enter Tryz.func93, Tryz.ntmps93
  go_wp2_with (first
    | (go_at_call 100; refine hnew.mono ?_; rintro e w1 ⟨rfl, hb1⟩)
    | fail)
  go_ret2
  exact ⟨rfl, keep_trans hb1 (keep_alloc _ _)⟩

/-- New and Sum, of whatever kind: what is told -/
def NewE (F : FuncId) (kind : Int) (k : Int) (E : List Nat) (c : Int) (w : World) : Prop := Calls Tryz.prog F #[.int .i64 kind] w fun e w' => e = .returned (.tuple #[.agg (hv k E (.slice none 0 0) 0), .int .i64 c]) ∧ Below w.heap.size w w'
def SumE (F : FuncId) (kind : Int) (bv : Value) (s : List Nat) (c : Int) (w : World) : Prop := Calls Tryz.prog F #[.int .i64 kind, bv] w fun e w' => ∃ v', e = .returned (.tuple #[v', .int .i64 c]) ∧ Row .u8 256 w' v' s ∧ Below w.heap.size w w'
/-- both New, and both Sum, tell the same -/
theorem both_all (kind : Int) (b : List Nat) (hbl : b.length ≤ 100000) : ∃ (k : Int) (E : List Nat) (c : Int) (s : List Nat), E.length = 8 ∧ Under 18446744073709551616 E ∧
    (∀ w, Roots w → NewE 97 kind k E c w) ∧ (∀ w, NewE 100 kind k E c w) ∧
    (∀ w bv, Roots w → Row .u8 256 w bv b → Tidy bv → SumE 87 kind bv s c w) ∧ (∀ w bv, Row .u8 256 w bv b → Tidy bv → SumE 93 kind bv s c w) := by
  by_cases h1 : kind = 1
  · subst h1
    refine ⟨1, ini 1, 0, endS (wide 1) (ini 1) b b.length (outn 1), by decide, dec_under (by decide), fun w hT => new_1 w hT, fun w => rnew_1 w, fun w bv hT hR tB => ?_, fun w bv hR tB => ?_⟩
    · exact (sum_1 bv b w hT hR tB hbl).mono fun e w' ⟨v', he, hO, hb⟩ => ⟨v', he, hO.row, hb⟩
    · exact rsum_of 1 (ini 1) bv b w (by decide) (dec_under (by decide)) hR tB hbl (rnew_1 w)
  · by_cases h2 : kind = 2
    · subst h2
      refine ⟨2, ini 2, 0, endS (wide 2) (ini 2) b b.length (outn 2), by decide, dec_under (by decide), fun w hT => new_2 w hT, fun w => rnew_2 w, fun w bv hT hR tB => ?_, fun w bv hR tB => ?_⟩
      · exact (sum_2 bv b w hT hR tB hbl).mono fun e w' ⟨v', he, hO, hb⟩ => ⟨v', he, hO.row, hb⟩
      · exact rsum_of 2 (ini 2) bv b w (by decide) (dec_under (by decide)) hR tB hbl (rnew_2 w)
    · by_cases h3 : kind = 3
      · subst h3
        refine ⟨3, ini 3, 0, endS (wide 3) (ini 3) b b.length (outn 3), by decide, dec_under (by decide), fun w hT => new_3 w hT, fun w => rnew_3 w, fun w bv hT hR tB => ?_, fun w bv hR tB => ?_⟩
        · exact (sum_3 bv b w hT hR tB hbl).mono fun e w' ⟨v', he, hO, hb⟩ => ⟨v', he, hO.row, hb⟩
        · exact rsum_of 3 (ini 3) bv b w (by decide) (dec_under (by decide)) hR tB hbl (rnew_3 w)
      · refine ⟨0, List.replicate 8 0, 9, [], by decide, dec_under (by decide), fun w _ => new_0 kind w h1 h2 h3, fun w => rnew_0 kind w h1 h2 h3, fun w bv hT hR tB => ?_, fun w bv hR tB => ?_⟩
        · exact (sum_0 kind bv w h1 h2 h3).mono fun e w' ⟨he, hb⟩ => ⟨_, he, Row.nil _ _ _, hb⟩
        · exact (rsum_0 kind bv w h1 h2 h3).mono fun e w' ⟨he, hb⟩ => ⟨_, he, Row.nil _ _ _, hb⟩
end Go.Proofs.YtefndnbaifiboaaGreatDoor

/- Leaves that sign once: the document's Kind, Size, H, part, chain, key, digest. -/
namespace Go.Proofs.YtefndnbaifiboaaGreatDoor
open Go.RowKit
set_option linter.unusedVariables false
set_option linter.unusedSimpArgs false

/-- SHA-256 -/
def shaL (b : List Nat) : List Nat := endS (wide 1) (ini 1) b b.length (outn 1)
theorem shaL_len (b : List Nat) : (shaL b).length = 32 := by
  have e8 : ∀ (c : Bool) (l : List Nat), (eat c (ini 1) l).length = 8 := fun c l => eat_len _ (by decide)
  unfold shaL
  simp [endS, bytesW_length, e8, outn, wide, ez]
/-- what a kind is: digits of a digest, of its check, the shift, the typecode -/
inductive Kd : Nat → Nat → Nat → Nat → Nat → Prop
  | k1 : Kd 1 256 9 7 1
  | k2 : Kd 2 128 5 6 2
  | k4 : Kd 4 64 3 4 3
  | k8 : Kd 8 32 2 0 4
theorem Kd.kind {w n m s c : Nat} (h : Kd w n m s c) : KindL w n m s := by
  cases h
  · exact kind_1
  · exact kind_2
  · exact kind_4
  · exact kind_8
def NoK (x : Int) : Prop := ¬ x = 1 ∧ ¬ x = 2 ∧ ¬ x = 4 ∧ ¬ x = 8
theorem kd_or (x : Int) : NoK x ∨ ∃ w n m s c : Nat, x = (w : Int) ∧ Kd w n m s c := by
  by_cases h1 : x = 1
  · exact .inr ⟨1, _, _, _, _, h1, .k1⟩
  by_cases h2 : x = 2
  · exact .inr ⟨2, _, _, _, _, h2, .k2⟩
  by_cases h4 : x = 4
  · exact .inr ⟨4, _, _, _, _, h4, .k4⟩
  by_cases h8 : x = 8
  · exact .inr ⟨8, _, _, _, _, h8, .k8⟩
  exact .inl ⟨h1, h2, h4, h8⟩
set_option maxHeartbeats 2000000 in
set_option maxRecDepth 100000 in
theorem rkind_no (x : Int) (y : World) (h : NoK x) : Calls Tryz.prog 58 #[.int .i64 x] y fun e y' => e = .returned (.tuple #[.int .i64 0, .int .i64 0, .int .u64 0]) ∧ y' = y := by
  obtain ⟨h1, h2, h4, h8⟩ := h
  go_enter Tryz.func58, Tryz.ntmps58
  go_wp2
  go_ret3
  exact ⟨rfl, rfl⟩
set_option maxHeartbeats 2000000 in
set_option maxRecDepth 100000 in
theorem rkind_ok {w n m s c : Nat} (y : World) (h : Kd w n m s c) : Calls Tryz.prog 58 #[.int .i64 (w : Int)] y fun e y' => e = .returned (.tuple #[.int .i64 ((n + m : Nat) : Int), .int .i64 (s : Int), .int .u64 (c : Int)]) ∧ y' = y := by
  cases h
  · go_enter Tryz.func58, Tryz.ntmps58
    go_wp2
    go_ret3
    exact ⟨rfl, rfl⟩
  · go_enter Tryz.func58, Tryz.ntmps58
    go_wp2
    go_ret3
    exact ⟨rfl, rfl⟩
  · go_enter Tryz.func58, Tryz.ntmps58
    go_wp2
    go_ret3
    exact ⟨rfl, rfl⟩
  · go_enter Tryz.func58, Tryz.ntmps58
    go_wp2
    go_ret3
    exact ⟨rfl, rfl⟩
theorem texts_cons {w : World} {u : Value} {x : List Nat} {us : List Value} {ls : List (List Nat)} (h : Row .u8 256 w u x) (t : Tidy u) (k : Texts w us ls) : Texts w (u :: us) (x :: ls) := (Texts.one h t).append k
theorem rows_litL {w : World} {us : List Value} {ls : List (List Nat)} {B k : Nat} (h : Texts w us ls) (hB : w.heap.size = B) (hk : ls.length = k) (hl : k ≤ 1000) : Rows2 (w.alloc (.cells us.toArray 24)) (.slice (some ⟨B, 0, none⟩) k k) ls := by
  subst hB hk
  refine ⟨_, ls.length, rfl, Nat.le_refl _, by unfold maxLen; omega, fun _ => ⟨_, _, rfl, fun i hi => ?_⟩⟩
  have hb := keep_alloc w (.cells us.toArray 24)
  obtain ⟨u, hu, hr, ht⟩ := h.2 i hi
  refine ⟨u, ?_, hr.below hb, ht⟩
  rw [World.cell?_alloc_at _ _ _ _ rfl, Nat.zero_add]
  simpa using hu
theorem new_ntidy {w : World} {v : Value} {l : List Nat} (h : Row .u8 256 w v l) (hl : 0 < l.length) : Tidy v := by
  obtain ⟨a, c, rfl, _, _, g⟩ := h.opens rfl
  obtain ⟨b, o, rfl, _⟩ := g hl
  intro n c e
  cases e
set_option maxHeartbeats 2000000 in
set_option maxRecDepth 100000 in
theorem rH_any (lv : Value) (ls : List (List Nat)) (w : World) (h : Rows2 w lv ls) (hs : ls.flatten.length ≤ 100000) :
    Calls Tryz.prog 84 #[lv] w fun e w' => ∃ v, e = .returned v ∧ Row .u8 256 w' v (shaL ls.flatten) ∧ New w.heap.size v ∧ Below w.heap.size w w' := by
  have hj := rjoin_any lv ls w h (by omega)
  have hsum := fun y v (r : Row .u8 256 y v ls.flatten) (t : Tidy v) => rsum_new 1 (ini 1) v ls.flatten y (by decide) (dec_under (by decide)) r t hs (rnew_1 y)
  go_enter Tryz.func84, Tryz.ntmps84
  go_wp2_with (first
    | (go_at_call 26; refine hj.mono ?_; rintro e w1 ⟨v1, rfl, o1, hb1⟩)
    | (go_at_call 93; refine (hsum _ _ o1.row o1.tidy).mono ?_; rintro e w2 ⟨v2, rfl, r2, n2, hb2⟩)
    | fail)
  go_ret
  exact ⟨_, rfl, r2, n2.mono hb1.size, keep_trans hb1 hb2⟩
theorem leS_2 (n : Nat) : leS n 2 = leL n 2 := by unfold leS; rw [if_neg (by decide)]; rfl
theorem leS_4 (n : Nat) : leS n 4 = leL n 4 := by unfold leS; rw [if_neg (by decide)]; rfl
theorem rbe2 (a : Nat) (w : World) (ha : a < 18446744073709551616) : Calls Tryz.prog 35 #[.int .u64 (a : Int), .int .i64 2] w fun e w' => ∃ v, e = .returned v ∧ Own 5 .u8 256 w' w.heap.size v (be2 a) ∧ Below w.heap.size w w' := by
  have := rbe_any a 2 w ha (by decide) (by decide)
  rw [leS_2] at this
  exact this
theorem rbe4 (a : Nat) (w : World) (ha : a < 18446744073709551616) : Calls Tryz.prog 35 #[.int .u64 (a : Int), .int .i64 4] w fun e w' => ∃ v, e = .returned v ∧ Own 5 .u8 256 w' w.heap.size v (be4 a) ∧ Below w.heap.size w w' := by
  have := rbe_any a 4 w ha (by decide) (by decide)
  rw [leS_4] at this
  exact this
theorem one_byte (w : World) (x : Nat) (hx : x < 256) : Row .u8 256 (w.alloc (.cells #[.int .u8 (x : Int)] 5)) (.slice (some ⟨w.heap.size, 0, none⟩) 1 1) [x] ∧ Tidy (.slice (some ⟨w.heap.size, 0, none⟩) 1 1) := by
  refine ⟨⟨_, 1, rfl, Nat.le_refl _, by unfold maxLen; decide, fun _ => ⟨_, _, rfl, fun i hi => ?_⟩, ?_⟩, fun n c e => by cases e⟩
  · match i, hi with
    | 0, _ => rw [World.cell?_alloc_at _ _ _ _ rfl]; rfl
  · intro y hy
    simp at hy
    omega
/-- what stands ahead: the tree's id and the leaf's number -/
def preL (id : List Nat) (q : Nat) : List Nat := id ++ be4 q
theorem len_pre (id : List Nat) (q : Nat) : (preL id q).length = id.length + 4 := by unfold preL; rw [List.length_append, be4_len]
set_option maxHeartbeats 4000000 in
set_option maxRecDepth 100000 in
theorem rpart_any (id seed : List Nat) (q i : Nat) (idv sv : Value) (w : World) (hi : Row .u8 256 w idv id) (ti : Tidy idv) (hs : Row .u8 256 w sv seed) (ts : Tidy sv) (hq : q < 4294967296) (hi2 : i < 65536) (hl : id.length + seed.length ≤ 10000) :
    Calls Tryz.prog 70 #[idv, .int .u32 (q : Int), .int .i64 (i : Int), sv] w fun e w' => ∃ v, e = .returned v ∧ Row .u8 256 w' v (lmX shaL (preL id q) i 255 seed) ∧ New w.heap.size v ∧ Below w.heap.size w w' := by
  obtain ⟨ia, ic, rfl, _⟩ := hi.opens rfl
  obtain ⟨sa, sc, rfl, _⟩ := hs.opens rfl
  have u_q : IntKind.u64.wrap (q : Int) = (q : Int) := by rw [IntKind.wrap_u64]; omega
  have u_i : IntKind.u64.wrap (i : Int) = (i : Int) := by rw [IntKind.wrap_u64]; omega
  have h4 := fun y => rbe4 q y (by omega)
  have h2 := fun y => rbe2 i y (by omega)
  have hfl : [id, be4 q, be2 i, [255], seed].flatten = preL id q ++ (be2 i ++ ([255] ++ seed)) := by simp [preL]
  have hH := fun y lv (r : Rows2 y lv [id, be4 q, be2 i, [255], seed]) => rH_any lv _ y r (by rw [hfl]; simp only [List.length_append, len_pre, be2_len, List.length_singleton]; omega)
  rw [hfl] at hH
  unfold lmX
  generalize shaL = HH at *
  clear hfl
  go_enter Tryz.func70, Tryz.ntmps70
  go_wp2_with (first
    | (go_at_call_of 35 (Value.int .i64 4); refine (h4 _).mono ?_; rintro e w1 ⟨v1, rfl, o1, hb1⟩; obtain ⟨a1, c1, rfl⟩ := o1.row.form)
    | (go_at_call_of 35 (Value.int .i64 2); refine (h2 _).mono ?_; rintro e w2 ⟨v2, rfl, o2, hb2⟩; obtain ⟨a2, c2, rfl⟩ := o2.row.form; have hb12 := keep_trans hb1 hb2; have hb13 := keep_trans hb12 (keep_alloc w2 (.cells #[.int .u8 255] 5)); have hx := one_byte w2 255 (by decide); have hT := hH _ _ (rows_litL (B := w2.heap.size + 1) (k := 5) (texts_cons (hi.below hb13) ti (texts_cons (o1.row.below (keep_trans hb2 (keep_alloc _ _))) o1.tidy (texts_cons (o2.row.below (keep_alloc _ _)) o2.tidy (texts_cons hx.1 hx.2 (texts_cons (hs.below hb13) ts (Texts.nil _)))))) (by simp) rfl (by decide)))
    | (go_at_call 84; refine hT.mono ?_; rintro e w3 ⟨v3, rfl, r3, n3, hb3⟩)
    | fail)
  go_ret
  exact ⟨_, rfl, r3, n3.mono (keep_trans hb13 (keep_alloc _ _)).size, keep_trans (keep_trans hb13 (keep_alloc _ _)) hb3⟩
end Go.Proofs.YtefndnbaifiboaaGreatDoor

/- Leaves that sign once: the document's chain, key, digest. -/
namespace Go.Proofs.YtefndnbaifiboaaGreatDoor
open Go.RowKit
set_option linter.unusedVariables false
set_option linter.unusedSimpArgs false

/-- where the chain stands -/
def ChL (w : World) (HH : List Nat → List Nat) (pre : List Nat) (i F N : Nat) (y : List Nat) (yv vy vj : Value) (wr : World) : Prop := ∃ k : Nat, k ≤ N ∧ vj = .int .i64 ((F + k : Nat) : Int) ∧ Row .u8 256 wr vy (chN HH pre i F k y) ∧ Tidy vy ∧ (New w.heap.size vy ∨ vy = yv) ∧ Below w.heap.size w wr
set_option maxHeartbeats 4000000 in
set_option maxRecDepth 100000 in
theorem rchain_any (id y : List Nat) (q i F N : Nat) (idv yv : Value) (w : World) (hi : Row .u8 256 w idv id) (ti : Tidy idv) (hs : Row .u8 256 w yv y) (ts : Tidy yv) (hq : q < 4294967296) (hi2 : i < 65536) (hF : F + N ≤ 256) (hy32 : y.length = 32) (hl : id.length ≤ 10000) :
    Calls Tryz.prog 73 #[idv, .int .u32 (q : Int), .int .i64 (i : Int), .int .i64 (F : Int), .int .i64 ((F + N : Nat) : Int), yv] w fun e w' => ∃ v, e = .returned v ∧ Row .u8 256 w' v (chN shaL (preL id q) i F N y) ∧ Tidy v ∧ (New w.heap.size v ∨ v = yv) ∧ Below w.heap.size w w' := by
  obtain ⟨ia, ic, rfl, _⟩ := hi.opens rfl
  have u_q : IntKind.u64.wrap (q : Int) = (q : Int) := by rw [IntKind.wrap_u64]; omega
  have u_i : IntKind.u64.wrap (i : Int) = (i : Int) := by rw [IntKind.wrap_u64]; omega
  have h4 := fun y => rbe4 q y (by omega)
  have h2 := fun y => rbe2 i y (by omega)
  have hH := fun (b : Nat) (z : List Nat) (hz : z.length = 32) y lv (r : Rows2 y lv [id, be4 q, be2 i, [b], z]) => rH_any lv _ y r (by simp only [List.flatten_cons, List.flatten_nil, List.append_nil, List.length_append, be2_len, be4_len, List.length_singleton]; omega)
  have hfl : ∀ (b : Nat) (z : List Nat), [id, be4 q, be2 i, [b], z].flatten = preL id q ++ (be2 i ++ ([b] ++ z)) := fun b z => by simp [preL]
  simp only [hfl] at hH
  have hlen : ∀ k, (chN shaL (preL id q) i F k y).length = 32 := chN_len shaL_len i F y hy32
  obtain ⟨T, hT⟩ : ∃ T : Nat, T = F + N := ⟨_, rfl⟩
  rw [← hT]
  generalize shaL = HH at *
  have h0 : ChL w HH (preL id q) i F N y yv yv (.int .i64 (F : Int)) w := ⟨0, Nat.zero_le _, rfl, hs, ts, .inr rfl, Below.refl _ _⟩
  have H0 := hide h0
  have HI := hide (And.intro hi (And.intro ti (And.intro hlen (And.intro hT hF))))
  clear h0 hi ti hlen hfl hs ts hT hF
  go_enter Tryz.func73, Tryz.ntmps73
  go_wp2
  go_loopw [5, 13] (fun vy vj wr => ChL w HH (preL id q) i F N y yv vy vj wr) (fun _ vj _ => T - (intOf vj).toNat)
  case atStart => exact H0.out
  case round =>
    obtain ⟨k, hk, rfl, rY, tY, nY, hbr⟩ := hrel
    obtain ⟨hi, ti, hlen, hT, hF⟩ := HI.out
    clear H0
    rename World => wr
    by_cases hlt : k < N
    · obtain ⟨j, hj⟩ : ∃ j : Nat, j = F + k := ⟨_, rfl⟩
      rw [← hj]
      have hjT : (j : Int) < (T : Int) := by omega
      have u_j : IntKind.u8.wrap (j : Int) = (j : Int) := by rw [IntKind.wrap_u8]; omega
      obtain ⟨Q, hQ⟩ : ∃ x : Nat, x = j + 1 := ⟨_, rfl⟩
      have e_Q : (j : Int) + 1 = (Q : Int) := by omega
      have s_Q : IntKind.i64.wrap (Q : Int) = (Q : Int) := by rw [IntKind.wrap_i64]; omega
      have hj8 : j < 256 := by omega
      have hch : HH (preL id q ++ (be2 i ++ ([j] ++ chN HH (preL id q) i F k y))) = chN HH (preL id q) i F (k + 1) y := by rw [hj]; rfl
      have hHk := fun yy lv r => hH j (chN HH (preL id q) i F k y) (hlen k) yy lv r
      rw [hch] at hHk
      have hir := hi.below hbr
      obtain ⟨ya, yc, rfl, _⟩ := rY.opens (hlen k)
      have HK := hide (And.intro hj (And.intro hQ (And.intro hT (And.intro hbr (And.intro hlt (And.intro hj8 (And.intro hlen hF)))))))
      have hb1y := one_byte
      clear hj hQ hT hbr hlt hch hlen hF hi hH
      go_wp2_with (first
        | (go_at_call_of 35 (Value.int .i64 4); refine (h4 _).mono ?_; rintro e w1 ⟨v1, rfl, o1, hb1⟩; obtain ⟨a1, c1, rfl⟩ := o1.row.form)
        | (go_at_call_of 35 (Value.int .i64 2); refine (h2 _).mono ?_; rintro e w2 ⟨v2, rfl, o2, hb2⟩; obtain ⟨a2, c2, rfl⟩ := o2.row.form; have hb12 := keep_trans hb1 hb2; have hb13 := keep_trans hb12 (keep_alloc w2 (.cells #[.int .u8 (j : Int)] 5)); have hx := one_byte w2 j hj8; have hT := hHk _ _ (rows_litL (B := w2.heap.size + 1) (k := 5) (texts_cons (hir.below hb13) ti (texts_cons (o1.row.below (keep_trans hb2 (keep_alloc _ _))) o1.tidy (texts_cons (o2.row.below (keep_alloc _ _)) o2.tidy (texts_cons hx.1 hx.2 (texts_cons (rY.below hb13) tY (Texts.nil _)))))) (by simp) rfl (by decide)))
        | (go_at_call 84; refine hT.mono ?_; rintro e w3 ⟨v3, rfl, r3, n3, hb3⟩)
        | fail)
      obtain ⟨hj, hQ, hTT, hbr, hlt, hj8, hlen, hF⟩ := HK.out
      have hbw := keep_trans (keep_trans hb13 (keep_alloc _ _)) hb3
      exact ⟨⟨k + 1, by omega, vint (by omega), r3, new_ntidy r3 (by rw [hlen]; decide), .inl (n3.mono (Nat.le_trans hbr.size (keep_trans hb13 (keep_alloc _ _)).size)), hbr.trans (hbw.mono hbr.size)⟩, by simp [intOf]; omega⟩
    · obtain rfl : k = N := by omega
      have hge : ¬ (((F + k : Nat) : Int) < (T : Int)) := by omega
      obtain ⟨j, hj⟩ : ∃ j : Nat, j = F + k := ⟨_, rfl⟩
      rw [← hj] at hge ⊢
      obtain ⟨ya, yc, rfl, _⟩ := rY.opens (hlen k)
      have HK := hide (And.intro hj (And.intro hT (And.intro hbr rY)))
      clear hj hT hbr hlen hF hi hH
      go_wp2
      go_ret
      exact ⟨_, rfl, HK.out.2.2.2, tY, nY, HK.out.2.2.1⟩
end Go.Proofs.YtefndnbaifiboaaGreatDoor

/- Leaves that sign once: the document's key, digest, wrong, Size. -/
namespace Go.Proofs.YtefndnbaifiboaaGreatDoor
open Go.RowKit
set_option linter.unusedVariables false
set_option linter.unusedSimpArgs false

set_option maxHeartbeats 4000000 in
set_option maxRecDepth 100000 in
theorem rkey_any (id : List Nat) (ends : List (List Nat)) (q : Nat) (idv ev : Value) (w : World) (hi : Row .u8 256 w idv id) (ti : Tidy idv) (he : Rows2 w ev ends) (hq : q < 4294967296) (hl : id.length ≤ 10000) (hel : ends.flatten.length ≤ 50000) :
    Calls Tryz.prog 83 #[idv, .int .u32 (q : Int), ev] w fun e w' => ∃ v, e = .returned v ∧ Row .u8 256 w' v (keyH shaL (preL id q) ends) ∧ New w.heap.size v ∧ Below w.heap.size w w' := by
  obtain ⟨ia, ic, rfl, _⟩ := hi.opens rfl
  have u_q : IntKind.u64.wrap (q : Int) = (q : Int) := by rw [IntKind.wrap_u64]; omega
  have h4 := fun y => rbe4 q y (by omega)
  have h2 := fun y => rbe2 32896 y (by decide)
  have hj := fun y (h : Below w.heap.size w y) => rjoin_any ev ends y (he.below h) (by omega)
  have hfl : [id, be4 q, be2 32896, ends.flatten].flatten = preL id q ++ (be2 32896 ++ ends.flatten) := by simp [preL]
  have hH := fun y lv (r : Rows2 y lv [id, be4 q, be2 32896, ends.flatten]) => rH_any lv _ y r (by rw [hfl]; simp only [List.length_append, len_pre, be2_len]; omega)
  rw [hfl] at hH
  unfold keyH
  generalize shaL = HH at *
  clear hfl hel
  generalize ends.flatten = E at *
  go_enter Tryz.func83, Tryz.ntmps83
  go_wp2_with (first
    | (go_at_call_of 35 (Value.int .i64 4); refine (h4 _).mono ?_; rintro e w1 ⟨v1, rfl, o1, hb1⟩; obtain ⟨a1, c1, rfl⟩ := o1.row.form)
    | (go_at_call_of 35 (Value.int .i64 2); refine (h2 _).mono ?_; rintro e w2 ⟨v2, rfl, o2, hb2⟩; obtain ⟨a2, c2, rfl⟩ := o2.row.form; have hb12 := keep_trans hb1 hb2)
    | (go_at_call 26; refine (hj _ hb12).mono ?_; rintro e w3 ⟨v3, rfl, o3, hb3⟩; obtain ⟨a3, c3, rfl⟩ := o3.row.form; have hb13 := keep_trans hb12 hb3; have hT := hH _ _ (rows_litL (B := w3.heap.size) (k := 4) (texts_cons (hi.below hb13) ti (texts_cons (o1.row.below (keep_trans hb2 hb3)) o1.tidy (texts_cons (o2.row.below hb3) o2.tidy (texts_cons o3.row o3.tidy (Texts.nil _))))) rfl rfl (by decide)))
    | (go_at_call 84; refine hT.mono ?_; rintro e w4 ⟨v4, rfl, r4, n4, hb4⟩)
    | fail)
  go_ret
  exact ⟨_, rfl, r4, n4.mono (keep_trans hb13 (keep_alloc _ _)).size, keep_trans (keep_trans hb13 (keep_alloc _ _)) hb4⟩
set_option maxHeartbeats 4000000 in
set_option maxRecDepth 100000 in
theorem rdgst_any (id c text : List Nat) (q : Nat) (idv cv tv : Value) (w : World) (hi : Row .u8 256 w idv id) (ti : Tidy idv) (hc : Row .u8 256 w cv c) (tc : Tidy cv) (ht : Row .u8 256 w tv text) (tt : Tidy tv) (hq : q < 4294967296) (hl : id.length + c.length + text.length ≤ 50000) :
    Calls Tryz.prog 72 #[idv, .int .u32 (q : Int), cv, tv] w fun e w' => ∃ v, e = .returned v ∧ Row .u8 256 w' v (digH shaL (preL id q) c text) ∧ New w.heap.size v ∧ Below w.heap.size w w' := by
  obtain ⟨ia, ic, rfl, _⟩ := hi.opens rfl
  obtain ⟨ca, cc, rfl, _⟩ := hc.opens rfl
  obtain ⟨ta, tc', rfl, _⟩ := ht.opens rfl
  have u_q : IntKind.u64.wrap (q : Int) = (q : Int) := by rw [IntKind.wrap_u64]; omega
  have h4 := fun y => rbe4 q y (by omega)
  have h2 := fun y => rbe2 33153 y (by decide)
  have hfl : [id, be4 q, be2 33153, c, text].flatten = preL id q ++ (be2 33153 ++ (c ++ text)) := by simp [preL]
  have hH := fun y lv (r : Rows2 y lv [id, be4 q, be2 33153, c, text]) => rH_any lv _ y r (by rw [hfl]; simp only [List.length_append, len_pre, be2_len]; omega)
  rw [hfl] at hH
  unfold digH
  generalize shaL = HH at *
  clear hfl
  go_enter Tryz.func72, Tryz.ntmps72
  go_wp2_with (first
    | (go_at_call_of 35 (Value.int .i64 4); refine (h4 _).mono ?_; rintro e w1 ⟨v1, rfl, o1, hb1⟩; obtain ⟨a1, c1, rfl⟩ := o1.row.form)
    | (go_at_call_of 35 (Value.int .i64 2); refine (h2 _).mono ?_; rintro e w2 ⟨v2, rfl, o2, hb2⟩; obtain ⟨a2, c2, rfl⟩ := o2.row.form; have hb12 := keep_trans hb1 hb2; have hT := hH _ _ (rows_litL (B := w2.heap.size) (k := 5) (texts_cons (hi.below hb12) ti (texts_cons (o1.row.below hb2) o1.tidy (texts_cons o2.row o2.tidy (texts_cons (hc.below hb12) tc (texts_cons (ht.below hb12) tt (Texts.nil _)))))) rfl rfl (by decide)))
    | (go_at_call 84; refine hT.mono ?_; rintro e w4 ⟨v4, rfl, r4, n4, hb4⟩)
    | fail)
  go_ret
  exact ⟨_, rfl, r4, n4.mono (keep_trans hb12 (keep_alloc _ _)).size, keep_trans (keep_trans hb12 (keep_alloc _ _)) hb4⟩
/-- what is wrong with a kind, an id, a seed -/
def wrgC (x : Int) (a b : Nat) : Int := if x = 1 ∨ x = 2 ∨ x = 4 ∨ x = 8 then (if a = 16 ∧ b = 32 then 0 else 14) else 9
theorem wrg_no {x : Int} (h : NoK x) (a b : Nat) : wrgC x a b = 9 := by
  obtain ⟨h1, h2, h4, h8⟩ := h
  unfold wrgC
  rw [if_neg (by omega)]
theorem wrg_kd {w n m s c : Nat} (h : Kd w n m s c) (a b : Nat) : wrgC (w : Int) a b = if a = 16 ∧ b = 32 then 0 else 14 := by
  unfold wrgC
  rw [if_pos (by cases h <;> simp)]
theorem Kd.pos {w n m s c : Nat} (h : Kd w n m s c) : 1 ≤ n + m ∧ n + m ≤ 265 ∧ w ≤ 8 ∧ 1 ≤ w ∧ n * w = 256 ∧ c ≤ 4 ∧ s ≤ 7 := by cases h <;> decide
set_option maxHeartbeats 4000000 in
set_option maxRecDepth 100000 in
theorem rwrong_any (x : Int) (id seed : List Nat) (idv sv : Value) (w : World) (hi : Row .u8 256 w idv id) (hs : Row .u8 256 w sv seed) :
    Calls Tryz.prog 69 #[.int .i64 x, idv, sv] w fun e w' => e = .returned (.int .i64 (wrgC x id.length seed.length)) ∧ w' = w := by
  obtain ⟨ia, ic, rfl, _⟩ := hi.opens rfl
  obtain ⟨sa, sc, rfl, _⟩ := hs.opens rfl
  rcases kd_or x with h | ⟨k, n, m, s, c, rfl, h⟩
  · rw [wrg_no h]
    have hk := fun y => rkind_no x y h
    clear h
    go_enter Tryz.func69, Tryz.ntmps69
    go_wp2_with (first | (go_at_call 58; refine (hk _).mono ?_; rintro e yy ⟨rfl, hy⟩; obtain rfl := hy.symm) | fail)
    go_ret
    exact ⟨rfl, rfl⟩
  · rw [wrg_kd h]
    have hk := fun y => rkind_ok y h
    obtain ⟨P, hP⟩ : ∃ P : Nat, P = n + m := ⟨_, rfl⟩
    rw [← hP] at hk
    have hp0 : ¬ ((P : Int) = 0) := by have := h.pos; omega
    clear h hP
    by_cases h1 : id.length = 16
    · have h1i : (id.length : Int) = 16 := by omega
      by_cases h2 : seed.length = 32
      · have h2i : (seed.length : Int) = 32 := by omega
        rw [if_pos ⟨h1, h2⟩]
        clear h1 h2
        generalize id.length = A at *
        generalize seed.length = B at *
        go_enter Tryz.func69, Tryz.ntmps69
        go_wp2_with (first | (go_at_call 58; refine (hk _).mono ?_; rintro e yy ⟨rfl, hy⟩; obtain rfl := hy.symm) | fail)
        go_ret
        exact ⟨rfl, rfl⟩
      · have h2i : ¬ (seed.length : Int) = 32 := by omega
        rw [if_neg (fun h => h2 h.2)]
        clear h1 h2
        generalize id.length = A at *
        generalize seed.length = B at *
        go_enter Tryz.func69, Tryz.ntmps69
        go_wp2_with (first | (go_at_call 58; refine (hk _).mono ?_; rintro e yy ⟨rfl, hy⟩; obtain rfl := hy.symm) | fail)
        go_ret
        exact ⟨rfl, rfl⟩
    · have h1i : ¬ (id.length : Int) = 16 := by omega
      rw [if_neg (fun h => h1 h.1)]
      clear h1
      generalize id.length = A at *
      go_enter Tryz.func69, Tryz.ntmps69
      go_wp2_with (first | (go_at_call 58; refine (hk _).mono ?_; rintro e yy ⟨rfl, hy⟩; obtain rfl := hy.symm) | fail)
      go_ret
      exact ⟨rfl, rfl⟩
set_option maxHeartbeats 4000000 in
set_option maxRecDepth 100000 in
theorem rsize_no (x : Int) (w : World) (h : NoK x) : Calls Tryz.prog 38 #[.int .i64 x] w fun e w' => e = .returned (.int .i64 0) ∧ w' = w := by
  have hk := fun y => rkind_no x y h
  clear h
  go_enter Tryz.func38, Tryz.ntmps38
  go_wp2_with (first | (go_at_call 58; refine (hk _).mono ?_; rintro e yy ⟨rfl, hy⟩; obtain rfl := hy.symm) | fail)
  go_ret
  exact ⟨rfl, rfl⟩
set_option maxHeartbeats 4000000 in
set_option maxRecDepth 100000 in
theorem rsize_ok {k n m s c : Nat} (w : World) (h : Kd k n m s c) : Calls Tryz.prog 38 #[.int .i64 (k : Int)] w fun e w' => e = .returned (.int .i64 ((36 + 32 * (n + m) : Nat) : Int)) ∧ w' = w := by
  have hk := fun y => rkind_ok y h
  obtain ⟨P, hP⟩ : ∃ P : Nat, P = n + m := ⟨_, rfl⟩
  rw [← hP] at hk ⊢
  have hp := h.pos
  have hp0 : ¬ ((P : Int) = 0) := by omega
  obtain ⟨A, hA⟩ : ∃ A : Nat, A = 32 * P := ⟨_, rfl⟩
  obtain ⟨B, hB⟩ : ∃ B : Nat, B = 36 + A := ⟨_, rfl⟩
  have e_A : (32 : Int) * (P : Int) = (A : Int) := by omega
  have s_A : IntKind.i64.wrap (A : Int) = (A : Int) := by rw [IntKind.wrap_i64]; omega
  have e_B : (36 : Int) + (A : Int) = (B : Int) := by omega
  have s_B : IntKind.i64.wrap (B : Int) = (B : Int) := by rw [IntKind.wrap_i64]; omega
  rw [← hA, ← hB]
  clear h hP hA hB hp
  go_enter Tryz.func38, Tryz.ntmps38
  go_wp2_with (first | (go_at_call 58; refine (hk _).mono ?_; rintro e yy ⟨rfl, hy⟩; obtain rfl := hy.symm) | fail)
  go_ret
  exact ⟨rfl, rfl⟩
end Go.Proofs.YtefndnbaifiboaaGreatDoor
