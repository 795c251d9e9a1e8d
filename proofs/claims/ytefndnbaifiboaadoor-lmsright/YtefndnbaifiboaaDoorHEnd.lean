/- Contracts of sha.end, Sum, End. -/
import Derived.Test.YtefndnbaifiboaaDoorHSl
import Derived.Test.YtefndnbaifiboaaDoorHFin64
import Derived.Lib.SlBytesConst
import Derived.Test.YtefndnbaifiboaaDoorBe
import Derived.Test.YtefndnbaifiboaaDoorBase
import Derived.Stop.Joined
import Derived.Lib.LaidU8
import Derived.Lay
import Derived.LaidMore
import Derived.HandedShaped
import Derived.SevenTiedAt
import Derived.Test.YtefndnbaifiboaaDoorTie
import Derived.Test.YtefndnbaifiboaaDoorCards
import Derived.Test.YtefndnbaifiboaaDoorHRes32
import Derived.Deep.Slices
namespace Go.Proofs.YtefndnbaifiboaaDoor
open Go.RowKit
set_option linter.unusedVariables false
set_option linter.unusedSimpArgs false

/-- how many bytes a kind's sum has -/
def outn (kind : Int) : Nat := if kind = 1 then 32 else if kind = 2 then 48 else 64
theorem Row.mono_u64 {m : Nat} {l : List Nat} (h : Under 4294967296 l) : Under 18446744073709551616 l := fun x hx => Nat.lt_trans (h x hx) (by decide)

set_option maxHeartbeats 2000000 in
set_option maxRecDepth 100000 in
theorem send_1 (ws : List Nat) (tv : Value) (tl : List Nat) (size : Nat) (w : World) (hT : Roots w) (h8 : ws.length = 8) (hu : Under 4294967296 ws) (hRt : Row .u8 256 w tv tl) (tT : Tidy tv) (htl : tl.length ≤ 100000) (hsz : size < 1152921504606846976) :
    Calls Tryd.prog 65 #[.agg (hv 1 ws tv size)] w fun e w' => ∃ v', e = .returned v' ∧ Own 5 .u8 256 w' w.heap.size v' (endS false ws tl size 32) ∧ Below w.heap.size w w' := by
  have hb0 := keep_alloc w (.cells (hv 1 ws tv size) 102)
  have hf := finish_any32 1 ws tv tl size 32 _ (hT.below hb0) h8 hu (hRt.below hb0) tT htl hsz (by decide)
  obtain ⟨ta, tc, rfl⟩ := hRt.form
  unfold hv at *
  go_enter Tryd.func65, Tryd.ntmps65
  go_wp2_with (first | (go_at_call 71; refine hf.mono ?_; rintro e w1 ⟨v1, rfl, hO1, hb1⟩) | fail)
  go_ret
  exact ⟨_, rfl, hO1.mono (by simp), keep_trans hb0 hb1⟩

set_option maxHeartbeats 2000000 in
set_option maxRecDepth 100000 in
theorem send_2 (ws : List Nat) (tv : Value) (tl : List Nat) (size : Nat) (w : World) (hT : Roots w) (h8 : ws.length = 8) (hu : Under 18446744073709551616 ws) (hRt : Row .u8 256 w tv tl) (tT : Tidy tv) (htl : tl.length ≤ 100000) (hsz : size < 1152921504606846976) :
    Calls Tryd.prog 65 #[.agg (hv 2 ws tv size)] w fun e w' => ∃ v', e = .returned v' ∧ Own 5 .u8 256 w' w.heap.size v' (endS true ws tl size 48) ∧ Below w.heap.size w w' := by
  have hb0 := keep_alloc w (.cells (hv 2 ws tv size) 102)
  have hf := finish_any64 2 ws tv tl size 48 _ (hT.below hb0) h8 hu (hRt.below hb0) tT htl hsz (by decide)
  obtain ⟨ta, tc, rfl⟩ := hRt.form
  unfold hv at *
  go_enter Tryd.func65, Tryd.ntmps65
  go_wp2_with (first | (go_at_call 72; refine hf.mono ?_; rintro e w1 ⟨v1, rfl, hO1, hb1⟩) | fail)
  go_ret
  exact ⟨_, rfl, hO1.mono (by simp), keep_trans hb0 hb1⟩

set_option maxHeartbeats 2000000 in
set_option maxRecDepth 100000 in
theorem send_3 (ws : List Nat) (tv : Value) (tl : List Nat) (size : Nat) (w : World) (hT : Roots w) (h8 : ws.length = 8) (hu : Under 18446744073709551616 ws) (hRt : Row .u8 256 w tv tl) (tT : Tidy tv) (htl : tl.length ≤ 100000) (hsz : size < 1152921504606846976) :
    Calls Tryd.prog 65 #[.agg (hv 3 ws tv size)] w fun e w' => ∃ v', e = .returned v' ∧ Own 5 .u8 256 w' w.heap.size v' (endS true ws tl size 64) ∧ Below w.heap.size w w' := by
  have hb0 := keep_alloc w (.cells (hv 3 ws tv size) 102)
  have hf := finish_any64 3 ws tv tl size 64 _ (hT.below hb0) h8 hu (hRt.below hb0) tT htl hsz (by decide)
  obtain ⟨ta, tc, rfl⟩ := hRt.form
  unfold hv at *
  go_enter Tryd.func65, Tryd.ntmps65
  go_wp2_with (first | (go_at_call 72; refine hf.mono ?_; rintro e w1 ⟨v1, rfl, hO1, hb1⟩) | fail)
  go_ret
  exact ⟨_, rfl, hO1.mono (by simp), keep_trans hb0 hb1⟩

theorem send_any (kind : Int) (hk : kind = 1 ∨ kind = 2 ∨ kind = 3) (ws : List Nat) (tv : Value) (tl : List Nat) (size : Nat) (w : World) (hT : Roots w) (h8 : ws.length = 8) (hu : Under (wm (wide kind)) ws) (hRt : Row .u8 256 w tv tl) (tT : Tidy tv) (htl : tl.length ≤ 100000) (hsz : size < 1152921504606846976) :
    Calls Tryd.prog 65 #[.agg (hv kind ws tv size)] w fun e w' => ∃ v', e = .returned v' ∧ Own 5 .u8 256 w' w.heap.size v' (endS (wide kind) ws tl size (outn kind)) ∧ Below w.heap.size w w' := by
  rcases hk with rfl | rfl | rfl
  · exact send_1 ws tv tl size w hT h8 hu hRt tT htl hsz
  · exact send_2 ws tv tl size w hT h8 hu hRt tT htl hsz
  · exact send_3 ws tv tl size w hT h8 hu hRt tT htl hsz

/-- a sum that is fit has words of its kind -/
theorem hfit_true {kind : Int} {ws : List Nat} {n size : Nat} (h8 : ws.length = 8) (hu : Under 18446744073709551616 ws) (h : hfit kind ws n size = true) : (kind = 1 ∨ kind = 2 ∨ kind = 3) ∧ size < 1152921504606846976 ∧ n = size % bz (wide kind) ∧ Under (wm (wide kind)) ws := by
  unfold hfit at h
  rw [Bool.and_eq_true, decide_eq_true_iff] at h
  obtain ⟨⟨h1, h2, h3⟩, h4⟩ := h
  refine ⟨h1, h2, h3, ?_⟩
  rcases h1 with rfl | rfl | rfl
  · have := (wfit_one h8).1 h4
    intro x hx
    obtain ⟨i, hi, rfl⟩ := List.getElem_of_mem hx
    have e := this i (by omega)
    rw [el_at hi] at e
    exact e
  · exact hu
  · exact hu

end Go.Proofs.YtefndnbaifiboaaDoor

/- Contract of sha.Sum. -/
namespace Go.Proofs.YtefndnbaifiboaaDoor
open Go.RowKit
set_option linter.unusedVariables false
set_option linter.unusedSimpArgs false

set_option maxHeartbeats 2000000 in
set_option maxRecDepth 100000 in
theorem sum_1 (bv : Value) (b : List Nat) (w : World) (hT : Roots w) (hR : Row .u8 256 w bv b) (tB : Tidy bv) (hbl : b.length ≤ 100000) :
    Calls Tryd.prog 56 #[.int .i64 1, bv] w fun e w' => ∃ v', e = .returned (.tuple #[v', .int .i64 0]) ∧ Own 5 .u8 256 w' w.heap.size v' (endS (wide 1) (ini 1) b b.length (outn 1)) ∧ Below w.heap.size w w' := by
  have h8 : (ini 1).length = 8 := by decide
  have hu : Under (wm (wide 1)) (ini 1) := dec_under (by decide)
  have hnew := new_1 w hT
  obtain ⟨ba, bc, rfl⟩ := hR.form
  have hse := fun w1 (hb1 : Below w.heap.size w w1) => send_any 1 (by decide) (ini 1) (.slice ba b.length bc) b b.length _ ((hT.below hb1).below (keep_alloc w1 (.cells (hv 1 (ini 1) (.slice ba b.length bc) b.length) 102))) h8 hu ((hR.below hb1).below (keep_alloc w1 (.cells (hv 1 (ini 1) (.slice ba b.length bc) b.length) 102))) tB hbl (by omega)
  generalize ini 1 = E at *
  have hwr : IntKind.u64.wrap (b.length : Int) = (b.length : Int) := by rw [IntKind.wrap_u64]; omega
  unfold hv at *
  go_enter Tryd.func56, Tryd.ntmps56
  go_wp2_with (first
    | (go_at_call 64; refine hnew.mono ?_; rintro e w1 ⟨rfl, hb1⟩)
    | (go_at_call 65; refine (hse w1 hb1).mono ?_; rintro e w2 ⟨v2, rfl, hO2, hb2⟩)
    | fail)
  go_ret2
  exact ⟨_, rfl, hO2.mono (by have := hb1.size; simp; omega), keep_trans (keep_trans hb1 (keep_alloc _ _)) hb2⟩

set_option maxHeartbeats 2000000 in
set_option maxRecDepth 100000 in
theorem sum_2 (bv : Value) (b : List Nat) (w : World) (hT : Roots w) (hR : Row .u8 256 w bv b) (tB : Tidy bv) (hbl : b.length ≤ 100000) :
    Calls Tryd.prog 56 #[.int .i64 2, bv] w fun e w' => ∃ v', e = .returned (.tuple #[v', .int .i64 0]) ∧ Own 5 .u8 256 w' w.heap.size v' (endS (wide 2) (ini 2) b b.length (outn 2)) ∧ Below w.heap.size w w' := by
  have h8 : (ini 2).length = 8 := by decide
  have hu : Under (wm (wide 2)) (ini 2) := dec_under (by decide)
  have hnew := new_2 w hT
  obtain ⟨ba, bc, rfl⟩ := hR.form
  have hse := fun w1 (hb1 : Below w.heap.size w w1) => send_any 2 (by decide) (ini 2) (.slice ba b.length bc) b b.length _ ((hT.below hb1).below (keep_alloc w1 (.cells (hv 2 (ini 2) (.slice ba b.length bc) b.length) 102))) h8 hu ((hR.below hb1).below (keep_alloc w1 (.cells (hv 2 (ini 2) (.slice ba b.length bc) b.length) 102))) tB hbl (by omega)
  generalize ini 2 = E at *
  have hwr : IntKind.u64.wrap (b.length : Int) = (b.length : Int) := by rw [IntKind.wrap_u64]; omega
  unfold hv at *
  go_enter Tryd.func56, Tryd.ntmps56
  go_wp2_with (first
    | (go_at_call 64; refine hnew.mono ?_; rintro e w1 ⟨rfl, hb1⟩)
    | (go_at_call 65; refine (hse w1 hb1).mono ?_; rintro e w2 ⟨v2, rfl, hO2, hb2⟩)
    | fail)
  go_ret2
  exact ⟨_, rfl, hO2.mono (by have := hb1.size; simp; omega), keep_trans (keep_trans hb1 (keep_alloc _ _)) hb2⟩

set_option maxHeartbeats 2000000 in
set_option maxRecDepth 100000 in
theorem sum_3 (bv : Value) (b : List Nat) (w : World) (hT : Roots w) (hR : Row .u8 256 w bv b) (tB : Tidy bv) (hbl : b.length ≤ 100000) :
    Calls Tryd.prog 56 #[.int .i64 3, bv] w fun e w' => ∃ v', e = .returned (.tuple #[v', .int .i64 0]) ∧ Own 5 .u8 256 w' w.heap.size v' (endS (wide 3) (ini 3) b b.length (outn 3)) ∧ Below w.heap.size w w' := by
  have h8 : (ini 3).length = 8 := by decide
  have hu : Under (wm (wide 3)) (ini 3) := dec_under (by decide)
  have hnew := new_3 w hT
  obtain ⟨ba, bc, rfl⟩ := hR.form
  have hse := fun w1 (hb1 : Below w.heap.size w w1) => send_any 3 (by decide) (ini 3) (.slice ba b.length bc) b b.length _ ((hT.below hb1).below (keep_alloc w1 (.cells (hv 3 (ini 3) (.slice ba b.length bc) b.length) 102))) h8 hu ((hR.below hb1).below (keep_alloc w1 (.cells (hv 3 (ini 3) (.slice ba b.length bc) b.length) 102))) tB hbl (by omega)
  generalize ini 3 = E at *
  have hwr : IntKind.u64.wrap (b.length : Int) = (b.length : Int) := by rw [IntKind.wrap_u64]; omega
  unfold hv at *
  go_enter Tryd.func56, Tryd.ntmps56
  go_wp2_with (first
    | (go_at_call 64; refine hnew.mono ?_; rintro e w1 ⟨rfl, hb1⟩)
    | (go_at_call 65; refine (hse w1 hb1).mono ?_; rintro e w2 ⟨v2, rfl, hO2, hb2⟩)
    | fail)
  go_ret2
  exact ⟨_, rfl, hO2.mono (by have := hb1.size; simp; omega), keep_trans (keep_trans hb1 (keep_alloc _ _)) hb2⟩

set_option maxHeartbeats 2000000 in
set_option maxRecDepth 100000 in
theorem sum_0 (kind : Int) (bv : Value) (w : World) (h1 : ¬ kind = 1) (h2 : ¬ kind = 2) (h3 : ¬ kind = 3) :
    Calls Tryd.prog 56 #[.int .i64 kind, bv] w fun e w' => e = .returned (.tuple #[.slice none 0 0, .int .i64 9]) ∧ Below w.heap.size w w' := by
  have hnew := new_0 kind w h1 h2 h3
  unfold hv at *
  go_enter Tryd.func56, Tryd.ntmps56
  go_wp2_with (first
    | (go_at_call 64; refine hnew.mono ?_; rintro e w1 ⟨rfl, hb1⟩)
    | fail)
  go_ret2
  exact ⟨rfl, keep_trans hb1 (keep_alloc _ _)⟩
end Go.Proofs.YtefndnbaifiboaaDoor

/- The chapter's examples: awake. -/
namespace Go.Proofs.YtefndnbaifiboaaDoor
open Go.RowKit
set_option linter.unusedVariables false
set_option linter.unusedSimpArgs false

theorem len256 : (endS false (ini 1) [97, 98, 99] 3 32).length = 32 := by kernel_rfl
theorem len512 : (endS true (ini 3) [97, 98, 99] 3 64).length = 64 := by kernel_rfl
theorem lit_abc (w : World) :
    Row .u8 256 (w.alloc (.cells #[.int .u8 97, .int .u8 98, .int .u8 99] 5 (3, 4))) (.slice (some ⟨w.heap.size, 0, none⟩) 3 3) [97, 98, 99] := by
  refine ⟨_, _, rfl, Nat.le_refl _, by decide, fun _ => ⟨_, _, rfl, fun i hi => ?_⟩, dec_under (by decide)⟩
  have h : (w.alloc (.cells #[.int .u8 97, .int .u8 98, .int .u8 99] 5 (3, 4))).heap[w.heap.size]? = some (.cells #[.int .u8 97, .int .u8 98, .int .u8 99] 5 (3, 4)) := heap_alloc_new w _
  rw [World.cell?]
  simp only [h]
  rw [Nat.zero_add]
  have := vals_get .u8 [97, 98, 99] i hi
  simpa [vals] using this

end Go.Proofs.YtefndnbaifiboaaDoor

/- Plain facts on what fills up a text: the document's way, and the code's. -/
namespace Go.Proofs.YtefndnbaifiboaaDoor
set_option linter.unusedVariables false
set_option linter.unusedSimpArgs false

theorem leL_add (n a z : Nat) (h : n < 256 ^ a) : leL n (a + z) = leL n a ++ List.replicate z 0 := by
  induction z with
  | zero => simp
  | succ z ih =>
    have e : leL n (a + (z + 1)) = leL n (a + z) ++ [n / 256 ^ (a + z) % 256] := by
      unfold leL
      rw [show a + (z + 1) = a + z + 1 by omega, List.range_succ, List.map_append]; rfl
    have hz : n / 256 ^ (a + z) % 256 = 0 := by
      rw [Nat.div_eq_of_lt (Nat.lt_of_lt_of_le h (Nat.pow_le_pow_right (by decide) (by omega)))]
    rw [e, ih, hz, List.append_assoc, List.replicate_succ']
/-- so many bytes 0 stand between the byte 128 and the size's last eight bytes -/
theorem fill_is (b : Bool) (t size : Nat) (hs : size < 1152921504606846976) (hr : 8 ≤ room b t) : fill b t size = [128] ++ List.replicate (room b t - 8) 0 ++ (leL (8 * size) 8).reverse := by
  unfold fill
  have e : leL (8 * size) (room b t) = leL (8 * size) 8 ++ List.replicate (room b t - 8) 0 := by
    have := leL_add (8 * size) 8 (room b t - 8) (by have : (256 : Nat) ^ 8 = 18446744073709551616 := by decide
                                                    omega)
    rw [show 8 + (room b t - 8) = room b t by omega] at this
    exact this
  rw [e, List.reverse_append, List.reverse_replicate, List.append_assoc]
theorem room32 (t : Nat) (ht : t < 64) : room false t - 8 = if t + 1 ≤ 56 then 55 - t else 119 - t := by
  unfold room
  have e : bz false = 64 := rfl
  rw [e, Nat.mod_eq_of_lt ht]
  by_cases h : 64 - t - 1 < 64 / 8
  · rw [if_pos h, if_neg (by omega)]; omega
  · rw [if_neg h, if_pos (by omega)]; omega
theorem room64 (t : Nat) (ht : t < 128) : room true t - 16 = if t + 1 ≤ 112 then 111 - t else 239 - t := by
  unfold room
  have e : bz true = 128 := rfl
  rw [e, Nat.mod_eq_of_lt ht]
  by_cases h : 128 - t - 1 < 128 / 8
  · rw [if_pos h, if_neg (by omega)]; omega
  · rw [if_neg h, if_pos (by omega)]; omega
theorem room64_ge (t : Nat) (ht : t < 128) : 16 ≤ room true t := by
  unfold room
  have e : bz true = 128 := rfl
  rw [e, Nat.mod_eq_of_lt ht]
  split <;> omega
theorem fill_wide (t size : Nat) (ht : t < 128) (hs : size < 1152921504606846976) : fill true t size = [128] ++ List.replicate (room true t - 16) 0 ++ (leL (size / 2305843009213693952) 8).reverse ++ (leL (8 * size) 8).reverse := by
  have hr := room64_ge t ht
  have hz : size / 2305843009213693952 = 0 := Nat.div_eq_of_lt (by omega)
  have e0 : (leL 0 8).reverse = List.replicate 8 0 := by decide
  rw [fill_is true t size hs (by omega), hz, e0, show room true t - 8 = (room true t - 16) + 8 by omega, ← List.replicate_append_replicate]
  simp only [List.append_assoc]
end Go.Proofs.YtefndnbaifiboaaDoor

/- Plain facts for the law of what fills up a text. -/
namespace Go.Proofs.YtefndnbaifiboaaDoor

theorem leL_len (n : Nat) : ∀ k, (leL n k).length = k := by
  intro k
  simp [leL]
theorem bytesW_cons (x : Nat) (h : List Nat) : bytesW false (x :: h) = (leL x 4).reverse ++ bytesW false h := by
  simp [bytesW, ez]
theorem bytesW_at : ∀ (h : List Nat) (i : Nat), i < h.length → ((bytesW false h).drop (4 * i)).take 4 = (leL (el h i) 4).reverse
  | [], i, hi => by simp at hi
  | x :: h, 0, _ => by
    rw [bytesW_cons]
    have h4 : (leL x 4).reverse.length = 4 := by simp [leL_len]
    rw [Nat.mul_zero, List.drop_zero, List.take_append, h4, List.take_of_length_le (by omega)]
    simp [el]
  | x :: h, i + 1, hi => by
    rw [bytesW_cons, show 4 * (i + 1) = (leL x 4).reverse.length + 4 * i by simp [leL_len]; omega, List.drop_append]
    simp only [List.length_cons] at hi
    rw [List.drop_eq_nil_of_le (by omega), List.nil_append, Nat.add_sub_cancel_left, bytesW_at h i (by omega)]
    simp [el]
theorem room_8 (n : Nat) : 8 ≤ room false n := by
  have : bz false = 64 := rfl
  unfold room
  rw [this]
  split <;> omega
theorem room_mod (n : Nat) : (n + 1 + room false n) % 64 = 0 := by
  have : bz false = 64 := rfl
  unfold room
  rw [this]
  split <;> omega
theorem room_first (n k : Nat) (hk : (n + 1 + k) % 64 = 56) (h : k < 64) : k = room false n - 8 := by
  have : bz false = 64 := rfl
  unfold room
  rw [this]
  split <;> omega
theorem fill_len (n size : Nat) : (fill false n size).length = 1 + room false n := by
  unfold fill
  simp [leL_len]
  omega
theorem left_fill (l : List Nat) (size : Nat) : left false (l ++ fill false l.length size) = [] := by
  apply List.eq_nil_of_length_eq_zero
  rw [left_length, List.length_append, fill_len]
  have := room_mod l.length
  have h : bz false = 64 := rfl
  rw [h]
  omega
theorem num_be4 (n : Nat) (hn : n < 4294967296) : numL (leL n 4).reverse = n := by
  have e : (leL n 4).reverse = [n / 16777216 % 256, n / 65536 % 256, n / 256 % 256, n % 256] := by
    simp [leL, List.range_succ]
  rw [e]
  simp only [numL, List.foldl]
  omega
theorem word_num (h : List Nat) (i : Nat) (hi : i < h.length) (hu : Under 4294967296 h) : numL (((bytesW false h).drop (4 * i)).take 4) = el h i := by
  rw [bytesW_at h i hi]
  exact num_be4 _ (el_lt hu (by decide) i)
theorem bytesW_len : ∀ h : List Nat, (bytesW false h).length = 4 * h.length
  | [] => rfl
  | x :: h => by
    rw [bytesW_cons, List.length_append, bytesW_len h]
    simp [leL_len]
    omega
/-- the law's way to fill up a text of n bytes is the code's -/
theorem fill_law (n k : Nat) (hn : n < 1152921504606846976) (hk : (n + 1 + k) % 64 = 56) (h : k < 64) : [128] ++ List.replicate k 0 ++ (leL (8 * n) 8).reverse = fill false n n := by
  rw [fill_is false n n hn (room_8 n), ← room_first n k hk h]
end Go.Proofs.YtefndnbaifiboaaDoor

/- The two tables of roots, as the row lists them. -/
namespace Go.Proofs.YtefndnbaifiboaaDoor
open Go.ChangeShapes Go.WideShapes Go.ChangeAt Go.RowKit Go.Lib
set_option linter.unusedVariables false
set_option linter.unusedSimpArgs false

/-- a law's frame where the row lists variables: the contract is told that they read so, and that the world is well shaped -/
theorem change_laid_shaped {H : Type} {enc : TypeId × Value → H} {a : Assume} {C : Checked} {os : Os} {f : FuncId} {fn : Func} {s : ChangeSpec} {conds : List PathCond} {apart fresh handsOn again : Bool} {X : World → Array Value → Prop}
    (hX : ∀ (w w' : World) (args : Array Value), w.heap = w'.heap → X w args → X w' args)
    (own : ownKnob C.prog.godebug = none) (started : os.Started) (noInit : C.prog.inits.idxOf? f = none) (hfn : C.prog.funcs[f]? = some fn)
    (witness : ∃ (w : World) (tape : Tape) (i : Input), w.os = os ∧ (w.forCall tape i).Shaped C.prog ∧ i.vars = [] ∧ Input.okWide C.prog (w.forCall tape i) .any w.heap.size f i ∧
      ((s.pre enc C.prog fn conds apart (w.forCall tape i).memory i.args ∧ X (w.forCall tape i).memory i.args) ∧ sizedMet enc C.prog fn (OpenSpec.ofChange s) apart (w.forCall tape i).memory i.args) ∧ a.holds C.prog (lone (Frame.enter C.prog f i.args .normal) [] (w.forCall tape i)))
    (contract : ∀ (W : World) (base : Nat) (args : Array Value) (ds gs : List (DataW H)) (before : List MemPlace),
      (∀ (j : Nat) t v, fn.params[j]? = some t → args[j]? = some v → Value.okWide C.prog W .any base t v) →
      DataW.Whole enc C.prog fn.params.toList s.vars apart W args.toList ds gs before →
      (DataW.weightsEach C.prog (fn.params.toList ++ s.plain.varTypes C.prog) (ds ++ gs)).all (· ≤ reachBytes) = true → X W args → W.ShapedOpen C.prog →
      Calls C.prog f args W fun e W' => ∃ v, e = .returned v ∧ s.post enc C.prog fn apart fresh handsOn again W args v W') :
    ReturnsInHanded a C os f .any (fun w args => (s.pre enc C.prog fn conds apart w args ∧ X w args) ∧ sizedMet enc C.prog fn (OpenSpec.ofChange s) apart w args) (s.post enc C.prog fn apart fresh handsOn again) := by
  refine returnsInHanded_of_calls own started noInit witness ?_
  intro w tape i _ hsh _ hok hpre _
  obtain ⟨_, _, _, fn', hfn', _, _, _, _, hval⟩ := hok
  obtain rfl : fn' = fn := Option.some.inj (hfn'.symm.trans hfn)
  obtain ⟨⟨⟨ds, gs, before, hw, hc⟩, hx⟩, hz⟩ := hpre
  have hw' := DataW.Whole.of_heap (w' := w.forCall tape i) (by rfl) hw
  refine (contract (w.forCall tape i) w.heap.size i.args ds gs before hval hw' (hz.weights hw) (hX _ _ _ (by rfl) hx) hsh).mono fun e W' ⟨v, he, hp⟩ => ?_
  subst he
  exact ChangeSpec.post_blind hp

theorem tabC : (Rows.laid_apostille_sha_cubeRoots : DataW Unit) = tabData .u64 (cubes.map Int.ofNat) := by kernel_rfl
theorem tabS : (Rows.laid_apostille_sha_squareRoots : DataW Unit) = tabData .u64 (squares.map Int.ofNat) := by kernel_rfl
theorem tab_cells {w : World} {n : String} {g : Nat} {t : TypeId} {l : List Nat} (hn : Tryd.prog.globalNamed n = some g) (hy : (Tryd.prog.globals[g]?).map (·.type) = some t) (ht : Tryd.prog.underlying t = some (.array l.length 53)) (hc : Tryd.prog.cellsOf t = l.length) (hc1 : Tryd.prog.cellsOf 53 = 1)
    (h : VarReads Tryd.prog w n (tabData .u64 (l.map Int.ofNat))) : w.rangeAt g 0 (vals .u64 l) := by
  obtain ⟨g', t', cs, fuel, p, hg, hty, hvar, hd⟩ := h
  obtain rfl := Option.some.inj (hn.symm.trans hg)
  obtain rfl := Option.some.inj (hy.symm.trans hty)
  have hcs := cells_of_tab ht Tryd.underlying53 hc1 hc hd
  intro j v hv
  have := World.var?_cell hg hvar j
  rw [Nat.zero_add, this, ← Array.getElem?_toList, hcs]
  simpa [vals] using hv
def Vars (w : World) : Prop := Roots w
set_option maxRecDepth 100000 in
theorem vars_of_laid {W : World} (h : laidMetH Tryd.prog [("apostille/sha.cubeRoots", Rows.laid_apostille_sha_cubeRoots), ("apostille/sha.squareRoots", Rows.laid_apostille_sha_squareRoots)] W) (hsh : W.ShapedOpen Tryd.prog) : Vars W := by
  rw [MakeChecks.laidMetH_plain _ _ _ (by kernel_rfl)] at h
  rw [tabC, tabS] at h
  exact ⟨tab_cells (by kernel_rfl) (by kernel_rfl) Tryd.underlying119 (by kernel_rfl) (by kernel_rfl) (Lib.laidMet.reads h (.head _)), tab_cells (by kernel_rfl) (by kernel_rfl) Tryd.underlying110 (by kernel_rfl) (by kernel_rfl) (Lib.laidMet.reads h (.tail _ (.head _)))⟩
theorem isRow_tidy {k : IntKind} {w : World} {a : Option Addr} {len cap : Nat} {zs : List Int} (h : IsRow k w a len cap zs) : Tidy (.slice a len cap) := by
  rcases h with ⟨rfl, rfl, rfl, rfl⟩ | ⟨x, rfl, _⟩
  · exact fun n c he => by simp at he; omega
  · exact fun _ _ h => by cases h
end Go.Proofs.YtefndnbaifiboaaDoor

/- How a slice of texts that came in is read. -/
namespace Go.Proofs.YtefndnbaifiboaaDoor
open Go.ChangeShapes Go.WideShapes Go.ChangeAt Go.RowKit Go.Deep
set_option linter.unusedVariables false

theorem Tryd.cells25 : Tryd.prog.cellsOf 25 = 1 := by kernel_rfl

/-- a text that is read -/
theorem read_text {H : Type} {enc : TypeId × Value → H} {W : World} {fuel : Nat} {v : Value} {x : DataW H × List MemPlace}
    (h : DataW.trod enc Tryd.prog W 0 (fun _ => true) true fuel 25 [v] = some x) : ∃ l, Row .u8 256 W v l ∧ Tidy v := by
  rcases open_ints Tryd.underlying25 Tryd.underlying5 (by kernel_rfl) h with ⟨hcs, _⟩ | ⟨a, len, cap, zs, hcs, _, hl, hm, hz, _, hcell, hwz⟩
  · simp at hcs
    subst hcs
    exact ⟨[], Row.nil _ _ _, fun n c he => by simp at he; omega⟩
  · simp at hcs
    subst hcs
    have hr : IsRow .u8 W (some a) len cap zs := .inr ⟨a, rfl, hl, hm, by simpa using hz, hcell, hwz⟩
    obtain ⟨l, _, hrow⟩ := hr.row wf_u8
    exact ⟨l, hrow, fun n c he => by simp at he⟩

/-- a slice of texts that is read -/
theorem read_texts {H : Type} {enc : TypeId × Value → H} {W : World} {fuel : Nat} {v : Value} {x : DataW H × List MemPlace}
    (h : DataW.trod enc Tryd.prog W 0 (fun _ => true) true fuel 40 [v] = some x) : ∃ ls, Rows2 W v ls := by
  rcases open_slice1 Tryd.underlying40 Tryd.cells25 h with ⟨hcs, _⟩ | ⟨a, len, cap, m, n, V, D, Pl, hcs, _, hl, hm, hmm, _, hx⟩
  · simp at hcs
    subst hcs
    exact ⟨[], none, 0, rfl, Nat.le_refl _, Nat.zero_le _, fun h => by simp at h⟩
  · simp at hcs
    subst hcs
    have hm' : m = cap := by simpa using hmm
    subst hm'
    obtain ⟨L, hL⟩ := choose_lt (α := List Nat) (p := fun i l => Row .u8 256 W (V i) l ∧ Tidy (V i)) (fun i (hi : i < m) => read_text (hx i hi).2)
    refine ⟨(List.range len).map L, some a, m, by simp, by simpa using hl, hm, fun hp => ?_⟩
    have hp' : 0 < len := by simpa using hp
    obtain ⟨b, off, spot⟩ := a
    have h0 := (hx 0 (by omega)).1
    have hspot : spot = none := by simpa [Addr.add] using World.cell?_spot h0
    subst hspot
    refine ⟨b, off, rfl, fun i hi => ?_⟩
    have hi' : i < len := by simpa using hi
    refine ⟨V i, ?_, ?_, (hL i (by omega)).2⟩
    · have := (hx i (by omega)).1
      rw [Addr.add_lit] at this
      exact this
    · have e : tx ((List.range len).map L) i = L i := by unfold tx; simp [hi']
      rw [e]
      exact (hL i (by omega)).1
end Go.Proofs.YtefndnbaifiboaaDoor

/- An append whose second argument is a slice of another named type. -/
namespace Go.Proofs.YtefndnbaifiboaaDoor
open Go.RowKit
set_option linter.unusedVariables false

theorem append_types {P : Program} (w : World) (t tx ty e e' : TypeId) (ht : P.underlying t = some (.slice e)) (hx : P.underlying tx = some (.slice e')) (v x : Value) :
    (Builtin.append_ #[t, tx] ty #[v, x]).run P w = (Builtin.append_ #[t, t] ty #[v, x]).run P w := by
  unfold Builtin.append_
  simp only [List.getElem?_toArray, List.getElem?_cons_zero, List.getElem?_cons_succ, Sem.run_bind, run_underlying ht, Result.andThen_ok]
  cases v <;> try rfl
  simp only [Sem.run_bind]
  cases (sizeOf e).run P w
  · simp only [Result.andThen, run_underlying ht, run_underlying hx]
  all_goals rfl

theorem wpList_append_own2 {P : Program} (w : World) {ops : Array Oper} {rest : List Oper} {o : Oper} {a : Act} {Q : Exit → Act → World → Prop} (hgd : o.guard = none) (s x : Operand) (t tx e' : TypeId)
    (ho : o.op = .call { callee := .builtin .append, args := #[s, x], argTypes := #[t, tx] }) (htx : P.underlying tx = some (.slice e'))
    (base : Nat) (e : TypeId) (i : TypeInfo) (z : Value) (size bytes : Nat) (ht : P.underlying t = some (.slice e)) (hi : P.info? e = some i) (hz : i.zero = some z)
    (hsize : i.size = size) (hby : i.bytes = bytes) (hzs : z.cells.size = size) (hsz : 0 < size)
    (v : Value) (n : Nat) (xs : List Value) (hs : a.eval s = v) (hown : w.ownsRow base e size v n xs)
    (ad : Addr) (m c : Nat) (news : List Value) (hx : a.eval x = .slice (some ad) m c) (hl : news.length = m * size) (hnews : ∀ j u, news[j]? = some u → w.cell? (ad.add j) = some u) (h1 : ∀ u ∈ news, u.oneCell' = true)
    (h63 : n + m ≤ maxLen) (hbytes : (n + m) * bytes ≤ 140737488355328) (hbase : base ≤ w.heap.size)
    (h : ∀ v' w', w'.ownsRow base e size v' (n + m) (xs ++ news) → w.grownBy w' v.ownBlock → (v' = .slice none 0 0 ↔ v = .slice none 0 0 ∧ m = 0) → wpList P ops Q rest (a.put o.dst v') w') : wpList P ops Q (o :: rest) a w :=
  wpList_plain hgd fun _ hK => by
    obtain ⟨v', w', hr, h2, h3, h4⟩ := run_append_own (P := P) w base t o.type e i z size bytes ht hi hz hsize hby hzs hsz v n xs hown ad m c news hl hnews h1 h63 hbytes hbase
    rw [← append_types w t tx o.type e e' ht htx] at hr
    unfold Oper.wp execOp
    simp only [ho, resolve, invoke, builtin, Sem.run_bind, Sem.run_pure, Result.andThen_ok, List.map_toArray, List.map_cons, List.map_nil, hs, hx, hr]
    exact hK _ _ (h v' w' h2 h3 h4)
end Go.Proofs.YtefndnbaifiboaaDoor
