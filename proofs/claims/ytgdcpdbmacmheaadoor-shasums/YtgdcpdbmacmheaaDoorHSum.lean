/- Contract of sha.Sum. -/
import Derived.Test.YtgdcpdbmacmheaaDoorHN3
import Derived.Lib.SlBytesConst
import Derived.Test.YtgdcpdbmacmheaaDoorHaM
namespace Go.Proofs.YtgdcpdbmacmheaaDoor
open Go.RowKit
set_option linter.unusedVariables false
set_option linter.unusedSimpArgs false

set_option maxHeartbeats 2000000 in
set_option maxRecDepth 100000 in
theorem sum_1 (bv : Value) (b : List Nat) (w : World) (hT : Roots w) (hR : Row .u8 256 w bv b) (tB : Tidy bv) (hbl : b.length ≤ 100000) :
    Calls Tryd.prog 8 #[.int .i64 1, bv] w fun e w' => ∃ v', e = .returned (.tuple #[v', .int .i64 0]) ∧ Own 5 .u8 256 w' w.heap.size v' (endS (wide 1) (ini 1) b b.length (outn 1)) ∧ Below w.heap.size w w' := by
  have h8 : (ini 1).length = 8 := by decide
  have hu : Under (wm (wide 1)) (ini 1) := dec_under (by decide)
  have hnew := new_1 w hT
  obtain ⟨ba, bc, rfl⟩ := hR.form
  have hse := fun w1 (hb1 : Below w.heap.size w w1) => send_any 1 (by decide) (ini 1) (.slice ba b.length bc) b b.length _ ((hT.below hb1).below (keep_alloc w1 (.cells (hv 1 (ini 1) (.slice ba b.length bc) b.length) 26))) h8 hu ((hR.below hb1).below (keep_alloc w1 (.cells (hv 1 (ini 1) (.slice ba b.length bc) b.length) 26))) tB hbl (by omega)
  generalize ini 1 = E at *
  have hwr : IntKind.u64.wrap (b.length : Int) = (b.length : Int) := by rw [IntKind.wrap_u64]; omega
  unfold hv at *
  go_enter Tryd.func8, Tryd.ntmps8
  go_wp2_with (first
    | (go_at_call 10; refine hnew.mono ?_; rintro e w1 ⟨rfl, hb1⟩)
    | (go_at_call 24; refine (hse w1 hb1).mono ?_; rintro e w2 ⟨v2, rfl, hO2, hb2⟩)
    | fail)
  go_ret2
  exact ⟨_, rfl, hO2.mono (by have := hb1.size; simp; omega), keep_trans (keep_trans hb1 (keep_alloc _ _)) hb2⟩

set_option maxHeartbeats 2000000 in
set_option maxRecDepth 100000 in
theorem sum_2 (bv : Value) (b : List Nat) (w : World) (hT : Roots w) (hR : Row .u8 256 w bv b) (tB : Tidy bv) (hbl : b.length ≤ 100000) :
    Calls Tryd.prog 8 #[.int .i64 2, bv] w fun e w' => ∃ v', e = .returned (.tuple #[v', .int .i64 0]) ∧ Own 5 .u8 256 w' w.heap.size v' (endS (wide 2) (ini 2) b b.length (outn 2)) ∧ Below w.heap.size w w' := by
  have h8 : (ini 2).length = 8 := by decide
  have hu : Under (wm (wide 2)) (ini 2) := dec_under (by decide)
  have hnew := new_2 w hT
  obtain ⟨ba, bc, rfl⟩ := hR.form
  have hse := fun w1 (hb1 : Below w.heap.size w w1) => send_any 2 (by decide) (ini 2) (.slice ba b.length bc) b b.length _ ((hT.below hb1).below (keep_alloc w1 (.cells (hv 2 (ini 2) (.slice ba b.length bc) b.length) 26))) h8 hu ((hR.below hb1).below (keep_alloc w1 (.cells (hv 2 (ini 2) (.slice ba b.length bc) b.length) 26))) tB hbl (by omega)
  generalize ini 2 = E at *
  have hwr : IntKind.u64.wrap (b.length : Int) = (b.length : Int) := by rw [IntKind.wrap_u64]; omega
  unfold hv at *
  go_enter Tryd.func8, Tryd.ntmps8
  go_wp2_with (first
    | (go_at_call 10; refine hnew.mono ?_; rintro e w1 ⟨rfl, hb1⟩)
    | (go_at_call 24; refine (hse w1 hb1).mono ?_; rintro e w2 ⟨v2, rfl, hO2, hb2⟩)
    | fail)
  go_ret2
  exact ⟨_, rfl, hO2.mono (by have := hb1.size; simp; omega), keep_trans (keep_trans hb1 (keep_alloc _ _)) hb2⟩

set_option maxHeartbeats 2000000 in
set_option maxRecDepth 100000 in
theorem sum_3 (bv : Value) (b : List Nat) (w : World) (hT : Roots w) (hR : Row .u8 256 w bv b) (tB : Tidy bv) (hbl : b.length ≤ 100000) :
    Calls Tryd.prog 8 #[.int .i64 3, bv] w fun e w' => ∃ v', e = .returned (.tuple #[v', .int .i64 0]) ∧ Own 5 .u8 256 w' w.heap.size v' (endS (wide 3) (ini 3) b b.length (outn 3)) ∧ Below w.heap.size w w' := by
  have h8 : (ini 3).length = 8 := by decide
  have hu : Under (wm (wide 3)) (ini 3) := dec_under (by decide)
  have hnew := new_3 w hT
  obtain ⟨ba, bc, rfl⟩ := hR.form
  have hse := fun w1 (hb1 : Below w.heap.size w w1) => send_any 3 (by decide) (ini 3) (.slice ba b.length bc) b b.length _ ((hT.below hb1).below (keep_alloc w1 (.cells (hv 3 (ini 3) (.slice ba b.length bc) b.length) 26))) h8 hu ((hR.below hb1).below (keep_alloc w1 (.cells (hv 3 (ini 3) (.slice ba b.length bc) b.length) 26))) tB hbl (by omega)
  generalize ini 3 = E at *
  have hwr : IntKind.u64.wrap (b.length : Int) = (b.length : Int) := by rw [IntKind.wrap_u64]; omega
  unfold hv at *
  go_enter Tryd.func8, Tryd.ntmps8
  go_wp2_with (first
    | (go_at_call 10; refine hnew.mono ?_; rintro e w1 ⟨rfl, hb1⟩)
    | (go_at_call 24; refine (hse w1 hb1).mono ?_; rintro e w2 ⟨v2, rfl, hO2, hb2⟩)
    | fail)
  go_ret2
  exact ⟨_, rfl, hO2.mono (by have := hb1.size; simp; omega), keep_trans (keep_trans hb1 (keep_alloc _ _)) hb2⟩

set_option maxHeartbeats 2000000 in
set_option maxRecDepth 100000 in
theorem sum_0 (kind : Int) (bv : Value) (w : World) (h1 : ¬ kind = 1) (h2 : ¬ kind = 2) (h3 : ¬ kind = 3) :
    Calls Tryd.prog 8 #[.int .i64 kind, bv] w fun e w' => e = .returned (.tuple #[.slice none 0 0, .int .i64 9]) ∧ Below w.heap.size w w' := by
  have hnew := new_0 kind w h1 h2 h3
  unfold hv at *
  go_enter Tryd.func8, Tryd.ntmps8
  go_wp2_with (first
    | (go_at_call 10; refine hnew.mono ?_; rintro e w1 ⟨rfl, hb1⟩)
    | fail)
  go_ret2
  exact ⟨rfl, keep_trans hb1 (keep_alloc _ _)⟩
end Go.Proofs.YtgdcpdbmacmheaaDoor

/- The chapter's examples: awake. -/
namespace Go.Proofs.YtgdcpdbmacmheaaDoor
open Go.RowKit
set_option linter.unusedVariables false
set_option linter.unusedSimpArgs false

theorem len256 : (endS false (ini 1) [97, 98, 99] 3 32).length = 32 := by kernel_rfl
theorem len512 : (endS true (ini 3) [97, 98, 99] 3 64).length = 64 := by kernel_rfl
theorem lit_abc (w : World) :
    Row .u8 256 (w.alloc (.cells #[.int .u8 97, .int .u8 98, .int .u8 99] 5 (3, 4))) (.slice (some ⟨w.heap.size, 0, none⟩) 3 3) [97, 98, 99] := by
  refine ⟨_, _, rfl, Nat.le_refl _, by decide, fun _ => ⟨_, _, rfl, fun i hi => ?_⟩, dec_under (by decide)⟩
  have h : (w.alloc (.cells #[.int .u8 97, .int .u8 98, .int .u8 99] 5 (3, 4))).heap[w.heap.size]? = some (.cells #[.int .u8 97, .int .u8 98, .int .u8 99] 5 (3, 4)) := heap_alloc_new w _
  rw [World.cell?]
  simp only [h]
  rw [Nat.zero_add]
  have := vals_get .u8 [97, 98, 99] i hi
  simpa [vals] using this

set_option maxHeartbeats 2000000 in
set_option maxRecDepth 100000 in
theorem awake_any (w : World) (hT : Roots w) : Calls Tryd.prog 7 #[] w fun e w' => e = .returned (.bool true) ∧ Below w.heap.size w w' := by
  have hcv := Lib.run_convert_bytes_const (P := Tryd.prog) w 22 5 #[.int .u8 97, .int .u8 98, .int .u8 99] 3 3 Tryd.underlying22 Tryd.underlying5
  have hb1 : Below w.heap.size w (w.alloc (.cells #[.int .u8 97, .int .u8 98, .int .u8 99] 5 (3, 4))) := keep_alloc w _
  have hs1 := sum_1 _ _ _ (hT.below hb1) (lit_abc w) (fun _ _ h => by cases h) (by decide)
  go_enter Tryd.func7, Tryd.ntmps7
  go_wp2_with fail
  refine hs1.mono ?_
  rintro e w2 ⟨v2, rfl, hO2, hb2⟩
  have hb2' := keep_trans hb1 hb2
  have r2 : Row .u8 256 w2 v2 (endS false (ini 1) [97, 98, 99] 3 32) := hO2.row
  clear hcv hb1 hs1 hb2 hO2
  have hcv := Lib.run_convert_bytes_const (P := Tryd.prog) w2 22 5 #[.int .u8 97, .int .u8 98, .int .u8 99] 3 3 Tryd.underlying22 Tryd.underlying5
  have hb3 : Below w2.heap.size w2 (w2.alloc (.cells #[.int .u8 97, .int .u8 98, .int .u8 99] 5 (3, 4))) := keep_alloc w2 _
  have hs3 := sum_3 _ _ _ ((hT.below hb2').below hb3) (lit_abc w2) (fun _ _ h => by cases h) (by decide)
  go_wp2_with fail
  refine hs3.mono ?_
  rintro e w4 ⟨v4, rfl, hO4, hb4⟩
  have hb4' := keep_trans hb3 hb4
  have r4 : Row .u8 256 w4 v4 (endS true (ini 3) [97, 98, 99] 3 64) := hO4.row
  have r2' := r2.below hb4'
  have hb5 := keep_trans hb2' hb4'
  clear hcv hb3 hs3 hb4 hO4 r2 hb2' hb4'
  have hnew := new_0 9 w4 (by decide) (by decide) (by decide)
  unfold hv at hnew
  go_wp2_with fail
  refine hnew.mono ?_
  rintro e w5 ⟨rfl, hb6⟩
  have r4' := r4.below hb6
  have r2 := r2'.below hb6
  have hb7 := keep_trans hb5 hb6
  clear hnew hb5 hb6 r4 r2'
  obtain ⟨a2, c2, rfl⟩ := r2.form
  obtain ⟨a4, c4, rfl⟩ := r4'.form
  rw [len256] at *
  rw [len512] at *
  have hc2 : 4 ≤ c2 := by
    obtain ⟨_, _, he, h1, _⟩ := r2
    simp at he
    rw [len256] at h1
    omega
  have hc4 : 4 ≤ c4 := by
    obtain ⟨_, _, he, h1, _⟩ := r4'
    simp at he
    rw [len512] at h1
    omega
  have q2 : Row .u8 256 w5 (.slice a2 4 c2) _ := r2.cut (M := 4) (by rw [len256]; decide)
  rw [abc256] at q2
  have q4 : Row .u8 256 w5 (.slice a4 4 c4) _ := r4'.cut (M := 4) (by rw [len512]; decide)
  rw [abc512] at q4
  have sl2 := slice_to a2 32 c2 4 hc2 w5
  clear r2 r4'
  have lit : ∀ (w1 : World) (o : Obj), Row .u8 256 ((w1.alloc o).alloc (.cells #[.int .u8 186, .int .u8 120, .int .u8 22, .int .u8 191] 5)) (.slice (some ⟨w1.heap.size + 1, 0, none⟩) 4 4) [186, 120, 22, 191] := fun w1 o => by
    have := lit_row .u8 256 (w1.alloc o) [186, 120, 22, 191] 5 (dec_under (by decide)) (by decide)
    rw [World.size_alloc] at this
    exact this
  go_wp2_with fail
  refine (rsame_true _ _ _ _ ((q2.below (keep_alloc _ _)).below (keep_alloc _ _)) (lit w5 _)).mono ?_
  rintro e w6 ⟨rfl, hb8⟩
  have hb9 := keep_trans hb7 (keep_trans (keep_trans (keep_alloc w5 _) (keep_alloc _ _)) hb8)
  have q6 := q4.below (keep_trans (keep_trans (keep_alloc w5 _) (keep_alloc _ _)) hb8)
  clear hb7 hb8 q4 q2 sl2 lit
  have sl4 := slice_to a4 64 c4 4 hc4 w6
  have lit := lit_row .u8 256 w6 [221, 175, 53, 161] 5 (dec_under (by decide)) (by decide)
  go_wp2_with fail
  refine (rsame_true _ _ _ _ (q6.below (keep_alloc _ _)) lit).mono ?_
  rintro e w7 ⟨rfl, hb10⟩
  clear sl4 lit q6
  go_wp2
  go_ret
  exact ⟨rfl, keep_trans hb9 (keep_trans (keep_alloc _ _) hb10)⟩
end Go.Proofs.YtgdcpdbmacmheaaDoor

/- Plain facts on what fills up a text: the document's way, and the code's. -/
namespace Go.Proofs.YtgdcpdbmacmheaaDoor
set_option linter.unusedVariables false
set_option linter.unusedSimpArgs false

theorem leL_add (n a z : Nat) (h : n < 256 ^ a) : leL n (a + z) = leL n a ++ List.replicate z 0 := by
  induction z with
  | zero => simp
  | succ z ih =>
    have e : leL n (a + (z + 1)) = leL n (a + z) ++ [n / 256 ^ (a + z) % 256] := by
      unfold leL
      rw [show a + (z + 1) = a + z + 1 by omega, List.range_succ, List.map_append]; rfl
    have hz : n / 256 ^ (a + z) % 256 = 0 := by
      rw [Nat.div_eq_of_lt (Nat.lt_of_lt_of_le h (Nat.pow_le_pow_right (by decide) (by omega)))]
    rw [e, ih, hz, List.append_assoc, List.replicate_succ']
/-- so many bytes 0 stand between the byte 128 and the size's last eight bytes -/
theorem fill_is (b : Bool) (t size : Nat) (hs : size < 1152921504606846976) (hr : 8 ≤ room b t) : fill b t size = [128] ++ List.replicate (room b t - 8) 0 ++ (leL (8 * size) 8).reverse := by
  unfold fill
  have e : leL (8 * size) (room b t) = leL (8 * size) 8 ++ List.replicate (room b t - 8) 0 := by
    have := leL_add (8 * size) 8 (room b t - 8) (by have : (256 : Nat) ^ 8 = 18446744073709551616 := by decide
                                                    omega)
    rw [show 8 + (room b t - 8) = room b t by omega] at this
    exact this
  rw [e, List.reverse_append, List.reverse_replicate, List.append_assoc]
theorem room32 (t : Nat) (ht : t < 64) : room false t - 8 = if t + 1 ≤ 56 then 55 - t else 119 - t := by
  unfold room
  have e : bz false = 64 := rfl
  rw [e, Nat.mod_eq_of_lt ht]
  by_cases h : 64 - t - 1 < 64 / 8
  · rw [if_pos h, if_neg (by omega)]; omega
  · rw [if_neg h, if_pos (by omega)]; omega
theorem room64 (t : Nat) (ht : t < 128) : room true t - 16 = if t + 1 ≤ 112 then 111 - t else 239 - t := by
  unfold room
  have e : bz true = 128 := rfl
  rw [e, Nat.mod_eq_of_lt ht]
  by_cases h : 128 - t - 1 < 128 / 8
  · rw [if_pos h, if_neg (by omega)]; omega
  · rw [if_neg h, if_pos (by omega)]; omega
theorem room64_ge (t : Nat) (ht : t < 128) : 16 ≤ room true t := by
  unfold room
  have e : bz true = 128 := rfl
  rw [e, Nat.mod_eq_of_lt ht]
  split <;> omega
theorem fill_wide (t size : Nat) (ht : t < 128) (hs : size < 1152921504606846976) : fill true t size = [128] ++ List.replicate (room true t - 16) 0 ++ (leL (size / 2305843009213693952) 8).reverse ++ (leL (8 * size) 8).reverse := by
  have hr := room64_ge t ht
  have hz : size / 2305843009213693952 = 0 := Nat.div_eq_of_lt (by omega)
  have e0 : (leL 0 8).reverse = List.replicate 8 0 := by decide
  rw [fill_is true t size hs (by omega), hz, e0, show room true t - 8 = (room true t - 16) + 8 by omega, ← List.replicate_append_replicate]
  simp only [List.append_assoc]
end Go.Proofs.YtgdcpdbmacmheaaDoor
