/- Contract of sha.New. -/
import Derived.Test.YtejlmgbmfeacdaaDoorHRes32
import Derived.Test.YtejlmgbmfeacdaaDoorHRes64
import Derived.Test.YtejlmgbmfeacdaaDoorHSl
import Derived.Test.YtejlmgbmfeacdaaDoorHFin64
import Derived.Test.YtejlmgbmfeacdaaDoorHAdd64
import Derived.Test.YtejlmgbmfeacdaaDoorHSpr32
import Derived.Test.YtejlmgbmfeacdaaDoorHAdd32
import Derived.Laws.ShiftsVarLaws
import Derived.BigRegion
namespace Go.Proofs.YtejlmgbmfeacdaaDoor
open Go.RowKit
set_option linter.unusedVariables false
set_option linter.unusedSimpArgs false

set_option maxHeartbeats 4000000 in
set_option maxRecDepth 100000 in
theorem new_2 (w : World) (hT : Roots w) :
    Calls Tryd.prog 25 #[.int .i64 2] w fun e w' => e = .returned (.tuple #[.agg (hv 2 (ini 2) (.slice none 0 0) 0), .int .i64 0]) ∧ Below w.heap.size w w' := by
  have hb0 := keep_alloc w (.cells (hv 0 (List.replicate 8 0) (.slice none 0 0) 0) 48)
  have hT0 := (hT.below hb0).2
  have hO0 := Hb.new w 0 (List.replicate 8 0) (.slice none 0 0) 0
  have h8 : (ini 2).length = 8 := by decide
  have hu : Under 18446744073709551616 (ini 2) := dec_under (by decide)
  have hbeg : ∀ w, Calls Tryd.prog 38 #[.agg (vals .u64 squares).toArray, .int .i64 8] w fun e w' => e = .returned (.agg (arr .u64 (ini 2))) ∧ Below w.heap.size w w' := fun w => begin_any64 squares 8 w squares_length squares_under (by decide)
  have hsto : ∀ w, Calls Tryd.prog 39 #[.agg (arr .u64 (ini 2))] w fun e w' => e = .returned (.agg #[.int .u64 (el (ini 2) 0), .int .u64 (el (ini 2) 1), .int .u64 (el (ini 2) 2), .int .u64 (el (ini 2) 3), .int .u64 (el (ini 2) 4), .int .u64 (el (ini 2) 5), .int .u64 (el (ini 2) 6), .int .u64 (el (ini 2) 7)]) ∧ Below w.heap.size w w' := fun w => by
    rw [← arr8 .u64 (ini 2) h8]; exact stored_any64 (ini 2) w h8 hu
  have HO := hide hO0
  have HB := hide hb0
  clear hO0 hb0
  generalize ini 2 = E at *
  go_enter Tryd.func25, Tryd.ntmps25
  go_wp2_with (first
    | (refine wpList_load_mid rfl 69 _ (by rfl) 0 0 (by rfl) (vals .u64 squares) (.array 16 37) hT0 (by kernel_rfl) rfl (by kernel_rfl) ?_)
    | (go_at_call 38; refine (hbeg _).mono ?_; rintro e w1 ⟨rfl, hb1⟩)
    | (go_at_call 39; refine (hsto _).mono ?_; rintro e w2 ⟨rfl, hb2⟩; have hO2 := (HO.out.below hb1).below hb2; obtain ⟨o0, o1, o2, o3, o4, o5, o6, o7, o8, o9, o10⟩ := hO2.all; have p0 := hO2.frozen 0; have p1 := hO2.frozen 1; have p2 := hO2.frozen 2; have p3 := hO2.frozen 3; have p4 := hO2.frozen 4; have p5 := hO2.frozen 5; have p6 := hO2.frozen 6; have p7 := hO2.frozen 7; have p8 := hO2.frozen 8; have p9 := hO2.frozen 9; have p10 := hO2.frozen 10)
    | fail)
  have hfu := El.full hO2.elev (.int .i64 2) (.int .u64 (el E 0)) (.int .u64 (el E 1)) (.int .u64 (el E 2)) (.int .u64 (el E 3)) (.int .u64 (el E 4)) (.int .u64 (el E 5)) (.int .u64 (el E 6)) (.int .u64 (el E 7)) (.slice none 0 0) (.int .u64 0)
  have hBg : Below w.heap.size w (((((((((((w2.setCell ⟨w.heap.size, 0, none⟩ (.int .i64 2)).setCell ⟨w.heap.size, 1, none⟩ (.int .u64 (el E 0))).setCell ⟨w.heap.size, 2, none⟩ (.int .u64 (el E 1))).setCell ⟨w.heap.size, 3, none⟩ (.int .u64 (el E 2))).setCell ⟨w.heap.size, 4, none⟩ (.int .u64 (el E 3))).setCell ⟨w.heap.size, 5, none⟩ (.int .u64 (el E 4))).setCell ⟨w.heap.size, 6, none⟩ (.int .u64 (el E 5))).setCell ⟨w.heap.size, 7, none⟩ (.int .u64 (el E 6))).setCell ⟨w.heap.size, 8, none⟩ (.int .u64 (el E 7))).setCell ⟨w.heap.size, 9, none⟩ (.slice none 0 0)).setCell ⟨w.heap.size, 10, none⟩ (.int .u64 0)) := (keep_trans (keep_trans HB.out hb1) hb2).trans (((But.setCell (But.setCell (But.setCell (But.setCell (But.setCell (But.setCell (But.setCell (But.setCell (But.setCell (But.setCell (But.setCell (But.refl w.heap.size w2) _ _) _ _) _ _) _ _) _ _) _ _) _ _) _ _) _ _) _ _) _ _)).below (Nat.le_refl _) (by have := HB.out.size; have := hb1.size; have := hb2.size; simp at *; omega))
  have hfin : Hb (((((((((((w2.setCell ⟨w.heap.size, 0, none⟩ (.int .i64 2)).setCell ⟨w.heap.size, 1, none⟩ (.int .u64 (el E 0))).setCell ⟨w.heap.size, 2, none⟩ (.int .u64 (el E 1))).setCell ⟨w.heap.size, 3, none⟩ (.int .u64 (el E 2))).setCell ⟨w.heap.size, 4, none⟩ (.int .u64 (el E 3))).setCell ⟨w.heap.size, 5, none⟩ (.int .u64 (el E 4))).setCell ⟨w.heap.size, 6, none⟩ (.int .u64 (el E 5))).setCell ⟨w.heap.size, 7, none⟩ (.int .u64 (el E 6))).setCell ⟨w.heap.size, 8, none⟩ (.int .u64 (el E 7))).setCell ⟨w.heap.size, 9, none⟩ (.slice none 0 0)).setCell ⟨w.heap.size, 10, none⟩ (.int .u64 0)) w.heap.size 2 E (.slice none 0 0) 0 := hfu
  clear hfu
  generalize (((((((((((w2.setCell ⟨w.heap.size, 0, none⟩ (.int .i64 2)).setCell ⟨w.heap.size, 1, none⟩ (.int .u64 (el E 0))).setCell ⟨w.heap.size, 2, none⟩ (.int .u64 (el E 1))).setCell ⟨w.heap.size, 3, none⟩ (.int .u64 (el E 2))).setCell ⟨w.heap.size, 4, none⟩ (.int .u64 (el E 3))).setCell ⟨w.heap.size, 5, none⟩ (.int .u64 (el E 4))).setCell ⟨w.heap.size, 6, none⟩ (.int .u64 (el E 5))).setCell ⟨w.heap.size, 7, none⟩ (.int .u64 (el E 6))).setCell ⟨w.heap.size, 8, none⟩ (.int .u64 (el E 7))).setCell ⟨w.heap.size, 9, none⟩ (.slice none 0 0)).setCell ⟨w.heap.size, 10, none⟩ (.int .u64 0)) = wf at *
  obtain ⟨z0, z1, z2, z3, z4, z5, z6, z7, z8, z9, z10⟩ := hfin.all
  refine bodyPost_ret (v := .tuple #[.agg (hv 2 E (.slice none 0 0) 0), .int .i64 0]) ?_ rfl ⟨rfl, hBg⟩
  unfold hv
  simp [results, Tryd.results25, go_sem, z0, z1, z2, z3, z4, z5, z6, z7, z8, z9, z10]
end Go.Proofs.YtejlmgbmfeacdaaDoor

/- Contract of sha.New. -/
namespace Go.Proofs.YtejlmgbmfeacdaaDoor
open Go.RowKit
set_option linter.unusedVariables false
set_option linter.unusedSimpArgs false

set_option maxHeartbeats 4000000 in
set_option maxRecDepth 100000 in
theorem new_3 (w : World) (hT : Roots w) :
    Calls Tryd.prog 25 #[.int .i64 3] w fun e w' => e = .returned (.tuple #[.agg (hv 3 (ini 3) (.slice none 0 0) 0), .int .i64 0]) ∧ Below w.heap.size w w' := by
  have hb0 := keep_alloc w (.cells (hv 0 (List.replicate 8 0) (.slice none 0 0) 0) 48)
  have hT0 := (hT.below hb0).2
  have hO0 := Hb.new w 0 (List.replicate 8 0) (.slice none 0 0) 0
  have h8 : (ini 3).length = 8 := by decide
  have hu : Under 18446744073709551616 (ini 3) := dec_under (by decide)
  have hbeg : ∀ w, Calls Tryd.prog 38 #[.agg (vals .u64 squares).toArray, .int .i64 0] w fun e w' => e = .returned (.agg (arr .u64 (ini 3))) ∧ Below w.heap.size w w' := fun w => begin_any64 squares 0 w squares_length squares_under (by decide)
  have hsto : ∀ w, Calls Tryd.prog 39 #[.agg (arr .u64 (ini 3))] w fun e w' => e = .returned (.agg #[.int .u64 (el (ini 3) 0), .int .u64 (el (ini 3) 1), .int .u64 (el (ini 3) 2), .int .u64 (el (ini 3) 3), .int .u64 (el (ini 3) 4), .int .u64 (el (ini 3) 5), .int .u64 (el (ini 3) 6), .int .u64 (el (ini 3) 7)]) ∧ Below w.heap.size w w' := fun w => by
    rw [← arr8 .u64 (ini 3) h8]; exact stored_any64 (ini 3) w h8 hu
  have HO := hide hO0
  have HB := hide hb0
  clear hO0 hb0
  generalize ini 3 = E at *
  go_enter Tryd.func25, Tryd.ntmps25
  go_wp2_with (first
    | (refine wpList_load_mid rfl 69 _ (by rfl) 0 0 (by rfl) (vals .u64 squares) (.array 16 37) hT0 (by kernel_rfl) rfl (by kernel_rfl) ?_)
    | (go_at_call 38; refine (hbeg _).mono ?_; rintro e w1 ⟨rfl, hb1⟩)
    | (go_at_call 39; refine (hsto _).mono ?_; rintro e w2 ⟨rfl, hb2⟩; have hO2 := (HO.out.below hb1).below hb2; obtain ⟨o0, o1, o2, o3, o4, o5, o6, o7, o8, o9, o10⟩ := hO2.all; have p0 := hO2.frozen 0; have p1 := hO2.frozen 1; have p2 := hO2.frozen 2; have p3 := hO2.frozen 3; have p4 := hO2.frozen 4; have p5 := hO2.frozen 5; have p6 := hO2.frozen 6; have p7 := hO2.frozen 7; have p8 := hO2.frozen 8; have p9 := hO2.frozen 9; have p10 := hO2.frozen 10)
    | fail)
  have hfu := El.full hO2.elev (.int .i64 3) (.int .u64 (el E 0)) (.int .u64 (el E 1)) (.int .u64 (el E 2)) (.int .u64 (el E 3)) (.int .u64 (el E 4)) (.int .u64 (el E 5)) (.int .u64 (el E 6)) (.int .u64 (el E 7)) (.slice none 0 0) (.int .u64 0)
  have hBg : Below w.heap.size w (((((((((((w2.setCell ⟨w.heap.size, 0, none⟩ (.int .i64 3)).setCell ⟨w.heap.size, 1, none⟩ (.int .u64 (el E 0))).setCell ⟨w.heap.size, 2, none⟩ (.int .u64 (el E 1))).setCell ⟨w.heap.size, 3, none⟩ (.int .u64 (el E 2))).setCell ⟨w.heap.size, 4, none⟩ (.int .u64 (el E 3))).setCell ⟨w.heap.size, 5, none⟩ (.int .u64 (el E 4))).setCell ⟨w.heap.size, 6, none⟩ (.int .u64 (el E 5))).setCell ⟨w.heap.size, 7, none⟩ (.int .u64 (el E 6))).setCell ⟨w.heap.size, 8, none⟩ (.int .u64 (el E 7))).setCell ⟨w.heap.size, 9, none⟩ (.slice none 0 0)).setCell ⟨w.heap.size, 10, none⟩ (.int .u64 0)) := (keep_trans (keep_trans HB.out hb1) hb2).trans (((But.setCell (But.setCell (But.setCell (But.setCell (But.setCell (But.setCell (But.setCell (But.setCell (But.setCell (But.setCell (But.setCell (But.refl w.heap.size w2) _ _) _ _) _ _) _ _) _ _) _ _) _ _) _ _) _ _) _ _) _ _)).below (Nat.le_refl _) (by have := HB.out.size; have := hb1.size; have := hb2.size; simp at *; omega))
  have hfin : Hb (((((((((((w2.setCell ⟨w.heap.size, 0, none⟩ (.int .i64 3)).setCell ⟨w.heap.size, 1, none⟩ (.int .u64 (el E 0))).setCell ⟨w.heap.size, 2, none⟩ (.int .u64 (el E 1))).setCell ⟨w.heap.size, 3, none⟩ (.int .u64 (el E 2))).setCell ⟨w.heap.size, 4, none⟩ (.int .u64 (el E 3))).setCell ⟨w.heap.size, 5, none⟩ (.int .u64 (el E 4))).setCell ⟨w.heap.size, 6, none⟩ (.int .u64 (el E 5))).setCell ⟨w.heap.size, 7, none⟩ (.int .u64 (el E 6))).setCell ⟨w.heap.size, 8, none⟩ (.int .u64 (el E 7))).setCell ⟨w.heap.size, 9, none⟩ (.slice none 0 0)).setCell ⟨w.heap.size, 10, none⟩ (.int .u64 0)) w.heap.size 3 E (.slice none 0 0) 0 := hfu
  clear hfu
  generalize (((((((((((w2.setCell ⟨w.heap.size, 0, none⟩ (.int .i64 3)).setCell ⟨w.heap.size, 1, none⟩ (.int .u64 (el E 0))).setCell ⟨w.heap.size, 2, none⟩ (.int .u64 (el E 1))).setCell ⟨w.heap.size, 3, none⟩ (.int .u64 (el E 2))).setCell ⟨w.heap.size, 4, none⟩ (.int .u64 (el E 3))).setCell ⟨w.heap.size, 5, none⟩ (.int .u64 (el E 4))).setCell ⟨w.heap.size, 6, none⟩ (.int .u64 (el E 5))).setCell ⟨w.heap.size, 7, none⟩ (.int .u64 (el E 6))).setCell ⟨w.heap.size, 8, none⟩ (.int .u64 (el E 7))).setCell ⟨w.heap.size, 9, none⟩ (.slice none 0 0)).setCell ⟨w.heap.size, 10, none⟩ (.int .u64 0)) = wf at *
  obtain ⟨z0, z1, z2, z3, z4, z5, z6, z7, z8, z9, z10⟩ := hfin.all
  refine bodyPost_ret (v := .tuple #[.agg (hv 3 E (.slice none 0 0) 0), .int .i64 0]) ?_ rfl ⟨rfl, hBg⟩
  unfold hv
  simp [results, Tryd.results25, go_sem, z0, z1, z2, z3, z4, z5, z6, z7, z8, z9, z10]
end Go.Proofs.YtejlmgbmfeacdaaDoor

/- Contracts of sha.end, Sum, End. -/
namespace Go.Proofs.YtejlmgbmfeacdaaDoor
open Go.RowKit
set_option linter.unusedVariables false
set_option linter.unusedSimpArgs false

/-- how many bytes a kind's sum has -/
def outn (kind : Int) : Nat := if kind = 1 then 32 else if kind = 2 then 48 else 64
theorem Row.mono_u64 {m : Nat} {l : List Nat} (h : Under 4294967296 l) : Under 18446744073709551616 l := fun x hx => Nat.lt_trans (h x hx) (by decide)

set_option maxHeartbeats 2000000 in
set_option maxRecDepth 100000 in
theorem send_1 (ws : List Nat) (tv : Value) (tl : List Nat) (size : Nat) (w : World) (hT : Roots w) (h8 : ws.length = 8) (hu : Under 4294967296 ws) (hRt : Row .u8 256 w tv tl) (tT : Tidy tv) (htl : tl.length ≤ 100000) (hsz : size < 1152921504606846976) :
    Calls Tryd.prog 42 #[.agg (hv 1 ws tv size)] w fun e w' => ∃ v', e = .returned v' ∧ Own 5 .u8 256 w' w.heap.size v' (endS false ws tl size 32) ∧ Below w.heap.size w w' := by
  have hb0 := keep_alloc w (.cells (hv 1 ws tv size) 48)
  have hf := finish_any32 1 ws tv tl size 32 _ (hT.below hb0) h8 hu (hRt.below hb0) tT htl hsz (by decide)
  obtain ⟨ta, tc, rfl⟩ := hRt.form
  unfold hv at *
  go_enter Tryd.func42, Tryd.ntmps42
  go_wp2_with (first | (go_at_call 56; refine hf.mono ?_; rintro e w1 ⟨v1, rfl, hO1, hb1⟩) | fail)
  go_ret
  exact ⟨_, rfl, hO1.mono (by simp), keep_trans hb0 hb1⟩

set_option maxHeartbeats 2000000 in
set_option maxRecDepth 100000 in
theorem send_2 (ws : List Nat) (tv : Value) (tl : List Nat) (size : Nat) (w : World) (hT : Roots w) (h8 : ws.length = 8) (hu : Under 18446744073709551616 ws) (hRt : Row .u8 256 w tv tl) (tT : Tidy tv) (htl : tl.length ≤ 100000) (hsz : size < 1152921504606846976) :
    Calls Tryd.prog 42 #[.agg (hv 2 ws tv size)] w fun e w' => ∃ v', e = .returned v' ∧ Own 5 .u8 256 w' w.heap.size v' (endS true ws tl size 48) ∧ Below w.heap.size w w' := by
  have hb0 := keep_alloc w (.cells (hv 2 ws tv size) 48)
  have hf := finish_any64 2 ws tv tl size 48 _ (hT.below hb0) h8 hu (hRt.below hb0) tT htl hsz (by decide)
  obtain ⟨ta, tc, rfl⟩ := hRt.form
  unfold hv at *
  go_enter Tryd.func42, Tryd.ntmps42
  go_wp2_with (first | (go_at_call 57; refine hf.mono ?_; rintro e w1 ⟨v1, rfl, hO1, hb1⟩) | fail)
  go_ret
  exact ⟨_, rfl, hO1.mono (by simp), keep_trans hb0 hb1⟩

set_option maxHeartbeats 2000000 in
set_option maxRecDepth 100000 in
theorem send_3 (ws : List Nat) (tv : Value) (tl : List Nat) (size : Nat) (w : World) (hT : Roots w) (h8 : ws.length = 8) (hu : Under 18446744073709551616 ws) (hRt : Row .u8 256 w tv tl) (tT : Tidy tv) (htl : tl.length ≤ 100000) (hsz : size < 1152921504606846976) :
    Calls Tryd.prog 42 #[.agg (hv 3 ws tv size)] w fun e w' => ∃ v', e = .returned v' ∧ Own 5 .u8 256 w' w.heap.size v' (endS true ws tl size 64) ∧ Below w.heap.size w w' := by
  have hb0 := keep_alloc w (.cells (hv 3 ws tv size) 48)
  have hf := finish_any64 3 ws tv tl size 64 _ (hT.below hb0) h8 hu (hRt.below hb0) tT htl hsz (by decide)
  obtain ⟨ta, tc, rfl⟩ := hRt.form
  unfold hv at *
  go_enter Tryd.func42, Tryd.ntmps42
  go_wp2_with (first | (go_at_call 57; refine hf.mono ?_; rintro e w1 ⟨v1, rfl, hO1, hb1⟩) | fail)
  go_ret
  exact ⟨_, rfl, hO1.mono (by simp), keep_trans hb0 hb1⟩

theorem send_any (kind : Int) (hk : kind = 1 ∨ kind = 2 ∨ kind = 3) (ws : List Nat) (tv : Value) (tl : List Nat) (size : Nat) (w : World) (hT : Roots w) (h8 : ws.length = 8) (hu : Under (wm (wide kind)) ws) (hRt : Row .u8 256 w tv tl) (tT : Tidy tv) (htl : tl.length ≤ 100000) (hsz : size < 1152921504606846976) :
    Calls Tryd.prog 42 #[.agg (hv kind ws tv size)] w fun e w' => ∃ v', e = .returned v' ∧ Own 5 .u8 256 w' w.heap.size v' (endS (wide kind) ws tl size (outn kind)) ∧ Below w.heap.size w w' := by
  rcases hk with rfl | rfl | rfl
  · exact send_1 ws tv tl size w hT h8 hu hRt tT htl hsz
  · exact send_2 ws tv tl size w hT h8 hu hRt tT htl hsz
  · exact send_3 ws tv tl size w hT h8 hu hRt tT htl hsz

/-- a sum that is fit has words of its kind -/
theorem hfit_true {kind : Int} {ws : List Nat} {n size : Nat} (h8 : ws.length = 8) (hu : Under 18446744073709551616 ws) (h : hfit kind ws n size = true) : (kind = 1 ∨ kind = 2 ∨ kind = 3) ∧ size < 1152921504606846976 ∧ n = size % bz (wide kind) ∧ Under (wm (wide kind)) ws := by
  unfold hfit at h
  rw [Bool.and_eq_true, decide_eq_true_iff] at h
  obtain ⟨⟨h1, h2, h3⟩, h4⟩ := h
  refine ⟨h1, h2, h3, ?_⟩
  rcases h1 with rfl | rfl | rfl
  · have := (wfit_one h8).1 h4
    intro x hx
    obtain ⟨i, hi, rfl⟩ := List.getElem_of_mem hx
    have e := this i (by omega)
    rw [el_at hi] at e
    exact e
  · exact hu
  · exact hu

set_option maxHeartbeats 2000000 in
set_option maxRecDepth 100000 in
theorem sEnd_any (kind : Int) (ws : List Nat) (tv : Value) (tl : List Nat) (size : Nat) (w : World) (hT : Roots w) (h8 : ws.length = 8) (hu : Under 18446744073709551616 ws) (hRt : Row .u8 256 w tv tl) (tT : Tidy tv) (hf : hfit kind ws tl.length size = true) (hs : size < 18446744073709551616) :
    Calls Tryd.prog 28 #[.agg (hv kind ws tv size)] w fun e w' => ∃ v', e = .returned v' ∧ Own 5 .u8 256 w' w.heap.size v' (endS (wide kind) ws tl size (outn kind)) ∧ Below w.heap.size w w' := by
  obtain ⟨hk, hsz, hn, hu'⟩ := hfit_true h8 hu hf
  have htl : tl.length ≤ 100000 := by
    have h1 : tl.length < bz (wide kind) := by rw [hn]; exact Nat.mod_lt _ (bz_pos _)
    have h2 : bz (wide kind) ≤ 128 := by cases wide kind <;> decide
    omega
  have hb0 := keep_alloc w (.cells (hv kind ws tv size) 48)
  have hfc := fit_any kind ws tv tl size _ h8 hu (hRt.below hb0) hs
  rw [hf] at hfc
  have hT0 := hT.below hb0
  have hR0 := hRt.below hb0
  have hB0 := Hb.new w kind ws tv size
  have hB1 := fun w1 (hb1 : Below _ _ w1) => (hB0.below hb1).all
  have HB := hide hB1
  clear hB1 hB0
  have hse := fun w1 hb1 => send_any kind hk ws tv tl size w1 (hT0.below hb1) h8 hu' (hR0.below hb1) tT htl hsz
  clear hn hk hf hu hs hsz
  obtain ⟨ta, tc, rfl⟩ := hRt.form
  unfold hv at *
  go_enter Tryd.func28, Tryd.ntmps28
  go_wp2_with (first
    | (go_at_call 41; refine hfc.mono ?_; rintro e w1 ⟨rfl, hb1⟩; obtain ⟨z0, z1, z2, z3, z4, z5, z6, z7, z8, z9, z10⟩ := HB.out w1 hb1)
    | (go_at_call 42; refine (hse w1 hb1).mono ?_; rintro e w2 ⟨v2, rfl, hO2, hb2⟩)
    | fail)
  go_ret
  exact ⟨_, rfl, hO2.mono (by have := hb1.size; simp at this; omega), keep_trans (keep_trans hb0 hb1) hb2⟩
end Go.Proofs.YtejlmgbmfeacdaaDoor

/- A value whose block is not older than a bound. -/
namespace Go.Proofs.YtejlmgbmfeacdaaDoor
open Go.RowKit
set_option linter.unusedVariables false
def New (B : Nat) (v : Value) : Prop := ∀ q, v.ownBlock = some q → B ≤ q
theorem New.at {B g n c o : Nat} (h : B ≤ g) : New B (.slice (some ⟨g, o, none⟩) n c) := fun q hq => by
  have : g = q := by simpa [Value.ownBlock] using hq
  omega
theorem New.nil (B n c : Nat) : New B (.slice none n c) := fun q hq => by simp [Value.ownBlock] at hq
theorem New.mono {B B' : Nat} {v : Value} (h : New B v) (hB : B' ≤ B) : New B' v := fun q hq => Nat.le_trans hB (h q hq)
theorem Own.new {e : TypeId} {k : IntKind} {m : Nat} {w : World} {B : Nat} {v : Value} {l : List Nat} (h : Own e k m w B v l) : New B v := fun q hq => (h.1.lt q hq).1
end Go.Proofs.YtejlmgbmfeacdaaDoor

/- Contract of sha.Add. -/
namespace Go.Proofs.YtejlmgbmfeacdaaDoor
open Go.RowKit
set_option linter.unusedVariables false
set_option linter.unusedSimpArgs false

/-- what Add is, of either word size -/
theorem add_both (kind : Int) (hk : kind = 1 ∨ kind = 2 ∨ kind = 3) (ws : List Nat) (tv bv : Value) (tl b : List Nat) (size : Nat) (w : World) (hT : Roots w) (h8 : ws.length = 8) (hu : Under (wm (wide kind)) ws) (hRt : Row .u8 256 w tv tl) (tT : Tidy tv) (hRb : Row .u8 256 w bv b) (tB : Tidy bv) (htl : tl.length < bz (wide kind)) (hbl : b.length ≤ 100000) (hsz : size < 1152921504606846976) :
    (kind = 1 → Calls Tryd.prog 52 #[.agg (hv kind ws tv size), bv] w fun e w' => ∃ v', e = .returned (.agg (hv kind (eat (wide kind) ws (tl ++ b)) v' (size + b.length))) ∧ Row .u8 256 w' v' (left (wide kind) (tl ++ b)) ∧ Tidy v' ∧ (∀ q, v'.ownBlock = some q → w.heap.size ≤ q) ∧ Below w.heap.size w w') ∧
    (¬ kind = 1 → Calls Tryd.prog 53 #[.agg (hv kind ws tv size), bv] w fun e w' => ∃ v', e = .returned (.agg (hv kind (eat (wide kind) ws (tl ++ b)) v' (size + b.length))) ∧ Row .u8 256 w' v' (left (wide kind) (tl ++ b)) ∧ Tidy v' ∧ (∀ q, v'.ownBlock = some q → w.heap.size ≤ q) ∧ Below w.heap.size w w') := by
  constructor
  · rintro rfl
    exact add_any32 1 ws tv bv tl b size w hT h8 hu hRt tT hRb tB htl hbl hsz
  · intro h
    have hw : wide kind = true := by simp [wide, h]
    rw [hw] at hu htl ⊢
    exact add_any64 kind ws tv bv tl b size w hT h8 hu hRt tT hRb tB htl hbl hsz

set_option maxHeartbeats 2000000 in
set_option maxRecDepth 100000 in
theorem sAdd_new (kind : Int) (ws : List Nat) (tv bv : Value) (tl b : List Nat) (size : Nat) (w : World) (hT : Roots w) (h8 : ws.length = 8) (hu : Under 18446744073709551616 ws) (hRt : Row .u8 256 w tv tl) (tT : Tidy tv) (hRb : Row .u8 256 w bv b) (tB : Tidy bv) (hbl : b.length ≤ 100000) (hf : hfit kind ws tl.length size = true) (hs : size < 18446744073709551616) :
    Calls Tryd.prog 40 #[.agg (hv kind ws tv size), bv] w fun e w' => ∃ v', e = .returned (.agg (hv kind (eat (wide kind) ws (tl ++ b)) v' (size + b.length))) ∧ Row .u8 256 w' v' (left (wide kind) (tl ++ b)) ∧ Tidy v' ∧ New w.heap.size v' ∧ Below w.heap.size w w' := by
  obtain ⟨hk, hsz, hn, hu'⟩ := hfit_true h8 hu hf
  have htl : tl.length < bz (wide kind) := by rw [hn]; exact Nat.mod_lt _ (bz_pos _)
  obtain ⟨ta, tc, rfl⟩ := hRt.form
  obtain ⟨ba, bc, rfl⟩ := hRb.form
  have hb0 : Below w.heap.size w ((w.alloc (.cells #[.int .i64 kind, .int .u64 (el ws 0), .int .u64 (el ws 1), .int .u64 (el ws 2), .int .u64 (el ws 3), .int .u64 (el ws 4), .int .u64 (el ws 5), .int .u64 (el ws 6), .int .u64 (el ws 7), .slice ta tl.length tc, .int .u64 size] 48)).alloc (.cells #[.int .i64 0, .int .u64 0, .int .u64 0, .int .u64 0, .int .u64 0, .int .u64 0, .int .u64 0, .int .u64 0, .int .u64 0, .slice none 0 0, .int .u64 0] 48)) := keep_trans (keep_alloc _ _) (keep_alloc _ _)
  have hH0 : Hb ((w.alloc (.cells #[.int .i64 kind, .int .u64 (el ws 0), .int .u64 (el ws 1), .int .u64 (el ws 2), .int .u64 (el ws 3), .int .u64 (el ws 4), .int .u64 (el ws 5), .int .u64 (el ws 6), .int .u64 (el ws 7), .slice ta tl.length tc, .int .u64 size] 48)).alloc (.cells #[.int .i64 0, .int .u64 0, .int .u64 0, .int .u64 0, .int .u64 0, .int .u64 0, .int .u64 0, .int .u64 0, .int .u64 0, .slice none 0 0, .int .u64 0] 48)) w.heap.size kind ws (.slice ta tl.length tc) size := (Hb.new w kind ws (.slice ta tl.length tc) size).below (keep_alloc _ _)
  have hO0 : El ((w.alloc (.cells #[.int .i64 kind, .int .u64 (el ws 0), .int .u64 (el ws 1), .int .u64 (el ws 2), .int .u64 (el ws 3), .int .u64 (el ws 4), .int .u64 (el ws 5), .int .u64 (el ws 6), .int .u64 (el ws 7), .slice ta tl.length tc, .int .u64 size] 48)).alloc (.cells #[.int .i64 0, .int .u64 0, .int .u64 0, .int .u64 0, .int .u64 0, .int .u64 0, .int .u64 0, .int .u64 0, .int .u64 0, .slice none 0 0, .int .u64 0] 48)) (w.heap.size + 1) := by
    have := (Hb.new (w.alloc (.cells (hv kind ws (.slice ta tl.length tc) size) 48)) 0 (List.replicate 8 0) (.slice none 0 0) 0).elev
    rw [World.size_alloc] at this
    exact this
  have hfc := fit_any kind ws _ tl size _ h8 hu (hRt.below hb0) hs
  rw [hf] at hfc
  have hT0 := hT.below hb0
  have hR0 := hRt.below hb0
  have hB0 := hRb.below hb0
  have hse := fun w1 hb1 => add_both kind hk ws _ _ tl b size w1 (hT0.below hb1) h8 hu' (hR0.below hb1) tT (hB0.below hb1) tB htl hbl hsz
  have hHn : ((w.alloc (.cells #[.int .i64 kind, .int .u64 (el ws 0), .int .u64 (el ws 1), .int .u64 (el ws 2), .int .u64 (el ws 3), .int .u64 (el ws 4), .int .u64 (el ws 5), .int .u64 (el ws 6), .int .u64 (el ws 7), .slice ta tl.length tc, .int .u64 size] 48)).alloc (.cells #[.int .i64 0, .int .u64 0, .int .u64 0, .int .u64 0, .int .u64 0, .int .u64 0, .int .u64 0, .int .u64 0, .int .u64 0, .slice none 0 0, .int .u64 0] 48)).heap[w.heap.size]? = some (.cells (hv kind ws (.slice ta tl.length tc) size) 48 (0, 0)) := hH0
  have HB := hide hb0
  have HO := hide hO0
  clear hn hf hu hs hsz hb0 hO0
  have huv : hv kind ws (.slice ta tl.length tc) size = #[.int .i64 kind, .int .u64 (el ws 0), .int .u64 (el ws 1), .int .u64 (el ws 2), .int .u64 (el ws 3), .int .u64 (el ws 4), .int .u64 (el ws 5), .int .u64 (el ws 6), .int .u64 (el ws 7), .slice ta tl.length tc, .int .u64 size] := rfl
  have hbody : ∀ (w1 : World) (hb1 : Below ((w.alloc (.cells #[.int .i64 kind, .int .u64 (el ws 0), .int .u64 (el ws 1), .int .u64 (el ws 2), .int .u64 (el ws 3), .int .u64 (el ws 4), .int .u64 (el ws 5), .int .u64 (el ws 6), .int .u64 (el ws 7), .slice ta tl.length tc, .int .u64 size] 48)).alloc (.cells #[.int .i64 0, .int .u64 0, .int .u64 0, .int .u64 0, .int .u64 0, .int .u64 0, .int .u64 0, .int .u64 0, .int .u64 0, .slice none 0 0, .int .u64 0] 48)).heap.size ((w.alloc (.cells #[.int .i64 kind, .int .u64 (el ws 0), .int .u64 (el ws 1), .int .u64 (el ws 2), .int .u64 (el ws 3), .int .u64 (el ws 4), .int .u64 (el ws 5), .int .u64 (el ws 6), .int .u64 (el ws 7), .slice ta tl.length tc, .int .u64 size] 48)).alloc (.cells #[.int .i64 0, .int .u64 0, .int .u64 0, .int .u64 0, .int .u64 0, .int .u64 0, .int .u64 0, .int .u64 0, .int .u64 0, .slice none 0 0, .int .u64 0] 48)) w1), Hb w1 w.heap.size kind ws (.slice ta tl.length tc) size := fun w1 hb1 => hH0.below hb1
  by_cases h1 : kind = 1
  · subst h1
    have hadd := fun w1 hb1 => (hse w1 hb1).1 rfl
    clear hse
    rw [huv]
    go_enter Tryd.func40, Tryd.ntmps40
    go_wp2_with (first
      | (go_at_call 41; refine hfc.mono ?_; rintro e w1 ⟨rfl, hb1⟩; obtain ⟨z0, z1, z2, z3, z4, z5, z6, z7, z8, z9, z10⟩ := (hbody w1 hb1).all)
      | (go_at_call 52; refine (hadd w1 hb1).mono ?_; rintro e w2 ⟨v2, rfl, hR2, hT2, hN2, hb2⟩; obtain ⟨old, ho1, ho2⟩ := (HO.out.below hb1).below hb2; obtain ⟨a2, c2, rfl⟩ := hR2.form; have hA2 : Away (w.heap.size + 1) (.slice a2 (left (wide 1) (tl ++ b)).length c2) (left (wide 1) (tl ++ b)) := fun _ q hq => (by have := hN2 q hq; have := hb1.size; simp at this; omega))
      | (refine wpList_store_row rfl 48 _ _ (by rfl) (w.heap.size + 1) _ (by rfl) (by rfl) _ _ ho2 (by kernel_rfl) (by rw [ho1]; rfl) (by simp [hv, Value.oneCell']) ?_)
      | fail)
    have hfu := setRow_heap w2 (w.heap.size + 1) old (hv 1 (eat (wide 1) ws (tl ++ b)) (.slice a2 (left (wide 1) (tl ++ b)).length c2) (size + b.length)) 48 _ ho2
    have hBf : But (w.heap.size + 1) w2 (w2.setRow (w.heap.size + 1) (hv 1 (eat (wide 1) ws (tl ++ b)) (.slice a2 (left (wide 1) (tl ++ b)).length c2) (size + b.length))) := (But.refl _ _).setRow _
    have hbw := keep_trans (keep_trans HB.out hb1) hb2
    refine bodyPost_ret (v := .agg (hv 1 (eat (wide 1) ws (tl ++ b)) (.slice a2 (left (wide 1) (tl ++ b)).length c2) (size + b.length))) ?_ ?_ ?_
    · exact results_cell_row Tryd.results40 _ _ (w.heap.size + 1) _ _ _ _ (by rfl) hfu Tryd.underlying48 rfl (by kernel_rfl)
    · rfl
    · exact ⟨_, rfl, hR2.but hA2 hBf, hT2, fun q hq => Nat.le_trans (keep_trans HB.out hb1).size (hN2 q hq), hbw.trans (hBf.below (by omega) hbw.size)⟩
  · have hadd := fun w1 hb1 => (hse w1 hb1).2 h1
    clear hse
    rw [huv]
    go_enter Tryd.func40, Tryd.ntmps40
    go_wp2_with (first
      | (go_at_call 41; refine hfc.mono ?_; rintro e w1 ⟨rfl, hb1⟩; obtain ⟨z0, z1, z2, z3, z4, z5, z6, z7, z8, z9, z10⟩ := (hbody w1 hb1).all)
      | (go_at_call 53; refine (hadd w1 hb1).mono ?_; rintro e w2 ⟨v2, rfl, hR2, hT2, hN2, hb2⟩; obtain ⟨old, ho1, ho2⟩ := (HO.out.below hb1).below hb2; obtain ⟨a2, c2, rfl⟩ := hR2.form; have hA2 : Away (w.heap.size + 1) (.slice a2 (left (wide kind) (tl ++ b)).length c2) (left (wide kind) (tl ++ b)) := fun _ q hq => (by have := hN2 q hq; have := hb1.size; simp at this; omega))
      | (refine wpList_store_row rfl 48 _ _ (by rfl) (w.heap.size + 1) _ (by rfl) (by rfl) _ _ ho2 (by kernel_rfl) (by rw [ho1]; rfl) (by simp [hv, Value.oneCell']) ?_)
      | fail)
    have hfu := setRow_heap w2 (w.heap.size + 1) old (hv kind (eat (wide kind) ws (tl ++ b)) (.slice a2 (left (wide kind) (tl ++ b)).length c2) (size + b.length)) 48 _ ho2
    have hBf : But (w.heap.size + 1) w2 (w2.setRow (w.heap.size + 1) (hv kind (eat (wide kind) ws (tl ++ b)) (.slice a2 (left (wide kind) (tl ++ b)).length c2) (size + b.length))) := (But.refl _ _).setRow _
    have hbw := keep_trans (keep_trans HB.out hb1) hb2
    refine bodyPost_ret (v := .agg (hv kind (eat (wide kind) ws (tl ++ b)) (.slice a2 (left (wide kind) (tl ++ b)).length c2) (size + b.length))) ?_ ?_ ?_
    · exact results_cell_row Tryd.results40 _ _ (w.heap.size + 1) _ _ _ _ (by rfl) hfu Tryd.underlying48 rfl (by kernel_rfl)
    · rfl
    · exact ⟨_, rfl, hR2.but hA2 hBf, hT2, fun q hq => Nat.le_trans (keep_trans HB.out hb1).size (hN2 q hq), hbw.trans (hBf.below (by omega) hbw.size)⟩
theorem sAdd_any (kind : Int) (ws : List Nat) (tv bv : Value) (tl b : List Nat) (size : Nat) (w : World) (hT : Roots w) (h8 : ws.length = 8) (hu : Under 18446744073709551616 ws) (hRt : Row .u8 256 w tv tl) (tT : Tidy tv) (hRb : Row .u8 256 w bv b) (tB : Tidy bv) (hbl : b.length ≤ 100000) (hf : hfit kind ws tl.length size = true) (hs : size < 18446744073709551616) :
    Calls Tryd.prog 40 #[.agg (hv kind ws tv size), bv] w fun e w' => ∃ v', e = .returned (.agg (hv kind (eat (wide kind) ws (tl ++ b)) v' (size + b.length))) ∧ Row .u8 256 w' v' (left (wide kind) (tl ++ b)) ∧ Tidy v' ∧ Below w.heap.size w w' :=
  (sAdd_new kind ws tv bv tl b size w hT h8 hu hRt tT hRb tB hbl hf hs).mono fun e w' ⟨v', h1, h2, h3, _, h4⟩ => ⟨v', h1, h2, h3, h4⟩
end Go.Proofs.YtejlmgbmfeacdaaDoor

/- Contracts of the document's right, mix; its tables. -/
namespace Go.Proofs.YtejlmgbmfeacdaaDoor
open Go.RowKit
set_option linter.unusedVariables false
set_option linter.unusedSimpArgs false

/-- what right tells, of any number -/
def rgt (b : Bool) (r x : Nat) : Nat := bif b then rot true r x else x / 2 ^ r ||| x * 2 ^ (32 - r) % 18446744073709551616 % 4294967296
theorem rgt_rot {b : Bool} {r x : Nat} (hx : x < wm b) (hr : r ≤ 32) : rgt b r x = rot b r x := by
  cases b with
  | true => rfl
  | false =>
    show x / 2 ^ r ||| x * 2 ^ (32 - r) % 18446744073709551616 % 4294967296 = x / 2 ^ r ||| x * 2 ^ (32 - r) % 4294967296
    congr 1
    rw [Nat.mod_mod_of_dvd _ (by decide)]
theorem rgt_lt {b : Bool} {r x : Nat} (hx : x < 18446744073709551616) : rgt b r x < 18446744073709551616 := by
  cases b with
  | true => exact rot_lt (b := true) hx r
  | false =>
    have h2 : x * 2 ^ (32 - r) % 18446744073709551616 % 4294967296 < 4294967296 := Nat.mod_lt _ (by decide)
    exact Nat.or_lt_two_pow (n := 64) (Nat.lt_of_le_of_lt (Nat.div_le_self _ _) hx) (Nat.lt_of_lt_of_le h2 (by decide))
theorem and_ones32 (x : Nat) (hx : x < 18446744073709551616) : bits .and .u64 (x : Int) 4294967295 = ((x % 4294967296 : Nat) : Int) := by
  rw [show (4294967295 : Int) = ((4294967295 : Nat) : Int) from rfl, u64_and_nat x _ hx (by decide)]
  congr 1
  exact Nat.and_two_pow_sub_one_eq_mod x 32
theorem and_ones64 (x : Nat) (hx : x < 18446744073709551616) : bits .and .u64 (x : Int) 18446744073709551615 = ((x : Nat) : Int) := by
  rw [show (18446744073709551615 : Int) = ((18446744073709551615 : Nat) : Int) from rfl, u64_and_nat x _ hx (by decide)]
  congr 1
  rw [Nat.and_two_pow_sub_one_eq_mod x 64]
  exact Nat.mod_eq_of_lt hx

/-- what mix tells, of any number -/
def rmx (b sh : Bool) (r1 r2 r3 x : Nat) : Nat := rgt b r1 x ^^^ rgt b r2 x ^^^ (bif sh then x / 2 ^ r3 else rgt b r3 x)
theorem rmx_lt {b sh : Bool} {r1 r2 r3 x : Nat} (hx : x < 18446744073709551616) : rmx b sh r1 r2 r3 x < 18446744073709551616 := by
  have h := fun r => rgt_lt (b := b) (r := r) hx
  refine Nat.xor_lt_two_pow (n := 64) (Nat.xor_lt_two_pow (n := 64) (h r1) (h r2)) ?_
  cases sh with
  | true => exact Nat.lt_of_le_of_lt (Nat.div_le_self _ _) hx
  | false => exact h r3
theorem rmx_turn {b : Bool} {r1 r2 r3 x : Nat} (hx : x < wm b) (h1 : r1 < wb b) (h2 : r2 < wb b) (h3 : r3 < wb b) : rmx b false r1 r2 r3 x = turn3 b r1 r2 r3 x := by
  cases b with
  | true => rfl
  | false =>
    have h1' : r1 < 32 := h1
    have h2' : r2 < 32 := h2
    have h3' : r3 < 32 := h3
    unfold rmx turn3
    rw [rgt_rot hx (by omega), rgt_rot hx (by omega), cond_false, rgt_rot hx (by omega)]
theorem rmx_shft {b : Bool} {r1 r2 r3 x : Nat} (hx : x < wm b) (h1 : r1 < wb b) (h2 : r2 < wb b) : rmx b true r1 r2 r3 x = shft3 b r1 r2 r3 x := by
  cases b with
  | true => rfl
  | false =>
    have h1' : r1 < 32 := h1
    have h2' : r2 < 32 := h2
    unfold rmx shft3
    rw [rgt_rot hx (by omega), rgt_rot hx (by omega), cond_true]

end Go.Proofs.YtejlmgbmfeacdaaDoor
