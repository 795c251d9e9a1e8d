/- sha.New of no kind. -/
import Derived.Test.YtgdcpdbmacmheaaDoorHSl
import Derived.Test.YtgdcpdbmacmheaaDoorHaM
import Derived.KernelRfl
import Derived.Test.YtgdcpdbmacmheaaDoorHRes32
import Derived.Test.YtgdcpdbmacmheaaDoorHRes64
namespace Go.Proofs.YtgdcpdbmacmheaaDoor
open Go.RowKit
set_option linter.unusedVariables false
set_option linter.unusedSimpArgs false

set_option maxHeartbeats 4000000 in
set_option maxRecDepth 100000 in
theorem new_0 (kind : Int) (w : World) (h1 : ¬ kind = 1) (h2 : ¬ kind = 2) (h3 : ¬ kind = 3) :
    Calls Tryd.prog 10 #[.int .i64 kind] w fun e w' => e = .returned (.tuple #[.agg (hv 0 (List.replicate 8 0) (.slice none 0 0) 0), .int .i64 9]) ∧ Below w.heap.size w w' := by
  go_enter Tryd.func10, Tryd.ntmps10
  go_wp2
  refine bodyPost_ret (v := .tuple #[.agg (hv 0 (List.replicate 8 0) (.slice none 0 0) 0), .int .i64 9]) ?_ rfl ⟨rfl, keep_alloc _ _⟩
  unfold hv
  simp [results, Tryd.results10, go_sem, el]
end Go.Proofs.YtgdcpdbmacmheaaDoor

/- The chapter's examples, by the plain functions. -/
namespace Go.Proofs.YtgdcpdbmacmheaaDoor
set_option maxRecDepth 100000
def ini (k : Nat) : List Nat := if k = 1 then ((squares.drop 0).take 8).map (hi false) else if k = 2 then ((squares.drop 8).take 8).map (hi true) else ((squares.drop 0).take 8).map (hi true)
theorem abc256 : (endS false (ini 1) [97, 98, 99] 3 32).take 4 = [186, 120, 22, 191] := by kernel_rfl
theorem abc512 : (endS true (ini 3) [97, 98, 99] 3 64).take 4 = [221, 175, 53, 161] := by kernel_rfl
end Go.Proofs.YtgdcpdbmacmheaaDoor

/- Contract of sha.New. -/
namespace Go.Proofs.YtgdcpdbmacmheaaDoor
open Go.RowKit
set_option linter.unusedVariables false
set_option linter.unusedSimpArgs false

set_option maxHeartbeats 4000000 in
set_option maxRecDepth 100000 in
theorem new_1 (w : World) (hT : Roots w) :
    Calls Tryd.prog 10 #[.int .i64 1] w fun e w' => e = .returned (.tuple #[.agg (hv 1 (ini 1) (.slice none 0 0) 0), .int .i64 0]) ∧ Below w.heap.size w w' := by
  have hb0 := keep_alloc w (.cells (hv 0 (List.replicate 8 0) (.slice none 0 0) 0) 26)
  have hT0 := (hT.below hb0).2
  have hO0 := Hb.new w 0 (List.replicate 8 0) (.slice none 0 0) 0
  have h8 : (ini 1).length = 8 := by decide
  have hu : Under 4294967296 (ini 1) := dec_under (by decide)
  have hbeg : ∀ w, Calls Tryd.prog 25 #[.agg (vals .u64 squares).toArray, .int .i64 0] w fun e w' => e = .returned (.agg (arr .u32 (ini 1))) ∧ Below w.heap.size w w' := fun w => begin_any32 squares 0 w squares_length squares_under (by decide)
  have hsto : ∀ w, Calls Tryd.prog 26 #[.agg (arr .u32 (ini 1))] w fun e w' => e = .returned (.agg #[.int .u64 (el (ini 1) 0), .int .u64 (el (ini 1) 1), .int .u64 (el (ini 1) 2), .int .u64 (el (ini 1) 3), .int .u64 (el (ini 1) 4), .int .u64 (el (ini 1) 5), .int .u64 (el (ini 1) 6), .int .u64 (el (ini 1) 7)]) ∧ Below w.heap.size w w' := fun w => by
    rw [← arr8 .u64 (ini 1) h8]; exact stored_any32 (ini 1) w h8 hu
  have HO := hide hO0
  have HB := hide hb0
  clear hO0 hb0
  generalize ini 1 = E at *
  go_enter Tryd.func10, Tryd.ntmps10
  go_wp2_with (first
    | (refine wpList_load_mid rfl 55 _ (by rfl) 0 0 (by rfl) (vals .u64 squares) (.array 16 23) hT0 (by kernel_rfl) rfl (by kernel_rfl) ?_)
    | (go_at_call 25; refine (hbeg _).mono ?_; rintro e w1 ⟨rfl, hb1⟩)
    | (go_at_call 26; refine (hsto _).mono ?_; rintro e w2 ⟨rfl, hb2⟩; have hO2 := (HO.out.below hb1).below hb2; obtain ⟨o0, o1, o2, o3, o4, o5, o6, o7, o8, o9, o10⟩ := hO2.all; have p0 := hO2.frozen 0; have p1 := hO2.frozen 1; have p2 := hO2.frozen 2; have p3 := hO2.frozen 3; have p4 := hO2.frozen 4; have p5 := hO2.frozen 5; have p6 := hO2.frozen 6; have p7 := hO2.frozen 7; have p8 := hO2.frozen 8; have p9 := hO2.frozen 9; have p10 := hO2.frozen 10)
    | fail)
  have hfu := El.full hO2.elev (.int .i64 1) (.int .u64 (el E 0)) (.int .u64 (el E 1)) (.int .u64 (el E 2)) (.int .u64 (el E 3)) (.int .u64 (el E 4)) (.int .u64 (el E 5)) (.int .u64 (el E 6)) (.int .u64 (el E 7)) (.slice none 0 0) (.int .u64 0)
  have hBg : Below w.heap.size w (((((((((((w2.setCell ⟨w.heap.size, 0, none⟩ (.int .i64 1)).setCell ⟨w.heap.size, 1, none⟩ (.int .u64 (el E 0))).setCell ⟨w.heap.size, 2, none⟩ (.int .u64 (el E 1))).setCell ⟨w.heap.size, 3, none⟩ (.int .u64 (el E 2))).setCell ⟨w.heap.size, 4, none⟩ (.int .u64 (el E 3))).setCell ⟨w.heap.size, 5, none⟩ (.int .u64 (el E 4))).setCell ⟨w.heap.size, 6, none⟩ (.int .u64 (el E 5))).setCell ⟨w.heap.size, 7, none⟩ (.int .u64 (el E 6))).setCell ⟨w.heap.size, 8, none⟩ (.int .u64 (el E 7))).setCell ⟨w.heap.size, 9, none⟩ (.slice none 0 0)).setCell ⟨w.heap.size, 10, none⟩ (.int .u64 0)) := (keep_trans (keep_trans HB.out hb1) hb2).trans (((But.setCell (But.setCell (But.setCell (But.setCell (But.setCell (But.setCell (But.setCell (But.setCell (But.setCell (But.setCell (But.setCell (But.refl w.heap.size w2) _ _) _ _) _ _) _ _) _ _) _ _) _ _) _ _) _ _) _ _) _ _)).below (Nat.le_refl _) (by have := HB.out.size; have := hb1.size; have := hb2.size; simp at *; omega))
  have hfin : Hb (((((((((((w2.setCell ⟨w.heap.size, 0, none⟩ (.int .i64 1)).setCell ⟨w.heap.size, 1, none⟩ (.int .u64 (el E 0))).setCell ⟨w.heap.size, 2, none⟩ (.int .u64 (el E 1))).setCell ⟨w.heap.size, 3, none⟩ (.int .u64 (el E 2))).setCell ⟨w.heap.size, 4, none⟩ (.int .u64 (el E 3))).setCell ⟨w.heap.size, 5, none⟩ (.int .u64 (el E 4))).setCell ⟨w.heap.size, 6, none⟩ (.int .u64 (el E 5))).setCell ⟨w.heap.size, 7, none⟩ (.int .u64 (el E 6))).setCell ⟨w.heap.size, 8, none⟩ (.int .u64 (el E 7))).setCell ⟨w.heap.size, 9, none⟩ (.slice none 0 0)).setCell ⟨w.heap.size, 10, none⟩ (.int .u64 0)) w.heap.size 1 E (.slice none 0 0) 0 := hfu
  clear hfu
  generalize (((((((((((w2.setCell ⟨w.heap.size, 0, none⟩ (.int .i64 1)).setCell ⟨w.heap.size, 1, none⟩ (.int .u64 (el E 0))).setCell ⟨w.heap.size, 2, none⟩ (.int .u64 (el E 1))).setCell ⟨w.heap.size, 3, none⟩ (.int .u64 (el E 2))).setCell ⟨w.heap.size, 4, none⟩ (.int .u64 (el E 3))).setCell ⟨w.heap.size, 5, none⟩ (.int .u64 (el E 4))).setCell ⟨w.heap.size, 6, none⟩ (.int .u64 (el E 5))).setCell ⟨w.heap.size, 7, none⟩ (.int .u64 (el E 6))).setCell ⟨w.heap.size, 8, none⟩ (.int .u64 (el E 7))).setCell ⟨w.heap.size, 9, none⟩ (.slice none 0 0)).setCell ⟨w.heap.size, 10, none⟩ (.int .u64 0)) = wf at *
  obtain ⟨z0, z1, z2, z3, z4, z5, z6, z7, z8, z9, z10⟩ := hfin.all
  refine bodyPost_ret (v := .tuple #[.agg (hv 1 E (.slice none 0 0) 0), .int .i64 0]) ?_ rfl ⟨rfl, hBg⟩
  unfold hv
  simp [results, Tryd.results10, go_sem, z0, z1, z2, z3, z4, z5, z6, z7, z8, z9, z10]
end Go.Proofs.YtgdcpdbmacmheaaDoor

/- Contract of sha.New. -/
namespace Go.Proofs.YtgdcpdbmacmheaaDoor
open Go.RowKit
set_option linter.unusedVariables false
set_option linter.unusedSimpArgs false

set_option maxHeartbeats 4000000 in
set_option maxRecDepth 100000 in
theorem new_2 (w : World) (hT : Roots w) :
    Calls Tryd.prog 10 #[.int .i64 2] w fun e w' => e = .returned (.tuple #[.agg (hv 2 (ini 2) (.slice none 0 0) 0), .int .i64 0]) ∧ Below w.heap.size w w' := by
  have hb0 := keep_alloc w (.cells (hv 0 (List.replicate 8 0) (.slice none 0 0) 0) 26)
  have hT0 := (hT.below hb0).2
  have hO0 := Hb.new w 0 (List.replicate 8 0) (.slice none 0 0) 0
  have h8 : (ini 2).length = 8 := by decide
  have hu : Under 18446744073709551616 (ini 2) := dec_under (by decide)
  have hbeg : ∀ w, Calls Tryd.prog 27 #[.agg (vals .u64 squares).toArray, .int .i64 8] w fun e w' => e = .returned (.agg (arr .u64 (ini 2))) ∧ Below w.heap.size w w' := fun w => begin_any64 squares 8 w squares_length squares_under (by decide)
  have hsto : ∀ w, Calls Tryd.prog 28 #[.agg (arr .u64 (ini 2))] w fun e w' => e = .returned (.agg #[.int .u64 (el (ini 2) 0), .int .u64 (el (ini 2) 1), .int .u64 (el (ini 2) 2), .int .u64 (el (ini 2) 3), .int .u64 (el (ini 2) 4), .int .u64 (el (ini 2) 5), .int .u64 (el (ini 2) 6), .int .u64 (el (ini 2) 7)]) ∧ Below w.heap.size w w' := fun w => by
    rw [← arr8 .u64 (ini 2) h8]; exact stored_any64 (ini 2) w h8 hu
  have HO := hide hO0
  have HB := hide hb0
  clear hO0 hb0
  generalize ini 2 = E at *
  go_enter Tryd.func10, Tryd.ntmps10
  go_wp2_with (first
    | (refine wpList_load_mid rfl 55 _ (by rfl) 0 0 (by rfl) (vals .u64 squares) (.array 16 23) hT0 (by kernel_rfl) rfl (by kernel_rfl) ?_)
    | (go_at_call 27; refine (hbeg _).mono ?_; rintro e w1 ⟨rfl, hb1⟩)
    | (go_at_call 28; refine (hsto _).mono ?_; rintro e w2 ⟨rfl, hb2⟩; have hO2 := (HO.out.below hb1).below hb2; obtain ⟨o0, o1, o2, o3, o4, o5, o6, o7, o8, o9, o10⟩ := hO2.all; have p0 := hO2.frozen 0; have p1 := hO2.frozen 1; have p2 := hO2.frozen 2; have p3 := hO2.frozen 3; have p4 := hO2.frozen 4; have p5 := hO2.frozen 5; have p6 := hO2.frozen 6; have p7 := hO2.frozen 7; have p8 := hO2.frozen 8; have p9 := hO2.frozen 9; have p10 := hO2.frozen 10)
    | fail)
  have hfu := El.full hO2.elev (.int .i64 2) (.int .u64 (el E 0)) (.int .u64 (el E 1)) (.int .u64 (el E 2)) (.int .u64 (el E 3)) (.int .u64 (el E 4)) (.int .u64 (el E 5)) (.int .u64 (el E 6)) (.int .u64 (el E 7)) (.slice none 0 0) (.int .u64 0)
  have hBg : Below w.heap.size w (((((((((((w2.setCell ⟨w.heap.size, 0, none⟩ (.int .i64 2)).setCell ⟨w.heap.size, 1, none⟩ (.int .u64 (el E 0))).setCell ⟨w.heap.size, 2, none⟩ (.int .u64 (el E 1))).setCell ⟨w.heap.size, 3, none⟩ (.int .u64 (el E 2))).setCell ⟨w.heap.size, 4, none⟩ (.int .u64 (el E 3))).setCell ⟨w.heap.size, 5, none⟩ (.int .u64 (el E 4))).setCell ⟨w.heap.size, 6, none⟩ (.int .u64 (el E 5))).setCell ⟨w.heap.size, 7, none⟩ (.int .u64 (el E 6))).setCell ⟨w.heap.size, 8, none⟩ (.int .u64 (el E 7))).setCell ⟨w.heap.size, 9, none⟩ (.slice none 0 0)).setCell ⟨w.heap.size, 10, none⟩ (.int .u64 0)) := (keep_trans (keep_trans HB.out hb1) hb2).trans (((But.setCell (But.setCell (But.setCell (But.setCell (But.setCell (But.setCell (But.setCell (But.setCell (But.setCell (But.setCell (But.setCell (But.refl w.heap.size w2) _ _) _ _) _ _) _ _) _ _) _ _) _ _) _ _) _ _) _ _) _ _)).below (Nat.le_refl _) (by have := HB.out.size; have := hb1.size; have := hb2.size; simp at *; omega))
  have hfin : Hb (((((((((((w2.setCell ⟨w.heap.size, 0, none⟩ (.int .i64 2)).setCell ⟨w.heap.size, 1, none⟩ (.int .u64 (el E 0))).setCell ⟨w.heap.size, 2, none⟩ (.int .u64 (el E 1))).setCell ⟨w.heap.size, 3, none⟩ (.int .u64 (el E 2))).setCell ⟨w.heap.size, 4, none⟩ (.int .u64 (el E 3))).setCell ⟨w.heap.size, 5, none⟩ (.int .u64 (el E 4))).setCell ⟨w.heap.size, 6, none⟩ (.int .u64 (el E 5))).setCell ⟨w.heap.size, 7, none⟩ (.int .u64 (el E 6))).setCell ⟨w.heap.size, 8, none⟩ (.int .u64 (el E 7))).setCell ⟨w.heap.size, 9, none⟩ (.slice none 0 0)).setCell ⟨w.heap.size, 10, none⟩ (.int .u64 0)) w.heap.size 2 E (.slice none 0 0) 0 := hfu
  clear hfu
  generalize (((((((((((w2.setCell ⟨w.heap.size, 0, none⟩ (.int .i64 2)).setCell ⟨w.heap.size, 1, none⟩ (.int .u64 (el E 0))).setCell ⟨w.heap.size, 2, none⟩ (.int .u64 (el E 1))).setCell ⟨w.heap.size, 3, none⟩ (.int .u64 (el E 2))).setCell ⟨w.heap.size, 4, none⟩ (.int .u64 (el E 3))).setCell ⟨w.heap.size, 5, none⟩ (.int .u64 (el E 4))).setCell ⟨w.heap.size, 6, none⟩ (.int .u64 (el E 5))).setCell ⟨w.heap.size, 7, none⟩ (.int .u64 (el E 6))).setCell ⟨w.heap.size, 8, none⟩ (.int .u64 (el E 7))).setCell ⟨w.heap.size, 9, none⟩ (.slice none 0 0)).setCell ⟨w.heap.size, 10, none⟩ (.int .u64 0)) = wf at *
  obtain ⟨z0, z1, z2, z3, z4, z5, z6, z7, z8, z9, z10⟩ := hfin.all
  refine bodyPost_ret (v := .tuple #[.agg (hv 2 E (.slice none 0 0) 0), .int .i64 0]) ?_ rfl ⟨rfl, hBg⟩
  unfold hv
  simp [results, Tryd.results10, go_sem, z0, z1, z2, z3, z4, z5, z6, z7, z8, z9, z10]
end Go.Proofs.YtgdcpdbmacmheaaDoor
