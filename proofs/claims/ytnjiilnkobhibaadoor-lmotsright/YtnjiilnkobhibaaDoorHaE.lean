/- The chapter's examples, by the plain functions. -/
import Derived.Test.YtnjiilnkobhibaaDoorHaM
import Derived.KernelRfl
import Derived.Test.YtnjiilnkobhibaaDoorHKi2
import Derived.Test.YtnjiilnkobhibaaDoorHRes64
import Derived.Test.YtnjiilnkobhibaaDoorJoin
import Derived.Test.YtnjiilnkobhibaaDoorHFin32
import Derived.Test.YtnjiilnkobhibaaDoorHByt64
namespace Go.Proofs.YtnjiilnkobhibaaDoor
set_option maxRecDepth 100000
def ini (k : Nat) : List Nat := if k = 1 then ((squares.drop 0).take 8).map (hi false) else if k = 2 then ((squares.drop 8).take 8).map (hi true) else ((squares.drop 0).take 8).map (hi true)
theorem abc256 : (endS false (ini 1) [97, 98, 99] 3 32).take 4 = [186, 120, 22, 191] := by kernel_rfl
theorem abc512 : (endS true (ini 3) [97, 98, 99] 3 64).take 4 = [221, 175, 53, 161] := by kernel_rfl
end Go.Proofs.YtnjiilnkobhibaaDoor

/- Contract of sha.New. -/
namespace Go.Proofs.YtnjiilnkobhibaaDoor
open Go.RowKit
set_option linter.unusedVariables false
set_option linter.unusedSimpArgs false

set_option maxHeartbeats 4000000 in
set_option maxRecDepth 100000 in
theorem new_1 (w : World) (hT : Roots w) :
    Calls Tryd.prog 47 #[.int .i64 1] w fun e w' => e = .returned (.tuple #[.agg (hv 1 (ini 1) (.slice none 0 0) 0), .int .i64 0]) ∧ Below w.heap.size w w' := by
  have hb0 := keep_alloc w (.cells (hv 0 (List.replicate 8 0) (.slice none 0 0) 0) 81)
  have hT0 := (hT.below hb0).2
  have hO0 := Hb.new w 0 (List.replicate 8 0) (.slice none 0 0) 0
  have h8 : (ini 1).length = 8 := by decide
  have hu : Under 4294967296 (ini 1) := dec_under (by decide)
  have hbeg : ∀ w, Calls Tryd.prog 54 #[.agg (vals .u64 squares).toArray, .int .i64 0] w fun e w' => e = .returned (.agg (arr .u32 (ini 1))) ∧ Below w.heap.size w w' := fun w => begin_any32 squares 0 w squares_length squares_under (by decide)
  have hsto : ∀ w, Calls Tryd.prog 55 #[.agg (arr .u32 (ini 1))] w fun e w' => e = .returned (.agg #[.int .u64 (el (ini 1) 0), .int .u64 (el (ini 1) 1), .int .u64 (el (ini 1) 2), .int .u64 (el (ini 1) 3), .int .u64 (el (ini 1) 4), .int .u64 (el (ini 1) 5), .int .u64 (el (ini 1) 6), .int .u64 (el (ini 1) 7)]) ∧ Below w.heap.size w w' := fun w => by
    rw [← arr8 .u64 (ini 1) h8]; exact stored_any32 (ini 1) w h8 hu
  have HO := hide hO0
  have HB := hide hb0
  clear hO0 hb0
  generalize ini 1 = E at *
  go_enter Tryd.func47, Tryd.ntmps47
  go_wp2_with (first
    | (refine wpList_load_mid rfl 92 _ (by rfl) 0 0 (by rfl) (vals .u64 squares) (.array 16 44) hT0 (by kernel_rfl) rfl (by kernel_rfl) ?_)
    | (go_at_call 54; refine (hbeg _).mono ?_; rintro e w1 ⟨rfl, hb1⟩)
    | (go_at_call 55; refine (hsto _).mono ?_; rintro e w2 ⟨rfl, hb2⟩; have hO2 := (HO.out.below hb1).below hb2; obtain ⟨o0, o1, o2, o3, o4, o5, o6, o7, o8, o9, o10⟩ := hO2.all; have p0 := hO2.frozen 0; have p1 := hO2.frozen 1; have p2 := hO2.frozen 2; have p3 := hO2.frozen 3; have p4 := hO2.frozen 4; have p5 := hO2.frozen 5; have p6 := hO2.frozen 6; have p7 := hO2.frozen 7; have p8 := hO2.frozen 8; have p9 := hO2.frozen 9; have p10 := hO2.frozen 10)
    | fail)
  have hfu := El.full hO2.elev (.int .i64 1) (.int .u64 (el E 0)) (.int .u64 (el E 1)) (.int .u64 (el E 2)) (.int .u64 (el E 3)) (.int .u64 (el E 4)) (.int .u64 (el E 5)) (.int .u64 (el E 6)) (.int .u64 (el E 7)) (.slice none 0 0) (.int .u64 0)
  have hBg : Below w.heap.size w (((((((((((w2.setCell ⟨w.heap.size, 0, none⟩ (.int .i64 1)).setCell ⟨w.heap.size, 1, none⟩ (.int .u64 (el E 0))).setCell ⟨w.heap.size, 2, none⟩ (.int .u64 (el E 1))).setCell ⟨w.heap.size, 3, none⟩ (.int .u64 (el E 2))).setCell ⟨w.heap.size, 4, none⟩ (.int .u64 (el E 3))).setCell ⟨w.heap.size, 5, none⟩ (.int .u64 (el E 4))).setCell ⟨w.heap.size, 6, none⟩ (.int .u64 (el E 5))).setCell ⟨w.heap.size, 7, none⟩ (.int .u64 (el E 6))).setCell ⟨w.heap.size, 8, none⟩ (.int .u64 (el E 7))).setCell ⟨w.heap.size, 9, none⟩ (.slice none 0 0)).setCell ⟨w.heap.size, 10, none⟩ (.int .u64 0)) := (keep_trans (keep_trans HB.out hb1) hb2).trans (((But.setCell (But.setCell (But.setCell (But.setCell (But.setCell (But.setCell (But.setCell (But.setCell (But.setCell (But.setCell (But.setCell (But.refl w.heap.size w2) _ _) _ _) _ _) _ _) _ _) _ _) _ _) _ _) _ _) _ _) _ _)).below (Nat.le_refl _) (by have := HB.out.size; have := hb1.size; have := hb2.size; simp at *; omega))
  have hfin : Hb (((((((((((w2.setCell ⟨w.heap.size, 0, none⟩ (.int .i64 1)).setCell ⟨w.heap.size, 1, none⟩ (.int .u64 (el E 0))).setCell ⟨w.heap.size, 2, none⟩ (.int .u64 (el E 1))).setCell ⟨w.heap.size, 3, none⟩ (.int .u64 (el E 2))).setCell ⟨w.heap.size, 4, none⟩ (.int .u64 (el E 3))).setCell ⟨w.heap.size, 5, none⟩ (.int .u64 (el E 4))).setCell ⟨w.heap.size, 6, none⟩ (.int .u64 (el E 5))).setCell ⟨w.heap.size, 7, none⟩ (.int .u64 (el E 6))).setCell ⟨w.heap.size, 8, none⟩ (.int .u64 (el E 7))).setCell ⟨w.heap.size, 9, none⟩ (.slice none 0 0)).setCell ⟨w.heap.size, 10, none⟩ (.int .u64 0)) w.heap.size 1 E (.slice none 0 0) 0 := hfu
  clear hfu
  generalize (((((((((((w2.setCell ⟨w.heap.size, 0, none⟩ (.int .i64 1)).setCell ⟨w.heap.size, 1, none⟩ (.int .u64 (el E 0))).setCell ⟨w.heap.size, 2, none⟩ (.int .u64 (el E 1))).setCell ⟨w.heap.size, 3, none⟩ (.int .u64 (el E 2))).setCell ⟨w.heap.size, 4, none⟩ (.int .u64 (el E 3))).setCell ⟨w.heap.size, 5, none⟩ (.int .u64 (el E 4))).setCell ⟨w.heap.size, 6, none⟩ (.int .u64 (el E 5))).setCell ⟨w.heap.size, 7, none⟩ (.int .u64 (el E 6))).setCell ⟨w.heap.size, 8, none⟩ (.int .u64 (el E 7))).setCell ⟨w.heap.size, 9, none⟩ (.slice none 0 0)).setCell ⟨w.heap.size, 10, none⟩ (.int .u64 0)) = wf at *
  obtain ⟨z0, z1, z2, z3, z4, z5, z6, z7, z8, z9, z10⟩ := hfin.all
  refine bodyPost_ret (v := .tuple #[.agg (hv 1 E (.slice none 0 0) 0), .int .i64 0]) ?_ rfl ⟨rfl, hBg⟩
  unfold hv
  simp [results, Tryd.results47, go_sem, z0, z1, z2, z3, z4, z5, z6, z7, z8, z9, z10]
end Go.Proofs.YtnjiilnkobhibaaDoor

/- Contract of sha.New. -/
namespace Go.Proofs.YtnjiilnkobhibaaDoor
open Go.RowKit
set_option linter.unusedVariables false
set_option linter.unusedSimpArgs false

set_option maxHeartbeats 4000000 in
set_option maxRecDepth 100000 in
theorem new_2 (w : World) (hT : Roots w) :
    Calls Tryd.prog 47 #[.int .i64 2] w fun e w' => e = .returned (.tuple #[.agg (hv 2 (ini 2) (.slice none 0 0) 0), .int .i64 0]) ∧ Below w.heap.size w w' := by
  have hb0 := keep_alloc w (.cells (hv 0 (List.replicate 8 0) (.slice none 0 0) 0) 81)
  have hT0 := (hT.below hb0).2
  have hO0 := Hb.new w 0 (List.replicate 8 0) (.slice none 0 0) 0
  have h8 : (ini 2).length = 8 := by decide
  have hu : Under 18446744073709551616 (ini 2) := dec_under (by decide)
  have hbeg : ∀ w, Calls Tryd.prog 56 #[.agg (vals .u64 squares).toArray, .int .i64 8] w fun e w' => e = .returned (.agg (arr .u64 (ini 2))) ∧ Below w.heap.size w w' := fun w => begin_any64 squares 8 w squares_length squares_under (by decide)
  have hsto : ∀ w, Calls Tryd.prog 57 #[.agg (arr .u64 (ini 2))] w fun e w' => e = .returned (.agg #[.int .u64 (el (ini 2) 0), .int .u64 (el (ini 2) 1), .int .u64 (el (ini 2) 2), .int .u64 (el (ini 2) 3), .int .u64 (el (ini 2) 4), .int .u64 (el (ini 2) 5), .int .u64 (el (ini 2) 6), .int .u64 (el (ini 2) 7)]) ∧ Below w.heap.size w w' := fun w => by
    rw [← arr8 .u64 (ini 2) h8]; exact stored_any64 (ini 2) w h8 hu
  have HO := hide hO0
  have HB := hide hb0
  clear hO0 hb0
  generalize ini 2 = E at *
  go_enter Tryd.func47, Tryd.ntmps47
  go_wp2_with (first
    | (refine wpList_load_mid rfl 92 _ (by rfl) 0 0 (by rfl) (vals .u64 squares) (.array 16 44) hT0 (by kernel_rfl) rfl (by kernel_rfl) ?_)
    | (go_at_call 56; refine (hbeg _).mono ?_; rintro e w1 ⟨rfl, hb1⟩)
    | (go_at_call 57; refine (hsto _).mono ?_; rintro e w2 ⟨rfl, hb2⟩; have hO2 := (HO.out.below hb1).below hb2; obtain ⟨o0, o1, o2, o3, o4, o5, o6, o7, o8, o9, o10⟩ := hO2.all; have p0 := hO2.frozen 0; have p1 := hO2.frozen 1; have p2 := hO2.frozen 2; have p3 := hO2.frozen 3; have p4 := hO2.frozen 4; have p5 := hO2.frozen 5; have p6 := hO2.frozen 6; have p7 := hO2.frozen 7; have p8 := hO2.frozen 8; have p9 := hO2.frozen 9; have p10 := hO2.frozen 10)
    | fail)
  have hfu := El.full hO2.elev (.int .i64 2) (.int .u64 (el E 0)) (.int .u64 (el E 1)) (.int .u64 (el E 2)) (.int .u64 (el E 3)) (.int .u64 (el E 4)) (.int .u64 (el E 5)) (.int .u64 (el E 6)) (.int .u64 (el E 7)) (.slice none 0 0) (.int .u64 0)
  have hBg : Below w.heap.size w (((((((((((w2.setCell ⟨w.heap.size, 0, none⟩ (.int .i64 2)).setCell ⟨w.heap.size, 1, none⟩ (.int .u64 (el E 0))).setCell ⟨w.heap.size, 2, none⟩ (.int .u64 (el E 1))).setCell ⟨w.heap.size, 3, none⟩ (.int .u64 (el E 2))).setCell ⟨w.heap.size, 4, none⟩ (.int .u64 (el E 3))).setCell ⟨w.heap.size, 5, none⟩ (.int .u64 (el E 4))).setCell ⟨w.heap.size, 6, none⟩ (.int .u64 (el E 5))).setCell ⟨w.heap.size, 7, none⟩ (.int .u64 (el E 6))).setCell ⟨w.heap.size, 8, none⟩ (.int .u64 (el E 7))).setCell ⟨w.heap.size, 9, none⟩ (.slice none 0 0)).setCell ⟨w.heap.size, 10, none⟩ (.int .u64 0)) := (keep_trans (keep_trans HB.out hb1) hb2).trans (((But.setCell (But.setCell (But.setCell (But.setCell (But.setCell (But.setCell (But.setCell (But.setCell (But.setCell (But.setCell (But.setCell (But.refl w.heap.size w2) _ _) _ _) _ _) _ _) _ _) _ _) _ _) _ _) _ _) _ _) _ _)).below (Nat.le_refl _) (by have := HB.out.size; have := hb1.size; have := hb2.size; simp at *; omega))
  have hfin : Hb (((((((((((w2.setCell ⟨w.heap.size, 0, none⟩ (.int .i64 2)).setCell ⟨w.heap.size, 1, none⟩ (.int .u64 (el E 0))).setCell ⟨w.heap.size, 2, none⟩ (.int .u64 (el E 1))).setCell ⟨w.heap.size, 3, none⟩ (.int .u64 (el E 2))).setCell ⟨w.heap.size, 4, none⟩ (.int .u64 (el E 3))).setCell ⟨w.heap.size, 5, none⟩ (.int .u64 (el E 4))).setCell ⟨w.heap.size, 6, none⟩ (.int .u64 (el E 5))).setCell ⟨w.heap.size, 7, none⟩ (.int .u64 (el E 6))).setCell ⟨w.heap.size, 8, none⟩ (.int .u64 (el E 7))).setCell ⟨w.heap.size, 9, none⟩ (.slice none 0 0)).setCell ⟨w.heap.size, 10, none⟩ (.int .u64 0)) w.heap.size 2 E (.slice none 0 0) 0 := hfu
  clear hfu
  generalize (((((((((((w2.setCell ⟨w.heap.size, 0, none⟩ (.int .i64 2)).setCell ⟨w.heap.size, 1, none⟩ (.int .u64 (el E 0))).setCell ⟨w.heap.size, 2, none⟩ (.int .u64 (el E 1))).setCell ⟨w.heap.size, 3, none⟩ (.int .u64 (el E 2))).setCell ⟨w.heap.size, 4, none⟩ (.int .u64 (el E 3))).setCell ⟨w.heap.size, 5, none⟩ (.int .u64 (el E 4))).setCell ⟨w.heap.size, 6, none⟩ (.int .u64 (el E 5))).setCell ⟨w.heap.size, 7, none⟩ (.int .u64 (el E 6))).setCell ⟨w.heap.size, 8, none⟩ (.int .u64 (el E 7))).setCell ⟨w.heap.size, 9, none⟩ (.slice none 0 0)).setCell ⟨w.heap.size, 10, none⟩ (.int .u64 0)) = wf at *
  obtain ⟨z0, z1, z2, z3, z4, z5, z6, z7, z8, z9, z10⟩ := hfin.all
  refine bodyPost_ret (v := .tuple #[.agg (hv 2 E (.slice none 0 0) 0), .int .i64 0]) ?_ rfl ⟨rfl, hBg⟩
  unfold hv
  simp [results, Tryd.results47, go_sem, z0, z1, z2, z3, z4, z5, z6, z7, z8, z9, z10]
end Go.Proofs.YtnjiilnkobhibaaDoor

/- Contract of sha.New. -/
namespace Go.Proofs.YtnjiilnkobhibaaDoor
open Go.RowKit
set_option linter.unusedVariables false
set_option linter.unusedSimpArgs false

set_option maxHeartbeats 4000000 in
set_option maxRecDepth 100000 in
theorem new_3 (w : World) (hT : Roots w) :
    Calls Tryd.prog 47 #[.int .i64 3] w fun e w' => e = .returned (.tuple #[.agg (hv 3 (ini 3) (.slice none 0 0) 0), .int .i64 0]) ∧ Below w.heap.size w w' := by
  have hb0 := keep_alloc w (.cells (hv 0 (List.replicate 8 0) (.slice none 0 0) 0) 81)
  have hT0 := (hT.below hb0).2
  have hO0 := Hb.new w 0 (List.replicate 8 0) (.slice none 0 0) 0
  have h8 : (ini 3).length = 8 := by decide
  have hu : Under 18446744073709551616 (ini 3) := dec_under (by decide)
  have hbeg : ∀ w, Calls Tryd.prog 56 #[.agg (vals .u64 squares).toArray, .int .i64 0] w fun e w' => e = .returned (.agg (arr .u64 (ini 3))) ∧ Below w.heap.size w w' := fun w => begin_any64 squares 0 w squares_length squares_under (by decide)
  have hsto : ∀ w, Calls Tryd.prog 57 #[.agg (arr .u64 (ini 3))] w fun e w' => e = .returned (.agg #[.int .u64 (el (ini 3) 0), .int .u64 (el (ini 3) 1), .int .u64 (el (ini 3) 2), .int .u64 (el (ini 3) 3), .int .u64 (el (ini 3) 4), .int .u64 (el (ini 3) 5), .int .u64 (el (ini 3) 6), .int .u64 (el (ini 3) 7)]) ∧ Below w.heap.size w w' := fun w => by
    rw [← arr8 .u64 (ini 3) h8]; exact stored_any64 (ini 3) w h8 hu
  have HO := hide hO0
  have HB := hide hb0
  clear hO0 hb0
  generalize ini 3 = E at *
  go_enter Tryd.func47, Tryd.ntmps47
  go_wp2_with (first
    | (refine wpList_load_mid rfl 92 _ (by rfl) 0 0 (by rfl) (vals .u64 squares) (.array 16 44) hT0 (by kernel_rfl) rfl (by kernel_rfl) ?_)
    | (go_at_call 56; refine (hbeg _).mono ?_; rintro e w1 ⟨rfl, hb1⟩)
    | (go_at_call 57; refine (hsto _).mono ?_; rintro e w2 ⟨rfl, hb2⟩; have hO2 := (HO.out.below hb1).below hb2; obtain ⟨o0, o1, o2, o3, o4, o5, o6, o7, o8, o9, o10⟩ := hO2.all; have p0 := hO2.frozen 0; have p1 := hO2.frozen 1; have p2 := hO2.frozen 2; have p3 := hO2.frozen 3; have p4 := hO2.frozen 4; have p5 := hO2.frozen 5; have p6 := hO2.frozen 6; have p7 := hO2.frozen 7; have p8 := hO2.frozen 8; have p9 := hO2.frozen 9; have p10 := hO2.frozen 10)
    | fail)
  have hfu := El.full hO2.elev (.int .i64 3) (.int .u64 (el E 0)) (.int .u64 (el E 1)) (.int .u64 (el E 2)) (.int .u64 (el E 3)) (.int .u64 (el E 4)) (.int .u64 (el E 5)) (.int .u64 (el E 6)) (.int .u64 (el E 7)) (.slice none 0 0) (.int .u64 0)
  have hBg : Below w.heap.size w (((((((((((w2.setCell ⟨w.heap.size, 0, none⟩ (.int .i64 3)).setCell ⟨w.heap.size, 1, none⟩ (.int .u64 (el E 0))).setCell ⟨w.heap.size, 2, none⟩ (.int .u64 (el E 1))).setCell ⟨w.heap.size, 3, none⟩ (.int .u64 (el E 2))).setCell ⟨w.heap.size, 4, none⟩ (.int .u64 (el E 3))).setCell ⟨w.heap.size, 5, none⟩ (.int .u64 (el E 4))).setCell ⟨w.heap.size, 6, none⟩ (.int .u64 (el E 5))).setCell ⟨w.heap.size, 7, none⟩ (.int .u64 (el E 6))).setCell ⟨w.heap.size, 8, none⟩ (.int .u64 (el E 7))).setCell ⟨w.heap.size, 9, none⟩ (.slice none 0 0)).setCell ⟨w.heap.size, 10, none⟩ (.int .u64 0)) := (keep_trans (keep_trans HB.out hb1) hb2).trans (((But.setCell (But.setCell (But.setCell (But.setCell (But.setCell (But.setCell (But.setCell (But.setCell (But.setCell (But.setCell (But.setCell (But.refl w.heap.size w2) _ _) _ _) _ _) _ _) _ _) _ _) _ _) _ _) _ _) _ _) _ _)).below (Nat.le_refl _) (by have := HB.out.size; have := hb1.size; have := hb2.size; simp at *; omega))
  have hfin : Hb (((((((((((w2.setCell ⟨w.heap.size, 0, none⟩ (.int .i64 3)).setCell ⟨w.heap.size, 1, none⟩ (.int .u64 (el E 0))).setCell ⟨w.heap.size, 2, none⟩ (.int .u64 (el E 1))).setCell ⟨w.heap.size, 3, none⟩ (.int .u64 (el E 2))).setCell ⟨w.heap.size, 4, none⟩ (.int .u64 (el E 3))).setCell ⟨w.heap.size, 5, none⟩ (.int .u64 (el E 4))).setCell ⟨w.heap.size, 6, none⟩ (.int .u64 (el E 5))).setCell ⟨w.heap.size, 7, none⟩ (.int .u64 (el E 6))).setCell ⟨w.heap.size, 8, none⟩ (.int .u64 (el E 7))).setCell ⟨w.heap.size, 9, none⟩ (.slice none 0 0)).setCell ⟨w.heap.size, 10, none⟩ (.int .u64 0)) w.heap.size 3 E (.slice none 0 0) 0 := hfu
  clear hfu
  generalize (((((((((((w2.setCell ⟨w.heap.size, 0, none⟩ (.int .i64 3)).setCell ⟨w.heap.size, 1, none⟩ (.int .u64 (el E 0))).setCell ⟨w.heap.size, 2, none⟩ (.int .u64 (el E 1))).setCell ⟨w.heap.size, 3, none⟩ (.int .u64 (el E 2))).setCell ⟨w.heap.size, 4, none⟩ (.int .u64 (el E 3))).setCell ⟨w.heap.size, 5, none⟩ (.int .u64 (el E 4))).setCell ⟨w.heap.size, 6, none⟩ (.int .u64 (el E 5))).setCell ⟨w.heap.size, 7, none⟩ (.int .u64 (el E 6))).setCell ⟨w.heap.size, 8, none⟩ (.int .u64 (el E 7))).setCell ⟨w.heap.size, 9, none⟩ (.slice none 0 0)).setCell ⟨w.heap.size, 10, none⟩ (.int .u64 0)) = wf at *
  obtain ⟨z0, z1, z2, z3, z4, z5, z6, z7, z8, z9, z10⟩ := hfin.all
  refine bodyPost_ret (v := .tuple #[.agg (hv 3 E (.slice none 0 0) 0), .int .i64 0]) ?_ rfl ⟨rfl, hBg⟩
  unfold hv
  simp [results, Tryd.results47, go_sem, z0, z1, z2, z3, z4, z5, z6, z7, z8, z9, z10]
end Go.Proofs.YtnjiilnkobhibaaDoor

/- Contracts of sha.end, Sum, End. -/
namespace Go.Proofs.YtnjiilnkobhibaaDoor
open Go.RowKit
set_option linter.unusedVariables false
set_option linter.unusedSimpArgs false

/-- how many bytes a kind's sum has -/
def outn (kind : Int) : Nat := if kind = 1 then 32 else if kind = 2 then 48 else 64
theorem Row.mono_u64 {m : Nat} {l : List Nat} (h : Under 4294967296 l) : Under 18446744073709551616 l := fun x hx => Nat.lt_trans (h x hx) (by decide)

set_option maxHeartbeats 2000000 in
set_option maxRecDepth 100000 in
theorem send_1 (ws : List Nat) (tv : Value) (tl : List Nat) (size : Nat) (w : World) (hT : Roots w) (h8 : ws.length = 8) (hu : Under 4294967296 ws) (hRt : Row .u8 256 w tv tl) (tT : Tidy tv) (htl : tl.length ≤ 100000) (hsz : size < 1152921504606846976) :
    Calls Tryd.prog 48 #[.agg (hv 1 ws tv size)] w fun e w' => ∃ v', e = .returned v' ∧ Own 5 .u8 256 w' w.heap.size v' (endS false ws tl size 32) ∧ Below w.heap.size w w' := by
  have hb0 := keep_alloc w (.cells (hv 1 ws tv size) 81)
  have hf := finish_any32 1 ws tv tl size 32 _ (hT.below hb0) h8 hu (hRt.below hb0) tT htl hsz (by decide)
  obtain ⟨ta, tc, rfl⟩ := hRt.form
  unfold hv at *
  go_enter Tryd.func48, Tryd.ntmps48
  go_wp2_with (first | (go_at_call 58; refine hf.mono ?_; rintro e w1 ⟨v1, rfl, hO1, hb1⟩) | fail)
  go_ret
  exact ⟨_, rfl, hO1.mono (by simp), keep_trans hb0 hb1⟩

set_option maxHeartbeats 2000000 in
set_option maxRecDepth 100000 in
theorem send_2 (ws : List Nat) (tv : Value) (tl : List Nat) (size : Nat) (w : World) (hT : Roots w) (h8 : ws.length = 8) (hu : Under 18446744073709551616 ws) (hRt : Row .u8 256 w tv tl) (tT : Tidy tv) (htl : tl.length ≤ 100000) (hsz : size < 1152921504606846976) :
    Calls Tryd.prog 48 #[.agg (hv 2 ws tv size)] w fun e w' => ∃ v', e = .returned v' ∧ Own 5 .u8 256 w' w.heap.size v' (endS true ws tl size 48) ∧ Below w.heap.size w w' := by
  have hb0 := keep_alloc w (.cells (hv 2 ws tv size) 81)
  have hf := finish_any64 2 ws tv tl size 48 _ (hT.below hb0) h8 hu (hRt.below hb0) tT htl hsz (by decide)
  obtain ⟨ta, tc, rfl⟩ := hRt.form
  unfold hv at *
  go_enter Tryd.func48, Tryd.ntmps48
  go_wp2_with (first | (go_at_call 59; refine hf.mono ?_; rintro e w1 ⟨v1, rfl, hO1, hb1⟩) | fail)
  go_ret
  exact ⟨_, rfl, hO1.mono (by simp), keep_trans hb0 hb1⟩

set_option maxHeartbeats 2000000 in
set_option maxRecDepth 100000 in
theorem send_3 (ws : List Nat) (tv : Value) (tl : List Nat) (size : Nat) (w : World) (hT : Roots w) (h8 : ws.length = 8) (hu : Under 18446744073709551616 ws) (hRt : Row .u8 256 w tv tl) (tT : Tidy tv) (htl : tl.length ≤ 100000) (hsz : size < 1152921504606846976) :
    Calls Tryd.prog 48 #[.agg (hv 3 ws tv size)] w fun e w' => ∃ v', e = .returned v' ∧ Own 5 .u8 256 w' w.heap.size v' (endS true ws tl size 64) ∧ Below w.heap.size w w' := by
  have hb0 := keep_alloc w (.cells (hv 3 ws tv size) 81)
  have hf := finish_any64 3 ws tv tl size 64 _ (hT.below hb0) h8 hu (hRt.below hb0) tT htl hsz (by decide)
  obtain ⟨ta, tc, rfl⟩ := hRt.form
  unfold hv at *
  go_enter Tryd.func48, Tryd.ntmps48
  go_wp2_with (first | (go_at_call 59; refine hf.mono ?_; rintro e w1 ⟨v1, rfl, hO1, hb1⟩) | fail)
  go_ret
  exact ⟨_, rfl, hO1.mono (by simp), keep_trans hb0 hb1⟩

theorem send_any (kind : Int) (hk : kind = 1 ∨ kind = 2 ∨ kind = 3) (ws : List Nat) (tv : Value) (tl : List Nat) (size : Nat) (w : World) (hT : Roots w) (h8 : ws.length = 8) (hu : Under (wm (wide kind)) ws) (hRt : Row .u8 256 w tv tl) (tT : Tidy tv) (htl : tl.length ≤ 100000) (hsz : size < 1152921504606846976) :
    Calls Tryd.prog 48 #[.agg (hv kind ws tv size)] w fun e w' => ∃ v', e = .returned v' ∧ Own 5 .u8 256 w' w.heap.size v' (endS (wide kind) ws tl size (outn kind)) ∧ Below w.heap.size w w' := by
  rcases hk with rfl | rfl | rfl
  · exact send_1 ws tv tl size w hT h8 hu hRt tT htl hsz
  · exact send_2 ws tv tl size w hT h8 hu hRt tT htl hsz
  · exact send_3 ws tv tl size w hT h8 hu hRt tT htl hsz

/-- a sum that is fit has words of its kind -/
theorem hfit_true {kind : Int} {ws : List Nat} {n size : Nat} (h8 : ws.length = 8) (hu : Under 18446744073709551616 ws) (h : hfit kind ws n size = true) : (kind = 1 ∨ kind = 2 ∨ kind = 3) ∧ size < 1152921504606846976 ∧ n = size % bz (wide kind) ∧ Under (wm (wide kind)) ws := by
  unfold hfit at h
  rw [Bool.and_eq_true, decide_eq_true_iff] at h
  obtain ⟨⟨h1, h2, h3⟩, h4⟩ := h
  refine ⟨h1, h2, h3, ?_⟩
  rcases h1 with rfl | rfl | rfl
  · have := (wfit_one h8).1 h4
    intro x hx
    obtain ⟨i, hi, rfl⟩ := List.getElem_of_mem hx
    have e := this i (by omega)
    rw [el_at hi] at e
    exact e
  · exact hu
  · exact hu

end Go.Proofs.YtnjiilnkobhibaaDoor
