/- Contracts of date.fit, date.time. -/
import Derived.Test.YtjkciheoknjfhaaDoorStM
namespace Go.Proofs.YtjkciheoknjfhaaDoor
open Go.RowKit
set_option linter.unusedVariables false

/-- has the calendar that date? -/
def sfitB (y m d h i c : Nat) : Bool := decide (1 ≤ d ∧ d ≤ daysS y m ∧ h < 24 ∧ i < 60 ∧ c < 60)

set_option maxRecDepth 100000 in
set_option maxHeartbeats 2000000 in
theorem dfit_any (y m d h i c : Nat) (w : World) :
    Calls Tryd.prog 79 #[dt y m d h i c] w fun e w' => e = .returned (.bool (sfitB y m d h i c)) ∧ Below w.heap.size w w' := by
  have hb := Bxd.new y m d h i c w
  have c0 := hb.cell 0 y rfl
  have c1 := hb.cell 1 m rfl
  have c2 := hb.cell 2 d rfl
  have c3 := hb.cell 3 h rfl
  have c4 := hb.cell 4 i rfl
  have c5 := hb.cell 5 c rfl
  have hcall := fun w' => days_any (y : Int) (m : Int) w'
  by_cases k1 : d < 1
  · have g1 : decide ((1 : Int) ≤ (d : Int)) = false := by simp; omega
    rw [show sfitB y m d h i c = false from by unfold sfitB; rw [decide_eq_false_iff_not]; omega]
    generalize daysS (y : Int) (m : Int) = D at *
    go_enter Tryd.func79, Tryd.ntmps79
    go_wp2_with fail
    go_quiet (first | (go_at_call 84; exact (hcall _).mono (by rintro e w' ⟨rfl, rfl⟩; exact ⟨rfl, _, rfl⟩)) | fail)
    go_wp2
    go_ret
    exact ⟨rfl, below_drewN (keep_alloc _ _) _⟩
  have g1 : (1 : Int) ≤ (d : Int) := by omega
  have n1 : 1 ≤ d := by omega
  by_cases k2 : daysS y m < d
  · have g2 : decide (d ≤ daysS y m) = false := by simp; omega
    rw [show sfitB y m d h i c = false from by unfold sfitB; rw [decide_eq_false_iff_not]; omega]
    generalize daysS (y : Int) (m : Int) = D at *
    go_enter Tryd.func79, Tryd.ntmps79
    go_wp2_with fail
    go_quiet (first | (go_at_call 84; exact (hcall _).mono (by rintro e w' ⟨rfl, rfl⟩; exact ⟨rfl, _, rfl⟩)) | fail)
    go_wp2
    go_ret
    exact ⟨rfl, below_drewN (keep_alloc _ _) _⟩
  have g2 : (d : Int) ≤ ((daysS y m : Nat) : Int) := by omega
  have n2 : d ≤ daysS y m := by omega
  by_cases k3 : 24 ≤ h
  · have g3 : decide ((h : Int) < 24) = false := by simp; omega
    rw [show sfitB y m d h i c = false from by unfold sfitB; rw [decide_eq_false_iff_not]; omega]
    generalize daysS (y : Int) (m : Int) = D at *
    go_enter Tryd.func79, Tryd.ntmps79
    go_wp2_with fail
    go_quiet (first | (go_at_call 84; exact (hcall _).mono (by rintro e w' ⟨rfl, rfl⟩; exact ⟨rfl, _, rfl⟩)) | fail)
    go_wp2
    go_ret
    exact ⟨rfl, below_drewN (keep_alloc _ _) _⟩
  have g3 : (h : Int) < 24 := by omega
  have n3 : h < 24 := by omega
  by_cases k4 : 60 ≤ i
  · have g4 : decide ((i : Int) < 60) = false := by simp; omega
    rw [show sfitB y m d h i c = false from by unfold sfitB; rw [decide_eq_false_iff_not]; omega]
    generalize daysS (y : Int) (m : Int) = D at *
    go_enter Tryd.func79, Tryd.ntmps79
    go_wp2_with fail
    go_quiet (first | (go_at_call 84; exact (hcall _).mono (by rintro e w' ⟨rfl, rfl⟩; exact ⟨rfl, _, rfl⟩)) | fail)
    go_wp2
    go_ret
    exact ⟨rfl, below_drewN (keep_alloc _ _) _⟩
  have g4 : (i : Int) < 60 := by omega
  have n4 : i < 60 := by omega
  by_cases k5 : 60 ≤ c
  · have g5 : decide ((c : Int) < 60) = false := by simp; omega
    rw [show sfitB y m d h i c = false from by unfold sfitB; rw [decide_eq_false_iff_not]; omega]
    generalize daysS (y : Int) (m : Int) = D at *
    go_enter Tryd.func79, Tryd.ntmps79
    go_wp2_with fail
    go_quiet (first | (go_at_call 84; exact (hcall _).mono (by rintro e w' ⟨rfl, rfl⟩; exact ⟨rfl, _, rfl⟩)) | fail)
    go_wp2
    go_ret
    exact ⟨rfl, below_drewN (keep_alloc _ _) _⟩
  · have g5 : (c : Int) < 60 := by omega
    have n5 : c < 60 := by omega
    rw [show sfitB y m d h i c = true from by unfold sfitB; rw [decide_eq_true_iff]; omega]
    generalize daysS (y : Int) (m : Int) = D at *
    go_enter Tryd.func79, Tryd.ntmps79
    go_wp2_with fail
    go_quiet (first | (go_at_call 84; exact (hcall _).mono (by rintro e w' ⟨rfl, rfl⟩; exact ⟨rfl, _, rfl⟩)) | fail)
    go_wp2
    go_ret
    exact ⟨rfl, below_drewN (keep_alloc _ _) _⟩
end Go.Proofs.YtjkciheoknjfhaaDoor
