/- Which bytes fit a tag: der's fitsInt, fitsBits, fitsOid, fitsTime, fits. -/
import Derived.Test.YtjkciheoknjfhaaDoorEVal
import Derived.Test.YtjkciheoknjfhaaDoorETag
import Derived.Test.YtjkciheoknjfhaaDoorDFit
import Derived.Test.YtjkciheoknjfhaaDoorOLoose
import Derived.Test.YtjkciheoknjfhaaDoorSRea
namespace Go.Proofs.YtjkciheoknjfhaaDoor
open Go.RowKit
set_option linter.unusedVariables false

set_option maxHeartbeats 1000000 in
theorem fitsInt_any (v : Value) (b : List Nat) (w : World) (h : Row .u8 256 w v b) :
    Calls Tryd.prog 56 #[v] w fun e w' => e = .returned (.bool (intB b)) ∧ w' = w := by
  have hu := h.under
  obtain ⟨a, cap, rfl, g1, g2, g3, g4⟩ := h
  unfold maxLen at g2
  by_cases hl : b.length < 2
  · have hli : (b.length : Int) < 2 := by omega
    by_cases h1 : b.length = 1
    · have h1i : ((b.length : Int) == 1) = true := beq_iff_eq.2 (by omega)
      have HB : Hid (intB b = true) := hide (by unfold intB; rw [if_pos hl]; exact decide_eq_true h1)
      clear h1
      go_enter Tryd.func56, Tryd.ntmps56
      go_wp2
      go_ret
      exact ⟨ret_bool HB.out.symm, rfl⟩
    · have h1i : ((b.length : Int) == 1) = false := beq_eq_false_iff_ne.2 (by omega)
      have HB : Hid (intB b = false) := hide (by unfold intB; rw [if_pos hl]; exact decide_eq_false h1)
      clear h1
      go_enter Tryd.func56, Tryd.ntmps56
      go_wp2
      go_ret
      exact ⟨ret_bool HB.out.symm, rfl⟩
  · obtain ⟨bl, off, rfl, hc⟩ := g3 (by omega)
    have c0 : w.cell? ⟨bl, off, none⟩ = some (.int .u8 (el b 0)) := hc 0 (by omega)
    have c1 := hc 1 (by omega)
    have hx := el_lt hu (by decide) 0
    have hy := el_lt hu (by decide) 1
    have hli : ¬ (b.length : Int) < 2 := by omega
    have HI : Hid (intB b = (!(decide (el b 0 = 0) && decide (el b 1 < 128)) && !(decide (el b 0 = 255) && decide (128 ≤ el b 1)))) := hide (by unfold intB; rw [if_neg hl])
    generalize el b 0 = x at *
    generalize el b 1 = y at *
    clear hc g3
    have h1p : 1 < b.length := by omega
    have h0p : 0 < b.length := by omega
    by_cases h1 : 128 ≤ y
    · have h1i : (128 : Int) ≤ (y : Int) := by omega
      have h1t : decide ((128 : Int) ≤ (y : Int)) = true := decide_eq_true h1i
      have h1u : decide (128 ≤ y) = true := decide_eq_true h1
      by_cases h2 : x = 255
      · subst h2
        have HB : Hid (intB b = false) := hide (by rw [HI.out]; simp [h1])
        go_enter Tryd.func56, Tryd.ntmps56
        go_wp2
        go_ret
        exact ⟨ret_bool HB.out.symm, rfl⟩
      · have h2i : ((x : Int) == 255) = false := by simp; omega
        have HB : Hid (intB b = true) := hide (by rw [HI.out]; simp [h2]; omega)
        clear h2
        by_cases h0 : x = 0
        · have h0i : ((x : Int) == 0) = true := by simp; omega
          clear h0
          go_enter Tryd.func56, Tryd.ntmps56
          go_wp2
          go_ret
          exact ⟨ret_bool HB.out.symm, rfl⟩
        · have h0i : ((x : Int) == 0) = false := by simp; omega
          clear h0
          go_enter Tryd.func56, Tryd.ntmps56
          go_wp2
          go_ret
          exact ⟨ret_bool HB.out.symm, rfl⟩
    · have h1i : ¬ (128 : Int) ≤ (y : Int) := by omega
      have h1t : decide ((128 : Int) ≤ (y : Int)) = false := decide_eq_false h1i
      have h1u : decide (128 ≤ y) = false := decide_eq_false h1
      by_cases h0 : x = 0
      · subst h0
        have HB : Hid (intB b = false) := hide (by rw [HI.out]; simp; omega)
        go_enter Tryd.func56, Tryd.ntmps56
        go_wp2
        go_ret
        exact ⟨ret_bool HB.out.symm, rfl⟩
      · have h0i : ((x : Int) == 0) = false := by simp; omega
        have HB : Hid (intB b = true) := hide (by rw [HI.out]; simp [h0]; omega)
        clear h0
        by_cases h2 : x = 255
        · have h2i : ((x : Int) == 255) = true := by simp; omega
          clear h2
          go_enter Tryd.func56, Tryd.ntmps56
          go_wp2
          go_ret
          exact ⟨ret_bool HB.out.symm, rfl⟩
        · have h2i : ((x : Int) == 255) = false := by simp; omega
          clear h2
          go_enter Tryd.func56, Tryd.ntmps56
          go_wp2
          go_ret
          exact ⟨ret_bool HB.out.symm, rfl⟩

set_option maxRecDepth 100000 in
theorem low_bits : ∀ (y : Fin 256), bits .and .u8 ((y.val : Nat) : Int) 0 = 0 ∧ bits .and .u8 ((y.val : Nat) : Int) 1 = ((y.val % 2 : Nat) : Int) ∧ bits .and .u8 ((y.val : Nat) : Int) 3 = ((y.val % 4 : Nat) : Int) ∧ bits .and .u8 ((y.val : Nat) : Int) 7 = ((y.val % 8 : Nat) : Int) ∧ bits .and .u8 ((y.val : Nat) : Int) 15 = ((y.val % 16 : Nat) : Int) ∧ bits .and .u8 ((y.val : Nat) : Int) 31 = ((y.val % 32 : Nat) : Int) ∧ bits .and .u8 ((y.val : Nat) : Int) 63 = ((y.val % 64 : Nat) : Int) ∧ bits .and .u8 ((y.val : Nat) : Int) 127 = ((y.val % 128 : Nat) : Int) := by decide
set_option maxHeartbeats 2000000 in
theorem fitsBits_any (v : Value) (b : List Nat) (w : World) (h : Row .u8 256 w v b) :
    Calls Tryd.prog 57 #[v] w fun e w' => e = .returned (.bool (bitsB b)) ∧ Drew w w' := by
  have hu := h.under
  obtain ⟨a, cap, rfl, g1, g2, g3, g4⟩ := h
  unfold maxLen at g2
  by_cases h0 : b.length = 0
  · have h0i : ((b.length : Int) == 0) = true := beq_iff_eq.2 (by omega)
    have HB : Hid (bitsB b = false) := hide (by unfold bitsB; rw [if_pos (.inl h0)])
    clear h0
    go_enter Tryd.func57, Tryd.ntmps57
    go_wp2
    go_ret
    exact ⟨ret_bool HB.out.symm, Drew.refl _⟩
  · obtain ⟨bl, off, rfl, hc⟩ := g3 (by omega)
    have c0 : w.cell? ⟨bl, off, none⟩ = some (.int .u8 (el b 0)) := hc 0 (by omega)
    obtain ⟨L, hL⟩ : ∃ L, b.length = L + 1 := ⟨b.length - 1, by omega⟩
    have c1 := hc L (by omega)
    have hx := el_lt hu (by decide) 0
    have hy := el_lt hu (by decide) L
    have h0i : ((b.length : Int) == 0) = false := beq_eq_false_iff_ne.2 (by omega)
    by_cases h7 : 7 < el b 0
    · have HB : Hid (bitsB b = false) := hide (by unfold bitsB; rw [if_pos (.inr h7)])
      have h7i : (7 : Int) < (el b 0 : Int) := by omega
      have hp : 0 < b.length := by omega
      generalize el b 0 = x at *
      clear hc g3 h0 hL c1
      go_enter Tryd.func57, Tryd.ntmps57
      go_wp2
      go_ret
      exact ⟨ret_bool HB.out.symm, Drew.refl _⟩
    · have h7i : ¬ (7 : Int) < (el b 0 : Int) := by omega
      have h7d : decide ((7 : Int) < (el b 0 : Int)) = false := decide_eq_false h7i
      have h7e : decide (7 < el b 0) = false := decide_eq_false h7
      have hp : 0 < b.length := by omega
      by_cases h1 : b.length = 1
      · have HB : Hid (bitsB b = decide (el b 0 = 0)) := hide (by unfold bitsB; rw [if_neg (by omega), if_pos h1])
        have h1i : ((b.length : Int) == 1) = true := beq_iff_eq.2 (by omega)
        generalize el b 0 = x at *
        clear hc g3 h0 hL c1 h1
        go_enter Tryd.func57, Tryd.ntmps57
        go_wp2
        go_ret
        exact ⟨ret_bool (by rw [HB.out, Bool.eq_iff_iff]; simp), Drew.refl _⟩
      · have HB : Hid (bitsB b = decide (el b L % 2 ^ (el b 0) = 0)) := hide (by unfold bitsB; rw [if_neg (by omega), if_neg h1, show b.length - 1 = L by omega])
        have h1i : ((b.length : Int) == 1) = false := beq_eq_false_iff_ne.2 (by omega)
        have hLi : (b.length : Int) - 1 = (L : Int) := by omega
        have hLb : 0 ≤ (L : Int) ∧ (L : Int) < b.length := by omega
        have hLn : L < b.length := by omega
        generalize hx0 : el b 0 = x at *
        generalize el b L = y at *
        clear hc g3 h0 hL h1 hx0
        obtain ⟨b0, b1, b2, b3, b4, b5, b6, b7⟩ := low_bits ⟨y, hy⟩
        simp only at b0 b1 b2 b3 b4 b5 b6 b7
        have hx7 : x = 0 ∨ x = 1 ∨ x = 2 ∨ x = 3 ∨ x = 4 ∨ x = 5 ∨ x = 6 ∨ x = 7 := by omega
        clear h7 h7i h7d h7e hx
        rcases hx7 with rfl | rfl | rfl | rfl | rfl | rfl | rfl | rfl
        all_goals
          go_enter Tryd.func57, Tryd.ntmps57
          go_wp2
          go_quiet (fail)
          go_wp2
          go_ret
          exact ⟨ret_bool (by rw [HB.out, Bool.eq_iff_iff]; simp; try omega), _, rfl⟩
end Go.Proofs.YtjkciheoknjfhaaDoor
