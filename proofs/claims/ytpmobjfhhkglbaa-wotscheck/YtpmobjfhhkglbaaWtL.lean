/- Keys of chains: the document's lay, of bytes at a place. -/
import Derived.Test.YtpmobjfhhkglbaaWtM
import Derived.Test.YtpmobjfhhkglbaaHKi2
import Derived.Test.YtpmobjfhhkglbaaOwT
namespace Go.Proofs.Ytpmobjfhhkglbaa
open Go.RowKit
set_option linter.unusedVariables false
set_option linter.unusedSimpArgs false

theorem el_lay {a b : List Nat} {p i : Nat} (hp : p + b.length ≤ a.length) : el (layLW a p b) i = if p ≤ i ∧ i < p + b.length then el b (i - p) else el a i := by
  unfold layLW el
  by_cases h1 : i < p
  · rw [List.getElem?_append_left (by rw [List.length_take]; omega), List.getElem?_take, if_pos h1, if_neg (by omega)]
  · rw [List.getElem?_append_right (by rw [List.length_take]; omega), List.length_take, Nat.min_eq_left (by omega)]
    by_cases h2 : i < p + b.length
    · rw [List.getElem?_append_left (by omega), if_pos ⟨by omega, h2⟩]
    · rw [List.getElem?_append_right (by omega), List.getElem?_drop, if_neg (by omega), show p + b.length + (i - p - b.length) = i by omega]
theorem ext_elW {a b : List Nat} (hl : a.length = b.length) (h : ∀ i, i < a.length → el a i = el b i) : a = b := by
  apply List.ext_getElem hl
  intro i h1 h2
  have := h i h1
  rw [el_at h1, el_at h2] at this
  exact this
theorem el_setW (l : List Nat) (k x i : Nat) : el (l.set k x) i = if k = i ∧ k < l.length then x else el l i := by
  unfold el
  rw [List.getElem?_set]
  by_cases h : k = i
  · subst h
    by_cases h2 : k < l.length
    · simp [h2]
    · simp [h2, List.getElem?_eq_none (Nat.le_of_not_lt h2)]
  · simp [h]
theorem lay_none (a : List Nat) (p : Nat) : layLW a p [] = a := by
  unfold layLW
  rw [List.nil_append, List.length_nil, Nat.add_zero, List.take_append_drop]
def zP : List Nat := List.replicate 32 0
theorem zeroAd : ∀ w, (zeroValue 37).run Try.prog w = .ok (.agg (arr .u8 zP)) w := zero_arr (by kernel_rfl)
end Go.Proofs.Ytpmobjfhhkglbaa
