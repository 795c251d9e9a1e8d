/- Plain facts on the digits of a time's text. -/
import Derived.Test.YtmhabfokffecmaaSTxt
namespace Go.Proofs.Ytmhabfokffecmaa
open Go.RowKit
set_option linter.unusedVariables false

/-- the byte at a place of a text -/
def bat (l : List UInt8) (i : Nat) : Nat := (l[i]?.getD 0).toNat
theorem bat_lt (l : List UInt8) (i : Nat) : bat l i < 256 := UInt8.toNat_lt _
theorem bat_at {l : List UInt8} {i : Nat} (h : i < l.length) : bat l i = l[i].toNat := by unfold bat; rw [List.getElem?_eq_getElem h]; rfl
/-- the parts, behind so many digits -/
def psOf (l : List UInt8) : Nat → List Nat
  | 0 => [0, 0, 0, 0, 0, 0]
  | i + 1 => (psOf l i).set (i / 2 - 1) (el (psOf l i) (i / 2 - 1) * 10 + (bat l i - 48))
theorem psOf_len (l : List UInt8) (i : Nat) : (psOf l i).length = 6 := by
  induction i with
  | zero => rfl
  | succ i ih => simp only [psOf, List.length_set, ih]
theorem el_set {l : List Nat} {k i x : Nat} : el (l.set k x) i = if k = i ∧ i < l.length then x else el l i := by
  unfold el
  rw [List.getElem?_set]
  by_cases h : k = i
  · subst h
    by_cases h2 : k < l.length
    · simp [h2]
    · simp [h2]
  · simp [h]
theorem psOf_lt (l : List UInt8) (i : Nat) (hd : ∀ j, j < i → bat l j ≤ 57) : ∀ j, el (psOf l i) j < 10 ^ i := by
  induction i with
  | zero =>
    intro j
    unfold psOf el
    rcases (by omega : j = 0 ∨ j = 1 ∨ j = 2 ∨ j = 3 ∨ j = 4 ∨ j = 5 ∨ 6 ≤ j) with rfl | rfl | rfl | rfl | rfl | rfl | h
    any_goals decide
    rw [List.getElem?_eq_none (by simpa using h)]
    decide
  | succ i ih =>
    intro j
    have h1 := ih (fun j hj => hd j (by omega)) j
    have h2 := hd i (by omega)
    rw [psOf, el_set, Nat.pow_succ]
    have h3 := ih (fun j hj => hd j (by omega)) (i / 2 - 1)
    split <;> omega
/-- six parts, and what they may be at most -/
def Bnd (y m d h i c : Nat) : Prop := y < 10000 ∧ m < 100 ∧ d < 100 ∧ h < 100 ∧ i < 100 ∧ c < 100
theorem list15 {α : Type} (l : List α) (h : l.length = 15) : ∃ a0 a1 a2 a3 a4 a5 a6 a7 a8 a9 a10 a11 a12 a13 a14, l = [a0, a1, a2, a3, a4, a5, a6, a7, a8, a9, a10, a11, a12, a13, a14] := by
  match l, h with
  | [a0, a1, a2, a3, a4, a5, a6, a7, a8, a9, a10, a11, a12, a13, a14], _ => exact ⟨a0, a1, a2, a3, a4, a5, a6, a7, a8, a9, a10, a11, a12, a13, a14, rfl⟩
theorem ch_back (b : UInt8) : ch b.toNat = b := by unfold ch; simp
theorem ch_of {x : UInt8} {n : Nat} (h : x.toNat = n) : ch n = x := by rw [← h, ch_back]
/-- digits where they must stand are a date's text -/
theorem digits_text (l : List UInt8) (hl : l.length = 15) (hz : bat l 14 = 90) (hd : ∀ j, j < 14 → 48 ≤ bat l j ∧ bat l j ≤ 57) :
    Bnd (el (psOf l 14) 0) (el (psOf l 14) 1) (el (psOf l 14) 2) (el (psOf l 14) 3) (el (psOf l 14) 4) (el (psOf l 14) 5) ∧
    l = txt6 (el (psOf l 14) 0) (el (psOf l 14) 1) (el (psOf l 14) 2) (el (psOf l 14) 3) (el (psOf l 14) 4) (el (psOf l 14) 5) := by
  have hps : psOf l 14 = [(((0 * 10 + (bat l 0 - 48)) * 10 + (bat l 1 - 48)) * 10 + (bat l 2 - 48)) * 10 + (bat l 3 - 48), (0 * 10 + (bat l 4 - 48)) * 10 + (bat l 5 - 48), (0 * 10 + (bat l 6 - 48)) * 10 + (bat l 7 - 48), (0 * 10 + (bat l 8 - 48)) * 10 + (bat l 9 - 48), (0 * 10 + (bat l 10 - 48)) * 10 + (bat l 11 - 48), (0 * 10 + (bat l 12 - 48)) * 10 + (bat l 13 - 48)] := rfl
  rw [hps]
  obtain ⟨b0, b1, b2, b3, b4, b5, b6, b7, b8, b9, b10, b11, b12, b13, b14, rfl⟩ := list15 l hl
  have d0 := hd 0 (by omega)
  have d1 := hd 1 (by omega)
  have d2 := hd 2 (by omega)
  have d3 := hd 3 (by omega)
  have d4 := hd 4 (by omega)
  have d5 := hd 5 (by omega)
  have d6 := hd 6 (by omega)
  have d7 := hd 7 (by omega)
  have d8 := hd 8 (by omega)
  have d9 := hd 9 (by omega)
  have d10 := hd 10 (by omega)
  have d11 := hd 11 (by omega)
  have d12 := hd 12 (by omega)
  have d13 := hd 13 (by omega)
  clear hd hps hl
  simp only [bat, List.getElem?_cons_zero, List.getElem?_cons_succ, Option.getD_some, el] at *
  refine ⟨by unfold Bnd; omega, ?_⟩
  unfold txt6 dd
  simp only [List.cons_append, List.nil_append, List.cons.injEq, and_true]
  refine ⟨?_, ?_, ?_, ?_, ?_, ?_, ?_, ?_, ?_, ?_, ?_, ?_, ?_, ?_, ?_⟩
  all_goals (symm; apply ch_of; omega)
theorem txt6_at (y m d h i c : Nat) (hb : Bnd y m d h i c) : bat (txt6 y m d h i c) 14 = 90 ∧ ∀ j, j < 14 → 48 ≤ bat (txt6 y m d h i c) j ∧ bat (txt6 y m d h i c) j ≤ 57 := by
  obtain ⟨h0, h1, h2, h3, h4, h5⟩ := hb
  refine ⟨rfl, fun j hj => ?_⟩
  have key : ∀ x : Nat, x < 10 → 48 ≤ (ch (48 + x)).toNat ∧ (ch (48 + x)).toNat ≤ 57 := by
    intro x hx
    rw [ch_nat (by omega)]
    omega
  rcases (by omega : j = 0 ∨ j = 1 ∨ j = 2 ∨ j = 3 ∨ j = 4 ∨ j = 5 ∨ j = 6 ∨ j = 7 ∨ j = 8 ∨ j = 9 ∨ j = 10 ∨ j = 11 ∨ j = 12 ∨ j = 13) with rfl | rfl | rfl | rfl | rfl | rfl | rfl | rfl | rfl | rfl | rfl | rfl | rfl | rfl
  · exact key (y / 100 / 10) (by omega)
  · exact key (y / 100 % 10) (by omega)
  · exact key (y % 100 / 10) (by omega)
  · exact key (y % 100 % 10) (by omega)
  · exact key (m / 10) (by omega)
  · exact key (m % 10) (by omega)
  · exact key (d / 10) (by omega)
  · exact key (d % 10) (by omega)
  · exact key (h / 10) (by omega)
  · exact key (h % 10) (by omega)
  · exact key (i / 10) (by omega)
  · exact key (i % 10) (by omega)
  · exact key (c / 10) (by omega)
  · exact key (c % 10) (by omega)
/-- what loose tells -/
def LooT (l : List UInt8) (ok : Bool) (y m d h i c : Nat) : Prop := (ok = true ∧ Bnd y m d h i c ∧ l = txt6 y m d h i c) ∨ (ok = false ∧ ∀ y m d h i c, Bnd y m d h i c → l ≠ txt6 y m d h i c)
theorem loo_len {l : List UInt8} (h : l.length ≠ 15) : ∀ y m d h i c, Bnd y m d h i c → l ≠ txt6 y m d h i c := by
  intro y m d h' i c _ he
  exact h (by rw [he]; rfl)
theorem loo_z {l : List UInt8} (h : bat l 14 ≠ 90) : ∀ y m d h i c, Bnd y m d h i c → l ≠ txt6 y m d h i c := by
  intro y m d h' i c hb he
  exact h (by rw [he]; exact (txt6_at y m d h' i c hb).1)
theorem loo_d {l : List UInt8} {j : Nat} (hj : j < 14) (h : bat l j < 48 ∨ 57 < bat l j) : ∀ y m d h i c, Bnd y m d h i c → l ≠ txt6 y m d h i c := by
  intro y m d h' i c hb he
  have := (txt6_at y m d h' i c hb).2 j hj
  rw [← he] at this
  omega
end Go.Proofs.Ytmhabfokffecmaa
