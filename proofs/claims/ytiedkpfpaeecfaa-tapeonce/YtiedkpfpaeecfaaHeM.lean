/- Plain facts on heaps of texts. -/
import Derived.Test.YtiedkpfpaeecfaaOrM
import Derived.Test.YtiedkpfpaeecfaaOwn
namespace Go.Proofs.Ytiedkpfpaeecfaa
open Go.RowKit
set_option linter.unusedVariables false

/-- two texts, each in the other's place -/
def swp (l : List (List Nat)) (i j : Nat) : List (List Nat) := (l.set i (tx l j)).set j (tx l i)
theorem swp_len (l : List (List Nat)) (i j : Nat) : (swp l i j).length = l.length := by simp [swp]
theorem tx_at {l : List (List Nat)} {i : Nat} (h : i < l.length) : tx l i = l[i] := by unfold tx; rw [List.getElem?_eq_getElem h]; rfl
theorem tx_set {l : List (List Nat)} {i k : Nat} {x : List Nat} (h : i < l.length) : tx (l.set i x) k = if k = i then x else tx l k := by
  unfold tx
  rw [List.getElem?_set]
  by_cases hk : i = k
  · subst hk; simp [h]
  · rw [if_neg hk, if_neg (fun e => hk e.symm)]
theorem swp_tx {l : List (List Nat)} {i j : Nat} (hi : i < l.length) (hj : j < l.length) (k : Nat) : tx (swp l i j) k = if k = j then tx l i else if k = i then tx l j else tx l k := by
  unfold swp
  rw [tx_set (by simpa using hj), tx_set hi]
theorem swp_at_j {l : List (List Nat)} {i j : Nat} (hi : i < l.length) (hj : j < l.length) : tx (swp l i j) j = tx l i := by rw [swp_tx hi hj, if_pos rfl]
theorem swp_at_i {l : List (List Nat)} {i j : Nat} (hi : i < l.length) (hj : j < l.length) (hij : i ≠ j) : tx (swp l i j) i = tx l j := by rw [swp_tx hi hj, if_neg hij, if_pos rfl]
theorem swp_far {l : List (List Nat)} {i j k : Nat} (hi : i < l.length) (hj : j < l.length) (h1 : k ≠ i) (h2 : k ≠ j) : tx (swp l i j) k = tx l k := by rw [swp_tx hi hj, if_neg h2, if_neg h1]
theorem swp_perm {l : List (List Nat)} {i j : Nat} (hi : i < l.length) (hj : j < l.length) : (swp l i j).Perm l := by
  have h := Array.swap_perm (xs := l.toArray) (i := i) (j := j) (by simpa using hi) (by simpa using hj)
  have h2 := Array.perm_iff_toList_perm.1 h
  rw [Array.toList_swap] at h2
  unfold swp
  rw [tx_at hi, tx_at hj]
  simpa using h2

/-- from parent lo on, and below n, no text is less than its parent -/
def Hp (lo n : Nat) (l : List (List Nat)) : Prop := ∀ j, 0 < j → j < n → lo ≤ (j - 1) / 2 → lessL (tx l j) (tx l ((j - 1) / 2)) = false
/-- the same but for the children of i, which are no less than i's parent -/
def HpX (lo n i : Nat) (l : List (List Nat)) : Prop :=
  (∀ j, 0 < j → j < n → lo ≤ (j - 1) / 2 → (j - 1) / 2 ≠ i → lessL (tx l j) (tx l ((j - 1) / 2)) = false) ∧
  (∀ j, 0 < j → j < n → (j - 1) / 2 = i → 0 < i → lo ≤ (i - 1) / 2 → lessL (tx l j) (tx l ((i - 1) / 2)) = false)
/-- the same but for j itself, whose children are no less than j's parent -/
def HpU (n j : Nat) (l : List (List Nat)) : Prop :=
  (∀ k, 0 < k → k < n → k ≠ j → lessL (tx l k) (tx l ((k - 1) / 2)) = false) ∧
  (∀ k, 0 < k → k < n → (k - 1) / 2 = j → 0 < j → lessL (tx l k) (tx l ((j - 1) / 2)) = false)
theorem Hp.none {lo n : Nat} {l : List (List Nat)} (h : n / 2 ≤ lo) : Hp lo n l := by
  intro j h0 h1 h2
  omega
theorem Hp.toX {n i : Nat} {l : List (List Nat)} (h : Hp (i + 1) n l) : HpX i n i l :=
  ⟨fun j h0 h1 h2 h3 => h j h0 h1 (by omega), fun j h0 h1 h2 h3 h4 => by omega⟩
/-- no child is less: all is well -/
theorem HpX.stop {lo n i : Nat} {l : List (List Nat)} (h : HpX lo n i l) (h1 : 2 * i + 1 < n → lessL (tx l (2 * i + 1)) (tx l i) = false) (h2 : 2 * i + 2 < n → lessL (tx l (2 * i + 2)) (tx l i) = false) : Hp lo n l := by
  intro j k0 k1 k2
  by_cases hp : (j - 1) / 2 = i
  · rw [hp]
    rcases (by omega : j = 2 * i + 1 ∨ j = 2 * i + 2) with rfl | rfl
    · exact h1 k1
    · exact h2 k1
  · exact h.1 j k0 k1 k2 hp
/-- a step down -/
theorem HpX.step {lo n i j : Nat} {l : List (List Nat)} (h : HpX lo n i l) (hn : n ≤ l.length) (hlo : lo ≤ i) (hj : j = 2 * i + 1 ∨ j = 2 * i + 2) (hjn : j < n) (hl : lessL (tx l j) (tx l i) = true)
    (hm : ∀ k, (k = 2 * i + 1 ∨ k = 2 * i + 2) → k ≠ j → k < n → lessL (tx l k) (tx l j) = false) : HpX lo n j (swp l i j) := by
  have li : i < l.length := by omega
  have lj : j < l.length := by omega
  have hij : i ≠ j := by omega
  constructor
  · intro k k0 k1 k2 k3
    by_cases hp : (k - 1) / 2 = i
    · rw [hp, swp_at_i li lj hij]
      by_cases hk : k = j
      · subst hk
        rw [swp_at_j li lj]
        exact less_asymm _ _ hl
      · rw [swp_far li lj (by omega) hk]
        exact hm k (by omega) hk k1
    · have hkj : k ≠ j := by omega
      rw [swp_far li lj (k := (k - 1) / 2) hp k3]
      by_cases hki : k = i
      · subst hki
        rw [swp_at_i li lj hij]
        exact h.2 j (by omega) hjn (by omega) k0 k2
      · rw [swp_far li lj hki hkj]
        exact h.1 k k0 k1 k2 hp
  · intro k k0 k1 k2 k3 k4
    rw [show (j - 1) / 2 = i by omega, swp_at_i li lj hij, swp_far li lj (by omega) (by omega)]
    have := h.1 k k0 k1 (by omega) (by omega)
    rw [k2] at this
    exact this
/-- the least is on top -/
theorem Hp.min {n : Nat} {l : List (List Nat)} (h : Hp 0 n l) (j : Nat) (hj : j < n) : lessL (tx l j) (tx l 0) = false := by
  induction j using Nat.strongRecOn with
  | ind j ih =>
    by_cases h0 : j = 0
    · subst h0; exact less_self _
    · exact nless_trans (ih ((j - 1) / 2) (by omega) (by omega)) (h j (by omega) hj (by omega))
/-- the top is put behind, and what was there on top -/
theorem Hp.pop {n : Nat} {l : List (List Nat)} (h : Hp 0 (n + 1) l) (hn : n < l.length) : HpX 0 n 0 (swp l 0 n) := by
  refine ⟨fun j k0 k1 k2 k3 => ?_, fun j k0 k1 k2 k3 k4 => by omega⟩
  rw [swp_far (by omega) hn (by omega) (by omega), swp_far (by omega) hn k3 (by omega)]
  exact h j k0 (by omega) k2
/-- a text more behind all -/
theorem Hp.push {n : Nat} {l : List (List Nat)} (h : Hp 0 n l) (hn : n = l.length) (x : List Nat) : HpU (n + 1) n (l ++ [x]) := by
  have e : ∀ k, k < n → tx (l ++ [x]) k = tx l k := by
    intro k hk
    unfold tx
    rw [List.getElem?_append_left (by omega)]
  refine ⟨fun k k0 k1 k2 => ?_, fun k k0 k1 k2 k3 => by omega⟩
  rw [e k (by omega), e ((k - 1) / 2) (by omega)]
  exact h k k0 (by omega) (by omega)
theorem HpU.stop {n j : Nat} {l : List (List Nat)} (h : HpU n j l) (hs : 0 < j → lessL (tx l j) (tx l ((j - 1) / 2)) = false) : Hp 0 n l := by
  intro k k0 k1 _
  by_cases hk : k = j
  · subst hk; exact hs k0
  · exact h.1 k k0 k1 hk
/-- a step up -/
theorem HpU.step {n j : Nat} {l : List (List Nat)} (h : HpU n j l) (hn : n ≤ l.length) (hj : j < n) (h0 : 0 < j) (hl : lessL (tx l j) (tx l ((j - 1) / 2)) = true) : HpU n ((j - 1) / 2) (swp l ((j - 1) / 2) j) := by
  obtain ⟨p, hp⟩ : ∃ p, (j - 1) / 2 = p := ⟨_, rfl⟩
  rw [hp] at hl ⊢
  have lp : p < l.length := by omega
  have lj : j < l.length := by omega
  have hpj : p ≠ j := by omega
  have hlt : lessL (tx l p) (tx l j) = false := less_asymm _ _ hl
  constructor
  · intro k k0 k1 k2
    by_cases hk : k = j
    · subst hk
      rw [hp, swp_at_j lp lj, swp_at_i lp lj hpj]
      exact hlt
    · rw [swp_far lp lj k2 hk]
      by_cases hq : (k - 1) / 2 = j
      · rw [hq, swp_at_j lp lj]
        have := h.2 k k0 k1 hq h0
        rw [hp] at this
        exact this
      · by_cases hq2 : (k - 1) / 2 = p
        · rw [hq2, swp_at_i lp lj hpj]
          have := h.1 k k0 k1 hk
          rw [hq2] at this
          exact nless_trans hlt this
        · rw [swp_far lp lj hq2 hq]
          exact h.1 k k0 k1 hk
  · intro k k0 k1 k2 k3
    rw [swp_far lp lj (k := (p - 1) / 2) (by omega) (by omega)]
    have hg := h.1 p k3 (by omega) hpj
    by_cases hk : k = j
    · subst hk
      rw [swp_at_j lp lj]
      exact hg
    · rw [swp_far lp lj (by omega) hk]
      have := h.1 k k0 k1 hk
      rw [k2] at this
      exact nless_trans hg this
end Go.Proofs.Ytiedkpfpaeecfaa
