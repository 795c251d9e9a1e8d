/- More plain facts on texts in order: neighbours, counts, taking the least. -/
import Derived.Test.YtiedkpfpaeecfaaHeM
namespace Go.Proofs.Ytiedkpfpaeecfaa
open Go.RowKit
set_option linter.unusedVariables false

theorem tx_nil (i : Nat) : tx [] i = [] := by simp [tx]
theorem tx_zero (x : List Nat) (l : List (List Nat)) : tx (x :: l) 0 = x := rfl
theorem tx_succ (x : List Nat) (l : List (List Nat)) (i : Nat) : tx (x :: l) (i + 1) = tx l i := by simp [tx]
theorem tx_mem {l : List (List Nat)} {i : Nat} (h : i < l.length) : tx l i ∈ l := by rw [tx_at h]; exact List.getElem_mem h
theorem mem_tx {l : List (List Nat)} {x : List Nat} (h : x ∈ l) : ∃ i, i < l.length ∧ tx l i = x := by
  obtain ⟨i, hi, rfl⟩ := List.getElem_of_mem h
  exact ⟨i, hi, tx_at hi⟩
/-- sorted, by neighbours -/
def NextS (l : List (List Nat)) : Prop := ∀ i, 0 < i → i < l.length → lessL (tx l i) (tx l (i - 1)) = false
/-- strictly sorted, by neighbours -/
def NextT (l : List (List Nat)) : Prop := ∀ i, 0 < i → i < l.length → lessL (tx l (i - 1)) (tx l i) = true
theorem NextS.tail {x : List Nat} {l : List (List Nat)} (h : NextS (x :: l)) : NextS l := by
  intro i h0 h1
  have h2 := h (i + 1) (by omega) (by simp; omega)
  rw [tx_succ] at h2
  obtain ⟨k, rfl⟩ : ∃ k, i = k + 1 := ⟨i - 1, by omega⟩
  exact h2
theorem NextT.tail {x : List Nat} {l : List (List Nat)} (h : NextT (x :: l)) : NextT l := by
  intro i h0 h1
  have h2 := h (i + 1) (by omega) (by simp; omega)
  rw [tx_succ] at h2
  obtain ⟨k, rfl⟩ : ∃ k, i = k + 1 := ⟨i - 1, by omega⟩
  exact h2
theorem sorted_next (l : List (List Nat)) : SortedL l ↔ NextS l := by
  induction l with
  | nil => exact ⟨fun _ i _ h => by simp at h, fun _ => List.Pairwise.nil⟩
  | cons x l ih =>
    constructor
    · intro h i h0 h1
      obtain ⟨k1, k2⟩ := List.pairwise_cons.1 h
      obtain ⟨k, rfl⟩ : ∃ k, i = k + 1 := ⟨i - 1, by omega⟩
      rw [tx_succ]
      by_cases hk : k = 0
      · subst hk
        exact k1 _ (tx_mem (by simpa using h1))
      · have := (ih.1 k2) k (by omega) (by simpa using h1)
        obtain ⟨j, rfl⟩ : ∃ j, k = j + 1 := ⟨k - 1, by omega⟩
        exact this
    · intro h
      have hs := ih.2 h.tail
      refine List.pairwise_cons.2 ⟨fun y hy => ?_, hs⟩
      cases l with
      | nil => simp at hy
      | cons z l =>
        have hz : lessL z x = false := h 1 (by omega) (by simp)
        rcases List.mem_cons.1 hy with rfl | hy
        · exact hz
        · exact nless_trans hz ((List.pairwise_cons.1 hs).1 y hy)
theorem strict_next (l : List (List Nat)) : StrictL l ↔ NextT l := by
  induction l with
  | nil => exact ⟨fun _ i _ h => by simp at h, fun _ => List.Pairwise.nil⟩
  | cons x l ih =>
    constructor
    · intro h i h0 h1
      obtain ⟨k1, k2⟩ := List.pairwise_cons.1 h
      obtain ⟨k, rfl⟩ : ∃ k, i = k + 1 := ⟨i - 1, by omega⟩
      rw [tx_succ]
      by_cases hk : k = 0
      · subst hk
        exact k1 _ (tx_mem (by simpa using h1))
      · have := (ih.1 k2) k (by omega) (by simpa using h1)
        obtain ⟨j, rfl⟩ : ∃ j, k = j + 1 := ⟨k - 1, by omega⟩
        exact this
    · intro h
      have hs := ih.2 h.tail
      refine List.pairwise_cons.2 ⟨fun y hy => ?_, hs⟩
      cases l with
      | nil => simp at hy
      | cons z l =>
        have hz : lessL x z = true := h 1 (by omega) (by simp)
        rcases List.mem_cons.1 hy with rfl | hy
        · exact hz
        · exact less_trans _ _ _ hz ((List.pairwise_cons.1 hs).1 y hy)
/-- is it sorted? -/
def sortedB (l : List (List Nat)) : Bool := (List.range l.length).all fun i => decide (i = 0) || !lessL (tx l i) (tx l (i - 1))
def strictB (l : List (List Nat)) : Bool := (List.range l.length).all fun i => decide (i = 0) || lessL (tx l (i - 1)) (tx l i)
theorem sortedB_iff (l : List (List Nat)) : sortedB l = true ↔ NextS l := by
  unfold sortedB NextS
  simp only [List.all_eq_true, List.mem_range, Bool.or_eq_true, decide_eq_true_eq, Bool.not_eq_true']
  constructor
  · intro h i h0 h1
    exact (h i h1).resolve_left (by omega)
  · intro h i h1
    by_cases h0 : i = 0
    · exact .inl h0
    · exact .inr (h i (by omega) h1)
theorem strictB_iff (l : List (List Nat)) : strictB l = true ↔ NextT l := by
  unfold strictB NextT
  simp only [List.all_eq_true, List.mem_range, Bool.or_eq_true, decide_eq_true_eq]
  constructor
  · intro h i h0 h1
    exact (h i h1).resolve_left (by omega)
  · intro h i h1
    by_cases h0 : i = 0
    · exact .inl h0
    · exact .inr (h i (by omega) h1)
theorem sorted_true {l : List (List Nat)} (h : SortedL l) : sortedB l = true := (sortedB_iff l).2 ((sorted_next l).1 h)
theorem sorted_of {l : List (List Nat)} (h : sortedB l = true) : SortedL l := (sorted_next l).2 ((sortedB_iff l).1 h)
/-- a neighbour that is less ends it -/
theorem sorted_no {l : List (List Nat)} {i : Nat} (h0 : 0 < i) (h1 : i < l.length) (h : lessL (tx l i) (tx l (i - 1)) = true) : sortedB l = false := by
  cases hb : sortedB l with
  | false => rfl
  | true => rw [(sortedB_iff l).1 hb i h0 h1] at h; cases h
theorem strict_no {l : List (List Nat)} {i : Nat} (h0 : 0 < i) (h1 : i < l.length) (h : lessL (tx l (i - 1)) (tx l i) = false) : strictB l = false := by
  cases hb : strictB l with
  | false => rfl
  | true => rw [(strictB_iff l).1 hb i h0 h1] at h; cases h
/-- how often a text is in a list -/
def cnt (l : List (List Nat)) (x : List Nat) : Nat := l.countP fun y => !lessL x y && !lessL y x
theorem cnt_perm {a b : List (List Nat)} (h : a.Perm b) (x : List Nat) : cnt a x = cnt b x := h.countP_eq _
theorem cnt_snoc (l : List (List Nat)) (y x : List Nat) : cnt (l ++ [y]) x = cnt l x + (if (!lessL x y && !lessL y x) = true then 1 else 0) := by
  unfold cnt
  rw [List.countP_append]
  simp [List.countP_cons]
/-- two lists as one -/
def mergeL (a b : List (List Nat)) : List (List Nat) := if sortedB a = true ∧ sortedB b = true then sortL (a ++ b) else []
theorem merge_sorts (l m : List (List Nat)) : mergeL (sortL l) (sortL m) = sortL (l ++ m) := by
  unfold mergeL
  rw [if_pos ⟨sorted_true (sort_sorted l), sorted_true (sort_sorted m)⟩]
  exact sort_same ((sort_perm l).append (sort_perm m))
theorem sort_swp {l : List (List Nat)} {i j : Nat} (hi : i < l.length) (hj : j < l.length) : sortL (swp l i j) = sortL l := sort_same (swp_perm hi hj)
/-- what is taken is sorted, and no text that is left is less than one that was taken -/
def Taken (l out rest : List (List Nat)) : Prop := SortedL out ∧ (out ++ rest).Perm l ∧ ∀ x ∈ out, ∀ y ∈ rest, lessL y x = false
theorem Taken.start (l rest : List (List Nat)) (h : rest.Perm l) : Taken l [] rest := ⟨List.Pairwise.nil, h, fun x hx => by simp at hx⟩
theorem Taken.next {l out rest rest' : List (List Nat)} {x : List Nat} (h : Taken l out rest) (hp : (x :: rest').Perm rest) (hm : ∀ y ∈ rest', lessL y x = false) : Taken l (out ++ [x]) rest' := by
  obtain ⟨h1, h2, h3⟩ := h
  have hx : x ∈ rest := hp.subset (List.mem_cons_self ..)
  refine ⟨List.pairwise_append.2 ⟨h1, List.pairwise_singleton _ _, fun a ha b hb => ?_⟩, ?_, ?_⟩
  · rw [List.mem_singleton.1 hb]
    exact h3 a ha x hx
  · rw [List.append_assoc]
    exact (List.Perm.append_left out hp).trans h2
  · intro a ha y hy
    rcases List.mem_append.1 ha with ha | ha
    · exact h3 a ha y (hp.subset (List.mem_cons_of_mem _ hy))
    · rw [List.mem_singleton.1 ha]
      exact hm y hy
theorem Taken.done {l out : List (List Nat)} (h : Taken l out []) : out = sortL l := sort_is h.1 (by have := h.2.1; rw [List.append_nil] at this; exact this)
/-- from a heap: the top, and the rest of it -/
theorem heap_takes {n : Nat} {l l' : List (List Nat)} (hn : l.length = n + 1) (h : Hp 0 (n + 1) l) (hp : l'.Perm (swp l 0 n)) (hl : tx l' n = tx l 0) :
    (tx l 0 :: l'.take n).Perm l ∧ ∀ y ∈ l'.take n, lessL y (tx l 0) = false := by
  have hlen : l'.length = n + 1 := by rw [hp.length_eq, swp_len, hn]
  have e : l' = l'.take n ++ [tx l 0] := by
    have h1 := take_tx (ls := l') (k := n) (by omega)
    rw [hl, List.take_of_length_le (by omega)] at h1
    exact h1
  have hpl : l'.Perm l := hp.trans (swp_perm (by omega) (by omega))
  constructor
  · have h2 : (l'.take n ++ [tx l 0]).Perm l := by rw [← e]; exact hpl
    exact (List.perm_append_comm (l₁ := [tx l 0]) (l₂ := l'.take n)).trans h2
  · intro y hy
    obtain ⟨i, hi, rfl⟩ := mem_tx (hpl.subset (List.mem_of_mem_take hy))
    exact h.min i (by omega)
/-- where a text is to be laid -/
theorem upTo_is {x : List Nat} {l : List (List Nat)} {k : Nat} (h1 : ∀ i, i < k → lessL x (tx l i) = false) (h2 : k = l.length ∨ (k < l.length ∧ lessL x (tx l k) = true)) : upTo x l = k := by
  induction l generalizing k with
  | nil =>
    rcases h2 with h2 | ⟨h2, _⟩
    · simp at h2; rw [h2]; rfl
    · simp at h2
  | cons y l ih =>
    unfold upTo
    cases k with
    | zero =>
      rcases h2 with h2 | ⟨_, h2⟩
      · simp at h2
      · rw [tx_zero] at h2
        rw [if_pos h2]
    | succ k =>
      have h0 := h1 0 (by omega)
      rw [tx_zero] at h0
      rw [if_neg (by rw [h0]; simp)]
      rw [ih (k := k) (fun i hi => by have := h1 (i + 1) (by omega); rw [tx_succ] at this; exact this) (by
        rcases h2 with h2 | ⟨h2, h3⟩
        · left; simp at h2; exact h2
        · right; rw [tx_succ] at h3; exact ⟨by simp at h2; exact h2, h3⟩)]
end Go.Proofs.Ytiedkpfpaeecfaa
