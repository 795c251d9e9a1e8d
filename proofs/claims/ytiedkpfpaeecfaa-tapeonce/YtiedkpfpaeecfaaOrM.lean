/- Plain facts on texts in order: the order, sorted lists, insertion. -/
import Derived.Test.YtiedkpfpaeecfaaBase
namespace Go.Proofs.Ytiedkpfpaeecfaa
open Go.RowKit
set_option linter.unusedVariables false

/-- is a text ahead of another? -/
def lessL : List Nat → List Nat → Bool
  | _, [] => false
  | [], _ :: _ => true
  | a :: x, b :: y => decide (a < b) || (decide (a = b) && lessL x y)
theorem less_nil (a : List Nat) : lessL a [] = false := by cases a <;> rfl
theorem less_self (a : List Nat) : lessL a a = false := by
  induction a with
  | nil => rfl
  | cons x a ih => simp [lessL, ih]
theorem less_asymm (a : List Nat) : ∀ b, lessL a b = true → lessL b a = false := by
  induction a with
  | nil => intro b _; exact less_nil b
  | cons x a ih =>
    intro b h
    cases b with
    | nil => simp [lessL] at h
    | cons y b =>
      simp only [lessL, Bool.or_eq_true, Bool.and_eq_true, decide_eq_true_eq] at h
      simp only [lessL, Bool.or_eq_false_iff, Bool.and_eq_false_iff, decide_eq_false_iff_not]
      rcases h with h | ⟨rfl, h⟩
      · exact ⟨by omega, .inl (by omega)⟩
      · exact ⟨by omega, .inr (ih b h)⟩
theorem less_trans (a : List Nat) : ∀ b c, lessL a b = true → lessL b c = true → lessL a c = true := by
  induction a with
  | nil =>
    intro b c h1 h2
    cases c with
    | nil => rw [less_nil] at h2; cases h2
    | cons z c => rfl
  | cons x a ih =>
    intro b c h1 h2
    cases b with
    | nil => rw [less_nil] at h1; cases h1
    | cons y b =>
      cases c with
      | nil => rw [less_nil] at h2; cases h2
      | cons z c =>
        simp only [lessL, Bool.or_eq_true, Bool.and_eq_true, decide_eq_true_eq] at *
        rcases h1 with h1 | ⟨rfl, h1⟩
        · rcases h2 with h2 | ⟨rfl, h2⟩
          · exact .inl (by omega)
          · exact .inl h1
        · rcases h2 with h2 | ⟨rfl, h2⟩
          · exact .inl h2
          · exact .inr ⟨rfl, ih b c h1 h2⟩
theorem less_total (a : List Nat) : ∀ b, lessL a b = false → lessL b a = false → a = b := by
  induction a with
  | nil =>
    intro b h _
    cases b with
    | nil => rfl
    | cons y b => simp [lessL] at h
  | cons x a ih =>
    intro b h1 h2
    cases b with
    | nil => simp [lessL] at h2
    | cons y b =>
      simp only [lessL, Bool.or_eq_false_iff, Bool.and_eq_false_iff, decide_eq_false_iff_not] at h1 h2
      have hxy : x = y := by omega
      subst hxy
      rw [ih b (h1.2.resolve_left (fun h => h rfl)) (h2.2.resolve_left (fun h => h rfl))]
theorem less_pre (p : List Nat) (a b : List Nat) : lessL (p ++ a) (p ++ b) = lessL a b := by
  induction p with
  | nil => rfl
  | cons x p ih => simp [lessL, ih]
theorem less_behind (a : List Nat) (x : Nat) : lessL a (a ++ [x]) = true := by
  have h := less_pre a [] [x]
  rw [List.append_nil] at h
  rw [h]; rfl
/-- what is no less than one that is no less is no less -/
theorem nless_trans {a b c : List Nat} (h1 : lessL b a = false) (h2 : lessL c b = false) : lessL c a = false := by
  cases h : lessL c a with
  | false => rfl
  | true =>
    by_cases hab : a = b
    · subst hab; rw [h] at h2; cases h2
    · cases hl : lessL a b with
      | true => rw [less_trans c a b h hl] at h2; cases h2
      | false => exact absurd (less_total a b hl h1) hab
/-- a text is ahead by its first byte that differs -/
theorem less_at {a b : List Nat} {k : Nat} (hp : a.take k = b.take k) (ha : k < a.length) (hb : k < b.length) (hne : el a k ≠ el b k) : lessL a b = decide (el a k < el b k) := by
  have ea : a = a.take k ++ (el a k :: a.drop (k + 1)) := by
    rw [el_at ha]
    conv => lhs; rw [← List.take_append_drop k a]
    rw [List.drop_eq_getElem_cons ha]
  have eb : b = b.take k ++ (el b k :: b.drop (k + 1)) := by
    rw [el_at hb]
    conv => lhs; rw [← List.take_append_drop k b]
    rw [List.drop_eq_getElem_cons hb]
  rw [ea, eb, hp, less_pre]
  rw [← hp, ← ea, hp, ← eb]
  simp [lessL, hne]
/-- of two texts, one of which begins the other, the shorter is ahead -/
theorem less_end {a b : List Nat} {k : Nat} (hp : a.take k = b.take k) (hk : k = a.length ∨ k = b.length) (ha : k ≤ a.length) (hb : k ≤ b.length) : lessL a b = decide (a.length < b.length) := by
  have ea : a = a.take k ++ a.drop k := (List.take_append_drop k a).symm
  have eb : b = b.take k ++ b.drop k := (List.take_append_drop k b).symm
  have h : lessL a b = lessL (a.drop k) (b.drop k) := by
    conv => lhs; rw [ea, eb, hp]
    exact less_pre _ _ _
  rw [h]
  rcases hk with hk | hk
  · rw [List.drop_of_length_le (by omega)]
    cases hd : b.drop k with
    | nil =>
      have := congrArg List.length hd
      simp at this
      simp [lessL]; omega
    | cons y b' =>
      have := congrArg List.length hd
      simp at this
      simp [lessL]; omega
  · rw [List.drop_of_length_le (l := b) (by omega), less_nil]
    simp; omega

/-- none is less than one ahead of it -/
def SortedL (l : List (List Nat)) : Prop := l.Pairwise (fun x y => lessL y x = false)
/-- each is less than all behind it -/
def StrictL (l : List (List Nat)) : Prop := l.Pairwise (fun x y => lessL x y = true)
/-- a sorted list is the only sorted one of its texts -/
theorem sorted_uniq : ∀ (a b : List (List Nat)), SortedL a → SortedL b → a.Perm b → a = b
  | [], b, _, _, hp => (List.nil_perm.1 hp).symm
  | x :: a, [], _, _, hp => absurd (List.perm_nil.1 hp) (by simp)
  | x :: a, y :: b, ha, hb, hp => by
    have hxy : x = y := by
      by_cases h : x = y
      · exact h
      · have h1 : x ∈ b := by
          have := hp.subset (List.mem_cons_self (a := x) (l := a))
          rcases List.mem_cons.1 this with h2 | h2
          · exact absurd h2 h
          · exact h2
        have h2 : y ∈ a := by
          have := hp.symm.subset (List.mem_cons_self (a := y) (l := b))
          rcases List.mem_cons.1 this with h3 | h3
          · exact absurd h3.symm h
          · exact h3
        exact less_total x y ((List.pairwise_cons.1 hb).1 x h1) ((List.pairwise_cons.1 ha).1 y h2)
    subst hxy
    rw [sorted_uniq a b (List.pairwise_cons.1 ha).2 (List.pairwise_cons.1 hb).2 ((List.perm_cons x).1 hp)]

/-- how many texts at the beginning are not behind a text -/
def upTo (x : List Nat) : List (List Nat) → Nat
  | [] => 0
  | y :: l => if lessL x y = true then 0 else upTo x l + 1
/-- a list with a text more, ahead of the first one that it is ahead of -/
def layL (l : List (List Nat)) (x : List Nat) : List (List Nat) := l.take (upTo x l) ++ x :: l.drop (upTo x l)
theorem upTo_le (x : List Nat) (l : List (List Nat)) : upTo x l ≤ l.length := by
  induction l with
  | nil => exact Nat.le_refl _
  | cons y l ih =>
    unfold upTo
    split
    · omega
    · simp; omega
theorem lay_nil (x : List Nat) : layL [] x = [x] := rfl
theorem lay_cons (x y : List Nat) (l : List (List Nat)) : layL (y :: l) x = if lessL x y = true then x :: y :: l else y :: layL l x := by
  unfold layL
  rw [upTo]
  split <;> rfl
theorem lay_perm (x : List Nat) (l : List (List Nat)) : (layL l x).Perm (x :: l) := by
  induction l with
  | nil => exact List.Perm.refl _
  | cons y l ih =>
    rw [lay_cons]
    split
    · exact List.Perm.refl _
    · exact (List.Perm.cons y ih).trans (List.Perm.swap x y l)
theorem lay_sorted (x : List Nat) (l : List (List Nat)) (h : SortedL l) : SortedL (layL l x) := by
  induction l with
  | nil => exact List.pairwise_singleton _ _
  | cons y l ih =>
    obtain ⟨h1, h2⟩ := List.pairwise_cons.1 h
    rw [lay_cons]
    split
    · rename_i hl
      refine List.pairwise_cons.2 ⟨fun z hz => ?_, h⟩
      rcases List.mem_cons.1 hz with rfl | hz
      · exact less_asymm _ _ hl
      · exact nless_trans (less_asymm _ _ hl) (h1 z hz)
    · rename_i hl
      have hl' : lessL x y = false := by cases hx : lessL x y with
        | false => rfl
        | true => exact absurd hx hl
      refine List.pairwise_cons.2 ⟨fun z hz => ?_, ih h2⟩
      rcases List.mem_cons.1 ((lay_perm x l).subset hz) with rfl | hz
      · exact hl'
      · exact h1 z hz
/-- texts in order, one laid in behind the other -/
def sortL (l : List (List Nat)) : List (List Nat) := l.foldl layL []
theorem sort_snoc (l : List (List Nat)) (x : List Nat) : sortL (l ++ [x]) = layL (sortL l) x := by simp [sortL]
theorem sort_perm_rev (l : List (List Nat)) : ∀ acc, (l.foldl layL acc).Perm (acc ++ l) := by
  induction l with
  | nil => intro acc; rw [List.append_nil]; exact List.Perm.refl _
  | cons x l ih =>
    intro acc
    refine (ih (layL acc x)).trans ?_
    refine ((lay_perm x acc).append_right l).trans ?_
    exact List.perm_middle.symm
theorem sort_perm (l : List (List Nat)) : (sortL l).Perm l := sort_perm_rev l []
theorem sort_sorted_acc (l : List (List Nat)) : ∀ acc, SortedL acc → SortedL (l.foldl layL acc) := by
  induction l with
  | nil => intro acc h; exact h
  | cons x l ih => intro acc h; exact ih _ (lay_sorted x acc h)
theorem sort_sorted (l : List (List Nat)) : SortedL (sortL l) := sort_sorted_acc l [] List.Pairwise.nil
/-- whatever is sorted and has the same texts is it -/
theorem sort_is {o l : List (List Nat)} (hs : SortedL o) (hp : o.Perm l) : o = sortL l := sorted_uniq o (sortL l) hs (sort_sorted l) (hp.trans (sort_perm l).symm)
theorem sort_same {a b : List (List Nat)} (h : a.Perm b) : sortL a = sortL b := sorted_uniq _ _ (sort_sorted a) (sort_sorted b) ((sort_perm a).trans (h.trans (sort_perm b).symm))
theorem sort_id {a : List (List Nat)} (h : SortedL a) : sortL a = a := (sort_is h (List.Perm.refl a)).symm
theorem sort_len (l : List (List Nat)) : (sortL l).length = l.length := (sort_perm l).length_eq
end Go.Proofs.Ytiedkpfpaeecfaa
