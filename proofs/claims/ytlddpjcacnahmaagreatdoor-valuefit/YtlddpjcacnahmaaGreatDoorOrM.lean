/- Plain facts on texts in order: the order, sorted lists, insertion. -/
import Derived.Test.YtlddpjcacnahmaaGreatDoorBase
namespace Go.Proofs.YtlddpjcacnahmaaGreatDoor
open Go.RowKit
set_option linter.unusedVariables false

/-- is a text ahead of another? -/
def lessL : List Nat → List Nat → Bool
  | _, [] => false
  | [], _ :: _ => true
  | a :: x, b :: y => decide (a < b) || (decide (a = b) && lessL x y)
theorem less_nil (a : List Nat) : lessL a [] = false := by cases a <;> rfl
theorem less_self (a : List Nat) : lessL a a = false := by
  induction a with
  | nil => rfl
  | cons x a ih => simp [lessL, ih]
theorem less_asymm (a : List Nat) : ∀ b, lessL a b = true → lessL b a = false := by
  induction a with
  | nil => intro b _; exact less_nil b
  | cons x a ih =>
    intro b h
    cases b with
    | nil => simp [lessL] at h
    | cons y b =>
      simp only [lessL, Bool.or_eq_true, Bool.and_eq_true, decide_eq_true_eq] at h
      simp only [lessL, Bool.or_eq_false_iff, Bool.and_eq_false_iff, decide_eq_false_iff_not]
      rcases h with h | ⟨rfl, h⟩
      · exact ⟨by omega, .inl (by omega)⟩
      · exact ⟨by omega, .inr (ih b h)⟩
theorem less_trans (a : List Nat) : ∀ b c, lessL a b = true → lessL b c = true → lessL a c = true := by
  induction a with
  | nil =>
    intro b c h1 h2
    cases c with
    | nil => rw [less_nil] at h2; cases h2
    | cons z c => rfl
  | cons x a ih =>
    intro b c h1 h2
    cases b with
    | nil => rw [less_nil] at h1; cases h1
    | cons y b =>
      cases c with
      | nil => rw [less_nil] at h2; cases h2
      | cons z c =>
        simp only [lessL, Bool.or_eq_true, Bool.and_eq_true, decide_eq_true_eq] at *
        rcases h1 with h1 | ⟨rfl, h1⟩
        · rcases h2 with h2 | ⟨rfl, h2⟩
          · exact .inl (by omega)
          · exact .inl h1
        · rcases h2 with h2 | ⟨rfl, h2⟩
          · exact .inl h2
          · exact .inr ⟨rfl, ih b c h1 h2⟩
theorem less_total (a : List Nat) : ∀ b, lessL a b = false → lessL b a = false → a = b := by
  induction a with
  | nil =>
    intro b h _
    cases b with
    | nil => rfl
    | cons y b => simp [lessL] at h
  | cons x a ih =>
    intro b h1 h2
    cases b with
    | nil => simp [lessL] at h2
    | cons y b =>
      simp only [lessL, Bool.or_eq_false_iff, Bool.and_eq_false_iff, decide_eq_false_iff_not] at h1 h2
      have hxy : x = y := by omega
      subst hxy
      rw [ih b (h1.2.resolve_left (fun h => h rfl)) (h2.2.resolve_left (fun h => h rfl))]
theorem less_pre (p : List Nat) (a b : List Nat) : lessL (p ++ a) (p ++ b) = lessL a b := by
  induction p with
  | nil => rfl
  | cons x p ih => simp [lessL, ih]
theorem less_behind (a : List Nat) (x : Nat) : lessL a (a ++ [x]) = true := by
  have h := less_pre a [] [x]
  rw [List.append_nil] at h
  rw [h]; rfl
/-- what is no less than one that is no less is no less -/
theorem nless_trans {a b c : List Nat} (h1 : lessL b a = false) (h2 : lessL c b = false) : lessL c a = false := by
  cases h : lessL c a with
  | false => rfl
  | true =>
    by_cases hab : a = b
    · subst hab; rw [h] at h2; cases h2
    · cases hl : lessL a b with
      | true => rw [less_trans c a b h hl] at h2; cases h2
      | false => exact absurd (less_total a b hl h1) hab
/-- a text is ahead by its first byte that differs -/
theorem less_at {a b : List Nat} {k : Nat} (hp : a.take k = b.take k) (ha : k < a.length) (hb : k < b.length) (hne : el a k ≠ el b k) : lessL a b = decide (el a k < el b k) := by
  have ea : a = a.take k ++ (el a k :: a.drop (k + 1)) := by
    rw [el_at ha]
    conv => lhs; rw [← List.take_append_drop k a]
    rw [List.drop_eq_getElem_cons ha]
  have eb : b = b.take k ++ (el b k :: b.drop (k + 1)) := by
    rw [el_at hb]
    conv => lhs; rw [← List.take_append_drop k b]
    rw [List.drop_eq_getElem_cons hb]
  rw [ea, eb, hp, less_pre]
  rw [← hp, ← ea, hp, ← eb]
  simp [lessL, hne]
/-- of two texts, one of which begins the other, the shorter is ahead -/
theorem less_end {a b : List Nat} {k : Nat} (hp : a.take k = b.take k) (hk : k = a.length ∨ k = b.length) (ha : k ≤ a.length) (hb : k ≤ b.length) : lessL a b = decide (a.length < b.length) := by
  have ea : a = a.take k ++ a.drop k := (List.take_append_drop k a).symm
  have eb : b = b.take k ++ b.drop k := (List.take_append_drop k b).symm
  have h : lessL a b = lessL (a.drop k) (b.drop k) := by
    conv => lhs; rw [ea, eb, hp]
    exact less_pre _ _ _
  rw [h]
  rcases hk with hk | hk
  · rw [List.drop_of_length_le (by omega)]
    cases hd : b.drop k with
    | nil =>
      have := congrArg List.length hd
      simp at this
      simp [lessL]; omega
    | cons y b' =>
      have := congrArg List.length hd
      simp at this
      simp [lessL]; omega
  · rw [List.drop_of_length_le (l := b) (by omega), less_nil]
    simp; omega

/-- none is less than one ahead of it -/
def SortedL (l : List (List Nat)) : Prop := l.Pairwise (fun x y => lessL y x = false)
/-- each is less than all behind it -/
def StrictL (l : List (List Nat)) : Prop := l.Pairwise (fun x y => lessL x y = true)
/-- a sorted list is the only sorted one of its texts -/
theorem sorted_uniq : ∀ (a b : List (List Nat)), SortedL a → SortedL b → a.Perm b → a = b
  | [], b, _, _, hp => (List.nil_perm.1 hp).symm
  | x :: a, [], _, _, hp => absurd (List.perm_nil.1 hp) (by simp)
  | x :: a, y :: b, ha, hb, hp => by
    have hxy : x = y := by
      by_cases h : x = y
      · exact h
      · have h1 : x ∈ b := by
          have := hp.subset (List.mem_cons_self (a := x) (l := a))
          rcases List.mem_cons.1 this with h2 | h2
          · exact absurd h2 h
          · exact h2
        have h2 : y ∈ a := by
          have := hp.symm.subset (List.mem_cons_self (a := y) (l := b))
          rcases List.mem_cons.1 this with h3 | h3
          · exact absurd h3.symm h
          · exact h3
        exact less_total x y ((List.pairwise_cons.1 hb).1 x h1) ((List.pairwise_cons.1 ha).1 y h2)
    subst hxy
    rw [sorted_uniq a b (List.pairwise_cons.1 ha).2 (List.pairwise_cons.1 hb).2 ((List.perm_cons x).1 hp)]

/-- how many texts at the beginning are not behind a text -/
def upTo (x : List Nat) : List (List Nat) → Nat
  | [] => 0
  | y :: l => if lessL x y = true then 0 else upTo x l + 1
/-- a list with a text more, ahead of the first one that it is ahead of -/
def layL (l : List (List Nat)) (x : List Nat) : List (List Nat) := l.take (upTo x l) ++ x :: l.drop (upTo x l)
theorem upTo_le (x : List Nat) (l : List (List Nat)) : upTo x l ≤ l.length := by
  induction l with
  | nil => exact Nat.le_refl _
  | cons y l ih =>
    unfold upTo
    split
    · omega
    · simp; omega
theorem lay_nil (x : List Nat) : layL [] x = [x] := rfl
theorem lay_cons (x y : List Nat) (l : List (List Nat)) : layL (y :: l) x = if lessL x y = true then x :: y :: l else y :: layL l x := by
  unfold layL
  rw [upTo]
  split <;> rfl
theorem lay_perm (x : List Nat) (l : List (List Nat)) : (layL l x).Perm (x :: l) := by
  induction l with
  | nil => exact List.Perm.refl _
  | cons y l ih =>
    rw [lay_cons]
    split
    · exact List.Perm.refl _
    · exact (List.Perm.cons y ih).trans (List.Perm.swap x y l)
theorem lay_sorted (x : List Nat) (l : List (List Nat)) (h : SortedL l) : SortedL (layL l x) := by
  induction l with
  | nil => exact List.pairwise_singleton _ _
  | cons y l ih =>
    obtain ⟨h1, h2⟩ := List.pairwise_cons.1 h
    rw [lay_cons]
    split
    · rename_i hl
      refine List.pairwise_cons.2 ⟨fun z hz => ?_, h⟩
      rcases List.mem_cons.1 hz with rfl | hz
      · exact less_asymm _ _ hl
      · exact nless_trans (less_asymm _ _ hl) (h1 z hz)
    · rename_i hl
      have hl' : lessL x y = false := by cases hx : lessL x y with
        | false => rfl
        | true => exact absurd hx hl
      refine List.pairwise_cons.2 ⟨fun z hz => ?_, ih h2⟩
      rcases List.mem_cons.1 ((lay_perm x l).subset hz) with rfl | hz
      · exact hl'
      · exact h1 z hz
/-- texts in order, one laid in behind the other -/
def sortL (l : List (List Nat)) : List (List Nat) := l.foldl layL []
theorem sort_snoc (l : List (List Nat)) (x : List Nat) : sortL (l ++ [x]) = layL (sortL l) x := by simp [sortL]
theorem sort_perm_rev (l : List (List Nat)) : ∀ acc, (l.foldl layL acc).Perm (acc ++ l) := by
  induction l with
  | nil => intro acc; rw [List.append_nil]; exact List.Perm.refl _
  | cons x l ih =>
    intro acc
    refine (ih (layL acc x)).trans ?_
    refine ((lay_perm x acc).append_right l).trans ?_
    exact List.perm_middle.symm
theorem sort_perm (l : List (List Nat)) : (sortL l).Perm l := sort_perm_rev l []
theorem sort_sorted_acc (l : List (List Nat)) : ∀ acc, SortedL acc → SortedL (l.foldl layL acc) := by
  induction l with
  | nil => intro acc h; exact h
  | cons x l ih => intro acc h; exact ih _ (lay_sorted x acc h)
theorem sort_sorted (l : List (List Nat)) : SortedL (sortL l) := sort_sorted_acc l [] List.Pairwise.nil
/-- whatever is sorted and has the same texts is it -/
theorem sort_is {o l : List (List Nat)} (hs : SortedL o) (hp : o.Perm l) : o = sortL l := sorted_uniq o (sortL l) hs (sort_sorted l) (hp.trans (sort_perm l).symm)
theorem sort_same {a b : List (List Nat)} (h : a.Perm b) : sortL a = sortL b := sorted_uniq _ _ (sort_sorted a) (sort_sorted b) ((sort_perm a).trans (h.trans (sort_perm b).symm))
theorem sort_id {a : List (List Nat)} (h : SortedL a) : sortL a = a := (sort_is h (List.Perm.refl a)).symm
theorem sort_len (l : List (List Nat)) : (sortL l).length = l.length := (sort_perm l).length_eq
end Go.Proofs.YtlddpjcacnahmaaGreatDoor

/- Plain facts on heaps of texts. -/
namespace Go.Proofs.YtlddpjcacnahmaaGreatDoor
open Go.RowKit
set_option linter.unusedVariables false

/-- two texts, each in the other's place -/
def swp (l : List (List Nat)) (i j : Nat) : List (List Nat) := (l.set i (tx l j)).set j (tx l i)
theorem swp_len (l : List (List Nat)) (i j : Nat) : (swp l i j).length = l.length := by simp [swp]
theorem tx_at {l : List (List Nat)} {i : Nat} (h : i < l.length) : tx l i = l[i] := by unfold tx; rw [List.getElem?_eq_getElem h]; rfl
theorem tx_set {l : List (List Nat)} {i k : Nat} {x : List Nat} (h : i < l.length) : tx (l.set i x) k = if k = i then x else tx l k := by
  unfold tx
  rw [List.getElem?_set]
  by_cases hk : i = k
  · subst hk; simp [h]
  · rw [if_neg hk, if_neg (fun e => hk e.symm)]
theorem swp_tx {l : List (List Nat)} {i j : Nat} (hi : i < l.length) (hj : j < l.length) (k : Nat) : tx (swp l i j) k = if k = j then tx l i else if k = i then tx l j else tx l k := by
  unfold swp
  rw [tx_set (by simpa using hj), tx_set hi]
theorem swp_at_j {l : List (List Nat)} {i j : Nat} (hi : i < l.length) (hj : j < l.length) : tx (swp l i j) j = tx l i := by rw [swp_tx hi hj, if_pos rfl]
theorem swp_at_i {l : List (List Nat)} {i j : Nat} (hi : i < l.length) (hj : j < l.length) (hij : i ≠ j) : tx (swp l i j) i = tx l j := by rw [swp_tx hi hj, if_neg hij, if_pos rfl]
theorem swp_far {l : List (List Nat)} {i j k : Nat} (hi : i < l.length) (hj : j < l.length) (h1 : k ≠ i) (h2 : k ≠ j) : tx (swp l i j) k = tx l k := by rw [swp_tx hi hj, if_neg h2, if_neg h1]
theorem swp_perm {l : List (List Nat)} {i j : Nat} (hi : i < l.length) (hj : j < l.length) : (swp l i j).Perm l := by
  have h := Array.swap_perm (xs := l.toArray) (i := i) (j := j) (by simpa using hi) (by simpa using hj)
  have h2 := Array.perm_iff_toList_perm.1 h
  rw [Array.toList_swap] at h2
  unfold swp
  rw [tx_at hi, tx_at hj]
  simpa using h2

/-- from parent lo on, and below n, no text is less than its parent -/
def Hp (lo n : Nat) (l : List (List Nat)) : Prop := ∀ j, 0 < j → j < n → lo ≤ (j - 1) / 2 → lessL (tx l j) (tx l ((j - 1) / 2)) = false
/-- the same but for the children of i, which are no less than i's parent -/
def HpX (lo n i : Nat) (l : List (List Nat)) : Prop :=
  (∀ j, 0 < j → j < n → lo ≤ (j - 1) / 2 → (j - 1) / 2 ≠ i → lessL (tx l j) (tx l ((j - 1) / 2)) = false) ∧
  (∀ j, 0 < j → j < n → (j - 1) / 2 = i → 0 < i → lo ≤ (i - 1) / 2 → lessL (tx l j) (tx l ((i - 1) / 2)) = false)
/-- the same but for j itself, whose children are no less than j's parent -/
def HpU (n j : Nat) (l : List (List Nat)) : Prop :=
  (∀ k, 0 < k → k < n → k ≠ j → lessL (tx l k) (tx l ((k - 1) / 2)) = false) ∧
  (∀ k, 0 < k → k < n → (k - 1) / 2 = j → 0 < j → lessL (tx l k) (tx l ((j - 1) / 2)) = false)
theorem Hp.none {lo n : Nat} {l : List (List Nat)} (h : n / 2 ≤ lo) : Hp lo n l := by
  intro j h0 h1 h2
  omega
theorem Hp.toX {n i : Nat} {l : List (List Nat)} (h : Hp (i + 1) n l) : HpX i n i l :=
  ⟨fun j h0 h1 h2 h3 => h j h0 h1 (by omega), fun j h0 h1 h2 h3 h4 => by omega⟩
/-- no child is less: all is well -/
theorem HpX.stop {lo n i : Nat} {l : List (List Nat)} (h : HpX lo n i l) (h1 : 2 * i + 1 < n → lessL (tx l (2 * i + 1)) (tx l i) = false) (h2 : 2 * i + 2 < n → lessL (tx l (2 * i + 2)) (tx l i) = false) : Hp lo n l := by
  intro j k0 k1 k2
  by_cases hp : (j - 1) / 2 = i
  · rw [hp]
    rcases (by omega : j = 2 * i + 1 ∨ j = 2 * i + 2) with rfl | rfl
    · exact h1 k1
    · exact h2 k1
  · exact h.1 j k0 k1 k2 hp
/-- a step down -/
theorem HpX.step {lo n i j : Nat} {l : List (List Nat)} (h : HpX lo n i l) (hn : n ≤ l.length) (hlo : lo ≤ i) (hj : j = 2 * i + 1 ∨ j = 2 * i + 2) (hjn : j < n) (hl : lessL (tx l j) (tx l i) = true)
    (hm : ∀ k, (k = 2 * i + 1 ∨ k = 2 * i + 2) → k ≠ j → k < n → lessL (tx l k) (tx l j) = false) : HpX lo n j (swp l i j) := by
  have li : i < l.length := by omega
  have lj : j < l.length := by omega
  have hij : i ≠ j := by omega
  constructor
  · intro k k0 k1 k2 k3
    by_cases hp : (k - 1) / 2 = i
    · rw [hp, swp_at_i li lj hij]
      by_cases hk : k = j
      · subst hk
        rw [swp_at_j li lj]
        exact less_asymm _ _ hl
      · rw [swp_far li lj (by omega) hk]
        exact hm k (by omega) hk k1
    · have hkj : k ≠ j := by omega
      rw [swp_far li lj (k := (k - 1) / 2) hp k3]
      by_cases hki : k = i
      · subst hki
        rw [swp_at_i li lj hij]
        exact h.2 j (by omega) hjn (by omega) k0 k2
      · rw [swp_far li lj hki hkj]
        exact h.1 k k0 k1 k2 hp
  · intro k k0 k1 k2 k3 k4
    rw [show (j - 1) / 2 = i by omega, swp_at_i li lj hij, swp_far li lj (by omega) (by omega)]
    have := h.1 k k0 k1 (by omega) (by omega)
    rw [k2] at this
    exact this
/-- the least is on top -/
theorem Hp.min {n : Nat} {l : List (List Nat)} (h : Hp 0 n l) (j : Nat) (hj : j < n) : lessL (tx l j) (tx l 0) = false := by
  induction j using Nat.strongRecOn with
  | ind j ih =>
    by_cases h0 : j = 0
    · subst h0; exact less_self _
    · exact nless_trans (ih ((j - 1) / 2) (by omega) (by omega)) (h j (by omega) hj (by omega))
/-- the top is put behind, and what was there on top -/
theorem Hp.pop {n : Nat} {l : List (List Nat)} (h : Hp 0 (n + 1) l) (hn : n < l.length) : HpX 0 n 0 (swp l 0 n) := by
  refine ⟨fun j k0 k1 k2 k3 => ?_, fun j k0 k1 k2 k3 k4 => by omega⟩
  rw [swp_far (by omega) hn (by omega) (by omega), swp_far (by omega) hn k3 (by omega)]
  exact h j k0 (by omega) k2
/-- a text more behind all -/
theorem Hp.push {n : Nat} {l : List (List Nat)} (h : Hp 0 n l) (hn : n = l.length) (x : List Nat) : HpU (n + 1) n (l ++ [x]) := by
  have e : ∀ k, k < n → tx (l ++ [x]) k = tx l k := by
    intro k hk
    unfold tx
    rw [List.getElem?_append_left (by omega)]
  refine ⟨fun k k0 k1 k2 => ?_, fun k k0 k1 k2 k3 => by omega⟩
  rw [e k (by omega), e ((k - 1) / 2) (by omega)]
  exact h k k0 (by omega) (by omega)
theorem HpU.stop {n j : Nat} {l : List (List Nat)} (h : HpU n j l) (hs : 0 < j → lessL (tx l j) (tx l ((j - 1) / 2)) = false) : Hp 0 n l := by
  intro k k0 k1 _
  by_cases hk : k = j
  · subst hk; exact hs k0
  · exact h.1 k k0 k1 hk
/-- a step up -/
theorem HpU.step {n j : Nat} {l : List (List Nat)} (h : HpU n j l) (hn : n ≤ l.length) (hj : j < n) (h0 : 0 < j) (hl : lessL (tx l j) (tx l ((j - 1) / 2)) = true) : HpU n ((j - 1) / 2) (swp l ((j - 1) / 2) j) := by
  obtain ⟨p, hp⟩ : ∃ p, (j - 1) / 2 = p := ⟨_, rfl⟩
  rw [hp] at hl ⊢
  have lp : p < l.length := by omega
  have lj : j < l.length := by omega
  have hpj : p ≠ j := by omega
  have hlt : lessL (tx l p) (tx l j) = false := less_asymm _ _ hl
  constructor
  · intro k k0 k1 k2
    by_cases hk : k = j
    · subst hk
      rw [hp, swp_at_j lp lj, swp_at_i lp lj hpj]
      exact hlt
    · rw [swp_far lp lj k2 hk]
      by_cases hq : (k - 1) / 2 = j
      · rw [hq, swp_at_j lp lj]
        have := h.2 k k0 k1 hq h0
        rw [hp] at this
        exact this
      · by_cases hq2 : (k - 1) / 2 = p
        · rw [hq2, swp_at_i lp lj hpj]
          have := h.1 k k0 k1 hk
          rw [hq2] at this
          exact nless_trans hlt this
        · rw [swp_far lp lj hq2 hq]
          exact h.1 k k0 k1 hk
  · intro k k0 k1 k2 k3
    rw [swp_far lp lj (k := (p - 1) / 2) (by omega) (by omega)]
    have hg := h.1 p k3 (by omega) hpj
    by_cases hk : k = j
    · subst hk
      rw [swp_at_j lp lj]
      exact hg
    · rw [swp_far lp lj (by omega) hk]
      have := h.1 k k0 k1 hk
      rw [k2] at this
      exact nless_trans hg this
end Go.Proofs.YtlddpjcacnahmaaGreatDoor
