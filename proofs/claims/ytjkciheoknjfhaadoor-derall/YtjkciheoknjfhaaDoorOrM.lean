/- Plain facts on texts in order: the order, sorted lists, insertion. -/
import Derived.Test.YtjkciheoknjfhaaDoorBase
namespace Go.Proofs.YtjkciheoknjfhaaDoor
open Go.RowKit
set_option linter.unusedVariables false

/-- is a text ahead of another? -/
def lessL : List Nat → List Nat → Bool
  | _, [] => false
  | [], _ :: _ => true
  | a :: x, b :: y => decide (a < b) || (decide (a = b) && lessL x y)
theorem less_nil (a : List Nat) : lessL a [] = false := by cases a <;> rfl
theorem less_self (a : List Nat) : lessL a a = false := by
  induction a with
  | nil => rfl
  | cons x a ih => simp [lessL, ih]
theorem less_asymm (a : List Nat) : ∀ b, lessL a b = true → lessL b a = false := by
  induction a with
  | nil => intro b _; exact less_nil b
  | cons x a ih =>
    intro b h
    cases b with
    | nil => simp [lessL] at h
    | cons y b =>
      simp only [lessL, Bool.or_eq_true, Bool.and_eq_true, decide_eq_true_eq] at h
      simp only [lessL, Bool.or_eq_false_iff, Bool.and_eq_false_iff, decide_eq_false_iff_not]
      rcases h with h | ⟨rfl, h⟩
      · exact ⟨by omega, .inl (by omega)⟩
      · exact ⟨by omega, .inr (ih b h)⟩
theorem less_trans (a : List Nat) : ∀ b c, lessL a b = true → lessL b c = true → lessL a c = true := by
  induction a with
  | nil =>
    intro b c h1 h2
    cases c with
    | nil => rw [less_nil] at h2; cases h2
    | cons z c => rfl
  | cons x a ih =>
    intro b c h1 h2
    cases b with
    | nil => rw [less_nil] at h1; cases h1
    | cons y b =>
      cases c with
      | nil => rw [less_nil] at h2; cases h2
      | cons z c =>
        simp only [lessL, Bool.or_eq_true, Bool.and_eq_true, decide_eq_true_eq] at *
        rcases h1 with h1 | ⟨rfl, h1⟩
        · rcases h2 with h2 | ⟨rfl, h2⟩
          · exact .inl (by omega)
          · exact .inl h1
        · rcases h2 with h2 | ⟨rfl, h2⟩
          · exact .inl h2
          · exact .inr ⟨rfl, ih b c h1 h2⟩
theorem less_total (a : List Nat) : ∀ b, lessL a b = false → lessL b a = false → a = b := by
  induction a with
  | nil =>
    intro b h _
    cases b with
    | nil => rfl
    | cons y b => simp [lessL] at h
  | cons x a ih =>
    intro b h1 h2
    cases b with
    | nil => simp [lessL] at h2
    | cons y b =>
      simp only [lessL, Bool.or_eq_false_iff, Bool.and_eq_false_iff, decide_eq_false_iff_not] at h1 h2
      have hxy : x = y := by omega
      subst hxy
      rw [ih b (h1.2.resolve_left (fun h => h rfl)) (h2.2.resolve_left (fun h => h rfl))]
theorem less_pre (p : List Nat) (a b : List Nat) : lessL (p ++ a) (p ++ b) = lessL a b := by
  induction p with
  | nil => rfl
  | cons x p ih => simp [lessL, ih]
theorem less_behind (a : List Nat) (x : Nat) : lessL a (a ++ [x]) = true := by
  have h := less_pre a [] [x]
  rw [List.append_nil] at h
  rw [h]; rfl
/-- what is no less than one that is no less is no less -/
theorem nless_trans {a b c : List Nat} (h1 : lessL b a = false) (h2 : lessL c b = false) : lessL c a = false := by
  cases h : lessL c a with
  | false => rfl
  | true =>
    by_cases hab : a = b
    · subst hab; rw [h] at h2; cases h2
    · cases hl : lessL a b with
      | true => rw [less_trans c a b h hl] at h2; cases h2
      | false => exact absurd (less_total a b hl h1) hab
/-- a text is ahead by its first byte that differs -/
theorem less_at {a b : List Nat} {k : Nat} (hp : a.take k = b.take k) (ha : k < a.length) (hb : k < b.length) (hne : el a k ≠ el b k) : lessL a b = decide (el a k < el b k) := by
  have ea : a = a.take k ++ (el a k :: a.drop (k + 1)) := by
    rw [el_at ha]
    conv => lhs; rw [← List.take_append_drop k a]
    rw [List.drop_eq_getElem_cons ha]
  have eb : b = b.take k ++ (el b k :: b.drop (k + 1)) := by
    rw [el_at hb]
    conv => lhs; rw [← List.take_append_drop k b]
    rw [List.drop_eq_getElem_cons hb]
  rw [ea, eb, hp, less_pre]
  rw [← hp, ← ea, hp, ← eb]
  simp [lessL, hne]
/-- of two texts, one of which begins the other, the shorter is ahead -/
theorem less_end {a b : List Nat} {k : Nat} (hp : a.take k = b.take k) (hk : k = a.length ∨ k = b.length) (ha : k ≤ a.length) (hb : k ≤ b.length) : lessL a b = decide (a.length < b.length) := by
  have ea : a = a.take k ++ a.drop k := (List.take_append_drop k a).symm
  have eb : b = b.take k ++ b.drop k := (List.take_append_drop k b).symm
  have h : lessL a b = lessL (a.drop k) (b.drop k) := by
    conv => lhs; rw [ea, eb, hp]
    exact less_pre _ _ _
  rw [h]
  rcases hk with hk | hk
  · rw [List.drop_of_length_le (by omega)]
    cases hd : b.drop k with
    | nil =>
      have := congrArg List.length hd
      simp at this
      simp [lessL]; omega
    | cons y b' =>
      have := congrArg List.length hd
      simp at this
      simp [lessL]; omega
  · rw [List.drop_of_length_le (l := b) (by omega), less_nil]
    simp; omega

/-- none is less than one ahead of it -/
def SortedL (l : List (List Nat)) : Prop := l.Pairwise (fun x y => lessL y x = false)
/-- each is less than all behind it -/
def StrictL (l : List (List Nat)) : Prop := l.Pairwise (fun x y => lessL x y = true)
/-- a sorted list is the only sorted one of its texts -/
theorem sorted_uniq : ∀ (a b : List (List Nat)), SortedL a → SortedL b → a.Perm b → a = b
  | [], b, _, _, hp => (List.nil_perm.1 hp).symm
  | x :: a, [], _, _, hp => absurd (List.perm_nil.1 hp) (by simp)
  | x :: a, y :: b, ha, hb, hp => by
    have hxy : x = y := by
      by_cases h : x = y
      · exact h
      · have h1 : x ∈ b := by
          have := hp.subset (List.mem_cons_self (a := x) (l := a))
          rcases List.mem_cons.1 this with h2 | h2
          · exact absurd h2 h
          · exact h2
        have h2 : y ∈ a := by
          have := hp.symm.subset (List.mem_cons_self (a := y) (l := b))
          rcases List.mem_cons.1 this with h3 | h3
          · exact absurd h3.symm h
          · exact h3
        exact less_total x y ((List.pairwise_cons.1 hb).1 x h1) ((List.pairwise_cons.1 ha).1 y h2)
    subst hxy
    rw [sorted_uniq a b (List.pairwise_cons.1 ha).2 (List.pairwise_cons.1 hb).2 ((List.perm_cons x).1 hp)]

/-- how many texts at the beginning are not behind a text -/
def upTo (x : List Nat) : List (List Nat) → Nat
  | [] => 0
  | y :: l => if lessL x y = true then 0 else upTo x l + 1
/-- a list with a text more, ahead of the first one that it is ahead of -/
def layL (l : List (List Nat)) (x : List Nat) : List (List Nat) := l.take (upTo x l) ++ x :: l.drop (upTo x l)
theorem upTo_le (x : List Nat) (l : List (List Nat)) : upTo x l ≤ l.length := by
  induction l with
  | nil => exact Nat.le_refl _
  | cons y l ih =>
    unfold upTo
    split
    · omega
    · simp; omega
theorem lay_nil (x : List Nat) : layL [] x = [x] := rfl
theorem lay_cons (x y : List Nat) (l : List (List Nat)) : layL (y :: l) x = if lessL x y = true then x :: y :: l else y :: layL l x := by
  unfold layL
  rw [upTo]
  split <;> rfl
theorem lay_perm (x : List Nat) (l : List (List Nat)) : (layL l x).Perm (x :: l) := by
  induction l with
  | nil => exact List.Perm.refl _
  | cons y l ih =>
    rw [lay_cons]
    split
    · exact List.Perm.refl _
    · exact (List.Perm.cons y ih).trans (List.Perm.swap x y l)
theorem lay_sorted (x : List Nat) (l : List (List Nat)) (h : SortedL l) : SortedL (layL l x) := by
  induction l with
  | nil => exact List.pairwise_singleton _ _
  | cons y l ih =>
    obtain ⟨h1, h2⟩ := List.pairwise_cons.1 h
    rw [lay_cons]
    split
    · rename_i hl
      refine List.pairwise_cons.2 ⟨fun z hz => ?_, h⟩
      rcases List.mem_cons.1 hz with rfl | hz
      · exact less_asymm _ _ hl
      · exact nless_trans (less_asymm _ _ hl) (h1 z hz)
    · rename_i hl
      have hl' : lessL x y = false := by cases hx : lessL x y with
        | false => rfl
        | true => exact absurd hx hl
      refine List.pairwise_cons.2 ⟨fun z hz => ?_, ih h2⟩
      rcases List.mem_cons.1 ((lay_perm x l).subset hz) with rfl | hz
      · exact hl'
      · exact h1 z hz
/-- texts in order, one laid in behind the other -/
def sortL (l : List (List Nat)) : List (List Nat) := l.foldl layL []
theorem sort_snoc (l : List (List Nat)) (x : List Nat) : sortL (l ++ [x]) = layL (sortL l) x := by simp [sortL]
theorem sort_perm_rev (l : List (List Nat)) : ∀ acc, (l.foldl layL acc).Perm (acc ++ l) := by
  induction l with
  | nil => intro acc; rw [List.append_nil]; exact List.Perm.refl _
  | cons x l ih =>
    intro acc
    refine (ih (layL acc x)).trans ?_
    refine ((lay_perm x acc).append_right l).trans ?_
    exact List.perm_middle.symm
theorem sort_perm (l : List (List Nat)) : (sortL l).Perm l := sort_perm_rev l []
theorem sort_sorted_acc (l : List (List Nat)) : ∀ acc, SortedL acc → SortedL (l.foldl layL acc) := by
  induction l with
  | nil => intro acc h; exact h
  | cons x l ih => intro acc h; exact ih _ (lay_sorted x acc h)
theorem sort_sorted (l : List (List Nat)) : SortedL (sortL l) := sort_sorted_acc l [] List.Pairwise.nil
/-- whatever is sorted and has the same texts is it -/
theorem sort_is {o l : List (List Nat)} (hs : SortedL o) (hp : o.Perm l) : o = sortL l := sorted_uniq o (sortL l) hs (sort_sorted l) (hp.trans (sort_perm l).symm)
theorem sort_same {a b : List (List Nat)} (h : a.Perm b) : sortL a = sortL b := sorted_uniq _ _ (sort_sorted a) (sort_sorted b) ((sort_perm a).trans (h.trans (sort_perm b).symm))
theorem sort_id {a : List (List Nat)} (h : SortedL a) : sortL a = a := (sort_is h (List.Perm.refl a)).symm
theorem sort_len (l : List (List Nat)) : (sortL l).length = l.length := (sort_perm l).length_eq
end Go.Proofs.YtjkciheoknjfhaaDoor

/- Plain facts on heaps of texts. -/
namespace Go.Proofs.YtjkciheoknjfhaaDoor
open Go.RowKit
set_option linter.unusedVariables false

/-- two texts, each in the other's place -/
def swp (l : List (List Nat)) (i j : Nat) : List (List Nat) := (l.set i (tx l j)).set j (tx l i)
theorem swp_len (l : List (List Nat)) (i j : Nat) : (swp l i j).length = l.length := by simp [swp]
theorem tx_at {l : List (List Nat)} {i : Nat} (h : i < l.length) : tx l i = l[i] := by unfold tx; rw [List.getElem?_eq_getElem h]; rfl
theorem tx_set {l : List (List Nat)} {i k : Nat} {x : List Nat} (h : i < l.length) : tx (l.set i x) k = if k = i then x else tx l k := by
  unfold tx
  rw [List.getElem?_set]
  by_cases hk : i = k
  · subst hk; simp [h]
  · rw [if_neg hk, if_neg (fun e => hk e.symm)]
theorem swp_tx {l : List (List Nat)} {i j : Nat} (hi : i < l.length) (hj : j < l.length) (k : Nat) : tx (swp l i j) k = if k = j then tx l i else if k = i then tx l j else tx l k := by
  unfold swp
  rw [tx_set (by simpa using hj), tx_set hi]
theorem swp_at_j {l : List (List Nat)} {i j : Nat} (hi : i < l.length) (hj : j < l.length) : tx (swp l i j) j = tx l i := by rw [swp_tx hi hj, if_pos rfl]
theorem swp_at_i {l : List (List Nat)} {i j : Nat} (hi : i < l.length) (hj : j < l.length) (hij : i ≠ j) : tx (swp l i j) i = tx l j := by rw [swp_tx hi hj, if_neg hij, if_pos rfl]
theorem swp_far {l : List (List Nat)} {i j k : Nat} (hi : i < l.length) (hj : j < l.length) (h1 : k ≠ i) (h2 : k ≠ j) : tx (swp l i j) k = tx l k := by rw [swp_tx hi hj, if_neg h2, if_neg h1]
theorem swp_perm {l : List (List Nat)} {i j : Nat} (hi : i < l.length) (hj : j < l.length) : (swp l i j).Perm l := by
  have h := Array.swap_perm (xs := l.toArray) (i := i) (j := j) (by simpa using hi) (by simpa using hj)
  have h2 := Array.perm_iff_toList_perm.1 h
  rw [Array.toList_swap] at h2
  unfold swp
  rw [tx_at hi, tx_at hj]
  simpa using h2

/-- from parent lo on, and below n, no text is less than its parent -/
def Hp (lo n : Nat) (l : List (List Nat)) : Prop := ∀ j, 0 < j → j < n → lo ≤ (j - 1) / 2 → lessL (tx l j) (tx l ((j - 1) / 2)) = false
/-- the same but for the children of i, which are no less than i's parent -/
def HpX (lo n i : Nat) (l : List (List Nat)) : Prop :=
  (∀ j, 0 < j → j < n → lo ≤ (j - 1) / 2 → (j - 1) / 2 ≠ i → lessL (tx l j) (tx l ((j - 1) / 2)) = false) ∧
  (∀ j, 0 < j → j < n → (j - 1) / 2 = i → 0 < i → lo ≤ (i - 1) / 2 → lessL (tx l j) (tx l ((i - 1) / 2)) = false)
/-- the same but for j itself, whose children are no less than j's parent -/
def HpU (n j : Nat) (l : List (List Nat)) : Prop :=
  (∀ k, 0 < k → k < n → k ≠ j → lessL (tx l k) (tx l ((k - 1) / 2)) = false) ∧
  (∀ k, 0 < k → k < n → (k - 1) / 2 = j → 0 < j → lessL (tx l k) (tx l ((j - 1) / 2)) = false)
theorem Hp.none {lo n : Nat} {l : List (List Nat)} (h : n / 2 ≤ lo) : Hp lo n l := by
  intro j h0 h1 h2
  omega
theorem Hp.toX {n i : Nat} {l : List (List Nat)} (h : Hp (i + 1) n l) : HpX i n i l :=
  ⟨fun j h0 h1 h2 h3 => h j h0 h1 (by omega), fun j h0 h1 h2 h3 h4 => by omega⟩
/-- no child is less: all is well -/
theorem HpX.stop {lo n i : Nat} {l : List (List Nat)} (h : HpX lo n i l) (h1 : 2 * i + 1 < n → lessL (tx l (2 * i + 1)) (tx l i) = false) (h2 : 2 * i + 2 < n → lessL (tx l (2 * i + 2)) (tx l i) = false) : Hp lo n l := by
  intro j k0 k1 k2
  by_cases hp : (j - 1) / 2 = i
  · rw [hp]
    rcases (by omega : j = 2 * i + 1 ∨ j = 2 * i + 2) with rfl | rfl
    · exact h1 k1
    · exact h2 k1
  · exact h.1 j k0 k1 k2 hp
/-- a step down -/
theorem HpX.step {lo n i j : Nat} {l : List (List Nat)} (h : HpX lo n i l) (hn : n ≤ l.length) (hlo : lo ≤ i) (hj : j = 2 * i + 1 ∨ j = 2 * i + 2) (hjn : j < n) (hl : lessL (tx l j) (tx l i) = true)
    (hm : ∀ k, (k = 2 * i + 1 ∨ k = 2 * i + 2) → k ≠ j → k < n → lessL (tx l k) (tx l j) = false) : HpX lo n j (swp l i j) := by
  have li : i < l.length := by omega
  have lj : j < l.length := by omega
  have hij : i ≠ j := by omega
  constructor
  · intro k k0 k1 k2 k3
    by_cases hp : (k - 1) / 2 = i
    · rw [hp, swp_at_i li lj hij]
      by_cases hk : k = j
      · subst hk
        rw [swp_at_j li lj]
        exact less_asymm _ _ hl
      · rw [swp_far li lj (by omega) hk]
        exact hm k (by omega) hk k1
    · have hkj : k ≠ j := by omega
      rw [swp_far li lj (k := (k - 1) / 2) hp k3]
      by_cases hki : k = i
      · subst hki
        rw [swp_at_i li lj hij]
        exact h.2 j (by omega) hjn (by omega) k0 k2
      · rw [swp_far li lj hki hkj]
        exact h.1 k k0 k1 k2 hp
  · intro k k0 k1 k2 k3 k4
    rw [show (j - 1) / 2 = i by omega, swp_at_i li lj hij, swp_far li lj (by omega) (by omega)]
    have := h.1 k k0 k1 (by omega) (by omega)
    rw [k2] at this
    exact this
/-- the least is on top -/
theorem Hp.min {n : Nat} {l : List (List Nat)} (h : Hp 0 n l) (j : Nat) (hj : j < n) : lessL (tx l j) (tx l 0) = false := by
  induction j using Nat.strongRecOn with
  | ind j ih =>
    by_cases h0 : j = 0
    · subst h0; exact less_self _
    · exact nless_trans (ih ((j - 1) / 2) (by omega) (by omega)) (h j (by omega) hj (by omega))
/-- the top is put behind, and what was there on top -/
theorem Hp.pop {n : Nat} {l : List (List Nat)} (h : Hp 0 (n + 1) l) (hn : n < l.length) : HpX 0 n 0 (swp l 0 n) := by
  refine ⟨fun j k0 k1 k2 k3 => ?_, fun j k0 k1 k2 k3 k4 => by omega⟩
  rw [swp_far (by omega) hn (by omega) (by omega), swp_far (by omega) hn k3 (by omega)]
  exact h j k0 (by omega) k2
/-- a text more behind all -/
theorem Hp.push {n : Nat} {l : List (List Nat)} (h : Hp 0 n l) (hn : n = l.length) (x : List Nat) : HpU (n + 1) n (l ++ [x]) := by
  have e : ∀ k, k < n → tx (l ++ [x]) k = tx l k := by
    intro k hk
    unfold tx
    rw [List.getElem?_append_left (by omega)]
  refine ⟨fun k k0 k1 k2 => ?_, fun k k0 k1 k2 k3 => by omega⟩
  rw [e k (by omega), e ((k - 1) / 2) (by omega)]
  exact h k k0 (by omega) (by omega)
theorem HpU.stop {n j : Nat} {l : List (List Nat)} (h : HpU n j l) (hs : 0 < j → lessL (tx l j) (tx l ((j - 1) / 2)) = false) : Hp 0 n l := by
  intro k k0 k1 _
  by_cases hk : k = j
  · subst hk; exact hs k0
  · exact h.1 k k0 k1 hk
/-- a step up -/
theorem HpU.step {n j : Nat} {l : List (List Nat)} (h : HpU n j l) (hn : n ≤ l.length) (hj : j < n) (h0 : 0 < j) (hl : lessL (tx l j) (tx l ((j - 1) / 2)) = true) : HpU n ((j - 1) / 2) (swp l ((j - 1) / 2) j) := by
  obtain ⟨p, hp⟩ : ∃ p, (j - 1) / 2 = p := ⟨_, rfl⟩
  rw [hp] at hl ⊢
  have lp : p < l.length := by omega
  have lj : j < l.length := by omega
  have hpj : p ≠ j := by omega
  have hlt : lessL (tx l p) (tx l j) = false := less_asymm _ _ hl
  constructor
  · intro k k0 k1 k2
    by_cases hk : k = j
    · subst hk
      rw [hp, swp_at_j lp lj, swp_at_i lp lj hpj]
      exact hlt
    · rw [swp_far lp lj k2 hk]
      by_cases hq : (k - 1) / 2 = j
      · rw [hq, swp_at_j lp lj]
        have := h.2 k k0 k1 hq h0
        rw [hp] at this
        exact this
      · by_cases hq2 : (k - 1) / 2 = p
        · rw [hq2, swp_at_i lp lj hpj]
          have := h.1 k k0 k1 hk
          rw [hq2] at this
          exact nless_trans hlt this
        · rw [swp_far lp lj hq2 hq]
          exact h.1 k k0 k1 hk
  · intro k k0 k1 k2 k3
    rw [swp_far lp lj (k := (p - 1) / 2) (by omega) (by omega)]
    have hg := h.1 p k3 (by omega) hpj
    by_cases hk : k = j
    · subst hk
      rw [swp_at_j lp lj]
      exact hg
    · rw [swp_far lp lj (by omega) hk]
      have := h.1 k k0 k1 hk
      rw [k2] at this
      exact nless_trans hg this
end Go.Proofs.YtjkciheoknjfhaaDoor

/- More plain facts on texts in order: neighbours, counts, taking the least. -/
namespace Go.Proofs.YtjkciheoknjfhaaDoor
open Go.RowKit
set_option linter.unusedVariables false

theorem tx_nil (i : Nat) : tx [] i = [] := by simp [tx]
theorem tx_zero (x : List Nat) (l : List (List Nat)) : tx (x :: l) 0 = x := rfl
theorem tx_succ (x : List Nat) (l : List (List Nat)) (i : Nat) : tx (x :: l) (i + 1) = tx l i := by simp [tx]
theorem tx_mem {l : List (List Nat)} {i : Nat} (h : i < l.length) : tx l i ∈ l := by rw [tx_at h]; exact List.getElem_mem h
theorem mem_tx {l : List (List Nat)} {x : List Nat} (h : x ∈ l) : ∃ i, i < l.length ∧ tx l i = x := by
  obtain ⟨i, hi, rfl⟩ := List.getElem_of_mem h
  exact ⟨i, hi, tx_at hi⟩
/-- sorted, by neighbours -/
def NextS (l : List (List Nat)) : Prop := ∀ i, 0 < i → i < l.length → lessL (tx l i) (tx l (i - 1)) = false
/-- strictly sorted, by neighbours -/
def NextT (l : List (List Nat)) : Prop := ∀ i, 0 < i → i < l.length → lessL (tx l (i - 1)) (tx l i) = true
theorem NextS.tail {x : List Nat} {l : List (List Nat)} (h : NextS (x :: l)) : NextS l := by
  intro i h0 h1
  have h2 := h (i + 1) (by omega) (by simp; omega)
  rw [tx_succ] at h2
  obtain ⟨k, rfl⟩ : ∃ k, i = k + 1 := ⟨i - 1, by omega⟩
  exact h2
theorem NextT.tail {x : List Nat} {l : List (List Nat)} (h : NextT (x :: l)) : NextT l := by
  intro i h0 h1
  have h2 := h (i + 1) (by omega) (by simp; omega)
  rw [tx_succ] at h2
  obtain ⟨k, rfl⟩ : ∃ k, i = k + 1 := ⟨i - 1, by omega⟩
  exact h2
theorem sorted_next (l : List (List Nat)) : SortedL l ↔ NextS l := by
  induction l with
  | nil => exact ⟨fun _ i _ h => by simp at h, fun _ => List.Pairwise.nil⟩
  | cons x l ih =>
    constructor
    · intro h i h0 h1
      obtain ⟨k1, k2⟩ := List.pairwise_cons.1 h
      obtain ⟨k, rfl⟩ : ∃ k, i = k + 1 := ⟨i - 1, by omega⟩
      rw [tx_succ]
      by_cases hk : k = 0
      · subst hk
        exact k1 _ (tx_mem (by simpa using h1))
      · have := (ih.1 k2) k (by omega) (by simpa using h1)
        obtain ⟨j, rfl⟩ : ∃ j, k = j + 1 := ⟨k - 1, by omega⟩
        exact this
    · intro h
      have hs := ih.2 h.tail
      refine List.pairwise_cons.2 ⟨fun y hy => ?_, hs⟩
      cases l with
      | nil => simp at hy
      | cons z l =>
        have hz : lessL z x = false := h 1 (by omega) (by simp)
        rcases List.mem_cons.1 hy with rfl | hy
        · exact hz
        · exact nless_trans hz ((List.pairwise_cons.1 hs).1 y hy)
theorem strict_next (l : List (List Nat)) : StrictL l ↔ NextT l := by
  induction l with
  | nil => exact ⟨fun _ i _ h => by simp at h, fun _ => List.Pairwise.nil⟩
  | cons x l ih =>
    constructor
    · intro h i h0 h1
      obtain ⟨k1, k2⟩ := List.pairwise_cons.1 h
      obtain ⟨k, rfl⟩ : ∃ k, i = k + 1 := ⟨i - 1, by omega⟩
      rw [tx_succ]
      by_cases hk : k = 0
      · subst hk
        exact k1 _ (tx_mem (by simpa using h1))
      · have := (ih.1 k2) k (by omega) (by simpa using h1)
        obtain ⟨j, rfl⟩ : ∃ j, k = j + 1 := ⟨k - 1, by omega⟩
        exact this
    · intro h
      have hs := ih.2 h.tail
      refine List.pairwise_cons.2 ⟨fun y hy => ?_, hs⟩
      cases l with
      | nil => simp at hy
      | cons z l =>
        have hz : lessL x z = true := h 1 (by omega) (by simp)
        rcases List.mem_cons.1 hy with rfl | hy
        · exact hz
        · exact less_trans _ _ _ hz ((List.pairwise_cons.1 hs).1 y hy)
/-- is it sorted? -/
def sortedB (l : List (List Nat)) : Bool := (List.range l.length).all fun i => decide (i = 0) || !lessL (tx l i) (tx l (i - 1))
def strictB (l : List (List Nat)) : Bool := (List.range l.length).all fun i => decide (i = 0) || lessL (tx l (i - 1)) (tx l i)
theorem sortedB_iff (l : List (List Nat)) : sortedB l = true ↔ NextS l := by
  unfold sortedB NextS
  simp only [List.all_eq_true, List.mem_range, Bool.or_eq_true, decide_eq_true_eq, Bool.not_eq_true']
  constructor
  · intro h i h0 h1
    exact (h i h1).resolve_left (by omega)
  · intro h i h1
    by_cases h0 : i = 0
    · exact .inl h0
    · exact .inr (h i (by omega) h1)
theorem strictB_iff (l : List (List Nat)) : strictB l = true ↔ NextT l := by
  unfold strictB NextT
  simp only [List.all_eq_true, List.mem_range, Bool.or_eq_true, decide_eq_true_eq]
  constructor
  · intro h i h0 h1
    exact (h i h1).resolve_left (by omega)
  · intro h i h1
    by_cases h0 : i = 0
    · exact .inl h0
    · exact .inr (h i (by omega) h1)
theorem sorted_true {l : List (List Nat)} (h : SortedL l) : sortedB l = true := (sortedB_iff l).2 ((sorted_next l).1 h)
theorem sorted_of {l : List (List Nat)} (h : sortedB l = true) : SortedL l := (sorted_next l).2 ((sortedB_iff l).1 h)
/-- a neighbour that is less ends it -/
theorem sorted_no {l : List (List Nat)} {i : Nat} (h0 : 0 < i) (h1 : i < l.length) (h : lessL (tx l i) (tx l (i - 1)) = true) : sortedB l = false := by
  cases hb : sortedB l with
  | false => rfl
  | true => rw [(sortedB_iff l).1 hb i h0 h1] at h; cases h
theorem strict_no {l : List (List Nat)} {i : Nat} (h0 : 0 < i) (h1 : i < l.length) (h : lessL (tx l (i - 1)) (tx l i) = false) : strictB l = false := by
  cases hb : strictB l with
  | false => rfl
  | true => rw [(strictB_iff l).1 hb i h0 h1] at h; cases h
/-- how often a text is in a list -/
def cnt (l : List (List Nat)) (x : List Nat) : Nat := l.countP fun y => !lessL x y && !lessL y x
theorem cnt_perm {a b : List (List Nat)} (h : a.Perm b) (x : List Nat) : cnt a x = cnt b x := h.countP_eq _
theorem cnt_snoc (l : List (List Nat)) (y x : List Nat) : cnt (l ++ [y]) x = cnt l x + (if (!lessL x y && !lessL y x) = true then 1 else 0) := by
  unfold cnt
  rw [List.countP_append]
  simp [List.countP_cons]
/-- two lists as one -/
def mergeL (a b : List (List Nat)) : List (List Nat) := if sortedB a = true ∧ sortedB b = true then sortL (a ++ b) else []
theorem merge_sorts (l m : List (List Nat)) : mergeL (sortL l) (sortL m) = sortL (l ++ m) := by
  unfold mergeL
  rw [if_pos ⟨sorted_true (sort_sorted l), sorted_true (sort_sorted m)⟩]
  exact sort_same ((sort_perm l).append (sort_perm m))
theorem sort_swp {l : List (List Nat)} {i j : Nat} (hi : i < l.length) (hj : j < l.length) : sortL (swp l i j) = sortL l := sort_same (swp_perm hi hj)
/-- what is taken is sorted, and no text that is left is less than one that was taken -/
def Taken (l out rest : List (List Nat)) : Prop := SortedL out ∧ (out ++ rest).Perm l ∧ ∀ x ∈ out, ∀ y ∈ rest, lessL y x = false
theorem Taken.start (l rest : List (List Nat)) (h : rest.Perm l) : Taken l [] rest := ⟨List.Pairwise.nil, h, fun x hx => by simp at hx⟩
theorem Taken.next {l out rest rest' : List (List Nat)} {x : List Nat} (h : Taken l out rest) (hp : (x :: rest').Perm rest) (hm : ∀ y ∈ rest', lessL y x = false) : Taken l (out ++ [x]) rest' := by
  obtain ⟨h1, h2, h3⟩ := h
  have hx : x ∈ rest := hp.subset (List.mem_cons_self ..)
  refine ⟨List.pairwise_append.2 ⟨h1, List.pairwise_singleton _ _, fun a ha b hb => ?_⟩, ?_, ?_⟩
  · rw [List.mem_singleton.1 hb]
    exact h3 a ha x hx
  · rw [List.append_assoc]
    exact (List.Perm.append_left out hp).trans h2
  · intro a ha y hy
    rcases List.mem_append.1 ha with ha | ha
    · exact h3 a ha y (hp.subset (List.mem_cons_of_mem _ hy))
    · rw [List.mem_singleton.1 ha]
      exact hm y hy
theorem Taken.done {l out : List (List Nat)} (h : Taken l out []) : out = sortL l := sort_is h.1 (by have := h.2.1; rw [List.append_nil] at this; exact this)
/-- from a heap: the top, and the rest of it -/
theorem heap_takes {n : Nat} {l l' : List (List Nat)} (hn : l.length = n + 1) (h : Hp 0 (n + 1) l) (hp : l'.Perm (swp l 0 n)) (hl : tx l' n = tx l 0) :
    (tx l 0 :: l'.take n).Perm l ∧ ∀ y ∈ l'.take n, lessL y (tx l 0) = false := by
  have hlen : l'.length = n + 1 := by rw [hp.length_eq, swp_len, hn]
  have e : l' = l'.take n ++ [tx l 0] := by
    have h1 := take_tx (ls := l') (k := n) (by omega)
    rw [hl, List.take_of_length_le (by omega)] at h1
    exact h1
  have hpl : l'.Perm l := hp.trans (swp_perm (by omega) (by omega))
  constructor
  · have h2 : (l'.take n ++ [tx l 0]).Perm l := by rw [← e]; exact hpl
    exact (List.perm_append_comm (l₁ := [tx l 0]) (l₂ := l'.take n)).trans h2
  · intro y hy
    obtain ⟨i, hi, rfl⟩ := mem_tx (hpl.subset (List.mem_of_mem_take hy))
    exact h.min i (by omega)
/-- where a text is to be laid -/
theorem upTo_is {x : List Nat} {l : List (List Nat)} {k : Nat} (h1 : ∀ i, i < k → lessL x (tx l i) = false) (h2 : k = l.length ∨ (k < l.length ∧ lessL x (tx l k) = true)) : upTo x l = k := by
  induction l generalizing k with
  | nil =>
    rcases h2 with h2 | ⟨h2, _⟩
    · simp at h2; rw [h2]; rfl
    · simp at h2
  | cons y l ih =>
    unfold upTo
    cases k with
    | zero =>
      rcases h2 with h2 | ⟨_, h2⟩
      · simp at h2
      · rw [tx_zero] at h2
        rw [if_pos h2]
    | succ k =>
      have h0 := h1 0 (by omega)
      rw [tx_zero] at h0
      rw [if_neg (by rw [h0]; simp)]
      rw [ih (k := k) (fun i hi => by have := h1 (i + 1) (by omega); rw [tx_succ] at this; exact this) (by
        rcases h2 with h2 | ⟨h2, h3⟩
        · left; simp at h2; exact h2
        · right; rw [tx_succ] at h3; exact ⟨by simp at h2; exact h2, h3⟩)]
end Go.Proofs.YtjkciheoknjfhaaDoor

/- Plain facts on values as bytes, in one way alone. -/
namespace Go.Proofs.YtjkciheoknjfhaaDoor
open Go.RowKit
set_option linter.unusedVariables false

/-- a value -/
inductive Nd where
  | mk (tag : Int) (bytes : List Nat) (kids : List Nd)

/-- a tag of what has parts -/
def boxedB (t : Int) : Bool := decide (t = 48 ∨ t = 49 ∨ (160 ≤ t ∧ t ≤ 190))
/-- a tag -/
def taggedB (t : Int) : Bool := decide ((1 ≤ t ∧ t ≤ 6) ∨ t = 12 ∨ t = 24 ∨ (128 ≤ t ∧ t ≤ 158)) || boxedB t
theorem tagged_range {t : Int} (h : taggedB t = true) : 1 ≤ t ∧ t ≤ 190 := by
  unfold taggedB boxedB at h
  rw [Bool.or_eq_true, decide_eq_true_eq, decide_eq_true_eq] at h
  omega
/-- a length as bytes -/
def lenE (n : Nat) : List Nat := if n < 128 then [n] else if n < 256 then [129, n] else if n < 65536 then [130, n / 256, n % 256] else [131, n / 65536, n / 256 % 256, n % 256]
def beN (l : List Nat) : Nat := l.foldl (fun n x => n * 256 + x) 0
/-- the length that bytes begin with, and how many bytes it has; 0: it is written otherwise -/
def lenD (b : List Nat) : Nat × Nat :=
  if b.length = 0 then (0, 0) else if el b 0 < 128 then (el b 0, 1)
  else if el b 0 - 128 < 1 ∨ 3 < el b 0 - 128 ∨ b.length < 1 + (el b 0 - 128) then (0, 0)
  else if el b 1 = 0 ∨ beN ((b.drop 1).take (el b 0 - 128)) < 128 then (0, 0) else (beN ((b.drop 1).take (el b 0 - 128)), 1 + (el b 0 - 128))
theorem lenE_len (n : Nat) : 1 ≤ (lenE n).length ∧ (lenE n).length ≤ 4 := by
  unfold lenE
  (repeat' split) <;> simp
theorem lenE_under {n : Nat} (h : n < 16777216) : Under 256 (lenE n) := by
  unfold lenE
  (repeat' split) <;> (intro x hx; simp at hx; omega)
theorem len_dec {n : Nat} (h : n < 16777216) (r : List Nat) : lenD (lenE n ++ r) = (n, (lenE n).length) := by
  unfold lenE
  by_cases h1 : n < 128
  · rw [if_pos h1]
    simp [lenD, el, h1]
  rw [if_neg h1]
  by_cases h2 : n < 256
  · rw [if_pos h2]
    simp [lenD, el, beN]
    rw [if_neg (by omega), if_neg (by omega)]
  rw [if_neg h2]
  by_cases h3 : n < 65536
  · rw [if_pos h3]
    simp [lenD, el, beN]
    rw [if_neg (by omega), if_neg (by omega)]
    simp
    omega
  rw [if_neg h3]
  simp [lenD, el, beN]
  rw [if_neg (by omega), if_neg (by omega)]
  simp
  omega
theorem len_enc {b : List Nat} {n k : Nat} (hb : Under 256 b) (h : lenD b = (n, k)) (hk : k ≠ 0) : lenE n = b.take k ∧ n < 16777216 ∧ k ≤ b.length := by
  unfold lenD at h
  by_cases h0 : b.length = 0
  · rw [if_pos h0] at h; cases h; exact absurd rfl hk
  rw [if_neg h0] at h
  cases b with
  | nil => simp at h0
  | cons x b =>
  have hx := hb x (by simp)
  have e0 : el (x :: b) 0 = x := rfl
  rw [e0] at h
  by_cases h1 : x < 128
  · rw [if_pos h1] at h
    cases h
    exact ⟨by simp [lenE, h1], by omega, by simp⟩
  rw [if_neg h1] at h
  by_cases h2 : x - 128 < 1 ∨ 3 < x - 128 ∨ (x :: b).length < 1 + (x - 128)
  · rw [if_pos h2] at h; cases h; exact absurd rfl hk
  rw [if_neg h2] at h
  by_cases h3 : el (x :: b) 1 = 0 ∨ beN (((x :: b).drop 1).take (x - 128)) < 128
  · rw [if_pos h3] at h; cases h; exact absurd rfl hk
  rw [if_neg h3] at h
  simp only [List.length_cons] at h2
  rcases (by omega : x = 129 ∨ x = 130 ∨ x = 131) with rfl | rfl | rfl
  · match b, h2, h3, h, hb with
    | a :: b, h2, h3, h, hb =>
      have ha := hb a (by simp)
      simp [beN, el] at h3 h
      obtain ⟨rfl, rfl⟩ := h
      refine ⟨?_, by omega, by simp⟩
      unfold lenE
      rw [if_neg (by omega), if_pos (by omega)]
      rfl
    | [], h2, _, _, _ => simp at h2
  · match b, h2, h3, h, hb with
    | a :: c :: b, h2, h3, h, hb =>
      have ha := hb a (by simp)
      have hc := hb c (by simp)
      simp [beN, el] at h3 h
      obtain ⟨rfl, rfl⟩ := h
      refine ⟨?_, by omega, by simp⟩
      unfold lenE
      rw [if_neg (by omega), if_neg (by omega), if_pos (by omega), show (a * 256 + c) / 256 = a by omega, show (a * 256 + c) % 256 = c by omega]
      rfl
    | [a], h2, _, _, _ => simp at h2
    | [], h2, _, _, _ => simp at h2
  · match b, h2, h3, h, hb with
    | a :: c :: d :: b, h2, h3, h, hb =>
      have ha := hb a (by simp)
      have hc := hb c (by simp)
      have hd := hb d (by simp)
      simp [beN, el] at h3 h
      obtain ⟨rfl, rfl⟩ := h
      refine ⟨?_, by omega, by simp⟩
      unfold lenE
      rw [if_neg (by omega), if_neg (by omega), if_neg (by omega), show ((a * 256 + c) * 256 + d) / 65536 = a by omega, show ((a * 256 + c) * 256 + d) / 256 % 256 = c by omega, show ((a * 256 + c) * 256 + d) % 256 = d by omega]
      rfl
    | [a, c], h2, _, _, _ => simp at h2
    | [a], h2, _, _, _ => simp at h2
    | [], h2, _, _, _ => simp at h2

/-- all of a list, or none -/
def allS (g : Nd → Option (List Nat)) : List Nd → Option (List (List Nat))
  | [] => some []
  | x :: ks => match g x with
    | none => none
    | some b => match allS g ks with
      | none => none
      | some bs => some (b :: bs)
/-- a value's bytes, if it is fit, so many deep at most; FB: do bytes fit a tag? -/
def wrD (FB : Int → List Nat → Bool) : Nat → Nd → Option (List Nat)
  | 0, _ => none
  | d + 1, .mk t b ks =>
    if taggedB t = false then none
    else if boxedB t = false then
      if ks.length ≠ 0 ∨ 1048576 < b.length ∨ FB t b = false then none else some (t.toNat :: lenE b.length ++ b)
    else if b.length ≠ 0 then none
    else match allS (wrD FB d) ks with
      | none => none
      | some bs => if 1048576 < bs.flatten.length ∨ (t = 49 ∧ sortedB bs = false) then none else some (t.toNat :: lenE bs.flatten.length ++ bs.flatten)
/-- what is told of bytes: an error, or what -/
inductive Res (α : Type) where
  | err (e : Nat)
  | ok (a : α)
/-- values one behind the other, and the bytes of each -/
def rdk (g : List Nat → Res (Nd × Nat)) : Nat → List Nat → Res (List (Nd × List Nat))
  | _, [] => .ok []
  | 0, _ :: _ => .err 0
  | f + 1, b :: r => match g (b :: r) with
    | .err e => .err e
    | .ok (x, m) => match rdk g f ((b :: r).drop m) with
      | .err e => .err e
      | .ok l => .ok ((x, (b :: r).take m) :: l)
/-- the value that bytes begin with, and how many they are -/
def rd (FB : Int → List Nat → Bool) : Nat → List Nat → Res (Nd × Nat)
  | 0, _ => .err 3
  | _ + 1, [] => .err 1
  | d + 1, t :: r =>
    if taggedB (t : Int) = false then .err 4
    else if (lenD r).2 = 0 ∨ r.length - (lenD r).2 < (lenD r).1 then .err 1
    else if boxedB (t : Int) = false then
      if FB (t : Int) ((r.drop (lenD r).2).take (lenD r).1) = false then .err 5 else .ok (.mk (t : Int) ((r.drop (lenD r).2).take (lenD r).1) [], 1 + (lenD r).2 + (lenD r).1)
    else match rdk (rd FB d) (lenD r).1 ((r.drop (lenD r).2).take (lenD r).1) with
      | .err e => .err e
      | .ok l => if t = 49 ∧ sortedB (l.map (·.2)) = false then .err 6 else .ok (.mk (t : Int) [] (l.map (·.1)), 1 + (lenD r).2 + (lenD r).1)

/-- what is read is written back, for one value -/
def Reads (W : Nd → Option (List Nat)) (g : List Nat → Res (Nd × Nat)) : Prop :=
  ∀ b x m, Under 256 b → b.length ≤ 1048576 → g b = .ok (x, m) → 2 ≤ m ∧ m ≤ b.length ∧ W x = some (b.take m)
theorem rdk_reads {W : Nd → Option (List Nat)} {g : List Nat → Res (Nd × Nat)} (h : Reads W g) : ∀ f b l, Under 256 b → b.length ≤ 1048576 → rdk g f b = .ok l → allS W (l.map (·.1)) = some (l.map (·.2)) ∧ (l.map (·.2)).flatten = b := by
  intro f
  induction f with
  | zero =>
    intro b l hu hb he
    cases b with
    | nil => rw [rdk] at he; cases he; exact ⟨rfl, rfl⟩
    | cons x b => rw [rdk] at he; cases he
  | succ f ih =>
    intro b l hu hb he
    cases b with
    | nil => rw [rdk] at he; cases he; exact ⟨rfl, rfl⟩
    | cons x b =>
      rw [rdk] at he
      cases hg : g (x :: b) with
      | err e => rw [hg] at he; cases he
      | ok p =>
        obtain ⟨y, m⟩ := p
        rw [hg] at he
        obtain ⟨h2, h3, h4⟩ := h _ _ _ hu hb hg
        simp only at he
        cases hr : rdk g f ((x :: b).drop m) with
        | err e => rw [hr] at he; cases he
        | ok l' =>
          rw [hr] at he
          cases he
          obtain ⟨k1, k2⟩ := ih _ _ (fun z hz => hu z (List.mem_of_mem_drop hz)) (by simp at hb ⊢; omega) hr
          refine ⟨?_, ?_⟩
          · simp only [List.map_cons, allS, h4, k1]
          · simp only [List.map_cons, List.flatten_cons, k2]
            exact List.take_append_drop m (x :: b)
theorem rd_reads (FB : Int → List Nat → Bool) : ∀ d, Reads (wrD FB d) (rd FB d) := by
  intro d
  induction d with
  | zero => intro b x m _ _ h; rw [rd] at h; cases h
  | succ d ih =>
    intro b x m hu hb h
    cases b with
    | nil => rw [rd] at h; cases h
    | cons t r =>
      rw [rd] at h
      obtain ⟨n, hn⟩ : ∃ n, (lenD r).1 = n := ⟨_, rfl⟩
      obtain ⟨k, hk⟩ : ∃ k, (lenD r).2 = k := ⟨_, rfl⟩
      rw [hn, hk] at h
      have hur : Under 256 r := fun z hz => hu z (List.mem_cons_of_mem _ hz)
      simp only [List.length_cons] at hb
      cases ht : taggedB (t : Int) with
      | false => rw [if_pos ht] at h; cases h
      | true =>
      rw [if_neg (by rw [ht]; simp)] at h
      by_cases hc : k = 0 ∨ r.length - k < n
      · rw [if_pos hc] at h; cases h
      rw [if_neg hc] at h
      obtain ⟨e1, e2, e3⟩ := len_enc hur (n := n) (k := k) (by rw [← hn, ← hk]) (by omega)
      have hin : ((r.drop k).take n).length = n := by simp; omega
      have hall : (t :: r).take (1 + k + n) = t :: lenE n ++ (r.drop k).take n := by
        rw [show 1 + k + n = (k + n) + 1 by omega, List.take_succ_cons, List.take_add, e1]
        rfl
      cases hx : boxedB (t : Int) with
      | false =>
        rw [if_pos hx] at h
        cases hf : FB (t : Int) ((r.drop k).take n) with
        | false => rw [if_pos hf] at h; cases h
        | true =>
          rw [if_neg (by rw [hf]; simp)] at h
          cases h
          refine ⟨by omega, by simp; omega, ?_⟩
          rw [wrD, if_neg (by rw [ht]; simp), if_pos hx, if_neg (by rw [hf, hin]; simp; omega), hin, hall]
          rfl
      | true =>
        rw [if_neg (by rw [hx]; simp)] at h
        cases hq : rdk (rd FB d) n ((r.drop k).take n) with
        | err e => rw [hq] at h; cases h
        | ok l =>
          rw [hq] at h
          simp only at h
          by_cases hs : t = 49 ∧ sortedB (l.map (·.2)) = false
          · rw [if_pos hs] at h; cases h
          rw [if_neg hs] at h
          cases h
          obtain ⟨k1, k2⟩ := rdk_reads ih n _ l (fun z hz => hur z (List.mem_of_mem_drop (List.mem_of_mem_take hz))) (by rw [hin]; omega) hq
          refine ⟨by omega, by simp; omega, ?_⟩
          rw [wrD, if_neg (by rw [ht]; simp), if_neg (by rw [hx]; simp), if_neg (by simp), k1]
          simp only
          rw [k2, hin, if_neg (by
            rintro (h1 | ⟨h1, h2⟩)
            · omega
            · exact hs ⟨by omega, h2⟩), hall]
          rfl

/-- what is written is read back, whatever is behind it -/
def Writes (W : Nd → Option (List Nat)) (g : List Nat → Res (Nd × Nat)) : Prop :=
  ∀ x w, W x = some w → 2 ≤ w.length ∧ ∀ r, g (w ++ r) = .ok (x, w.length)
theorem rdk_writes {W : Nd → Option (List Nat)} {g : List Nat → Res (Nd × Nat)} (h : Writes W g) : ∀ (ks : List Nd) (bs : List (List Nat)), allS W ks = some bs → ∀ f, bs.flatten.length ≤ f → ∃ l, rdk g f bs.flatten = .ok l ∧ l.map (·.1) = ks ∧ l.map (·.2) = bs := by
  intro ks
  induction ks with
  | nil =>
    intro bs hs f hf
    rw [allS] at hs
    cases hs
    exact ⟨[], by cases f <;> rfl, rfl, rfl⟩
  | cons x ks ih =>
    intro bs hs f hf
    rw [allS] at hs
    cases hx : W x with
    | none => rw [hx] at hs; cases hs
    | some w =>
      rw [hx] at hs
      simp only at hs
      cases hk : allS W ks with
      | none => rw [hk] at hs; cases hs
      | some bs' =>
        rw [hk] at hs
        cases hs
        obtain ⟨h1, h2⟩ := h x w hx
        simp only [List.flatten_cons, List.length_append] at hf ⊢
        obtain ⟨f', rfl⟩ : ∃ f', f = f' + 1 := ⟨f - 1, by omega⟩
        obtain ⟨l, k1, k2, k3⟩ := ih bs' hk f' (by omega)
        have hg := h2 bs'.flatten
        cases hw : w ++ bs'.flatten with
        | nil =>
          have := congrArg List.length hw
          simp at this
          rw [this.1] at h1
          simp at h1
        | cons y r =>
          rw [rdk, ← hw, hg]
          simp only
          rw [List.drop_left, List.take_left, k1]
          exact ⟨_, rfl, by simp [k2], by simp [k3]⟩
theorem rd_writes (FB : Int → List Nat → Bool) : ∀ d, Writes (wrD FB d) (rd FB d) := by
  intro d
  induction d with
  | zero => intro x w h; rw [wrD] at h; cases h
  | succ d ih =>
    rintro ⟨t, b, ks⟩ w h
    rw [wrD] at h
    cases ht : taggedB t with
    | false => rw [if_pos ht] at h; cases h
    | true =>
    rw [if_neg (by rw [ht]; simp)] at h
    obtain ⟨T, rfl⟩ : ∃ T : Nat, t = (T : Int) := ⟨t.toNat, by have := tagged_range ht; omega⟩
    have key : ∀ body : List Nat, body.length ≤ 1048576 → ∀ r, lenD (lenE body.length ++ body ++ r) = (body.length, (lenE body.length).length) ∧ ((lenE body.length ++ body ++ r).drop (lenE body.length).length).take body.length = body ∧ ¬ ((lenE body.length).length = 0 ∨ (lenE body.length ++ body ++ r).length - (lenE body.length).length < body.length) := by
      intro body hbody r
      have hl := lenE_len body.length
      refine ⟨by rw [List.append_assoc]; exact len_dec (by omega) _, ?_, ?_⟩
      · rw [List.append_assoc, List.drop_left, List.take_left]
      · simp only [List.length_append]; omega
    cases hx : boxedB (T : Int) with
    | false =>
      rw [if_pos hx] at h
      by_cases hc : ks.length ≠ 0 ∨ 1048576 < b.length ∨ FB (T : Int) b = false
      · rw [if_pos hc] at h; cases h
      rw [if_neg hc] at h
      cases h
      have hks : ks = [] := List.eq_nil_of_length_eq_zero (by omega)
      subst hks
      have hf : FB (T : Int) b = true := by cases hf : FB (T : Int) b with
        | true => rfl
        | false => exact absurd (.inr (.inr hf)) hc
      have hl := lenE_len b.length
      refine ⟨by simp; omega, fun r => ?_⟩
      obtain ⟨e1, e2, e3⟩ := key b (by omega) r
      show rd FB (d + 1) (T :: (lenE b.length ++ b ++ r)) = _
      rw [rd, if_neg (by rw [ht]; simp), e1]
      simp only
      rw [if_neg e3, if_pos hx, e2, if_neg (by rw [hf]; simp)]
      simp only [List.length_append, List.length_cons, Int.toNat_natCast, Res.ok.injEq, Prod.mk.injEq, true_and]
      omega
    | true =>
      rw [if_neg (by rw [hx]; simp)] at h
      by_cases hb : b.length ≠ 0
      · rw [if_pos hb] at h; cases h
      rw [if_neg hb] at h
      have hb0 : b = [] := List.eq_nil_of_length_eq_zero (by omega)
      subst hb0
      cases hk : allS (wrD FB d) ks with
      | none => rw [hk] at h; cases h
      | some bs =>
        rw [hk] at h
        simp only at h
        by_cases hc : 1048576 < bs.flatten.length ∨ ((T : Int) = 49 ∧ sortedB bs = false)
        · rw [if_pos hc] at h; cases h
        rw [if_neg hc] at h
        cases h
        have hl := lenE_len bs.flatten.length
        refine ⟨by simp only [List.cons_append, List.length_cons, List.length_append]; omega, fun r => ?_⟩
        obtain ⟨e1, e2, e3⟩ := key bs.flatten (by omega) r
        obtain ⟨l, k1, k2, k3⟩ := rdk_writes ih ks bs hk bs.flatten.length (Nat.le_refl _)
        show rd FB (d + 1) (T :: (lenE bs.flatten.length ++ bs.flatten ++ r)) = _
        rw [rd, if_neg (by rw [ht]; simp), e1]
        simp only
        rw [if_neg e3, if_neg (by rw [hx]; simp), e2, k1]
        simp only
        rw [k2, k3, if_neg (by
          rintro ⟨h1, h2⟩
          exact hc (.inr ⟨by omega, h2⟩))]
        simp only [List.length_append, List.length_cons, Int.toNat_natCast, Res.ok.injEq, Prod.mk.injEq, true_and]
        omega

/-- what Parse tells of bytes -/
def parseD (FB : Int → List Nat → Bool) (b : List Nat) : Res Nd :=
  if 1048576 < b.length then .err 2
  else match rd FB 32 b with
    | .err e => .err e
    | .ok (x, m) => if m < b.length then .err 7 else .ok x
/-- a value's bytes, if it is fit -/
def bytesD (FB : Int → List Nat → Bool) (x : Nd) : Option (List Nat) :=
  match wrD FB 32 x with
  | none => none
  | some w => if 1048576 < w.length then none else some w
theorem bytes_wr {FB : Int → List Nat → Bool} {x : Nd} {w : List Nat} (h : bytesD FB x = some w) : wrD FB 32 x = some w ∧ w.length ≤ 1048576 := by
  unfold bytesD at h
  cases hw : wrD FB 32 x with
  | none => rw [hw] at h; cases h
  | some v =>
    rw [hw] at h
    simp only at h
    by_cases hl : 1048576 < v.length
    · rw [if_pos hl] at h; cases h
    · rw [if_neg hl] at h; cases h; exact ⟨rfl, by omega⟩
/-- one way alone: a fit value's bytes are read as it -/
theorem parse_bytes {FB : Int → List Nat → Bool} {x : Nd} {w : List Nat} (h : bytesD FB x = some w) : parseD FB w = .ok x := by
  obtain ⟨hw, hl⟩ := bytes_wr h
  have h1 := (rd_writes FB 32 x w hw).2 []
  rw [List.append_nil] at h1
  unfold parseD
  rw [if_neg (by omega), h1]
  simp only
  rw [if_neg (by omega)]
/-- what is read is fit, and its bytes are what was read -/
theorem bytes_parse {FB : Int → List Nat → Bool} {x : Nd} {b : List Nat} (hu : Under 256 b) (h : parseD FB b = .ok x) : bytesD FB x = some b := by
  unfold parseD at h
  by_cases hl : 1048576 < b.length
  · rw [if_pos hl] at h; cases h
  rw [if_neg hl] at h
  cases hr : rd FB 32 b with
  | err e => rw [hr] at h; cases h
  | ok p =>
    obtain ⟨y, m⟩ := p
    rw [hr] at h
    simp only at h
    by_cases hm : m < b.length
    · rw [if_pos hm] at h; cases h
    rw [if_neg hm] at h
    cases h
    obtain ⟨h2, h3, h4⟩ := rd_reads FB 32 b x m hu (by omega) hr
    rw [List.take_of_length_le (by omega)] at h4
    unfold bytesD
    rw [h4]
    simp only
    rw [if_neg hl]
/-- with something behind them they are none -/
theorem parse_behind {FB : Int → List Nat → Bool} {x : Nd} {w r : List Nat} (h : bytesD FB x = some w) (hr : r ≠ []) (hl : (w ++ r).length ≤ 1048576) : parseD FB (w ++ r) = .err 7 := by
  obtain ⟨hw, _⟩ := bytes_wr h
  have h1 := (rd_writes FB 32 x w hw).2 r
  have hp : 0 < r.length := List.length_pos_iff.2 hr
  unfold parseD
  rw [if_neg (by omega), h1]
  simp only
  rw [if_pos (by simp only [List.length_append]; omega)]
/-- of unlike values neither's bytes begin with the other's -/
theorem bytes_pre {FB : Int → List Nat → Bool} {x y : Nd} {a r : List Nat} (h : bytesD FB x = some a) (h' : bytesD FB y = some (a ++ r)) : x = y ∧ r = [] := by
  have h1 := (rd_writes FB 32 x a (bytes_wr h).1).2 r
  have h2 := (rd_writes FB 32 y (a ++ r) (bytes_wr h').1).2 []
  rw [List.append_nil, h1] at h2
  have h3 := Prod.mk.inj (Res.ok.inj h2)
  refine ⟨h3.1, ?_⟩
  have h4 := h3.2
  rw [List.length_append] at h4
  exact List.eq_nil_of_length_eq_zero (by omega)
/-- no beginning of a value's bytes is a value's -/
theorem parse_cut {FB : Int → List Nat → Bool} {x z : Nd} {a : List Nat} {k : Nat} (hu : Under 256 a) (h : bytesD FB x = some a) (hk : k < a.length) : parseD FB (a.take k) ≠ .ok z := by
  intro hz
  have h1 := bytes_parse (fun v hv => hu v (List.mem_of_mem_take hv)) hz
  have h2 : a = a.take k ++ a.drop k := (List.take_append_drop k a).symm
  rw [h2] at h
  have h3 := (bytes_pre h1 h).2
  have h4 := congrArg List.length h3
  simp at h4
  omega
end Go.Proofs.YtjkciheoknjfhaaDoor
