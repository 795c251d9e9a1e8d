/- Plain facts on identifiers as texts, and what a text is read as. -/
import Derived.Test.YtpmdbbmichncmaaDoorOVar
import Derived.Lib.ParseIntBCases
import Derived.Lib.SplitLaws
namespace Go.Proofs.YtpmdbbmichncmaaDoor
open Go.RowKit
set_option linter.unusedVariables false

/-- no point is in it -/
def Clean (l : List UInt8) : Prop := ∀ c ∈ l, c ≠ ch 46
theorem dg_clean (n : Nat) : Clean (dg n) := by
  intro c hc h
  have := dg_digit n c hc
  rw [h, ch_nat (by decide)] at this
  omega

theorem parse_app (M : Nat) : ∀ (l r : List UInt8) (acc u : Nat), Lib.parseUintM M acc l = .ok u → Lib.parseUintM M acc (l ++ r) = Lib.parseUintM M u r
  | [], r, acc, u, h => by simp only [Lib.parseUintM, Lib.NumEnd.ok.injEq] at h; subst h; rfl
  | c :: l, r, acc, u, h => by
    rw [List.cons_append]
    rw [Lib.parseUintM] at h
    conv => lhs; rw [Lib.parseUintM]
    split at h
    · rename_i h1
      rw [if_pos h1]
      split at h
      · cases h
      · rename_i h2
        rw [if_neg h2]
        split at h
        · cases h
        · rename_i h3
          rw [if_neg h3]
          exact parse_app M l r _ u h
    · cases h
theorem parse_dgM (M : Nat) (hM : M < 1844674407370955162) (n : Nat) (hn : n ≤ M) : Lib.parseUintM M 0 (dg n) = .ok n := by
  induction n using Nat.strongRecOn with
  | ind n ih =>
    by_cases h : n < 10
    · rw [dg_low h]
      simp only [Lib.parseUintM, ch_nat (show 48 + n < 256 by omega)]
      rw [if_pos (by omega), if_neg (by omega), if_neg (by omega)]
      congr 1; omega
    · rw [dg_high h, parse_app M _ _ 0 (n / 10) (ih (n / 10) (by omega) (by omega))]
      simp only [Lib.parseUintM, ch_nat (show 48 + n % 10 < 256 by omega)]
      rw [if_pos (by omega), if_neg (by omega), if_neg (by omega)]
      congr 1; omega
theorem parse_dg {n : Nat} (hn : n < 4294967296) : Lib.parseUintB 32 (dg n) = .ok n := by
  unfold Lib.parseUintB
  have h := dg_pos n
  rw [if_neg (by intro e; rw [e] at h; simp at h)]
  exact parse_dgM _ (by decide) n (by omega)
theorem parse_lt {l : List UInt8} {u : Nat} (h : Lib.parseUintB 32 l = .ok u) : u < 4294967296 := by
  unfold Lib.parseUintB at h
  split at h
  · cases h
  · have := Lib.parseUintM_le (2 ^ 32 - 1) l 0 u (Nat.zero_le _) h
    omega

/-- numbers, a point between -/
def joinF : List Nat → List UInt8
  | [] => []
  | [a] => dg a
  | a :: b :: r => dg a ++ ch 46 :: joinF (b :: r)
theorem joinF_flat (a : Nat) (r : List Nat) : joinF (a :: r) = dg a ++ r.flatMap (fun x => ch 46 :: dg x) := by
  induction r generalizing a with
  | nil => simp [joinF]
  | cons b r ih => rw [joinF, ih]; simp
theorem text_join {l : List Nat} (hf : fitB l = true) : textS l = joinF l := by
  rw [text_some hf]
  obtain ⟨a, b, r, rfl, _⟩ := fit_two hf
  rw [joinF_flat]
  unfold joinTo
  rw [List.take_of_length_le (by simp)]
  rfl
theorem joinF_cons {a : Nat} {r : List Nat} (h : r ≠ []) : joinF (a :: r) = dg a ++ ch 46 :: joinF r := by
  match r, h with
  | b :: r, _ => rfl

theorem index_clean (p t : List UInt8) (h : Clean p) : Lib.index (p ++ ch 46 :: t) [ch 46] = p.length := by
  induction p with
  | nil => unfold Lib.index; simp [List.isPrefixOf]
  | cons c p ih =>
    have hc : c ≠ ch 46 := h c (by simp)
    have h2 := ih (fun x hx => h x (by simp [hx]))
    rw [List.cons_append]
    unfold Lib.index
    have hp : [ch 46].isPrefixOf (c :: (p ++ ch 46 :: t)) = false := by simp [List.isPrefixOf]; exact fun e => hc e.symm
    rw [hp, h2]
    simp
theorem index_none (p : List UInt8) (h : Clean p) : Lib.index p [ch 46] = -1 := by
  induction p with
  | nil => simp [Lib.index]
  | cons c p ih =>
    have hc : c ≠ ch 46 := h c (by simp)
    have h2 := ih (fun x hx => h x (by simp [hx]))
    unfold Lib.index
    have hp : [ch 46].isPrefixOf (c :: p) = false := by simp [List.isPrefixOf]; exact fun e => hc e.symm
    rw [hp, h2]
    simp
theorem split_clean (k : Nat) (p : List UInt8) (h : Clean p) : Lib.splitK [ch 46] 0 k p = [p] := by
  cases k with
  | zero => rfl
  | succ k => unfold Lib.splitK; rw [index_none p h]; rfl
theorem split_hit (k : Nat) (p t : List UInt8) (h : Clean p) : Lib.splitK [ch 46] 0 (k + 1) (p ++ ch 46 :: t) = p :: Lib.splitK [ch 46] 0 k t := by
  conv => lhs; unfold Lib.splitK
  rw [index_clean p t h]
  have e : (((p.length : Nat) : Int) == -1) = false := beq_eq_false_iff_ne.2 (by omega)
  rw [e]
  simp
theorem split_join (a : Nat) (r : List Nat) : ∀ k, r.length ≤ k → Lib.splitK [ch 46] 0 k (joinF (a :: r)) = (a :: r).map dg := by
  induction r generalizing a with
  | nil => intro k _; rw [joinF, split_clean k _ (dg_clean a)]; rfl
  | cons b r ih =>
    intro k hk
    obtain ⟨j, rfl⟩ : ∃ j, k = j + 1 := ⟨k - 1, by simp at hk; omega⟩
    rw [joinF_cons (by simp), split_hit j _ _ (dg_clean a), ih b j (by simp at hk; omega)]
    rfl

def num1 (p : List UInt8) : Option Nat := match Lib.parseUintB 32 p with | .ok u => some u | _ => none
def numsOf : List (List UInt8) → Option (List Nat)
  | [] => some []
  | p :: r => (num1 p).bind fun u => (numsOf r).map (u :: ·)
theorem numsOf_dg (o : List Nat) (h : Under 4294967296 o) : numsOf (o.map dg) = some o := by
  induction o with
  | nil => rfl
  | cons a r ih =>
    rw [List.map_cons, numsOf, num1, parse_dg (h a (by simp)), ih (fun x hx => h x (by simp [hx]))]
    rfl
theorem numsOf_under {ps : List (List UInt8)} {o : List Nat} (h : numsOf ps = some o) : Under 4294967296 o := by
  induction ps generalizing o with
  | nil => cases h; intro x hx; simp at hx
  | cons p r ih =>
    obtain ⟨u, hu, h2⟩ := Option.bind_eq_some_iff.1 h
    obtain ⟨q, hq, rfl⟩ := Option.map_eq_some_iff.1 h2
    intro x hx
    rcases List.mem_cons.1 hx with rfl | hx
    · unfold num1 at hu
      split at hu
      · rename_i v hv
        cases hu
        exact parse_lt hv
      · cases hu
    · exact ih hq x hx

def partsS (l : List UInt8) : List (List UInt8) := Lib.splitK [ch 46] 0 (min 21 (l.length + 1) - 1) l
/-- the identifier that a text is, as the program finds it -/
def readO (l : List UInt8) : Option (List Nat) := (numsOf (partsS l)).bind fun o => if fitB o = true ∧ textS o = l then some o else none

theorem joinF_len (o : List Nat) : o.length ≤ (joinF o).length + 1 := by
  induction o with
  | nil => simp
  | cons a r ih =>
    cases r with
    | nil => have := dg_pos a; simp
    | cons b r => rw [joinF_cons (by simp), List.length_append, List.length_cons]; simp at ih ⊢; omega

theorem readO_iff {l : List UInt8} {o : List Nat} (hu : Under 4294967296 o) : readO l = some o ↔ (fitB o = true ∧ textS o = l) := by
  unfold readO
  constructor
  · intro h
    obtain ⟨q, hq, h2⟩ := Option.bind_eq_some_iff.1 h
    split at h2
    · rename_i hc; cases h2; exact hc
    · cases h2
  · rintro ⟨h1, rfl⟩
    have e : partsS (textS o) = o.map dg := by
      rw [text_join h1]
      unfold partsS
      have hl := joinF_len o
      obtain ⟨a, b, r, rfl, hr, _⟩ := fit_two h1
      exact split_join a (b :: r) _ (by simp at hl ⊢; omega)
    rw [e, numsOf_dg o hu]
    simp [h1]
theorem readO_under {l : List UInt8} {o : List Nat} (h : readO l = some o) : Under 4294967296 o := by
  unfold readO at h
  obtain ⟨q, hq, h2⟩ := Option.bind_eq_some_iff.1 h
  split at h2
  · cases h2; exact numsOf_under hq
  · cases h2
end Go.Proofs.YtpmdbbmichncmaaDoor
