/- Trees of leaves that sign once: the knots by their numbers, plain. -/
import Derived.Test.YtefndnbaifiboaaDoorLmC
import Derived.Test.YtefndnbaifiboaaDoorGEn32
import Derived.Test.YtefndnbaifiboaaDoorLsA
import Derived.Test.YtefndnbaifiboaaDoorBase
import Derived.Test.YtefndnbaifiboaaDoorLcS
namespace Go.Proofs.YtefndnbaifiboaaDoor
open Go.RowKit
set_option linter.unusedVariables false
set_option linter.unusedSimpArgs false

section
variable (ov : Nat → List Nat → List Nat → List Nat) (lf : Nat → List Nat)
/-- the sum of knot i of a tree of height h -/
def knA (h i : Nat) : List Nat := kn ov lf (h - Nat.log2 i) i
end
/-- i lies l levels below the top -/
def Lev (l i : Nat) : Prop := 2 ^ l ≤ i ∧ i < 2 ^ (l + 1)
theorem Lev.log {l i : Nat} (h : Lev l i) : Nat.log2 i = l := by
  have h0 : i ≠ 0 := by have := Nat.two_pow_pos l; have := h.1; omega
  have h1 := (Nat.le_log2 h0).2 h.1
  have h2 := (Nat.log2_lt h0).2 h.2
  omega
theorem Lev.of {i : Nat} (h : 1 ≤ i) : Lev (Nat.log2 i) i := by
  have h0 : i ≠ 0 := by omega
  exact ⟨(Nat.le_log2 h0).1 (Nat.le_refl _), (Nat.log2_lt h0).1 (Nat.lt_succ_self _)⟩
theorem Lev.left {l i : Nat} (h : Lev l i) : Lev (l + 1) (2 * i) := by
  obtain ⟨h1, h2⟩ := h
  have e1 : 2 ^ (l + 1) = 2 * 2 ^ l := by rw [Nat.pow_succ]; omega
  have e2 : 2 ^ (l + 1 + 1) = 2 * 2 ^ (l + 1) := by rw [Nat.pow_succ]; omega
  exact ⟨by omega, by omega⟩
theorem Lev.right {l i : Nat} (h : Lev l i) : Lev (l + 1) (2 * i + 1) := by
  obtain ⟨h1, h2⟩ := h
  have e1 : 2 ^ (l + 1) = 2 * 2 ^ l := by rw [Nat.pow_succ]; omega
  have e2 : 2 ^ (l + 1 + 1) = 2 * 2 ^ (l + 1) := by rw [Nat.pow_succ]; omega
  exact ⟨by omega, by omega⟩
theorem Lev.up {l i : Nat} (h : Lev (l + 1) i) : Lev l (i / 2) := by
  obtain ⟨h1, h2⟩ := h
  have e1 : 2 ^ (l + 1) = 2 * 2 ^ l := by rw [Nat.pow_succ]; omega
  have e2 : 2 ^ (l + 1 + 1) = 2 * 2 ^ (l + 1) := by rw [Nat.pow_succ]; omega
  exact ⟨by omega, by omega⟩
theorem Lev.next {l i : Nat} (h : Lev (l + 1) i) : Lev (l + 1) (i ^^^ 1) := by
  obtain ⟨h1, h2⟩ := h
  have e1 : 2 ^ (l + 1) = 2 * 2 ^ l := by rw [Nat.pow_succ]; omega
  have e2 : 2 ^ (l + 1 + 1) = 2 * 2 ^ (l + 1) := by rw [Nat.pow_succ]; omega
  rw [xor_one]
  by_cases e : i % 2 = 0
  · rw [if_pos e]; exact ⟨by omega, by omega⟩
  · rw [if_neg e]; exact ⟨by omega, by omega⟩
theorem Lev.le {l i h : Nat} (hl : Lev l i) (hh : i < 2 ^ (h + 1)) : l ≤ h := by
  have h1 := hl.1
  have h2 : 2 ^ l < 2 ^ (h + 1) := by omega
  have := (Nat.pow_lt_pow_iff_right (a := 2) (by decide)).1 h2
  omega
section
variable {ov : Nat → List Nat → List Nat → List Nat} {lf : Nat → List Nat}
theorem knA_lev {h l i : Nat} (hl : Lev l i) : knA ov lf h i = kn ov lf (h - l) i := by
  unfold knA; rw [hl.log]
theorem knA_leaf {h i : Nat} (h1 : 2 ^ h ≤ i) (h2 : i < 2 ^ (h + 1)) : knA ov lf h i = lf i := by
  rw [knA_lev (l := h) ⟨h1, h2⟩, Nat.sub_self]; rfl
theorem knA_ov {h i : Nat} (h1 : 1 ≤ i) (h2 : i < 2 ^ h) : knA ov lf h i = ov i (knA ov lf h (2 * i)) (knA ov lf h (2 * i + 1)) := by
  have hL := Lev.of h1
  obtain ⟨l, hl⟩ : ∃ l, l = Nat.log2 i := ⟨_, rfl⟩
  rw [← hl] at hL
  have hlt : l < h := (Nat.pow_lt_pow_iff_right (a := 2) (by decide)).1 (by have := hL.1; omega)
  rw [knA_lev hL, knA_lev hL.left, knA_lev hL.right]
  obtain ⟨d, rfl⟩ : ∃ d, h = l + 1 + d := ⟨h - (l + 1), by omega⟩
  rw [show l + 1 + d - l = d + 1 by omega, show l + 1 + d - (l + 1) = d by omega]
  rfl
theorem knA_top {h : Nat} : knA ov lf h 1 = kn ov lf h 1 := by
  rw [knA_lev (l := 0) ⟨by decide, by decide⟩, Nat.sub_zero]
theorem knA_32 (h1 : ∀ n a b, (ov n a b).length = 32) (h2 : ∀ n, (lf n).length = 32) (h i : Nat) : (knA ov lf h i).length = 32 := kn_32 h1 h2 _ _
/-- the neighbours on the way up, by their numbers -/
def pthA (f : Nat → List Nat) : Nat → Nat → List (List Nat)
  | 0, _ => []
  | k + 1, n => f (n ^^^ 1) :: pthA f k (n / 2)
theorem pthA_is : ∀ (k d n : Nat), Lev k n → pth ov lf d k n = pthA (knA ov lf (k + d)) k n
  | 0, d, n, _ => rfl
  | k + 1, d, n, h => by
    show kn ov lf d (n ^^^ 1) :: pth ov lf (d + 1) k (n / 2) = knA ov lf (k + 1 + d) (n ^^^ 1) :: pthA (knA ov lf (k + 1 + d)) k (n / 2)
    rw [knA_lev h.next, show k + 1 + d - (k + 1) = d by omega, pthA_is k (d + 1) (n / 2) h.up, show k + 1 + d = k + (d + 1) by omega]
/-- the way up, a step at its end: how many are laid when knot n / 2 ^ j is met -/
theorem pthA_snoc (f : Nat → List Nat) : ∀ (k n : Nat), pthA f (k + 1) n = pthA f k n ++ [f ((n / 2 ^ k) ^^^ 1)]
  | 0, n => by rw [Nat.pow_zero, Nat.div_one]; rfl
  | k + 1, n => by
    show f (n ^^^ 1) :: pthA f (k + 1) (n / 2) = f (n ^^^ 1) :: (pthA f k (n / 2) ++ [f ((n / 2 ^ (k + 1)) ^^^ 1)])
    rw [pthA_snoc f k (n / 2), Nat.div_div_eq_div_mul, Nat.pow_succ, Nat.mul_comm 2]
theorem lev_leaf {h q : Nat} (hq : q < 2 ^ h) : Lev h (2 ^ h + q) := ⟨by omega, by rw [Nat.pow_succ]; omega⟩
/-- P15: from a leaf its neighbours lead to the top -/
theorem climb_top {h q : Nat} (hq : q < 2 ^ h) : climb ov (pthA (knA ov lf h) h (2 ^ h + q)) (2 ^ h + q) (lf (2 ^ h + q)) = knA ov lf h 1 := by
  have hL := lev_leaf hq
  have e := pthA_is (ov := ov) (lf := lf) h 0 (2 ^ h + q) hL
  rw [Nat.add_zero] at e
  have hc := climb_path (ov := ov) (lf := lf) h 0 (2 ^ h + q)
  rw [e, Nat.zero_add, show (2 ^ h + q) / 2 ^ h = 1 by rw [Nat.add_div_left _ (Nat.two_pow_pos h), Nat.div_eq_of_lt hq]] at hc
  rw [knA_top]
  exact hc
end
end Go.Proofs.YtefndnbaifiboaaDoor

/- Trees of leaves that sign once: typecodes back to heights and kinds; where a signature's parts lie. Plain. -/
namespace Go.Proofs.YtefndnbaifiboaaDoor
open Go.RowKit
set_option linter.unusedVariables false
set_option linter.unusedSimpArgs false

theorem findN_is {P : Nat → Bool} {x : Nat} (hx : P x = true) : ∀ (k f : Nat), f ≤ x → x < f + k → (∀ y, f ≤ y → y < x → P y = false) → findN P f k = x
  | 0, f, h1, h2, _ => by omega
  | k + 1, f, h1, h2, h => by
    show (if P f = true then f else findN P (f + 1) k) = x
    by_cases e : f = x
    · rw [e, if_pos hx]
    · rw [if_neg (by rw [h f (Nat.le_refl _) (by omega)]; decide)]
      exact findN_is hx k (f + 1) (by omega) (by omega) (fun y k1 k2 => h y (by omega) k2)
theorem findN_or {P : Nat → Bool} : ∀ (k f : Nat), findN P f k = 0 ∨ (P (findN P f k) = true ∧ f ≤ findN P f k ∧ findN P f k < f + k)
  | 0, f => .inl rfl
  | k + 1, f => by
    by_cases e : P f = true
    · have : findN P f (k + 1) = f := if_pos e
      rw [this]
      exact .inr ⟨e, Nat.le_refl _, by omega⟩
    · have : findN P f (k + 1) = findN P (f + 1) k := if_neg e
      rw [this]
      rcases findN_or k (f + 1) with h | ⟨h1, h2, h3⟩
      · exact .inl h
      · exact .inr ⟨h1, by omega, by omega⟩
/-- a height is told by its typecode -/
theorem hgtL_code {h : Nat} (h0 : lmCode (h : Int) ≠ 0) : hgtL (lmCode (h : Int)) = h := by
  have hb : 1 ≤ h ∧ h ≤ 25 := by
    unfold lmCode at h0
    repeat' split at h0
    all_goals omega
  refine findN_is (by simp [h0]) 25 1 hb.1 (by omega) (fun y k1 k2 => ?_)
  refine decide_eq_false fun ⟨e, _⟩ => ?_
  have := lmCode_inj e.symm h0
  omega
theorem hgtL_or (c : Nat) : hgtL c = 0 ∨ (lmCode (hgtL c : Nat) = c ∧ c ≠ 0 ∧ 1 ≤ hgtL c ∧ hgtL c ≤ 25) := by
  rcases findN_or (P := fun h : Nat => decide (lmCode (h : Int) = c ∧ c ≠ 0)) 25 1 with h | ⟨h1, h2, h3⟩
  · exact .inl h
  · have := of_decide_eq_true h1
    exact .inr ⟨this.1, this.2, h2, by unfold hgtL; omega⟩
/-- a kind is told by its typecode -/
theorem dgtL_code {k n m s c : Nat} (hk : Kd k n m s c) : dgtL c = k := by cases hk <;> rfl
theorem dgtL_or (c : Nat) : dgtL c = 0 ∨ ∃ n m s, Kd (dgtL c) n m s c := by
  rcases findN_or (P := fun w => decide (kdC w = c ∧ c ≠ 0)) 8 1 with h | ⟨h1, _, _⟩
  · exact .inl h
  · have h2 : kdC (dgtL c) = c ∧ c ≠ 0 := of_decide_eq_true h1
    rename_i g1 g2
    clear g1 g2
    obtain ⟨h3, h4⟩ := h2
    refine .inr ?_
    clear h1
    generalize dgtL c = d at *
    unfold kdC at h3
    split at h3
    · rename_i e; subst h3; subst e; exact ⟨_, _, _, Kd.k1⟩
    split at h3
    · rename_i e; subst h3; subst e; exact ⟨_, _, _, Kd.k2⟩
    split at h3
    · rename_i e; subst h3; subst e; exact ⟨_, _, _, Kd.k4⟩
    split at h3
    · rename_i e; subst h3; subst e; exact ⟨_, _, _, Kd.k8⟩
    · exact absurd h3.symm h4
/-- where a signature's parts lie -/
def ctW (b : List Nat) : Nat := dgtL (numL ((b.drop 4).take 4))
def ctA (b : List Nat) : Nat := 4 + szW (ctW b)
def ctH (b : List Nat) : Nat := hgtL (numL ((b.drop (ctA b)).take 4))
def ctN (b : List Nat) : Nat := ctA b + 4 + 32 * ctH b
/-- what is wrong with a signature -/
def ctE (b : List Nat) : Nat := if b.length < 8 then 1 else if ctW b = 0 then 9 else if b.length < ctA b + 4 then 1 else if ctH b = 0 then 9 else if b.length < ctN b then 1 else 0
theorem ctA_le (b : List Nat) : ctA b ≤ 8520 := by
  unfold ctA szW
  repeat' split
  all_goals omega
theorem ctH_le (b : List Nat) : ctH b ≤ 25 := by
  unfold ctH
  rcases hgtL_or (numL ((b.drop (ctA b)).take 4)) with h | ⟨_, _, _, h⟩
  · rw [h]; omega
  · exact h
end Go.Proofs.YtefndnbaifiboaaDoor

/- Trees of leaves that sign once: the document's Cut. -/
namespace Go.Proofs.YtefndnbaifiboaaDoor
open Go.RowKit
set_option linter.unusedVariables false
set_option linter.unusedSimpArgs false

theorem Bx2T.load4 {P : Program} {W : World} {B : Nat} {v0 v1 : Value} (h : Bx2T W B v0 v1) {fn : Func} {s p u v : Tmp} (hr : fn.results = #[.tmp s, .cell p 29, .tmp u, .tmp v]) (hP : P = Tryd.prog) (tmps : Array Value) (hp : tmps.getD p undef = .pointer (some ⟨B, 0, none⟩)) :
    (results fn tmps).run P W = .ok (.tuple #[tmps.getD s undef, .agg #[v0, v1], tmps.getD u undef, tmps.getD v undef]) W := by
  subst hP
  have hp' : tmps[p]?.getD undef = .pointer (some ⟨B, 0, none⟩) := by simpa using hp
  simp [results, hr, hp', asAddr, run_loadVar_row W B 29 29 #[v0, v1] (0, 0) _ h.here Tryd.underlying29 rfl (by kernel_rfl)]
end Go.Proofs.YtefndnbaifiboaaDoor

/- Trees of leaves that sign once, the program's own: the number that has a typecode; a signature's kind. -/
namespace Go.Proofs.YtefndnbaifiboaaDoor
open Go.RowKit
set_option linter.unusedVariables false
set_option linter.unusedSimpArgs false

theorem findN_congr {P Q : Nat → Bool} : ∀ (k f : Nat), (∀ y, f ≤ y → P y = Q y) → findN P f k = findN Q f k
  | 0, _, _ => rfl
  | k + 1, f, h => by
    show (if P f = true then f else findN P (f + 1) k) = (if Q f = true then f else findN Q (f + 1) k)
    rw [h f (Nat.le_refl _), findN_congr k (f + 1) fun y hy => h y (by omega)]
/-- from 0 on, where nothing has typecode 0 but what is none -/
theorem findN_zero {g : Nat → Nat} (h0 : g 0 = 0) (c k : Nat) : findN (fun n => decide (g n = c)) 0 (k + 1) = findN (fun n => decide (g n = c ∧ c ≠ 0)) 1 k := by
  show (if decide (g 0 = c) = true then 0 else findN (fun n => decide (g n = c)) (0 + 1) k) = _
  by_cases hc : c = 0
  · subst hc
    rw [if_pos (by simp [h0])]
    have : ∀ (k f : Nat), findN (fun n => decide (g n = 0 ∧ (0 : Nat) ≠ 0)) f k = 0 := by
      intro k
      induction k with
      | zero => intro f; rfl
      | succ k ih => intro f; show (if _ then f else _) = 0; rw [if_neg (by simp)]; exact ih _
    exact (this _ _).symm
  · rw [if_neg (by rw [h0]; simp; exact fun e => hc e.symm)]
    exact findN_congr _ _ fun y _ => by simp [hc]
def FnZ (P : Nat → Bool) (T k0 : Nat) (vi : Value) (w wr : World) : Prop := ∃ f k : Nat, f + k = T ∧ vi = .int .i64 (f : Int) ∧ findN P f k = k0 ∧ wr = w
set_option maxHeartbeats 4000000 in
set_option maxRecDepth 100000 in
theorem whose_any (F : FuncId) (g : Nat → Nat) (N : Nat) (hN : N ≤ 100) (l : List Nat) (cv : Value) (w : World) (hl : Row .u8 256 w cv l)
    (he : ∀ (args : Array Value) (y : World), (callFunc F args).run Tryd.prog y = .ok (.enter F args) y)
    (hf : ∀ (n : Nat) (y : World), Calls Tryd.prog F #[.int .i64 (n : Int)] y fun e w' => e = .returned (.int .u64 (g n : Nat)) ∧ w' = y) :
    Calls Tryd.prog 58 #[cv, .func (.func F) #[] #[], .int .i64 (N : Int)] w fun e w' => e = .returned (.int .i64 (findN (fun n => decide (g n = numL l)) 0 (N + 1) : Nat)) ∧ w' = w := by
  obtain ⟨M, hM⟩ : ∃ M : Nat, M = N + 1 := ⟨_, rfl⟩
  have e_M : (N : Int) + 1 = (M : Int) := by omega
  have s_M : IntKind.i64.wrap (M : Int) = (M : Int) := by rw [IntKind.wrap_i64]; omega
  rw [← hM]
  have hn := num_any _ _ _ hl
  obtain ⟨c, hc⟩ : ∃ c, c = numL l := ⟨_, rfl⟩
  rw [← hc] at hn ⊢
  obtain ⟨P, hP⟩ : ∃ P : Nat → Bool, P = fun n => decide (g n = c) := ⟨_, rfl⟩
  rw [← hP]
  obtain ⟨R, hR⟩ : ∃ R, R = findN P 0 M := ⟨_, rfl⟩
  rw [← hR]
  have H0 : Hid (FnZ P M R (.int .i64 0) w w) := hide ⟨0, M, by omega, rfl, hR.symm, rfl⟩
  have HP := hide (And.intro hP (And.intro hM hN))
  clear hP hR hc hM hN hl
  go_enter Tryd.func58, Tryd.ntmps58
  go_wp2
  go_loopw [10] (fun vi wr => FnZ P M R vi w wr) (fun vi _ => M - (intOf vi).toNat)
  case atStart => exact H0.out
  case round =>
    obtain ⟨f, k, hfk, rfl, hfn, rfl⟩ := hrel
    clear H0
    by_cases hlt : f < M
    · obtain ⟨k', rfl⟩ : ∃ k', k = k' + 1 := ⟨k - 1, by omega⟩
      have hle : (f : Int) < (M : Int) := by omega
      have hst : (if P f = true then f else findN P (f + 1) k') = R := hfn
      obtain ⟨X, hX⟩ : ∃ X : Nat, X = g f := ⟨_, rfl⟩
      have hcf := hf f
      rw [← hX] at hcf
      have hPf : P f = decide (X = c) := by rw [HP.out.1, hX]
      obtain ⟨I, hI⟩ : ∃ I : Nat, I = f + 1 := ⟨_, rfl⟩
      have e_I : (f : Int) + 1 = (I : Int) := by omega
      have s_I : IntKind.i64.wrap (I : Int) = (I : Int) := by rw [IntKind.wrap_i64]; have := HP.out.2; omega
      have HK := hide (And.intro hst (And.intro hX (And.intro hPf (And.intro hI (And.intro hfk hlt)))))
      by_cases hq : X = c
      · have hqi : (X : Int) = (c : Int) := by omega
        have HQ := hide hq
        clear hst hX hPf hI hfn hfk hlt hq
        go_wp2_with (first
          | (go_at_call 25; refine hn.mono ?_; rintro e yy ⟨rfl, hy⟩; obtain rfl := hy.symm)
          | (refine (hcf _).mono ?_; rintro e yy ⟨rfl, hy⟩; obtain rfl := hy.symm)
          | fail)
        go_ret
        obtain ⟨hst, hX, hPf, hI, hfk, hlt⟩ := HK.out
        exact ⟨by rw [← hst, if_pos (by rw [hPf]; simp [HQ.out])]; rfl, rfl⟩
      · have hqi : ¬ (X : Int) = (c : Int) := by omega
        have HQ := hide hq
        clear hst hX hPf hI hfn hfk hlt hq
        go_wp2_with (first
          | (go_at_call 25; refine hn.mono ?_; rintro e yy ⟨rfl, hy⟩; obtain rfl := hy.symm)
          | (refine (hcf _).mono ?_; rintro e yy ⟨rfl, hy⟩; obtain rfl := hy.symm)
          | fail)
        obtain ⟨hst, hX, hPf, hI, hfk, hlt⟩ := HK.out
        go_roundw
        case rel => exact ⟨f + 1, k', by omega, vint (by omega), by rw [← hst, if_neg (by rw [hPf]; simp [HQ.out])], rfl⟩
        case measure => simp [intOf]; omega
    · obtain rfl : k = 0 := by omega
      have hR0 : R = 0 := hfn.symm
      have hge : ¬ (f : Int) < (M : Int) := by omega
      rw [hR0]
      clear hfn hfk hlt
      go_wp2
      go_ret
      exact ⟨rfl, rfl⟩
set_option maxHeartbeats 4000000 in
set_option maxRecDepth 100000 in
theorem cheightOf (l : List Nat) (cv : Value) (w : World) (hl : Row .u8 256 w cv l) : Calls Tryd.prog 46 #[cv] w fun e w' => e = .returned (.int .i64 (hgtL (numL l) : Nat)) ∧ w' = w := by
  have hw := whose_any 20 (fun n => lmCode (n : Int)) 25 (by decide) l cv w hl (fun args y => by simp [Tryd.call20]) (fun n y => chc_any _ y)
  rw [findN_zero (g := fun n => lmCode (n : Int)) (by decide)] at hw
  have e0 : hgtL (numL l) = findN (fun n => decide (lmCode (n : Int) = numL l ∧ numL l ≠ 0)) 1 25 := rfl
  rw [← e0] at hw
  generalize hgtL (numL l) = R at *
  clear e0
  go_enter Tryd.func46, Tryd.ntmps46
  go_wp2_with (first
    | (go_at_call 58; refine hw.mono ?_; rintro e yy ⟨rfl, hy⟩; obtain rfl := hy.symm)
    | fail)
  go_ret
  exact ⟨rfl, rfl⟩
set_option maxHeartbeats 4000000 in
set_option maxRecDepth 100000 in
theorem cwidthOf (l : List Nat) (cv : Value) (w : World) (hl : Row .u8 256 w cv l) : Calls Tryd.prog 45 #[cv] w fun e w' => e = .returned (.int .i64 (dgtL (numL l) : Nat)) ∧ w' = w := by
  have hw := whose_any 30 kdC 8 (by decide) l cv w hl (fun args y => by simp [Tryd.call30]) (fun n y => by have := cwc_any (n : Int) y; rwa [wdC_nat] at this)
  rw [findN_zero (g := kdC) (by decide)] at hw
  have e0 : dgtL (numL l) = findN (fun n => decide (kdC n = numL l ∧ numL l ≠ 0)) 1 8 := rfl
  rw [← e0] at hw
  generalize dgtL (numL l) = R at *
  clear e0
  go_enter Tryd.func45, Tryd.ntmps45
  go_wp2_with (first
    | (go_at_call 58; refine hw.mono ?_; rintro e yy ⟨rfl, hy⟩; obtain rfl := hy.symm)
    | fail)
  go_ret
  exact ⟨rfl, rfl⟩
end Go.Proofs.YtefndnbaifiboaaDoor

/- Trees of leaves that sign once, the program's own: the kind of a signature's tree. -/
namespace Go.Proofs.YtefndnbaifiboaaDoor
open Go.RowKit
set_option linter.unusedVariables false
set_option linter.unusedSimpArgs false

/-- what is wrong with a signature's typecodes -/
def kkE (b : List Nat) : Nat := if b.length < 8 then 1 else if ctW b = 0 then 9 else if b.length < 8 + szW (ctW b) then 1 else if ctH b = 0 then 9 else 0
theorem ctE_kk (b : List Nat) : ctE b = if kkE b ≠ 0 then kkE b else if b.length < ctN b then 1 else 0 := by
  unfold ctE kkE ctA
  by_cases h1 : b.length < 8
  · simp [h1]
  by_cases h2 : ctW b = 0
  · simp [h1, h2]
  by_cases h3 : b.length < 8 + szW (ctW b)
  · simp [h1, h2, h3, show b.length < 4 + szW (ctW b) + 4 by omega]
  by_cases h4 : ctH b = 0
  · simp [h1, h2, h3, h4, show ¬ b.length < 4 + szW (ctW b) + 4 by omega]
  · simp [h1, h2, h3, h4, show ¬ b.length < 4 + szW (ctW b) + 4 by omega]
theorem kkE_zero {b : List Nat} (h : kkE b = 0) : 8 ≤ b.length ∧ ctW b ≠ 0 ∧ 8 + szW (ctW b) ≤ b.length ∧ ctH b ≠ 0 := by
  unfold kkE at h
  by_cases h1 : b.length < 8
  · simp [h1] at h
  by_cases h2 : ctW b = 0
  · simp [h1, h2] at h
  by_cases h3 : b.length < 8 + szW (ctW b)
  · simp [h1, h2, h3] at h
  by_cases h4 : ctH b = 0
  · simp [h1, h2, h3, h4] at h
  exact ⟨by omega, h2, by omega, h4⟩
theorem fit_ct {b : List Nat} (h1 : ctW b ≠ 0) (h2 : ctH b ≠ 0) : FitL (ctH b : Nat) (ctW b : Nat) := by
  constructor
  · rcases hgtL_or (numL ((b.drop (ctA b)).take 4)) with h | ⟨h, h3, _⟩
    · exact absurd h h2
    · show lmCode ((hgtL (numL ((b.drop (ctA b)).take 4)) : Nat) : Int) ≠ 0
      rw [h]; exact h3
  · rcases dgtL_or (numL ((b.drop 4).take 4)) with h | ⟨n, m, s, h⟩
    · exact absurd h h1
    · show szW ((dgtL (numL ((b.drop 4).take 4)) : Nat) : Int) ≠ 0
      have e0 : ∀ {k n m s c : Nat}, Kd k n m s c → szW (k : Int) ≠ 0 := fun hk => by cases hk <;> decide
      exact e0 h
set_option maxHeartbeats 4000000 in
set_option maxRecDepth 100000 in
theorem ckindb_1 (L : Nat) (ba : Option Addr) (bc : Nat) (w : World) (h8 : L < 8) :
    Calls Tryd.prog 22 #[.slice ba L bc] w fun e w' => e = .returned (.tuple #[.agg #[.int .i64 0, .int .i64 0], .int .i64 1]) ∧ Below w.heap.size w w' := by
  have hi : (L : Int) < 8 := by omega
  have z0 := Bx2T.new w (.int .i64 0) (.int .i64 0)
  have hbw := keep_alloc w (.cells #[.int .i64 0, .int .i64 0] 29)
  go_enter Tryd.func22, Tryd.ntmps22
  go_wp2_with (first
    | (refine wpList_store_row rfl 29 _ _ (by rfl) w.heap.size #[.int .i64 0, .int .i64 0] (by rfl) (by rfl) _ _ z0.here (by kernel_rfl) rfl (by simp [Value.oneCell']) ?_)
    | fail)
  refine bodyPost_ret (z0.row.ret rfl _ rfl rfl) rfl ⟨rfl, below_setRow hbw (Nat.le_refl _)⟩
set_option maxHeartbeats 4000000 in
set_option maxRecDepth 100000 in
theorem ckindb_2 (b : List Nat) (bv : Value) (w : World) (hb : Row .u8 256 w bv b) (h8 : 8 ≤ b.length) (hw : ctW b = 0) :
    Calls Tryd.prog 22 #[bv] w fun e w' => e = .returned (.tuple #[.agg #[.int .i64 0, .int .i64 0], .int .i64 9]) ∧ Below w.heap.size w w' := by
  have z0 := Bx2T.new w (.int .i64 0) (.int .i64 0)
  have hbw := keep_alloc w (.cells #[.int .i64 0, .int .i64 0] 29)
  have hrow := hb
  obtain ⟨ba, bc, rfl, lc1, lc2, ho⟩ := hb.opens rfl
  obtain ⟨bb, bo, rfl, _⟩ := ho (by omega)
  have r4 : Row .u8 256 w (.slice (some ⟨bb, bo + 4, none⟩) 4 (bc - 4)) ((b.drop 4).take 4) := hrow.mid (i := 4) (j := 8) (by decide) (by omega)
  have hwd := cwidthOf _ _ _ (r4.below hbw)
  rw [show dgtL (numL ((b.drop 4).take 4)) = ctW b from rfl, hw] at hwd
  have hi8 : ¬ (b.length : Int) < 8 := by omega
  have h8c : (8 : Int) ≤ (bc : Int) := by omega
  generalize b.length = L at *
  clear hb hrow r4 hw ho h8
  go_enter Tryd.func22, Tryd.ntmps22
  go_wp2_with (first
    | (go_at_call 45; refine hwd.mono ?_; rintro e yy ⟨rfl, hy⟩; obtain rfl := hy.symm)
    | (refine wpList_store_row rfl 29 _ _ (by rfl) w.heap.size #[.int .i64 0, .int .i64 0] (by rfl) (by rfl) _ _ z0.here (by kernel_rfl) rfl (by simp [Value.oneCell']) ?_)
    | fail)
  refine bodyPost_ret (z0.row.ret rfl _ rfl rfl) rfl ⟨rfl, below_setRow hbw (Nat.le_refl _)⟩
set_option maxHeartbeats 4000000 in
set_option maxRecDepth 100000 in
theorem ckindb_3 (b : List Nat) (bv : Value) (w : World) (hb : Row .u8 256 w bv b) (h8 : 8 ≤ b.length) (hw : ctW b ≠ 0) (hL : b.length < 8 + szW (ctW b)) :
    Calls Tryd.prog 22 #[bv] w fun e w' => e = .returned (.tuple #[.agg #[.int .i64 0, .int .i64 0], .int .i64 1]) ∧ Below w.heap.size w w' := by
  have z0 := Bx2T.new w (.int .i64 0) (.int .i64 0)
  have hbw := keep_alloc w (.cells #[.int .i64 0, .int .i64 0] 29)
  have hrow := hb
  obtain ⟨ba, bc, rfl, lc1, lc2, ho⟩ := hb.opens rfl
  obtain ⟨bb, bo, rfl, _⟩ := ho (by omega)
  have r4 : Row .u8 256 w (.slice (some ⟨bb, bo + 4, none⟩) 4 (bc - 4)) ((b.drop 4).take 4) := hrow.mid (i := 4) (j := 8) (by decide) (by omega)
  have hwd := cwidthOf _ _ _ (r4.below hbw)
  rw [show dgtL (numL ((b.drop 4).take 4)) = ctW b from rfl] at hwd
  have hbe := fun y => cbesideAt (ctW b : Nat) y
  obtain ⟨E, hE⟩ : ∃ E, E = 8 + szW (ctW b) := ⟨_, rfl⟩
  rw [← hE] at hbe hL
  have hi8 : ¬ (b.length : Int) < 8 := by omega
  have h8c : (8 : Int) ≤ (bc : Int) := by omega
  have hWi : ¬ ((ctW b : Nat) : Int) = 0 := by omega
  have hWb : (((ctW b : Nat) : Int) == 0) = false := by simp; exact hw
  have hLi : (b.length : Int) < (E : Int) := by omega
  clear hE hL hw
  generalize ctW b = W at *
  generalize b.length = L at *
  clear hb hrow r4 ho h8
  go_enter Tryd.func22, Tryd.ntmps22
  go_wp2_with (first
    | (go_at_call 45; refine hwd.mono ?_; rintro e yy ⟨rfl, hy⟩; obtain rfl := hy.symm)
    | (go_at_call 23; refine (hbe _).mono ?_; rintro e w1 ⟨rfl, g1⟩; have z1 := z0.below g1)
    | (refine wpList_store_row rfl 29 _ _ (by rfl) w.heap.size #[.int .i64 0, .int .i64 0] (by rfl) (by rfl) _ _ z1.here (by kernel_rfl) rfl (by simp [Value.oneCell']) ?_)
    | fail)
  refine bodyPost_ret (z1.row.ret rfl _ rfl rfl) rfl ⟨rfl, below_setRow (keep_trans hbw g1) (Nat.le_refl _)⟩
set_option maxHeartbeats 4000000 in
set_option maxRecDepth 100000 in
theorem ckindb_4 (b : List Nat) (bv : Value) (w : World) (hb : Row .u8 256 w bv b) (h8 : 8 ≤ b.length) (hw : ctW b ≠ 0) (hL : 8 + szW (ctW b) ≤ b.length) :
    Calls Tryd.prog 22 #[bv] w fun e w' => e = .returned (if ctH b = 0 then .tuple #[.agg #[.int .i64 0, .int .i64 0], .int .i64 9] else .tuple #[.agg #[.int .i64 (ctH b : Nat), .int .i64 (ctW b : Nat)], .int .i64 0]) ∧ Below w.heap.size w w' := by
  have z0 := Bx2T.new w (.int .i64 0) (.int .i64 0)
  have hbw := keep_alloc w (.cells #[.int .i64 0, .int .i64 0] 29)
  have hrow := hb
  obtain ⟨ba, bc, rfl, lc1, lc2, ho⟩ := hb.opens rfl
  obtain ⟨bb, bo, rfl, _⟩ := ho (by omega)
  have r4 : Row .u8 256 w (.slice (some ⟨bb, bo + 4, none⟩) 4 (bc - 4)) ((b.drop 4).take 4) := hrow.mid (i := 4) (j := 8) (by decide) (by omega)
  have hwd := cwidthOf _ _ _ (r4.below hbw)
  rw [show dgtL (numL ((b.drop 4).take 4)) = ctW b from rfl] at hwd
  have hbe := fun y => cbesideAt (ctW b : Nat) y
  have hco := fun y => ccodeAt (ctW b : Nat) y
  have hzl := szW_le (ctW b)
  obtain ⟨E, hE⟩ : ∃ E, E = 8 + szW (ctW b) := ⟨_, rfl⟩
  obtain ⟨A, hA⟩ : ∃ A, A = 4 + szW (ctW b) := ⟨_, rfl⟩
  have hcA : ctA b = A := by rw [hA]; rfl
  rw [← hE] at hbe hL
  rw [← hA] at hco
  have rA : Row .u8 256 w (.slice (some ⟨bb, bo + A, none⟩) 4 (bc - A)) ((b.drop A).take 4) := by
    have := hrow.mid (i := A) (j := A + 4) (by omega) (by omega)
    rwa [Nat.add_sub_cancel_left] at this
  have hhd := fun y (k : Below w.heap.size w y) => cheightOf _ _ y (rA.below k)
  rw [show hgtL (numL ((b.drop A).take 4)) = ctH b by rw [← hcA]; rfl] at hhd
  have hft := fun y => cfitT_any (ctH b : Nat) (ctW b : Nat) y
  have hdec : decide (FitL (ctH b : Nat) (ctW b : Nat)) = !(decide (ctH b = 0)) := by
    by_cases h0 : ctH b = 0
    · rw [decide_eq_false (fun hh => hh.1 (by rw [h0]; rfl))]; simp [h0]
    · rw [decide_eq_true (fit_ct hw h0)]; simp [h0]
  rw [hdec] at hft
  have hi8 : ¬ (b.length : Int) < 8 := by omega
  have h8c : (8 : Int) ≤ (bc : Int) := by omega
  have hWi : ¬ ((ctW b : Nat) : Int) = 0 := by omega
  have hWb : (((ctW b : Nat) : Int) == 0) = false := by simp; exact hw
  have hLi : ¬ (b.length : Int) < (E : Int) := by omega
  have hAE : (A : Int) ≤ (E : Int) := by omega
  have hEc : (E : Int) ≤ (bc : Int) := by omega
  have hEA : E - A = 4 := by omega
  have hEAi : (E : Int) - (A : Int) = 4 := by omega
  have z_A : (0 : Int) ≤ (A : Int) := Int.natCast_nonneg _
  clear hE hA hL hw hcA hzl hdec rA
  generalize ctW b = W at *
  generalize ctH b = H at *
  generalize b.length = L at *
  clear hb hrow r4 ho h8
  by_cases h0 : H = 0
  · rw [if_pos h0]
    rw [decide_eq_true h0, h0] at hft
    rw [h0] at hhd
    clear h0
    go_enter Tryd.func22, Tryd.ntmps22
    go_wp2_with (first
      | (go_at_call 45; refine hwd.mono ?_; rintro e yy ⟨rfl, hy⟩; obtain rfl := hy.symm; clear hwd)
      | (go_at_call 23; have hbu := hbe; clear hbe; refine (hbu _).mono ?_; rintro e w1 ⟨rfl, g1⟩; have z1 := z0.below g1; have k1 := keep_trans hbw g1)
      | (go_at_call 27; refine (hco _).mono ?_; rintro e w2 ⟨rfl, g2⟩; have z2 := z1.below g2; have k2 := keep_trans k1 g2)
      | (go_at_call 23; refine (hbu _).mono ?_; rintro e w3 ⟨rfl, g3⟩; have z3 := z2.below g3; have k3 := keep_trans k2 g3)
      | (go_at_call 46; refine (hhd _ k3).mono ?_; rintro e yy ⟨rfl, hy⟩; obtain rfl := hy.symm)
      | (go_at_call 12; refine (hft _).mono ?_; rintro e w4 ⟨rfl, g4⟩; have z4 := (z3.below (keep_alloc _ _)).below g4; have k4 := keep_trans (keep_trans k3 (keep_alloc _ _)) g4; have zm := (Bx2T.new w3 _ _).below g4)
      | (refine wpList_store_row rfl 29 _ _ (by rfl) w.heap.size #[.int .i64 0, .int .i64 0] (by rfl) (by rfl) _ _ z4.here (by kernel_rfl) rfl (by simp [Value.oneCell']) ?_)
      | fail)
    refine bodyPost_ret (z4.row.ret rfl _ rfl rfl) rfl ⟨rfl, below_setRow k4 (Nat.le_refl _)⟩
  · rw [if_neg h0]
    rw [decide_eq_false h0] at hft
    clear h0
    go_enter Tryd.func22, Tryd.ntmps22
    go_wp2_with (first
      | (go_at_call 45; refine hwd.mono ?_; rintro e yy ⟨rfl, hy⟩; obtain rfl := hy.symm; clear hwd)
      | (go_at_call 23; have hbu := hbe; clear hbe; refine (hbu _).mono ?_; rintro e w1 ⟨rfl, g1⟩; have z1 := z0.below g1; have k1 := keep_trans hbw g1)
      | (go_at_call 27; refine (hco _).mono ?_; rintro e w2 ⟨rfl, g2⟩; have z2 := z1.below g2; have k2 := keep_trans k1 g2)
      | (go_at_call 23; refine (hbu _).mono ?_; rintro e w3 ⟨rfl, g3⟩; have z3 := z2.below g3; have k3 := keep_trans k2 g3)
      | (go_at_call 46; refine (hhd _ k3).mono ?_; rintro e yy ⟨rfl, hy⟩; obtain rfl := hy.symm)
      | (go_at_call 12; refine (hft _).mono ?_; rintro e w4 ⟨rfl, g4⟩; have z4 := (z3.below (keep_alloc _ _)).below g4; have k4 := keep_trans (keep_trans k3 (keep_alloc _ _)) g4; have zm := (Bx2T.new w3 _ _).below g4)
      | (refine wpList_load_row rfl 29 _ (by rfl) w3.heap.size (by rfl) _ _ _ _ zm.here Tryd.underlying29 rfl (by kernel_rfl) ?_)
      | (refine wpList_store_row rfl 29 _ _ (by rfl) w.heap.size #[.int .i64 (H : Int), .int .i64 (W : Int)] (by rfl) (by rfl) _ _ z4.here (by kernel_rfl) rfl (by simp [Value.oneCell']) ?_)
      | fail)
    refine bodyPost_ret (z4.row.ret rfl _ rfl rfl) rfl ⟨rfl, below_setRow k4 (Nat.le_refl _)⟩
theorem ckindb_any (b : List Nat) (bv : Value) (w : World) (hb : Row .u8 256 w bv b) :
    Calls Tryd.prog 22 #[bv] w fun e w' => e = .returned (if kkE b = 0 then .tuple #[.agg #[.int .i64 (ctH b : Nat), .int .i64 (ctW b : Nat)], .int .i64 0] else .tuple #[.agg #[.int .i64 0, .int .i64 0], .int .i64 (kkE b : Nat)]) ∧ Below w.heap.size w w' := by
  unfold kkE
  by_cases h1 : b.length < 8
  · simp only [h1, if_true]
    obtain ⟨ba, bc, rfl, _⟩ := hb.opens rfl
    exact ckindb_1 _ _ _ w h1
  by_cases h2 : ctW b = 0
  · simp only [h1, h2, if_true, if_false]
    exact ckindb_2 b bv w hb (by omega) h2
  by_cases h3 : b.length < 8 + szW (ctW b)
  · simp only [h1, h2, h3, if_true, if_false]
    exact ckindb_3 b bv w hb (by omega) h2 h3
  have := ckindb_4 b bv w hb (by omega) h2 (by omega)
  by_cases h4 : ctH b = 0
  · simp only [h1, h2, h3, h4, if_true, if_false] at this ⊢
    exact this
  · simp only [h1, h2, h3, h4, if_true, if_false] at this ⊢
    exact this
end Go.Proofs.YtefndnbaifiboaaDoor
