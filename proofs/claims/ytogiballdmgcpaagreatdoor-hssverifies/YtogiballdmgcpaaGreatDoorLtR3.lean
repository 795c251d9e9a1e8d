/- Trees of leaves that sign once: the document's Size, wrong. -/
import Derived.Test.YtogiballdmgcpaaGreatDoorLmR2
import Derived.BigQuiet
import Derived.Test.YtogiballdmgcpaaGreatDoorPgF
import Derived.Test.YtogiballdmgcpaaGreatDoorPlan
import Derived.Test.YtogiballdmgcpaaGreatDoorHSl
namespace Go.Proofs.YtogiballdmgcpaaGreatDoor
open Go.RowKit
set_option linter.unusedVariables false
set_option linter.unusedSimpArgs false

theorem FitL.pos {h x : Int} (hf : FitL h x) : 1 ≤ h ∧ h ≤ 25 ∧ 1124 ≤ szW x ∧ szW x ≤ 8516 := by
  obtain ⟨h1, h2⟩ := hf
  refine ⟨?_, ?_, ?_, ?_⟩
  · unfold lmCode at h1; split at h1; · omega
    split at h1 <;> omega
  · unfold lmCode at h1; split at h1; · omega
    split at h1 <;> omega
  · unfold szW at h2 ⊢; repeat' split
    all_goals first | omega | (exfalso; simp_all)
  · unfold szW; repeat' split
    all_goals omega
/-- how many bytes a signature has -/
def szT (h x : Int) : Nat := if FitL h x then 8 + 32 * h.toNat + szW x else 0
end Go.Proofs.YtogiballdmgcpaaGreatDoor

/- Trees of leaves that sign once: the knots by their numbers, plain. -/
namespace Go.Proofs.YtogiballdmgcpaaGreatDoor
open Go.RowKit
set_option linter.unusedVariables false
set_option linter.unusedSimpArgs false

section
variable (ov : Nat → List Nat → List Nat → List Nat) (lf : Nat → List Nat)
end
/-- i lies l levels below the top -/
def Lev (l i : Nat) : Prop := 2 ^ l ≤ i ∧ i < 2 ^ (l + 1)
theorem Lev.left {l i : Nat} (h : Lev l i) : Lev (l + 1) (2 * i) := by
  obtain ⟨h1, h2⟩ := h
  have e1 : 2 ^ (l + 1) = 2 * 2 ^ l := by rw [Nat.pow_succ]; omega
  have e2 : 2 ^ (l + 1 + 1) = 2 * 2 ^ (l + 1) := by rw [Nat.pow_succ]; omega
  exact ⟨by omega, by omega⟩
theorem Lev.up {l i : Nat} (h : Lev (l + 1) i) : Lev l (i / 2) := by
  obtain ⟨h1, h2⟩ := h
  have e1 : 2 ^ (l + 1) = 2 * 2 ^ l := by rw [Nat.pow_succ]; omega
  have e2 : 2 ^ (l + 1 + 1) = 2 * 2 ^ (l + 1) := by rw [Nat.pow_succ]; omega
  exact ⟨by omega, by omega⟩
theorem Lev.next {l i : Nat} (h : Lev (l + 1) i) : Lev (l + 1) (i ^^^ 1) := by
  obtain ⟨h1, h2⟩ := h
  have e1 : 2 ^ (l + 1) = 2 * 2 ^ l := by rw [Nat.pow_succ]; omega
  have e2 : 2 ^ (l + 1 + 1) = 2 * 2 ^ (l + 1) := by rw [Nat.pow_succ]; omega
  rw [xor_one]
  by_cases e : i % 2 = 0
  · rw [if_pos e]; exact ⟨by omega, by omega⟩
  · rw [if_neg e]; exact ⟨by omega, by omega⟩
section
variable {ov : Nat → List Nat → List Nat → List Nat} {lf : Nat → List Nat}
theorem lev_leaf {h q : Nat} (hq : q < 2 ^ h) : Lev h (2 ^ h + q) := ⟨by omega, by rw [Nat.pow_succ]; omega⟩
end
end Go.Proofs.YtogiballdmgcpaaGreatDoor

/- Trees of leaves that sign once: typecodes back to heights and kinds; where a signature's parts lie. Plain. -/
namespace Go.Proofs.YtogiballdmgcpaaGreatDoor
open Go.RowKit
set_option linter.unusedVariables false
set_option linter.unusedSimpArgs false

theorem findN_is {P : Nat → Bool} {x : Nat} (hx : P x = true) : ∀ (k f : Nat), f ≤ x → x < f + k → (∀ y, f ≤ y → y < x → P y = false) → findN P f k = x
  | 0, f, h1, h2, _ => by omega
  | k + 1, f, h1, h2, h => by
    show (if P f = true then f else findN P (f + 1) k) = x
    by_cases e : f = x
    · rw [e, if_pos hx]
    · rw [if_neg (by rw [h f (Nat.le_refl _) (by omega)]; decide)]
      exact findN_is hx k (f + 1) (by omega) (by omega) (fun y k1 k2 => h y (by omega) k2)
theorem findN_or {P : Nat → Bool} : ∀ (k f : Nat), findN P f k = 0 ∨ (P (findN P f k) = true ∧ f ≤ findN P f k ∧ findN P f k < f + k)
  | 0, f => .inl rfl
  | k + 1, f => by
    by_cases e : P f = true
    · have : findN P f (k + 1) = f := if_pos e
      rw [this]
      exact .inr ⟨e, Nat.le_refl _, by omega⟩
    · have : findN P f (k + 1) = findN P (f + 1) k := if_neg e
      rw [this]
      rcases findN_or k (f + 1) with h | ⟨h1, h2, h3⟩
      · exact .inl h
      · exact .inr ⟨h1, by omega, by omega⟩
/-- a height is told by its typecode -/
theorem hgtL_code {h : Nat} (h0 : lmCode (h : Int) ≠ 0) : hgtL (lmCode (h : Int)) = h := by
  have hb : 1 ≤ h ∧ h ≤ 25 := by
    unfold lmCode at h0
    repeat' split at h0
    all_goals omega
  refine findN_is (by simp [h0]) 25 1 hb.1 (by omega) (fun y k1 k2 => ?_)
  refine decide_eq_false fun ⟨e, _⟩ => ?_
  have := lmCode_inj e.symm h0
  omega
theorem hgtL_or (c : Nat) : hgtL c = 0 ∨ (lmCode (hgtL c : Nat) = c ∧ c ≠ 0 ∧ 1 ≤ hgtL c ∧ hgtL c ≤ 25) := by
  rcases findN_or (P := fun h : Nat => decide (lmCode (h : Int) = c ∧ c ≠ 0)) 25 1 with h | ⟨h1, h2, h3⟩
  · exact .inl h
  · have := of_decide_eq_true h1
    exact .inr ⟨this.1, this.2, h2, by unfold hgtL; omega⟩
/-- a kind is told by its typecode -/
theorem dgtL_code {k n m s c : Nat} (hk : Kd k n m s c) : dgtL c = k := by cases hk <;> rfl
theorem dgtL_or (c : Nat) : dgtL c = 0 ∨ ∃ n m s, Kd (dgtL c) n m s c := by
  rcases findN_or (P := fun w => decide (kdC w = c ∧ c ≠ 0)) 8 1 with h | ⟨h1, _, _⟩
  · exact .inl h
  · have h2 : kdC (dgtL c) = c ∧ c ≠ 0 := of_decide_eq_true h1
    rename_i g1 g2
    clear g1 g2
    obtain ⟨h3, h4⟩ := h2
    refine .inr ?_
    clear h1
    generalize dgtL c = d at *
    unfold kdC at h3
    split at h3
    · rename_i e; subst h3; subst e; exact ⟨_, _, _, Kd.k1⟩
    split at h3
    · rename_i e; subst h3; subst e; exact ⟨_, _, _, Kd.k2⟩
    split at h3
    · rename_i e; subst h3; subst e; exact ⟨_, _, _, Kd.k4⟩
    split at h3
    · rename_i e; subst h3; subst e; exact ⟨_, _, _, Kd.k8⟩
    · exact absurd h3.symm h4
/-- where a signature's parts lie -/
def ctW (b : List Nat) : Nat := dgtL (numL ((b.drop 4).take 4))
def ctA (b : List Nat) : Nat := 4 + szW (ctW b)
def ctH (b : List Nat) : Nat := hgtL (numL ((b.drop (ctA b)).take 4))
def ctN (b : List Nat) : Nat := ctA b + 4 + 32 * ctH b
/-- what is wrong with a signature -/
def ctE (b : List Nat) : Nat := if b.length < 8 then 1 else if ctW b = 0 then 9 else if b.length < ctA b + 4 then 1 else if ctH b = 0 then 9 else if b.length < ctN b then 1 else 0
theorem ctA_le (b : List Nat) : ctA b ≤ 8520 := by
  unfold ctA szW
  repeat' split
  all_goals omega
theorem ctH_le (b : List Nat) : ctH b ≤ 25 := by
  unfold ctH
  rcases hgtL_or (numL ((b.drop (ctA b)).take 4)) with h | ⟨_, _, _, h⟩
  · rw [h]; omega
  · exact h
end Go.Proofs.YtogiballdmgcpaaGreatDoor

/- Trees of trees: plain facts. A key's trees are pairs of a height and a width. -/
namespace Go.Proofs.YtogiballdmgcpaaGreatDoor
open Go.RowKit
set_option linter.unusedVariables false
set_option linter.unusedSimpArgs false

/-- a tree that a key may have -/
def FitG (t : Int × Int) : Prop := FitL t.1 t.2 ∧ t.1 ≤ 10
instance (t : Int × Int) : Decidable (FitG t) := by unfold FitG; infer_instance
def sumH : List (Int × Int) → Int
  | [] => 0
  | t :: ts => t.1 + sumH ts
def FitK (ts : List (Int × Int)) (il sl : Nat) : Prop := 1 ≤ ts.length ∧ ts.length ≤ 8 ∧ (∀ t ∈ ts, FitG t) ∧ sumH ts ≤ 60 ∧ il = 16 ∧ sl = 32
instance (ts : List (Int × Int)) (il sl : Nat) : Decidable (FitK ts il sl) := by unfold FitK; infer_instance
theorem FitG.pos {t : Int × Int} (h : FitG t) : 1 ≤ t.1 ∧ t.1 ≤ 10 := by
  refine ⟨?_, h.2⟩
  have := h.1.1
  unfold lmCode at this
  repeat' split at this
  all_goals omega
theorem sumH_snoc : ∀ (ts : List (Int × Int)) (t : Int × Int), sumH (ts ++ [t]) = sumH ts + t.1
  | [], t => by show t.1 + 0 = 0 + t.1; omega
  | x :: ts, t => by show x.1 + sumH (ts ++ [t]) = x.1 + sumH ts + t.1; rw [sumH_snoc ts t]; omega
theorem sumH_le : ∀ (ts : List (Int × Int)), (∀ t ∈ ts, FitG t) → 0 ≤ sumH ts ∧ sumH ts ≤ 10 * (ts.length : Int)
  | [], _ => by show (0 : Int) ≤ 0 ∧ (0 : Int) ≤ _; simp
  | t :: ts, h => by
    have h1 := sumH_le ts (fun x hx => h x (List.mem_cons_of_mem _ hx))
    have h2 := (h t (by simp)).pos
    show 0 ≤ t.1 + sumH ts ∧ t.1 + sumH ts ≤ _
    rw [List.length_cons]
    omega
/-- the tree at a place -/
def trA (ts : List (Int × Int)) (i : Nat) : Int × Int := ts.getD i (0, 0)
theorem trA_mem {ts : List (Int × Int)} {i : Nat} (h : i < ts.length) : trA ts i ∈ ts := by
  unfold trA
  rw [List.getD_eq_getElem?_getD, List.getElem?_eq_getElem h]
  exact List.getElem_mem h
theorem tr_take {ts : List (Int × Int)} {i : Nat} (h : i < ts.length) : ts.take (i + 1) = ts.take i ++ [trA ts i] := by
  rw [List.take_succ_eq_append_getElem h]
  unfold trA
  rw [List.getD_eq_getElem?_getD, List.getElem?_eq_getElem h]
  rfl
/-- how many texts a key can sign -/
def lvN (ts : List (Int × Int)) : Nat := 2 ^ (sumH ts).toNat
/-- v is a slice of trees -/
def TrS (w : World) (v : Value) (ts : List (Int × Int)) : Prop :=
  ∃ a cap, v = .slice a ts.length cap ∧ ts.length ≤ cap ∧ cap ≤ maxLen ∧ (0 < ts.length → ∃ b off, a = some ⟨b, off, none⟩ ∧ ∀ i, i < ts.length → w.cell? ⟨b, off + i * 2, none⟩ = some (.int .i64 (trA ts i).1) ∧ w.cell? ⟨b, off + i * 2 + 1, none⟩ = some (.int .i64 (trA ts i).2))
theorem TrS.below {w w' : World} {v : Value} {ts : List (Int × Int)} (h : TrS w v ts) (hb : Below w.heap.size w w') : TrS w' v ts := by
  obtain ⟨a, cap, rfl, h1, h2, h3⟩ := h
  refine ⟨a, cap, rfl, h1, h2, fun hl => ?_⟩
  obtain ⟨b, off, rfl, hc⟩ := h3 hl
  refine ⟨b, off, rfl, fun i hi => ?_⟩
  obtain ⟨c1, c2⟩ := hc i hi
  have k1 := World.block_lt_of_cell? w _ c1
  rw [hb.cell (p := ⟨b, off + i * 2, none⟩) k1, hb.cell (p := ⟨b, off + i * 2 + 1, none⟩) k1]
  exact ⟨c1, c2⟩
end Go.Proofs.YtogiballdmgcpaaGreatDoor

/- Trees of leaves that sign once: the document's Cut. -/
namespace Go.Proofs.YtogiballdmgcpaaGreatDoor
open Go.RowKit
set_option linter.unusedVariables false
set_option linter.unusedSimpArgs false

theorem Bx2T.load4 {P : Program} {W : World} {B : Nat} {v0 v1 : Value} (h : Bx2T W B v0 v1) {fn : Func} {s p u v : Tmp} (hr : fn.results = #[.tmp s, .cell p 45, .tmp u, .tmp v]) (hP : P = Tryz.prog) (tmps : Array Value) (hp : tmps.getD p undef = .pointer (some ⟨B, 0, none⟩)) :
    (results fn tmps).run P W = .ok (.tuple #[tmps.getD s undef, .agg #[v0, v1], tmps.getD u undef, tmps.getD v undef]) W := by
  subst hP
  have hp' : tmps[p]?.getD undef = .pointer (some ⟨B, 0, none⟩) := by simpa using hp
  simp [results, hr, hp', asAddr, run_loadVar_row W B 45 45 #[v0, v1] (0, 0) _ h.here Tryz.underlying45 rfl (by kernel_rfl)]
set_option maxHeartbeats 4000000 in
set_option maxRecDepth 100000 in
theorem rcut_no (b : List Nat) (bv : Value) (w : World) (hb : Row .u8 256 w bv b) (h : ctE b ≠ 0) :
    Calls Tryz.prog 37 #[bv] w fun e w' => e = .returned (.tuple #[.slice none 0 0, .agg #[.int .i64 0, .int .i64 0], .slice none 0 0, .int .i64 (ctE b : Nat)]) ∧ Below w.heap.size w w' := by
  have hrow := hb
  obtain ⟨ba, bc, rfl, lc1, lc2, ho⟩ := hb.opens rfl
  have z0 := Bx2T.new w (.int .i64 0) (.int .i64 0)
  have hbw := keep_alloc w (.cells #[.int .i64 0, .int .i64 0] 45)
  have c0 := z0.c0
  have c1 := z0.c1
  by_cases h8 : b.length < 8
  · have hi : (b.length : Int) < 8 := by omega
    have hc : ctE b = 1 := by unfold ctE; rw [if_pos h8]
    rw [hc]
    generalize b.length = L at *
    clear hb h hc ho hrow
    go_enter Tryz.func37, Tryz.ntmps37
    go_wp2
    refine bodyPost_ret (z0.load4 rfl rfl _ rfl) rfl ?_
    exact ⟨rfl, hbw⟩
  · obtain ⟨bb, bo, rfl, _⟩ := ho (by omega)
    have r4 : Row .u8 256 w (.slice (some ⟨bb, bo + 4, none⟩) 4 (bc - 4)) ((b.drop 4).take 4) := hrow.mid (i := 4) (j := 8) (by decide) (by omega)
    have hn4 := rnum_any _ _ _ (r4.below hbw)
    have hdg := fun y => rdigit_any (numL ((b.drop 4).take 4)) y (numL_lt _)
    rw [show dgtL (numL ((b.drop 4).take 4)) = ctW b from rfl] at hdg
    have hsz := fun y => rsizeW (ctW b : Nat) y
    have hi8 : ¬ (b.length : Int) < 8 := by omega
    have h8c : (8 : Int) ≤ (bc : Int) := by omega
    obtain ⟨X, hX⟩ : ∃ X, X = numL ((b.drop 4).take 4) := ⟨_, rfl⟩
    rw [← hX] at hn4 hdg
    by_cases hw0 : ctW b = 0
    · have hc : ctE b = 9 := by unfold ctE; rw [if_neg h8, if_pos hw0]
      rw [hc]
      rw [hw0] at hdg
      clear hb h hc hrow r4 hX hw0 hsz
      generalize b.length = L at *
      go_enter Tryz.func37, Tryz.ntmps37
      go_wp2_with (first
        | (go_at_call 36; refine hn4.mono ?_; rintro e yy ⟨rfl, hy⟩; obtain rfl := hy.symm)
        | (go_at_call 66; refine (hdg _).mono ?_; rintro e yy ⟨rfl, hy⟩; obtain rfl := hy.symm)
        | fail)
      refine bodyPost_ret (z0.load4 rfl rfl _ rfl) rfl ?_
      exact ⟨rfl, hbw⟩
    · have hWi : ((ctW b : Nat) : Int) ≠ 0 := by omega
      have hWb : (((ctW b : Nat) : Int) == 0) = false := by simp; exact hw0
      have hAl := ctA_le b
      have hAd : ctA b = 4 + szW (ctW b : Nat) := rfl
      obtain ⟨Z, hZ⟩ : ∃ Z, Z = szW (ctW b : Nat) := ⟨_, rfl⟩
      rw [← hZ] at hsz hAd
      have rA : b.length ≥ ctA b + 4 → Row .u8 256 w (.slice (some ⟨bb, bo + ctA b, none⟩) 4 (bc - ctA b)) ((b.drop (ctA b)).take 4) := fun hl => by
        have := hrow.mid (i := ctA b) (j := ctA b + 4) (by omega) (by omega)
        rwa [Nat.add_sub_cancel_left] at this
      have hnA := fun hl => rnum_any _ _ _ ((rA hl).below hbw)
      have hht := fun y => rheight_any (numL ((b.drop (ctA b)).take 4)) y (numL_lt _)
      rw [show hgtL (numL ((b.drop (ctA b)).take 4)) = ctH b from rfl] at hht
      obtain ⟨Y, hY⟩ : ∃ Y, Y = numL ((b.drop (ctA b)).take 4) := ⟨_, rfl⟩
      rw [← hY] at hnA hht
      have hHl := ctH_le b
      have hNd : ctN b = ctA b + 4 + 32 * ctH b := rfl
      have hEd : ctE b = if b.length < ctA b + 4 then 1 else if ctH b = 0 then 9 else if b.length < ctN b then 1 else 0 := by unfold ctE; rw [if_neg h8, if_neg hw0]
      rw [hEd] at h ⊢
      clear hEd hw0 hZ hrow hb r4 rA hX hY
      generalize ctW b = W at *
      generalize ctA b = A at *
      generalize ctH b = H at *
      generalize ctN b = N at *
      generalize b.length = L at *
      have e_A : (4 : Int) + (Z : Int) = (A : Int) := by omega
      have s_A : IntKind.i64.wrap (A : Int) = (A : Int) := by rw [IntKind.wrap_i64]; omega
      obtain ⟨E, hE⟩ : ∃ E : Nat, E = A + 4 := ⟨_, rfl⟩
      have e_E : (A : Int) + 4 = (E : Int) := by omega
      have s_E : IntKind.i64.wrap (E : Int) = (E : Int) := by rw [IntKind.wrap_i64]; omega
      by_cases hLE : L < E
      · have hLi : (L : Int) < (E : Int) := by omega
        rw [if_pos (by omega)]
        clear h hnA hht hHl hNd hE hLE hAd hAl
        go_enter Tryz.func37, Tryz.ntmps37
        go_wp2_with (first
          | (go_at_call 36; refine hn4.mono ?_; rintro e yy ⟨rfl, hy⟩; obtain rfl := hy.symm)
          | (go_at_call 66; refine (hdg _).mono ?_; rintro e yy ⟨rfl, hy⟩; obtain rfl := hy.symm)
          | (go_at_call 67; refine (hsz _).mono ?_; rintro e yy ⟨rfl, hy⟩; obtain rfl := hy.symm)
          | fail)
        refine bodyPost_ret (z0.load4 rfl rfl _ rfl) rfl ?_
        exact ⟨rfl, hbw⟩
      · have hLi : ¬ (L : Int) < (E : Int) := by omega
        have hnA' := hnA (by omega)
        rw [if_neg (by omega)] at h ⊢
        have hAE : (A : Int) ≤ (E : Int) := by omega
        have hEc : (E : Int) ≤ (bc : Int) := by omega
        have hEA : E - A = 4 := by omega
        have hEAi : (E : Int) - (A : Int) = 4 := by omega
        have z_A : (0 : Int) ≤ (A : Int) := Int.natCast_nonneg _
        by_cases hH0 : H = 0
        · rw [if_pos hH0]
          rw [hH0] at hht
          clear h hnA hHl hNd hE hLE hAd hAl hH0
          go_enter Tryz.func37, Tryz.ntmps37
          go_wp2_with (first
            | (go_at_call 36; have hn4u := hn4; clear hn4; refine hn4u.mono ?_; rintro e yy ⟨rfl, hy⟩; obtain rfl := hy.symm; clear hn4u)
            | (go_at_call 36; refine hnA'.mono ?_; rintro e yy ⟨rfl, hy⟩; obtain rfl := hy.symm)
            | (go_at_call 66; refine (hdg _).mono ?_; rintro e yy ⟨rfl, hy⟩; obtain rfl := hy.symm)
            | (go_at_call 67; refine (hsz _).mono ?_; rintro e yy ⟨rfl, hy⟩; obtain rfl := hy.symm)
            | (go_at_call 68; refine (hht _).mono ?_; rintro e yy ⟨rfl, hy⟩; obtain rfl := hy.symm)
            | fail)
          refine bodyPost_ret (z0.load4 rfl rfl _ rfl) rfl ?_
          exact ⟨rfl, hbw⟩
        · rw [if_neg hH0] at h ⊢
          have hLN : L < N := Decidable.byContradiction fun hh => h (if_neg hh)
          rw [if_pos hLN]
          have hLNi : (L : Int) < (N : Int) := by omega
          have hHb : ((H : Int) == 0) = false := by simp; exact hH0
          have hHi : (H : Int) ≠ 0 := by omega
          obtain ⟨T, hT⟩ : ∃ T : Nat, T = 32 * H := ⟨_, rfl⟩
          have e_T : (32 : Int) * (H : Int) = (T : Int) := by omega
          have s_T : IntKind.i64.wrap (T : Int) = (T : Int) := by rw [IntKind.wrap_i64]; omega
          have e_N : (E : Int) + (T : Int) = (N : Int) := by omega
          have s_N : IntKind.i64.wrap (N : Int) = (N : Int) := by rw [IntKind.wrap_i64]; omega
          clear h hnA hHl hNd hE hLE hAd hAl hH0 hT hLN
          go_enter Tryz.func37, Tryz.ntmps37
          go_wp2_with (first
            | (go_at_call 36; have hn4u := hn4; clear hn4; refine hn4u.mono ?_; rintro e yy ⟨rfl, hy⟩; obtain rfl := hy.symm; clear hn4u)
            | (go_at_call 36; refine hnA'.mono ?_; rintro e yy ⟨rfl, hy⟩; obtain rfl := hy.symm)
            | (go_at_call 66; refine (hdg _).mono ?_; rintro e yy ⟨rfl, hy⟩; obtain rfl := hy.symm)
            | (go_at_call 67; refine (hsz _).mono ?_; rintro e yy ⟨rfl, hy⟩; obtain rfl := hy.symm)
            | (go_at_call 68; refine (hht _).mono ?_; rintro e yy ⟨rfl, hy⟩; obtain rfl := hy.symm)
            | fail)
          refine bodyPost_ret (z0.load4 rfl rfl _ rfl) rfl ?_
          exact ⟨rfl, hbw⟩
end Go.Proofs.YtogiballdmgcpaaGreatDoor

/- Trees of leaves that sign once: the document's Cut where it answers. -/
namespace Go.Proofs.YtogiballdmgcpaaGreatDoor
open Go.RowKit
set_option linter.unusedVariables false
set_option linter.unusedSimpArgs false

section
variable {ops : Array Oper} {S : World → Prop}
theorem built_tree (u v : Int) : Tryz.prog.built 45 [(0, .int .i64 u), (1, .int .i64 v)] = some #[.int .i64 u, .int .i64 v] := by kernel_rfl
theorem y_tree {o : Oper} {a : Act} {x y : Operand} {u v : Int} (hg : o.guard = none) (ho : o.op = .build 45 #[(0, x), (1, y)]) (hx : a.eval x = .int .i64 u) (hy : a.eval y = .int .i64 v) : YieldsIf Tryz.prog ops S o (.agg #[.int .i64 u, .int .i64 v]) a := by
  refine y_of hg fun w _ => ?_
  have hb := run_build (P := Tryz.prog) w 45 #[(0, .int .i64 u), (1, .int .i64 v)] _ (built_tree u v)
  unfold execOp
  simp only [ho, List.map_toArray, List.map_cons, List.map_nil, hx, hy]
  simp [Sem.run_bind, hb]
theorem y_fromT {o : Oper} {a : Act} {x y : Operand} {v u : Value} {F : Nat} (hg : o.guard = none) (ho : o.op = .slice 23 x (some y) none none) (hx : a.eval x = v) (hy : a.eval y = .int .i64 (F : Int)) (hr : ∀ w : World, (Instr.slice 23 v (some (.int .i64 (F : Int))) none none).run Tryz.prog w = .ok u w) (hv : ∃ aa n c, v = .slice aa n c) : YieldsIf Tryz.prog ops S o u a := by
  obtain ⟨aa, n, c, rfl⟩ := hv
  refine y_of hg fun w _ => ?_
  have h := hr w
  unfold execOp
  simp only [ho, hx, Option.map_none, Option.map_some, hy]
  simp [Instr.sliceAt, Sem.run_bind, h, run_underlying Tryz.underlying23, go_sem]
theorem y_toT {o : Oper} {a : Act} {x y : Operand} {aa : Option Addr} {n c F : Nat} (hg : o.guard = none) (ho : o.op = .slice 23 x none (some y) none) (hx : a.eval x = .slice aa n c) (hy : a.eval y = .int .i64 (F : Int)) (hF : F ≤ c) : YieldsIf Tryz.prog ops S o (.slice aa F c) a := by
  refine y_of hg fun w _ => ?_
  have h := slice_to aa n c F hF w
  unfold execOp
  simp only [ho, hx, Option.map_none, Option.map_some, hy]
  simp [Instr.sliceAt, Sem.run_bind, h, run_underlying Tryz.underlying23, go_sem]
end
theorem one2T (a b : Int) : (#[.int .i64 a, .int .i64 b] : Array Value).all (·.oneCell') = true := by simp [Value.oneCell']
def ctlt : List Lt := [(0, some 50, [0]), (0, some 51, [9]), (3, some 52, [50, 51]), (0, some 53, [8]), (0, some 54, [6]), (24, some 55, [53, 54]), (0, some 56, [0]), (0, some 57, [9]), (192, some 58, [56, 57]), (7, some 2, [52]), (575, none, [3, 55]), (2047, some 4, [58]), (4095, some 5, [])]
theorem ctreg : Reg (opsA (cLA (cRA (cRA (cRA (cRA (cRA (cRA (cRA (cRA (cRA (cRA (Tryz.f37.body.getD .skip))))))))))))) ctlt := ⟨by kernel_rfl, by kernel_rfl⟩
theorem ctE_zero {b : List Nat} (h : ctE b = 0) : 8 ≤ b.length ∧ ctW b ≠ 0 ∧ ctA b + 4 ≤ b.length ∧ ctH b ≠ 0 ∧ ctN b ≤ b.length := by
  unfold ctE at h
  by_cases h1 : b.length < 8
  · rw [if_pos h1] at h; exact absurd h (by decide)
  rw [if_neg h1] at h
  by_cases h2 : ctW b = 0
  · rw [if_pos h2] at h; exact absurd h (by decide)
  rw [if_neg h2] at h
  by_cases h3 : b.length < ctA b + 4
  · rw [if_pos h3] at h; exact absurd h (by decide)
  rw [if_neg h3] at h
  by_cases h4 : ctH b = 0
  · rw [if_pos h4] at h; exact absurd h (by decide)
  rw [if_neg h4] at h
  by_cases h5 : b.length < ctN b
  · rw [if_pos h5] at h; exact absurd h (by decide)
  exact ⟨by omega, h2, by omega, h4, by omega⟩
set_option maxHeartbeats 4000000 in
set_option maxRecDepth 100000 in
theorem rcut_ok (b : List Nat) (bv : Value) (w : World) (hb : Row .u8 256 w bv b) (h : ctE b = 0) :
    Calls Tryz.prog 37 #[bv] w fun e w' => ∃ v1 v2, e = .returned (.tuple #[v1, .agg #[.int .i64 (ctH b : Nat), .int .i64 (ctW b : Nat)], v2, .int .i64 0]) ∧ Row .u8 256 w' v1 (b.take (ctN b)) ∧ Row .u8 256 w' v2 (b.drop (ctN b)) ∧ Below w.heap.size w w' := by
  obtain ⟨h8, hw0, hL1, hH0, hL2⟩ := ctE_zero h
  clear h
  have hrow := hb
  obtain ⟨ba, bc, rfl, lc1, lc2, ho⟩ := hb.opens rfl
  have z0 := Bx2T.new w (.int .i64 0) (.int .i64 0)
  have hbw := keep_alloc w (.cells #[.int .i64 0, .int .i64 0] 45)
  have c0 := z0.c0
  have c1 := z0.c1
  obtain ⟨bb, bo, rfl, _⟩ := ho (by omega)
  clear ho
  have r4 : Row .u8 256 w (.slice (some ⟨bb, bo + 4, none⟩) 4 (bc - 4)) ((b.drop 4).take 4) := hrow.mid (i := 4) (j := 8) (by decide) (by omega)
  have hn4 := rnum_any _ _ _ (r4.below hbw)
  have hdg := fun y => rdigit_any (numL ((b.drop 4).take 4)) y (numL_lt _)
  rw [show dgtL (numL ((b.drop 4).take 4)) = ctW b from rfl] at hdg
  have hsz := fun y => rsizeW (ctW b : Nat) y
  have hi8 : ¬ (b.length : Int) < 8 := by omega
  have h8c : (8 : Int) ≤ (bc : Int) := by omega
  obtain ⟨X, hX⟩ : ∃ X, X = numL ((b.drop 4).take 4) := ⟨_, rfl⟩
  rw [← hX] at hn4 hdg
  have hWi : ((ctW b : Nat) : Int) ≠ 0 := by omega
  have hWb : (((ctW b : Nat) : Int) == 0) = false := by simp; exact hw0
  have hAl := ctA_le b
  have hAd : ctA b = 4 + szW (ctW b : Nat) := rfl
  obtain ⟨Z, hZ⟩ : ∃ Z, Z = szW (ctW b : Nat) := ⟨_, rfl⟩
  rw [← hZ] at hsz hAd
  have rA : Row .u8 256 w (.slice (some ⟨bb, bo + ctA b, none⟩) 4 (bc - ctA b)) ((b.drop (ctA b)).take 4) := by
    have := hrow.mid (i := ctA b) (j := ctA b + 4) (by omega) (by omega)
    rwa [Nat.add_sub_cancel_left] at this
  have hnA := rnum_any _ _ _ (rA.below hbw)
  have hht := fun y => rheight_any (numL ((b.drop (ctA b)).take 4)) y (numL_lt _)
  rw [show hgtL (numL ((b.drop (ctA b)).take 4)) = ctH b from rfl] at hht
  obtain ⟨Y, hY⟩ : ∃ Y, Y = numL ((b.drop (ctA b)).take 4) := ⟨_, rfl⟩
  rw [← hY] at hnA hht
  have hHl := ctH_le b
  have hNd : ctN b = ctA b + 4 + 32 * ctH b := rfl
  have rT := hrow.cut (M := ctN b) hL2
  obtain ⟨A2, hA2, hAd2⟩ := slice_from (some ⟨bb, bo, none⟩) b.length bc (ctN b) hL2 lc1
  have rD := hrow.behind hL2 hAd2
  generalize hbt : b.take (ctN b) = bt at *
  generalize hbd : b.drop (ctN b) = bd at *
  clear hw0 hZ hrow hb r4 rA hX hY hbt hbd hAd2
  generalize ctW b = W at *
  generalize ctA b = A at *
  generalize ctH b = H at *
  generalize ctN b = N at *
  generalize b.length = L at *
  have e_A : (4 : Int) + (Z : Int) = (A : Int) := by omega
  have s_A : IntKind.i64.wrap (A : Int) = (A : Int) := by rw [IntKind.wrap_i64]; omega
  obtain ⟨E, hE⟩ : ∃ E : Nat, E = A + 4 := ⟨_, rfl⟩
  have e_E : (A : Int) + 4 = (E : Int) := by omega
  have s_E : IntKind.i64.wrap (E : Int) = (E : Int) := by rw [IntKind.wrap_i64]; omega
  have hLi : ¬ (L : Int) < (E : Int) := by omega
  have hAE : (A : Int) ≤ (E : Int) := by omega
  have hEc : (E : Int) ≤ (bc : Int) := by omega
  have hEA : E - A = 4 := by omega
  have hEAi : (E : Int) - (A : Int) = 4 := by omega
  have z_A : (0 : Int) ≤ (A : Int) := Int.natCast_nonneg _
  have hLNi : ¬ (L : Int) < (N : Int) := by omega
  have hHb : ((H : Int) == 0) = false := by simp; exact hH0
  have hHi : (H : Int) ≠ 0 := by omega
  obtain ⟨T, hT⟩ : ∃ T : Nat, T = 32 * H := ⟨_, rfl⟩
  have e_T : (32 : Int) * (H : Int) = (T : Int) := by omega
  have s_T : IntKind.i64.wrap (T : Int) = (T : Int) := by rw [IntKind.wrap_i64]; omega
  have e_N : (E : Int) + (T : Int) = (N : Int) := by omega
  have s_N : IntKind.i64.wrap (N : Int) = (N : Int) := by rw [IntKind.wrap_i64]; omega
  have hNc : N ≤ bc := by omega
  have HH := hide (And.intro rT (And.intro rD (And.intro hbw z0.here)))
  clear hHl hNd hE hAd hAl hH0 hT h8 hL1 hL2 rT rD hbw lc1 lc2
  go_enter Tryz.func37, Tryz.ntmps37
  go_wp2_with (first
    | (go_at_call 36; have hn4u := hn4; clear hn4; refine hn4u.mono ?_; rintro e yy ⟨rfl, hy⟩; obtain rfl := hy.symm; clear hn4u)
    | (go_at_call 36; refine hnA.mono ?_; rintro e yy ⟨rfl, hy⟩; obtain rfl := hy.symm)
    | (go_at_call 66; refine (hdg _).mono ?_; rintro e yy ⟨rfl, hy⟩; obtain rfl := hy.symm)
    | (go_at_call 67; refine (hsz _).mono ?_; rintro e yy ⟨rfl, hy⟩; obtain rfl := hy.symm)
    | (go_at_call 68; refine (hht _).mono ?_; rintro e yy ⟨rfl, hy⟩; obtain rfl := hy.symm)
    | fail)
  refine at_begin (ops := (opsA (cLA (cRA (cRA (cRA (cRA (cRA (cRA (cRA (cRA (cRA (cRA (Tryz.f37.body.getD .skip)))))))))))))) (n := 13) (fun _ => True) (by kernel_rfl) (by kernel_rfl) ?_
  refine at_takeD (i := 0) (m' := 1) (d := some 50) (v := .slice (some ⟨bb, bo, none⟩) L bc) ctreg rfl (by decide) rfl rfl (y_move rfl rfl rfl) trivial ?_
  simp only [Act.put, List.setIfInBounds_toArray, List.set_cons_zero, List.set_cons_succ]
  refine at_takeD (i := 1) (m' := 3) (d := some 51) (v := .int .i64 (N : Int)) ctreg rfl (by decide) rfl rfl (y_move rfl rfl rfl) trivial ?_
  simp only [Act.put, List.setIfInBounds_toArray, List.set_cons_zero, List.set_cons_succ]
  refine at_takeD (i := 2) (m' := 7) (d := some 52) (v := .slice (some ⟨bb, bo, none⟩) N bc) ctreg rfl (by decide) rfl rfl (y_toT rfl rfl rfl rfl hNc) trivial ?_
  simp only [Act.put, List.setIfInBounds_toArray, List.set_cons_zero, List.set_cons_succ]
  refine at_takeD (i := 3) (m' := 15) (d := some 53) (v := .int .i64 (H : Int)) ctreg rfl (by decide) rfl rfl (y_move rfl rfl rfl) trivial ?_
  simp only [Act.put, List.setIfInBounds_toArray, List.set_cons_zero, List.set_cons_succ]
  refine at_takeD (i := 4) (m' := 31) (d := some 54) (v := .int .i64 (W : Int)) ctreg rfl (by decide) rfl rfl (y_move rfl rfl rfl) trivial ?_
  simp only [Act.put, List.setIfInBounds_toArray, List.set_cons_zero, List.set_cons_succ]
  refine at_takeD (i := 5) (m' := 63) (d := some 55) (v := .agg #[.int .i64 (H : Int), .int .i64 (W : Int)]) ctreg rfl (by decide) rfl rfl (y_tree rfl rfl rfl rfl) trivial ?_
  simp only [Act.put, List.setIfInBounds_toArray, List.set_cons_zero, List.set_cons_succ]
  refine at_takeD (i := 6) (m' := 127) (d := some 56) (v := .slice (some ⟨bb, bo, none⟩) L bc) ctreg rfl (by decide) rfl rfl (y_move rfl rfl rfl) trivial ?_
  simp only [Act.put, List.setIfInBounds_toArray, List.set_cons_zero, List.set_cons_succ]
  refine at_takeD (i := 7) (m' := 255) (d := some 57) (v := .int .i64 (N : Int)) ctreg rfl (by decide) rfl rfl (y_move rfl rfl rfl) trivial ?_
  simp only [Act.put, List.setIfInBounds_toArray, List.set_cons_zero, List.set_cons_succ]
  refine at_takeD (i := 8) (m' := 511) (d := some 58) (v := .slice A2 (L - N) (bc - N)) ctreg rfl (by decide) rfl rfl (y_fromT rfl rfl rfl rfl hA2 ⟨_, _, _, rfl⟩) trivial ?_
  simp only [Act.put, List.setIfInBounds_toArray, List.set_cons_zero, List.set_cons_succ]
  refine at_takeD (i := 9) (m' := 1023) (d := some 2) (v := .slice (some ⟨bb, bo, none⟩) N bc) ctreg rfl (by decide) rfl rfl (y_assignA rfl rfl rfl) trivial ?_
  simp only [Act.put, List.setIfInBounds_toArray, List.set_cons_zero, List.set_cons_succ]
  obtain ⟨rT, rD, hbw, hhere⟩ := HH.out
  have hbd := keep_trans hbw ((Below.refl _ _).drew)
  have h0d : (w.alloc (.cells #[.int .i64 0, .int .i64 0] 45)).drew.heap[w.heap.size]? = some (.cells #[.int .i64 0, .int .i64 0] 45 (0, 0)) := hhere
  refine at_one (i := 10) (m' := 2047) ctreg (by decide) rfl ?_
  refine p_rowA (g := w.heap.size) (cells := #[.int .i64 (H : Int), .int .i64 (W : Int)]) rfl rfl rfl rfl rfl rfl h0d (by kernel_rfl) rfl (one2T _ _) ⟨trivial, ?_⟩
  have hBt : But w.heap.size (w.alloc (.cells #[.int .i64 0, .int .i64 0] 45)).drew ((w.alloc (.cells #[.int .i64 0, .int .i64 0] 45)).drew.setRow w.heap.size #[.int .i64 (H : Int), .int .i64 (W : Int)]) := (But.refl _ _).setRow _
  have hT2 : Bx2T ((w.alloc (.cells #[.int .i64 0, .int .i64 0] 45)).drew.setRow w.heap.size #[.int .i64 (H : Int), .int .i64 (W : Int)]) w.heap.size (.int .i64 (H : Int)) (.int .i64 (W : Int)) := ⟨setRow_heap _ _ _ _ _ _ h0d⟩
  have hbF := hbd.trans (hBt.below (Nat.le_refl _) hbd.size)
  generalize (w.alloc (.cells #[.int .i64 0, .int .i64 0] 45)).drew.setRow w.heap.size #[.int .i64 (H : Int), .int .i64 (W : Int)] = WF at *
  refine at_takeD (i := 11) (m' := 4095) (d := some 4) (v := .slice A2 (L - N) (bc - N)) ctreg rfl (by decide) rfl rfl (y_assignA rfl rfl rfl) trivial ?_
  simp only [Act.put, List.setIfInBounds_toArray, List.set_cons_zero, List.set_cons_succ]
  refine at_takeD (i := 12) (m' := 8191) (d := some 5) (v := .int .i64 0) ctreg rfl (by decide) rfl rfl (y_assignA rfl rfl rfl) trivial ?_
  simp only [Act.put, List.setIfInBounds_toArray, List.set_cons_zero, List.set_cons_succ]
  refine at_done ctreg (by decide) ?_
  go_wp2
  refine bodyPost_ret (hT2.load4 rfl rfl _ rfl) rfl ?_
  exact ⟨_, _, rfl, rT.below hbF, rD.below hbF, hbF⟩
end Go.Proofs.YtogiballdmgcpaaGreatDoor
