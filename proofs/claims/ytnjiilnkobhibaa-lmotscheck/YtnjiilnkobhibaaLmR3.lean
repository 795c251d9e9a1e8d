/- Leaves that sign once: the document's key, digest, wrong, Size. -/
import Derived.Test.YtnjiilnkobhibaaLmC
import Derived.Test.YtnjiilnkobhibaaBase
import Derived.Test.YtnjiilnkobhibaaFrameT
import Derived.Test.YtnjiilnkobhibaaRJoin
namespace Go.Proofs.Ytnjiilnkobhibaa
open Go.RowKit
set_option linter.unusedVariables false
set_option linter.unusedSimpArgs false

/-- what is wrong with a kind, an id, a seed -/
def wrgC (x : Int) (a b : Nat) : Int := if x = 1 ∨ x = 2 ∨ x = 4 ∨ x = 8 then (if a = 16 ∧ b = 32 then 0 else 14) else 9
theorem wrg_no {x : Int} (h : NoK x) (a b : Nat) : wrgC x a b = 9 := by
  obtain ⟨h1, h2, h4, h8⟩ := h
  unfold wrgC
  rw [if_neg (by omega)]
theorem wrg_kd {w n m s c : Nat} (h : Kd w n m s c) (a b : Nat) : wrgC (w : Int) a b = if a = 16 ∧ b = 32 then 0 else 14 := by
  unfold wrgC
  rw [if_pos (by cases h <;> simp)]
theorem Kd.pos {w n m s c : Nat} (h : Kd w n m s c) : 1 ≤ n + m ∧ n + m ≤ 265 ∧ w ≤ 8 ∧ 1 ≤ w ∧ n * w = 256 ∧ c ≤ 4 ∧ s ≤ 7 := by cases h <;> decide
set_option maxHeartbeats 4000000 in
set_option maxRecDepth 100000 in
theorem rsize_no (x : Int) (w : World) (h : NoK x) : Calls Try.prog 11 #[.int .i64 x] w fun e w' => e = .returned (.int .i64 0) ∧ w' = w := by
  have hk := fun y => rkind_no x y h
  clear h
  go_enter Try.func11, Try.ntmps11
  go_wp2_with (first | (go_at_call 14; refine (hk _).mono ?_; rintro e yy ⟨rfl, hy⟩; obtain rfl := hy.symm) | fail)
  go_ret
  exact ⟨rfl, rfl⟩
set_option maxHeartbeats 4000000 in
set_option maxRecDepth 100000 in
theorem rsize_ok {k n m s c : Nat} (w : World) (h : Kd k n m s c) : Calls Try.prog 11 #[.int .i64 (k : Int)] w fun e w' => e = .returned (.int .i64 ((36 + 32 * (n + m) : Nat) : Int)) ∧ w' = w := by
  have hk := fun y => rkind_ok y h
  obtain ⟨P, hP⟩ : ∃ P : Nat, P = n + m := ⟨_, rfl⟩
  rw [← hP] at hk ⊢
  have hp := h.pos
  have hp0 : ¬ ((P : Int) = 0) := by omega
  obtain ⟨A, hA⟩ : ∃ A : Nat, A = 32 * P := ⟨_, rfl⟩
  obtain ⟨B, hB⟩ : ∃ B : Nat, B = 36 + A := ⟨_, rfl⟩
  have e_A : (32 : Int) * (P : Int) = (A : Int) := by omega
  have s_A : IntKind.i64.wrap (A : Int) = (A : Int) := by rw [IntKind.wrap_i64]; omega
  have e_B : (36 : Int) + (A : Int) = (B : Int) := by omega
  have s_B : IntKind.i64.wrap (B : Int) = (B : Int) := by rw [IntKind.wrap_i64]; omega
  rw [← hA, ← hB]
  clear h hP hA hB hp
  go_enter Try.func11, Try.ntmps11
  go_wp2_with (first | (go_at_call 14; refine (hk _).mono ?_; rintro e yy ⟨rfl, hy⟩; obtain rfl := hy.symm) | fail)
  go_ret
  exact ⟨rfl, rfl⟩
end Go.Proofs.Ytnjiilnkobhibaa

/- Tapes: plain facts. A tape is n bytes and a place among them. -/
namespace Go.Proofs.Ytnjiilnkobhibaa
open Go.RowKit
set_option linter.unusedVariables false
set_option linter.unusedSimpArgs false

/-- a tape is fit -/
def FitT (n : Nat) (x : Int) : Prop := n ≤ 1048576 ∧ 0 ≤ x ∧ x ≤ (n : Int)
instance (n : Nat) (x : Int) : Decidable (FitT n x) := by unfold FitT; infer_instance
def leftT (n : Nat) (x : Int) : Int := if FitT n x then (n : Int) - x else 0
/-- what is wrong with a take of k; 0: nothing is -/
def tkC (n : Nat) (x k : Int) : Int := if ¬ FitT n x then 1 else if k < 0 then 8 else if leftT n x < k then 13 else 0
/-- what is taken -/
def tkL (l : List Nat) (x k : Int) : List Nat := (l.drop x.toNat).take k.toNat
/-- parts: the first error; the texts; the place behind them -/
def ptC (n : Nat) : Int → List Int → Int
  | _, [] => 0
  | x, k :: ks => if tkC n x k = 0 then ptC n (x + k) ks else tkC n x k
def ptL (l : List Nat) : Int → List Int → List (List Nat)
  | _, [] => []
  | x, k :: ks => tkL l x k :: ptL l (x + k) ks
def ptA : Int → List Int → Int
  | x, [] => x
  | x, k :: ks => ptA (x + k) ks
theorem tk_ok {n : Nat} {x k : Int} (h : tkC n x k = 0) : FitT n x ∧ 0 ≤ k ∧ x + k ≤ (n : Int) := by
  unfold tkC at h
  by_cases h1 : FitT n x
  · rw [if_neg (by simp [h1])] at h
    by_cases h2 : k < 0
    · rw [if_pos h2] at h; cases h
    · rw [if_neg h2] at h
      by_cases h3 : leftT n x < k
      · rw [if_pos h3] at h; cases h
      · unfold leftT at h3
        rw [if_pos h1] at h3
        exact ⟨h1, by omega, by omega⟩
  · rw [if_pos h1] at h; cases h
theorem tk_next {n : Nat} {x k : Int} (h : tkC n x k = 0) : FitT n (x + k) := by
  obtain ⟨h1, h2, h3⟩ := tk_ok h
  unfold FitT at *
  omega
theorem tk_mk {n : Nat} {x k : Int} (h : FitT n x) (h2 : 0 ≤ k) (h3 : x + k ≤ (n : Int)) : tkC n x k = 0 := by
  unfold tkC leftT
  rw [if_neg (by simp [h]), if_neg (by omega), if_pos h, if_neg (by omega)]
theorem tkL_len {l : List Nat} {x k : Int} (h : tkC l.length x k = 0) : (tkL l x k).length = k.toNat := by
  obtain ⟨h1, h2, h3⟩ := tk_ok h
  unfold FitT at h1
  unfold tkL
  rw [List.length_take, List.length_drop]
  omega
/-- P13.3: what is taken in parts is what is taken at once -/
theorem tk_two {n : Nat} {x j k : Int} (hj : 0 ≤ j) (hk : 0 ≤ k) : tkC n x (j + k) = 0 ↔ tkC n x j = 0 ∧ tkC n (x + j) k = 0 := by
  constructor
  · intro h
    obtain ⟨h1, h2, h3⟩ := tk_ok h
    have e1 : tkC n x j = 0 := tk_mk h1 hj (by omega)
    exact ⟨e1, tk_mk (tk_next e1) hk (by omega)⟩
  · rintro ⟨h1, h2⟩
    obtain ⟨a1, a2, a3⟩ := tk_ok h1
    obtain ⟨b1, b2, b3⟩ := tk_ok h2
    exact tk_mk a1 (by omega) (by omega)
theorem tkL_two {l : List Nat} {x j k : Int} (h : tkC l.length x (j + k) = 0) (hj : 0 ≤ j) (hk : 0 ≤ k) : tkL l x (j + k) = tkL l x j ++ tkL l (x + j) k := by
  obtain ⟨h1, h2, h3⟩ := tk_ok h
  unfold FitT at h1
  unfold tkL
  rw [show (x + j).toNat = x.toNat + j.toNat by omega, show (j + k).toNat = j.toNat + k.toNat by omega, List.take_add, List.drop_drop]
theorem ptC_snoc (n : Nat) : ∀ (ks : List Int) (x k : Int), ptC n x ks = 0 → ptC n x (ks ++ [k]) = tkC n (ptA x ks) k
  | [], x, k, _ => by
    show (if tkC n x k = 0 then 0 else tkC n x k) = tkC n x k
    split
    · rename_i h; exact h.symm
    · rfl
  | j :: ks, x, k, h => by
    unfold ptC at h
    split at h
    · rename_i hj
      show (if tkC n x j = 0 then ptC n (x + j) (ks ++ [k]) else _) = _
      rw [if_pos hj]
      exact ptC_snoc n ks (x + j) k h
    · rename_i hj; exact absurd h hj
theorem ptC_bad (n : Nat) : ∀ (ks : List Int) (x : Int) (k : Int) (js : List Int), ptC n x ks = 0 → tkC n (ptA x ks) k ≠ 0 → ptC n x (ks ++ k :: js) = tkC n (ptA x ks) k
  | [], x, k, js, _, h => by
    show (if tkC n x k = 0 then _ else tkC n x k) = _
    exact if_neg h
  | j :: ks, x, k, js, h0, h => by
    unfold ptC at h0
    split at h0
    · rename_i hj
      show (if tkC n x j = 0 then ptC n (x + j) (ks ++ k :: js) else _) = _
      rw [if_pos hj]
      exact ptC_bad n ks (x + j) k js h0 h
    · rename_i hj; exact absurd h0 hj
theorem ptL_snoc (l : List Nat) : ∀ (ks : List Int) (x k : Int), ptL l x (ks ++ [k]) = ptL l x ks ++ [tkL l (ptA x ks) k]
  | [], x, k => rfl
  | j :: ks, x, k => by
    show tkL l x j :: ptL l (x + j) (ks ++ [k]) = _
    rw [ptL_snoc l ks (x + j) k]
    rfl
theorem ptA_snoc : ∀ (ks : List Int) (x k : Int), ptA x (ks ++ [k]) = ptA x ks + k
  | [], x, k => rfl
  | j :: ks, x, k => ptA_snoc ks (x + j) k
theorem ptL_len (l : List Nat) : ∀ (ks : List Int) (x : Int), (ptL l x ks).length = ks.length
  | [], x => rfl
  | j :: ks, x => by show (ptL l (x + j) ks).length + 1 = _; rw [ptL_len l ks (x + j)]; rfl
theorem ptA_fit (n : Nat) : ∀ (ks : List Int) (x : Int), ptC n x ks = 0 → ks = [] ∨ FitT n (ptA x ks)
  | [], x, _ => .inl rfl
  | j :: ks, x, h => by
    unfold ptC at h
    split at h
    · rename_i hj
      rcases ptA_fit n ks (x + j) h with rfl | h2
      · exact .inr (tk_next hj)
      · exact .inr h2
    · rename_i hj; exact absurd h hj
/-- a slice of ints -/
def RowI (w : World) (v : Value) (ks : List Int) : Prop :=
  ∃ a cap, v = .slice a ks.length cap ∧ ks.length ≤ cap ∧ cap ≤ maxLen ∧ (0 < ks.length → ∃ b off, a = some ⟨b, off, none⟩ ∧ ∀ i, i < ks.length → w.cell? ⟨b, off + i, none⟩ = some (.int .i64 (ks.getD i 0))) ∧ ∀ k ∈ ks, -9223372036854775808 ≤ k ∧ k ≤ 9223372036854775807
theorem RowI.below {w w' : World} {v : Value} {ks : List Int} (h : RowI w v ks) (hb : Below w.heap.size w w') : RowI w' v ks := by
  obtain ⟨a, cap, rfl, h1, h2, h3, h4⟩ := h
  refine ⟨a, cap, rfl, h1, h2, fun hl => ?_, h4⟩
  obtain ⟨b, off, rfl, hc⟩ := h3 hl
  refine ⟨b, off, rfl, fun i hi => ?_⟩
  have h5 := World.block_lt_of_cell? w _ (hc i hi)
  rw [hb.cell (p := ⟨b, off + i, none⟩) h5]
  exact hc i hi
/-- a tape as a value -/
def tpV (v : Value) (x : Int) : Value := .agg #[v, .int .i64 x]
end Go.Proofs.Ytnjiilnkobhibaa

/- The document's tapes: Fit, Left, Take, Same. -/
namespace Go.Proofs.Ytnjiilnkobhibaa
open Go.RowKit
set_option linter.unusedVariables false
set_option linter.unusedSimpArgs false

theorem set_here {W : World} {B i : Nat} {cs : Array Value} {t : TypeId} {fz : Nat × Nat} (u : Value) (h : W.heap[B]? = some (.cells cs t fz)) : (W.setCell ⟨B, i, none⟩ u).heap[B]? = some (.cells (cs.setIfInBounds i u) t fz) := by
  obtain ⟨hlt, hk⟩ := Array.getElem?_eq_some_iff.1 h
  show (W.heap.modify B _)[B]? = _
  rw [Array.getElem?_eq_getElem (by rw [Array.size_modify]; exact hlt), Array.getElem_modify_self, hk]
  rfl
theorem but_set2 (W : World) (B : Nat) (u0 u1 : Value) : But B W ((W.setCell ⟨B, 0, none⟩ u0).setCell ⟨B, 1, none⟩ u1) := ((But.refl B W).setCell 0 u0).setCell 1 u1
/-- u is the part of v from x on, of k bytes -/
def Part (v : Value) (x k : Int) (u : Value) : Prop := ∃ (a : Option Addr) (n c X M : Nat) (A : Option Addr), v = .slice a n c ∧ x = (X : Int) ∧ k = (M : Int) ∧ u = .slice A M (c - X) ∧ (A = a ∧ c = X ∨ A = a.map (·.add X))
theorem Part.row {w : World} {v u : Value} {l : List Nat} {x k : Int} (h : Part v x k u) (hv : Row .u8 256 w v l) (tv : Tidy v) (hk : tkC l.length x k = 0) : Row .u8 256 w u (tkL l x k) ∧ Tidy u := by
  obtain ⟨a, n, c, X, M, A, rfl, rfl, rfl, rfl, hA⟩ := h
  obtain ⟨h1, h2, h3⟩ := tk_ok hk
  have hn : l.length = n := by
    obtain ⟨_, _, he, _⟩ := hv
    simp at he
    omega
  unfold FitT at h1
  refine ⟨(hv.behind (F := X) (by omega) hA).cut (M := M) (by rw [List.length_drop]; omega), ?_⟩
  intro n' c' e
  simp only [Value.slice.injEq] at e
  obtain ⟨e1, e2, e3⟩ := e
  have ha : a = none := by
    rcases hA with ⟨e, _⟩ | e
    · rw [← e]; exact e1
    · rw [e] at e1; simpa using e1
  subst ha
  have := tv n c rfl
  omega
end Go.Proofs.Ytnjiilnkobhibaa
