/- Tapes: plain facts. A tape is n bytes and a place among them. -/
import Derived.Test.YtefndnbaifiboaaDoorHRes32
import Derived.Test.YtefndnbaifiboaaDoorBase
import Derived.Test.YtefndnbaifiboaaDoorHSl
import Derived.Test.YtefndnbaifiboaaDoorPApp
import Derived.Test.YtefndnbaifiboaaDoorPlan3
import Derived.Test.YtefndnbaifiboaaDoorGEn32
import Derived.Test.YtefndnbaifiboaaDoorPgF
import Derived.Test.YtefndnbaifiboaaDoorNumLe
import Derived.BigQuiet
namespace Go.Proofs.YtefndnbaifiboaaDoor
open Go.RowKit
set_option linter.unusedVariables false
set_option linter.unusedSimpArgs false

/-- a tape is fit -/
def FitT (n : Nat) (x : Int) : Prop := n ≤ 1048576 ∧ 0 ≤ x ∧ x ≤ (n : Int)
instance (n : Nat) (x : Int) : Decidable (FitT n x) := by unfold FitT; infer_instance
def leftT (n : Nat) (x : Int) : Int := if FitT n x then (n : Int) - x else 0
/-- what is wrong with a take of k; 0: nothing is -/
def tkC (n : Nat) (x k : Int) : Int := if ¬ FitT n x then 1 else if k < 0 then 8 else if leftT n x < k then 13 else 0
/-- what is taken -/
def tkL (l : List Nat) (x k : Int) : List Nat := (l.drop x.toNat).take k.toNat
/-- parts: the first error; the texts; the place behind them -/
def ptC (n : Nat) : Int → List Int → Int
  | _, [] => 0
  | x, k :: ks => if tkC n x k = 0 then ptC n (x + k) ks else tkC n x k
def ptL (l : List Nat) : Int → List Int → List (List Nat)
  | _, [] => []
  | x, k :: ks => tkL l x k :: ptL l (x + k) ks
def ptA : Int → List Int → Int
  | x, [] => x
  | x, k :: ks => ptA (x + k) ks
theorem tk_ok {n : Nat} {x k : Int} (h : tkC n x k = 0) : FitT n x ∧ 0 ≤ k ∧ x + k ≤ (n : Int) := by
  unfold tkC at h
  by_cases h1 : FitT n x
  · rw [if_neg (by simp [h1])] at h
    by_cases h2 : k < 0
    · rw [if_pos h2] at h; cases h
    · rw [if_neg h2] at h
      by_cases h3 : leftT n x < k
      · rw [if_pos h3] at h; cases h
      · unfold leftT at h3
        rw [if_pos h1] at h3
        exact ⟨h1, by omega, by omega⟩
  · rw [if_pos h1] at h; cases h
theorem tk_next {n : Nat} {x k : Int} (h : tkC n x k = 0) : FitT n (x + k) := by
  obtain ⟨h1, h2, h3⟩ := tk_ok h
  unfold FitT at *
  omega
theorem tk_mk {n : Nat} {x k : Int} (h : FitT n x) (h2 : 0 ≤ k) (h3 : x + k ≤ (n : Int)) : tkC n x k = 0 := by
  unfold tkC leftT
  rw [if_neg (by simp [h]), if_neg (by omega), if_pos h, if_neg (by omega)]
theorem tkL_len {l : List Nat} {x k : Int} (h : tkC l.length x k = 0) : (tkL l x k).length = k.toNat := by
  obtain ⟨h1, h2, h3⟩ := tk_ok h
  unfold FitT at h1
  unfold tkL
  rw [List.length_take, List.length_drop]
  omega
/-- P13.3: what is taken in parts is what is taken at once -/
theorem tk_two {n : Nat} {x j k : Int} (hj : 0 ≤ j) (hk : 0 ≤ k) : tkC n x (j + k) = 0 ↔ tkC n x j = 0 ∧ tkC n (x + j) k = 0 := by
  constructor
  · intro h
    obtain ⟨h1, h2, h3⟩ := tk_ok h
    have e1 : tkC n x j = 0 := tk_mk h1 hj (by omega)
    exact ⟨e1, tk_mk (tk_next e1) hk (by omega)⟩
  · rintro ⟨h1, h2⟩
    obtain ⟨a1, a2, a3⟩ := tk_ok h1
    obtain ⟨b1, b2, b3⟩ := tk_ok h2
    exact tk_mk a1 (by omega) (by omega)
theorem tkL_two {l : List Nat} {x j k : Int} (h : tkC l.length x (j + k) = 0) (hj : 0 ≤ j) (hk : 0 ≤ k) : tkL l x (j + k) = tkL l x j ++ tkL l (x + j) k := by
  obtain ⟨h1, h2, h3⟩ := tk_ok h
  unfold FitT at h1
  unfold tkL
  rw [show (x + j).toNat = x.toNat + j.toNat by omega, show (j + k).toNat = j.toNat + k.toNat by omega, List.take_add, List.drop_drop]
theorem ptC_snoc (n : Nat) : ∀ (ks : List Int) (x k : Int), ptC n x ks = 0 → ptC n x (ks ++ [k]) = tkC n (ptA x ks) k
  | [], x, k, _ => by
    show (if tkC n x k = 0 then 0 else tkC n x k) = tkC n x k
    split
    · rename_i h; exact h.symm
    · rfl
  | j :: ks, x, k, h => by
    unfold ptC at h
    split at h
    · rename_i hj
      show (if tkC n x j = 0 then ptC n (x + j) (ks ++ [k]) else _) = _
      rw [if_pos hj]
      exact ptC_snoc n ks (x + j) k h
    · rename_i hj; exact absurd h hj
theorem ptC_bad (n : Nat) : ∀ (ks : List Int) (x : Int) (k : Int) (js : List Int), ptC n x ks = 0 → tkC n (ptA x ks) k ≠ 0 → ptC n x (ks ++ k :: js) = tkC n (ptA x ks) k
  | [], x, k, js, _, h => by
    show (if tkC n x k = 0 then _ else tkC n x k) = _
    exact if_neg h
  | j :: ks, x, k, js, h0, h => by
    unfold ptC at h0
    split at h0
    · rename_i hj
      show (if tkC n x j = 0 then ptC n (x + j) (ks ++ k :: js) else _) = _
      rw [if_pos hj]
      exact ptC_bad n ks (x + j) k js h0 h
    · rename_i hj; exact absurd h0 hj
theorem ptL_snoc (l : List Nat) : ∀ (ks : List Int) (x k : Int), ptL l x (ks ++ [k]) = ptL l x ks ++ [tkL l (ptA x ks) k]
  | [], x, k => rfl
  | j :: ks, x, k => by
    show tkL l x j :: ptL l (x + j) (ks ++ [k]) = _
    rw [ptL_snoc l ks (x + j) k]
    rfl
theorem ptA_snoc : ∀ (ks : List Int) (x k : Int), ptA x (ks ++ [k]) = ptA x ks + k
  | [], x, k => rfl
  | j :: ks, x, k => ptA_snoc ks (x + j) k
theorem ptL_len (l : List Nat) : ∀ (ks : List Int) (x : Int), (ptL l x ks).length = ks.length
  | [], x => rfl
  | j :: ks, x => by show (ptL l (x + j) ks).length + 1 = _; rw [ptL_len l ks (x + j)]; rfl
theorem ptA_fit (n : Nat) : ∀ (ks : List Int) (x : Int), ptC n x ks = 0 → ks = [] ∨ FitT n (ptA x ks)
  | [], x, _ => .inl rfl
  | j :: ks, x, h => by
    unfold ptC at h
    split at h
    · rename_i hj
      rcases ptA_fit n ks (x + j) h with rfl | h2
      · exact .inr (tk_next hj)
      · exact .inr h2
    · rename_i hj; exact absurd h hj
/-- a slice of ints -/
def RowI (w : World) (v : Value) (ks : List Int) : Prop :=
  ∃ a cap, v = .slice a ks.length cap ∧ ks.length ≤ cap ∧ cap ≤ maxLen ∧ (0 < ks.length → ∃ b off, a = some ⟨b, off, none⟩ ∧ ∀ i, i < ks.length → w.cell? ⟨b, off + i, none⟩ = some (.int .i64 (ks.getD i 0))) ∧ ∀ k ∈ ks, -9223372036854775808 ≤ k ∧ k ≤ 9223372036854775807
theorem RowI.below {w w' : World} {v : Value} {ks : List Int} (h : RowI w v ks) (hb : Below w.heap.size w w') : RowI w' v ks := by
  obtain ⟨a, cap, rfl, h1, h2, h3, h4⟩ := h
  refine ⟨a, cap, rfl, h1, h2, fun hl => ?_, h4⟩
  obtain ⟨b, off, rfl, hc⟩ := h3 hl
  refine ⟨b, off, rfl, fun i hi => ?_⟩
  have h5 := World.block_lt_of_cell? w _ (hc i hi)
  rw [hb.cell (p := ⟨b, off + i, none⟩) h5]
  exact hc i hi
/-- a tape as a value -/
def tpV (v : Value) (x : Int) : Value := .agg #[v, .int .i64 x]
end Go.Proofs.YtefndnbaifiboaaDoor

/- The document's tapes: Fit, Left, Take, Same. -/
namespace Go.Proofs.YtefndnbaifiboaaDoor
open Go.RowKit
set_option linter.unusedVariables false
set_option linter.unusedSimpArgs false

theorem set_here {W : World} {B i : Nat} {cs : Array Value} {t : TypeId} {fz : Nat × Nat} (u : Value) (h : W.heap[B]? = some (.cells cs t fz)) : (W.setCell ⟨B, i, none⟩ u).heap[B]? = some (.cells (cs.setIfInBounds i u) t fz) := by
  obtain ⟨hlt, hk⟩ := Array.getElem?_eq_some_iff.1 h
  show (W.heap.modify B _)[B]? = _
  rw [Array.getElem?_eq_getElem (by rw [Array.size_modify]; exact hlt), Array.getElem_modify_self, hk]
  rfl
theorem but_set2 (W : World) (B : Nat) (u0 u1 : Value) : But B W ((W.setCell ⟨B, 0, none⟩ u0).setCell ⟨B, 1, none⟩ u1) := ((But.refl B W).setCell 0 u0).setCell 1 u1
/-- u is the part of v from x on, of k bytes -/
def Part (v : Value) (x k : Int) (u : Value) : Prop := ∃ (a : Option Addr) (n c X M : Nat) (A : Option Addr), v = .slice a n c ∧ x = (X : Int) ∧ k = (M : Int) ∧ u = .slice A M (c - X) ∧ (A = a ∧ c = X ∨ A = a.map (·.add X))
theorem Part.row {w : World} {v u : Value} {l : List Nat} {x k : Int} (h : Part v x k u) (hv : Row .u8 256 w v l) (tv : Tidy v) (hk : tkC l.length x k = 0) : Row .u8 256 w u (tkL l x k) ∧ Tidy u := by
  obtain ⟨a, n, c, X, M, A, rfl, rfl, rfl, rfl, hA⟩ := h
  obtain ⟨h1, h2, h3⟩ := tk_ok hk
  have hn : l.length = n := by
    obtain ⟨_, _, he, _⟩ := hv
    simp at he
    omega
  unfold FitT at h1
  refine ⟨(hv.behind (F := X) (by omega) hA).cut (M := M) (by rw [List.length_drop]; omega), ?_⟩
  intro n' c' e
  simp only [Value.slice.injEq] at e
  obtain ⟨e1, e2, e3⟩ := e
  have ha : a = none := by
    rcases hA with ⟨e, _⟩ | e
    · rw [← e]; exact e1
    · rw [e] at e1; simpa using e1
  subst ha
  have := tv n c rfl
  omega
end Go.Proofs.YtefndnbaifiboaaDoor

/- The document's Parts. -/
namespace Go.Proofs.YtefndnbaifiboaaDoor
open Go.RowKit
set_option linter.unusedVariables false
set_option linter.unusedSimpArgs false

def ptlt : List Lt := [(0, some 21, [7]), (0, some 22, [1]), (0, some 23, [9]), (6, some 24, [22, 23]), (8, some 25, [24]), (17, some 26, [21, 25]), (32, some 20, [26]), (64, some 27, [20]), (64, some 28, [20]), (64, some 29, [20]), (0, some 10, []), (1279, none, [10, 27]), (3583, some 11, [28]), (8191, some 12, [29])]
theorem at_beginR {P : Program} {ops : Array Oper} {id k : Nat} {a : Act} {w : World} {Q : Exit → Act → World → Prop} {R : Act → World → Prop} (S : World → Prop) (hm : P.follows .mixedOrders = true) (hn : ops.size = k) (h : At P ops (onlyN R) S k 0 a w.drew) (hQ : ∀ a w, R a w → Q .normal a w) : (Code.region id ops true).wp P Q a w := by
  refine Code.wp_mono ?_ (at_begin S hm hn h)
  intro e a w hh
  cases e <;> first | exact hQ _ _ hh | exact (hh : False).elim
/-- an int read off a slice of ints -/
theorem y_index_at {P : Program} {ops : Array Oper} {S : World → Prop} {o : Oper} {a : Act} {x y : Operand} {t e : TypeId} {g f n c i : Nat} (hg : o.guard = none) (ho : o.op = .indexAddr t x y) (hx : a.eval x = .slice (some ⟨g, f, none⟩) n c) (hy : a.eval y = .int .i64 (i : Int)) (hu : P.underlying t = some (.slice e)) (hs : (P.info? e).map (·.size) = some 1) (hi : i < n) : YieldsIf P ops S o (.pointer (some ⟨g, f + i, none⟩)) a := by
  cases hq : P.info? e with
  | none => simp [hq] at hs
  | some z =>
    have hz : z.size = 1 := by simpa [hq] using hs
    refine y_of hg fun w _ => ?_
    unfold execOp
    simp only [ho, hx, hy]
    simp [Instr.indexAt, asIntOf, Sem.run_bind, run_underlying hu w, sizeOf, typeInfo, hq, hz, hi, Addr.add, go_sem]
    try omega
theorem p_alloc2 {P : Program} {ops : Array Oper} {K : Act → World → Prop} {Q : Exit → Act → World → Prop} {i : Nat} {o : Oper} {a : Act} {w : World} {t : TypeId} {d : Option Nat} {z : TypeInfo} {v0 v1 : Value} (hi : ops[i]? = some o) (hg : o.guard = none) (ho : o.op = .alloc t) (hd : o.dst = d) (hz : P.info? t = some z) (hz0 : z.zero = some (.agg #[v0, v1]))
    (h : K (a.put d (.pointer (some ⟨w.heap.size, 0, none⟩))) (w.alloc (.cells #[v0, v1] t))) : wpOp P ops Q i K a w := by
  have hr : (execOp a.eval o).run P w = .ok (.value (.pointer (some ⟨w.heap.size, 0, none⟩))) (w.alloc (.cells #[v0, v1] t)) := by
    unfold execOp
    simp only [ho]
    simp [Sem.run_bind, Instr.alloc, zeroValue, typeInfo, hz, hz0, go_sem]
  unfold wpOp
  simp only [hi]
  rw [if_pos (wanted_free hg)]
  left
  unfold Oper.wp
  rw [hr]
  show K (a.put o.dst _) _
  rw [hd]
  exact h
/-- Take, whatever comes -/
def tkY (n : Nat) (x k : Int) : Int := if tkC n x k = 0 then x + k else x
theorem keep_row {x y : World} {B : Nat} {c : Array Value} (h : Below x.heap.size x y) (hB : x.heap.size ≤ B) : Below x.heap.size x (y.setRow B c) := h.trans (((But.refl B y).setRow c).below hB h.size)
theorem own_set2 {W : World} {base B n : Nat} {e : TypeId} {v u0 u1 : Value} {xs : List Value} (h : W.ownsRow base e 1 v n xs) (hB : B < base) : ((W.setCell ⟨B, 0, none⟩ u0).setCell ⟨B, 1, none⟩ u1).ownsRow base e 1 v n xs := by
  have hb := but_set2 W B u0 u1
  refine h.kept (row := some B) ⟨hb.os, hb.tape, hb.output, hb.size, fun k hk hne => hb.block k hk fun e => hne (by rw [e])⟩ ?_
  cases hvo : v.ownBlock with
  | none => exact .inl rfl
  | some q => exact .inr fun e => by have := (h.lt q hvo).1; cases e; omega
theorem own_after {W : World} {base n : Nat} {e : TypeId} {v : Value} {xs : List Value} (h : W.ownsRow base e 1 v n xs) (W0 : World) (B : Nat) (u0 u1 : Value) (hB : B < base) (o : Obj) : (((W.setCell ⟨B, 0, none⟩ u0).setCell ⟨B, 1, none⟩ u1).alloc o).ownsRow base e 1 v n xs := (own_set2 h hB).alloc o
end Go.Proofs.YtefndnbaifiboaaDoor

/- Leaves that sign once, the program's own: kindOf, and a kind's code, size, top. -/
namespace Go.Proofs.YtefndnbaifiboaaDoor
open Go.RowKit
set_option linter.unusedVariables false
set_option linter.unusedSimpArgs false

set_option maxHeartbeats 2000000 in
set_option maxRecDepth 100000 in
theorem ckind_no (x : Int) (w : World) (h : NoK x) : Calls Tryd.prog 59 #[.int .i64 x] w fun e w' => e = .returned (.tuple #[.agg #[.int .i64 0, .int .i64 0, .int .i64 0, .int .u64 0], .int .i64 9]) ∧ Below w.heap.size w w' := by
  obtain ⟨h1, h2, h4, h8⟩ := h
  go_enter Tryd.func59, Tryd.ntmps59
  go_wp2
  refine bodyPost_ret (v := .tuple #[.agg #[.int .i64 0, .int .i64 0, .int .i64 0, .int .u64 0], .int .i64 9]) (by simp [results, Tryd.results59, go_sem]) rfl ⟨rfl, ?_⟩
  exact keep_alloc _ _
set_option maxHeartbeats 2000000 in
set_option maxRecDepth 100000 in
theorem ckind_1 (w : World) : Calls Tryd.prog 59 #[.int .i64 1] w fun e w' => e = .returned (.tuple #[.agg #[.int .i64 1, .int .i64 265, .int .i64 7, .int .u64 1], .int .i64 0]) ∧ Below w.heap.size w w' := by
  go_enter Tryd.func59, Tryd.ntmps59
  go_wp2
  refine bodyPost_ret (v := .tuple #[.agg #[.int .i64 1, .int .i64 265, .int .i64 7, .int .u64 1], .int .i64 0]) (by simp [results, Tryd.results59, go_sem]) rfl ⟨rfl, ?_⟩
  exact keep_alloc _ _
set_option maxHeartbeats 2000000 in
set_option maxRecDepth 100000 in
theorem ckind_2 (w : World) : Calls Tryd.prog 59 #[.int .i64 2] w fun e w' => e = .returned (.tuple #[.agg #[.int .i64 2, .int .i64 133, .int .i64 6, .int .u64 2], .int .i64 0]) ∧ Below w.heap.size w w' := by
  go_enter Tryd.func59, Tryd.ntmps59
  go_wp2
  refine bodyPost_ret (v := .tuple #[.agg #[.int .i64 2, .int .i64 133, .int .i64 6, .int .u64 2], .int .i64 0]) (by simp [results, Tryd.results59, go_sem]) rfl ⟨rfl, ?_⟩
  exact keep_alloc _ _
set_option maxHeartbeats 2000000 in
set_option maxRecDepth 100000 in
theorem ckind_4 (w : World) : Calls Tryd.prog 59 #[.int .i64 4] w fun e w' => e = .returned (.tuple #[.agg #[.int .i64 4, .int .i64 67, .int .i64 4, .int .u64 3], .int .i64 0]) ∧ Below w.heap.size w w' := by
  go_enter Tryd.func59, Tryd.ntmps59
  go_wp2
  refine bodyPost_ret (v := .tuple #[.agg #[.int .i64 4, .int .i64 67, .int .i64 4, .int .u64 3], .int .i64 0]) (by simp [results, Tryd.results59, go_sem]) rfl ⟨rfl, ?_⟩
  exact keep_alloc _ _
set_option maxHeartbeats 2000000 in
set_option maxRecDepth 100000 in
theorem ckind_8 (w : World) : Calls Tryd.prog 59 #[.int .i64 8] w fun e w' => e = .returned (.tuple #[.agg #[.int .i64 8, .int .i64 34, .int .i64 0, .int .u64 4], .int .i64 0]) ∧ Below w.heap.size w w' := by
  go_enter Tryd.func59, Tryd.ntmps59
  go_wp2
  refine bodyPost_ret (v := .tuple #[.agg #[.int .i64 8, .int .i64 34, .int .i64 0, .int .u64 4], .int .i64 0]) (by simp [results, Tryd.results59, go_sem]) rfl ⟨rfl, ?_⟩
  exact keep_alloc _ _
theorem ckind_ok {k n m s c P : Nat} (h : Kd k n m s c) (hP : P = n + m) (w : World) : Calls Tryd.prog 59 #[.int .i64 (k : Int)] w fun e w' => e = .returned (.tuple #[.agg #[.int .i64 (k : Int), .int .i64 (P : Int), .int .i64 (s : Int), .int .u64 (c : Int)], .int .i64 0]) ∧ Below w.heap.size w w' := by
  subst hP
  cases h
  · exact ckind_1 w
  · exact ckind_2 w
  · exact ckind_4 w
  · exact ckind_8 w
set_option maxHeartbeats 2000000 in
set_option maxRecDepth 100000 in
theorem ksize_any (k P s c : Nat) (w : World) (hP : P ≤ 1000) : Calls Tryd.prog 48 #[.agg #[.int .i64 (k : Int), .int .i64 (P : Int), .int .i64 (s : Int), .int .u64 (c : Int)]] w fun e w' => e = .returned (.int .i64 ((36 + 32 * P : Nat) : Int)) ∧ Below w.heap.size w w' := by
  obtain ⟨A, hA⟩ : ∃ A : Nat, A = 32 * P := ⟨_, rfl⟩
  obtain ⟨B, hB⟩ : ∃ B : Nat, B = 36 + A := ⟨_, rfl⟩
  have e_A : (P : Int) * 32 = (A : Int) := by omega
  have s_A : IntKind.i64.wrap (A : Int) = (A : Int) := by rw [IntKind.wrap_i64]; omega
  have e_B : (36 : Int) + (A : Int) = (B : Int) := by omega
  have s_B : IntKind.i64.wrap (B : Int) = (B : Int) := by rw [IntKind.wrap_i64]; omega
  rw [← hA, ← hB]
  clear hA hB hP
  go_enter Tryd.func48, Tryd.ntmps48
  go_wp2
  go_ret
  exact ⟨rfl, keep_alloc _ _⟩
theorem cbe2 (a : Nat) (w : World) (ha : a < 18446744073709551616) : Calls Tryd.prog 19 #[.int .u64 (a : Int), .int .i64 2] w fun e w' => ∃ v, e = .returned v ∧ Own 5 .u8 256 w' w.heap.size v (be2 a) ∧ Below w.heap.size w w' := by
  have := be_any a 2 w ha (by decide) (by decide)
  rw [leS_2] at this
  exact this
theorem cbe4 (a : Nat) (w : World) (ha : a < 18446744073709551616) : Calls Tryd.prog 19 #[.int .u64 (a : Int), .int .i64 4] w fun e w' => ∃ v, e = .returned v ∧ Own 5 .u8 256 w' w.heap.size v (be4 a) ∧ Below w.heap.size w w' := by
  have := be_any a 4 w ha (by decide) (by decide)
  rw [leS_4] at this
  exact this
theorem leS_1b (n : Nat) (h : n < 256) : (leS n 1).reverse = [n] := by
  unfold leS
  rw [if_neg (by decide)]
  show (leL n 1).reverse = [n]
  simp [leL]
  omega
theorem cbe1 (a : Nat) (w : World) (ha : a < 256) : Calls Tryd.prog 19 #[.int .u64 (a : Int), .int .i64 1] w fun e w' => ∃ v, e = .returned v ∧ Own 5 .u8 256 w' w.heap.size v [a] ∧ Below w.heap.size w w' := by
  have := be_any a 1 w (by omega) (by decide) (by decide)
  rw [leS_1b a ha] at this
  exact this
set_option maxHeartbeats 2000000 in
set_option maxRecDepth 100000 in
theorem kcode_any (k P s c : Nat) (w : World) (hc : c < 18446744073709551616) : Calls Tryd.prog 41 #[.agg #[.int .i64 (k : Int), .int .i64 (P : Int), .int .i64 (s : Int), .int .u64 (c : Int)]] w fun e w' => ∃ v, e = .returned v ∧ Own 5 .u8 256 w' w.heap.size v (be4 c) ∧ Below w.heap.size w w' := by
  have h4 := fun y => cbe4 c y hc
  go_enter Tryd.func41, Tryd.ntmps41
  go_wp2_with (first
    | (go_at_call 19; refine (h4 _).mono ?_; rintro e w1 ⟨v1, rfl, o1, hb1⟩)
    | fail)
  go_ret
  exact ⟨_, rfl, o1.mono (keep_alloc _ _).size, keep_trans (keep_alloc _ _) hb1⟩
set_option maxHeartbeats 2000000 in
set_option maxRecDepth 100000 in
theorem ktop_1 (P s c : Nat) (w : World) : Calls Tryd.prog 49 #[.agg #[.int .i64 1, .int .i64 (P : Int), .int .i64 (s : Int), .int .u64 (c : Int)]] w fun e w' => e = .returned (.int .u32 1) ∧ Below w.heap.size w w' := by
  go_enter Tryd.func49, Tryd.ntmps49
  go_wp2
  go_ret
  exact ⟨rfl, keep_alloc _ _⟩
set_option maxHeartbeats 2000000 in
set_option maxRecDepth 100000 in
theorem ktop_2 (P s c : Nat) (w : World) : Calls Tryd.prog 49 #[.agg #[.int .i64 2, .int .i64 (P : Int), .int .i64 (s : Int), .int .u64 (c : Int)]] w fun e w' => e = .returned (.int .u32 3) ∧ Below w.heap.size w w' := by
  go_enter Tryd.func49, Tryd.ntmps49
  go_wp2
  go_ret
  exact ⟨rfl, keep_alloc _ _⟩
set_option maxHeartbeats 2000000 in
set_option maxRecDepth 100000 in
theorem ktop_4 (P s c : Nat) (w : World) : Calls Tryd.prog 49 #[.agg #[.int .i64 4, .int .i64 (P : Int), .int .i64 (s : Int), .int .u64 (c : Int)]] w fun e w' => e = .returned (.int .u32 15) ∧ Below w.heap.size w w' := by
  go_enter Tryd.func49, Tryd.ntmps49
  go_wp2
  go_ret
  exact ⟨rfl, keep_alloc _ _⟩
set_option maxHeartbeats 2000000 in
set_option maxRecDepth 100000 in
theorem ktop_8 (P s c : Nat) (w : World) : Calls Tryd.prog 49 #[.agg #[.int .i64 8, .int .i64 (P : Int), .int .i64 (s : Int), .int .u64 (c : Int)]] w fun e w' => e = .returned (.int .u32 255) ∧ Below w.heap.size w w' := by
  go_enter Tryd.func49, Tryd.ntmps49
  go_wp2
  go_ret
  exact ⟨rfl, keep_alloc _ _⟩
theorem ktop_ok {k n m s c P : Nat} (h : Kd k n m s c) (hP : P = n + m) (w : World) : Calls Tryd.prog 49 #[.agg #[.int .i64 (k : Int), .int .i64 (P : Int), .int .i64 (s : Int), .int .u64 (c : Int)]] w fun e w' => e = .returned (.int .u32 ((2 ^ k - 1 : Nat) : Int)) ∧ Below w.heap.size w w' := by
  cases h
  · exact ktop_1 P 7 1 w
  · exact ktop_2 P 6 2 w
  · exact ktop_4 P 4 3 w
  · exact ktop_8 P 0 4 w
end Go.Proofs.YtefndnbaifiboaaDoor

/- Contract of apostilleref01.Digits. -/
namespace Go.Proofs.YtefndnbaifiboaaDoor
open Go.RowKit
set_option linter.unusedVariables false

/-- a bit of a byte -/
theorem bit_and (x s : Nat) (hx : x < 256) : bits .and .u8 ((x : Int) / 2 ^ s) 1 = ((x / 2 ^ s % 2 : Nat) : Int) := by
  have h1 : x / 2 ^ s < 256 := Nat.lt_of_le_of_lt (Nat.div_le_self _ _) hx
  rw [show ((x : Int) / 2 ^ s) = ((x / 2 ^ s : Nat) : Int) from by simp, show (1 : Int) = ((1 : Nat) : Int) from rfl, u8_and_nat _ 1 h1 (by decide), nat_mask1]

end Go.Proofs.YtefndnbaifiboaaDoor

/- Leaves that sign once: the document's Digits. -/
namespace Go.Proofs.YtefndnbaifiboaaDoor
open Go.RowKit
set_option linter.unusedVariables false
set_option linter.unusedSimpArgs false

theorem digS_natL (l : List Nat) (w c : Nat) (h1 : 1 ≤ w) (h2 : w ≤ 24) (h3 : c * w ≤ 8 * l.length) : digS l (w : Int) (c : Int) = digL l w c := by
  unfold digS
  rw [if_pos (okB_mk h1 h2 h3)]
  rfl
theorem lack_take {m i : Nat} {l : List Nat} (h : i < l.length) : lackL m (l.take (i + 1)) = lackL m (l.take i) + (m - el l i) := by
  rw [List.take_succ_eq_append_getElem h, lack_snoc, el_at h]
/-- where the sum stands -/
def SmL (w3 : World) (m : Nat) (l : List Nat) (vs vi : Value) (wr : World) : Prop := ∃ i : Nat, i ≤ l.length ∧ vi = .int .i64 (i : Int) ∧ vs = .int .u64 ((lackL m (l.take i) : Nat) : Int) ∧ Below w3.heap.size w3 wr
theorem vint64 {a b : Int} (h : a = b) : Value.int .u64 a = .int .u64 b := by rw [h]
end Go.Proofs.YtefndnbaifiboaaDoor
