/- The code's Unwrap. -/
import Derived.Test.YtjnlkihhmenfnaaWCw
namespace Go.Proofs.Ytjnlkihhmenfnaa
open Go.RowKit Go.Shelf
set_option linter.unusedVariables false
set_option linter.unusedSimpArgs false
attribute [local go_sem] Oper.semAt_some

/-- where the steps back have led -/
def stU8 (B : List Nat → List Nat) (n : Nat) (s : Nat × List Nat) {K : Nat} (pre : List (Fin K)) : Nat × List Nat := pre.foldl (fun s x => unS B n x.1 s) s
theorem stU8_snoc (B : List Nat → List Nat) (n : Nat) (s : Nat × List Nat) {K : Nat} (pre : List (Fin K)) (x : Fin K) : stU8 B n s (pre ++ [x]) = unS B n x.1 (stU8 B n s pre) := by unfold stU8; rw [List.foldl_append]; rfl
theorem stU8_is (B : List Nat → List Nat) (n : Nat) (s : Nat × List Nat) {K : Nat} : ∀ k, k ≤ K → stU8 B n s (bckL K k) = unD B n K s k
  | 0, _ => rfl
  | k + 1, hk => by rw [bckL_next (by omega), stU8_snoc, stU8_is B n s k (by omega)]; rfl
theorem stU8_st {B : List Nat → List Nat} {n : Nat} {s : Nat × List Nat} {K : Nat} (hn : 1 ≤ n) (hB : ∀ s, B16 s → B16 (B s)) (h : St n s) (pre : List (Fin K)) : St n (stU8 B n s pre) := by
  unfold stU8
  induction pre generalizing s with
  | nil => exact h
  | cons x pre ih => exact ih (unS_st hn hB h)
theorem fin_sets {w z : World} {D : Nat} {v v0 c0 : Value} {c : Int} {l : List Nat} (b4 : Boxed z (w.heap.size + 1) 22 v0) (b5 : Boxed z (w.heap.size + 1 + 1) 24 c0) (hK : z.heap[D]? = some (.deferred (some []))) (hD : w.heap.size + 3 ≤ D) (r : Row .u8 256 z v l) (nv : New (w.heap.size + 3) v) (bel : Below w.heap.size w z) :
    ((z.setCell ⟨w.heap.size + 1, 0, none⟩ v).setCell ⟨w.heap.size + 1 + 1, 0, none⟩ (.int .i64 c)).heap[D]? = some (.deferred (some [])) ∧ Boxed (((z.setCell ⟨w.heap.size + 1, 0, none⟩ v).setCell ⟨w.heap.size + 1 + 1, 0, none⟩ (.int .i64 c)).putObj D (.deferred none)) (w.heap.size + 1) 22 v ∧
    Boxed (((z.setCell ⟨w.heap.size + 1, 0, none⟩ v).setCell ⟨w.heap.size + 1 + 1, 0, none⟩ (.int .i64 c)).putObj D (.deferred none)) (w.heap.size + 1 + 1) 24 (.int .i64 c) ∧ Row .u8 256 (((z.setCell ⟨w.heap.size + 1, 0, none⟩ v).setCell ⟨w.heap.size + 1 + 1, 0, none⟩ (.int .i64 c)).putObj D (.deferred none)) v l ∧
    Below w.heap.size w (((z.setCell ⟨w.heap.size + 1, 0, none⟩ v).setCell ⟨w.heap.size + 1 + 1, 0, none⟩ (.int .i64 c)).putObj D (.deferred none)) := by
  have sD := (Array.getElem?_eq_some_iff.1 hK).1
  have h4 : But (w.heap.size + 1) z (z.setCell ⟨w.heap.size + 1, 0, none⟩ v) := (But.refl _ _).setCell 0 _
  have a4 := b4.set v
  have a5 : Boxed (z.setCell ⟨w.heap.size + 1, 0, none⟩ v) (w.heap.size + 1 + 1) 24 c0 := (h4.block _ b5.lt (by omega)).trans b5
  have aK := (h4.block D sD (by omega)).trans hK
  have aR : Row .u8 256 (z.setCell ⟨w.heap.size + 1, 0, none⟩ v) v l := row_set8 r (fun e => by have := nv _ e; omega)
  have aB := bel.trans (h4.below (by omega) bel.size)
  generalize z.setCell ⟨w.heap.size + 1, 0, none⟩ v = y at *
  have h5 : But (w.heap.size + 1 + 1) y (y.setCell ⟨w.heap.size + 1 + 1, 0, none⟩ (.int .i64 c)) := (But.refl _ _).setCell 0 _
  have c5 := a5.set (.int .i64 c)
  have c4 : Boxed (y.setCell ⟨w.heap.size + 1 + 1, 0, none⟩ (.int .i64 c)) (w.heap.size + 1) 22 v := (h5.block _ a4.lt (by omega)).trans a4
  have cK := (h5.block D (Array.getElem?_eq_some_iff.1 aK).1 (by omega)).trans aK
  have cR : Row .u8 256 (y.setCell ⟨w.heap.size + 1 + 1, 0, none⟩ (.int .i64 c)) v l := row_set8 aR (fun e => by have := nv _ e; omega)
  have cB := aB.trans (h5.below (by omega) aB.size)
  generalize y.setCell ⟨w.heap.size + 1 + 1, 0, none⟩ (.int .i64 c) = x at *
  have hg : x.grownBy (x.putObj D (.deferred none)) (some D) := grownBy_putObj' _ _ _
  have hr : ∀ r, some D = some r → ∃ o : Obj, x.heap[r]? = some o ∧ o.isCells = false := fun r e => by cases e; exact ⟨_, cK, rfl⟩
  exact ⟨cK, cells_kept8 hg hr c4, cells_kept8 hg hr c5, row_own8 cR hg hr, cB.grown hg cB.size (fun r e => by cases e; omega)⟩
theorem boxed_own_ne {W : World} {Ba base g n C : Nat} {v : Value} {xs : List Value} (h : Boxed W Ba 22 v) (ho : W.ownsRow base 22 1 (.slice (some ⟨g, 0, none⟩) n C) n xs) (hn : 2 ≤ n) : Ba ≠ g := by
  rintro rfl
  rcases ho.2 with ⟨e, _⟩ | ⟨g', cap, cur, he, hB, hg, hc, _, hs, _⟩
  · cases e
  · cases he
    have h' : W.heap[Ba]? = some (.cells #[v] 22 (0, 0)) := h
    rw [h'] at hg
    cases hg
    simp at hs
    omega
theorem boxed_ne {W : World} {A B : Nat} {t u : TypeId} {v x : Value} (h : Boxed W A t v) (k : Boxed W B u x) (hn : t ≠ u) : A ≠ B := by
  rintro rfl
  have h' : W.heap[A]? = _ := h
  have k' : W.heap[A]? = _ := k
  rw [h'] at k'
  cases k'
  exact hn rfl
theorem boxed_own_ty {W : World} {A base g n C : Nat} {t : TypeId} {v : Value} {xs : List Value} (h : Boxed W A t v) (ho : W.ownsRow base 22 1 (.slice (some ⟨g, 0, none⟩) n C) n xs) (hn : t ≠ 22) : A ≠ g := by
  rintro rfl
  rcases ho.2 with ⟨e, _⟩ | ⟨g', cap, cur, he, hB, hg, _⟩
  · cases e
  · cases he
    have h' : W.heap[A]? = some (.cells #[v] t (0, 0)) := h
    rw [h'] at hg
    cases hg
    exact hn rfl
theorem bits_111_127 (j : Nat) (h : (127 : Nat).testBit j = true) (h2 : j ≠ 4) : (111 : Nat).testBit j = true := by
  rcases Nat.lt_or_ge j 7 with hj | hj
  · exact (by decide : ∀ j, j < 7 → (127 : Nat).testBit j = true → j ≠ 4 → (111 : Nat).testBit j = true) j hj h h2
  · rw [Nat.testBit_lt_two_pow (Nat.lt_of_lt_of_le (by decide : (127 : Nat) < 2 ^ 7) (Nat.pow_le_pow_right (by decide) hj))] at h; cases h
theorem bits_15_31 (j : Nat) (h : (31 : Nat).testBit j = true) (h2 : j ≠ 4) : (15 : Nat).testBit j = true := by
  rcases Nat.lt_or_ge j 7 with hj | hj
  · exact (by decide : ∀ j, j < 7 → (31 : Nat).testBit j = true → j ≠ 4 → (15 : Nat).testBit j = true) j hj h h2
  · rw [Nat.testBit_lt_two_pow (Nat.lt_of_lt_of_le (by decide : (31 : Nat) < 2 ^ 7) (Nat.pow_le_pow_right (by decide) hj))] at h; cases h
theorem bits_15_47 (j : Nat) (h : (47 : Nat).testBit j = true) (h2 : j ≠ 5) : (15 : Nat).testBit j = true := by
  rcases Nat.lt_or_ge j 7 with hj | hj
  · exact (by decide : ∀ j, j < 7 → (47 : Nat).testBit j = true → j ≠ 5 → (15 : Nat).testBit j = true) j hj h h2
  · rw [Nat.testBit_lt_two_pow (Nat.lt_of_lt_of_le (by decide : (47 : Nat) < 2 ^ 7) (Nat.pow_le_pow_right (by decide) hj))] at h; cases h
theorem bits_15_79 (j : Nat) (h : (79 : Nat).testBit j = true) (h2 : j ≠ 6) : (15 : Nat).testBit j = true := by
  rcases Nat.lt_or_ge j 7 with hj | hj
  · exact (by decide : ∀ j, j < 7 → (79 : Nat).testBit j = true → j ≠ 6 → (15 : Nat).testBit j = true) j hj h h2
  · rw [Nat.testBit_lt_two_pow (Nat.lt_of_lt_of_le (by decide : (79 : Nat) < 2 ^ 7) (Nat.pow_le_pow_right (by decide) hj))] at h; cases h
theorem bits_31_63 (j : Nat) (h : (63 : Nat).testBit j = true) (h2 : j ≠ 5) : (31 : Nat).testBit j = true := by
  rcases Nat.lt_or_ge j 7 with hj | hj
  · exact (by decide : ∀ j, j < 7 → (63 : Nat).testBit j = true → j ≠ 5 → (31 : Nat).testBit j = true) j hj h h2
  · rw [Nat.testBit_lt_two_pow (Nat.lt_of_lt_of_le (by decide : (63 : Nat) < 2 ^ 7) (Nat.pow_le_pow_right (by decide) hj))] at h; cases h
theorem bits_31_95 (j : Nat) (h : (95 : Nat).testBit j = true) (h2 : j ≠ 6) : (31 : Nat).testBit j = true := by
  rcases Nat.lt_or_ge j 7 with hj | hj
  · exact (by decide : ∀ j, j < 7 → (95 : Nat).testBit j = true → j ≠ 6 → (31 : Nat).testBit j = true) j hj h h2
  · rw [Nat.testBit_lt_two_pow (Nat.lt_of_lt_of_le (by decide : (95 : Nat) < 2 ^ 7) (Nat.pow_le_pow_right (by decide) hj))] at h; cases h
theorem bits_47_111 (j : Nat) (h : (111 : Nat).testBit j = true) (h2 : j ≠ 6) : (47 : Nat).testBit j = true := by
  rcases Nat.lt_or_ge j 7 with hj | hj
  · exact (by decide : ∀ j, j < 7 → (111 : Nat).testBit j = true → j ≠ 6 → (47 : Nat).testBit j = true) j hj h h2
  · rw [Nat.testBit_lt_two_pow (Nat.lt_of_lt_of_le (by decide : (111 : Nat) < 2 ^ 7) (Nat.pow_le_pow_right (by decide) hj))] at h; cases h
theorem bits_47_63 (j : Nat) (h : (63 : Nat).testBit j = true) (h2 : j ≠ 4) : (47 : Nat).testBit j = true := by
  rcases Nat.lt_or_ge j 7 with hj | hj
  · exact (by decide : ∀ j, j < 7 → (63 : Nat).testBit j = true → j ≠ 4 → (47 : Nat).testBit j = true) j hj h h2
  · rw [Nat.testBit_lt_two_pow (Nat.lt_of_lt_of_le (by decide : (63 : Nat) < 2 ^ 7) (Nat.pow_le_pow_right (by decide) hj))] at h; cases h
theorem bits_63_127 (j : Nat) (h : (127 : Nat).testBit j = true) (h2 : j ≠ 6) : (63 : Nat).testBit j = true := by
  rcases Nat.lt_or_ge j 7 with hj | hj
  · exact (by decide : ∀ j, j < 7 → (127 : Nat).testBit j = true → j ≠ 6 → (63 : Nat).testBit j = true) j hj h h2
  · rw [Nat.testBit_lt_two_pow (Nat.lt_of_lt_of_le (by decide : (127 : Nat) < 2 ^ 7) (Nat.pow_le_pow_right (by decide) hj))] at h; cases h
theorem bits_79_111 (j : Nat) (h : (111 : Nat).testBit j = true) (h2 : j ≠ 5) : (79 : Nat).testBit j = true := by
  rcases Nat.lt_or_ge j 7 with hj | hj
  · exact (by decide : ∀ j, j < 7 → (111 : Nat).testBit j = true → j ≠ 5 → (79 : Nat).testBit j = true) j hj h h2
  · rw [Nat.testBit_lt_two_pow (Nat.lt_of_lt_of_le (by decide : (111 : Nat) < 2 ^ 7) (Nat.pow_le_pow_right (by decide) hj))] at h; cases h
theorem bits_79_95 (j : Nat) (h : (95 : Nat).testBit j = true) (h2 : j ≠ 4) : (79 : Nat).testBit j = true := by
  rcases Nat.lt_or_ge j 7 with hj | hj
  · exact (by decide : ∀ j, j < 7 → (95 : Nat).testBit j = true → j ≠ 4 → (79 : Nat).testBit j = true) j hj h h2
  · rw [Nat.testBit_lt_two_pow (Nat.lt_of_lt_of_le (by decide : (95 : Nat) < 2 ^ 7) (Nat.pow_le_pow_right (by decide) hj))] at h; cases h
theorem bits_95_127 (j : Nat) (h : (127 : Nat).testBit j = true) (h2 : j ≠ 5) : (95 : Nat).testBit j = true := by
  rcases Nat.lt_or_ge j 7 with hj | hj
  · exact (by decide : ∀ j, j < 7 → (127 : Nat).testBit j = true → j ≠ 5 → (95 : Nat).testBit j = true) j hj h h2
  · rw [Nat.testBit_lt_two_pow (Nat.lt_of_lt_of_le (by decide : (127 : Nat) < 2 ^ 7) (Nat.pow_le_pow_right (by decide) hj))] at h; cases h
def un4 : List Lt := [(0, some 21, [1]), (1, some 22, [21]), (0, some 23, [1]), (4, some 24, [23]), (8, some 25, [24]), (0, some 7, []), (0, some 8, []), (115, none, [7, 22]), (255, none, [8, 25])]
def un8 : List Lt := [(0, some 31, [2]), (0, some 32, [7]), (0, some 33, [9]), (6, some 34, [32, 33]), (0, some 35, [8]), (0, some 36, [10]), (48, some 37, [35, 36]), (64, some 38, [37]), (136, some 39, [34, 38]), (264, some 40, [39]), (513, some 41, [31, 40]), (1024, some 30, [41]), (2048, some 42, [30]), (2048, some 43, [30]), (8191, some 11, [42]), (32767, some 12, [43])]
def un11 : List Lt := [(0, some 47, [8]), (0, some 48, [10]), (0, some 49, [11]), (4, some 50, [49]), (0, some 51, [11]), (16, some 52, [51]), (12, none, [7, 50]), (127, some 53, [47, 48]), (255, none, [53, 52])]
def un12 : List Lt := [(0, some 54, [7]), (0, some 55, []), (3, some 56, [54, 55]), (4, some 57, [56])]
theorem un4reg : Reg (opsA (cLA (cRA (cRA (Try.f8.body.getD .skip))))) un4 := ⟨by kernel_rfl, by kernel_rfl⟩
theorem un8reg : Reg (opsA (cLA (cBA (cFA (cBA (cRA (cLA (cRA (cRA (cRA (Try.f8.body.getD .skip))))))))))) un8 := ⟨by kernel_rfl, by kernel_rfl⟩
theorem un11reg : Reg (opsA (cRA (cRA (cBA (cFA (cBA (cRA (cLA (cRA (cRA (cRA (Try.f8.body.getD .skip)))))))))))) un11 := ⟨by kernel_rfl, by kernel_rfl⟩
theorem un12reg : Reg (opsA (cLA (cLA (cRA (cRA (cRA (cRA (Try.f8.body.getD .skip)))))))) un12 := ⟨by kernel_rfl, by kernel_rfl⟩
set_option maxHeartbeats 4000000 in
set_option maxRecDepth 100000 in
theorem cux_ok (key b : List Nat) (kv bv : Value) (n : Nat) (w : World) (rk : Row .u8 256 w kv key) (rb : Row .u8 256 w bv b) (hk : Sz3 key.length) (hb : b.length = 8 * n + 8) (h2 : 2 ≤ n) (h5 : n ≤ 512) :
    Calls Try.prog 8 #[kv, bv] w fun e w' => ∃ v, e = .returned (.tuple #[v, .int .i64 (uwC (bkA' key) b)]) ∧ Row .u8 256 w' v (uwX (bkA' key) b) ∧ New w.heap.size v ∧ Below w.heap.size w w' := by
  obtain ⟨ti, hti, htz, hts, _⟩ := info_text
  obtain ⟨bi, hbi, hbz0, hbs, _⟩ := info_byte
  obtain ⟨wi, hwi, hwz⟩ : ∃ i, Try.prog.info? 34 = some i ∧ i.zero = some (.slice none 0 0) := by
    have : (Try.prog.info? 34).map (·.zero) = some (some (.slice none 0 0)) := by kernel_rfl
    cases h : Try.prog.info? 34 with
    | none => rw [h] at this; cases this
    | some i => rw [h] at this; exact ⟨i, rfl, Option.some.inj this⟩
  have hN2 := h2
  have hkU := rk.under
  have hbU := rb.under
  obtain ⟨Z, hZ⟩ : ∃ x : Nat, x = 8 * n + 8 := ⟨_, rfl⟩
  have hbl : b.length = Z := by omega
  obtain ⟨ka, kc, hkv, _⟩ := rk.opens rfl
  obtain ⟨ba, bc, rfl, l1, l2, hop⟩ := rb.opens hbl
  obtain ⟨xb, xo, rfl, _⟩ := hop (by omega)
  generalize hKL : key.length = KL at *
  subst hkv
  obtain ⟨Z8, hZ8⟩ : ∃ x : Nat, x = Z - 8 := ⟨_, rfl⟩
  have e_Z8 : (Z : Int) - 8 = (Z8 : Int) := by omega
  have s_Z8 : IntKind.i64.wrap (Z8 : Int) = (Z8 : Int) := by rw [IntKind.wrap_i64]; omega
  have hfit := fun y (r : Row .u8 256 y (.slice ka KL kc) key) => wfit_ok key _ (Z8 : Int) y r (by rw [hKL]; exact hk) (by omega) (by omega) (by omega)
  have hspl := fun y => split_any xb (xo + 8) (bc - 8) n (Z - 8) (by omega) (by omega) (by omega) (by omega) y
  have rH : Row .u8 256 w (.slice (some ⟨xb, xo, none⟩) 8 bc) (b.take 8) := rb.cut (M := 8) (by omega)
  have rT : Row .u8 256 w (.slice (some ⟨xb, xo + 8, none⟩) (Z - 8) (bc - 8)) (b.drop 8) := by
    have := rb.mid (i := 8) (j := Z) (by omega) (by omega)
    rw [show (b.drop 8).take (Z - 8) = b.drop 8 from List.take_of_length_le (by rw [List.length_drop]; omega)] at this
    exact this
  have lH : (b.take 8).length = 8 := by rw [List.length_take]; omega
  have hs1 : 8 ≤ bc := by omega
  have hs2 : 8 ≤ Z := by omega
  have hs3 : 8 < bc := by omega
  have hnZ : 8 * n = Z - 8 := by omega
  have HZ := hide (And.intro hZ (And.intro hb (And.intro hop hZ8)))
  clear hZ hb hop hZ8
  refine (callsIn_wide (n := 8)).1 ?_
  refine callsIn_of_wp_marks Try.func8 rfl trivial ?_ rfl
  simp only [Try.ntmps8, List.size_toArray, List.length_cons, List.length_nil, Nat.reduceAdd, Nat.reduceSub, Array.replicate_succ, Array.replicate_zero, List.push_toArray, List.append_toArray, List.nil_append, List.cons_append]
  gi_wp2_with (first
    | (refine ⟨trivial, ?_⟩; gi_at_call 11; refine (callsIn_wide.2 (hfit _ (rk.below (keep_trans (keep_trans (keep_alloc _ _) (keep_alloc _ _)) (keep_alloc _ _))))).mono ?_; rintro e yy ⟨rfl, hy⟩; obtain rfl := hy.symm)
    | fail)
  obtain ⟨w0, hw0⟩ : ∃ W, W = ((w.alloc (.cells #[.slice ka KL kc] 22)).alloc (.cells #[.slice none 0 0] 22)).alloc (.cells #[.int .i64 0] 24) := ⟨_, rfl⟩
  obtain ⟨x1, x2, x3, sz0, hbw⟩ := boxes3 w _ _ _ _ _ _ w0 hw0
  rw [← hw0]
  clear hw0 hfit
  obtain ⟨Phi, hPhi⟩ : ∃ Phi : Nat → Act → World → Prop, Phi = fun (m : Nat) (a : Act) (y : World) => ∃ v7 v8 v25 : Value, a = { tmps := #[.slice ka KL kc, .slice (some ⟨xb, xo, none⟩) Z bc, .pointer (some ⟨w.heap.size, 0, none⟩), undef, .pointer (some ⟨w.heap.size + 1, 0, none⟩), .pointer (some ⟨w.heap.size + 1 + 1, 0, none⟩), .int .i64 0, v7, v8, undef, undef, undef, undef, .slice ka KL kc, .slice (some ⟨xb, xo, none⟩) Z bc, .int .i64 Z, .int .i64 Z8, .int .i64 0, .int .i64 0, .bool false, undef, .slice (some ⟨xb, xo, none⟩) Z bc, .slice (some ⟨xb, xo, none⟩) 8 bc, .slice (some ⟨xb, xo, none⟩) Z bc, .slice (some ⟨xb, xo + 8, none⟩) (Z - 8) (bc - 8), v25, undef, undef, undef, undef, undef, undef, undef, undef, undef, undef, undef, undef, undef, undef, undef, undef, undef, undef, undef, undef, undef, undef, undef, undef, undef, undef, undef, undef, undef, undef, undef, undef, undef, undef], defers := [] } ∧ Below w0.heap.size w0 y ∧ (m.testBit 5 = true → ∃ Ba, v7 = .pointer (some ⟨Ba, 0, none⟩) ∧ w0.heap.size ≤ Ba ∧ Boxed y Ba 22 (.slice none 0 0)) ∧ (m.testBit 6 = true → ∃ Bw, v8 = .pointer (some ⟨Bw, 0, none⟩) ∧ w0.heap.size ≤ Bw ∧ Boxed y Bw 34 (.slice none 0 0)) ∧ (m.testBit 4 = true → ∃ g C, v25 = .slice (some ⟨g, 0, none⟩) n C ∧ w0.heap.size ≤ g ∧ y.ownsRow w0.heap.size 22 1 (.slice (some ⟨g, 0, none⟩) n C) n (enc8L xb (xo + 8) n)) := ⟨_, rfl⟩
  refine at_begin_wideR (ops := opsA (cLA (cRA (cRA (Try.f8.body.getD .skip))))) (k := 9) (R := fun a' W => ∃ Ba Bw g C : Nat, a' = { tmps := #[.slice ka KL kc, .slice (some ⟨xb, xo, none⟩) Z bc, .pointer (some ⟨w.heap.size, 0, none⟩), undef, .pointer (some ⟨w.heap.size + 1, 0, none⟩), .pointer (some ⟨w.heap.size + 1 + 1, 0, none⟩), .int .i64 0, .pointer (some ⟨Ba, 0, none⟩), .pointer (some ⟨Bw, 0, none⟩), undef, undef, undef, undef, .slice ka KL kc, .slice (some ⟨xb, xo, none⟩) Z bc, .int .i64 Z, .int .i64 Z8, .int .i64 0, .int .i64 0, .bool false, undef, .slice (some ⟨xb, xo, none⟩) Z bc, .slice (some ⟨xb, xo, none⟩) 8 bc, .slice (some ⟨xb, xo, none⟩) Z bc, .slice (some ⟨xb, xo + 8, none⟩) (Z - 8) (bc - 8), .slice (some ⟨g, 0, none⟩) n C, undef, undef, undef, undef, undef, undef, undef, undef, undef, undef, undef, undef, undef, undef, undef, undef, undef, undef, undef, undef, undef, undef, undef, undef, undef, undef, undef, undef, undef, undef, undef, undef, undef, undef], defers := [] } ∧ Below w0.heap.size w0 W ∧ w0.heap.size ≤ Ba ∧ w0.heap.size ≤ Bw ∧ w0.heap.size ≤ g ∧ Boxed W Ba 22 (.slice (some ⟨xb, xo, none⟩) 8 bc) ∧ Boxed W Bw 34 (.slice (some ⟨g, 0, none⟩) n C) ∧ W.ownsRow w0.heap.size 22 1 (.slice (some ⟨g, 0, none⟩) n C) n (enc8L xb (xo + 8) n)) (fun _ => True) (by kernel_rfl) (by kernel_rfl) ?reg ?cont
  case reg =>
    have op4 : ∀ (m m' : Nat) (a : Act) (y : World) (Q : Exit → Act → World → Prop) (K : Act → World → Prop), (∀ j, m'.testBit j = true → j ≠ 4 → m.testBit j = true) → Phi m a y → (∀ a' y', Phi m' a' y' → K a' y') → wpOp Try.prog (opsA (cLA (cRA (cRA (Try.f8.body.getD .skip))))) Q 4 K a y := by
      intro m m' a y Q K hm hP hK
      rw [hPhi] at hP
      obtain ⟨v7, v8, v25, rfl, h1, h2, h3, h4⟩ := hP
      refine p_call1 (u := .slice (some ⟨xb, xo + 8, none⟩) (Z - 8) (bc - 8)) (d := some 25) rfl rfl rfl rfl rfl Try.call13 ((hspl y).mono ?_)
      rintro e z ⟨v, rfl, oz, hz⟩
      obtain ⟨g, C, rfl, g1, g2⟩ := own_pos8 oz (by omega)
      have hs := h1.size
      refine ⟨_, rfl, hK _ _ ?_⟩
      rw [hPhi]
      refine ⟨v7, v8, .slice (some ⟨g, 0, none⟩) n C, rfl, h1.trans (hz.mono hs), fun hb => ?_, fun hb => ?_, fun _ => ⟨g, C, rfl, by omega, owns_mono8 oz hs⟩⟩
      · obtain ⟨Ba, e1, e2, e3⟩ := h2 (hm 5 hb (by decide))
        exact ⟨Ba, e1, e2, boxed_below e3 hz⟩
      · obtain ⟨Bw, e1, e2, e3⟩ := h3 (hm 6 hb (by decide))
        exact ⟨Bw, e1, e2, boxed_below e3 hz⟩
    have op5 : ∀ (m m' : Nat) (a : Act) (y : World) (Q : Exit → Act → World → Prop) (K : Act → World → Prop), (∀ j, m'.testBit j = true → j ≠ 5 → m.testBit j = true) → Phi m a y → (∀ a' y', Phi m' a' y' → K a' y') → wpOp Try.prog (opsA (cLA (cRA (cRA (Try.f8.body.getD .skip))))) Q 5 K a y := by
      intro m m' a y Q K hm hP hK
      rw [hPhi] at hP
      obtain ⟨v7, v8, v25, rfl, h1, h2, h3, h4⟩ := hP
      have hs := h1.size
      have hz := keep_alloc y (.cells #[.slice none 0 0] 22)
      refine p_alloc (d := some 7) rfl rfl rfl rfl hti htz (hK _ _ ?_)
      rw [hPhi]
      refine ⟨.pointer (some ⟨y.heap.size, 0, none⟩), v8, v25, rfl, h1.trans (hz.mono hs), fun _ => ⟨y.heap.size, rfl, hs, Boxed.new _ _ _⟩, fun hb => ?_, fun hb => ?_⟩
      · obtain ⟨Bx, e1, e2, e3⟩ := h3 (hm 6 hb (by decide))
        exact ⟨Bx, e1, e2, boxed_below e3 hz⟩
      · obtain ⟨g, C, e1, e2, e3⟩ := h4 (hm 4 hb (by decide))
        exact ⟨g, C, e1, e2, owns_below8 e3 hz⟩
    have op6 : ∀ (m m' : Nat) (a : Act) (y : World) (Q : Exit → Act → World → Prop) (K : Act → World → Prop), (∀ j, m'.testBit j = true → j ≠ 6 → m.testBit j = true) → Phi m a y → (∀ a' y', Phi m' a' y' → K a' y') → wpOp Try.prog (opsA (cLA (cRA (cRA (Try.f8.body.getD .skip))))) Q 6 K a y := by
      intro m m' a y Q K hm hP hK
      rw [hPhi] at hP
      obtain ⟨v7, v8, v25, rfl, h1, h2, h3, h4⟩ := hP
      have hs := h1.size
      have hz := keep_alloc y (.cells #[.slice none 0 0] 34)
      refine p_alloc (d := some 8) rfl rfl rfl rfl hwi hwz (hK _ _ ?_)
      rw [hPhi]
      refine ⟨v7, .pointer (some ⟨y.heap.size, 0, none⟩), v25, rfl, h1.trans (hz.mono hs), fun hb => ?_, fun _ => ⟨y.heap.size, rfl, hs, Boxed.new _ _ _⟩, fun hb => ?_⟩
      · obtain ⟨Bx, e1, e2, e3⟩ := h2 (hm 5 hb (by decide))
        exact ⟨Bx, e1, e2, boxed_below e3 hz⟩
      · obtain ⟨g, C, e1, e2, e3⟩ := h4 (hm 4 hb (by decide))
        exact ⟨g, C, e1, e2, owns_below8 e3 hz⟩
    have fin : ∀ (a : Act) (y : World), Phi 127 a y → At Try.prog (opsA (cLA (cRA (cRA (Try.f8.body.getD .skip))))) (onlyN (fun a' W => ∃ Ba Bw g C : Nat, a' = { tmps := #[.slice ka KL kc, .slice (some ⟨xb, xo, none⟩) Z bc, .pointer (some ⟨w.heap.size, 0, none⟩), undef, .pointer (some ⟨w.heap.size + 1, 0, none⟩), .pointer (some ⟨w.heap.size + 1 + 1, 0, none⟩), .int .i64 0, .pointer (some ⟨Ba, 0, none⟩), .pointer (some ⟨Bw, 0, none⟩), undef, undef, undef, undef, .slice ka KL kc, .slice (some ⟨xb, xo, none⟩) Z bc, .int .i64 Z, .int .i64 Z8, .int .i64 0, .int .i64 0, .bool false, undef, .slice (some ⟨xb, xo, none⟩) Z bc, .slice (some ⟨xb, xo, none⟩) 8 bc, .slice (some ⟨xb, xo, none⟩) Z bc, .slice (some ⟨xb, xo + 8, none⟩) (Z - 8) (bc - 8), .slice (some ⟨g, 0, none⟩) n C, undef, undef, undef, undef, undef, undef, undef, undef, undef, undef, undef, undef, undef, undef, undef, undef, undef, undef, undef, undef, undef, undef, undef, undef, undef, undef, undef, undef, undef, undef, undef, undef, undef, undef], defers := [] } ∧ Below w0.heap.size w0 W ∧ w0.heap.size ≤ Ba ∧ w0.heap.size ≤ Bw ∧ w0.heap.size ≤ g ∧ Boxed W Ba 22 (.slice (some ⟨xb, xo, none⟩) 8 bc) ∧ Boxed W Bw 34 (.slice (some ⟨g, 0, none⟩) n C) ∧ W.ownsRow w0.heap.size 22 1 (.slice (some ⟨g, 0, none⟩) n C) n (enc8L xb (xo + 8) n))) (fun _ => True) 2 127 a y := by
      intro a y hP
      rw [hPhi] at hP
      obtain ⟨v7, v8, v25, rfl, h1, h2, h3, h4⟩ := hP
      obtain ⟨Ba, rfl, e2, e3⟩ := h2 (by decide)
      obtain ⟨Bw, rfl, i2, i3⟩ := h3 (by decide)
      obtain ⟨g, C, rfl, g2, g3⟩ := h4 (by decide)
      have nAg := boxed_own_ne e3 g3 hN2
      have nAw := boxed_ne e3 i3 (by decide)
      have nWg := boxed_own_ty i3 g3 (by decide)
      have bA : But Ba y (y.setCell ⟨Ba, 0, none⟩ (.slice (some ⟨xb, xo, none⟩) 8 bc)) := (But.refl _ _).setCell 0 _
      have cA := e3.cell
      refine at_one (i := 7) (m' := 255) un4reg (by decide) rfl ?_
      refine p_store_plain (p := ⟨Ba, 0, none⟩) (ad := some ⟨xb, xo, none⟩) (n := 8) (c := bc) rfl rfl rfl rfl rfl rfl Try.underlying22 rfl (by kernel_rfl) (by rw [cA]; rfl) e3.frozen ⟨trivial, ?_⟩
      have e4 := e3.set (.slice (some ⟨xb, xo, none⟩) 8 bc)
      have i4 : Boxed (y.setCell ⟨Ba, 0, none⟩ (.slice (some ⟨xb, xo, none⟩) 8 bc)) Bw 34 (.slice none 0 0) := (bA.block _ i3.lt (Ne.symm nAw)).trans i3
      have g4 : (y.setCell ⟨Ba, 0, none⟩ (.slice (some ⟨xb, xo, none⟩) 8 bc)).ownsRow w0.heap.size 22 1 (.slice (some ⟨g, 0, none⟩) n C) n (enc8L xb (xo + 8) n) :=
        g3.kept (row := some Ba) ⟨bA.os, bA.tape, bA.output, bA.size, fun k hk hne => bA.block k hk fun e => hne (by rw [e])⟩ (.inr fun e => nAg (by cases e; rfl))
      have b4 := h1.trans (bA.below e2 h1.size)
      generalize y.setCell ⟨Ba, 0, none⟩ (.slice (some ⟨xb, xo, none⟩) 8 bc) = y2 at *
      have bW : But Bw y2 (y2.setCell ⟨Bw, 0, none⟩ (.slice (some ⟨g, 0, none⟩) n C)) := (But.refl _ _).setCell 0 _
      have cW := i4.cell
      refine at_one (i := 8) (m' := 511) un4reg (by decide) rfl ?_
      refine p_store_plain (p := ⟨Bw, 0, none⟩) (ad := some ⟨g, 0, none⟩) (n := n) (c := C) rfl rfl rfl rfl rfl rfl Try.underlying34 rfl (by kernel_rfl) (by rw [cW]; rfl) i4.frozen ⟨trivial, ?_⟩
      refine at_done un4reg (by decide) ?_
      exact ⟨Ba, Bw, g, C, rfl, b4.trans (bW.below i2 b4.size), e2, i2, g2, (bW.block _ e4.lt nAw).trans e4, i4.set _, g4.kept (row := some Bw) ⟨bW.os, bW.tape, bW.output, bW.size, fun k hk hne => bW.block k hk fun e => hne (by rw [e])⟩ (.inr fun e => nWg (by cases e; rfl))⟩
    refine at_takeD (i := 0) (m' := 1) (d := some 21) (v := .slice (some ⟨xb, xo, none⟩) Z bc) un4reg rfl (by decide) rfl rfl (y_move rfl rfl rfl) trivial ?_
    simp only [Act.put, List.setIfInBounds_toArray, List.set_cons_zero, List.set_cons_succ]
    refine at_takeD (i := 1) (m' := 3) (d := some 22) (v := .slice (some ⟨xb, xo, none⟩) 8 bc) un4reg rfl (by decide) rfl rfl (y_slice_hi rfl rfl rfl Try.underlying22 hbi hbs hs1) trivial ?_
    simp only [Act.put, List.setIfInBounds_toArray, List.set_cons_zero, List.set_cons_succ]
    refine at_takeD (i := 2) (m' := 7) (d := some 23) (v := .slice (some ⟨xb, xo, none⟩) Z bc) un4reg rfl (by decide) rfl rfl (y_move rfl rfl rfl) trivial ?_
    simp only [Act.put, List.setIfInBounds_toArray, List.set_cons_zero, List.set_cons_succ]
    refine at_takeD (i := 3) (m' := 15) (d := some 24) (v := .slice (some ⟨xb, xo + 8, none⟩) (Z - 8) (bc - 8)) un4reg rfl (by decide) rfl rfl (y_slice_lo rfl rfl rfl Try.underlying22 hbi hbs hs2 l1 hs3) trivial ?_
    simp only [Act.put, List.setIfInBounds_toArray, List.set_cons_zero, List.set_cons_succ]
    have P15 : Phi 15 { tmps := #[.slice ka KL kc, .slice (some ⟨xb, xo, none⟩) Z bc, .pointer (some ⟨w.heap.size, 0, none⟩), undef, .pointer (some ⟨w.heap.size + 1, 0, none⟩), .pointer (some ⟨w.heap.size + 1 + 1, 0, none⟩), .int .i64 0, undef, undef, undef, undef, undef, undef, .slice ka KL kc, .slice (some ⟨xb, xo, none⟩) Z bc, .int .i64 Z, .int .i64 Z8, .int .i64 0, .int .i64 0, .bool false, undef, .slice (some ⟨xb, xo, none⟩) Z bc, .slice (some ⟨xb, xo, none⟩) 8 bc, .slice (some ⟨xb, xo, none⟩) Z bc, .slice (some ⟨xb, xo + 8, none⟩) (Z - 8) (bc - 8), undef, undef, undef, undef, undef, undef, undef, undef, undef, undef, undef, undef, undef, undef, undef, undef, undef, undef, undef, undef, undef, undef, undef, undef, undef, undef, undef, undef, undef, undef, undef, undef, undef, undef, undef], defers := [] } w0.drew := by
      rw [hPhi]
      exact ⟨_, _, _, rfl, (Below.refl _ _).drew, fun h => absurd h (by decide), fun h => absurd h (by decide), fun h => absurd h (by decide)⟩
    refine at_three8 (i := 4) (j := 5) (k := 6) (m1 := 31) (m2 := 47) (m3 := 79) un4reg (by decide) rfl rfl rfl ?_ ?_ ?_
    · refine op4 15 31 _ _ _ _ (by intro j h1 h2; exact bits_15_31 j h1 h2) P15 (fun a31 y31 P31 => ⟨trivial, ?_⟩)
      refine at_two (i := 5) (j := 6) (m1 := 63) (m2 := 95) un4reg (by decide) rfl rfl ?_ ?_
      · refine op5 31 63 _ _ _ _ (by intro j h1 h2; exact bits_31_63 j h1 h2) P31 (fun a63 y63 P63 => ⟨trivial, ?_⟩)
        refine at_one (i := 6) (m' := 127) un4reg (by decide) rfl ?_
        refine op6 63 127 _ _ _ _ (by intro j h1 h2; exact bits_63_127 j h1 h2) P63 (fun a127 y127 P127 => ⟨trivial, ?_⟩)
        exact fin _ _ P127
      · refine op6 31 95 _ _ _ _ (by intro j h1 h2; exact bits_31_95 j h1 h2) P31 (fun a95 y95 P95 => ⟨trivial, ?_⟩)
        refine at_one (i := 5) (m' := 127) un4reg (by decide) rfl ?_
        refine op5 95 127 _ _ _ _ (by intro j h1 h2; exact bits_95_127 j h1 h2) P95 (fun a127 y127 P127 => ⟨trivial, ?_⟩)
        exact fin _ _ P127
    · refine op5 15 47 _ _ _ _ (by intro j h1 h2; exact bits_15_47 j h1 h2) P15 (fun a47 y47 P47 => ⟨trivial, ?_⟩)
      refine at_two (i := 4) (j := 6) (m1 := 63) (m2 := 111) un4reg (by decide) rfl rfl ?_ ?_
      · refine op4 47 63 _ _ _ _ (by intro j h1 h2; exact bits_47_63 j h1 h2) P47 (fun a63 y63 P63 => ⟨trivial, ?_⟩)
        refine at_one (i := 6) (m' := 127) un4reg (by decide) rfl ?_
        refine op6 63 127 _ _ _ _ (by intro j h1 h2; exact bits_63_127 j h1 h2) P63 (fun a127 y127 P127 => ⟨trivial, ?_⟩)
        exact fin _ _ P127
      · refine op6 47 111 _ _ _ _ (by intro j h1 h2; exact bits_47_111 j h1 h2) P47 (fun a111 y111 P111 => ⟨trivial, ?_⟩)
        refine at_one (i := 4) (m' := 127) un4reg (by decide) rfl ?_
        refine op4 111 127 _ _ _ _ (by intro j h1 h2; exact bits_111_127 j h1 h2) P111 (fun a127 y127 P127 => ⟨trivial, ?_⟩)
        exact fin _ _ P127
    · refine op6 15 79 _ _ _ _ (by intro j h1 h2; exact bits_15_79 j h1 h2) P15 (fun a79 y79 P79 => ⟨trivial, ?_⟩)
      refine at_two (i := 4) (j := 5) (m1 := 95) (m2 := 111) un4reg (by decide) rfl rfl ?_ ?_
      · refine op4 79 95 _ _ _ _ (by intro j h1 h2; exact bits_79_95 j h1 h2) P79 (fun a95 y95 P95 => ⟨trivial, ?_⟩)
        refine at_one (i := 5) (m' := 127) un4reg (by decide) rfl ?_
        refine op5 95 127 _ _ _ _ (by intro j h1 h2; exact bits_95_127 j h1 h2) P95 (fun a127 y127 P127 => ⟨trivial, ?_⟩)
        exact fin _ _ P127
      · refine op5 79 111 _ _ _ _ (by intro j h1 h2; exact bits_79_111 j h1 h2) P79 (fun a111 y111 P111 => ⟨trivial, ?_⟩)
        refine at_one (i := 4) (m' := 127) un4reg (by decide) rfl ?_
        refine op4 111 127 _ _ _ _ (by intro j h1 h2; exact bits_111_127 j h1 h2) P111 (fun a127 y127 P127 => ⟨trivial, ?_⟩)
        exact fin _ _ P127
  case cont =>
    rintro a' W4 ⟨Ba, Bw, g, C, rfl, hb4, sA0, sW0, sG0, bxA, bxW, ow4⟩
    obtain ⟨WL, hWL⟩ : ∃ W, W = W4.alloc (.cells #[.slice (some ⟨g, 0, none⟩) n C] 34) := ⟨_, rfl⟩
    obtain ⟨Bl, hBl⟩ : ∃ x, x = W4.heap.size := ⟨_, rfl⟩
    have hbL : Below W4.heap.size W4 WL := by rw [hWL]; exact keep_alloc _ _
    have bxL : Boxed WL Bl 34 (.slice (some ⟨g, 0, none⟩) n C) := by rw [hWL, hBl]; exact Boxed.new _ _ _
    have szL : WL.heap.size = Bl + 1 := by rw [hWL, hBl]; simp
    have nAg := boxed_own_ne bxA ow4 h2
    have nAw := boxed_ne bxA bxW (by decide)
    have nWg := boxed_own_ty bxW ow4 (by decide)
    have s0 := hb4.size
    have sA1 := bxA.lt
    have sW1 := bxW.lt
    have sG1 : g < W4.heap.size := (own_pos8 ow4 (by omega)).elim fun g' ⟨c', e, _, h⟩ => by cases e; exact h
    have hb0L := keep_trans (hb4.mono (Nat.le_refl _)) hbL
    have hBk : Bk8 w w.heap.size (w.heap.size + 1) (w.heap.size + 1 + 1) Ba Bw Bl g := ⟨by omega, by omega, by omega, by omega, by omega, by omega, by omega, by omega, by omega, by omega, by omega, by omega, by omega, by omega, by omega, by omega⟩
    have rHL := rH.below (keep_trans hbw hb0L)
    have lp0 : LpW w w.heap.size (w.heap.size + 1) (w.heap.size + 1 + 1) Ba Bw Bl g C n (.slice ka KL kc) (numL (b.take 8), b.drop 8) WL :=
      LpW.start (boxed_below x1 hb0L) (boxed_below x2 hb0L) (boxed_below x3 hb0L) (boxed_below bxW hbL) bxL (boxed_below bxA hbL) (by rw [be8_num lH (fun x hx => hbU x (List.mem_of_mem_take hx))]; exact rHL) (off_old rH (by rw [lH]; decide) (by omega) (by omega)) (owns_below8 (owns_mono8 ow4 (by omega)) hbL) (keep_trans hbw hb0L) (by rw [hnZ]; exact rT) hBk
    obtain ⟨K, hK⟩ : ∃ x : Nat, x = 6 * n := ⟨_, rfl⟩
    have hTb : ∀ s, B16 s → B16 (bkA' key s) := fun s h => bkA'_b hkU h
    have hst0 : St n (numL (b.take 8), b.drop 8) := wrp_st HZ.out.2.1 hbU
    have hstU := fun pre : List (Fin K) => stU8_st (B := bkA' key) (by omega : 1 ≤ n) hTb hst0 pre
    have hkk := fun y v X (hb : Below w.heap.size w y) (rv : Row .u8 256 y v X) (hX : X.length = 16) => cbak_ok key X (.slice ka KL kc) v y (rk.below hb) rv (by rw [hKL]; exact hk) hX
    have HK := hide (And.intro hK (And.intro h2 h5))
    have hthr := back1_own 7 (by omega) Bl (some ⟨g, 0, none⟩) n C K hK (by omega) (by omega) WL (fun W => W.cell? ⟨Bl, 0, none⟩ = some (.slice (some ⟨g, 0, none⟩) n C)) (fun W h => h)
    have hn1 : 1 ≤ n := by omega
    have cW4 := bxW.cell
    clear hPhi hK x1 x2 x3 hspl hb4 h2 h5 rH rT
    gi_wp2_with (first
      | (refine ⟨trivial, ?_⟩; gi_at_call 23; refine (callsIn_wide.2 (back_any _ _ _ _)).mono ?_; rintro e w3 ⟨rfl, rfl⟩)
      | fail)
    rw [← hWL, ← hBl]
    clear hWL cW4
    have sBl : w.heap.size + 3 ≤ Bl ∧ Ba < Bl ∧ Bw < Bl ∧ g < Bl := by omega
    clear hBl
    refine range_ours (n := 8) rfl (enters_of Try.func44 (by kernel_rfl) rfl) hthr (fun _ => rfl)
      (fun pre W => LpW w w.heap.size (w.heap.size + 1) (w.heap.size + 1 + 1) Ba Bw Bl g C n (.slice ka KL kc) (stU8 (bkA' key) n (numL (b.take 8), b.drop 8) pre) W ∧ WL.heap.size ≤ W.heap.size)
      (fun pre A B row hs hg hr => ⟨hs.1.own (D := WL.heap.size) (by omega) hg hr, Nat.le_trans hs.2 hg.size⟩) (fun pre W h => h.1.bl.cell) ⟨lp0, Nat.le_refl _⟩
      (fun pre x a' W => a' = { tmps := #[.slice ka KL kc, .slice (some ⟨xb, xo, none⟩) Z bc, .pointer (some ⟨w.heap.size, 0, none⟩), undef, .pointer (some ⟨w.heap.size + 1, 0, none⟩), .pointer (some ⟨w.heap.size + 1 + 1, 0, none⟩), .int .i64 0, .pointer (some ⟨Ba, 0, none⟩), .pointer (some ⟨Bw, 0, none⟩), .int .u64 ((x.1 + 1 : Nat) : Int), .int .i64 ((x.1 % n : Nat) : Int), undef, undef, .slice ka KL kc, .slice (some ⟨xb, xo, none⟩) Z bc, .int .i64 Z, .int .i64 Z8, .int .i64 0, .int .i64 0, .bool false, undef, .slice (some ⟨xb, xo, none⟩) Z bc, .slice (some ⟨xb, xo, none⟩) 8 bc, .slice (some ⟨xb, xo, none⟩) Z bc, .slice (some ⟨xb, xo + 8, none⟩) (Z - 8) (bc - 8), .slice (some ⟨g, 0, none⟩) n C, .slice (some ⟨g, 0, none⟩) n C, .func (.func 44) #[] #[.pointer (some ⟨Bl, 0, none⟩)], .int .u64 ((x.1 + 1 : Nat) : Int), .int .i64 ((x.1 % n : Nat) : Int), undef, undef, undef, undef, undef, undef, undef, undef, undef, undef, undef, undef, undef, undef, undef, undef, undef, undef, undef, undef, undef, undef, undef, undef, undef, undef, undef, undef, undef, undef], defers := [] } ∧ LpW w w.heap.size (w.heap.size + 1) (w.heap.size + 1 + 1) Ba Bw Bl g C n (.slice ka KL kc) (stU8 (bkA' key) n (numL (b.take 8), b.drop 8) pre) W ∧ WL.heap.size ≤ W.heap.size)
      (fun pre x a' u A B row hs hg hr => ⟨hs.1, hs.2.1.own (D := WL.heap.size) (by omega) hg hr, Nat.le_trans hs.2.2 hg.size⟩) ?assign ?body ?done
    case assign =>
      rintro l pre x W K ⟨lp, hsz⟩ hlt hK
      unfold stpV
      gi_wp2
      exact hK _ _ (kept_below8 (Below.refl _ _)) ⟨rfl, lp, hsz⟩
    case body =>
      rintro l pre x a' W ⟨rfl, lp, hsz⟩ hlt
      have hx := x.2
      have hS := hstU pre
      rw [stU8_snoc]
      generalize stU8 (bkA' key) n (numL (b.take 8), b.drop 8) pre = s at *
      obtain ⟨t, ht⟩ := x
      dsimp only at hx ⊢
      have hKn : t + 1 < 18446744073709551616 := by have := HK.out; omega
      obtain ⟨i, hi⟩ : ∃ i, i = t % n := ⟨_, rfl⟩
      have hin : i < n := by rw [hi]; exact Nat.mod_lt _ hn1
      obtain ⟨A, hA⟩ : ∃ A, A = s.1 ^^^ (t + 1) := ⟨_, rfl⟩
      obtain ⟨X, hX⟩ : ∃ X, X = be8 A ++ seg s.2 i := ⟨_, rfl⟩
      have hXB : B16 X := by rw [hX, hi]; exact hS.blk A hn1
      obtain ⟨Y, hY⟩ : ∃ Y, Y = bkA' key X := ⟨_, rfl⟩
      have hYB : B16 Y := by rw [hY]; exact hTb X hXB
      have hws : unS (bkA' key) n t s = (numL (Y.take 8), putS s.2 i (Y.drop 8)) := by unfold unS; rw [← hi, ← hA, ← hX, ← hY]
      rw [hws, ← hi]
      obtain ⟨P, hP⟩ : ∃ P, P = t + 1 := ⟨_, rfl⟩
      rw [← hP] at hKn hA ⊢
      have hl8 := hS.len
      obtain ⟨av, cA, rA, oA⟩ := lp.ba
      obtain ⟨u, cU, rU, oU⟩ := lp.word hin
      have lA := be8_len s.1
      have lX := be8_len A
      have lU : (seg s.2 i).length = 8 := seg_len (by omega)
      have tU := tidy_8 rU lU
      obtain ⟨aa, ac, rfl, _⟩ := rA.opens lA
      obtain ⟨ua, uc, rfl, _⟩ := rU.opens lU
      have hnu := fun y (r : Row .u8 256 y (.slice aa 8 ac) (be8 s.1)) => numb_any _ s.1 P y r hKn
      rw [← hA] at hnu
      have hj := fun y v (hb : Below W.heap.size W y) (rv : Row .u8 256 y v (be8 A)) (tv : Tidy v) => join_any _ _ _ (rows_lit2C rv tv (rU.below hb) tU) (by simp only [List.flatten_cons, List.flatten_nil, List.append_nil, List.length_append]; omega)
      have hfl : [be8 A, seg s.2 i].flatten = X := by rw [hX]; simp
      rw [hfl] at hj
      have hbk := fun y v (hb : Below W.heap.size W y) (rv : Row .u8 256 y v X) => hkk y v X (lp.bel.trans (hb.mono lp.bel.size)) rv hXB.1
      rw [← hY] at hbk
      have lpf := fun y (hb : Below W.heap.size W y) => lp.below hb
      have cK := lp.bk.cell
      have cA0 := cA.cell
      have cW := lp.bw.cell
      have lpB := lp.bel
      have HP := hide (And.intro lp (And.intro hS (And.intro hXB (And.intro hYB (And.intro hKn (And.intro hl8 (And.intro hi (And.intro hX (And.intro hY hP)))))))))
      have HS := hide hsz
      have hSf : ∀ y, Below W.heap.size W y → y.cell? ⟨w.heap.size, 0, none⟩ = some (.slice ka KL kc) ∧ y.cell? ⟨Ba, 0, none⟩ = some (.slice aa 8 ac) ∧ y.cell? ⟨Bw, 0, none⟩ = some (.slice (some ⟨g, 0, none⟩) n C) ∧ y.cell? ⟨g, i, none⟩ = some (.slice ua 8 uc) :=
        fun y hb => ⟨keep_cell cK hb, keep_cell cA0 hb, keep_cell cW hb, keep_cell cU hb⟩
      have hbd : Below W.heap.size W W.drew := (Below.refl _ _).drew
      have hS0 := hSf _ hbd
      have rAd := rA.below hbd
      clear lp hS hXB hYB hKn hl8 hi hX hY hP hsz hws rA rU tU oA oU hfl hx hA
      gi_wp2
      refine at_begin_in (ops := opsA (cLA (cBA (cFA (cBA (cRA (cLA (cRA (cRA (cRA (Try.f8.body.getD .skip))))))))))) (k := 16) (fun y => y.cell? ⟨w.heap.size, 0, none⟩ = some (.slice ka KL kc) ∧ y.cell? ⟨Ba, 0, none⟩ = some (.slice aa 8 ac) ∧ y.cell? ⟨Bw, 0, none⟩ = some (.slice (some ⟨g, 0, none⟩) n C) ∧ y.cell? ⟨g, i, none⟩ = some (.slice ua 8 uc)) (by kernel_rfl) (by kernel_rfl) (by kernel_rfl) ?_
      refine at_takeD (i := 0) (m' := 1) (d := some 31) (v := .slice ka KL kc) un8reg rfl (by decide) rfl rfl (y_load_plain rfl rfl rfl Try.underlying22 rfl (fun _ h => h.1)) hS0 ?_
      simp only [Act.put, List.setIfInBounds_toArray, List.set_cons_zero, List.set_cons_succ]
      refine at_takeD (i := 1) (m' := 3) (d := some 32) (v := .slice aa 8 ac) un8reg rfl (by decide) rfl rfl (y_load_plain rfl rfl rfl Try.underlying22 rfl (fun _ h => h.2.1)) hS0 ?_
      simp only [Act.put, List.setIfInBounds_toArray, List.set_cons_zero, List.set_cons_succ]
      refine at_takeD (i := 2) (m' := 7) (d := some 33) (v := .int .u64 (P : Int)) un8reg rfl (by decide) rfl rfl (y_move rfl rfl rfl) hS0 ?_
      simp only [Act.put, List.setIfInBounds_toArray, List.set_cons_zero, List.set_cons_succ]
      refine at_takeD (i := 4) (m' := 23) (d := some 35) (v := .slice (some ⟨g, 0, none⟩) n C) un8reg rfl (by decide) rfl rfl (y_load_plain rfl rfl rfl Try.underlying34 rfl (fun _ h => h.2.2.1)) hS0 ?_
      simp only [Act.put, List.setIfInBounds_toArray, List.set_cons_zero, List.set_cons_succ]
      refine at_takeD (i := 5) (m' := 55) (d := some 36) (v := .int .i64 (i : Int)) un8reg rfl (by decide) rfl rfl (y_move rfl rfl rfl) hS0 ?_
      simp only [Act.put, List.setIfInBounds_toArray, List.set_cons_zero, List.set_cons_succ]
      refine at_takeD (i := 6) (m' := 119) (d := some 37) (v := .pointer (some ⟨g, i, none⟩)) un8reg rfl (by decide) rfl rfl (y_index_slice rfl rfl rfl rfl Try.underlying34 (by kernel_rfl) hin) hS0 ?_
      simp only [Act.put, List.setIfInBounds_toArray, List.set_cons_zero, List.set_cons_succ]
      refine at_takeD (i := 7) (m' := 247) (d := some 38) (v := .slice ua 8 uc) un8reg rfl (by decide) rfl rfl (y_load_plain rfl rfl rfl Try.underlying22 rfl (fun _ h => h.2.2.2)) hS0 ?_
      simp only [Act.put, List.setIfInBounds_toArray, List.set_cons_zero, List.set_cons_succ]
      refine at_one (i := 3) (m' := 255) un8reg (by decide) rfl ?_
      refine p_call2 (u := .slice aa 8 ac) (v := .int .u64 (P : Int)) (d := some 34) rfl rfl rfl rfl rfl rfl Try.call17 ((hnu _ rAd).mono ?_)
      rintro e z0 ⟨v0, rfl, o0, hb0⟩
      have hbq := keep_trans hbd hb0
      have r0 := o0.row
      have t0 := tidy_8 r0 lX
      obtain ⟨p0, q0, rfl, _⟩ := r0.opens lX
      refine ⟨_, rfl, hSf _ hbq, ?_⟩
      simp only [Act.put, List.setIfInBounds_toArray, List.set_cons_zero, List.set_cons_succ]
      have hbA := keep_trans hbq (keep_alloc z0 (.cells #[.slice p0 8 q0, .slice ua 8 uc] 22))
      refine at_one (i := 8) (m' := 511) un8reg (by decide) rfl ?_
      refine p_build2 (d := some 39) rfl rfl rfl rfl rfl rfl Try.underlying33 hti hts htz ⟨hSf _ hbA, ?_⟩
      simp only [Act.put, List.setIfInBounds_toArray, List.set_cons_zero, List.set_cons_succ]
      refine at_one (i := 9) (m' := 1023) un8reg (by decide) rfl ?_
      refine p_call1 (u := .slice (some ⟨z0.heap.size, 0, none⟩) 2 2) (d := some 40) rfl rfl rfl rfl rfl Try.call16 ((hj _ _ hbq r0 t0).mono ?_)
      rintro e z1 ⟨v1, rfl, o1, hb1⟩
      have hbz := keep_trans hbA hb1
      have r1 := o1.row
      obtain ⟨p1, q1, rfl, _⟩ := r1.opens (HP.out.2.2.1.1)
      refine ⟨_, rfl, hSf _ hbz, ?_⟩
      simp only [Act.put, List.setIfInBounds_toArray, List.set_cons_zero, List.set_cons_succ]
      refine at_one (i := 10) (m' := 2047) un8reg (by decide) rfl ?_
      refine p_call2 (u := .slice ka KL kc) (v := .slice p1 16 q1) (d := some 41) rfl rfl rfl rfl rfl rfl Try.call24 ((hbk _ _ hbz r1).mono ?_)
      rintro e z2 ⟨v2, rfl, r2, n2, hb2⟩
      obtain ⟨p2, q2, rfl, d1, d2, d3⟩ := r2.opens (HP.out.2.2.2.1.1)
      obtain ⟨pb, po, rfl, _⟩ := d3 (by decide)
      have hbY := keep_trans hbz hb2
      have hS2 := hSf _ hbY
      refine ⟨_, rfl, hS2, ?_⟩
      simp only [Act.put, List.setIfInBounds_toArray, List.set_cons_zero, List.set_cons_succ]
      refine at_takeD (i := 11) (m' := 4095) (d := some 30) (v := .tuple #[.slice (some ⟨pb, po, none⟩) 16 q2, .int .i64 0]) un8reg rfl (by decide) rfl rfl (y_move rfl rfl rfl) hS2 ?_
      simp only [Act.put, List.setIfInBounds_toArray, List.set_cons_zero, List.set_cons_succ]
      refine at_takeD (i := 12) (m' := 8191) (d := some 42) (v := .slice (some ⟨pb, po, none⟩) 16 q2) un8reg rfl (by decide) rfl rfl (y_extract rfl rfl rfl rfl) hS2 ?_
      simp only [Act.put, List.setIfInBounds_toArray, List.set_cons_zero, List.set_cons_succ]
      refine at_takeD (i := 13) (m' := 16383) (d := some 43) (v := .int .i64 0) un8reg rfl (by decide) rfl rfl (y_extract rfl rfl rfl rfl) hS2 ?_
      simp only [Act.put, List.setIfInBounds_toArray, List.set_cons_zero, List.set_cons_succ]
      refine at_takeD (i := 14) (m' := 32767) (d := some 11) (v := .slice (some ⟨pb, po, none⟩) 16 q2) un8reg rfl (by decide) rfl rfl (y_assignA rfl rfl rfl) hS2 ?_
      simp only [Act.put, List.setIfInBounds_toArray, List.set_cons_zero, List.set_cons_succ]
      refine at_takeD (i := 15) (m' := 65535) (d := some 12) (v := .int .i64 0) un8reg rfl (by decide) rfl rfl (y_assignA rfl rfl rfl) hS2 ?_
      simp only [Act.put, List.setIfInBounds_toArray, List.set_cons_zero, List.set_cons_succ]
      refine at_done un8reg (by decide) ?_
      dsimp only [onlyN]
      have lp2 := lpf _ hbY
      obtain ⟨_, _, _, hYB, hKn, hl8, hi, hX, hY, hP⟩ := HP.out
      have r3 := r2.cut (M := 8) (by rw [hYB.1]; decide)
      have r4 := r2.mid (i := 8) (j := 16) (by decide) (by rw [hYB.1]; exact Nat.le_refl _)
      rw [show (Y.drop 8).take (16 - 8) = Y.drop 8 from List.take_of_length_le (by rw [List.length_drop, hYB.1]; exact Nat.le_refl _)] at r4
      have l7 : (Y.take 8).length = 8 := by rw [List.length_take, hYB.1]; rfl
      have l9 : (Y.drop 8).length = 8 := by rw [List.length_drop, hYB.1]
      have u7 : Under 256 (Y.take 8) := fun x hx => hYB.2 x (List.mem_of_mem_take hx)
      have r3' : Row .u8 256 z2 (.slice (some ⟨pb, po, none⟩) 8 q2) (be8 (numL (Y.take 8))) := by rw [be8_num l7 u7]; exact r3
      have n2' := n2 pb (by simp [Value.ownBlock])
      have sA := cA.lt
      have sG : g < W.heap.size := World.block_lt_of_cell? _ _ cU
      have sY := hbY.size
      have sz1 := hbz.size
      have HR := hide (And.intro r3' (And.intro r4 (And.intro l9 hl8)))
      have hT1 : z2.drew.cell? ⟨Bw, 0, none⟩ = some (.slice (some ⟨g, 0, none⟩) n C) := hS2.2.2.1
      clear r3 r3' r4 l9 l7 u7 hYB hKn hl8 hi hX hY hP
      gi_wp2
      refine at_begin_in (ops := opsA (cRA (cRA (cBA (cFA (cBA (cRA (cLA (cRA (cRA (cRA (Try.f8.body.getD .skip)))))))))))) (k := 9) (fun y => y.cell? ⟨Bw, 0, none⟩ = some (.slice (some ⟨g, 0, none⟩) n C)) (by kernel_rfl) (by kernel_rfl) (by kernel_rfl) ?_
      refine at_takeD (i := 0) (m' := 1) (d := some 47) (v := .slice (some ⟨g, 0, none⟩) n C) un11reg rfl (by decide) rfl rfl (y_load_plain rfl rfl rfl Try.underlying34 rfl (fun _ h => h)) hT1 ?_
      simp only [Act.put, List.setIfInBounds_toArray, List.set_cons_zero, List.set_cons_succ]
      refine at_takeD (i := 1) (m' := 3) (d := some 48) (v := .int .i64 (i : Int)) un11reg rfl (by decide) rfl rfl (y_move rfl rfl rfl) hT1 ?_
      simp only [Act.put, List.setIfInBounds_toArray, List.set_cons_zero, List.set_cons_succ]
      refine at_takeD (i := 2) (m' := 7) (d := some 49) (v := .slice (some ⟨pb, po, none⟩) 16 q2) un11reg rfl (by decide) rfl rfl (y_move rfl rfl rfl) hT1 ?_
      simp only [Act.put, List.setIfInBounds_toArray, List.set_cons_zero, List.set_cons_succ]
      refine at_takeD (i := 3) (m' := 15) (d := some 50) (v := .slice (some ⟨pb, po, none⟩) 8 q2) un11reg rfl (by decide) rfl rfl (y_slice_hi rfl rfl rfl Try.underlying22 hbi hbs (by omega)) hT1 ?_
      simp only [Act.put, List.setIfInBounds_toArray, List.set_cons_zero, List.set_cons_succ]
      refine at_takeD (i := 4) (m' := 31) (d := some 51) (v := .slice (some ⟨pb, po, none⟩) 16 q2) un11reg rfl (by decide) rfl rfl (y_move rfl rfl rfl) hT1 ?_
      simp only [Act.put, List.setIfInBounds_toArray, List.set_cons_zero, List.set_cons_succ]
      refine at_takeD (i := 5) (m' := 63) (d := some 52) (v := .slice (some ⟨pb, po + 8, none⟩) (16 - 8) (q2 - 8)) un11reg rfl (by decide) rfl rfl (y_slice_lo rfl rfl rfl Try.underlying22 hbi hbs (by decide) d1 (by omega)) hT1 ?_
      simp only [Act.put, List.setIfInBounds_toArray, List.set_cons_zero, List.set_cons_succ]
      have hb23 : Below z2.heap.size z2 z2.drew := (Below.refl _ _).drew
      have lp3 := lp2.below hb23
      have hT3 := lp3.bw.cell
      obtain ⟨av3, cA3, _⟩ := lp3.ba
      have fA3 := cA3.frozen
      have cA3' := cA3.cell
      have s23 := hb23.size
      generalize z2.drew = z3 at *
      refine at_one (i := 6) (m' := 127) un11reg (by decide) rfl ?_
      have hbA3 : But Ba z3 (z3.setCell ⟨Ba, 0, none⟩ (.slice (some ⟨pb, po, none⟩) 8 q2)) := (But.refl _ _).setCell 0 _
      have hT4 := But.cell hT3 hbA3 (by show Bw ≠ Ba; exact Ne.symm hBk.aw)
      refine p_store_plain (p := ⟨Ba, 0, none⟩) (ad := some ⟨pb, po, none⟩) (n := 8) (c := q2) rfl rfl rfl rfl rfl rfl Try.underlying22 rfl (by kernel_rfl) (by rw [cA3']; rfl) fA3 ⟨hT4, ?_⟩
      refine at_takeD (i := 7) (m' := 255) (d := some 53) (v := .pointer (some ⟨g, i, none⟩)) un11reg rfl (by decide) rfl rfl (y_index_slice rfl rfl rfl rfl Try.underlying34 (by kernel_rfl) hin) hT4 ?_
      simp only [Act.put, List.setIfInBounds_toArray, List.set_cons_zero, List.set_cons_succ]
      obtain ⟨u3, cU3, _⟩ := lp3.word hin
      have cU4 := But.cell cU3 hbA3 (by show g ≠ Ba; exact Ne.symm hBk.ag)
      obtain ⟨us3, own3, _⟩ := lp3.row
      have own4 : (z3.setCell ⟨Ba, 0, none⟩ (.slice (some ⟨pb, po, none⟩) 8 q2)).ownsRow w.heap.size 22 1 (.slice (some ⟨g, 0, none⟩) n C) n us3 :=
        own3.kept (row := some Ba) ⟨hbA3.os, hbA3.tape, hbA3.output, hbA3.size, fun k hk hne => hbA3.block k hk fun e => hne (by rw [e])⟩ (.inr fun e => hBk.ag (by cases e; rfl))
      have fU4 : (z3.setCell ⟨Ba, 0, none⟩ (.slice (some ⟨pb, po, none⟩) 8 q2)).frozen? ⟨g, i, none⟩ = false := owns_free own4 i
      refine at_one (i := 8) (m' := 511) un11reg (by decide) rfl ?_
      refine p_store_plain (p := ⟨g, i, none⟩) (ad := some ⟨pb, po + 8, none⟩) (n := 16 - 8) (c := q2 - 8) rfl rfl rfl rfl rfl rfl Try.underlying22 rfl (by kernel_rfl) (by rw [cU4]; rfl) fU4 ⟨?_, ?_⟩
      · exact But.cell hT4 ((But.refl g _).setCell i _) (by show Bw ≠ g; exact Ne.symm hBk.gw)
      refine at_done un11reg (by decide) ?_
      dsimp only [onlyN]
      obtain ⟨r3, r4, l9, hl8⟩ := HR.out
      have oB : Off Ba g (.slice (some ⟨pb, po, none⟩) 8 q2) := off_new (B := z1.heap.size) (New.at n2') (by omega) (by omega)
      have oU : Off Ba g (.slice (some ⟨pb, po + 8, none⟩) (16 - 8) (q2 - 8)) := off_new (B := z1.heap.size) (New.at n2') (by omega) (by omega)
      have lp4 := lp3.step hBk hl8 hin (a := numL (Y.take 8)) (v := Y.drop 8) l9 (r3.below hb23) oB (r4.below hb23) oU
      have kf : Kept WL.heap.size W _ := (kept_below8 (keep_trans hbY hb23)).trans ((kept_set8 (W := z3) (q := Ba) (j := 0) (.slice (some ⟨pb, po, none⟩) 8 q2) (by omega)).trans (kept_set8 (q := g) (j := i) (.slice (some ⟨pb, po + 8, none⟩) (16 - 8) (q2 - 8)) (by omega)))
      gi_wp2
      exact ⟨kf, lp4, Nat.le_trans HS.out kf.size⟩
    case done =>
      rintro W ⟨lp, hsz⟩ hK
      have sWL : w.heap.size + 3 ≤ WL.heap.size := by omega
      have hnZ2 := hide hnZ
      clear szL hnZ
      have hfin := stU8_is (bkA' key) n (numL (b.take 8), b.drop 8) (K := K) K (Nat.le_refl _)
      have hS := hstU (bckL K K)
      rw [hfin, unD_all] at lp hS
      obtain ⟨hK6, h2, h5⟩ := HK.out
      obtain ⟨hZ, hb8, _⟩ := HZ.out
      have hwl : unwS (bkA' key) b = unN (bkA' key) n K (numL (b.take 8), b.drop 8) := by unfold unwS; rw [show b.length / 8 - 1 = n by omega, hK6]
      rw [← hwl] at lp hS
      have hux : unwO (bkA' key) b = if (unwS (bkA' key) b).1 = markW then some (unwS (bkA' key) b).2 else none := rfl
      generalize unwS (bkA' key) b = s at *
      have hl8 := hS.len
      have hnum := hS.num
      obtain ⟨av, cA, rA, oA⟩ := lp.ba
      have lA := be8_len s.1
      obtain ⟨aa, ac, rfl, _⟩ := rA.opens lA
      have cA0 := cA.cell
      have hSf : ∀ y, Below W.heap.size W y → y.cell? ⟨Ba, 0, none⟩ = some (.slice aa 8 ac) := fun y hb => keep_cell cA0 hb
      have hbd : Below W.heap.size W W.drew := (Below.refl _ _).drew
      have hS0 := hSf _ hbd
      have lpf := fun y (hb : Below W.heap.size W y) => lp.below hb
      have rw0 := fun y (hb : Below W.heap.size W y) => (lp.rows hl8).below hb
      have hfl : (segs s.2 n).flatten = s.2 := by rw [segs_flat, List.take_of_length_le (by omega)]
      have hj := fun y (hb : Below W.heap.size W y) => join_any _ _ y (rw0 y hb) (by rw [hfl, hl8]; omega)
      rw [hfl] at hj
      have hmk : be8 s.1 = be8 markW ↔ s.1 = markW := ⟨fun h => by have := congrArg numL h; rw [num_be8 hnum, num_be8 (by decide)] at this; exact this, fun h => by rw [h]⟩
      have HSt := hide (And.intro hS (And.intro hl8 (And.intro hK6 (And.intro hZ (And.intro hb8 (And.intro hwl (And.intro hux (And.intro hmk hfl))))))))
      clear hS hK6 hZ hb8 hfl rw0 hwl hfin hux hmk
      gi_wp2
      refine at_begin_wide (ops := opsA (cLA (cLA (cRA (cRA (cRA (cRA (Try.f8.body.getD .skip)))))))) (k := 4) (fun y => y.cell? ⟨Ba, 0, none⟩ = some (.slice aa 8 ac)) (by kernel_rfl) (by kernel_rfl) ?_
      refine at_takeD (i := 0) (m' := 1) (d := some 54) (v := .slice aa 8 ac) un12reg rfl (by decide) rfl rfl (y_load_plain rfl rfl rfl Try.underlying22 rfl (fun _ h => h)) hS0 ?_
      simp only [Act.put, List.setIfInBounds_toArray, List.set_cons_zero, List.set_cons_succ]
      refine at_one (i := 1) (m' := 3) un12reg (by decide) rfl ?_
      refine p_call0 (d := some 55) rfl rfl rfl rfl Try.call12 ((begin_any _).mono ?_)
      rintro e z1 ⟨v1, rfl, r1, n1, hb1⟩
      have hbz := keep_trans hbd hb1
      obtain ⟨p1, q1, rfl, _⟩ := r1.opens (be8_len markW)
      refine ⟨_, rfl, hSf _ hbz, ?_⟩
      simp only [Act.put, List.setIfInBounds_toArray, List.set_cons_zero, List.set_cons_succ]
      refine at_one (i := 2) (m' := 7) un12reg (by decide) rfl ?_
      refine p_call2 (u := .slice aa 8 ac) (v := .slice p1 8 q1) (d := some 56) rfl rfl rfl rfl rfl rfl Try.call25 ((bsame_any _ _ _ _ _ (rA.below hbz) r1).mono ?_)
      rintro e z2 ⟨rfl, hb2⟩
      have hbY := keep_trans hbz hb2
      have lp2 := lpf _ hbY
      refine ⟨_, rfl, hSf _ hbY, ?_⟩
      simp only [Act.put, List.setIfInBounds_toArray, List.set_cons_zero, List.set_cons_succ]
      refine at_takeD (i := 3) (m' := 15) (d := some 57) (v := .bool (!decide (be8 s.1 = be8 markW))) un12reg rfl (by decide) rfl rfl (y_not rfl rfl rfl) (hSf _ hbY) ?_
      simp only [Act.put, List.setIfInBounds_toArray, List.set_cons_zero, List.set_cons_succ]
      refine at_done un12reg (by decide) ?_
      have hKz : z2.heap[WL.heap.size]? = some (.deferred (some [])) := (hbY.block _ (Array.getElem?_eq_some_iff.1 hK).1).trans hK
      have hj2 := hj z2 hbY
      have sw := lp2.bel.size
      have hsB := hbY.size
      clear hj hSf hS0 lpf
      by_cases hq : be8 s.1 = be8 markW
      · have dq : decide (be8 s.1 = be8 markW) = true := decide_eq_true hq
        rw [dq]
        have cW2 := lp2.bw.cell
        have cR2 := lp2.b4.cell
        have fR2 := lp2.b4.frozen
        have cE2 := lp2.b5.cell
        have fE2 := lp2.b5.frozen
        have huw := uw_yes (HSt.out.2.2.2.2.2.2.1.trans (if_pos (HSt.out.2.2.2.2.2.2.2.1.1 hq)))
        have HU := hide huw
        have HL := hide lp2
        clear huw lp2
        gi_wp2_with (first
          | (refine ⟨trivial, ?_⟩; gi_at_call 16; refine (callsIn_wide.2 hj2).mono ?_; rintro e z3 ⟨v3, rfl, o3, hb3⟩; have r3 := o3.row; have n3 := o3.new; obtain ⟨p3, q3, rfl, _⟩ := r3.opens HSt.out.2.1; have lp3 := HL.out.below hb3; have cR3 := lp3.b4.cell; have fR3 := lp3.b4.frozen; have cE3 := lp3.b5.cell; have fE3 := lp3.b5.frozen; have neR : ¬ (w.heap.size + 1 + 1 = w.heap.size + 1) := by omega)
          | fail)
        have n3' : New (w.heap.size + 3) (.slice p3 (8 * n) q3) := n3.mono (by omega)
        obtain ⟨k1, k2, k3, k4, k5⟩ := fin_sets (c := 0) lp3.b4 lp3.b5 ((hb3.block _ (Array.getElem?_eq_some_iff.1 hKz).1).trans hKz) sWL r3 n3' lp3.bel
        refine ⟨by simp, .inl ⟨_, _, rfl, run_takeDeferred k1, ?_⟩⟩
        rw [HU.out.1, HU.out.2]
        exact ⟨_, results_cells2 rfl _ _ (w.heap.size + 1) (w.heap.size + 1 + 1) _ _ rfl rfl (loadVar_plain _ _ _ _ _ _ k2 Try.underlying22 rfl) (loadVar_plain _ _ _ _ _ _ k3 Try.underlying24 rfl), _, rfl, k4, n3'.mono (by omega), k5⟩
      · have dq : decide (be8 s.1 = be8 markW) = false := decide_eq_false hq
        rw [dq]
        have cR2 := lp2.b4.cell
        have fR2 := lp2.b4.frozen
        have cE2 := lp2.b5.cell
        have fE2 := lp2.b5.frozen
        have huw := uw_no (HSt.out.2.2.2.2.2.2.1.trans (if_neg fun h => hq (HSt.out.2.2.2.2.2.2.2.1.2 h)))
        have HU := hide huw
        have HL := hide lp2
        clear huw lp2
        gi_wp2
        obtain ⟨k1, k2, k3, k4, k5⟩ := fin_sets (c := 16) HL.out.b4 HL.out.b5 hKz sWL (Row.nil .u8 256 z2) (New.nil _ _ _) HL.out.bel
        refine ⟨by simp, .inl ⟨_, _, rfl, run_takeDeferred k1, ?_⟩⟩
        rw [HU.out.1, HU.out.2]
        exact ⟨_, results_cells2 rfl _ _ (w.heap.size + 1) (w.heap.size + 1 + 1) _ _ rfl rfl (loadVar_plain _ _ _ _ _ _ k2 Try.underlying22 rfl) (loadVar_plain _ _ _ _ _ _ k3 Try.underlying24 rfl), _, rfl, k4, New.nil _ _ _, k5⟩
end Go.Proofs.Ytjnlkihhmenfnaa
