/- Trees of leaves that sign once, the program's own: growerOf, Public. -/
import Derived.Test.YtefndnbaifiboaaDoorLsM
import Derived.Test.YtefndnbaifiboaaDoorLtN
namespace Go.Proofs.YtefndnbaifiboaaDoor
open Go.RowKit Go.Shelf
set_option linter.unusedVariables false
set_option linter.unusedSimpArgs false

/-- a slice of n texts that are not there yet -/
theorem p_makeT {ops : Array Oper} {Q : Exit → Act → World → Prop} {K : Act → World → Prop} {i : Nat} {o : Oper} {a : Act} {w : World} {n : Nat} {x y : Operand} {d : Option Nat} (hi : ops[i]? = some o) (hw : Region.wanted o (yielded ops a.tmps) = true) (ho : o.op = .makeSlice 40 x y) (hx : a.eval x = .int .i64 (n : Int)) (hy : a.eval y = .int .i64 (n : Int)) (hd : o.dst = d) (hn : n ≤ 100000)
    (h : ∀ w' xs, w'.ownsRow w.heap.size 25 1 (.slice (some ⟨w.heap.size, 0, none⟩) n n) n xs → Below w.heap.size w w' → K (a.put d (.slice (some ⟨w.heap.size, 0, none⟩) n n)) w') : wpOp Tryd.prog ops Q i K a w := by
  obtain ⟨i0, hi0, hz0, hz1, hz2⟩ := info_text
  obtain ⟨w', hrun, r1, r2⟩ := run_make_full (P := Tryd.prog) w w.heap.size 40 25 i0 (.slice none 0 0) 1 Tryd.underlying40 hi0 hz0 hz1 .i64 .i64 n (by rw [hz2]; omega) (by unfold maxLen; omega) (Nat.le_refl _)
  have hb := (Below.refl w.heap.size w).grown r2 (Nat.le_refl _) (fun k h => by cases h)
  have hr : (execOp a.eval o).run Tryd.prog w = .ok (.value (.slice (some ⟨w.heap.size, 0, none⟩) n n)) w' := by
    unfold execOp
    simp only [ho, hx, hy]
    simp [hrun, Sem.run_bind]
  unfold wpOp
  simp only [hi]
  rw [if_pos hw]
  left
  unfold Oper.wp
  rw [hr]
  show K (a.put o.dst _) _
  rw [hd]
  exact h w' _ r1 hb
theorem y_buildGr {ops : Array Oper} {S : World → Prop} {o : Oper} {a : Act} {x y z : Operand} {z0 z1 z2 : Value} {ja ka : Option Addr} {jn jc kn kc : Nat} (hw : Region.wanted o (yielded ops a.tmps) = true) (ho : o.op = .build 45 #[(0, x), (1, y), (2, z)]) (hx : a.eval x = .agg #[z0, z1, z2]) (hy : a.eval y = .slice ja jn jc) (hz : a.eval z = .slice ka kn kc) : YieldsIf Tryd.prog ops S o (.agg #[z0, z1, z2, .slice ja jn jc, .slice ka kn kc]) a := by
  refine y_ofG hw fun w _ => ?_
  unfold execOp
  simp only [ho, List.map_toArray, List.map_cons, List.map_nil, hx, hy, hz]
  simp [go_sem]
set_option maxHeartbeats 4000000 in
set_option maxRecDepth 100000 in
theorem cgrow_no (h x : Int) (il sl : Nat) (ia sa : Option Addr) (ic sc : Nat) (w : World) (hne : wrgT h x il sl ≠ 0) :
    Calls Tryd.prog 13 #[.agg #[.int .i64 h, .int .i64 x], .slice ia il ic, .slice sa sl sc] w fun e w' => e = .returned (.tuple #[.agg #[.int .i64 0, .int .i64 0, .slice none 0 0, .slice none 0 0, .slice none 0 0], .int .i64 (wrgT h x il sl)]) ∧ Below w.heap.size w w' := by
  have hf := fun y => cfitT_any h x y
  have bT := Bx2T.new w (.int .i64 h) (.int .i64 x)
  have k0 := keep_alloc w (.cells #[.int .i64 h, .int .i64 x] 29)
  have z0 := BxW.new (w.alloc (.cells #[.int .i64 h, .int .i64 x] 29)) (.int .i64 0) (.int .i64 0) (.slice none 0 0) (.slice none 0 0) (.slice none 0 0)
  rw [World.size_alloc] at z0
  have k1 := keep_trans k0 (keep_alloc _ (.cells #[.int .i64 0, .int .i64 0, .slice none 0 0, .slice none 0 0, .slice none 0 0] 45))
  have bT1 := bT.below (keep_alloc _ (.cells #[.int .i64 0, .int .i64 0, .slice none 0 0, .slice none 0 0, .slice none 0 0] 45))
  by_cases hh : FitL h x
  · rw [decide_eq_true hh] at hf
    have e0 : wrgT h x il sl = if il = 16 ∧ sl = 32 then (if 10 < h then 8 else 0) else 14 := if_pos hh
    rw [e0] at hne ⊢
    clear e0 hh
    by_cases q1 : il = 16
    · by_cases q2 : sl = 32
      · rw [if_pos ⟨q1, q2⟩] at hne ⊢
        by_cases q3 : 10 < h
        · rw [if_pos q3]
          have q1i : ¬ (il : Int) ≠ 16 := by omega
          have q1b : ((il : Int) != 16) = false := by simp; omega
          have q2b : ((sl : Int) != 32) = false := by simp; omega
          clear hne q1 q2 q1i
          go_enter Tryd.func13, Tryd.ntmps13
          go_wp2_with (first
            | (go_at_call 12; refine (hf _).mono ?_; rintro e w1 ⟨rfl, g1⟩; have z1 := z0.below g1; have bT2 := bT1.below g1; have cT := bT2.c0)
            | (refine wpList_store_row rfl 45 _ _ (by rfl) (w.heap.size + 1) #[.int .i64 0, .int .i64 0, .slice none 0 0, .slice none 0 0, .slice none 0 0] (by rfl) (by rfl) _ _ z1.here (by kernel_rfl) rfl (by simp [Value.oneCell']) ?_)
            | fail)
          refine bodyPost_ret (z1.row.ret rfl _ rfl rfl) rfl ⟨rfl, below_setRow (keep_trans k1 g1) (Nat.le_succ _)⟩
        · rw [if_neg q3] at hne
          exact absurd rfl hne
      · rw [if_neg (fun q => q2 q.2)]
        have q1b : ((il : Int) != 16) = false := by simp; omega
        have q2b : ((sl : Int) != 32) = true := by simp; omega
        have q2i : ¬ (sl : Int) = 32 := by omega
        have q1i : (il : Int) = 16 := by omega
        clear hne q1 q2
        go_enter Tryd.func13, Tryd.ntmps13
        go_wp2_with (first
          | (go_at_call 12; refine (hf _).mono ?_; rintro e w1 ⟨rfl, g1⟩; have z1 := z0.below g1)
          | (refine wpList_store_row rfl 45 _ _ (by rfl) (w.heap.size + 1) #[.int .i64 0, .int .i64 0, .slice none 0 0, .slice none 0 0, .slice none 0 0] (by rfl) (by rfl) _ _ z1.here (by kernel_rfl) rfl (by simp [Value.oneCell']) ?_)
          | fail)
        refine bodyPost_ret (z1.row.ret rfl _ rfl rfl) rfl ⟨rfl, below_setRow (keep_trans k1 g1) (Nat.le_succ _)⟩
    · rw [if_neg (fun q => q1 q.1)]
      have q1b : ((il : Int) != 16) = true := by simp; omega
      have q1i : ¬ (il : Int) = 16 := by omega
      clear hne q1
      go_enter Tryd.func13, Tryd.ntmps13
      go_wp2_with (first
        | (go_at_call 12; refine (hf _).mono ?_; rintro e w1 ⟨rfl, g1⟩; have z1 := z0.below g1)
        | (refine wpList_store_row rfl 45 _ _ (by rfl) (w.heap.size + 1) #[.int .i64 0, .int .i64 0, .slice none 0 0, .slice none 0 0, .slice none 0 0] (by rfl) (by rfl) _ _ z1.here (by kernel_rfl) rfl (by simp [Value.oneCell']) ?_)
        | fail)
      refine bodyPost_ret (z1.row.ret rfl _ rfl rfl) rfl ⟨rfl, below_setRow (keep_trans k1 g1) (Nat.le_succ _)⟩
  · rw [decide_eq_false hh] at hf
    have e0 : wrgT h x il sl = 9 := if_neg hh
    rw [e0]
    clear e0 hh hne
    go_enter Tryd.func13, Tryd.ntmps13
    go_wp2_with (first
      | (go_at_call 12; refine (hf _).mono ?_; rintro e w1 ⟨rfl, g1⟩; have z1 := z0.below g1)
      | (refine wpList_store_row rfl 45 _ _ (by rfl) (w.heap.size + 1) #[.int .i64 0, .int .i64 0, .slice none 0 0, .slice none 0 0, .slice none 0 0] (by rfl) (by rfl) _ _ z1.here (by kernel_rfl) rfl (by simp [Value.oneCell']) ?_)
      | fail)
    refine bodyPost_ret (z1.row.ret rfl _ rfl rfl) rfl ⟨rfl, below_setRow (keep_trans k1 g1) (Nat.le_succ _)⟩
def go8lt : List Lt := [(0, some 29, [8]), (0, some 30, [2]), (0, some 31, [8]), (4, some 32, [31]), (8, some 33, [32]), (16, some 34, [33, 33]), (35, some 35, [29, 30, 34]), (127, none, [6, 35]), (255, some 7, [])]
theorem go8reg : Reg (opsA (cLA (cRA (cRA (cRA (cRA (cRA (Tryd.f13.body.getD .skip)))))))) go8lt := ⟨by kernel_rfl, by kernel_rfl⟩
theorem wrgT_zero {h x : Int} {a b : Nat} (hz : wrgT h x a b = 0) : FitL h x ∧ a = 16 ∧ b = 32 ∧ ¬ 10 < h := by
  unfold wrgT at hz
  by_cases h1 : FitL h x
  · rw [if_pos h1] at hz
    by_cases h2 : a = 16 ∧ b = 32
    · rw [if_pos h2] at hz
      by_cases h3 : 10 < h
      · rw [if_pos h3] at hz; omega
      · exact ⟨h1, h2.1, h2.2, h3⟩
    · rw [if_neg h2] at hz; omega
  · rw [if_neg h1] at hz; omega
set_option maxHeartbeats 4000000 in
set_option maxRecDepth 100000 in
theorem cgrower_ok (h : Nat) (x : Int) (ia sa : Option Addr) (ic sc : Nat) (f : Nat → List Nat) (w : World) (hne : wrgT (h : Int) x 16 32 = 0) :
    Calls Tryd.prog 13 #[.agg #[.int .i64 (h : Int), .int .i64 x], .slice ia 16 ic, .slice sa 32 sc] w fun e w' => ∃ H, e = .returned (.tuple #[.agg #[.int .i64 (h : Int), .int .i64 x, .slice ia 16 ic, .slice sa 32 sc, .slice (some ⟨H, 0, none⟩) (2 * 2 ^ h) (2 * 2 ^ h)], .int .i64 0]) ∧ KnP w' H (2 * 2 ^ h) (fun _ => False) f ∧ w.heap.size ≤ H ∧ Below w.heap.size w w' := by
  obtain ⟨hh, _, _, h10⟩ := wrgT_zero hne
  have hf := fun y => cfitT_any (h : Int) x y
  rw [decide_eq_true hh] at hf
  have hlv := fun y => cleaves h (.int .i64 x) (.slice ia 16 ic) y (by omega) ⟨_, rfl⟩ ⟨_, _, _, rfl⟩
  have hM10 := pow_le_1024 (h := h) (by omega)
  obtain ⟨M, hM⟩ : ∃ M, M = 2 ^ h := ⟨_, rfl⟩
  rw [← hM] at hlv hM10 ⊢
  obtain ⟨N, hN⟩ : ∃ N, N = 2 * M := ⟨_, rfl⟩
  rw [← hN]
  have u_N : IntKind.i64.wrap ((2 : Int) * (M : Int)) = (N : Int) := by rw [IntKind.wrap_i64]; omega
  have hN1 : N ≤ 100000 := by omega
  have bT := Bx2T.new w (.int .i64 (h : Int)) (.int .i64 x)
  have k0 := keep_alloc w (.cells #[.int .i64 (h : Int), .int .i64 x] 29)
  have z0 := BxW.new (w.alloc (.cells #[.int .i64 (h : Int), .int .i64 x] 29)) (.int .i64 0) (.int .i64 0) (.slice none 0 0) (.slice none 0 0) (.slice none 0 0)
  rw [World.size_alloc] at z0
  have k1 := keep_trans k0 (keep_alloc _ (.cells #[.int .i64 0, .int .i64 0, .slice none 0 0, .slice none 0 0, .slice none 0 0] 45))
  have bT1 := bT.below (keep_alloc _ (.cells #[.int .i64 0, .int .i64 0, .slice none 0 0, .slice none 0 0, .slice none 0 0] 45))
  clear hM hN hM10 hh hne
  go_enter Tryd.func13, Tryd.ntmps13
  go_wp2_with (first
    | (go_at_call 12; refine (hf _).mono ?_; rintro e w1 ⟨rfl, g1⟩; have z1 := z0.below g1; have bT2 := bT1.below g1; have cT := bT2.c0)
    | (refine wpList_load_row rfl 29 _ (by rfl) w.heap.size (by rfl) _ _ _ _ bT2.here Tryd.underlying29 rfl (by kernel_rfl) ?_)
    | fail)
  have z2 := z1.below (keep_alloc w1 (.cells #[.int .i64 (h : Int), .int .i64 x, .slice ia 16 ic] 43))
  have bd := BxD.new w1 (.int .i64 (h : Int)) (.int .i64 x) (.slice ia 16 ic)
  have k2 := keep_trans (keep_trans k1 g1) (keep_alloc w1 (.cells #[.int .i64 (h : Int), .int .i64 x, .slice ia 16 ic] 43))
  have hw1 : w.heap.size + 1 < w1.heap.size := z1.lt
  generalize hW2 : w1.alloc (.cells #[.int .i64 (h : Int), .int .i64 x, .slice ia 16 ic] 43) = W2 at *
  generalize w1.heap.size = Y at *
  obtain ⟨Z, hZ⟩ : ∃ Z, w.heap.size + 1 = Z := ⟨_, rfl⟩
  rw [hZ] at z1 z2 hw1 ⊢
  have hne : Y ≠ Z := by omega
  have hbd : But Z W2 W2.drew := (But.refl _ _).drew
  have kb : Below W2.heap.size W2 W2.drew := (Below.refl _ _).drew
  refine at_begin (ops := opsA (cLA (cRA (cRA (cRA (cRA (cRA (Tryd.f13.body.getD .skip)))))))) (n := 9) (fun y => But Z W2 y) (by kernel_rfl) (by kernel_rfl) ?_
  refine at_takeD (i := 0) (m' := 1) (d := some 29) (v := .agg #[.int .i64 (h : Int), .int .i64 x, .slice ia 16 ic]) go8reg rfl (by decide) rfl rfl (y_rowG (cs := [.int .i64 (h : Int), .int .i64 x, .slice ia 16 ic]) (wanted_free rfl) rfl rfl Tryd.underlying43 rfl (by kernel_rfl) (fun _ h => (bd.but h hne).range)) hbd ?_
  simp only [Act.put, List.setIfInBounds_toArray, List.set_cons_zero, List.set_cons_succ]
  refine at_takeD (i := 1) (m' := 3) (d := some 30) (v := .slice sa 32 sc) go8reg rfl (by decide) rfl rfl (y_moveG (wanted_free rfl) rfl rfl) hbd ?_
  simp only [Act.put, List.setIfInBounds_toArray, List.set_cons_zero, List.set_cons_succ]
  refine at_takeD (i := 2) (m' := 7) (d := some 31) (v := .agg #[.int .i64 (h : Int), .int .i64 x, .slice ia 16 ic]) go8reg rfl (by decide) rfl rfl (y_rowG (cs := [.int .i64 (h : Int), .int .i64 x, .slice ia 16 ic]) (wanted_free rfl) rfl rfl Tryd.underlying43 rfl (by kernel_rfl) (fun _ h => (bd.but h hne).range)) hbd ?_
  simp only [Act.put, List.setIfInBounds_toArray, List.set_cons_zero, List.set_cons_succ]
  refine at_one (i := 3) (m' := 15) go8reg (by decide) rfl ?_
  refine p_callG (args := #[.agg #[.int .i64 (h : Int), .int .i64 x, .slice ia 16 ic]]) (d := some 32) rfl (wanted_free rfl) rfl (by simp only [List.map_toArray, List.map_cons, List.map_nil]; rfl) rfl Tryd.call31 ((hlv W2.drew).mono ?_)
  rintro e y4 ⟨rfl, g4⟩
  replace kb := keep_trans kb g4
  have hb4 := but_keep hbd g4
  refine ⟨_, rfl, hb4, ?_⟩
  simp only [Act.put, List.setIfInBounds_toArray, List.set_cons_zero, List.set_cons_succ]
  refine at_takeD (i := 4) (m' := 31) (d := some 33) (v := .int .i64 (N : Int)) go8reg rfl (by decide) rfl rfl (y_mulI (wanted_free rfl) rfl rfl rfl Tryd.underlying3 u_N) hb4 ?_
  simp only [Act.put, List.setIfInBounds_toArray, List.set_cons_zero, List.set_cons_succ]
  refine at_one (i := 5) (m' := 63) go8reg (by decide) rfl ?_
  refine p_makeT (d := some 34) rfl (wanted_free rfl) rfl rfl rfl rfl hN1 ?_
  intro z6 xs hown hgb
  have hGH := kb.size
  have hb6 := but_keep hb4 hgb
  replace kb := keep_trans kb hgb
  obtain ⟨GH, hGHe⟩ : ∃ q : Nat, (y4).heap.size = q := ⟨_, rfl⟩
  rw [hGHe] at hown hGH ⊢
  refine ⟨hb6, ?_⟩
  simp only [Act.put, List.setIfInBounds_toArray, List.set_cons_zero, List.set_cons_succ]
  refine at_takeD (i := 6) (m' := 127) (d := some 35) (v := .agg #[.int .i64 (h : Int), .int .i64 x, .slice ia 16 ic, .slice sa 32 sc, .slice (some ⟨GH, 0, none⟩) N N]) go8reg rfl (by decide) rfl rfl (y_buildGr (wanted_free rfl) rfl rfl rfl rfl) hb6 ?_
  simp only [Act.put, List.setIfInBounds_toArray, List.set_cons_zero, List.set_cons_succ]
  refine at_one (i := 7) (m' := 255) go8reg (by decide) rfl ?_
  refine p_rowA (cells := #[.int .i64 (h : Int), .int .i64 x, .slice ia 16 ic, .slice sa 32 sc, .slice (some ⟨GH, 0, none⟩) N N]) rfl rfl rfl rfl rfl rfl ((z2.below kb).here) (by kernel_rfl) rfl (by simp [Value.oneCell']) ?_
  have hb8 := (hb6).setRow #[.int .i64 (h : Int), .int .i64 x, .slice ia 16 ic, .slice sa 32 sc, .slice (some ⟨GH, 0, none⟩) N N]
  refine ⟨hb8, ?_⟩
  refine at_takeD (i := 8) (m' := 511) (d := some 7) (v := .int .i64 0) go8reg rfl (by decide) rfl rfl (y_assignG (wanted_free rfl) rfl rfl) hb8 ?_
  simp only [Act.put, List.setIfInBounds_toArray, List.set_cons_zero, List.set_cons_succ]
  refine at_done go8reg (by decide) ?_
  go_wp2
  have kz := keep_trans k2 kb
  have hHw := kz.size
  refine bodyPost_ret (v := .tuple #[.agg #[.int .i64 (h : Int), .int .i64 x, .slice ia 16 ic, .slice sa 32 sc, .slice (some ⟨GH, 0, none⟩) N N], .int .i64 0]) ((z2.below kb).row.ret rfl _ rfl rfl) rfl ⟨GH, rfl, ?_, ?_, below_setRow kz (by omega)⟩
  · have hk := KnP.made f hown
    obtain ⟨us, q1, q2, _⟩ := hk
    exact ⟨us, q1, (((But.refl Z _).setRow _).block _ (Array.getElem?_eq_some_iff.1 q2).1 (by have := z2.lt; omega)).trans q2, fun j q _ => q.elim⟩
  · have := k2.size; omega
def pu5lt : List Lt := [(0, some 22, [3]), (1, some 23, [22]), (0, some 24, [1]), (0, some 25, [8]), (8, some 26, [25]), (16, some 27, [26]), (32, some 28, [27]), (70, some 29, [23, 24, 28]), (130, some 30, [29]), (511, some 6, [30]), (1023, some 7, [])]
theorem pu5reg : Reg (opsA (cLA (cRA (cRA (cRA (cRA (Tryd.f6.body.getD .skip))))))) pu5lt := ⟨by kernel_rfl, by kernel_rfl⟩
set_option maxHeartbeats 4000000 in
set_option maxRecDepth 100000 in
theorem cpubT_no (h x : Int) (il sl : Nat) (ia sa : Option Addr) (ic sc : Nat) (w : World) (hne : wrgT h x il sl ≠ 0) :
    Calls Tryd.prog 6 #[.agg #[.int .i64 h, .int .i64 x], .slice ia il ic, .slice sa sl sc] w fun e w' => e = .returned (.tuple #[.slice none 0 0, .int .i64 (wrgT h x il sl)]) ∧ Below w.heap.size w w' := by
  have hg := fun y => cgrow_no h x il sl ia sa ic sc y hne
  generalize wrgT h x il sl = E at *
  have hEb : (E != 0) = true := by simp [hne]
  go_enter Tryd.func6, Tryd.ntmps6
  go_wp2_with (first
    | (go_at_call 13; refine (hg _).mono ?_; rintro e w1 ⟨rfl, g1⟩)
    | fail)
  go_ret2
  exact ⟨rfl, keep_trans (keep_trans (keep_alloc _ _) g1) (keep_alloc _ _)⟩
set_option maxHeartbeats 8000000 in
set_option maxRecDepth 100000 in
theorem cpubT_ok {k n m s c : Nat} (hk : Kd k n m s c) (h : Nat) (id seed : List Nat) (idv sv : Value) (w : World) (hT : Roots w) (ri : Row .u8 256 w idv id) (ti : Tidy idv) (rs : Row .u8 256 w sv seed) (ts : Tidy sv) (hil : id.length = 16) (hsl : seed.length = 32) (hne : wrgT (h : Int) (k : Int) 16 32 = 0) :
    Calls Tryd.prog 6 #[.agg #[.int .i64 (h : Int), .int .i64 (k : Int)], idv, sv] w fun e w' => ∃ v, e = .returned (.tuple #[v, .int .i64 0]) ∧ Own 5 .u8 256 w' w.heap.size v ((be4 (lmCode h) ++ be4 c) ++ (id ++ knT k n m h id seed 1)) ∧ Below w.heap.size w w' := by
  obtain ⟨hfit, _, _, h10⟩ := wrgT_zero hne
  have hp := hfit.pos
  obtain ⟨ia, ic, rfl, _⟩ := ri.opens hil
  obtain ⟨sa, sc, rfl, _⟩ := rs.opens hsl
  have hg := fun y => cgrower_ok h (k : Int) ia sa ic sc (knT k n m h id seed) y hne
  have hgw := fun y H (kv : Below w.heap.size w y) (hv : w.heap.size ≤ H) kp => cgrow_any hk h H id seed _ _ w y hT (by omega) (by omega) ri ti hil rs ts hsl kv hv kp
  have hco := fun y => ccodes_any (h : Int) (k : Int) y
  rw [wdC_kd hk] at hco
  have hMp := Nat.two_pow_pos h
  have hN1 : 1 < 2 * 2 ^ h := by omega
  have htl := knT_len k n m h id seed 1
  have hfl : [be4 (lmCode h) ++ be4 c, id, knT k n m h id seed 1].flatten = (be4 (lmCode h) ++ be4 c) ++ (id ++ knT k n m h id seed 1) := by simp
  have hj := fun y v (r : Rows2 y v [be4 (lmCode h) ++ be4 c, id, knT k n m h id seed 1]) => join_any v _ y r (by simp only [List.flatten_cons, List.flatten_nil, List.length_append, List.append_nil, be4_len]; omega)
  rw [hfl] at hj
  have hcl : (be4 (lmCode h) ++ be4 c).length = 8 := by rw [List.length_append, be4_len, be4_len]
  have hol : ((be4 (lmCode h) ++ be4 c) ++ (id ++ knT k n m h id seed 1)).length = 56 := by simp only [List.length_append, be4_len]; omega
  generalize be4 (lmCode h) ++ be4 c = CD at *
  generalize hJ : CD ++ (id ++ knT k n m h id seed 1) = JN at *
  generalize knT k n m h id seed = f at *
  obtain ⟨N, hN⟩ : ∃ N, N = 2 * 2 ^ h := ⟨_, rfl⟩
  rw [← hN] at hg hgw hN1
  obtain ⟨i0, hi0, hz0, hz1, hz2⟩ := info_text
  have bT := Bx2T.new w (.int .i64 (h : Int)) (.int .i64 (k : Int))
  have k0 := keep_alloc w (.cells #[.int .i64 (h : Int), .int .i64 (k : Int)] 29)
  have hHid := hide hJ
  clear hJ hN hMp hfit hp hne hfl h10
  go_enter Tryd.func6, Tryd.ntmps6
  go_wp2_with (first
    | (go_at_call 13; refine (hg _).mono ?_; rintro e w1 ⟨H, rfl, kp, hH, g1⟩; have kp1 := kp.below (keep_alloc w1 (.cells #[.int .i64 (h : Int), .int .i64 (k : Int), .slice ia 16 ic, .slice sa 32 sc, .slice (some ⟨H, 0, none⟩) N N] 45)); have k1 := keep_trans (keep_trans k0 g1) (keep_alloc w1 (.cells #[.int .i64 (h : Int), .int .i64 (k : Int), .slice ia 16 ic, .slice sa 32 sc, .slice (some ⟨H, 0, none⟩) N N] 45)); have bg := BxW.new w1 (.int .i64 (h : Int)) (.int .i64 (k : Int)) (.slice ia 16 ic) (.slice sa 32 sc) (.slice (some ⟨H, 0, none⟩) N N); have bT1 := (bT.below g1).below (keep_alloc w1 (.cells #[.int .i64 (h : Int), .int .i64 (k : Int), .slice ia 16 ic, .slice sa 32 sc, .slice (some ⟨H, 0, none⟩) N N] 45)); have hH2 : w.heap.size < H := (by rw [World.size_alloc] at hH; omega); have hwH : w.heap.size ≠ H := (by omega); have hHl : w1.heap.size ≠ H := (by have := kp.lt; omega))
    | (go_at_call 14; refine (hgw _ H k1 (Nat.le_of_lt hH2) kp1).mono ?_; rintro e w3 ⟨rfl, b3, kp3⟩)
    | fail)
  have bg3 := bg.but b3 hHl
  have bT3 := bT1.but b3 hwH
  have k3 : Below w.heap.size w w3 := k1.trans (b3.below (Nat.le_of_lt hH2) k1.size)
  obtain ⟨tv, ct, rt, tt, _⟩ := kp3.cell (j := 1) (Nat.le_refl _) hN1
  obtain ⟨ta, tc, rfl, _⟩ := rt.opens htl
  have ri3 := ri.below k3
  generalize w1.heap.size = Y at *
  have hbd : Below w3.heap.size w3 w3.drew := (Below.refl _ _).drew
  refine at_begin (ops := opsA (cLA (cRA (cRA (cRA (cRA (Tryd.f6.body.getD .skip))))))) (n := 11) (fun y => Below w3.heap.size w3 y) (by kernel_rfl) (by kernel_rfl) ?_
  refine at_takeD (i := 0) (m' := 1) (d := some 22) (v := .agg #[.int .i64 (h : Int), .int .i64 (k : Int)]) pu5reg rfl (by decide) rfl rfl (y_rowG (cs := [.int .i64 (h : Int), .int .i64 (k : Int)]) (wanted_free rfl) rfl rfl Tryd.underlying29 rfl (by kernel_rfl) (fun _ h => (bT3.below h).range)) hbd ?_
  simp only [Act.put, List.setIfInBounds_toArray, List.set_cons_zero, List.set_cons_succ]
  refine at_takeD (i := 2) (m' := 5) (d := some 24) (v := .slice ia 16 ic) pu5reg rfl (by decide) rfl rfl (y_moveG (wanted_free rfl) rfl rfl) hbd ?_
  simp only [Act.put, List.setIfInBounds_toArray, List.set_cons_zero, List.set_cons_succ]
  refine at_takeD (i := 3) (m' := 13) (d := some 25) (v := .pointer (some ⟨Y, 4, none⟩)) pu5reg rfl (by decide) rfl rfl (y_fieldG (wanted_free rfl) rfl rfl (fun w => by simp [go_sem])) hbd ?_
  simp only [Act.put, List.setIfInBounds_toArray, List.set_cons_zero, List.set_cons_succ]
  refine at_takeD (i := 4) (m' := 29) (d := some 26) (v := .slice (some ⟨H, 0, none⟩) N N) pu5reg rfl (by decide) rfl rfl (y_plainG (wanted_free rfl) rfl rfl Tryd.underlying40 rfl (fun _ h => (bg3.below h).c4)) hbd ?_
  simp only [Act.put, List.setIfInBounds_toArray, List.set_cons_zero, List.set_cons_succ]
  refine at_takeD (i := 5) (m' := 61) (d := some 27) (v := .pointer (some ⟨H, 1, none⟩)) pu5reg rfl (by decide) rfl rfl (y_ix0 (wanted_free rfl) rfl rfl rfl Tryd.underlying40 (by kernel_rfl) hN1) hbd ?_
  simp only [Act.put, List.setIfInBounds_toArray, List.set_cons_zero, List.set_cons_succ]
  refine at_takeD (i := 6) (m' := 125) (d := some 28) (v := .slice ta 32 tc) pu5reg rfl (by decide) rfl rfl (y_plainG (wanted_free rfl) rfl rfl Tryd.underlying25 rfl (fun _ h => keep_cell ct h)) hbd ?_
  simp only [Act.put, List.setIfInBounds_toArray, List.set_cons_zero, List.set_cons_succ]
  refine at_one (i := 1) (m' := 127) pu5reg (by decide) rfl ?_
  refine p_callG (args := #[.agg #[.int .i64 (h : Int), .int .i64 (k : Int)]]) (d := some 23) rfl (wanted_free rfl) rfl (by simp only [List.map_toArray, List.map_cons, List.map_nil]; rfl) rfl Tryd.call16 ((hco w3.drew).mono ?_)
  rintro e y7 ⟨cv, rfl, oc, g7⟩
  have rc := oc.row
  have tcd := oc.tidy
  obtain ⟨ca, cc, rfl, _⟩ := oc.row.opens hcl
  have hb7 := keep_trans hbd g7
  refine ⟨_, rfl, hb7, ?_⟩
  simp only [Act.put, List.setIfInBounds_toArray, List.set_cons_zero, List.set_cons_succ]
  refine at_one (i := 7) (m' := 255) pu5reg (by decide) rfl ?_
  refine p_b3 (d := some 29) rfl (wanted_free rfl) rfl rfl rfl rfl rfl Tryd.underlying40 hi0 hz1 hz0 ?_
  have rr := fun hB => rows_litL (B := (y7).heap.size) (k := 3) (texts_cons rc tcd (texts_cons (ri3.below hb7) ti (texts_cons (rt.below hb7) tt (Texts.nil _)))) hB rfl (by decide)
  replace rr := rr rfl
  obtain ⟨Gq8, hGq8⟩ : ∃ q : Nat, (y7).heap.size = q := ⟨_, rfl⟩
  obtain ⟨z8, hz8⟩ : ∃ z : World, z = (y7).alloc (.cells #[.slice ca 8 cc, .slice ia 16 ic, .slice ta 32 tc] 25) := ⟨_, rfl⟩
  have kz8 : Below (y7).heap.size y7 z8 := by rw [hz8]; exact keep_alloc _ _
  have hb8 := keep_trans hb7 kz8
  rw [← hz8] at rr ⊢
  rw [hGq8] at rr ⊢
  clear hz8 hGq8
  refine ⟨hb8, ?_⟩
  simp only [Act.put, List.setIfInBounds_toArray, List.set_cons_zero, List.set_cons_succ]
  refine at_one (i := 8) (m' := 511) pu5reg (by decide) rfl ?_
  refine p_callG (args := #[.slice (some ⟨Gq8, 0, none⟩) 3 3]) (d := some 30) rfl (wanted_free rfl) rfl (by simp only [List.map_toArray, List.map_cons, List.map_nil]; rfl) rfl Tryd.call15 ((hj z8 _ rr).mono ?_)
  rintro e y9 ⟨jv, rfl, oj, g9⟩
  have kpre := hb8
  obtain ⟨ja, jc, rfl, _⟩ := oj.row.opens hol
  have hb9 := keep_trans hb8 g9
  refine ⟨_, rfl, hb9, ?_⟩
  simp only [Act.put, List.setIfInBounds_toArray, List.set_cons_zero, List.set_cons_succ]
  refine at_takeD (i := 9) (m' := 1023) (d := some 6) (v := .slice ja 56 jc) pu5reg rfl (by decide) rfl rfl (y_assignG (wanted_free rfl) rfl rfl) hb9 ?_
  simp only [Act.put, List.setIfInBounds_toArray, List.set_cons_zero, List.set_cons_succ]
  refine at_takeD (i := 10) (m' := 2047) (d := some 7) (v := .int .i64 0) pu5reg rfl (by decide) rfl rfl (y_assignG (wanted_free rfl) rfl rfl) hb9 ?_
  simp only [Act.put, List.setIfInBounds_toArray, List.set_cons_zero, List.set_cons_succ]
  refine at_done pu5reg (by decide) ?_
  go_wp2
  go_ret2
  exact ⟨_, rfl, oj.mono (keep_trans k3 kpre).size, keep_trans k3 hb9⟩
end Go.Proofs.YtefndnbaifiboaaDoor
