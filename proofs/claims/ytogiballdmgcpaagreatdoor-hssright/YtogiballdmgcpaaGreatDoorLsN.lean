/- Trees of leaves that sign once, the program's own: growerOf, Public. -/
import Derived.Test.YtogiballdmgcpaaGreatDoorLsM
import Derived.Test.YtogiballdmgcpaaGreatDoorLhA
import Derived.Test.YtogiballdmgcpaaGreatDoorLcL
namespace Go.Proofs.YtogiballdmgcpaaGreatDoor
open Go.RowKit Go.Shelf
set_option linter.unusedVariables false
set_option linter.unusedSimpArgs false

/-- a slice of n texts that are not there yet -/
theorem p_makeT {ops : Array Oper} {Q : Exit → Act → World → Prop} {K : Act → World → Prop} {i : Nat} {o : Oper} {a : Act} {w : World} {n : Nat} {x y : Operand} {d : Option Nat} (hi : ops[i]? = some o) (hw : Region.wanted o (yielded ops a.tmps) = true) (ho : o.op = .makeSlice 48 x y) (hx : a.eval x = .int .i64 (n : Int)) (hy : a.eval y = .int .i64 (n : Int)) (hd : o.dst = d) (hn : n ≤ 100000)
    (h : ∀ w' xs, w'.ownsRow w.heap.size 23 1 (.slice (some ⟨w.heap.size, 0, none⟩) n n) n xs → Below w.heap.size w w' → K (a.put d (.slice (some ⟨w.heap.size, 0, none⟩) n n)) w') : wpOp Tryz.prog ops Q i K a w := by
  obtain ⟨i0, hi0, hz0, hz1, hz2⟩ := info_text
  obtain ⟨w', hrun, r1, r2⟩ := run_make_full (P := Tryz.prog) w w.heap.size 48 23 i0 (.slice none 0 0) 1 Tryz.underlying48 hi0 hz0 hz1 .i64 .i64 n (by rw [hz2]; omega) (by unfold maxLen; omega) (Nat.le_refl _)
  have hb := (Below.refl w.heap.size w).grown r2 (Nat.le_refl _) (fun k h => by cases h)
  have hr : (execOp a.eval o).run Tryz.prog w = .ok (.value (.slice (some ⟨w.heap.size, 0, none⟩) n n)) w' := by
    unfold execOp
    simp only [ho, hx, hy]
    simp [hrun, Sem.run_bind]
  unfold wpOp
  simp only [hi]
  rw [if_pos hw]
  left
  unfold Oper.wp
  rw [hr]
  show K (a.put o.dst _) _
  rw [hd]
  exact h w' _ r1 hb
theorem y_buildGr {ops : Array Oper} {S : World → Prop} {o : Oper} {a : Act} {x y z : Operand} {z0 z1 z2 : Value} {ja ka : Option Addr} {jn jc kn kc : Nat} (hw : Region.wanted o (yielded ops a.tmps) = true) (ho : o.op = .build 107 #[(0, x), (1, y), (2, z)]) (hx : a.eval x = .agg #[z0, z1, z2]) (hy : a.eval y = .slice ja jn jc) (hz : a.eval z = .slice ka kn kc) : YieldsIf Tryz.prog ops S o (.agg #[z0, z1, z2, .slice ja jn jc, .slice ka kn kc]) a := by
  refine y_ofG hw fun w _ => ?_
  unfold execOp
  simp only [ho, List.map_toArray, List.map_cons, List.map_nil, hx, hy, hz]
  simp [go_sem]
def go8lt : List Lt := [(0, some 29, [8]), (0, some 30, [2]), (0, some 31, [8]), (4, some 32, [31]), (8, some 33, [32]), (16, some 34, [33, 33]), (35, some 35, [29, 30, 34]), (127, none, [6, 35]), (255, some 7, [])]
theorem go8reg : Reg (opsA (cLA (cRA (cRA (cRA (cRA (cRA (Tryz.f74.body.getD .skip)))))))) go8lt := ⟨by kernel_rfl, by kernel_rfl⟩
theorem wrgT_zero {h x : Int} {a b : Nat} (hz : wrgT h x a b = 0) : FitL h x ∧ a = 16 ∧ b = 32 ∧ ¬ 10 < h := by
  unfold wrgT at hz
  by_cases h1 : FitL h x
  · rw [if_pos h1] at hz
    by_cases h2 : a = 16 ∧ b = 32
    · rw [if_pos h2] at hz
      by_cases h3 : 10 < h
      · rw [if_pos h3] at hz; omega
      · exact ⟨h1, h2.1, h2.2, h3⟩
    · rw [if_neg h2] at hz; omega
  · rw [if_neg h1] at hz; omega
set_option maxHeartbeats 4000000 in
set_option maxRecDepth 100000 in
theorem cgrower_ok (h : Nat) (x : Int) (ia sa : Option Addr) (ic sc : Nat) (f : Nat → List Nat) (w : World) (hne : wrgT (h : Int) x 16 32 = 0) :
    Calls Tryz.prog 74 #[.agg #[.int .i64 (h : Int), .int .i64 x], .slice ia 16 ic, .slice sa 32 sc] w fun e w' => ∃ H, e = .returned (.tuple #[.agg #[.int .i64 (h : Int), .int .i64 x, .slice ia 16 ic, .slice sa 32 sc, .slice (some ⟨H, 0, none⟩) (2 * 2 ^ h) (2 * 2 ^ h)], .int .i64 0]) ∧ KnP w' H (2 * 2 ^ h) (fun _ => False) f ∧ w.heap.size ≤ H ∧ Below w.heap.size w w' := by
  obtain ⟨hh, _, _, h10⟩ := wrgT_zero hne
  have hf := fun y => cfitT_any (h : Int) x y
  rw [decide_eq_true hh] at hf
  have hlv := fun y => cleaves h (.int .i64 x) (.slice ia 16 ic) y (by omega) ⟨_, rfl⟩ ⟨_, _, _, rfl⟩
  have hM10 := pow_le_1024 (h := h) (by omega)
  obtain ⟨M, hM⟩ : ∃ M, M = 2 ^ h := ⟨_, rfl⟩
  rw [← hM] at hlv hM10 ⊢
  obtain ⟨N, hN⟩ : ∃ N, N = 2 * M := ⟨_, rfl⟩
  rw [← hN]
  have u_N : IntKind.i64.wrap ((2 : Int) * (M : Int)) = (N : Int) := by rw [IntKind.wrap_i64]; omega
  have hN1 : N ≤ 100000 := by omega
  have bT := Bx2T.new w (.int .i64 (h : Int)) (.int .i64 x)
  have k0 := keep_alloc w (.cells #[.int .i64 (h : Int), .int .i64 x] 45)
  have z0 := BxW.new (w.alloc (.cells #[.int .i64 (h : Int), .int .i64 x] 45)) (.int .i64 0) (.int .i64 0) (.slice none 0 0) (.slice none 0 0) (.slice none 0 0)
  rw [World.size_alloc] at z0
  have k1 := keep_trans k0 (keep_alloc _ (.cells #[.int .i64 0, .int .i64 0, .slice none 0 0, .slice none 0 0, .slice none 0 0] 107))
  have bT1 := bT.below (keep_alloc _ (.cells #[.int .i64 0, .int .i64 0, .slice none 0 0, .slice none 0 0, .slice none 0 0] 107))
  clear hM hN hM10 hh hne
  go_enter Tryz.func74, Tryz.ntmps74
  go_wp2_with (first
    | (go_at_call 41; refine (hf _).mono ?_; rintro e w1 ⟨rfl, g1⟩; have z1 := z0.below g1; have bT2 := bT1.below g1; have cT := bT2.c0)
    | (refine wpList_load_row rfl 45 _ (by rfl) w.heap.size (by rfl) _ _ _ _ bT2.here Tryz.underlying45 rfl (by kernel_rfl) ?_)
    | fail)
  have z2 := z1.below (keep_alloc w1 (.cells #[.int .i64 (h : Int), .int .i64 x, .slice ia 16 ic] 96))
  have bd := BxD.new w1 (.int .i64 (h : Int)) (.int .i64 x) (.slice ia 16 ic)
  have k2 := keep_trans (keep_trans k1 g1) (keep_alloc w1 (.cells #[.int .i64 (h : Int), .int .i64 x, .slice ia 16 ic] 96))
  have hw1 : w.heap.size + 1 < w1.heap.size := z1.lt
  generalize hW2 : w1.alloc (.cells #[.int .i64 (h : Int), .int .i64 x, .slice ia 16 ic] 96) = W2 at *
  generalize w1.heap.size = Y at *
  obtain ⟨Z, hZ⟩ : ∃ Z, w.heap.size + 1 = Z := ⟨_, rfl⟩
  rw [hZ] at z1 z2 hw1 ⊢
  have hne : Y ≠ Z := by omega
  have hbd : But Z W2 W2.drew := (But.refl _ _).drew
  have kb : Below W2.heap.size W2 W2.drew := (Below.refl _ _).drew
  refine at_begin (ops := opsA (cLA (cRA (cRA (cRA (cRA (cRA (Tryz.f74.body.getD .skip)))))))) (n := 9) (fun y => But Z W2 y) (by kernel_rfl) (by kernel_rfl) ?_
  refine at_takeD (i := 0) (m' := 1) (d := some 29) (v := .agg #[.int .i64 (h : Int), .int .i64 x, .slice ia 16 ic]) go8reg rfl (by decide) rfl rfl (y_rowG (cs := [.int .i64 (h : Int), .int .i64 x, .slice ia 16 ic]) (wanted_free rfl) rfl rfl Tryz.underlying96 rfl (by kernel_rfl) (fun _ h => (bd.but h hne).range)) hbd ?_
  simp only [Act.put, List.setIfInBounds_toArray, List.set_cons_zero, List.set_cons_succ]
  refine at_takeD (i := 1) (m' := 3) (d := some 30) (v := .slice sa 32 sc) go8reg rfl (by decide) rfl rfl (y_moveG (wanted_free rfl) rfl rfl) hbd ?_
  simp only [Act.put, List.setIfInBounds_toArray, List.set_cons_zero, List.set_cons_succ]
  refine at_takeD (i := 2) (m' := 7) (d := some 31) (v := .agg #[.int .i64 (h : Int), .int .i64 x, .slice ia 16 ic]) go8reg rfl (by decide) rfl rfl (y_rowG (cs := [.int .i64 (h : Int), .int .i64 x, .slice ia 16 ic]) (wanted_free rfl) rfl rfl Tryz.underlying96 rfl (by kernel_rfl) (fun _ h => (bd.but h hne).range)) hbd ?_
  simp only [Act.put, List.setIfInBounds_toArray, List.set_cons_zero, List.set_cons_succ]
  refine at_one (i := 3) (m' := 15) go8reg (by decide) rfl ?_
  refine p_callG (args := #[.agg #[.int .i64 (h : Int), .int .i64 x, .slice ia 16 ic]]) (d := some 32) rfl (wanted_free rfl) rfl (by simp only [List.map_toArray, List.map_cons, List.map_nil]; rfl) rfl Tryz.call90 ((hlv W2.drew).mono ?_)
  rintro e y4 ⟨rfl, g4⟩
  replace kb := keep_trans kb g4
  have hb4 := but_keep hbd g4
  refine ⟨_, rfl, hb4, ?_⟩
  simp only [Act.put, List.setIfInBounds_toArray, List.set_cons_zero, List.set_cons_succ]
  refine at_takeD (i := 4) (m' := 31) (d := some 33) (v := .int .i64 (N : Int)) go8reg rfl (by decide) rfl rfl (y_mulI (wanted_free rfl) rfl rfl rfl Tryz.underlying3 u_N) hb4 ?_
  simp only [Act.put, List.setIfInBounds_toArray, List.set_cons_zero, List.set_cons_succ]
  refine at_one (i := 5) (m' := 63) go8reg (by decide) rfl ?_
  refine p_makeT (d := some 34) rfl (wanted_free rfl) rfl rfl rfl rfl hN1 ?_
  intro z6 xs hown hgb
  have hGH := kb.size
  have hb6 := but_keep hb4 hgb
  replace kb := keep_trans kb hgb
  obtain ⟨GH, hGHe⟩ : ∃ q : Nat, (y4).heap.size = q := ⟨_, rfl⟩
  rw [hGHe] at hown hGH ⊢
  refine ⟨hb6, ?_⟩
  simp only [Act.put, List.setIfInBounds_toArray, List.set_cons_zero, List.set_cons_succ]
  refine at_takeD (i := 6) (m' := 127) (d := some 35) (v := .agg #[.int .i64 (h : Int), .int .i64 x, .slice ia 16 ic, .slice sa 32 sc, .slice (some ⟨GH, 0, none⟩) N N]) go8reg rfl (by decide) rfl rfl (y_buildGr (wanted_free rfl) rfl rfl rfl rfl) hb6 ?_
  simp only [Act.put, List.setIfInBounds_toArray, List.set_cons_zero, List.set_cons_succ]
  refine at_one (i := 7) (m' := 255) go8reg (by decide) rfl ?_
  refine p_rowA (cells := #[.int .i64 (h : Int), .int .i64 x, .slice ia 16 ic, .slice sa 32 sc, .slice (some ⟨GH, 0, none⟩) N N]) rfl rfl rfl rfl rfl rfl ((z2.below kb).here) (by kernel_rfl) rfl (by simp [Value.oneCell']) ?_
  have hb8 := (hb6).setRow #[.int .i64 (h : Int), .int .i64 x, .slice ia 16 ic, .slice sa 32 sc, .slice (some ⟨GH, 0, none⟩) N N]
  refine ⟨hb8, ?_⟩
  refine at_takeD (i := 8) (m' := 511) (d := some 7) (v := .int .i64 0) go8reg rfl (by decide) rfl rfl (y_assignG (wanted_free rfl) rfl rfl) hb8 ?_
  simp only [Act.put, List.setIfInBounds_toArray, List.set_cons_zero, List.set_cons_succ]
  refine at_done go8reg (by decide) ?_
  go_wp2
  have kz := keep_trans k2 kb
  have hHw := kz.size
  refine bodyPost_ret (v := .tuple #[.agg #[.int .i64 (h : Int), .int .i64 x, .slice ia 16 ic, .slice sa 32 sc, .slice (some ⟨GH, 0, none⟩) N N], .int .i64 0]) ((z2.below kb).row.ret rfl _ rfl rfl) rfl ⟨GH, rfl, ?_, ?_, below_setRow kz (by omega)⟩
  · have hk := KnP.made f hown
    obtain ⟨us, q1, q2, _⟩ := hk
    exact ⟨us, q1, (((But.refl Z _).setRow _).block _ (Array.getElem?_eq_some_iff.1 q2).1 (by have := z2.lt; omega)).trans q2, fun j q _ => q.elim⟩
  · have := k2.size; omega
def pu5lt : List Lt := [(0, some 22, [3]), (1, some 23, [22]), (0, some 24, [1]), (0, some 25, [8]), (8, some 26, [25]), (16, some 27, [26]), (32, some 28, [27]), (70, some 29, [23, 24, 28]), (130, some 30, [29]), (511, some 6, [30]), (1023, some 7, [])]
theorem pu5reg : Reg (opsA (cLA (cRA (cRA (cRA (cRA (Tryz.f45.body.getD .skip))))))) pu5lt := ⟨by kernel_rfl, by kernel_rfl⟩
set_option maxHeartbeats 8000000 in
set_option maxRecDepth 100000 in
theorem cpubT_ok {k n m s c : Nat} (hk : Kd k n m s c) (h : Nat) (id seed : List Nat) (idv sv : Value) (w : World) (hT : Roots w) (ri : Row .u8 256 w idv id) (ti : Tidy idv) (rs : Row .u8 256 w sv seed) (ts : Tidy sv) (hil : id.length = 16) (hsl : seed.length = 32) (hne : wrgT (h : Int) (k : Int) 16 32 = 0) :
    Calls Tryz.prog 45 #[.agg #[.int .i64 (h : Int), .int .i64 (k : Int)], idv, sv] w fun e w' => ∃ v, e = .returned (.tuple #[v, .int .i64 0]) ∧ Own 5 .u8 256 w' w.heap.size v ((be4 (lmCode h) ++ be4 c) ++ (id ++ knT k n m h id seed 1)) ∧ Below w.heap.size w w' := by
  obtain ⟨hfit, _, _, h10⟩ := wrgT_zero hne
  have hp := hfit.pos
  obtain ⟨ia, ic, rfl, _⟩ := ri.opens hil
  obtain ⟨sa, sc, rfl, _⟩ := rs.opens hsl
  have hg := fun y => cgrower_ok h (k : Int) ia sa ic sc (knT k n m h id seed) y hne
  have hgw := fun y H (kv : Below w.heap.size w y) (hv : w.heap.size ≤ H) kp => cgrow_any hk h H id seed _ _ w y hT (by omega) (by omega) ri ti hil rs ts hsl kv hv kp
  have hco := fun y => ccodes_any (h : Int) (k : Int) y
  rw [wdC_kd hk] at hco
  have hMp := Nat.two_pow_pos h
  have hN1 : 1 < 2 * 2 ^ h := by omega
  have htl := knT_len k n m h id seed 1
  have hfl : [be4 (lmCode h) ++ be4 c, id, knT k n m h id seed 1].flatten = (be4 (lmCode h) ++ be4 c) ++ (id ++ knT k n m h id seed 1) := by simp
  have hj := fun y v (r : Rows2 y v [be4 (lmCode h) ++ be4 c, id, knT k n m h id seed 1]) => join_any v _ y r (by simp only [List.flatten_cons, List.flatten_nil, List.length_append, List.append_nil, be4_len]; omega)
  rw [hfl] at hj
  have hcl : (be4 (lmCode h) ++ be4 c).length = 8 := by rw [List.length_append, be4_len, be4_len]
  have hol : ((be4 (lmCode h) ++ be4 c) ++ (id ++ knT k n m h id seed 1)).length = 56 := by simp only [List.length_append, be4_len]; omega
  generalize be4 (lmCode h) ++ be4 c = CD at *
  generalize hJ : CD ++ (id ++ knT k n m h id seed 1) = JN at *
  generalize knT k n m h id seed = f at *
  obtain ⟨N, hN⟩ : ∃ N, N = 2 * 2 ^ h := ⟨_, rfl⟩
  rw [← hN] at hg hgw hN1
  obtain ⟨i0, hi0, hz0, hz1, hz2⟩ := info_text
  have bT := Bx2T.new w (.int .i64 (h : Int)) (.int .i64 (k : Int))
  have k0 := keep_alloc w (.cells #[.int .i64 (h : Int), .int .i64 (k : Int)] 45)
  have hHid := hide hJ
  clear hJ hN hMp hfit hp hne hfl h10
  go_enter Tryz.func45, Tryz.ntmps45
  go_wp2_with (first
    | (go_at_call 74; refine (hg _).mono ?_; rintro e w1 ⟨H, rfl, kp, hH, g1⟩; have kp1 := kp.below (keep_alloc w1 (.cells #[.int .i64 (h : Int), .int .i64 (k : Int), .slice ia 16 ic, .slice sa 32 sc, .slice (some ⟨H, 0, none⟩) N N] 107)); have k1 := keep_trans (keep_trans k0 g1) (keep_alloc w1 (.cells #[.int .i64 (h : Int), .int .i64 (k : Int), .slice ia 16 ic, .slice sa 32 sc, .slice (some ⟨H, 0, none⟩) N N] 107)); have bg := BxW.new w1 (.int .i64 (h : Int)) (.int .i64 (k : Int)) (.slice ia 16 ic) (.slice sa 32 sc) (.slice (some ⟨H, 0, none⟩) N N); have bT1 := (bT.below g1).below (keep_alloc w1 (.cells #[.int .i64 (h : Int), .int .i64 (k : Int), .slice ia 16 ic, .slice sa 32 sc, .slice (some ⟨H, 0, none⟩) N N] 107)); have hH2 : w.heap.size < H := (by rw [World.size_alloc] at hH; omega); have hwH : w.heap.size ≠ H := (by omega); have hHl : w1.heap.size ≠ H := (by have := kp.lt; omega))
    | (go_at_call 75; refine (hgw _ H k1 (Nat.le_of_lt hH2) kp1).mono ?_; rintro e w3 ⟨rfl, b3, kp3⟩)
    | fail)
  have bg3 := bg.but b3 hHl
  have bT3 := bT1.but b3 hwH
  have k3 : Below w.heap.size w w3 := k1.trans (b3.below (Nat.le_of_lt hH2) k1.size)
  obtain ⟨tv, ct, rt, tt, _⟩ := kp3.cell (j := 1) (Nat.le_refl _) hN1
  obtain ⟨ta, tc, rfl, _⟩ := rt.opens htl
  have ri3 := ri.below k3
  generalize w1.heap.size = Y at *
  have hbd : Below w3.heap.size w3 w3.drew := (Below.refl _ _).drew
  refine at_begin (ops := opsA (cLA (cRA (cRA (cRA (cRA (Tryz.f45.body.getD .skip))))))) (n := 11) (fun y => Below w3.heap.size w3 y) (by kernel_rfl) (by kernel_rfl) ?_
  refine at_takeD (i := 0) (m' := 1) (d := some 22) (v := .agg #[.int .i64 (h : Int), .int .i64 (k : Int)]) pu5reg rfl (by decide) rfl rfl (y_rowG (cs := [.int .i64 (h : Int), .int .i64 (k : Int)]) (wanted_free rfl) rfl rfl Tryz.underlying45 rfl (by kernel_rfl) (fun _ h => (bT3.below h).range)) hbd ?_
  simp only [Act.put, List.setIfInBounds_toArray, List.set_cons_zero, List.set_cons_succ]
  refine at_takeD (i := 2) (m' := 5) (d := some 24) (v := .slice ia 16 ic) pu5reg rfl (by decide) rfl rfl (y_moveG (wanted_free rfl) rfl rfl) hbd ?_
  simp only [Act.put, List.setIfInBounds_toArray, List.set_cons_zero, List.set_cons_succ]
  refine at_takeD (i := 3) (m' := 13) (d := some 25) (v := .pointer (some ⟨Y, 4, none⟩)) pu5reg rfl (by decide) rfl rfl (y_fieldG (wanted_free rfl) rfl rfl (fun w => by simp [go_sem])) hbd ?_
  simp only [Act.put, List.setIfInBounds_toArray, List.set_cons_zero, List.set_cons_succ]
  refine at_takeD (i := 4) (m' := 29) (d := some 26) (v := .slice (some ⟨H, 0, none⟩) N N) pu5reg rfl (by decide) rfl rfl (y_plainG (wanted_free rfl) rfl rfl Tryz.underlying48 rfl (fun _ h => (bg3.below h).c4)) hbd ?_
  simp only [Act.put, List.setIfInBounds_toArray, List.set_cons_zero, List.set_cons_succ]
  refine at_takeD (i := 5) (m' := 61) (d := some 27) (v := .pointer (some ⟨H, 1, none⟩)) pu5reg rfl (by decide) rfl rfl (y_ix0 (wanted_free rfl) rfl rfl rfl Tryz.underlying48 (by kernel_rfl) hN1) hbd ?_
  simp only [Act.put, List.setIfInBounds_toArray, List.set_cons_zero, List.set_cons_succ]
  refine at_takeD (i := 6) (m' := 125) (d := some 28) (v := .slice ta 32 tc) pu5reg rfl (by decide) rfl rfl (y_plainG (wanted_free rfl) rfl rfl Tryz.underlying23 rfl (fun _ h => keep_cell ct h)) hbd ?_
  simp only [Act.put, List.setIfInBounds_toArray, List.set_cons_zero, List.set_cons_succ]
  refine at_one (i := 1) (m' := 127) pu5reg (by decide) rfl ?_
  refine p_callG (args := #[.agg #[.int .i64 (h : Int), .int .i64 (k : Int)]]) (d := some 23) rfl (wanted_free rfl) rfl (by simp only [List.map_toArray, List.map_cons, List.map_nil]; rfl) rfl Tryz.call76 ((hco w3.drew).mono ?_)
  rintro e y7 ⟨cv, rfl, oc, g7⟩
  have rc := oc.row
  have tcd := oc.tidy
  obtain ⟨ca, cc, rfl, _⟩ := oc.row.opens hcl
  have hb7 := keep_trans hbd g7
  refine ⟨_, rfl, hb7, ?_⟩
  simp only [Act.put, List.setIfInBounds_toArray, List.set_cons_zero, List.set_cons_succ]
  refine at_one (i := 7) (m' := 255) pu5reg (by decide) rfl ?_
  refine p_b3 (d := some 29) rfl (wanted_free rfl) rfl rfl rfl rfl rfl Tryz.underlying48 hi0 hz1 hz0 ?_
  have rr := fun hB => rows_litL (B := (y7).heap.size) (k := 3) (texts_cons rc tcd (texts_cons (ri3.below hb7) ti (texts_cons (rt.below hb7) tt (Texts.nil _)))) hB rfl (by decide)
  replace rr := rr rfl
  obtain ⟨Gq8, hGq8⟩ : ∃ q : Nat, (y7).heap.size = q := ⟨_, rfl⟩
  obtain ⟨z8, hz8⟩ : ∃ z : World, z = (y7).alloc (.cells #[.slice ca 8 cc, .slice ia 16 ic, .slice ta 32 tc] 23) := ⟨_, rfl⟩
  have kz8 : Below (y7).heap.size y7 z8 := by rw [hz8]; exact keep_alloc _ _
  have hb8 := keep_trans hb7 kz8
  rw [← hz8] at rr ⊢
  rw [hGq8] at rr ⊢
  clear hz8 hGq8
  refine ⟨hb8, ?_⟩
  simp only [Act.put, List.setIfInBounds_toArray, List.set_cons_zero, List.set_cons_succ]
  refine at_one (i := 8) (m' := 511) pu5reg (by decide) rfl ?_
  refine p_callG (args := #[.slice (some ⟨Gq8, 0, none⟩) 3 3]) (d := some 30) rfl (wanted_free rfl) rfl (by simp only [List.map_toArray, List.map_cons, List.map_nil]; rfl) rfl Tryz.call20 ((hj z8 _ rr).mono ?_)
  rintro e y9 ⟨jv, rfl, oj, g9⟩
  have kpre := hb8
  obtain ⟨ja, jc, rfl, _⟩ := oj.row.opens hol
  have hb9 := keep_trans hb8 g9
  refine ⟨_, rfl, hb9, ?_⟩
  simp only [Act.put, List.setIfInBounds_toArray, List.set_cons_zero, List.set_cons_succ]
  refine at_takeD (i := 9) (m' := 1023) (d := some 6) (v := .slice ja 56 jc) pu5reg rfl (by decide) rfl rfl (y_assignG (wanted_free rfl) rfl rfl) hb9 ?_
  simp only [Act.put, List.setIfInBounds_toArray, List.set_cons_zero, List.set_cons_succ]
  refine at_takeD (i := 10) (m' := 2047) (d := some 7) (v := .int .i64 0) pu5reg rfl (by decide) rfl rfl (y_assignG (wanted_free rfl) rfl rfl) hb9 ?_
  simp only [Act.put, List.setIfInBounds_toArray, List.set_cons_zero, List.set_cons_succ]
  refine at_done pu5reg (by decide) ?_
  go_wp2
  go_ret2
  exact ⟨_, rfl, oj.mono (keep_trans k3 kpre).size, keep_trans k3 hb9⟩
end Go.Proofs.YtogiballdmgcpaaGreatDoor

/- Trees of leaves that sign once, the program's own: the sums beside the way up. -/
namespace Go.Proofs.YtogiballdmgcpaaGreatDoor
open Go.RowKit Go.Shelf
set_option linter.unusedVariables false
set_option linter.unusedSimpArgs false
attribute [local go_sem] Oper.semAt_some

theorem pthA_map (f : Nat → List Nat) (n : Nat) : ∀ k, pthA f k n = (List.range k).map fun i => f ((n / 2 ^ i) ^^^ 1)
  | 0 => rfl
  | k + 1 => by rw [pthA_snoc, pthA_map f n k, List.range_succ, List.map_append]; rfl
theorem UpS.own {A B : World} {H N i : Nat} {f : Nat → List Nat} {row : Option Nat} (h : UpS A H N i f) (hg : A.grownBy B row) (hr : ∀ r, row = some r → ∃ o : Obj, A.heap[r]? = some o ∧ o.isCells = false) : UpS B H N i f := by
  obtain ⟨us, h0, h1, h2⟩ := h
  exact ⟨us, h0, cells_keptL hg hr h1, fun j k1 k2 => by obtain ⟨u, e1, e2, e3, e4⟩ := h2 j k1 k2; exact ⟨u, e1, row_ownL e2 hg hr, e3, e4⟩⟩
/-- where the loop stands -/
structure BeI (w : World) (X Y L h : Nat) (a b c d e : Value) (g : Nat → List Nat) (i : Nat) (W : World) : Prop where
  bx : BxW W X a b c d e
  bl : Boxed W Y 48 (.slice (some ⟨L, 0, none⟩) h h)
  up : UpS W L h i g
  bel : Below w.heap.size w W
theorem BeI.own {w W W' : World} {X Y L h i D : Nat} {a b c d e : Value} {g : Nat → List Nat} (q : BeI w X Y L h a b c d e g i W) (hD : w.heap.size ≤ D) {row : Option Nat} (hg : W.grownBy W' row) (hr : ∀ r, row = some r → D ≤ r ∧ ∃ o : Obj, W.heap[r]? = some o ∧ o.isCells = false) : BeI w X Y L h a b c d e g i W' := by
  have hr2 := fun r e => (hr r e).2
  exact ⟨⟨cells_keptL hg hr2 q.bx.here⟩, cells_keptL hg hr2 q.bl, q.up.own hg hr2, q.bel.grown hg q.bel.size fun r e => by have := (hr r e).1; omega⟩
theorem BeI.below {w W W' : World} {X Y L h i : Nat} {a b c d e : Value} {g : Nat → List Nat} (q : BeI w X Y L h a b c d e g i W) (hb : Below W.heap.size W W') : BeI w X Y L h a b c d e g i W' :=
  q.own (D := w.heap.size) (Nat.le_refl _) (grown_belowL hb) (fun r e => by cases e)
def be5lt : List Lt := [(0, some 19, [5]), (0, some 20, [6]), (0, some 21, [2]), (4, some 22, [21]), (0, some 23, [7]), (24, some 24, [22, 23]), (32, some 25, [24]), (127, some 26, [19, 20]), (255, none, [26, 25])]
theorem be5reg : Reg (opsA (cBA (cFA (cBA (cRA (cLA (cRA (cRA (Tryz.f81.body.getD .skip))))))))) be5lt := ⟨by kernel_rfl, by kernel_rfl⟩
set_option maxHeartbeats 8000000 in
set_option maxRecDepth 100000 in
theorem cbeside (h q H N : Nat) (x : Int) (f : Nat → List Nat) (ia sa : Option Addr) (ic sn sc : Nat) (w : World) (hh : h ≤ 10) (hq : q < 2 ^ h) (hN : N = 2 * 2 ^ h) (hK : KnP w H N (fun j => 1 ≤ j) f) (hfl : ∀ i, (f i).length = 32) :
    Calls Tryz.prog 81 #[.agg #[.int .i64 (h : Int), .int .i64 x, .slice ia 16 ic, .slice sa sn sc, .slice (some ⟨H, 0, none⟩) N N], .int .u32 (q : Int)] w fun e w' => ∃ v, e = .returned v ∧ Rows2 w' v (pthA f h (2 ^ h + q)) ∧ Below w.heap.size w w' := by
  obtain ⟨n0, hn0⟩ : ∃ n0, n0 = 2 ^ h + q := ⟨_, rfl⟩
  rw [← hn0, pthA_map]
  have hLev : Lev h n0 := by rw [hn0]; exact lev_leaf hq
  have hM10 := pow_le_1024 hh
  have hNb : ∀ i, i < h → 1 ≤ (n0 / 2 ^ i) ^^^ 1 ∧ (n0 / 2 ^ i) ^^^ 1 < N := fun i hi => by
    have hL := lev_div hLev i (by omega)
    obtain ⟨d, hd⟩ : ∃ d, h - i = d + 1 := ⟨h - i - 1, by omega⟩
    rw [hd] at hL
    have hn := hL.next
    have p1 := Nat.two_pow_pos (d + 1)
    have p2 : 2 ^ (d + 1 + 1) ≤ 2 ^ (h + 1) := Nat.pow_le_pow_right (by decide) (by omega)
    have p3 : 2 ^ (h + 1) = 2 * 2 ^ h := by rw [Nat.pow_succ]; omega
    exact ⟨by have := hn.1; omega, by have := hn.2; omega⟩
  obtain ⟨g, hg⟩ : ∃ g : Nat → List Nat, g = fun i => f ((n0 / 2 ^ i) ^^^ 1) := ⟨_, rfl⟩
  rw [← hg]
  have hnb := fun y => neighbours_any h (.int .i64 x) (.slice ia 16 ic) q y ⟨_, rfl⟩ ⟨_, _, _, rfl⟩
  obtain ⟨i0, hi0, hz0, hz1, hz2⟩ := info_text
  have bN := BxW.new w (.int .i64 (h : Int)) (.int .i64 x) (.slice ia 16 ic) (.slice sa sn sc) (.slice (some ⟨H, 0, none⟩) N N)
  have k0 := keep_alloc w (.cells #[.int .i64 (h : Int), .int .i64 x, .slice ia 16 ic, .slice sa sn sc, .slice (some ⟨H, 0, none⟩) N N] 107)
  have HX := hide (And.intro hn0 (And.intro hNb (And.intro hg (And.intro hK (And.intro hfl (And.intro hh (And.intro hq hN)))))))
  clear hn0 hLev hM10 hNb hg hK hfl hh hq hN
  refine (callsIn_wide (n := 8)).1 (callsIn_of_wp_marks Tryz.func81 rfl trivial (wpIn_wide.2 ?_) rfl)
  simp only [Tryz.ntmps81, List.size_toArray, List.length_cons, List.length_nil, Nat.reduceAdd, Nat.reduceSub, Array.replicate_succ, Array.replicate_zero, List.push_toArray, List.append_toArray, List.nil_append, List.cons_append]
  go_wp2_with (first
    | (at_make; refine wpList_make_full _ rfl _ _ 48 rfl (w.heap.size + 1) 23 i0 (.slice none 0 0) 1 Tryz.underlying48 hi0 hz0 hz1 _ _ _ _ h rfl rfl rfl rfl (by rw [hz2]; have := HX.out.2.2.2.2.2.1; omega) (by have := HX.out.2.2.2.2.2.1; unfold maxLen; omega) (by rw [World.size_alloc]; exact Nat.le_refl _) ?_; intro w2 hown hgrow; have hbg := (Below.refl (w.alloc (.cells #[.int .i64 (h : Int), .int .i64 x, .slice ia 16 ic, .slice sa sn sc, .slice (some ⟨H, 0, none⟩) N N] 107)).heap.size (w.alloc (.cells #[.int .i64 (h : Int), .int .i64 x, .slice ia 16 ic, .slice sa sn sc, .slice (some ⟨H, 0, none⟩) N N] 107))).grown hgrow (Nat.le_refl _) (fun k h => by cases h); have bx2 := bN.below hbg; have hU2 := UpS.made g hown)
    | (refine wpList_load_mid rfl 96 _ (by rfl) w.heap.size 0 (by rfl) [.int .i64 (h : Int), .int .i64 x, .slice ia 16 ic] _ (bx2.below (keep_alloc w2 (.cells #[.slice (some ⟨w.heap.size + 1, 0, none⟩) h h] 48))).range3 Tryz.underlying96 rfl (by kernel_rfl) ?_)
    | (go_at_call 101; refine (hnb _).mono ?_; rintro e w3 ⟨rfl, rfl⟩)
    | fail)
  have bx3 := bx2.below (keep_alloc w2 (.cells #[.slice (some ⟨w.heap.size + 1, 0, none⟩) h h] 48))
  have bl3 := Boxed.new w2 48 (.slice (some ⟨w.heap.size + 1, 0, none⟩) h h)
  have hU3 := hU2.below (keep_alloc w2 (.cells #[.slice (some ⟨w.heap.size + 1, 0, none⟩) h h] 48))
  have k3 := keep_trans (keep_trans k0 hbg) (keep_alloc w2 (.cells #[.slice (some ⟨w.heap.size + 1, 0, none⟩) h h] 48))
  have hUl := hU2.lt
  rw [World.size_alloc] at hU3 hUl
  generalize hW3 : w2.alloc (.cells #[.slice (some ⟨w.heap.size + 1, 0, none⟩) h h] 48) = W3 at *
  obtain ⟨Y, hY⟩ : ∃ Y, w2.heap.size = Y := ⟨_, rfl⟩
  have hsW : W3.heap.size = Y + 1 := by rw [← hW3, World.size_alloc, hY]
  rw [hY] at bl3 hUl ⊢
  have hI3 : BeI w w.heap.size Y (w.heap.size + 1) h (.int .i64 (h : Int)) (.int .i64 x) (.slice ia 16 ic) (.slice sa sn sc) (.slice (some ⟨H, 0, none⟩) N N) g 0 W3 := ⟨bx3, bl3, hU3, k3⟩
  obtain ⟨L, hL⟩ : ∃ L, w.heap.size + 1 = L := ⟨_, rfl⟩
  rw [hL] at hI3 hUl ⊢
  generalize hw4 : (W3.alloc (.cells #[.int .i64 (h : Int), .int .i64 x, .slice ia 16 ic] 96)).alloc (.cells #[.int .u32 (q : Int)] 52) = w4
  have hb4 : Below W3.heap.size W3 w4 := by rw [← hw4]; exact keep_trans (keep_alloc _ _) (keep_alloc _ _)
  have hB1 : BxD w4 W3.heap.size (.int .i64 (h : Int)) (.int .i64 x) (.slice ia 16 ic) := by rw [← hw4]; exact (BxD.new W3 _ _ _).below (keep_alloc _ _)
  have hB2 : Boxed w4 (W3.heap.size + 1) 52 (.int .u32 (q : Int)) := by
    have := Boxed.new (W3.alloc (.cells #[.int .i64 (h : Int), .int .i64 x, .slice ia 16 ic] 96)) 52 (.int .u32 (q : Int))
    rw [World.size_alloc] at this
    rw [← hw4]; exact this
  have hI4 := hI3.below hb4
  obtain ⟨hn0, hNb, hg, hK, hfl, hh, hq, hN⟩ := HX.out
  have hwz : w.heap.size ≤ w4.heap.size := hI4.bel.size
  have hL4 : L < w4.heap.size := by have := hb4.size; have := hI3.up.lt; omega
  have hXL : w.heap.size ≠ L := by omega
  have hYL : Y ≠ L := by omega
  have hwL : w.heap.size ≤ L := by omega
  have hown4 := nb1_own 7 (by decide) W3.heap.size (W3.heap.size + 1) h q (.int .i64 x) (.slice ia 16 ic) ⟨_, rfl⟩ ⟨_, _, _, rfl⟩ (by omega) hq w4 (fun _ => True) hB1 hB2
  rw [← hn0, hsW] at hown4
  clear hsW hI3 hB1 hB2 hw4 hnb hn0 hNb hg hK hfl hh hq hN bx2 bx3 bl3 hU2 hU3 k3 hUl hW3 hY hL bN k0 hbg hown hgrow
  refine wpIn_wide.1 (range_pre (n := 8) rfl (enters_of Tryz.func118 (by kernel_rfl) rfl) hown4 (fun _ => rfl)
    (fun pre W => BeI w w.heap.size Y L h (.int .i64 (h : Int)) (.int .i64 x) (.slice ia 16 ic) (.slice sa sn sc) (.slice (some ⟨H, 0, none⟩) N N) g pre.length W ∧ w4.heap.size ≤ W.heap.size)
    (fun pre A B row hs hg hr => ⟨hs.1.own (D := w4.heap.size) hwz hg hr, Nat.le_trans hs.2 hg.size⟩) (fun pre W h => trivial) ⟨hI4, Nat.le_refl _⟩
    (fun pre (i : Nat) a' W => a' = { tmps := #[.agg #[.int .i64 (h : Int), .int .i64 x, .slice ia 16 ic, .slice sa sn sc, .slice (some ⟨H, 0, none⟩) N N], .int .u32 (q : Int), .pointer (some ⟨w.heap.size, 0, none⟩), undef, .slice none 0 0, .pointer (some ⟨Y, 0, none⟩), .int .i64 (i : Int), .int .i64 (((n0 / 2 ^ i) ^^^ 1 : Nat) : Int), .pointer (some ⟨w.heap.size, 0, none⟩), .pointer (some ⟨w.heap.size, 0, none⟩), .pointer (some ⟨w.heap.size, 0, none⟩), .int .i64 (h : Int), .slice (some ⟨L, 0, none⟩) h h, .pointer (some ⟨w.heap.size, 0, none⟩), .agg #[.int .i64 (h : Int), .int .i64 x, .slice ia 16 ic], .int .u32 (q : Int), .func (.func 118) #[] #[.pointer (some ⟨Y + 1, 0, none⟩), .pointer (some ⟨Y + 1 + 1, 0, none⟩)], .int .i64 (i : Int), .int .i64 (((n0 / 2 ^ i) ^^^ 1 : Nat) : Int), undef, undef, undef, undef, undef, undef, undef, undef, undef], defers := [] } ∧ BeI w w.heap.size Y L h (.int .i64 (h : Int)) (.int .i64 x) (.slice ia 16 ic) (.slice sa sn sc) (.slice (some ⟨H, 0, none⟩) N N) g pre.length W ∧ w4.heap.size ≤ W.heap.size)
    (fun pre (i : Nat) a' u A B row hs hg hr => ⟨hs.1, hs.2.1.own (D := w4.heap.size) hwz hg hr, Nat.le_trans hs.2.2 hg.size⟩) ?assign ?body ?done)
  case assign =>
    rintro l pre i W K ⟨lp, hsz⟩ hlt hK
    unfold nbV
    gi_wp2
    exact hK _ _ (kept_belowL (Below.refl _ _)) ⟨rfl, lp, hsz⟩
  case body =>
    rintro l pre i a' W ⟨rfl, lp, hsz⟩ hlt
    obtain ⟨hpre, hi⟩ := pre_range hlt
    obtain ⟨hn0, hNb, hg, hK, hfl, hh, hq, hN⟩ := HX.out
    have hpl : pre.length = i := by rw [hpre, List.length_range]
    have hpl2 : (pre ++ [i]).length = i + 1 := by rw [List.length_append, hpl]; rfl
    rw [hpl] at lp
    rw [hpl2]
    obtain ⟨nb1, nb2⟩ := hNb i hi
    have hgi : g i = f ((n0 / 2 ^ i) ^^^ 1) := by rw [hg]
    obtain ⟨B, hB⟩ : ∃ B, B = (n0 / 2 ^ i) ^^^ 1 := ⟨_, rfl⟩
    rw [← hB] at nb1 nb2 hgi ⊢
    obtain ⟨u, cu, ru, tu, _⟩ := hK.cell nb1 nb2
    have uo : ∀ z, u.ownBlock = some z → z ≠ L := fun z e => by have := ru.old (by rw [hfl]; decide) e; omega
    have hul : (f B).length = 32 := hfl B
    have cuW := keep_cell cu lp.bel
    have ruW := ru.below lp.bel
    rw [← hgi] at ruW
    have hgl : (g i).length = 32 := by rw [hgi]; exact hul
    obtain ⟨ua, uc, rfl, _⟩ := ru.opens hul
    have hBH : H ≠ L := by have := hK.lt; omega
    have hbx := lp.bx
    have hbl := lp.bl
    have hup := lp.up
    have hbel := lp.bel
    have HQ := hide (And.intro hsz (And.intro lp (And.intro ruW (And.intro tu uo))))
    clear hpre hpl hpl2 hn0 hNb hg hK hfl hh hq hN hgi hB cu ru nb1 lp hsz hul hgl ruW tu uo
    gi_wp2
    have hbd : But L W W.drew := (But.refl _ _).drew
    have kb : Below W.heap.size W W.drew := (Below.refl _ _).drew
    refine at_begin_in (ops := opsA (cBA (cFA (cBA (cRA (cLA (cRA (cRA (Tryz.f81.body.getD .skip))))))))) (k := 9) (fun y => But L W y) (by kernel_rfl) (by kernel_rfl) (by kernel_rfl) ?_
    refine at_takeD (i := 0) (m' := 1) (d := some 19) (v := .slice (some ⟨L, 0, none⟩) h h) be5reg rfl (by decide) rfl rfl (y_plainG (wanted_free rfl) rfl rfl Tryz.underlying48 rfl (fun _ h => (boxed_butL hbl h hYL).cell)) hbd ?_
    simp only [Act.put, List.setIfInBounds_toArray, List.set_cons_zero, List.set_cons_succ]
    refine at_takeD (i := 1) (m' := 3) (d := some 20) (v := .int .i64 (i : Int)) be5reg rfl (by decide) rfl rfl (y_moveG (wanted_free rfl) rfl rfl) hbd ?_
    simp only [Act.put, List.setIfInBounds_toArray, List.set_cons_zero, List.set_cons_succ]
    refine at_takeD (i := 2) (m' := 7) (d := some 21) (v := .pointer (some ⟨w.heap.size, 4, none⟩)) be5reg rfl (by decide) rfl rfl (y_fieldG (wanted_free rfl) rfl rfl (fun w => by simp [go_sem])) hbd ?_
    simp only [Act.put, List.setIfInBounds_toArray, List.set_cons_zero, List.set_cons_succ]
    refine at_takeD (i := 3) (m' := 15) (d := some 22) (v := .slice (some ⟨H, 0, none⟩) N N) be5reg rfl (by decide) rfl rfl (y_plainG (wanted_free rfl) rfl rfl Tryz.underlying48 rfl (fun _ h => (hbx.but h hXL).c4)) hbd ?_
    simp only [Act.put, List.setIfInBounds_toArray, List.set_cons_zero, List.set_cons_succ]
    refine at_takeD (i := 4) (m' := 31) (d := some 23) (v := .int .i64 (B : Int)) be5reg rfl (by decide) rfl rfl (y_moveG (wanted_free rfl) rfl rfl) hbd ?_
    simp only [Act.put, List.setIfInBounds_toArray, List.set_cons_zero, List.set_cons_succ]
    refine at_takeD (i := 5) (m' := 63) (d := some 24) (v := .pointer (some ⟨H, B, none⟩)) be5reg rfl (by decide) rfl rfl (y_ix0 (wanted_free rfl) rfl rfl rfl Tryz.underlying48 (by kernel_rfl) nb2) hbd ?_
    simp only [Act.put, List.setIfInBounds_toArray, List.set_cons_zero, List.set_cons_succ]
    refine at_takeD (i := 6) (m' := 127) (d := some 25) (v := .slice ua 32 uc) be5reg rfl (by decide) rfl rfl (y_plainG (wanted_free rfl) rfl rfl Tryz.underlying23 rfl (fun _ h => But.cell cuW h hBH)) hbd ?_
    simp only [Act.put, List.setIfInBounds_toArray, List.set_cons_zero, List.set_cons_succ]
    refine at_takeD (i := 7) (m' := 255) (d := some 26) (v := .pointer (some ⟨L, i, none⟩)) be5reg rfl (by decide) rfl rfl (y_ix0 (wanted_free rfl) rfl rfl rfl Tryz.underlying48 (by kernel_rfl) hi) hbd ?_
    simp only [Act.put, List.setIfInBounds_toArray, List.set_cons_zero, List.set_cons_succ]
    refine at_one (i := 8) (m' := 511) be5reg (by decide) rfl ?_
    refine p_store_plain (P := Tryz.prog) rfl rfl rfl rfl rfl rfl Tryz.underlying23 rfl (by kernel_rfl) ((hup.below kb).any hi) ((hup.below kb).frozen i) ?_
    have hb9 := hbd.setCell i (.slice ua 32 uc)
    refine ⟨hb9, ?_⟩
    refine at_done be5reg (by decide) ?_
    obtain ⟨hsz, lp, ruW, tu, uo⟩ := HQ.out
    have hU5 := (hup.below kb).store hi (ruW.below kb) tu uo
    have hB5 : But L W _ := hb9
    refine ⟨(kept_belowL kb).trans (kept_setL _ hL4), ⟨hbx.but hB5 hXL, boxed_butL hbl hB5 hYL, hU5, hbel.trans (hB5.below hwL hbel.size)⟩, Nat.le_trans hsz hB5.size⟩
  case done =>
    rintro W ⟨lp, hsz⟩ hK
    rw [List.length_range] at lp
    have lpF := lp.own (D := w4.heap.size) hwz (grownBy_putObj' W w4.heap.size (.deferred none)) (fun r e => by cases e; exact ⟨Nat.le_refl _, _, hK, rfl⟩)
    have cG := lp.bl.cell
    have hrr := lpF.up.rows (by have := HX.out.2.2.2.2.2.1; omega)
    have hbb := lpF.bel
    clear lp lpF
    go_wp2
    refine ⟨by simp, .inl ⟨_, _, rfl, run_takeDeferred hK, ?_⟩⟩
    exact ⟨_, results_tmp rfl _ _ _, .slice (some ⟨L, 0, none⟩) h h, rfl, hrr, hbb⟩
end Go.Proofs.YtogiballdmgcpaaGreatDoor
