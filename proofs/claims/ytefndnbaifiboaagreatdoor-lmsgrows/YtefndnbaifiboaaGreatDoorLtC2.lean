/- Trees of leaves that sign once: the document's Cut where it answers. -/
import Derived.Test.YtefndnbaifiboaaGreatDoorLsA
import Derived.Test.YtefndnbaifiboaaGreatDoorPlan3
import Derived.Test.YtefndnbaifiboaaGreatDoorHSl
import Derived.Test.YtefndnbaifiboaaGreatDoorLtN
import Derived.Test.YtefndnbaifiboaaGreatDoorLmS
namespace Go.Proofs.YtefndnbaifiboaaGreatDoor
open Go.RowKit
set_option linter.unusedVariables false
set_option linter.unusedSimpArgs false

section
variable {ops : Array Oper} {S : World → Prop}
theorem built_tree (u v : Int) : Tryz.prog.built 23 [(0, .int .i64 u), (1, .int .i64 v)] = some #[.int .i64 u, .int .i64 v] := by kernel_rfl
theorem y_tree {o : Oper} {a : Act} {x y : Operand} {u v : Int} (hg : o.guard = none) (ho : o.op = .build 23 #[(0, x), (1, y)]) (hx : a.eval x = .int .i64 u) (hy : a.eval y = .int .i64 v) : YieldsIf Tryz.prog ops S o (.agg #[.int .i64 u, .int .i64 v]) a := by
  refine y_of hg fun w _ => ?_
  have hb := run_build (P := Tryz.prog) w 23 #[(0, .int .i64 u), (1, .int .i64 v)] _ (built_tree u v)
  unfold execOp
  simp only [ho, List.map_toArray, List.map_cons, List.map_nil, hx, hy]
  simp [Sem.run_bind, hb]
theorem y_fromT {o : Oper} {a : Act} {x y : Operand} {v u : Value} {F : Nat} (hg : o.guard = none) (ho : o.op = .slice 24 x (some y) none none) (hx : a.eval x = v) (hy : a.eval y = .int .i64 (F : Int)) (hr : ∀ w : World, (Instr.slice 24 v (some (.int .i64 (F : Int))) none none).run Tryz.prog w = .ok u w) (hv : ∃ aa n c, v = .slice aa n c) : YieldsIf Tryz.prog ops S o u a := by
  obtain ⟨aa, n, c, rfl⟩ := hv
  refine y_of hg fun w _ => ?_
  have h := hr w
  unfold execOp
  simp only [ho, hx, Option.map_none, Option.map_some, hy]
  simp [Instr.sliceAt, Sem.run_bind, h, run_underlying Tryz.underlying24, go_sem]
theorem y_toT {o : Oper} {a : Act} {x y : Operand} {aa : Option Addr} {n c F : Nat} (hg : o.guard = none) (ho : o.op = .slice 24 x none (some y) none) (hx : a.eval x = .slice aa n c) (hy : a.eval y = .int .i64 (F : Int)) (hF : F ≤ c) : YieldsIf Tryz.prog ops S o (.slice aa F c) a := by
  refine y_of hg fun w _ => ?_
  have h := slice_to aa n c F hF w
  unfold execOp
  simp only [ho, hx, Option.map_none, Option.map_some, hy]
  simp [Instr.sliceAt, Sem.run_bind, h, run_underlying Tryz.underlying24, go_sem]
end
theorem one2T (a b : Int) : (#[.int .i64 a, .int .i64 b] : Array Value).all (·.oneCell') = true := by simp [Value.oneCell']
def ctlt : List Lt := [(0, some 50, [0]), (0, some 51, [9]), (3, some 52, [50, 51]), (0, some 53, [8]), (0, some 54, [6]), (24, some 55, [53, 54]), (0, some 56, [0]), (0, some 57, [9]), (192, some 58, [56, 57]), (7, some 2, [52]), (575, none, [3, 55]), (2047, some 4, [58]), (4095, some 5, [])]
theorem ctreg : Reg (opsA (cLA (cRA (cRA (cRA (cRA (cRA (cRA (cRA (cRA (cRA (cRA (Tryz.f18.body.getD .skip))))))))))))) ctlt := ⟨by kernel_rfl, by kernel_rfl⟩
theorem ctE_zero {b : List Nat} (h : ctE b = 0) : 8 ≤ b.length ∧ ctW b ≠ 0 ∧ ctA b + 4 ≤ b.length ∧ ctH b ≠ 0 ∧ ctN b ≤ b.length := by
  unfold ctE at h
  by_cases h1 : b.length < 8
  · rw [if_pos h1] at h; exact absurd h (by decide)
  rw [if_neg h1] at h
  by_cases h2 : ctW b = 0
  · rw [if_pos h2] at h; exact absurd h (by decide)
  rw [if_neg h2] at h
  by_cases h3 : b.length < ctA b + 4
  · rw [if_pos h3] at h; exact absurd h (by decide)
  rw [if_neg h3] at h
  by_cases h4 : ctH b = 0
  · rw [if_pos h4] at h; exact absurd h (by decide)
  rw [if_neg h4] at h
  by_cases h5 : b.length < ctN b
  · rw [if_pos h5] at h; exact absurd h (by decide)
  exact ⟨by omega, h2, by omega, h4, by omega⟩
set_option maxHeartbeats 4000000 in
set_option maxRecDepth 100000 in
theorem rcut_ok (b : List Nat) (bv : Value) (w : World) (hb : Row .u8 256 w bv b) (h : ctE b = 0) :
    Calls Tryz.prog 18 #[bv] w fun e w' => ∃ v1 v2, e = .returned (.tuple #[v1, .agg #[.int .i64 (ctH b : Nat), .int .i64 (ctW b : Nat)], v2, .int .i64 0]) ∧ Row .u8 256 w' v1 (b.take (ctN b)) ∧ Row .u8 256 w' v2 (b.drop (ctN b)) ∧ Below w.heap.size w w' := by
  obtain ⟨h8, hw0, hL1, hH0, hL2⟩ := ctE_zero h
  clear h
  have hrow := hb
  obtain ⟨ba, bc, rfl, lc1, lc2, ho⟩ := hb.opens rfl
  have z0 := Bx2T.new w (.int .i64 0) (.int .i64 0)
  have hbw := keep_alloc w (.cells #[.int .i64 0, .int .i64 0] 23)
  have c0 := z0.c0
  have c1 := z0.c1
  obtain ⟨bb, bo, rfl, _⟩ := ho (by omega)
  clear ho
  have r4 : Row .u8 256 w (.slice (some ⟨bb, bo + 4, none⟩) 4 (bc - 4)) ((b.drop 4).take 4) := hrow.mid (i := 4) (j := 8) (by decide) (by omega)
  have hn4 := rnum_any _ _ _ (r4.below hbw)
  have hdg := fun y => rdigit_any (numL ((b.drop 4).take 4)) y (numL_lt _)
  rw [show dgtL (numL ((b.drop 4).take 4)) = ctW b from rfl] at hdg
  have hsz := fun y => rsizeW (ctW b : Nat) y
  have hi8 : ¬ (b.length : Int) < 8 := by omega
  have h8c : (8 : Int) ≤ (bc : Int) := by omega
  obtain ⟨X, hX⟩ : ∃ X, X = numL ((b.drop 4).take 4) := ⟨_, rfl⟩
  rw [← hX] at hn4 hdg
  have hWi : ((ctW b : Nat) : Int) ≠ 0 := by omega
  have hWb : (((ctW b : Nat) : Int) == 0) = false := by simp; exact hw0
  have hAl := ctA_le b
  have hAd : ctA b = 4 + szW (ctW b : Nat) := rfl
  obtain ⟨Z, hZ⟩ : ∃ Z, Z = szW (ctW b : Nat) := ⟨_, rfl⟩
  rw [← hZ] at hsz hAd
  have rA : Row .u8 256 w (.slice (some ⟨bb, bo + ctA b, none⟩) 4 (bc - ctA b)) ((b.drop (ctA b)).take 4) := by
    have := hrow.mid (i := ctA b) (j := ctA b + 4) (by omega) (by omega)
    rwa [Nat.add_sub_cancel_left] at this
  have hnA := rnum_any _ _ _ (rA.below hbw)
  have hht := fun y => rheight_any (numL ((b.drop (ctA b)).take 4)) y (numL_lt _)
  rw [show hgtL (numL ((b.drop (ctA b)).take 4)) = ctH b from rfl] at hht
  obtain ⟨Y, hY⟩ : ∃ Y, Y = numL ((b.drop (ctA b)).take 4) := ⟨_, rfl⟩
  rw [← hY] at hnA hht
  have hHl := ctH_le b
  have hNd : ctN b = ctA b + 4 + 32 * ctH b := rfl
  have rT := hrow.cut (M := ctN b) hL2
  obtain ⟨A2, hA2, hAd2⟩ := slice_from (some ⟨bb, bo, none⟩) b.length bc (ctN b) hL2 lc1
  have rD := hrow.behind hL2 hAd2
  generalize hbt : b.take (ctN b) = bt at *
  generalize hbd : b.drop (ctN b) = bd at *
  clear hw0 hZ hrow hb r4 rA hX hY hbt hbd hAd2
  generalize ctW b = W at *
  generalize ctA b = A at *
  generalize ctH b = H at *
  generalize ctN b = N at *
  generalize b.length = L at *
  have e_A : (4 : Int) + (Z : Int) = (A : Int) := by omega
  have s_A : IntKind.i64.wrap (A : Int) = (A : Int) := by rw [IntKind.wrap_i64]; omega
  obtain ⟨E, hE⟩ : ∃ E : Nat, E = A + 4 := ⟨_, rfl⟩
  have e_E : (A : Int) + 4 = (E : Int) := by omega
  have s_E : IntKind.i64.wrap (E : Int) = (E : Int) := by rw [IntKind.wrap_i64]; omega
  have hLi : ¬ (L : Int) < (E : Int) := by omega
  have hAE : (A : Int) ≤ (E : Int) := by omega
  have hEc : (E : Int) ≤ (bc : Int) := by omega
  have hEA : E - A = 4 := by omega
  have hEAi : (E : Int) - (A : Int) = 4 := by omega
  have z_A : (0 : Int) ≤ (A : Int) := Int.natCast_nonneg _
  have hLNi : ¬ (L : Int) < (N : Int) := by omega
  have hHb : ((H : Int) == 0) = false := by simp; exact hH0
  have hHi : (H : Int) ≠ 0 := by omega
  obtain ⟨T, hT⟩ : ∃ T : Nat, T = 32 * H := ⟨_, rfl⟩
  have e_T : (32 : Int) * (H : Int) = (T : Int) := by omega
  have s_T : IntKind.i64.wrap (T : Int) = (T : Int) := by rw [IntKind.wrap_i64]; omega
  have e_N : (E : Int) + (T : Int) = (N : Int) := by omega
  have s_N : IntKind.i64.wrap (N : Int) = (N : Int) := by rw [IntKind.wrap_i64]; omega
  have hNc : N ≤ bc := by omega
  have HH := hide (And.intro rT (And.intro rD (And.intro hbw z0.here)))
  clear hHl hNd hE hAd hAl hH0 hT h8 hL1 hL2 rT rD hbw lc1 lc2
  go_enter Tryz.func18, Tryz.ntmps18
  go_wp2_with (first
    | (go_at_call 42; have hn4u := hn4; clear hn4; refine hn4u.mono ?_; rintro e yy ⟨rfl, hy⟩; obtain rfl := hy.symm; clear hn4u)
    | (go_at_call 42; refine hnA.mono ?_; rintro e yy ⟨rfl, hy⟩; obtain rfl := hy.symm)
    | (go_at_call 41; refine (hdg _).mono ?_; rintro e yy ⟨rfl, hy⟩; obtain rfl := hy.symm)
    | (go_at_call 38; refine (hsz _).mono ?_; rintro e yy ⟨rfl, hy⟩; obtain rfl := hy.symm)
    | (go_at_call 43; refine (hht _).mono ?_; rintro e yy ⟨rfl, hy⟩; obtain rfl := hy.symm)
    | fail)
  refine at_begin (ops := (opsA (cLA (cRA (cRA (cRA (cRA (cRA (cRA (cRA (cRA (cRA (cRA (Tryz.f18.body.getD .skip)))))))))))))) (n := 13) (fun _ => True) (by kernel_rfl) (by kernel_rfl) ?_
  refine at_takeD (i := 0) (m' := 1) (d := some 50) (v := .slice (some ⟨bb, bo, none⟩) L bc) ctreg rfl (by decide) rfl rfl (y_move rfl rfl rfl) trivial ?_
  simp only [Act.put, List.setIfInBounds_toArray, List.set_cons_zero, List.set_cons_succ]
  refine at_takeD (i := 1) (m' := 3) (d := some 51) (v := .int .i64 (N : Int)) ctreg rfl (by decide) rfl rfl (y_move rfl rfl rfl) trivial ?_
  simp only [Act.put, List.setIfInBounds_toArray, List.set_cons_zero, List.set_cons_succ]
  refine at_takeD (i := 2) (m' := 7) (d := some 52) (v := .slice (some ⟨bb, bo, none⟩) N bc) ctreg rfl (by decide) rfl rfl (y_toT rfl rfl rfl rfl hNc) trivial ?_
  simp only [Act.put, List.setIfInBounds_toArray, List.set_cons_zero, List.set_cons_succ]
  refine at_takeD (i := 3) (m' := 15) (d := some 53) (v := .int .i64 (H : Int)) ctreg rfl (by decide) rfl rfl (y_move rfl rfl rfl) trivial ?_
  simp only [Act.put, List.setIfInBounds_toArray, List.set_cons_zero, List.set_cons_succ]
  refine at_takeD (i := 4) (m' := 31) (d := some 54) (v := .int .i64 (W : Int)) ctreg rfl (by decide) rfl rfl (y_move rfl rfl rfl) trivial ?_
  simp only [Act.put, List.setIfInBounds_toArray, List.set_cons_zero, List.set_cons_succ]
  refine at_takeD (i := 5) (m' := 63) (d := some 55) (v := .agg #[.int .i64 (H : Int), .int .i64 (W : Int)]) ctreg rfl (by decide) rfl rfl (y_tree rfl rfl rfl rfl) trivial ?_
  simp only [Act.put, List.setIfInBounds_toArray, List.set_cons_zero, List.set_cons_succ]
  refine at_takeD (i := 6) (m' := 127) (d := some 56) (v := .slice (some ⟨bb, bo, none⟩) L bc) ctreg rfl (by decide) rfl rfl (y_move rfl rfl rfl) trivial ?_
  simp only [Act.put, List.setIfInBounds_toArray, List.set_cons_zero, List.set_cons_succ]
  refine at_takeD (i := 7) (m' := 255) (d := some 57) (v := .int .i64 (N : Int)) ctreg rfl (by decide) rfl rfl (y_move rfl rfl rfl) trivial ?_
  simp only [Act.put, List.setIfInBounds_toArray, List.set_cons_zero, List.set_cons_succ]
  refine at_takeD (i := 8) (m' := 511) (d := some 58) (v := .slice A2 (L - N) (bc - N)) ctreg rfl (by decide) rfl rfl (y_fromT rfl rfl rfl rfl hA2 ⟨_, _, _, rfl⟩) trivial ?_
  simp only [Act.put, List.setIfInBounds_toArray, List.set_cons_zero, List.set_cons_succ]
  refine at_takeD (i := 9) (m' := 1023) (d := some 2) (v := .slice (some ⟨bb, bo, none⟩) N bc) ctreg rfl (by decide) rfl rfl (y_assignA rfl rfl rfl) trivial ?_
  simp only [Act.put, List.setIfInBounds_toArray, List.set_cons_zero, List.set_cons_succ]
  obtain ⟨rT, rD, hbw, hhere⟩ := HH.out
  have hbd := keep_trans hbw ((Below.refl _ _).drew)
  have h0d : (w.alloc (.cells #[.int .i64 0, .int .i64 0] 23)).drew.heap[w.heap.size]? = some (.cells #[.int .i64 0, .int .i64 0] 23 (0, 0)) := hhere
  refine at_one (i := 10) (m' := 2047) ctreg (by decide) rfl ?_
  refine p_rowA (g := w.heap.size) (cells := #[.int .i64 (H : Int), .int .i64 (W : Int)]) rfl rfl rfl rfl rfl rfl h0d (by kernel_rfl) rfl (one2T _ _) ⟨trivial, ?_⟩
  have hBt : But w.heap.size (w.alloc (.cells #[.int .i64 0, .int .i64 0] 23)).drew ((w.alloc (.cells #[.int .i64 0, .int .i64 0] 23)).drew.setRow w.heap.size #[.int .i64 (H : Int), .int .i64 (W : Int)]) := (But.refl _ _).setRow _
  have hT2 : Bx2T ((w.alloc (.cells #[.int .i64 0, .int .i64 0] 23)).drew.setRow w.heap.size #[.int .i64 (H : Int), .int .i64 (W : Int)]) w.heap.size (.int .i64 (H : Int)) (.int .i64 (W : Int)) := ⟨setRow_heap _ _ _ _ _ _ h0d⟩
  have hbF := hbd.trans (hBt.below (Nat.le_refl _) hbd.size)
  generalize (w.alloc (.cells #[.int .i64 0, .int .i64 0] 23)).drew.setRow w.heap.size #[.int .i64 (H : Int), .int .i64 (W : Int)] = WF at *
  refine at_takeD (i := 11) (m' := 4095) (d := some 4) (v := .slice A2 (L - N) (bc - N)) ctreg rfl (by decide) rfl rfl (y_assignA rfl rfl rfl) trivial ?_
  simp only [Act.put, List.setIfInBounds_toArray, List.set_cons_zero, List.set_cons_succ]
  refine at_takeD (i := 12) (m' := 8191) (d := some 5) (v := .int .i64 0) ctreg rfl (by decide) rfl rfl (y_assignA rfl rfl rfl) trivial ?_
  simp only [Act.put, List.setIfInBounds_toArray, List.set_cons_zero, List.set_cons_succ]
  refine at_done ctreg (by decide) ?_
  go_wp2
  refine bodyPost_ret (hT2.load4 rfl rfl _ rfl) rfl ?_
  exact ⟨_, _, rfl, rT.below hbF, rD.below hbF, hbF⟩
end Go.Proofs.YtefndnbaifiboaaGreatDoor

/- Trees of leaves that sign once: the document's Sign. -/
namespace Go.Proofs.YtefndnbaifiboaaGreatDoor
open Go.RowKit
set_option linter.unusedVariables false
set_option linter.unusedSimpArgs false

/-- a leaf's signature -/
def sgT (k n m s c : Nat) (id seed text : List Nat) (q : Nat) : List Nat := sgnH shaL (preL id q) c (digsL k n m s (digH shaL (preL id q) (lmCn shaL (preL id q) seed) text)) seed
theorem sgT_len (k n m s c : Nat) (id seed text : List Nat) (q : Nat) : (sgT k n m s c id seed text q).length = 36 + 32 * (n + m) := by unfold sgT; rw [sgnH_len, digs_len]; exact fun _ => shaL_len _
theorem rsgnK {k n m s c : Nat} (hk : Kd k n m s c) (h8 : k ≠ 8) (id seed text : List Nat) (q : Nat) (idv sv tv : Value) (w : World) (hi : Row .u8 256 w idv id) (ti : Tidy idv) (hs : Row .u8 256 w sv seed) (ts : Tidy sv) (ht : Row .u8 256 w tv text) (tt : Tidy tv) (hq : q < 4294967296) (hl : id.length = 16) (hsl : seed.length = 32) (htl : text.length ≤ 10000) :
    Calls Tryz.prog 34 #[.int .i64 (k : Int), idv, .int .u32 (q : Int), sv, tv] w fun e w' => ∃ v, e = .returned (.tuple #[v, .int .i64 0]) ∧ Row .u8 256 w' v (sgT k n m s c id seed text q) ∧ New w.heap.size v ∧ Below w.heap.size w w' := by
  cases hk
  · exact rsgn_1 id seed text q idv sv tv w hi ti hs ts ht tt hq hl hsl htl
  · exact rsgn_2 id seed text q idv sv tv w hi ti hs ts ht tt hq hl hsl htl
  · exact rsgn_4 id seed text q idv sv tv w hi ti hs ts ht tt hq hl hsl htl
  · exact absurd rfl h8
theorem GrT.lit3 {w : World} {u v x : Value} {a b c : List Nat} (hu : Row .u8 256 w u a) (tu : Tidy u) (hv : Row .u8 256 w v b) (tv : Tidy v) (hx : Row .u8 256 w x c) (tx' : Tidy x) (la : 0 < a.length) (lb : 0 < b.length) (lc : 0 < c.length) : GrT (w.alloc (.cells #[u, v, x] 24)) w.heap.size (.slice (some ⟨w.heap.size, 0, none⟩) 3 3) [a, b, c] := by
  have hb := keep_alloc w (.cells #[u, v, x] 24)
  have ap : ∀ {y : Value} {l : List Nat}, Row .u8 256 w y l → 0 < l.length → Apart1 (w.alloc (.cells #[u, v, x] 24)) (.slice (some ⟨w.heap.size, 0, none⟩) 3 3) y := fun hx hl q hq => by
    have h1 := hx.old hl hq
    refine ⟨by rw [World.size_alloc]; omega, fun e => ?_⟩
    have : w.heap.size = q := by simpa [Value.ownBlock] using e
    omega
  refine ⟨⟨[u, v, x], World.ownsRow_lit (base := w.heap.size) (e := 24) (size := 1) w #[u, v, x] 3 (Nat.le_refl _) (by decide) rfl, texts_cons (hu.below hb) tu (texts_cons (hv.below hb) tv (texts_cons (hx.below hb) tx' (Texts.nil _))), fun y hy => ?_⟩⟩
  rcases List.mem_cons.1 hy with h | h
  · rw [h]; exact ap hu la
  · rcases List.mem_cons.1 h with h | h
    · rw [h]; exact ap hv lb
    · have : y = x := by simpa using h
      rw [this]; exact ap hx lc
theorem lev_div {h n : Nat} (hn : Lev h n) : ∀ i, i ≤ h → Lev (h - i) (n / 2 ^ i)
  | 0, _ => by rw [Nat.pow_zero, Nat.div_one]; exact hn
  | i + 1, hi => by
    have := lev_div hn i (by omega)
    rw [show h - i = (h - (i + 1)) + 1 by omega] at this
    rw [Nat.pow_succ, ← Nat.div_div_eq_div_mul]
    exact this.up
section
variable {ops : Array Oper} {S : World → Prop}
theorem y_convT {o : Oper} {a : Act} {x : Operand} {q : Nat} (hg : o.guard = none) (ho : o.op = .convert 25 61 x) (hx : a.eval x = .int .u32 (q : Int)) (hq : q < 4294967296) : YieldsIf Tryz.prog ops S o (.int .u64 (q : Int)) a := by
  have h1 : IntKind.u64.wrap (q : Int) = (q : Int) := by rw [IntKind.wrap_u64]; omega
  refine y_of hg fun w _ => ?_
  unfold execOp
  simp only [ho, hx]
  simp [h1, go_sem]
theorem y_fieldT {o : Oper} {a : Act} {x : Operand} {t : TypeId} {q q' f off : Nat} (hg : o.guard = none) (ho : o.op = .fieldAddr t x f) (hx : a.eval x = .pointer (some ⟨q, q', none⟩))
    (hf : ∀ w : World, (Instr.fieldAt t (.pointer (some ⟨q, q', none⟩)) f).run Tryz.prog w = .ok (.pointer (some ⟨q, off, none⟩)) w) : YieldsIf Tryz.prog ops S o (.pointer (some ⟨q, off, none⟩)) a := by
  refine y_of hg fun w _ => ?_
  unfold execOp
  simp only [ho, hx]
  simp [hf w, Sem.run_bind]
theorem fT0 (q : Nat) (w : World) : (Instr.fieldAt 23 (.pointer (some ⟨q, 0, none⟩)) 0).run Tryz.prog w = .ok (.pointer (some ⟨q, 0, none⟩)) w := by simp [go_sem]
end
set_option maxHeartbeats 4000000 in
set_option maxRecDepth 100000 in
theorem rsignT_no (h x : Int) (id seed : List Nat) (q : Nat) (idv sv : Value) (ta : Option Addr) (tn tc : Nat) (w : World) (hi : Row .u8 256 w idv id) (hs : Row .u8 256 w sv seed) (hne : wrgT h x id.length seed.length ≠ 0) :
    Calls Tryz.prog 11 #[.agg #[.int .i64 h, .int .i64 x], idv, sv, .int .u32 (q : Int), .slice ta tn tc] w fun e w' => e = .returned (.tuple #[.slice none 0 0, .int .i64 (wrgT h x id.length seed.length)]) ∧ Below w.heap.size w w' := by
  have hw := rwrongT_any h x id seed idv sv (w.alloc (.cells #[.int .i64 h, .int .i64 x] 23)) (hi.below (keep_alloc _ _)) (hs.below (keep_alloc _ _))
  obtain ⟨ia, ic, rfl, _⟩ := hi.opens rfl
  obtain ⟨sa, sc, rfl, _⟩ := hs.opens rfl
  have bN := Bx2T.new w (.int .i64 h) (.int .i64 x)
  generalize wrgT h x id.length seed.length = C at *
  have hcb : (C != 0) = true := by simp [hne]
  go_enter Tryz.func11, Tryz.ntmps11
  go_wp2_with (first | (go_at_call 25; refine hw.mono ?_; rintro e w1 ⟨rfl, hb1⟩) | fail)
  go_ret2
  exact ⟨rfl, keep_trans (keep_alloc _ _) hb1⟩
/-- where the loop stands -/
def SgL (w wD : World) (gO h n : Nat) (pf : List (List Nat)) (f : Nat → List Nat) (vo vi : Value) (wr : World) : Prop := ∃ i : Nat, i ≤ h ∧ vi = .int .i64 ((n / 2 ^ i : Nat) : Int) ∧ GrT wr w.heap.size vo (pf ++ pthA f i n) ∧ But gO wD wr ∧ (∀ g, vo.ownBlock = some g → g = gO ∨ wD.heap.size ≤ g) ∧ Below w.heap.size w wr
def sglt : List Lt := [(0, some 41, [3]), (1, some 42, [41]), (2, some 43, [42]), (0, some 44, [13]), (0, some 45, [5]), (16, some 46, [45]), (36, some 47, [46]), (64, some 48, [47]), (140, some 49, [43, 44, 48]), (511, some 15, [49])]
theorem sgreg : Reg (opsA (cLA (cRA (cRA (cRA (cRA (cRA (Tryz.f11.body.getD .skip)))))))) sglt := ⟨by kernel_rfl, by kernel_rfl⟩
set_option maxHeartbeats 4000000 in
set_option maxRecDepth 100000 in
theorem rsignT_spent (h M : Nat) (x : Int) (id seed : List Nat) (q : Nat) (idv sv : Value) (ta : Option Addr) (tn tc : Nat) (w : World) (hi : Row .u8 256 w idv id) (hs : Row .u8 256 w sv seed) (hne : wrgT (h : Int) x id.length seed.length = 0) (hM : M = 2 ^ h) (hh : h ≤ 10) (hq : M ≤ q) (hq2 : q < 4294967296) :
    Calls Tryz.prog 11 #[.agg #[.int .i64 (h : Int), .int .i64 x], idv, sv, .int .u32 (q : Int), .slice ta tn tc] w fun e w' => e = .returned (.tuple #[.slice none 0 0, .int .i64 13]) ∧ Below w.heap.size w w' := by
  have hw := rwrongT_any (h : Int) x id seed idv sv (w.alloc (.cells #[.int .i64 (h : Int), .int .i64 x] 23)) (hi.below (keep_alloc _ _)) (hs.below (keep_alloc _ _))
  rw [hne] at hw
  obtain ⟨ia, ic, rfl, _⟩ := hi.opens rfl
  obtain ⟨sa, sc, rfl, _⟩ := hs.opens rfl
  have bN := Bx2T.new w (.int .i64 (h : Int)) (.int .i64 x)
  have hMb := pow_le_1024 hh
  rw [← hM] at hMb
  have e_M : (2 : Int) ^ h = (M : Int) := by rw [hM]; norm_cast
  have s_M : IntKind.u64.wrap (M : Int) = (M : Int) := by rw [IntKind.wrap_u64]; omega
  have s_q : IntKind.u64.wrap (q : Int) = (q : Int) := by rw [IntKind.wrap_u64]; omega
  have h_q : (M : Int) ≤ (q : Int) := by omega
  have g_q : (q : Int) ≥ (M : Int) := by omega
  clear hM hne hi hs
  go_enter Tryz.func11, Tryz.ntmps11
  go_wp2_with (first | (go_at_call 25; refine hw.mono ?_; rintro e w1 ⟨rfl, hb1⟩; have b1 := bN.below hb1; have c0 := b1.c0) | fail)
  go_ret2
  exact ⟨rfl, keep_trans (keep_alloc _ _) hb1⟩
end Go.Proofs.YtefndnbaifiboaaGreatDoor

/- Trees of leaves that sign once: the document's Sign where it answers. -/
namespace Go.Proofs.YtefndnbaifiboaaGreatDoor
open Go.RowKit
set_option linter.unusedVariables false
set_option linter.unusedSimpArgs false

theorem xor1_i64 (n : Nat) (hn : n < 1048576) : bits .xor .i64 (n : Int) 1 = ((n ^^^ 1 : Nat) : Int) := by
  show IntKind.i64.wrap ((BitVec.ofInt 64 (n : Int) ^^^ BitVec.ofInt 64 ((1 : Nat) : Int)).toNat : Int) = _
  rw [BitVec.toNat_xor, ofInt_u64 _ (by omega), ofInt_u64 _ (by omega), IntKind.wrap_i64]
  have : n ^^^ 1 < 2 ^ 20 := Nat.xor_lt_two_pow (by omega) (by decide)
  omega
theorem row_tidyT {k : IntKind} {m : Nat} {w : World} {v : Value} {l : List Nat} (h : Row k m w v l) (hl : 0 < l.length) : Tidy v := by
  obtain ⟨a, c, rfl, _, _, h3, _⟩ := h
  obtain ⟨b, off, rfl, _⟩ := h3 hl
  exact fun n c he => by simp at he
theorem GrT.monoT {w : World} {B B' : Nat} {vo : Value} {ls : List (List Nat)} (h : GrT w B vo ls) (hB : B' ≤ B) : GrT w B' vo ls := by
  obtain ⟨us, h1, h2, h3⟩ := h
  refine ⟨us, ⟨h1.1, ?_⟩, h2, h3⟩
  rcases h1.2 with h4 | ⟨g, cap, cur, e1, e2, e3⟩
  · exact .inl h4
  · exact .inr ⟨g, cap, cur, e1, Nat.le_trans hB e2, e3⟩
theorem pthA_len {f : Nat → List Nat} : ∀ k n, (pthA f k n).length = k
  | 0, n => rfl
  | k + 1, n => by rw [pthA_snoc, List.length_append, pthA_len k n]; rfl
theorem pthA_flat {f : Nat → List Nat} (hf : ∀ i, (f i).length = 32) : ∀ k n, (pthA f k n).flatten.length = 32 * k
  | 0, n => rfl
  | k + 1, n => by rw [pthA_snoc, List.flatten_append, List.length_append, pthA_flat hf k n]; simp [hf]; omega
/-- a text more, from among the knots -/
theorem sgl_next {w wD wr w6 : World} {gO h n i g cap : Nat} {pf : List (List Nat)} {f : Nat → List Nat} {vo u : Value} {us : List Value} (hi : i < h)
    (hown : wr.ownsRow w.heap.size 24 1 vo (pf ++ pthA f i n).length us) (ht : Texts wr us (pf ++ pthA f i n)) (hap : ∀ u ∈ us, Apart1 wr vo u) (hB : But gO wD wr) (hvo : ∀ g, vo.ownBlock = some g → g = gO ∨ wD.heap.size ≤ g) (hb : Below w.heap.size w wr)
    (ru : Row .u8 256 wD u (f ((n / 2 ^ i) ^^^ 1))) (hul : 0 < (f ((n / 2 ^ i) ^^^ 1)).length) (tu : Tidy u) (hu : ∀ q, u.ownBlock = some q → gO < q) (hgO : w.heap.size ≤ gO) (hDs : w.heap.size ≤ wD.heap.size)
    (hown6 : w6.ownsRow w.heap.size 24 1 (.slice (some ⟨g, 0, none⟩) ((pf ++ pthA f i n).length + 1) cap) ((pf ++ pthA f i n).length + 1) (us ++ [u])) (hg6 : (wr.alloc (.cells #[u] 24)).grownBy w6 vo.ownBlock) (hl6 : vo.ownBlock = some g ∨ g = (wr.alloc (.cells #[u] 24)).heap.size) :
    SgL w wD gO h n pf f (.slice (some ⟨g, 0, none⟩) ((pf ++ pthA f i n).length + 1) cap) (.int .i64 ((n / 2 ^ (i + 1) : Nat) : Int)) w6 := by
  have hba := keep_alloc wr (.cells #[u] 24)
  have ruw : Row .u8 256 wr u (f ((n / 2 ^ i) ^^^ 1)) := ru.but (fun _ q hq => by have := hu q hq; omega) hB
  have au : Apart1 wr vo u := fun q hq => by
    have h1 := ru.old hul hq
    have h2 := hu q hq
    refine ⟨Nat.lt_of_lt_of_le h1 hB.size, fun e => ?_⟩
    rcases hvo q e with h | h <;> omega
  have hgr := GrT.push (ht.below hba) (fun u hu => (hap u hu).below hba.size) (ruw.below hba) tu (au.below hba.size) hown6 hg6 hl6
  have hgs := hg6.size
  rw [World.size_alloc] at hgs
  refine ⟨i + 1, by omega, rfl, ?_, ?_, ?_, ?_⟩
  · rw [pthA_snoc, ← List.append_assoc]
    exact hgr
  · refine ⟨hg6.os.trans hB.os, hg6.tape.trans hB.tape, hg6.output.trans hB.output, by have := hB.size; omega, fun k hk hn => ?_⟩
    have hkr : k < wr.heap.size := Nat.lt_of_lt_of_le hk hB.size
    refine (hg6.block k (by rw [World.size_alloc]; omega) fun e => ?_).trans ((hba.block k hkr).trans (hB.block k hk hn))
    rcases hvo k e.symm with h | h
    · exact hn h
    · omega
  · intro g' hg'
    have : g = g' := by simpa [Value.ownBlock] using hg'
    subst this
    rcases hl6 with h | h
    · exact hvo g h
    · rw [World.size_alloc] at h; have := hB.size; omega
  · refine (hb.trans (hba.mono hb.size)).grown hg6 (Nat.le_trans hb.size hba.size) fun j ej => ?_
    rcases hvo j ej with h | h <;> omega
set_option maxHeartbeats 8000000 in
set_option maxRecDepth 100000 in
theorem rsignT_ok {k n m s c : Nat} (hk : Kd k n m s c) (h8 : k ≠ 8) (h : Nat) (hh : h ≤ 10) (id seed text : List Nat) (q : Nat) (idv sv tv : Value) (w : World) (hi : Row .u8 256 w idv id) (ti : Tidy idv) (hs : Row .u8 256 w sv seed) (ts : Tidy sv) (ht : Row .u8 256 w tv text) (tt : Tidy tv) (hne : wrgT (h : Int) (k : Int) id.length seed.length = 0) (hl : id.length = 16) (hsl : seed.length = 32) (htl : text.length ≤ 10000) (hq : q < 2 ^ h) :
    Calls Tryz.prog 11 #[.agg #[.int .i64 (h : Int), .int .i64 (k : Int)], idv, sv, .int .u32 (q : Int), tv] w fun e w' => ∃ v, e = .returned (.tuple #[v, .int .i64 0]) ∧ Own 5 .u8 256 w' w.heap.size v ([be4 q, sgT k n m s c id seed text q, be4 (lmCode h)] ++ pthA (knT k n m h id seed) h (2 ^ h + q)).flatten ∧ Below w.heap.size w w' := by
  have hw := rwrongT_any (h : Int) (k : Int) id seed idv sv (w.alloc (.cells #[.int .i64 (h : Int), .int .i64 (k : Int)] 23)) (hi.below (keep_alloc _ _)) (hs.below (keep_alloc _ _))
  rw [hne] at hw
  have hMb := pow_le_1024 hh
  have hsg := fun y (hb : Below w.heap.size w y) => rsgnK hk h8 id seed text q idv sv tv y (hi.below hb) ti (hs.below hb) ts (ht.below hb) tt (by omega) hl hsl htl
  have hkn := fun y (hb : Below w.heap.size w y) => rknotsK hk h8 h hh id seed idv sv y (hi.below hb) ti (hs.below hb) ts hl hsl
  have hfl := knT_len k n m h id seed
  have hgl := sgT_len k n m s c id seed text q
  have hgl2 : (sgT k n m s c id seed text q).length ≤ 10000 := by rw [hgl]; cases hk <;> decide
  have hgl3 : 0 < (sgT k n m s c id seed text q).length := by rw [hgl]; omega
  have hlev := lev_leaf hq
  obtain ⟨M, hM⟩ : ∃ M, M = 2 ^ h := ⟨_, rfl⟩
  rw [← hM] at hkn hq hMb hlev ⊢
  obtain ⟨Nn, hNn⟩ : ∃ x, x = M + q := ⟨_, rfl⟩
  rw [← hNn] at hlev ⊢
  generalize knT k n m h id seed = f at *
  generalize sgT k n m s c id seed text q = sg at *
  obtain ⟨ia, ic, rfl, _⟩ := hi.opens hl
  obtain ⟨sa, sc, rfl, _⟩ := hs.opens hsl
  obtain ⟨ta, tc, rfl, _⟩ := ht.opens (N := text.length) rfl
  have bN := Bx2T.new w (.int .i64 (h : Int)) (.int .i64 (k : Int))
  have e_M : (2 : Int) ^ h = (M : Int) := by rw [hM]; norm_cast
  have s_M : IntKind.u64.wrap (M : Int) = (M : Int) := by rw [IntKind.wrap_u64]; omega
  have s_M2 : IntKind.i64.wrap (M : Int) = (M : Int) := by rw [IntKind.wrap_i64]; omega
  have s_q : IntKind.u64.wrap (q : Int) = (q : Int) := by rw [IntKind.wrap_u64]; omega
  have s_q2 : IntKind.i64.wrap (q : Int) = (q : Int) := by rw [IntKind.wrap_i64]; omega
  have h_q : ¬ (M : Int) ≤ (q : Int) := by omega
  have g_q : ¬ (q : Int) ≥ (M : Int) := by omega
  have e_N : (M : Int) + (q : Int) = (Nn : Int) := by omega
  have s_N : IntKind.i64.wrap (Nn : Int) = (Nn : Int) := by rw [IntKind.wrap_i64]; omega
  have HM := hide (And.intro hM (And.intro hNn (And.intro hq (And.intro hMb (And.intro hlev (And.intro hfl (And.intro hgl2 hgl3)))))))
  clear hM hNn hne hi hs ht ti ts tt hl hsl htl hk hgl hgl2 hgl3 hq hMb hlev hfl h8
  go_enter Tryz.func11, Tryz.ntmps11
  go_wp2_with (first
    | (go_at_call 25; refine hw.mono ?_; rintro e w1 ⟨rfl, hb1⟩; have b1 := bN.below hb1; have c0 := b1.c0; have c1 := b1.c1; have k1 := keep_trans (keep_alloc w (.cells #[.int .i64 (h : Int), .int .i64 (k : Int)] 23)) hb1)
    | (go_at_call 34; refine (hsg _ k1).mono ?_; rintro e w2 ⟨v2, rfl, r2, n2, hb2⟩; have k2 := keep_trans k1 hb2; have b2 := b1.below hb2; obtain ⟨a2, c2, rfl, _⟩ := r2.opens (N := sg.length) rfl)
    | fail)
  obtain ⟨i0, hi0, hz0, hz1, hz2⟩ := info_text
  have hbd : Below w2.heap.size w2 w2.drew := (Below.refl _ _).drew
  have hSf : ∀ y, Below w2.heap.size w2 y → y.cell? ⟨w.heap.size, 0, none⟩ = some (.int .i64 (h : Int)) := fun y hy => (b2.below hy).c0
  have hS0 := hSf _ hbd
  have hq32 : q < 4294967296 := by have := HM.out; omega
  refine at_begin (ops := (opsA (cLA (cRA (cRA (cRA (cRA (cRA (Tryz.f11.body.getD .skip))))))))) (n := 10) (fun y => y.cell? ⟨w.heap.size, 0, none⟩ = some (.int .i64 (h : Int))) (by kernel_rfl) (by kernel_rfl) ?_
  refine at_takeD (i := 0) (m' := 1) (d := some 41) (v := .int .u32 (q : Int)) sgreg rfl (by decide) rfl rfl (y_move rfl rfl rfl) hS0 ?_
  simp only [Act.put, List.setIfInBounds_toArray, List.set_cons_zero, List.set_cons_succ]
  refine at_takeD (i := 1) (m' := 3) (d := some 42) (v := .int .u64 (q : Int)) sgreg rfl (by decide) rfl rfl (y_convT rfl rfl rfl hq32) hS0 ?_
  simp only [Act.put, List.setIfInBounds_toArray, List.set_cons_zero, List.set_cons_succ]
  refine at_takeD (i := 3) (m' := 11) (d := some 44) (v := .slice a2 sg.length c2) sgreg rfl (by decide) rfl rfl (y_move rfl rfl rfl) hS0 ?_
  simp only [Act.put, List.setIfInBounds_toArray, List.set_cons_zero, List.set_cons_succ]
  refine at_takeD (i := 4) (m' := 27) (d := some 45) (v := .pointer (some ⟨w.heap.size, 0, none⟩)) sgreg rfl (by decide) rfl rfl (y_fieldT rfl rfl rfl (fT0 _)) hS0 ?_
  simp only [Act.put, List.setIfInBounds_toArray, List.set_cons_zero, List.set_cons_succ]
  refine at_takeD (i := 5) (m' := 59) (d := some 46) (v := .int .i64 (h : Int)) sgreg rfl (by decide) rfl rfl (y_load_plain rfl rfl rfl Tryz.underlying3 rfl (fun _ h => h)) hS0 ?_
  simp only [Act.put, List.setIfInBounds_toArray, List.set_cons_zero, List.set_cons_succ]
  refine at_one (i := 2) (m' := 63) sgreg (by decide) rfl ?_
  refine p_call2 (u := .int .u64 (q : Int)) (v := .int .i64 4) (d := some 43) rfl rfl rfl rfl rfl rfl Tryz.call35 ((rbe4 q _ (by omega)).mono ?_)
  rintro e y1 ⟨v3, rfl, o3, e1⟩
  obtain ⟨a3, c3, rfl, _⟩ := o3.row.opens (be4_len q)
  have kd1 := keep_trans hbd e1
  refine ⟨_, rfl, hSf _ kd1, ?_⟩
  simp only [Act.put, List.setIfInBounds_toArray, List.set_cons_zero, List.set_cons_succ]
  refine at_one (i := 6) (m' := 127) sgreg (by decide) rfl ?_
  refine p_call1 (u := .int .i64 (h : Int)) (d := some 47) rfl rfl rfl rfl rfl Tryz.call36 ((rcode_any (h : Int) _).mono ?_)
  rintro e y1' ⟨rfl, hy⟩
  obtain rfl := hy.symm
  refine ⟨_, rfl, hSf _ kd1, ?_⟩
  simp only [Act.put, List.setIfInBounds_toArray, List.set_cons_zero, List.set_cons_succ]
  have hcd : lmCode (h : Int) < 18446744073709551616 := by have := lmCode_32 (h : Int); omega
  refine at_one (i := 7) (m' := 255) sgreg (by decide) rfl ?_
  refine p_call2 (u := .int .u64 ((lmCode (h : Int) : Nat) : Int)) (v := .int .i64 4) (d := some 48) rfl rfl rfl rfl rfl rfl Tryz.call35 ((rbe4 _ _ hcd).mono ?_)
  rintro e y2 ⟨v4, rfl, o4, e2⟩
  obtain ⟨a4, c4, rfl, _⟩ := o4.row.opens (be4_len _)
  have kd2 := keep_trans kd1 e2
  refine ⟨_, rfl, hSf _ kd2, ?_⟩
  simp only [Act.put, List.setIfInBounds_toArray, List.set_cons_zero, List.set_cons_succ]
  have e3 := keep_alloc y2 (.cells #[.slice a3 4 c3, .slice a2 sg.length c2, .slice a4 4 c4] 24)
  have kd3 := keep_trans kd2 e3
  refine at_one (i := 8) (m' := 511) sgreg (by decide) rfl ?_
  refine p_build3 (d := some 49) rfl rfl rfl rfl rfl rfl rfl Tryz.underlying46 hi0 hz1 hz0 ⟨hSf _ kd3, ?_⟩
  simp only [Act.put, List.setIfInBounds_toArray, List.set_cons_zero, List.set_cons_succ]
  refine at_takeD (i := 9) (m' := 1023) (d := some 15) (v := .slice (some ⟨y2.heap.size, 0, none⟩) 3 3) sgreg rfl (by decide) rfl rfl (y_assignA rfl rfl rfl) (hSf _ kd3) ?_
  simp only [Act.put, List.setIfInBounds_toArray, List.set_cons_zero, List.set_cons_succ]
  refine at_done sgreg (by decide) ?_
  have hG0 := GrT.lit3 (o3.row.below e2) (row_tidyT o3.row (by rw [be4_len]; decide)) (r2.below kd2) (row_tidyT r2 HM.out.2.2.2.2.2.2.2) o4.row (row_tidyT o4.row (by rw [be4_len]; decide)) (by rw [be4_len]; decide) HM.out.2.2.2.2.2.2.2 (by rw [be4_len]; decide)
  have b3 := b2.below kd3
  have k3 := keep_trans k2 kd3
  have hy2 : w.heap.size ≤ y2.heap.size := (keep_trans k2 kd2).size
  have hy3 : (y2.alloc (.cells #[.slice a3 4 c3, .slice a2 sg.length c2, .slice a4 4 c4] 24)).heap.size = y2.heap.size + 1 := by simp
  generalize y2.alloc (.cells #[.slice a3 4 c3, .slice a2 sg.length c2, .slice a4 4 c4] 24) = y3 at *
  generalize y2.heap.size = gO at *
  clear kd1 kd2 kd3 e1 e2 e3 o3 o4 r2 n2 hSf hS0 hcd hsg hb2 b2 hbd b1 c0 c1 hb1 k1
  have cH := b3.c0
  have hkn3 := hkn _ k3
  go_wp2_with (first
    | (refine wpList_load_row rfl 23 _ (by rfl) w.heap.size (by rfl) _ _ _ _ b3.here Tryz.underlying23 rfl (by kernel_rfl) ?_)
    | (go_at_call 28; refine hkn3.mono ?_; rintro e wD ⟨H, rfl, kD, hH, hbD⟩; have b4 := b3.below hbD; have cD := b4.c0)
    | fail)
  have h0 : SgL w wD gO h Nn [be4 q, sg, be4 (lmCode (h : Int))] f (.slice (some ⟨gO, 0, none⟩) 3 3) (.int .i64 (Nn : Int)) wD := by
    refine ⟨0, Nat.zero_le _, by rw [Nat.pow_zero, Nat.div_one], ?_, But.refl _ _, fun g hg => .inl ?_, keep_trans k3 hbD⟩
    · exact (hG0.below hbD).monoT hy2
    · have : gO = g := by simpa [Value.ownBlock] using hg
      exact this.symm
  have hHg : gO < H := by omega
  have hDs : w.heap.size ≤ wD.heap.size := (keep_trans k3 hbD).size
  have hMN : 2 * M ≤ 2048 := by have := HM.out; omega
  have HK := hide (And.intro kD (And.intro hHg (And.intro hDs (And.intro hy2 hMN))))
  have H0 := hide h0
  clear h0 hG0 kD hHg hDs hkn hkn3 b3 b4 cH cD hbD k3 hH hy3 hMN hy2
  go_loopw [15, 17] (fun vo vi wr => SgL w wD gO h Nn [be4 q, sg, be4 (lmCode (h : Int))] f vo vi wr) (fun _ vi _ => (intOf vi).toNat)
  case atStart => exact H0.out
  case round =>
    obtain ⟨i, hih, rfl, hG, hB, hvo, hbr⟩ := hrel
    clear H0
    have hL := lev_div HM.out.2.2.2.2.1 i hih
    by_cases hlt : i < h
    · obtain ⟨P, hP⟩ : ∃ P, P = Nn / 2 ^ i := ⟨_, rfl⟩
      obtain ⟨Q, hQ⟩ : ∃ Q, Q = Nn / 2 ^ (i + 1) := ⟨_, rfl⟩
      have hPQ : Q = P / 2 := by rw [hQ, hP, Nat.pow_succ, Nat.div_div_eq_div_mul]
      rw [← hP] at hL ⊢
      obtain ⟨d, hd⟩ : ∃ d, h - i = d + 1 := ⟨h - i - 1, by omega⟩
      rw [hd] at hL
      have hL2 := hL.next
      obtain ⟨j, hj⟩ : ∃ j, j = P ^^^ 1 := ⟨_, rfl⟩
      rw [← hj] at hL2
      have p1 : 2 ^ (d + 1) ≥ 2 := by rw [Nat.pow_succ]; have := Nat.two_pow_pos d; omega
      have p2 : 2 ^ (d + 1 + 1) ≤ 2 * M := by
        have := Nat.pow_le_pow_right (n := 2) (by decide) (show d + 1 + 1 ≤ h + 1 by omega)
        rw [HM.out.1]
        rw [Nat.pow_succ 2 h] at this
        omega
      have hP2 : 2 ≤ P := Nat.le_trans p1 hL.1
      have hPN : P < 2 * M := Nat.lt_of_lt_of_le hL.2 p2
      have hj1 : 1 ≤ j := by have := hL2.1; omega
      have hj2 : j < 2 * M := Nat.lt_of_lt_of_le hL2.2 p2
      obtain ⟨kD, hHg, hDs, hy2, hMN⟩ := HK.out
      obtain ⟨u, cu, ru, tu, hu⟩ := kD.cell2 hj1 hj2
      have cu2 := But.cell cu hB (by show H ≠ gO; omega)
      have hfl := HM.out.2.2.2.2.2.1 j
      obtain ⟨ua, uc, rfl, _⟩ := ru.opens hfl
      have hG' := hG
      obtain ⟨us, how, htx, hap⟩ := hG'
      obtain ⟨oa, oc, rfl⟩ := hG.slice
      have hxo := xor1_i64 P (by omega)
      rw [← hj] at hxo
      have gP : (P : Int) > 1 := by omega
      have gP2 : (1 : Int) < (P : Int) := by omega
      have z_j : (0 : Int) ≤ (j : Int) := Int.natCast_nonneg _
      have l_j : (j : Int) < ((2 * M : Nat) : Int) := by omega
      have e_Q : (P : Int).tdiv 2 = (Q : Int) := by rw [Int.tdiv_eq_ediv_of_nonneg (by omega)]; omega
      have e_Q2 : (P : Int) / 2 = (Q : Int) := by omega
      have s_Q : IntKind.i64.wrap (Q : Int) = (Q : Int) := by rw [IntKind.wrap_i64]; omega
      have hll : ([be4 q, sg, be4 (lmCode (h : Int))] ++ pthA f i Nn).length ≤ 1000 := by rw [List.length_append, pthA_len]; simp; omega
      obtain ⟨LL, hLL⟩ : ∃ LL, ([be4 q, sg, be4 (lmCode (h : Int))] ++ pthA f i Nn).length = LL := ⟨_, rfl⟩
      obtain ⟨NN, hNN⟩ : ∃ NN, 2 * M = NN := ⟨_, rfl⟩
      rw [hNN] at l_j ⊢
      rw [hj, hP] at ru hfl
      have HR := hide (And.intro hlt (And.intro how (And.intro htx (And.intro hap (And.intro hB (And.intro hvo (And.intro hbr (And.intro ru (And.intro hfl (And.intro tu hu))))))))))
      have HS := hide (And.intro hHg (And.intro hDs (And.intro hy2 (And.intro hLL (And.intro hll (And.intro hPQ (And.intro hQ (And.intro hP2 hP))))))))
      have how2 := how.alloc (.cells #[.slice ua 32 uc] 24)
      rw [hLL] at how2 ⊢
      clear hG how htx hap hB hvo hbr ru hfl tu hu hHg hDs hy2 hMN kD cu hL hL2 hd hj hP hQ hPQ p1 p2 hP2 hPN hj1 hj2 hlt hih hLL hll hNN
      go_wp2_with (first
        | (at_builtin; refine wpList_append_lies _ rfl _ _ 46 rfl w.heap.size 24 i0 (.slice none 0 0) 1 24 Tryz.underlying46 hi0 hz0 hz1 hz2 rfl (by decide) (.slice oa LL oc) LL us rfl how2 ⟨wr.heap.size, 0, none⟩ 1 1 [.slice ua 32 uc] rfl rfl (cell_one_new _ _ _) (by simp [Value.oneCell']) (by decide) (by have := HS.out; unfold maxLen; omega) (by have := HS.out; omega) (by have := HR.out.2.2.2.2.2.2.1.size; rw [World.size_alloc]; omega) _ rfl ?_; intro g6 cap6 w6 how6 hg6 hl6 hlt6)
        | fail)
      go_roundw
      case rel =>
        obtain ⟨hlt, how, htx, hap, hB, hvo, hbr, ru, hfl, tu, hu⟩ := HR.out
        obtain ⟨hHg, hDs, hy2, hLL, hll, hPQ, hQ, hP2, hP⟩ := HS.out
        subst hLL
        have := sgl_next (cap := cap6) hlt how htx hap hB hvo hbr ru (by rw [hfl]; decide) tu (fun q hq => by have := hu q hq; omega) hy2 hDs how6 hg6 hl6
        rw [← hQ] at this
        exact this
      case measure => have := HS.out; simp [intOf]; omega
    · obtain rfl : i = h := by omega
      obtain ⟨P, hP⟩ : ∃ P, P = Nn / 2 ^ i := ⟨_, rfl⟩
      rw [← hP] at hL ⊢
      rw [Nat.sub_self] at hL
      have hP1 : P = 1 := by have h1 := hL.1; have h2 := hL.2; simp at h1 h2; omega
      subst hP1
      have hrw := hG.rows
      have hfl := pthA_flat HM.out.2.2.2.2.2.1 i Nn
      have hj := rjoin_any _ _ _ hrw (by rw [List.flatten_append, List.length_append, hfl]; have := HM.out.2.2.2.2.2.2.1; simp [be4_len]; omega)
      obtain ⟨oa, oc, rfl⟩ := hG.slice
      obtain ⟨LS, hLS⟩ : ∃ LS, ([be4 q, sg, be4 (lmCode (i : Int))] ++ pthA f i Nn) = LS := ⟨_, rfl⟩
      rw [hLS] at hj ⊢
      have gP : ¬ ((1 : Nat) : Int) > 1 := by decide
      have gP2 : ¬ (1 : Int) < ((1 : Nat) : Int) := by decide
      have HB := hide (And.intro hbr hLS)
      clear hG hrw hB hvo hbr hL hfl hlt hih hP hLS
      go_wp2_with (first
        | (go_at_call 26; refine hj.mono ?_; rintro e y9 ⟨v9, rfl, o9, e9⟩)
        | fail)
      go_ret2
      exact ⟨_, rfl, by have hz := o9.mono HB.out.1.size; rw [← HB.out.2] at hz; exact hz, keep_trans HB.out.1 e9⟩
end Go.Proofs.YtefndnbaifiboaaGreatDoor
