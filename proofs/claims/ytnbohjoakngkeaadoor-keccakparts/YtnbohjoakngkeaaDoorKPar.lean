/- The two drawn regions of the law KeccakParts. -/
import Derived.Test.YtnbohjoakngkeaaDoorPlan4
import Derived.Test.YtnbohjoakngkeaaDoorCSm
import Derived.Test.YtnbohjoakngkeaaDoorHHsh
namespace Go.Proofs.YtnbohjoakngkeaaDoor
open Go.RowKit
set_option linter.unusedVariables false
set_option linter.unusedSimpArgs false

def plt3 : List Lt := [(0, some 29, [5]), (0, some 30, [1]), (3, some 31, [29, 30]), (0, some 32, [2]), (12, some 33, [31, 32]), (0, some 34, [5]), (0, some 35, [1]), (0, some 36, [2]), (192, some 37, [35, 36]), (272, some 38, [37]), (544, some 39, [34, 38]), (1040, some 40, [33, 39]), (3072, some 41, [40]), (4096, some 42, [5, 41]), (12288, some 43, [42, 41]), (4096, some 44, [5, 41]), (53248, some 45, [43, 44, 41]), (69632, some 46, [41, 45])]
theorem preg3 : Reg (opsOf (cL (cL (cR (cR (Tryd.f5.body.getD .skip)))))) plt3 := ⟨by kernel_rfl, by kernel_rfl⟩
theorem pis3 : (cL (cL (cR (cR (Tryd.f5.body.getD .skip))))) = .region 3 (opsOf (cL (cL (cR (cR (Tryd.f5.body.getD .skip)))))) true := by kernel_rfl
def plt8 : List Lt := [(0, some 71, [13]), (0, some 72, [15]), (3, some 73, [71, 72]), (4, some 74, [73]), (8, some 75, [12, 74]), (8, some 76, [14, 74]), (56, some 77, [75, 76, 74]), (72, some 78, [77, 74]), (8, some 79, [16, 74]), (392, some 80, [78, 79, 74]), (520, some 81, [74, 80]), (1536, some 82, [81]), (2048, some 83, [11, 82]), (2048, some 84, [1, 82]), (14336, some 85, [83, 84, 82]), (2048, some 86, [11, 82]), (51200, some 87, [85, 86, 82]), (67584, some 88, [82, 87]), (147456, some 89, [88]), (262144, some 90, [16, 89]), (786432, some 91, [90, 89]), (262144, some 92, [3, 89]), (2359296, some 93, [92, 89]), (262144, some 94, [4, 89]), (8650752, some 95, [94, 89]), (21233664, some 96, [93, 95, 89]), (34865152, some 97, [91, 96, 89]), (67371008, some 98, [89, 97]), (134479872, some 99, [98]), (268435456, some 100, [99]), (805306368, some 101, [99, 100]), (2147483647, some 10, [101])]
theorem preg8 : Reg (opsOf (cL (cR (cR (cR (cR (cR (cR (Tryd.f5.body.getD .skip))))))))) plt8 := ⟨by kernel_rfl, by kernel_rfl⟩
theorem pis8 : (cL (cR (cR (cR (cR (cR (cR (Tryd.f5.body.getD .skip)))))))) = .region 8 (opsOf (cL (cR (cR (cR (cR (cR (cR (Tryd.f5.body.getD .skip))))))))) true := by kernel_rfl
/-- cells of a block, from its first on -/
theorem row_range {w : World} {g : Nat} {cs : List Value} {t : TypeId} {fr : Nat × Nat} (h : w.heap[g]? = some (.cells cs.toArray t fr)) : w.rangeAt g 0 cs := fun j v hv => by
  rw [Nat.zero_add, cell_of_row _ _ j _ _ _ h]; simpa using hv
theorem eval_const (a : Act) (v : Value) : a.eval (.const v) = v := rfl
section
variable {ops : Array Oper} {Q : Exit → Act → World → Prop} {S : World → Prop} {K : Act → World → Prop}
theorem p_two {i : Nat} {o : Oper} {a : Act} {x : World} {y z : Operand} {u v : Value} {la lb : List Nat} (hi : ops[i]? = some o) (hw : Region.wanted o (yielded ops a.tmps) = true) (ho : o.op = .buildSlice 46 2 #[(0, y), (1, z)]) (hy : a.eval y = u) (hz : a.eval z = v)
    (ru : Row .u8 256 x u la) (rv : Row .u8 256 x v lb) (tu : Tidy u) (tv : Tidy v) (h : ∀ jl x', Rows2 x' jl [la, lb] → Below x.heap.size x x' → K (a.put o.dst jl) x') : wpOp Tryd.prog ops Q i K a x := by
  have hh := h _ _ (rows_lit2 ru rv tu tv) (keep_alloc _ _)
  obtain ⟨a1, c1, rfl⟩ := ru.form
  obtain ⟨a2, c2, rfl⟩ := rv.form
  have hr : (execOp a.eval o).run Tryd.prog x = .ok (.value (.slice (some ⟨x.heap.size, 0, none⟩) 2 2)) (x.alloc (.cells #[.slice a1 la.length c1, .slice a2 lb.length c2] 24)) := by
    unfold execOp
    simp only [ho, List.map_toArray, List.map_cons, List.map_nil, hy, hz]
    simp [go_sem]
  unfold wpOp
  simp only [hi]
  rw [if_pos hw]
  left
  unfold Oper.wp
  rw [hr]
  exact hh
theorem y_len {o : Oper} {a : Act} {x : Operand} {v : Value} {n : Nat} {c : Int} (hw : Region.wanted o (yielded ops a.tmps) = true) (ho : o.op = .call { callee := .builtin .len, args := #[x], argTypes := #[24] }) (hx : a.eval x = v) (hf : ∃ aa cc, v = .slice aa n cc) (hc : (n : Int) = c) : YieldsIf Tryd.prog ops S o (.int .i64 c) a :=
  y_ofW hw fun w _ => by
    obtain ⟨aa, cc, rfl⟩ := hf
    subst hc
    unfold execOp
    have ha : (#[x] : Array Operand).map a.eval = #[.slice aa n cc] := by simp only [List.map_toArray, List.map_cons, List.map_nil, hx]
    generalize (#[x] : Array Operand) = xs at ho ha
    simp only [ho]
    simp [resolve, ha, go_sem]
theorem y_conv {o : Oper} {a : Act} {x : Operand} {n : Int} (hw : Region.wanted o (yielded ops a.tmps) = true) (ho : o.op = .convert 5 3 x) (hx : a.eval x = .int .u8 n) (hn : IntKind.i64.wrap n = n) : YieldsIf Tryd.prog ops S o (.int .i64 n) a :=
  y_ofW hw fun w _ => by
    unfold execOp
    simp only [ho, hx]
    simp [go_sem, hn]
theorem y_add {o : Oper} {a : Act} {x y : Operand} {t : TypeId} {n m c : Int} (hw : Region.wanted o (yielded ops a.tmps) = true) (ho : o.op = .binOp .add 3 x y t) (hx : a.eval x = .int .i64 n) (hy : a.eval y = .int .i64 m) (hc : IntKind.i64.wrap (n + m) = c) : YieldsIf Tryd.prog ops S o (.int .i64 c) a :=
  y_ofW hw fun w _ => by
    unfold execOp
    simp only [ho, hx, hy]
    simp [go_sem, hc]
end
/-- the frame of the first -/
structure KPF (w : World) (av bv : Value) (n m : Int) (a : Act) : Prop where
  fz : Fz 102 a
  t1 : a.eval (.tmp 1) = av
  t2 : a.eval (.tmp 2) = bv
  t3 : a.eval (.tmp 3) = .int .u8 n
  t4 : a.eval (.tmp 4) = .int .u8 m
  t5 : a.eval (.tmp 5) = .pointer (some ⟨w.heap.size, 0, none⟩)
/-- what stays in the first -/
structure KPS (w : World) (kind : Int) (ws : List Nat) (p : Int) (ot : Bool) (y : World) : Prop where
  s : Sg y w.heap.size kind ws p ot
  bel : Below w.heap.size w y
theorem KPS.keep {w : World} {kind : Int} {ws : List Nat} {p : Int} {ot : Bool} {y y' : World} (h : KPS w kind ws p ot y) (hb : Below y.heap.size y y') : KPS w kind ws p ot y' := ⟨h.s.below hb, keep_trans h.bel hb⟩
section
variable {w : World} {kind : Int} {ws : List Nat} {p : Int} {ot : Bool} {av bv : Value} {la lb : List Nat} {n m : Int} {Q : Exit → Act → World → Prop} {M1 M2 : List Nat} {P1 P2 : Int}
theorem KPF.step {a : Act} {x : World} (h : KPF w av bv n m a) {k fuel mm : Nat} {v : Value} {dd : Option Nat} {ops : Array Oper} {S : World → Prop} (hd : dd = some k) (h3 : 10 ≤ k) (hk : k < 102)
    (hc : ∀ a' : Act, KPF w av bv n m a' → a'.eval (.tmp k) = v → (∀ j, k ≠ j → a'.eval (.tmp j) = a.eval (.tmp j)) → At Tryd.prog ops Q S fuel mm a' x) : At Tryd.prog ops Q S fuel mm (a.put dd v) x := by
  subst hd
  exact hc _ ⟨h.fz.put _ _, (put_else (by omega)).trans h.t1, (put_else (by omega)).trans h.t2, (put_else (by omega)).trans h.t3, (put_else (by omega)).trans h.t4, (put_else (by omega)).trans h.t5⟩ (put_same (by rw [h.fz.1]; exact hk)) (fun j hj => put_else hj)
set_option maxRecDepth 100000 in
theorem par_21 (hl : ws.length = 25) (hM : M2.length = 25) (hlen : la.length + lb.length ≤ 900) (hQ : ∀ (a : Act) (x : World), KPF w av bv n m a → a.eval (.tmp 46) = .bool false → KPS w kind ws p ot x → Q .normal a x) (hA3 : ∀ x v, Below w.heap.size w x → Row .u8 256 x v (la ++ lb) → Calls Tryd.prog 17 #[.agg (sl kind ws p ot).toArray, v] x fun e x' => e = .returned (.agg (sl kind M2 P2 ot).toArray) ∧ Below x.heap.size x x') (hA4 : ∀ x, Below w.heap.size w x → Calls Tryd.prog 17 #[.agg (sl kind ws p ot).toArray, .slice none 0 0] x fun e x' => e = .returned (.agg (sl kind ws p ot).toArray) ∧ Below x.heap.size x x')
    {a : Act} {x : World} {jl : Value} (F : KPF w av bv n m a) (hS : KPS w kind ws p ot x) (s34 : a.eval (.tmp 34) = .agg (sl kind ws p ot).toArray) (s33 : a.eval (.tmp 33) = .agg (sl kind M2 P2 ot).toArray) (s37 : a.eval (.tmp 37) = jl) (hJ : Rows2 x jl [la, lb]) :
    At Tryd.prog (opsOf (cL (cL (cR (cR (Tryd.f5.body.getD .skip)))))) Q (KPS w kind ws p ot) 9 511 a x := by
  have hsl := sl_len (kind := kind) (p := p) (o := ot) hl
  refine at_one (i := 9) (m' := 1023) preg3 (by decide) rfl ?_
  refine p_callW (args := #[jl]) rfl (wanted_free rfl) rfl (by simp only [List.map_toArray, List.map_cons, List.map_nil, s37]) Tryd.call21 ((rjoin_any jl [la, lb] _ hJ (by simp; omega)).mono ?_)
  rintro e x1 ⟨jv, rfl, hO, hb⟩
  replace hS := hS.keep hb
  refine ⟨_, rfl, hS, ?_⟩
  refine F.step (k := 38) rfl (by decide) (by decide) ?_
  intro a1 F s38 e
  replace s33 := (e 33 (by decide)).trans s33
  replace s34 := (e 34 (by decide)).trans s34
  clear e
  refine at_one (i := 10) (m' := 2047) preg3 (by decide) rfl ?_
  refine p_callW (args := #[.agg (sl kind ws p ot).toArray, jv]) rfl (wanted_free rfl) rfl (by simp only [List.map_toArray, List.map_cons, List.map_nil, s34, s38]) Tryd.call17 ((hA3 _ jv hS.bel (by simpa using hO.row)).mono ?_)
  rintro e x2 ⟨rfl, hb⟩
  replace hS := hS.keep hb
  refine ⟨_, rfl, hS, ?_⟩
  refine F.step (k := 39) rfl (by decide) (by decide) ?_
  intro a2 F s39 e
  replace s33 := (e 33 (by decide)).trans s33
  clear e
  refine at_take (i := 11) (m' := 4095) preg3 rfl (by decide) rfl (y_neW (wanted_free rfl) rfl s33 s39 (ner_sponge _ _ kind M2 P2 ot hM)) hS ?_
  refine F.step (k := 40) rfl (by decide) (by decide) ?_
  intro a3 F s40 e
  clear e
  refine at_take (i := 12) (m' := 8191) preg3 rfl (by decide) rfl (y_moveW (wanted_free rfl) rfl s40) hS ?_
  refine F.step (k := 41) rfl (by decide) (by decide) ?_
  intro a4 F s41 e
  clear e
  refine at_take (i := 13) (m' := 16383) preg3 rfl (by decide) rfl (y_load_rowW (cs := sl kind ws p ot) (wanted_g (j := 12) rfl rfl rfl s41) rfl F.t5 Tryd.underlying26 rfl (by rw [hsl]; kernel_rfl) (fun _ h => h.s.all)) hS ?_
  refine F.step (k := 42) rfl (by decide) (by decide) ?_
  intro a5 F s42 e
  replace s41 := (e 41 (by decide)).trans s41
  clear e
  refine at_take (i := 15) (m' := 49151) preg3 rfl (by decide) rfl (y_load_rowW (cs := sl kind ws p ot) (wanted_g (j := 12) rfl rfl rfl s41) rfl F.t5 Tryd.underlying26 rfl (by rw [hsl]; kernel_rfl) (fun _ h => h.s.all)) hS ?_
  refine F.step (k := 44) rfl (by decide) (by decide) ?_
  intro a6 F s44 e
  replace s41 := (e 41 (by decide)).trans s41
  replace s42 := (e 42 (by decide)).trans s42
  clear e
  refine at_one (i := 14) (m' := 65535) preg3 (by decide) rfl ?_
  refine p_callW (args := #[.agg (sl kind ws p ot).toArray, .slice none 0 0]) rfl (wanted_g (j := 12) rfl rfl rfl s41) rfl (by simp only [List.map_toArray, List.map_cons, List.map_nil, s42, eval_const]) Tryd.call17 ((hA4 _ hS.bel).mono ?_)
  rintro e x7 ⟨rfl, hb⟩
  replace hS := hS.keep hb
  refine ⟨_, rfl, hS, ?_⟩
  refine F.step (k := 43) rfl (by decide) (by decide) ?_
  intro a7 F s43 e
  replace s41 := (e 41 (by decide)).trans s41
  replace s44 := (e 44 (by decide)).trans s44
  clear e
  refine at_take (i := 16) (m' := 131071) preg3 rfl (by decide) rfl (y_neW (wanted_g (j := 12) rfl rfl rfl s41) rfl s43 s44 (ner_sponge _ _ kind ws p ot hl)) hS ?_
  refine F.step (k := 45) rfl (by decide) (by decide) ?_
  intro a8 F s45 e
  replace s41 := (e 41 (by decide)).trans s41
  clear e
  refine at_take (i := 17) (m' := 262143) preg3 rfl (by decide) rfl (y_pickF (wanted_free rfl) rfl s41 s45) hS ?_
  refine F.step (k := 46) rfl (by decide) (by decide) ?_
  intro a9 F s46 e
  clear e
  exact at_done preg3 (by decide) (hQ _ _ F s46 hS)
theorem par_20 (hl : ws.length = 25) (hM : M2.length = 25) (hlen : la.length + lb.length ≤ 900) (hQ : ∀ (a : Act) (x : World), KPF w av bv n m a → a.eval (.tmp 46) = .bool false → KPS w kind ws p ot x → Q .normal a x) (hA1 : ∀ x, Below w.heap.size w x → Calls Tryd.prog 17 #[.agg (sl kind ws p ot).toArray, av] x fun e x' => e = .returned (.agg (sl kind M1 P1 ot).toArray) ∧ Below x.heap.size x x') (hA2 : ∀ x, Below w.heap.size w x → Calls Tryd.prog 17 #[.agg (sl kind M1 P1 ot).toArray, bv] x fun e x' => e = .returned (.agg (sl kind M2 P2 ot).toArray) ∧ Below x.heap.size x x') (hA3 : ∀ x v, Below w.heap.size w x → Row .u8 256 x v (la ++ lb) → Calls Tryd.prog 17 #[.agg (sl kind ws p ot).toArray, v] x fun e x' => e = .returned (.agg (sl kind M2 P2 ot).toArray) ∧ Below x.heap.size x x') (hA4 : ∀ x, Below w.heap.size w x → Calls Tryd.prog 17 #[.agg (sl kind ws p ot).toArray, .slice none 0 0] x fun e x' => e = .returned (.agg (sl kind ws p ot).toArray) ∧ Below x.heap.size x x') (ra : Row .u8 256 w av la) (rb : Row .u8 256 w bv lb) (ta : Tidy av) (tb : Tidy bv)
    {a : Act} {x : World} (F : KPF w av bv n m a) (hS : KPS w kind ws p ot x) (s34 : a.eval (.tmp 34) = .agg (sl kind ws p ot).toArray) (s33 : a.eval (.tmp 33) = .agg (sl kind M2 P2 ot).toArray) (s35 : a.eval (.tmp 35) = av) (s36 : a.eval (.tmp 36) = bv) :
    At Tryd.prog (opsOf (cL (cL (cR (cR (Tryd.f5.body.getD .skip)))))) Q (KPS w kind ws p ot) 10 255 a x := by
  refine at_one (i := 8) preg3 (by decide) rfl ?_
  refine p_two rfl (wanted_free rfl) rfl s35 s36 (ra.below hS.bel) (rb.below hS.bel) ta tb ?_
  rintro jl x' hJ hb
  refine ⟨hS.keep hb, ?_⟩
  refine F.step (k := 37) rfl (by decide) (by decide) ?_
  intro a' F' s37 el
  exact par_21 hl hM hlen hQ hA3 hA4 F' (hS.keep hb) ((el 34 (by decide)).trans s34) ((el 33 (by decide)).trans s33) s37 hJ
theorem par_11 (hl : ws.length = 25) (hM : M2.length = 25) (hlen : la.length + lb.length ≤ 900) (hQ : ∀ (a : Act) (x : World), KPF w av bv n m a → a.eval (.tmp 46) = .bool false → KPS w kind ws p ot x → Q .normal a x) (hA1 : ∀ x, Below w.heap.size w x → Calls Tryd.prog 17 #[.agg (sl kind ws p ot).toArray, av] x fun e x' => e = .returned (.agg (sl kind M1 P1 ot).toArray) ∧ Below x.heap.size x x') (hA2 : ∀ x, Below w.heap.size w x → Calls Tryd.prog 17 #[.agg (sl kind M1 P1 ot).toArray, bv] x fun e x' => e = .returned (.agg (sl kind M2 P2 ot).toArray) ∧ Below x.heap.size x x') (hA3 : ∀ x v, Below w.heap.size w x → Row .u8 256 x v (la ++ lb) → Calls Tryd.prog 17 #[.agg (sl kind ws p ot).toArray, v] x fun e x' => e = .returned (.agg (sl kind M2 P2 ot).toArray) ∧ Below x.heap.size x x') (hA4 : ∀ x, Below w.heap.size w x → Calls Tryd.prog 17 #[.agg (sl kind ws p ot).toArray, .slice none 0 0] x fun e x' => e = .returned (.agg (sl kind ws p ot).toArray) ∧ Below x.heap.size x x') (ra : Row .u8 256 w av la) (rb : Row .u8 256 w bv lb) (ta : Tidy av) (tb : Tidy bv)
    {a : Act} {x : World} {jl : Value} (F : KPF w av bv n m a) (hS : KPS w kind ws p ot x) (s34 : a.eval (.tmp 34) = .agg (sl kind ws p ot).toArray) (s31 : a.eval (.tmp 31) = .agg (sl kind M1 P1 ot).toArray) (s32 : a.eval (.tmp 32) = bv) (s37 : a.eval (.tmp 37) = jl) (hJ : Rows2 x jl [la, lb]) :
    At Tryd.prog (opsOf (cL (cL (cR (cR (Tryd.f5.body.getD .skip)))))) Q (KPS w kind ws p ot) 10 495 a x := by
  refine at_one (i := 4) preg3 (by decide) rfl ?_
  refine p_call (args := #[.agg (sl kind M1 P1 ot).toArray, bv]) rfl rfl rfl (by simp only [List.map_toArray, List.map_cons, List.map_nil, s31, s32]) Tryd.call17 ((hA2 x hS.bel).mono ?_)
  rintro e x' ⟨rfl, hb⟩
  refine ⟨_, rfl, hS.keep hb, ?_⟩
  refine F.step (k := 33) rfl (by decide) (by decide) ?_
  intro a' F' s33 el
  exact par_21 hl hM hlen hQ hA3 hA4 F' (hS.keep hb) ((el 34 (by decide)).trans s34) s33 ((el 37 (by decide)).trans s37) (hJ.below hb)
theorem par_10 (hl : ws.length = 25) (hM : M2.length = 25) (hlen : la.length + lb.length ≤ 900) (hQ : ∀ (a : Act) (x : World), KPF w av bv n m a → a.eval (.tmp 46) = .bool false → KPS w kind ws p ot x → Q .normal a x) (hA1 : ∀ x, Below w.heap.size w x → Calls Tryd.prog 17 #[.agg (sl kind ws p ot).toArray, av] x fun e x' => e = .returned (.agg (sl kind M1 P1 ot).toArray) ∧ Below x.heap.size x x') (hA2 : ∀ x, Below w.heap.size w x → Calls Tryd.prog 17 #[.agg (sl kind M1 P1 ot).toArray, bv] x fun e x' => e = .returned (.agg (sl kind M2 P2 ot).toArray) ∧ Below x.heap.size x x') (hA3 : ∀ x v, Below w.heap.size w x → Row .u8 256 x v (la ++ lb) → Calls Tryd.prog 17 #[.agg (sl kind ws p ot).toArray, v] x fun e x' => e = .returned (.agg (sl kind M2 P2 ot).toArray) ∧ Below x.heap.size x x') (hA4 : ∀ x, Below w.heap.size w x → Calls Tryd.prog 17 #[.agg (sl kind ws p ot).toArray, .slice none 0 0] x fun e x' => e = .returned (.agg (sl kind ws p ot).toArray) ∧ Below x.heap.size x x') (ra : Row .u8 256 w av la) (rb : Row .u8 256 w bv lb) (ta : Tidy av) (tb : Tidy bv)
    {a : Act} {x : World} (F : KPF w av bv n m a) (hS : KPS w kind ws p ot x) (s34 : a.eval (.tmp 34) = .agg (sl kind ws p ot).toArray) (s31 : a.eval (.tmp 31) = .agg (sl kind M1 P1 ot).toArray) (s32 : a.eval (.tmp 32) = bv) (s35 : a.eval (.tmp 35) = av) (s36 : a.eval (.tmp 36) = bv) :
    At Tryd.prog (opsOf (cL (cL (cR (cR (Tryd.f5.body.getD .skip)))))) Q (KPS w kind ws p ot) 11 239 a x := by
  refine at_two (i := 4) (j := 8) preg3 (by decide) rfl rfl ?_ ?_
  · refine p_call (args := #[.agg (sl kind M1 P1 ot).toArray, bv]) rfl rfl rfl (by simp only [List.map_toArray, List.map_cons, List.map_nil, s31, s32]) Tryd.call17 ((hA2 x hS.bel).mono ?_)
    rintro e x' ⟨rfl, hb⟩
    refine ⟨_, rfl, hS.keep hb, ?_⟩
    refine F.step (k := 33) rfl (by decide) (by decide) ?_
    intro a' F' s33 el
    exact par_20 hl hM hlen hQ hA1 hA2 hA3 hA4 ra rb ta tb F' (hS.keep hb) ((el 34 (by decide)).trans s34) s33 ((el 35 (by decide)).trans s35) ((el 36 (by decide)).trans s36)
  · refine p_two rfl (wanted_free rfl) rfl s35 s36 (ra.below hS.bel) (rb.below hS.bel) ta tb ?_
    rintro jl x' hJ hb
    refine ⟨hS.keep hb, ?_⟩
    refine F.step (k := 37) rfl (by decide) (by decide) ?_
    intro a' F' s37 el
    exact par_11 hl hM hlen hQ hA1 hA2 hA3 hA4 ra rb ta tb F' (hS.keep hb) ((el 34 (by decide)).trans s34) ((el 31 (by decide)).trans s31) ((el 32 (by decide)).trans s32) s37 hJ
theorem par_01 (hl : ws.length = 25) (hM : M2.length = 25) (hlen : la.length + lb.length ≤ 900) (hQ : ∀ (a : Act) (x : World), KPF w av bv n m a → a.eval (.tmp 46) = .bool false → KPS w kind ws p ot x → Q .normal a x) (hA1 : ∀ x, Below w.heap.size w x → Calls Tryd.prog 17 #[.agg (sl kind ws p ot).toArray, av] x fun e x' => e = .returned (.agg (sl kind M1 P1 ot).toArray) ∧ Below x.heap.size x x') (hA2 : ∀ x, Below w.heap.size w x → Calls Tryd.prog 17 #[.agg (sl kind M1 P1 ot).toArray, bv] x fun e x' => e = .returned (.agg (sl kind M2 P2 ot).toArray) ∧ Below x.heap.size x x') (hA3 : ∀ x v, Below w.heap.size w x → Row .u8 256 x v (la ++ lb) → Calls Tryd.prog 17 #[.agg (sl kind ws p ot).toArray, v] x fun e x' => e = .returned (.agg (sl kind M2 P2 ot).toArray) ∧ Below x.heap.size x x') (hA4 : ∀ x, Below w.heap.size w x → Calls Tryd.prog 17 #[.agg (sl kind ws p ot).toArray, .slice none 0 0] x fun e x' => e = .returned (.agg (sl kind ws p ot).toArray) ∧ Below x.heap.size x x') (ra : Row .u8 256 w av la) (rb : Row .u8 256 w bv lb) (ta : Tidy av) (tb : Tidy bv)
    {a : Act} {x : World} {jl : Value} (F : KPF w av bv n m a) (hS : KPS w kind ws p ot x) (s34 : a.eval (.tmp 34) = .agg (sl kind ws p ot).toArray) (s29 : a.eval (.tmp 29) = .agg (sl kind ws p ot).toArray) (s30 : a.eval (.tmp 30) = av) (s32 : a.eval (.tmp 32) = bv) (s37 : a.eval (.tmp 37) = jl) (hJ : Rows2 x jl [la, lb]) :
    At Tryd.prog (opsOf (cL (cL (cR (cR (Tryd.f5.body.getD .skip)))))) Q (KPS w kind ws p ot) 11 491 a x := by
  refine at_one (i := 2) preg3 (by decide) rfl ?_
  refine p_call (args := #[.agg (sl kind ws p ot).toArray, av]) rfl rfl rfl (by simp only [List.map_toArray, List.map_cons, List.map_nil, s29, s30]) Tryd.call17 ((hA1 x hS.bel).mono ?_)
  rintro e x' ⟨rfl, hb⟩
  refine ⟨_, rfl, hS.keep hb, ?_⟩
  refine F.step (k := 31) rfl (by decide) (by decide) ?_
  intro a' F' s31 el
  exact par_11 hl hM hlen hQ hA1 hA2 hA3 hA4 ra rb ta tb F' (hS.keep hb) ((el 34 (by decide)).trans s34) s31 ((el 32 (by decide)).trans s32) ((el 37 (by decide)).trans s37) (hJ.below hb)
theorem par_00 (hl : ws.length = 25) (hM : M2.length = 25) (hlen : la.length + lb.length ≤ 900) (hQ : ∀ (a : Act) (x : World), KPF w av bv n m a → a.eval (.tmp 46) = .bool false → KPS w kind ws p ot x → Q .normal a x) (hA1 : ∀ x, Below w.heap.size w x → Calls Tryd.prog 17 #[.agg (sl kind ws p ot).toArray, av] x fun e x' => e = .returned (.agg (sl kind M1 P1 ot).toArray) ∧ Below x.heap.size x x') (hA2 : ∀ x, Below w.heap.size w x → Calls Tryd.prog 17 #[.agg (sl kind M1 P1 ot).toArray, bv] x fun e x' => e = .returned (.agg (sl kind M2 P2 ot).toArray) ∧ Below x.heap.size x x') (hA3 : ∀ x v, Below w.heap.size w x → Row .u8 256 x v (la ++ lb) → Calls Tryd.prog 17 #[.agg (sl kind ws p ot).toArray, v] x fun e x' => e = .returned (.agg (sl kind M2 P2 ot).toArray) ∧ Below x.heap.size x x') (hA4 : ∀ x, Below w.heap.size w x → Calls Tryd.prog 17 #[.agg (sl kind ws p ot).toArray, .slice none 0 0] x fun e x' => e = .returned (.agg (sl kind ws p ot).toArray) ∧ Below x.heap.size x x') (ra : Row .u8 256 w av la) (rb : Row .u8 256 w bv lb) (ta : Tidy av) (tb : Tidy bv)
    {a : Act} {x : World} (F : KPF w av bv n m a) (hS : KPS w kind ws p ot x) (s34 : a.eval (.tmp 34) = .agg (sl kind ws p ot).toArray) (s29 : a.eval (.tmp 29) = .agg (sl kind ws p ot).toArray) (s30 : a.eval (.tmp 30) = av) (s32 : a.eval (.tmp 32) = bv) (s35 : a.eval (.tmp 35) = av) (s36 : a.eval (.tmp 36) = bv) :
    At Tryd.prog (opsOf (cL (cL (cR (cR (Tryd.f5.body.getD .skip)))))) Q (KPS w kind ws p ot) 12 235 a x := by
  refine at_two (i := 2) (j := 8) preg3 (by decide) rfl rfl ?_ ?_
  · refine p_call (args := #[.agg (sl kind ws p ot).toArray, av]) rfl rfl rfl (by simp only [List.map_toArray, List.map_cons, List.map_nil, s29, s30]) Tryd.call17 ((hA1 x hS.bel).mono ?_)
    rintro e x' ⟨rfl, hb⟩
    refine ⟨_, rfl, hS.keep hb, ?_⟩
    refine F.step (k := 31) rfl (by decide) (by decide) ?_
    intro a' F' s31 el
    exact par_10 hl hM hlen hQ hA1 hA2 hA3 hA4 ra rb ta tb F' (hS.keep hb) ((el 34 (by decide)).trans s34) s31 ((el 32 (by decide)).trans s32) ((el 35 (by decide)).trans s35) ((el 36 (by decide)).trans s36)
  · refine p_two rfl (wanted_free rfl) rfl s35 s36 (ra.below hS.bel) (rb.below hS.bel) ta tb ?_
    rintro jl x' hJ hb
    refine ⟨hS.keep hb, ?_⟩
    refine F.step (k := 37) rfl (by decide) (by decide) ?_
    intro a' F' s37 el
    exact par_01 hl hM hlen hQ hA1 hA2 hA3 hA4 ra rb ta tb F' (hS.keep hb) ((el 34 (by decide)).trans s34) ((el 29 (by decide)).trans s29) ((el 30 (by decide)).trans s30) ((el 32 (by decide)).trans s32) s37 hJ
theorem par_3 (hl : ws.length = 25) (hM : M2.length = 25) (hlen : la.length + lb.length ≤ 900) (hQ : ∀ (a : Act) (x : World), KPF w av bv n m a → a.eval (.tmp 46) = .bool false → KPS w kind ws p ot x → Q .normal a x) (hA1 : ∀ x, Below w.heap.size w x → Calls Tryd.prog 17 #[.agg (sl kind ws p ot).toArray, av] x fun e x' => e = .returned (.agg (sl kind M1 P1 ot).toArray) ∧ Below x.heap.size x x') (hA2 : ∀ x, Below w.heap.size w x → Calls Tryd.prog 17 #[.agg (sl kind M1 P1 ot).toArray, bv] x fun e x' => e = .returned (.agg (sl kind M2 P2 ot).toArray) ∧ Below x.heap.size x x') (hA3 : ∀ x v, Below w.heap.size w x → Row .u8 256 x v (la ++ lb) → Calls Tryd.prog 17 #[.agg (sl kind ws p ot).toArray, v] x fun e x' => e = .returned (.agg (sl kind M2 P2 ot).toArray) ∧ Below x.heap.size x x') (hA4 : ∀ x, Below w.heap.size w x → Calls Tryd.prog 17 #[.agg (sl kind ws p ot).toArray, .slice none 0 0] x fun e x' => e = .returned (.agg (sl kind ws p ot).toArray) ∧ Below x.heap.size x x') (ra : Row .u8 256 w av la) (rb : Row .u8 256 w bv lb) (ta : Tidy av) (tb : Tidy bv)
    {a : Act} {x : World} (F : KPF w av bv n m a) (hS0 : KPS w kind ws p ot x) : Code.wp Tryd.prog (cL (cL (cR (cR (Tryd.f5.body.getD .skip))))) Q a x := by
  rw [pis3]
  have hS := hS0.keep (Below.refl _ _).drew
  have hsl := sl_len (kind := kind) (p := p) (o := ot) hl
  refine at_begin (n := 18) (KPS w kind ws p ot) (by kernel_rfl) (by kernel_rfl) ?_
  refine at_take (i := 0) (m' := 1) preg3 rfl (by decide) rfl (y_load_rowW (cs := sl kind ws p ot) (wanted_free rfl) rfl F.t5 Tryd.underlying26 rfl (by rw [hsl]; kernel_rfl) (fun _ h => h.s.all)) hS ?_
  refine F.step (k := 29) rfl (by decide) (by decide) ?_
  intro a1 F s29 e
  clear e
  refine at_take (i := 1) (m' := 3) preg3 rfl (by decide) rfl (y_moveW (wanted_free rfl) rfl F.t1) hS ?_
  refine F.step (k := 30) rfl (by decide) (by decide) ?_
  intro a2 F s30 e
  replace s29 := (e 29 (by decide)).trans s29
  clear e
  refine at_take (i := 3) (m' := 11) preg3 rfl (by decide) rfl (y_moveW (wanted_free rfl) rfl F.t2) hS ?_
  refine F.step (k := 32) rfl (by decide) (by decide) ?_
  intro a3 F s32 e
  replace s29 := (e 29 (by decide)).trans s29
  replace s30 := (e 30 (by decide)).trans s30
  clear e
  refine at_take (i := 5) (m' := 43) preg3 rfl (by decide) rfl (y_load_rowW (cs := sl kind ws p ot) (wanted_free rfl) rfl F.t5 Tryd.underlying26 rfl (by rw [hsl]; kernel_rfl) (fun _ h => h.s.all)) hS ?_
  refine F.step (k := 34) rfl (by decide) (by decide) ?_
  intro a4 F s34 e
  replace s29 := (e 29 (by decide)).trans s29
  replace s30 := (e 30 (by decide)).trans s30
  replace s32 := (e 32 (by decide)).trans s32
  clear e
  refine at_take (i := 6) (m' := 107) preg3 rfl (by decide) rfl (y_moveW (wanted_free rfl) rfl F.t1) hS ?_
  refine F.step (k := 35) rfl (by decide) (by decide) ?_
  intro a5 F s35 e
  replace s29 := (e 29 (by decide)).trans s29
  replace s30 := (e 30 (by decide)).trans s30
  replace s32 := (e 32 (by decide)).trans s32
  replace s34 := (e 34 (by decide)).trans s34
  clear e
  refine at_take (i := 7) (m' := 235) preg3 rfl (by decide) rfl (y_moveW (wanted_free rfl) rfl F.t2) hS ?_
  refine F.step (k := 36) rfl (by decide) (by decide) ?_
  intro a6 F s36 e
  replace s29 := (e 29 (by decide)).trans s29
  replace s30 := (e 30 (by decide)).trans s30
  replace s32 := (e 32 (by decide)).trans s32
  replace s34 := (e 34 (by decide)).trans s34
  replace s35 := (e 35 (by decide)).trans s35
  clear e
  exact par_00 hl hM hlen hQ hA1 hA2 hA3 hA4 ra rb ta tb F hS s34 s29 s30 s32 s35 s36
end
/-- the frame of the second -/
structure KPG (av : Value) (n m : Int) (gu gv gw : Nat) (vx vy vz : Value) (a : Act) : Prop where
  fz : Fz 102 a
  t1 : a.eval (.tmp 1) = av
  t3 : a.eval (.tmp 3) = .int .u8 n
  t4 : a.eval (.tmp 4) = .int .u8 m
  t11 : a.eval (.tmp 11) = .pointer (some ⟨gu, 0, none⟩)
  t12 : a.eval (.tmp 12) = vx
  t13 : a.eval (.tmp 13) = .pointer (some ⟨gv, 0, none⟩)
  t14 : a.eval (.tmp 14) = vy
  t15 : a.eval (.tmp 15) = .pointer (some ⟨gw, 0, none⟩)
  t16 : a.eval (.tmp 16) = vz
/-- what stays in the second -/
structure KPT (w : World) (kind : Int) (UM : List Nat) (UP : Int) (VM : List Nat) (VP : Int) (gu gv gw : Nat) (vx vy vz : Value) (X Y : List Nat) (y : World) : Prop where
  u : y.heap[gu]? = some (.cells (sl kind UM UP true).toArray 26 (0, 0))
  v : y.heap[gv]? = some (.cells (sl kind VM VP true).toArray 26 (0, 0))
  z : y.heap[gw]? = some (.cells (sl kind VM VP true).toArray 26 (0, 0))
  rx : Row .u8 256 y vx X
  ry : Row .u8 256 y vy Y
  rz : Row .u8 256 y vz (X ++ Y)
  bel : Below w.heap.size w y
section
variable {w : World} {kind : Int} {UM : List Nat} {UP : Int} {VM : List Nat} {VP : Int} {gu gv gw : Nat} {av vx vy vz : Value} {X Y : List Nat} {n m c : Int} {Q : Exit → Act → World → Prop}
theorem KPT.keep {y y' : World} (h : KPT w kind UM UP VM VP gu gv gw vx vy vz X Y y) (hb : Below y.heap.size y y') : KPT w kind UM UP VM VP gu gv gw vx vy vz X Y y' :=
  ⟨(hb.block _ (heap_lt h.u)).trans h.u, (hb.block _ (heap_lt h.v)).trans h.v, (hb.block _ (heap_lt h.z)).trans h.z, h.rx.below hb, h.ry.below hb, h.rz.below hb, keep_trans h.bel hb⟩
theorem KPG.step {a : Act} {x : World} (h : KPG av n m gu gv gw vx vy vz a) {k fuel mm : Nat} {v : Value} {dd : Option Nat} {ops : Array Oper} {S : World → Prop} (hd : dd = some k) (h3 : k = 10 ∨ 17 ≤ k) (hk : k < 102)
    (hc : ∀ a' : Act, KPG av n m gu gv gw vx vy vz a' → a'.eval (.tmp k) = v → (∀ j, k ≠ j → a'.eval (.tmp j) = a.eval (.tmp j)) → At Tryd.prog ops Q S fuel mm a' x) : At Tryd.prog ops Q S fuel mm (a.put dd v) x := by
  subst hd
  exact hc _ ⟨h.fz.put _ _, (put_else (by omega)).trans h.t1, (put_else (by omega)).trans h.t3, (put_else (by omega)).trans h.t4, (put_else (by omega)).trans h.t11, (put_else (by omega)).trans h.t12, (put_else (by omega)).trans h.t13, (put_else (by omega)).trans h.t14, (put_else (by omega)).trans h.t15, (put_else (by omega)).trans h.t16⟩ (put_same (by rw [h.fz.1]; exact hk)) (fun j hj => put_else hj)
set_option maxRecDepth 100000 in
theorem par_8 (hT : Csts w) (hU : UM.length = 25) (hV : VM.length = 25) (hfU : fitK kind UP true = true) (tx : Tidy vx) (ty : Tidy vy) (hn : IntKind.i64.wrap n = n) (hm : IntKind.i64.wrap m = m) (hnm : IntKind.i64.wrap (n + m) = c) (hc : ((X ++ Y).length : Int) = c) (hlen : X.length + Y.length ≤ 1000)
    (hQ : ∀ (a : Act) (x : World), Fz 102 a → a.eval (.tmp 10) = .bool true → Below w.heap.size w x → Q .normal a x)
    {a : Act} {x : World} (F : KPG av n m gu gv gw vx vy vz a) (hS0 : KPT w kind UM UP VM VP gu gv gw vx vy vz X Y x) : Code.wp Tryd.prog (cL (cR (cR (cR (cR (cR (cR (Tryd.f5.body.getD .skip)))))))) Q a x := by
  rw [pis8]
  have hS := hS0.keep (Below.refl _ _).drew
  have hsu : (sl kind UM UP true).length = 28 := sl_len hU
  have hsv : (sl kind VM VP true).length = 28 := sl_len hV
  refine at_begin (n := 32) (KPT w kind UM UP VM VP gu gv gw vx vy vz X Y) (by kernel_rfl) (by kernel_rfl) ?_
  refine at_take (i := 0) (m' := 1) preg8 rfl (by decide) rfl (y_load_rowW (cs := sl kind VM VP true) (wanted_free rfl) rfl F.t13 Tryd.underlying26 rfl (by rw [hsv]; kernel_rfl) (fun _ h => row_range h.v)) hS ?_
  refine F.step (k := 71) rfl (by decide) (by decide) ?_
  intro a1 F s71 e
  clear e
  refine at_take (i := 1) (m' := 3) preg8 rfl (by decide) rfl (y_load_rowW (cs := sl kind VM VP true) (wanted_free rfl) rfl F.t15 Tryd.underlying26 rfl (by rw [hsv]; kernel_rfl) (fun _ h => row_range h.z)) hS ?_
  refine F.step (k := 72) rfl (by decide) (by decide) ?_
  intro a2 F s72 e
  replace s71 := (e 71 (by decide)).trans s71
  clear e
  refine at_take (i := 2) (m' := 7) preg8 rfl (by decide) rfl (y_eqW (wanted_free rfl) rfl s71 s72 (eqr_sponge _ _ kind VM VP true hV)) hS ?_
  refine F.step (k := 73) rfl (by decide) (by decide) ?_
  intro a3 F s73 e
  clear e
  refine at_take (i := 3) (m' := 15) preg8 rfl (by decide) rfl (y_moveW (wanted_free rfl) rfl s73) hS ?_
  refine F.step (k := 74) rfl (by decide) (by decide) ?_
  intro a4 F s74 e
  clear e
  refine at_take (i := 4) (m' := 31) preg8 rfl (by decide) rfl (y_moveW (wanted_g (j := 3) rfl rfl rfl s74) rfl F.t12) hS ?_
  refine F.step (k := 75) rfl (by decide) (by decide) ?_
  intro a5 F s75 e
  replace s74 := (e 74 (by decide)).trans s74
  clear e
  refine at_take (i := 5) (m' := 63) preg8 rfl (by decide) rfl (y_moveW (wanted_g (j := 3) rfl rfl rfl s74) rfl F.t14) hS ?_
  refine F.step (k := 76) rfl (by decide) (by decide) ?_
  intro a6 F s76 e
  replace s74 := (e 74 (by decide)).trans s74
  replace s75 := (e 75 (by decide)).trans s75
  clear e
  refine at_take (i := 8) (m' := 319) preg8 rfl (by decide) rfl (y_moveW (wanted_g (j := 3) rfl rfl rfl s74) rfl F.t16) hS ?_
  refine F.step (k := 79) rfl (by decide) (by decide) ?_
  intro a7 F s79 e
  replace s74 := (e 74 (by decide)).trans s74
  replace s75 := (e 75 (by decide)).trans s75
  replace s76 := (e 76 (by decide)).trans s76
  clear e
  refine at_one (i := 6) (m' := 383) preg8 (by decide) rfl ?_
  refine p_two rfl (wanted_g (j := 3) rfl rfl rfl s74) rfl s75 s76 hS.rx hS.ry tx ty ?_
  rintro jl x8 hJ hb
  replace hS := hS.keep hb
  refine ⟨hS, ?_⟩
  refine F.step (k := 77) rfl (by decide) (by decide) ?_
  intro a8 F s77 e
  replace s74 := (e 74 (by decide)).trans s74
  replace s79 := (e 79 (by decide)).trans s79
  clear e
  refine at_one (i := 7) (m' := 511) preg8 (by decide) rfl ?_
  refine p_callW (args := #[jl]) rfl (wanted_g (j := 3) rfl rfl rfl s74) rfl (by simp only [List.map_toArray, List.map_cons, List.map_nil, s77]) Tryd.call21 ((rjoin_any jl [X, Y] _ hJ (by simp; omega)).mono ?_)
  rintro e x9 ⟨jv, rfl, hO, hb⟩
  replace hS := hS.keep hb
  refine ⟨_, rfl, hS, ?_⟩
  refine F.step (k := 78) rfl (by decide) (by decide) ?_
  intro a9 F s78 e
  replace s74 := (e 74 (by decide)).trans s74
  replace s79 := (e 79 (by decide)).trans s79
  clear e
  refine at_one (i := 9) (m' := 1023) preg8 (by decide) rfl ?_
  refine p_callW (args := #[jv, vz]) rfl (wanted_g (j := 3) rfl rfl rfl s74) rfl (by simp only [List.map_toArray, List.map_cons, List.map_nil, s78, s79]) Tryd.call14 ((rsame_true _ _ (X ++ Y) _ (by simpa using hO.row) hS.rz).mono ?_)
  rintro e x10 ⟨rfl, hb⟩
  replace hS := hS.keep hb
  refine ⟨_, rfl, hS, ?_⟩
  refine F.step (k := 80) rfl (by decide) (by decide) ?_
  intro a10 F s80 e
  replace s74 := (e 74 (by decide)).trans s74
  clear e
  refine at_take (i := 10) (m' := 2047) preg8 rfl (by decide) rfl (y_pick (wanted_free rfl) rfl s74 s80) hS ?_
  refine F.step (k := 81) rfl (by decide) (by decide) ?_
  intro a11 F s81 e
  clear e
  refine at_take (i := 11) (m' := 4095) preg8 rfl (by decide) rfl (y_moveW (wanted_free rfl) rfl s81) hS ?_
  refine F.step (k := 82) rfl (by decide) (by decide) ?_
  intro a12 F s82 e
  clear e
  refine at_take (i := 12) (m' := 8191) preg8 rfl (by decide) rfl (y_load_rowW (cs := sl kind UM UP true) (wanted_g (j := 11) rfl rfl rfl s82) rfl F.t11 Tryd.underlying26 rfl (by rw [hsu]; kernel_rfl) (fun _ h => row_range h.u)) hS ?_
  refine F.step (k := 83) rfl (by decide) (by decide) ?_
  intro a13 F s83 e
  replace s82 := (e 82 (by decide)).trans s82
  clear e
  refine at_take (i := 13) (m' := 16383) preg8 rfl (by decide) rfl (y_moveW (wanted_g (j := 11) rfl rfl rfl s82) rfl F.t1) hS ?_
  refine F.step (k := 84) rfl (by decide) (by decide) ?_
  intro a14 F s84 e
  replace s82 := (e 82 (by decide)).trans s82
  replace s83 := (e 83 (by decide)).trans s83
  clear e
  refine at_take (i := 15) (m' := 49151) preg8 rfl (by decide) rfl (y_load_rowW (cs := sl kind UM UP true) (wanted_g (j := 11) rfl rfl rfl s82) rfl F.t11 Tryd.underlying26 rfl (by rw [hsu]; kernel_rfl) (fun _ h => row_range h.u)) hS ?_
  refine F.step (k := 86) rfl (by decide) (by decide) ?_
  intro a15 F s86 e
  replace s82 := (e 82 (by decide)).trans s82
  replace s83 := (e 83 (by decide)).trans s83
  replace s84 := (e 84 (by decide)).trans s84
  clear e
  refine at_one (i := 14) (m' := 65535) preg8 (by decide) rfl ?_
  refine p_callW (args := #[.agg (sl kind UM UP true).toArray, av]) rfl (wanted_g (j := 11) rfl rfl rfl s82) rfl (by simp only [List.map_toArray, List.map_cons, List.map_nil, s83, s84]) Tryd.call17 ((cabs_out kind UM UP av _ hU hfU).mono ?_)
  rintro e x16 ⟨rfl, hb⟩
  replace hS := hS.keep hb
  refine ⟨_, rfl, hS, ?_⟩
  refine F.step (k := 85) rfl (by decide) (by decide) ?_
  intro a16 F s85 e
  replace s82 := (e 82 (by decide)).trans s82
  replace s86 := (e 86 (by decide)).trans s86
  clear e
  refine at_take (i := 16) (m' := 131071) preg8 rfl (by decide) rfl (y_eqW (wanted_g (j := 11) rfl rfl rfl s82) rfl s85 s86 (eqr_sponge _ _ kind UM UP true hU)) hS ?_
  refine F.step (k := 87) rfl (by decide) (by decide) ?_
  intro a17 F s87 e
  replace s82 := (e 82 (by decide)).trans s82
  clear e
  refine at_take (i := 17) (m' := 262143) preg8 rfl (by decide) rfl (y_pick (wanted_free rfl) rfl s82 s87) hS ?_
  refine F.step (k := 88) rfl (by decide) (by decide) ?_
  intro a18 F s88 e
  clear e
  refine at_take (i := 18) (m' := 524287) preg8 rfl (by decide) rfl (y_moveW (wanted_free rfl) rfl s88) hS ?_
  refine F.step (k := 89) rfl (by decide) (by decide) ?_
  intro a19 F s89 e
  clear e
  refine at_take (i := 19) (m' := 1048575) preg8 rfl (by decide) rfl (y_moveW (wanted_g (j := 18) rfl rfl rfl s89) rfl F.t16) hS ?_
  refine F.step (k := 90) rfl (by decide) (by decide) ?_
  intro a20 F s90 e
  replace s89 := (e 89 (by decide)).trans s89
  clear e
  refine at_take (i := 20) (m' := 2097151) preg8 rfl (by decide) rfl (y_len (wanted_g (j := 18) rfl rfl rfl s89) rfl s90 hS.rz.form hc) hS ?_
  refine F.step (k := 91) rfl (by decide) (by decide) ?_
  intro a21 F s91 e
  replace s89 := (e 89 (by decide)).trans s89
  clear e
  refine at_take (i := 21) (m' := 4194303) preg8 rfl (by decide) rfl (y_moveW (wanted_g (j := 18) rfl rfl rfl s89) rfl F.t3) hS ?_
  refine F.step (k := 92) rfl (by decide) (by decide) ?_
  intro a22 F s92 e
  replace s89 := (e 89 (by decide)).trans s89
  replace s91 := (e 91 (by decide)).trans s91
  clear e
  refine at_take (i := 22) (m' := 8388607) preg8 rfl (by decide) rfl (y_conv (wanted_g (j := 18) rfl rfl rfl s89) rfl s92 hn) hS ?_
  refine F.step (k := 93) rfl (by decide) (by decide) ?_
  intro a23 F s93 e
  replace s89 := (e 89 (by decide)).trans s89
  replace s91 := (e 91 (by decide)).trans s91
  clear e
  refine at_take (i := 23) (m' := 16777215) preg8 rfl (by decide) rfl (y_moveW (wanted_g (j := 18) rfl rfl rfl s89) rfl F.t4) hS ?_
  refine F.step (k := 94) rfl (by decide) (by decide) ?_
  intro a24 F s94 e
  replace s89 := (e 89 (by decide)).trans s89
  replace s91 := (e 91 (by decide)).trans s91
  replace s93 := (e 93 (by decide)).trans s93
  clear e
  refine at_take (i := 24) (m' := 33554431) preg8 rfl (by decide) rfl (y_conv (wanted_g (j := 18) rfl rfl rfl s89) rfl s94 hm) hS ?_
  refine F.step (k := 95) rfl (by decide) (by decide) ?_
  intro a25 F s95 e
  replace s89 := (e 89 (by decide)).trans s89
  replace s91 := (e 91 (by decide)).trans s91
  replace s93 := (e 93 (by decide)).trans s93
  clear e
  refine at_take (i := 25) (m' := 67108863) preg8 rfl (by decide) rfl (y_add (wanted_g (j := 18) rfl rfl rfl s89) rfl s93 s95 hnm) hS ?_
  refine F.step (k := 96) rfl (by decide) (by decide) ?_
  intro a26 F s96 e
  replace s89 := (e 89 (by decide)).trans s89
  replace s91 := (e 91 (by decide)).trans s91
  clear e
  refine at_take (i := 26) (m' := 134217727) preg8 rfl (by decide) rfl (y_eqW (wanted_g (j := 18) rfl rfl rfl s89) rfl s91 s96 (eqr_int _ _ .i64 c 3)) hS ?_
  refine F.step (k := 97) rfl (by decide) (by decide) ?_
  intro a27 F s97 e
  replace s89 := (e 89 (by decide)).trans s89
  clear e
  refine at_take (i := 27) (m' := 268435455) preg8 rfl (by decide) rfl (y_pick (wanted_free rfl) rfl s89 s97) hS ?_
  refine F.step (k := 98) rfl (by decide) (by decide) ?_
  intro a28 F s98 e
  clear e
  refine at_take (i := 28) (m' := 536870911) preg8 rfl (by decide) rfl (y_moveW (wanted_free rfl) rfl s98) hS ?_
  refine F.step (k := 99) rfl (by decide) (by decide) ?_
  intro a29 F s99 e
  clear e
  refine at_one (i := 29) (m' := 1073741823) preg8 (by decide) rfl ?_
  refine p_callW (args := #[]) rfl (wanted_g (j := 28) rfl rfl rfl s99) rfl (by simp) Tryd.call7 ((awake_any _ (hT.below hS.bel)).mono ?_)
  rintro e x30 ⟨rfl, hb⟩
  replace hS := hS.keep hb
  refine ⟨_, rfl, hS, ?_⟩
  refine F.step (k := 100) rfl (by decide) (by decide) ?_
  intro a30 F s100 e
  replace s99 := (e 99 (by decide)).trans s99
  clear e
  refine at_take (i := 30) (m' := 2147483647) preg8 rfl (by decide) rfl (y_pick (wanted_free rfl) rfl s99 s100) hS ?_
  refine F.step (k := 101) rfl (by decide) (by decide) ?_
  intro a31 F s101 e
  clear e
  refine at_take (i := 31) (m' := 4294967295) preg8 rfl (by decide) rfl (y_assign (wanted_free rfl) rfl s101) hS ?_
  refine F.step (k := 10) rfl (by decide) (by decide) ?_
  intro a32 F s10 e
  clear e
  exact at_done preg8 (by decide) (hQ _ _ F.fz s10 hS.bel)
end
theorem list51 : ∀ l : List Value, l.length = 51 → ∃ u0 u1 u2 u3 u4 u5 u6 u7 u8 u9 u10 u11 u12 u13 u14 u15 u16 u17 u18 u19 u20 u21 u22 u23 u24 u25 u26 u27 u28 u29 u30 u31 u32 u33 u34 u35 u36 u37 u38 u39 u40 u41 u42 u43 u44 u45 u46 u47 u48 u49 u50, l = u0 :: u1 :: u2 :: u3 :: u4 :: u5 :: u6 :: u7 :: u8 :: u9 :: u10 :: u11 :: u12 :: u13 :: u14 :: u15 :: u16 :: u17 :: u18 :: u19 :: u20 :: u21 :: u22 :: u23 :: u24 :: u25 :: u26 :: u27 :: u28 :: u29 :: u30 :: u31 :: u32 :: u33 :: u34 :: u35 :: u36 :: u37 :: u38 :: u39 :: u40 :: u41 :: u42 :: u43 :: u44 :: u45 :: u46 :: u47 :: u48 :: u49 :: u50 :: []
  | u0 :: u1 :: u2 :: u3 :: u4 :: u5 :: u6 :: u7 :: u8 :: u9 :: u10 :: u11 :: u12 :: u13 :: u14 :: u15 :: u16 :: u17 :: u18 :: u19 :: u20 :: u21 :: u22 :: u23 :: u24 :: u25 :: u26 :: u27 :: u28 :: u29 :: u30 :: u31 :: u32 :: u33 :: u34 :: u35 :: u36 :: u37 :: u38 :: u39 :: u40 :: u41 :: u42 :: u43 :: u44 :: u45 :: u46 :: u47 :: u48 :: u49 :: u50 :: [], _ => ⟨u0, u1, u2, u3, u4, u5, u6, u7, u8, u9, u10, u11, u12, u13, u14, u15, u16, u17, u18, u19, u20, u21, u22, u23, u24, u25, u26, u27, u28, u29, u30, u31, u32, u33, u34, u35, u36, u37, u38, u39, u40, u41, u42, u43, u44, u45, u46, u47, u48, u49, u50, rfl⟩
theorem list102 (l : List Value) (h : l.length = 102) : ∃ u0 u1 u2 u3 u4 u5 u6 u7 u8 u9 u10 u11 u12 u13 u14 u15 u16 u17 u18 u19 u20 u21 u22 u23 u24 u25 u26 u27 u28 u29 u30 u31 u32 u33 u34 u35 u36 u37 u38 u39 u40 u41 u42 u43 u44 u45 u46 u47 u48 u49 u50 u51 u52 u53 u54 u55 u56 u57 u58 u59 u60 u61 u62 u63 u64 u65 u66 u67 u68 u69 u70 u71 u72 u73 u74 u75 u76 u77 u78 u79 u80 u81 u82 u83 u84 u85 u86 u87 u88 u89 u90 u91 u92 u93 u94 u95 u96 u97 u98 u99 u100 u101, l = u0 :: u1 :: u2 :: u3 :: u4 :: u5 :: u6 :: u7 :: u8 :: u9 :: u10 :: u11 :: u12 :: u13 :: u14 :: u15 :: u16 :: u17 :: u18 :: u19 :: u20 :: u21 :: u22 :: u23 :: u24 :: u25 :: u26 :: u27 :: u28 :: u29 :: u30 :: u31 :: u32 :: u33 :: u34 :: u35 :: u36 :: u37 :: u38 :: u39 :: u40 :: u41 :: u42 :: u43 :: u44 :: u45 :: u46 :: u47 :: u48 :: u49 :: u50 :: u51 :: u52 :: u53 :: u54 :: u55 :: u56 :: u57 :: u58 :: u59 :: u60 :: u61 :: u62 :: u63 :: u64 :: u65 :: u66 :: u67 :: u68 :: u69 :: u70 :: u71 :: u72 :: u73 :: u74 :: u75 :: u76 :: u77 :: u78 :: u79 :: u80 :: u81 :: u82 :: u83 :: u84 :: u85 :: u86 :: u87 :: u88 :: u89 :: u90 :: u91 :: u92 :: u93 :: u94 :: u95 :: u96 :: u97 :: u98 :: u99 :: u100 :: u101 :: [] := by
  obtain ⟨u0, u1, u2, u3, u4, u5, u6, u7, u8, u9, u10, u11, u12, u13, u14, u15, u16, u17, u18, u19, u20, u21, u22, u23, u24, u25, u26, u27, u28, u29, u30, u31, u32, u33, u34, u35, u36, u37, u38, u39, u40, u41, u42, u43, u44, u45, u46, u47, u48, u49, u50, h1⟩ := list51 (l.take 51) (by simp [h])
  obtain ⟨u51, u52, u53, u54, u55, u56, u57, u58, u59, u60, u61, u62, u63, u64, u65, u66, u67, u68, u69, u70, u71, u72, u73, u74, u75, u76, u77, u78, u79, u80, u81, u82, u83, u84, u85, u86, u87, u88, u89, u90, u91, u92, u93, u94, u95, u96, u97, u98, u99, u100, u101, h2⟩ := list51 (l.drop 51) (by simp [h])
  exact ⟨u0, u1, u2, u3, u4, u5, u6, u7, u8, u9, u10, u11, u12, u13, u14, u15, u16, u17, u18, u19, u20, u21, u22, u23, u24, u25, u26, u27, u28, u29, u30, u31, u32, u33, u34, u35, u36, u37, u38, u39, u40, u41, u42, u43, u44, u45, u46, u47, u48, u49, u50, u51, u52, u53, u54, u55, u56, u57, u58, u59, u60, u61, u62, u63, u64, u65, u66, u67, u68, u69, u70, u71, u72, u73, u74, u75, u76, u77, u78, u79, u80, u81, u82, u83, u84, u85, u86, u87, u88, u89, u90, u91, u92, u93, u94, u95, u96, u97, u98, u99, u100, u101, by rw [← List.take_append_drop 51 l, h1, h2]; rfl⟩
theorem parts_abs (kind : Int) (ws : List Nat) (p : Int) (ot : Bool) (av bv : Value) (la lb : List Nat) (w : World) (hT : Csts w) (hw : W25 ws) (hf : fitK kind p ot = true) (ra : Row .u8 256 w av la) (rb : Row .u8 256 w bv lb) (hlen : la.length + lb.length ≤ 900) :
    ∃ (M1 : List Nat) (P1 : Int) (M2 : List Nat) (P2 : Int), M2.length = 25 ∧
      (∀ x, Below w.heap.size w x → Calls Tryd.prog 17 #[.agg (sl kind ws p ot).toArray, av] x fun e x' => e = .returned (.agg (sl kind M1 P1 ot).toArray) ∧ Below x.heap.size x x') ∧ (∀ x, Below w.heap.size w x → Calls Tryd.prog 17 #[.agg (sl kind M1 P1 ot).toArray, bv] x fun e x' => e = .returned (.agg (sl kind M2 P2 ot).toArray) ∧ Below x.heap.size x x') ∧ (∀ x v, Below w.heap.size w x → Row .u8 256 x v (la ++ lb) → Calls Tryd.prog 17 #[.agg (sl kind ws p ot).toArray, v] x fun e x' => e = .returned (.agg (sl kind M2 P2 ot).toArray) ∧ Below x.heap.size x x') ∧ (∀ x, Below w.heap.size w x → Calls Tryd.prog 17 #[.agg (sl kind ws p ot).toArray, .slice none 0 0] x fun e x' => e = .returned (.agg (sl kind ws p ot).toArray) ∧ Below x.heap.size x x') := by
  obtain ⟨P, rfl, h0, h1, h2⟩ := of_fitK hf
  cases ot with
  | true => exact ⟨ws, P, ws, P, hw.1, fun x _ => cabs_out kind ws P av x hw.1 hf, fun x _ => cabs_out kind ws P bv x hw.1 hf, fun x v _ _ => cabs_out kind ws P v x hw.1 hf, fun x _ => cabs_out kind ws P _ x hw.1 hf⟩
  | false =>
    have h3 := h2 rfl
    have w1 := absK_w la (ws, P) hw (rate := rateK kind)
    have a1 := absK_at la (ws, P) h3
    refine ⟨(absK (rateK kind) (ws, P) la).1, ((absK (rateK kind) (ws, P) la).2 : Nat), (absK (rateK kind) (absK (rateK kind) (ws, P) la) lb).1, ((absK (rateK kind) (absK (rateK kind) (ws, P) la) lb).2 : Nat), (absK_w lb _ w1).1, fun x hb => cabs_any kind ws P av la x (hT.below hb) hw h3 (ra.below hb) (by omega), fun x hb => cabs_any kind _ _ bv lb x (hT.below hb) w1 a1 (rb.below hb) (by omega), fun x v hb hr => ?_, fun x hb => cabs_any kind ws P _ [] x (hT.below hb) hw h3 (Row.nil _ _ _) (Nat.zero_le _)⟩
    rw [← absK_parts]
    exact cabs_any kind ws P v (la ++ lb) x (hT.below hb) hw h3 hr (by rw [List.length_append]; omega)
theorem parts_sqz (kind : Int) (ws : List Nat) (p : Int) (ot : Bool) (n m : Nat) (w : World) (hT : Csts w) (hw : W25 ws) (hf : fitK kind p ot = true) (hn : n ≤ 255) (hm : m ≤ 255) :
    ∃ (UM : List Nat) (UP : Int) (VM : List Nat) (VP : Int) (X Y : List Nat), UM.length = 25 ∧ VM.length = 25 ∧ fitK kind UP true = true ∧ X.length = n ∧ Y.length = m ∧
      (∀ x, Below w.heap.size w x → Calls Tryd.prog 19 #[.agg (sl kind ws p ot).toArray, .int .i64 (n : Nat)] x fun e x' => ∃ v, e = .returned (.tuple #[.agg (sl kind UM UP true).toArray, v]) ∧ Row .u8 256 x' v X ∧ Tidy v ∧ Below x.heap.size x x') ∧
      (∀ x, Below w.heap.size w x → Calls Tryd.prog 19 #[.agg (sl kind UM UP true).toArray, .int .i64 (m : Nat)] x fun e x' => ∃ v, e = .returned (.tuple #[.agg (sl kind VM VP true).toArray, v]) ∧ Row .u8 256 x' v Y ∧ Tidy v ∧ Below x.heap.size x x') ∧
      (∀ x, Below w.heap.size w x → Calls Tryd.prog 19 #[.agg (sl kind ws p ot).toArray, .int .i64 ((n + m : Nat) : Int)] x fun e x' => ∃ v, e = .returned (.tuple #[.agg (sl kind VM VP true).toArray, v]) ∧ Row .u8 256 x' v (X ++ Y) ∧ Tidy v ∧ Below x.heap.size x x') := by
  obtain ⟨P, rfl, h0, h1, h2⟩ := of_fitK hf
  have hbw := begK_w (kind := kind) (p := P) (o := ot) hw
  have hba : (begK kind ws P ot).2 ≤ rateK kind := by
    cases ot with
    | false => exact Nat.zero_le _
    | true => exact h1
  have hA : ∀ (k : Nat), k ≤ 510 → ∀ x, Below w.heap.size w x → Calls Tryd.prog 19 #[.agg (sl kind ws P ot).toArray, .int .i64 k] x fun e x' => ∃ v, e = .returned (.tuple #[.agg (sl kind (sqzS (rateK kind) (begK kind ws P ot) k).1 ((sqzS (rateK kind) (begK kind ws P ot) k).2 : Nat) true).toArray, v]) ∧ Row .u8 256 x' v (sqzB (rateK kind) (begK kind ws P ot) k) ∧ Tidy v ∧ Below x.heap.size x x' := fun k hk x hb => by
    refine (csqz_any kind ws P ot k x (hT.below hb) hw h0 h1 h2 (by omega)).mono ?_
    rintro e x' ⟨v, rfl, hO, hb'⟩
    exact ⟨v, rfl, hO.row, hO.tidy, hb'⟩
  generalize begK kind ws P ot = b0 at *
  have hUw := sqzS_w (rate := rateK kind) hbw n
  have hUa := sqzS_at h0 hba n
  refine ⟨(sqzS (rateK kind) b0 n).1, ((sqzS (rateK kind) b0 n).2 : Nat), (sqzS (rateK kind) (sqzS (rateK kind) b0 n) m).1, ((sqzS (rateK kind) (sqzS (rateK kind) b0 n) m).2 : Nat), sqzB (rateK kind) b0 n, sqzB (rateK kind) (sqzS (rateK kind) b0 n) m, hUw.1, (sqzS_w hUw m).1, fitK_of h0 hUa (fun h => by cases h), sqzB_length _ _ _, sqzB_length _ _ _, fun x hb => hA n (by omega) x hb, fun x hb => ?_, fun x hb => ?_⟩
  · refine (csqz_any kind (sqzS (rateK kind) b0 n).1 (sqzS (rateK kind) b0 n).2 true m x (hT.below hb) hUw h0 hUa (fun h => by cases h) (by omega)).mono ?_
    rintro e x' ⟨v, rfl, hO, hb'⟩
    exact ⟨v, rfl, hO.row, hO.tidy, hb'⟩
  · have := hA (n + m) (by omega) x hb
    rw [sqzS_parts, sqzB_parts] at this
    exact this
end Go.Proofs.YtnbohjoakngkeaaDoor
