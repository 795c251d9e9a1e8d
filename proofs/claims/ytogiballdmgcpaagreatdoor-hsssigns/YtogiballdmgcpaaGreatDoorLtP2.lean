/- Trees of leaves that sign once: the document's Public where it answers, by a plan. -/
import Derived.Test.YtogiballdmgcpaaGreatDoorLmP
import Derived.Test.YtogiballdmgcpaaGreatDoorPlan
namespace Go.Proofs.YtogiballdmgcpaaGreatDoor
open Go.RowKit
set_option linter.unusedVariables false
set_option linter.unusedSimpArgs false

theorem Bx2T.range {W : World} {B : Nat} {v0 v1 : Value} (h : Bx2T W B v0 v1) : W.rangeAt B 0 [v0, v1] := fun j v hv => by
  match j, hv with
  | 0, hv => simp at hv; subst hv; exact h.c0
  | 1, hv => simp at hv; subst hv; exact h.c1
section
variable {P : Program} {ops : Array Oper} {Q : Exit → Act → World → Prop} {K : Act → World → Prop}
/-- a load that stands alone -/
theorem p_loadT {i : Nat} {o : Oper} {a : Act} {w : World} {t : TypeId} {x : Operand} {p : Addr} {v : Value} {d : Option Nat} {td : TypeDesc} (hi : ops[i]? = some o) (hg : o.guard = none) (ho : o.op = .load t x) (hx : a.eval x = .pointer (some p)) (hd : o.dst = d) (hu : P.underlying t = some td) (htd : (match td with | .struct _ | .array _ _ => true | _ => false) = false) (hc : w.cell? p = some v) (h : K (a.put d v) w) : wpOp P ops Q i K a w := by
  have hy : YieldsIf P ops (fun y => y = w) o v a := y_load_plain hg ho hx hu htd (fun y e => by rw [e]; exact hc)
  rcases hy with ⟨_, hr⟩ | ⟨hw, _⟩
  · unfold wpOp
    simp only [hi]
    rw [if_pos (wanted_free hg)]
    left
    unfold Oper.wp
    rw [hr w rfl]
    show K (a.put o.dst _) _
    rw [hd]
    exact h
  · rw [wanted_free hg] at hw; cases hw
theorem p_call3 {i : Nat} {o : Oper} {a : Act} {w : World} {f : FuncId} {x y z : Operand} {ts : Array TypeId} {u v t : Value} {d : Option Nat} (hi : ops[i]? = some o) (hg : o.guard = none) (ho : o.op = .call { callee := .value (.func f), args := #[x, y, z], argTypes := ts }) (hx : a.eval x = u) (hy : a.eval y = v) (hz : a.eval z = t) (hd : o.dst = d)
    (hf : ∀ (args : Array Value) (w : World), (callFunc f args).run P w = .ok (.enter f args) w) (h : Calls P f #[u, v, t] w fun e w' => ∃ v, e = .returned v ∧ K (a.put d v) w') : wpOp P ops Q i K a w := p_callD hi hg ho (by simp only [List.map_toArray, List.map_cons, List.map_nil, hx, hy, hz]) hd hf h
theorem p_build3 {i : Nat} {o : Oper} {a : Act} {w : World} {t e : TypeId} {x y z : Operand} {ax ay az : Option Addr} {nx cx ny cy nz cz : Nat} {d : Option Nat} {q : TypeInfo} (hi : ops[i]? = some o) (hg : o.guard = none) (ho : o.op = .buildSlice t 3 #[(0, x), (1, y), (2, z)]) (hx : a.eval x = .slice ax nx cx) (hy : a.eval y = .slice ay ny cy) (hz : a.eval z = .slice az nz cz) (hd : o.dst = d)
    (hu : P.underlying t = some (.slice e)) (hq : P.info? e = some q) (hs : q.size = 1) (hz0 : q.zero = some (.slice none 0 0)) (h : K (a.put d (.slice (some ⟨w.heap.size, 0, none⟩) 3 3)) (w.alloc (.cells #[.slice ax nx cx, .slice ay ny cy, .slice az nz cz] e))) : wpOp P ops Q i K a w := by
  have hr : (execOp a.eval o).run P w = .ok (.value (.slice (some ⟨w.heap.size, 0, none⟩) 3 3)) (w.alloc (.cells #[.slice ax nx cx, .slice ay ny cy, .slice az nz cz] e)) := by
    unfold execOp
    simp only [ho, List.map_toArray, List.map_cons, List.map_nil, hx, hy, hz]
    simp [Sem.run_bind, run_underlying hu, sizeOf, typeInfo, zeroValue, hq, hs, hz0, go_sem]
  unfold wpOp
  simp only [hi]
  rw [if_pos (wanted_free hg)]
  left
  unfold Oper.wp
  rw [hr]
  show K (a.put o.dst _) _
  rw [hd]
  exact h
end
def tplt : List Lt := [(0, some 16, [3]), (1, some 17, [16]), (0, some 18, [1]), (0, some 19, [3]), (0, some 20, [1]), (0, some 21, [2]), (58, some 22, [19, 20, 21]), (64, some 23, [22]), (128, some 24, [23]), (262, some 25, [17, 18, 24]), (576, some 26, [25]), (2047, some 6, [26]), (4095, some 7, [])]
theorem tpreg : Reg (opsA (cLA (cRA (cRA (cRA (Tryz.f23.body.getD .skip)))))) tplt := ⟨by kernel_rfl, by kernel_rfl⟩
set_option maxHeartbeats 4000000 in
set_option maxRecDepth 100000 in
theorem rpubT_ok {k n m s c : Nat} (hk : Kd k n m s c) (h8 : k ≠ 8) (h : Nat) (hh : h ≤ 10) (h0 : 1 ≤ h) (id seed : List Nat) (idv sv : Value) (w : World) (hi : Row .u8 256 w idv id) (ti : Tidy idv) (hs : Row .u8 256 w sv seed) (ts : Tidy sv) (hne : wrgT (h : Int) (k : Int) id.length seed.length = 0) (hl : id.length = 16) (hsl : seed.length = 32) :
    Calls Tryz.prog 23 #[.agg #[.int .i64 (h : Int), .int .i64 (k : Int)], idv, sv] w fun e w' => ∃ v, e = .returned (.tuple #[v, .int .i64 0]) ∧ Row .u8 256 w' v ((be4 (lmCode h) ++ be4 c) ++ (id ++ knT k n m h id seed 1)) ∧ New w.heap.size v ∧ Tidy v ∧ Below w.heap.size w w' := by
  have hw := fun y (hb : Below w.heap.size w y) => rwrongT_any (h : Int) (k : Int) id seed idv sv y (hi.below hb) (hs.below hb)
  rw [hne] at hw
  have bN := Bx2T.new w (.int .i64 (h : Int)) (.int .i64 (k : Int))
  have hhd := fun y => rhead_any (h : Int) y hk
  have hkn := fun y (hb : Below w.heap.size w y) => rknotsK hk h8 h hh id seed idv sv y (hi.below hb) ti (hs.below hb) ts hl hsl
  have hp1 : 1 < 2 * 2 ^ h := by have := Nat.two_pow_pos h; omega
  have hfl := knT_len k n m h id seed 1
  have hhl : (be4 (lmCode h) ++ be4 c).length = 8 := by rw [List.length_append, be4_len, be4_len]
  obtain ⟨ia, ic, rfl, _⟩ := hi.opens hl
  obtain ⟨sa, sc, rfl, _⟩ := hs.opens hsl
  generalize knT k n m h id seed = f at *
  generalize be4 (lmCode h) ++ be4 c = hd at *
  have hfe : [hd, id, f 1].flatten = hd ++ (id ++ f 1) := by simp
  have hj := fun y lv (r : Rows2 y lv [hd, id, f 1]) => rjoin_any lv _ y r (by rw [hfe]; simp only [List.length_append]; omega)
  rw [hfe] at hj
  obtain ⟨N, hN⟩ : ∃ N, N = 2 * 2 ^ h := ⟨_, rfl⟩
  rw [← hN] at hkn hp1
  have lN : (1 : Int) < (N : Int) := by omega
  clear hN hne hfe
  have HI := hide (And.intro hi hp1)
  clear hi hp1 hs
  go_enter Tryz.func23, Tryz.ntmps23
  go_wp2_with (first
    | (go_at_call 46; refine (hw _ (keep_alloc _ _)).mono ?_; rintro e w1 ⟨rfl, hb1'⟩; have b1 := bN.below hb1'; have hb1 := keep_trans (keep_alloc w (.cells #[.int .i64 (h : Int), .int .i64 (k : Int)] 45)) hb1')
    | fail)
  obtain ⟨i0, hi0, hz0, hz1, hz2⟩ := info_text
  have hbd : Below w1.heap.size w1 w1.drew := (Below.refl _ _).drew
  have hS0 := (b1.below hbd).range
  have hb1d := keep_trans hb1 hbd
  refine at_begin (ops := opsA (cLA (cRA (cRA (cRA (Tryz.f23.body.getD .skip)))))) (n := 13) (fun y => y.rangeAt w.heap.size 0 [.int .i64 (h : Int), .int .i64 (k : Int)]) (by kernel_rfl) (by kernel_rfl) ?_
  refine at_takeD (i := 0) (m' := 1) (d := some 16) (v := .agg #[.int .i64 (h : Int), .int .i64 (k : Int)]) tpreg rfl (by decide) rfl rfl (y_load_row (cs := [.int .i64 (h : Int), .int .i64 (k : Int)]) rfl rfl rfl Tryz.underlying45 rfl (by kernel_rfl) (fun _ h => h)) hS0 ?_
  simp only [Act.put, List.setIfInBounds_toArray, List.set_cons_zero, List.set_cons_succ]
  refine at_takeD (i := 2) (m' := 5) (d := some 18) (v := .slice ia 16 ic) tpreg rfl (by decide) rfl rfl (y_move rfl rfl rfl) hS0 ?_
  simp only [Act.put, List.setIfInBounds_toArray, List.set_cons_zero, List.set_cons_succ]
  refine at_takeD (i := 3) (m' := 13) (d := some 19) (v := .agg #[.int .i64 (h : Int), .int .i64 (k : Int)]) tpreg rfl (by decide) rfl rfl (y_load_row (cs := [.int .i64 (h : Int), .int .i64 (k : Int)]) rfl rfl rfl Tryz.underlying45 rfl (by kernel_rfl) (fun _ h => h)) hS0 ?_
  simp only [Act.put, List.setIfInBounds_toArray, List.set_cons_zero, List.set_cons_succ]
  refine at_takeD (i := 4) (m' := 29) (d := some 20) (v := .slice ia 16 ic) tpreg rfl (by decide) rfl rfl (y_move rfl rfl rfl) hS0 ?_
  simp only [Act.put, List.setIfInBounds_toArray, List.set_cons_zero, List.set_cons_succ]
  refine at_takeD (i := 5) (m' := 61) (d := some 21) (v := .slice sa 32 sc) tpreg rfl (by decide) rfl rfl (y_move rfl rfl rfl) hS0 ?_
  simp only [Act.put, List.setIfInBounds_toArray, List.set_cons_zero, List.set_cons_succ]
  refine at_one (i := 1) (m' := 63) tpreg (by decide) rfl ?_
  refine p_call1 (u := .agg #[.int .i64 (h : Int), .int .i64 (k : Int)]) (d := some 17) rfl rfl rfl rfl rfl Tryz.call47 ((hhd _).mono ?_)
  rintro e w2 ⟨v2, rfl, r2, n2, t2, hb2⟩
  obtain ⟨a2, c2, rfl, _⟩ := r2.opens hhl
  have hb12 := keep_trans hb1d hb2
  have b2 := (b1.below hbd).below hb2
  refine ⟨_, rfl, b2.range, ?_⟩
  simp only [Act.put, List.setIfInBounds_toArray, List.set_cons_zero, List.set_cons_succ]
  refine at_one (i := 6) (m' := 127) tpreg (by decide) rfl ?_
  refine p_call3 (u := .agg #[.int .i64 (h : Int), .int .i64 (k : Int)]) (v := .slice ia 16 ic) (t := .slice sa 32 sc) (d := some 22) rfl rfl rfl rfl rfl rfl rfl Tryz.call48 ((hkn _ hb12).mono ?_)
  rintro e w3 ⟨H, rfl, k3, hH, hb3⟩
  obtain ⟨u3, c3, r3, t3⟩ := k3.cell (Nat.le_refl 1) HI.out.2
  obtain ⟨a3, c3', rfl, _⟩ := r3.opens hfl
  have hb13 := keep_trans hb12 hb3
  have b3 := b2.below hb3
  refine ⟨_, rfl, b3.range, ?_⟩
  simp only [Act.put, List.setIfInBounds_toArray, List.set_cons_zero, List.set_cons_succ]
  refine at_takeD (i := 7) (m' := 255) (d := some 23) (v := .pointer (some ⟨H, 1, none⟩)) tpreg rfl (by decide) rfl rfl (y_index_slice (i := 1) rfl rfl rfl rfl Tryz.underlying48 (by kernel_rfl) HI.out.2) b3.range ?_
  simp only [Act.put, List.setIfInBounds_toArray, List.set_cons_zero, List.set_cons_succ]
  refine at_one (i := 8) (m' := 511) tpreg (by decide) rfl ?_
  refine p_loadT (d := some 24) (v := .slice a3 32 c3') rfl rfl rfl rfl rfl Tryz.underlying23 rfl c3 ⟨b3.range, ?_⟩
  simp only [Act.put, List.setIfInBounds_toArray, List.set_cons_zero, List.set_cons_succ]
  have hb34 := keep_alloc w3 (.cells #[.slice a2 8 c2, .slice ia 16 ic, .slice a3 32 c3'] 23)
  have b4 := b3.below hb34
  refine at_one (i := 9) (m' := 1023) tpreg (by decide) rfl ?_
  refine p_build3 (d := some 25) rfl rfl rfl rfl rfl rfl rfl Tryz.underlying48 hi0 hz1 hz0 ⟨b4.range, ?_⟩
  simp only [Act.put, List.setIfInBounds_toArray, List.set_cons_zero, List.set_cons_succ]
  have hT := hj _ _ (rows_litL (B := w3.heap.size) (k := 3) (texts_cons (r2.below hb3) t2 (texts_cons (HI.out.1.below hb13) ti (texts_cons r3 t3 (Texts.nil _)))) rfl rfl (by decide))
  refine at_one (i := 10) (m' := 2047) tpreg (by decide) rfl ?_
  refine p_call1 (u := .slice (some ⟨w3.heap.size, 0, none⟩) 3 3) (d := some 26) rfl rfl rfl rfl rfl Tryz.call31 (hT.mono ?_)
  rintro e w4 ⟨v4, rfl, o4, hb4⟩
  have b5 := b4.below hb4
  refine ⟨_, rfl, b5.range, ?_⟩
  simp only [Act.put, List.setIfInBounds_toArray, List.set_cons_zero, List.set_cons_succ]
  refine at_takeD (i := 11) (m' := 4095) (d := some 6) (v := v4) tpreg rfl (by decide) rfl rfl (y_assignA rfl rfl rfl) b5.range ?_
  simp only [Act.put, List.setIfInBounds_toArray, List.set_cons_zero, List.set_cons_succ]
  refine at_takeD (i := 12) (m' := 8191) (d := some 7) (v := .int .i64 0) tpreg rfl (by decide) rfl rfl (y_assignA rfl rfl rfl) b5.range ?_
  simp only [Act.put, List.setIfInBounds_toArray, List.set_cons_zero, List.set_cons_succ]
  refine at_done tpreg (by decide) ?_
  go_wp2
  go_ret2
  have hb14 := keep_trans hb13 hb34
  exact ⟨_, rfl, o4.row, (o4.mono hb14.size).new, o4.tidy, keep_trans hb14 hb4⟩
end Go.Proofs.YtogiballdmgcpaaGreatDoor
