/- Keys of chains, the program's own: sums told by closures: by what they are called, and what they tell. -/
import Derived.Test.YtpmobjfhhkglbaaDoorMDig
import Derived.Test.YtpmobjfhhkglbaaDoorCEn2
import Derived.Test.YtpmobjfhhkglbaaDoorHSum
namespace Go.Proofs.YtpmobjfhhkglbaaDoor
open Go.RowKit
set_option linter.unusedVariables false
set_option linter.unusedSimpArgs false

theorem y_hiW {ops : Array Oper} {S : World → Prop} {o : Oper} {a : Act} {x z : Operand} {aa : Option Addr} {n c G : Nat} (hw : Region.wanted o (yielded ops a.tmps) = true) (ho : o.op = .slice 26 x none (some z) none) (hx : a.eval x = .slice aa n c) (hz : a.eval z = .int .i64 (G : Int)) (hG : G ≤ c) : YieldsIf Tryd.prog ops S o (.slice aa G c) a := by
  obtain ⟨i0, hi0, hz0, hz1, hz2⟩ := info_byte
  have h1 : (G : Int) ≤ (c : Int) := by omega
  refine y_ofG hw fun w _ => ?_
  unfold execOp
  simp only [ho, hx, Option.map_none, Option.map_some, hz]
  simp [Instr.sliceAt, Instr.slice, Instr.sliceBounds, Instr.sliceBound, asIntOf, Sem.run_bind, run_underlying Tryd.underlying26, sizeOf, typeInfo, hi0, hz1, Addr.add, go_sem, h1, hG]
theorem own_butW {e : TypeId} {k : IntKind} {m : Nat} {w w' : World} {B : Nat} {v : Value} {l : List Nat} {g : Nat} (h : Own e k m w B v l) (hb : But g w w') (hn : ∀ b, v.ownBlock = some b → b ≠ g) : Own e k m w' B v l := by
  obtain ⟨⟨h1, h2⟩, hu⟩ := h
  refine ⟨⟨h1, ?_⟩, hu⟩
  rcases h2 with h2 | ⟨g', cap, cur, rfl, h3, h4, h5⟩
  · exact .inl h2
  · refine .inr ⟨g', cap, cur, rfl, h3, ?_, h5⟩
    rw [hb.block g' (by
      rcases Nat.lt_or_ge g' w.heap.size with hlt | hge
      · exact hlt
      · rw [Array.getElem?_eq_none hge] at h4; cases h4) (hn g' rfl)]
    exact h4
theorem row_rangeW {w : World} {g : Nat} {cs : List Value} {t : TypeId} {fr : Nat × Nat} (h : w.heap[g]? = some (.cells cs.toArray t fr)) : w.rangeAt g 0 cs := fun j v hv => by
  rw [Nat.zero_add, cell_of_row _ _ j _ _ _ h]; simpa using hv
theorem heap_ltW {w : World} {g : Nat} {o : Obj} (h : w.heap[g]? = some o) : g < w.heap.size := by
  rcases Nat.lt_or_ge g w.heap.size with hlt | hge
  · exact hlt
  · rw [Array.getElem?_eq_none hge] at h; cases h
theorem p_allocW {ops : Array Oper} {K : Act → World → Prop} {Q : Exit → Act → World → Prop} {i : Nat} {o : Oper} {a : Act} {x : World} {d : Option Nat} (hd : o.dst = d) (hi : ops[i]? = some o) (hw : Region.wanted o (yielded ops a.tmps) = true) (ho : o.op = .alloc 70)
    (h : K (a.put d (.pointer (some ⟨x.heap.size, 0, none⟩))) (x.alloc (.cells (sl 0 (zs 25) 0 false).toArray 70))) : wpOp Tryd.prog ops Q i K a x := by
  have hz := zero28
  have hr : (execOp a.eval o).run Tryd.prog x = .ok (.value (.pointer (some ⟨x.heap.size, 0, none⟩))) (x.alloc (.cells (sl 0 (zs 25) 0 false).toArray 70)) := by
    unfold execOp
    simp only [ho]
    simp [go_sem, hz]
  unfold wpOp
  simp only [hi]
  rw [if_pos hw]
  left
  unfold Oper.wp
  rw [hr]
  show K (a.put o.dst _) _
  rw [hd]
  exact h
/-- a function value with what it has caught is called with two arguments -/
theorem p_callF {ops : Array Oper} {Q : Exit → Act → World → Prop} {K : Act → World → Prop} {i : Nat} {o : Oper} {a : Act} {w : World} {f : FuncId} {x y1 y2 : Operand} {ts : Array TypeId} {u v : Value} {cap : Array Value} {d : Option Nat} (hd : o.dst = d) (hi : ops[i]? = some o) (hw : Region.wanted o (yielded ops a.tmps) = true) (ho : o.op = .call { callee := .value x, args := #[y1, y2], argTypes := ts }) (hx : a.eval x = .func (.func f) #[] cap) (hy1 : a.eval y1 = u) (hy2 : a.eval y2 = v)
    (hf : ∀ (args : Array Value) (w : World), (callFunc f args).run Tryd.prog w = .ok (.enter f args) w) (h : Calls Tryd.prog f (#[u, v] ++ cap) w fun e w' => ∃ r, e = .returned r ∧ K (a.put d r) w') : wpOp Tryd.prog ops Q i K a w := by
  have hr : (execOp a.eval o).run Tryd.prog w = .ok (.enter f (#[u, v] ++ cap)) w := by
    unfold execOp
    simp only [ho, List.map_toArray, List.map_cons, List.map_nil, hy1, hy2, resolve, hx]
    simp [invoke, go_sem, hf]
  unfold wpOp
  simp only [hi]
  rw [if_pos hw]
  left
  unfold Oper.wp
  rw [hr]
  refine h.mono ?_
  rintro e w' ⟨r, rfl, hk⟩
  rw [← hd] at hk
  exact hk
/-- what tells sums at places: a function value, in worlds that keep what it has caught -/
structure Tl (F : List Nat → List Nat → List Nat) (fn : FuncId) (cap : Array Value) (Inv : World → Prop) : Prop where
  enters : ∀ (args : Array Value) (x : World), (callFunc fn args).run Tryd.prog x = .ok (.enter fn args) x
  keep : ∀ x y : World, Inv x → Below x.heap.size x y → Inv y
  calls : ∀ (x : World) (a text : List Nat) (tv : Value), Inv x → Pl a → Row .u8 256 x tv text → Tidy tv → text.length ≤ 50000 →
    Calls Tryd.prog fn (#[.agg (arr .u8 a), tv] ++ cap) x fun e x' => ∃ v, e = .returned v ∧ Row .u8 256 x' v (F a text) ∧ New x.heap.size v ∧ Below x.heap.size x x'
/-- what has been caught does not lie from b up to m -/
def Bt (b m : Nat) (Inv : World → Prop) : Prop := ∀ (x y : World) (g : Nat), Inv x → But g x y → b ≤ g → g < m → Inv y
theorem csts_lt {w : World} (h : Csts w) : 1 < w.heap.size :=
  World.block_lt_of_cell? w _ (h 0 _ (List.getElem?_eq_getElem (by rw [vals_length, csts_length]; decide)))
theorem csts_but {x y : World} {g : Nat} (h : Csts x) (hB : But g x y) (hg : 1 ≠ g) : Csts y := fun j v hv => But.cell (h j v hv) hB hg
theorem roots_lt {w : World} (h : Roots w) : 2 < w.heap.size ∧ 0 < w.heap.size :=
  ⟨World.block_lt_of_cell? w _ (h.1 0 _ (List.getElem?_eq_getElem (by rw [vals_length]; decide))), World.block_lt_of_cell? w _ (h.2 0 _ (List.getElem?_eq_getElem (by rw [vals_length]; decide)))⟩
theorem roots_but {x y : World} {g : Nat} (h : Roots x) (hB : But g x y) (h1 : 2 ≠ g) (h2 : 0 ≠ g) : Roots y :=
  ⟨fun j v hv => But.cell (h.1 j v hv) hB h1, fun j v hv => But.cell (h.2 j v hv) hB h2⟩
theorem wadd (P b : List Nat) (tv bv : Value) (w : World) (hT : Roots w) (hR : Row .u8 256 w tv (tlH 1 P)) (tT : Tidy tv) (hb : Row .u8 256 w bv b) (tb : Tidy bv) (hP : P.length ≤ 1000000) (hbl : b.length ≤ 100000) :
    Calls Tryd.prog 43 #[.agg (hvP 1 P tv), bv] w fun e w' => ∃ v', e = .returned (.agg (hvP 1 (P ++ b) v')) ∧ Row .u8 256 w' v' (tlH 1 (P ++ b)) ∧ Tidy v' ∧ New w.heap.size v' ∧ Below w.heap.size w w' := by
  have h := sAdd_new 1 (wsH 1 P) tv bv (tlH 1 P) b P.length w hT (wsH_8 _ _) (wsH_u64 (.inl rfl) _) hR tT hb tb hbl (hfit_at (.inl rfl) _ (by omega)) (by omega)
  rw [wsH_app, tlH_app, ← List.length_append] at h
  exact h
theorem wend (P : List Nat) (tv : Value) (w : World) (hT : Roots w) (hR : Row .u8 256 w tv (tlH 1 P)) (tT : Tidy tv) (hP : P.length ≤ 1000000) :
    Calls Tryd.prog 46 #[.agg (hvP 1 P tv)] w fun e w' => ∃ v', e = .returned v' ∧ Own 5 .u8 256 w' w.heap.size v' (digD 1 P) ∧ Below w.heap.size w w' := by
  have h := sEnd_any 1 (wsH 1 P) tv (tlH 1 P) P.length w hT (wsH_8 _ _) (wsH_u64 (.inl rfl) _) hR tT (hfit_at (.inl rfl) _ (by omega)) (by omega)
  rw [endS_at (.inl rfl)] at h
  exact h
theorem wsqz (P : List Nat) (N : Nat) (x : World) (hT : Csts x) (hN : N ≤ 1000) :
    Calls Tryd.prog 41 #[.agg (spK 7 P), .int .i64 (N : Int)] x fun e x' => ∃ (v : Value) (ks : List Value), e = .returned (.tuple #[.agg ks.toArray, v]) ∧ ks.length = 28 ∧ ks.toArray.all (·.oneCell') = true ∧ Own 5 .u8 256 x' x.heap.size v (sumK 7 P N) ∧ Below x.heap.size x x' := by
  have hr : 0 < rateK 7 := by decide
  have hw := stK_w 7 P
  have ha := stK_at hr P
  have h := csqz_any 7 (stK 7 P).1 (stK 7 P).2 false N x hT hw hr (by omega) (fun _ => ha) (by omega)
  have e : sqzB (rateK 7) (begK 7 (stK 7 P).1 (stK 7 P).2 false) N = sumK 7 P N := rfl
  rw [e] at h
  have hl := (sqzS_w (rate := rateK 7) (begK_w (kind := 7) (p := (stK 7 P).2) (o := false) hw) N).1
  exact h.mono fun e x' ⟨v, h1, h2, h3⟩ => ⟨v, _, h1, sl_len hl, all_oneCell_toArray (sl_one _ _ _ _), h2, h3⟩
def sk1lt : List Lt := [(0, some 10, [2]), (0, some 11, [4]), (0, some 12, [1]), (6, some 13, [11, 12]), (8, some 14, [13]), (17, some 15, [10, 14]), (0, some 16, [3]), (96, some 17, [15, 16]), (128, some 9, [17]), (256, some 18, [9]), (256, some 19, [9]), (0, some 7, []), (3071, none, [7, 18]), (8191, some 8, [19])]
theorem sk1reg : Reg (opsA (cLA (cRA (Tryd.f40.body.getD .skip)))) sk1lt := ⟨by kernel_rfl, by kernel_rfl⟩
set_option maxHeartbeats 4000000 in
set_option maxRecDepth 100000 in
theorem sk_reg {Q : Exit → Act → World → Prop} {x0 x5 x6 x7 x8 x9 x10 x11 x12 x13 x14 x15 x16 x17 x18 x19 x20 : Value} {B q r N tl tc : Nat} {ta : Option Addr} {a text OUT JJ : List Nat} {cs : List Value} {S2 : Array Value} {W : World} (ha : Pl a) (La : Lies .u8 23 W B a)
    (hq : W.heap[q]? = some (.cells cs.toArray 70 (0, 0))) (hcl : cs.length = 28) (hc : W.cell? ⟨r, 0, none⟩ = some (.int .i64 (N : Int))) (rt : Row .u8 256 W (.slice ta tl tc) text) (tt : Tidy (.slice ta tl tc))
    (hjn : ∀ y lv, Rows2 y lv [a, text] → Calls Tryd.prog 15 #[lv] y fun e w' => ∃ v, e = .returned v ∧ Own 5 .u8 256 w' y.heap.size v JJ ∧ Below y.heap.size y w')
    (hab : ∀ y jv, Below W.heap.size W y → Row .u8 256 y jv JJ → Calls Tryd.prog 39 #[.agg cs.toArray, jv] y fun e w' => e = .returned (.agg S2) ∧ Below y.heap.size y w')
    (hsq : ∀ y, Below W.heap.size W y → Calls Tryd.prog 41 #[.agg S2, .int .i64 (N : Int)] y fun e x' => ∃ (v : Value) (ks : List Value), e = .returned (.tuple #[.agg ks.toArray, v]) ∧ ks.length = 28 ∧ ks.toArray.all (·.oneCell') = true ∧ Own 5 .u8 256 x' y.heap.size v OUT ∧ Below y.heap.size y x')
    (hQ : ∀ (y7 y9 y10 y11 y12 y13 y14 y15 y16 y17 y18 y19 : Value) (v : Value) (z : World), Own 5 .u8 256 z W.heap.size v OUT → Below W.heap.size W z → Q .normal { tmps := #[x0, .slice ta tl tc, .pointer (some ⟨q, 0, none⟩), .pointer (some ⟨r, 0, none⟩), .pointer (some ⟨B, 0, none⟩), x5, x6, y7, v, y9, y10, y11, y12, y13, y14, y15, y16, y17, y18, y19, x20], defers := [] } z) :
    (Code.region 1 (opsA (cLA (cRA (Tryd.f40.body.getD .skip)))) true).wp Tryd.prog Q { tmps := #[x0, .slice ta tl tc, .pointer (some ⟨q, 0, none⟩), .pointer (some ⟨r, 0, none⟩), .pointer (some ⟨B, 0, none⟩), x5, x6, x7, x8, x9, x10, x11, x12, x13, x14, x15, x16, x17, x18, x19, x20], defers := [] } W := by
  have hbd : Below W.heap.size W W.drew := (Below.refl _ _).drew
  have ra := row_ad La ha
  obtain ⟨i0, hi0, hz0, hz1, hz2⟩ := info_text
  have hz28 : (sl 0 (zs 25) 0 false).toArray.size = 28 := by simp [sl_len (zs_len 25)]
  refine at_begin (ops := opsA (cLA (cRA (Tryd.f40.body.getD .skip)))) (n := 14) (fun y => Below W.heap.size W y) (by kernel_rfl) (by kernel_rfl) ?_
  refine at_takeD (i := 0) (m' := 1) (d := some 10) (v := .agg cs.toArray) sk1reg rfl (by decide) rfl rfl (y_rowG (cs := cs) (wanted_free rfl) rfl rfl Tryd.underlying70 rfl (by rw [hcl]; kernel_rfl) (fun _ h => row_rangeW ((h.block _ (heap_ltW hq)).trans hq))) hbd ?_
  simp only [Act.put, List.setIfInBounds_toArray, List.set_cons_zero, List.set_cons_succ]
  refine at_takeD (i := 1) (m' := 3) (d := some 11) (v := .slice (some ⟨B, 0, none⟩) 32 32) sk1reg rfl (by decide) rfl rfl (y_arrA (wanted_free rfl) rfl rfl) hbd ?_
  simp only [Act.put, List.setIfInBounds_toArray, List.set_cons_zero, List.set_cons_succ]
  refine at_takeD (i := 2) (m' := 7) (d := some 12) (v := .slice ta tl tc) sk1reg rfl (by decide) rfl rfl (y_moveG (wanted_free rfl) rfl rfl) hbd ?_
  simp only [Act.put, List.setIfInBounds_toArray, List.set_cons_zero, List.set_cons_succ]
  refine at_takeD (i := 6) (m' := 71) (d := some 16) (v := .int .i64 (N : Int)) sk1reg rfl (by decide) rfl rfl (y_plainG (wanted_free rfl) rfl rfl Tryd.underlying3 rfl (fun _ h => keep_cell hc h)) hbd ?_
  simp only [Act.put, List.setIfInBounds_toArray, List.set_cons_zero, List.set_cons_succ]
  refine at_two (i := 3) (j := 11) (m1 := 79) (m2 := 2119) sk1reg (by decide) rfl rfl ?_ ?_
  · refine p_build2G (d := some 13) rfl (wanted_free rfl) rfl rfl rfl rfl Tryd.underlying38 hi0 hz1 hz0 ?_
    have hb5 := keep_trans hbd (keep_alloc W.drew (.cells #[.slice (some ⟨B, 0, none⟩) 32 32, .slice ta tl tc] 26))
    try replace zc := ((keep_alloc W.drew (.cells #[.slice (some ⟨B, 0, none⟩) 32 32, .slice ta tl tc] 26)).block _ (heap_ltW zc)).trans zc
    have rr := rows_litL (B := W.drew.heap.size) (k := 2) (texts_cons (ra.below hbd) tidy_someW (texts_cons (rt.below hbd) tt (Texts.nil _))) rfl rfl (by decide)
    refine ⟨hb5, ?_⟩
    simp only [Act.put, List.setIfInBounds_toArray, List.set_cons_zero, List.set_cons_succ]
    refine at_two (i := 4) (j := 11) (m1 := 95) (m2 := 2127) sk1reg (by decide) rfl rfl ?_ ?_
    · refine p_callG (args := #[.slice (some ⟨W.drew.heap.size, 0, none⟩) 2 2]) (d := some 14) rfl (wanted_free rfl) rfl (by simp only [List.map_toArray, List.map_cons, List.map_nil]; rfl) rfl Tryd.call15 ((hjn (W.drew.alloc (.cells #[.slice (some ⟨B, 0, none⟩) 32 32, .slice ta tl tc] 26)) _ rr).mono ?_)
      rintro e y6 ⟨jv, rfl, oj, g6⟩
      have rj := oj.row
      try have zlt := heap_ltW zc
      try replace zc := (g6.block _ (heap_ltW zc)).trans zc
      have hb6 := keep_trans hb5 g6
      refine ⟨_, rfl, hb6, ?_⟩
      simp only [Act.put, List.setIfInBounds_toArray, List.set_cons_zero, List.set_cons_succ]
      refine at_two (i := 5) (j := 11) (m1 := 127) (m2 := 2143) sk1reg (by decide) rfl rfl ?_ ?_
      · refine p_callG (args := #[.agg cs.toArray, jv]) (d := some 15) rfl (wanted_free rfl) rfl (by simp only [List.map_toArray, List.map_cons, List.map_nil]; rfl) rfl Tryd.call39 ((hab y6 _ hb6 rj).mono ?_)
        rintro e y7 ⟨rfl, g7⟩
        try have zlt := heap_ltW zc
        try replace zc := (g7.block _ (heap_ltW zc)).trans zc
        have hb7 := keep_trans hb6 g7
        refine ⟨_, rfl, hb7, ?_⟩
        simp only [Act.put, List.setIfInBounds_toArray, List.set_cons_zero, List.set_cons_succ]
        refine at_two (i := 7) (j := 11) (m1 := 255) (m2 := 2175) sk1reg (by decide) rfl rfl ?_ ?_
        · refine p_callG (args := #[.agg S2, .int .i64 (N : Int)]) (d := some 17) rfl (wanted_free rfl) rfl (by simp only [List.map_toArray, List.map_cons, List.map_nil]; rfl) rfl Tryd.call41 ((hsq y7 hb7).mono ?_)
          rintro e y8 ⟨v, ks, rfl, hkl, hk1, oo, g8⟩
          have ybs := (hb7).size
          have nb := fun b hb => oo.1.lt b hb
          try have zlt := heap_ltW zc
          try replace zc := (g8.block _ (heap_ltW zc)).trans zc
          have hb8 := keep_trans hb7 g8
          refine ⟨_, rfl, hb8, ?_⟩
          simp only [Act.put, List.setIfInBounds_toArray, List.set_cons_zero, List.set_cons_succ]
          refine at_takeD (i := 8) (m' := 511) (d := some 9) (v := .tuple #[.agg ks.toArray, v]) sk1reg rfl (by decide) rfl rfl (y_moveG (wanted_free rfl) rfl rfl) hb8 ?_
          simp only [Act.put, List.setIfInBounds_toArray, List.set_cons_zero, List.set_cons_succ]
          refine at_takeD (i := 9) (m' := 1023) (d := some 18) (v := .agg ks.toArray) sk1reg rfl (by decide) rfl rfl (y_extractG (wanted_free rfl) rfl rfl rfl) hb8 ?_
          simp only [Act.put, List.setIfInBounds_toArray, List.set_cons_zero, List.set_cons_succ]
          refine at_takeD (i := 10) (m' := 2047) (d := some 19) (v := v) sk1reg rfl (by decide) rfl rfl (y_extractG (wanted_free rfl) rfl rfl rfl) hb8 ?_
          simp only [Act.put, List.setIfInBounds_toArray, List.set_cons_zero, List.set_cons_succ]
          refine at_one (i := 11) (m' := 4095) sk1reg (by decide) rfl ?_
          refine p_allocW (d := some 7) rfl rfl (wanted_free rfl) rfl ?_
          have kz12 := keep_alloc y8 (.cells (sl 0 (zs 25) 0 false).toArray 70)
          have hb12 := keep_trans hb8 kz12
          have zc := heap_alloc_last y8 (.cells (sl 0 (zs 25) 0 false).toArray 70)
          try replace rr := rr.below kz12
          try replace rj := rj.below kz12
          try replace oo : Own 5 .u8 256 _ _ v OUT := ⟨own_below oo.1 kz12, oo.2⟩
          have zsz := (hb8).size
          obtain ⟨Z, hZ⟩ : ∃ Z : Nat, y8.heap.size = Z := ⟨_, rfl⟩
          rw [hZ] at zc zsz ⊢
          obtain ⟨z12, hz12⟩ : ∃ z : World, z = y8.alloc (.cells (sl 0 (zs 25) 0 false).toArray 70) := ⟨_, rfl⟩
          rw [← hz12] at zc hb12 kz12 ⊢
          try rw [← hz12] at rr
          try rw [← hz12] at rj
          try rw [← hz12] at oo
          clear hz12
          refine ⟨hb12, ?_⟩
          simp only [Act.put, List.setIfInBounds_toArray, List.set_cons_zero, List.set_cons_succ]
          refine at_one (i := 12) (m' := 8191) sk1reg (by decide) rfl ?_
          refine p_rowA (cells := ks.toArray) rfl rfl rfl rfl rfl rfl zc (by rw [List.size_toArray, hkl]; kernel_rfl) (by rw [hz28, List.size_toArray, hkl]) hk1 ?_
          have ofin := own_butW oo ((But.refl Z z12).setRow ks.toArray) (fun b hb => by have := nb b hb; omega)
          have hb13 : Below W.heap.size W (z12.setRow Z ks.toArray) := (hb12).trans (((But.refl Z _).setRow _).below zsz (hb12).size)
          refine ⟨hb13, ?_⟩
          refine at_takeD (i := 13) (m' := 16383) (d := some 8) (v := v) sk1reg rfl (by decide) rfl rfl (y_assignG (wanted_free rfl) rfl rfl) hb13 ?_
          simp only [Act.put, List.setIfInBounds_toArray, List.set_cons_zero, List.set_cons_succ]
          refine at_done sk1reg (by decide) ?_
          exact hQ _ _ _ _ _ _ _ _ _ _ _ _ _ _ (ofin.mono ybs) hb13
        · refine p_allocW (d := some 7) rfl rfl (wanted_free rfl) rfl ?_
          have kz8 := keep_alloc y7 (.cells (sl 0 (zs 25) 0 false).toArray 70)
          have hb8 := keep_trans hb7 kz8
          have zc := heap_alloc_last y7 (.cells (sl 0 (zs 25) 0 false).toArray 70)
          try replace rr := rr.below kz8
          try replace rj := rj.below kz8
          try replace oo : Own 5 .u8 256 _ _ v OUT := ⟨own_below oo.1 kz8, oo.2⟩
          have zsz := (hb7).size
          obtain ⟨Z, hZ⟩ : ∃ Z : Nat, y7.heap.size = Z := ⟨_, rfl⟩
          rw [hZ] at zc zsz ⊢
          obtain ⟨z8, hz8⟩ : ∃ z : World, z = y7.alloc (.cells (sl 0 (zs 25) 0 false).toArray 70) := ⟨_, rfl⟩
          rw [← hz8] at zc hb8 kz8 ⊢
          try rw [← hz8] at rr
          try rw [← hz8] at rj
          try rw [← hz8] at oo
          clear hz8
          refine ⟨hb8, ?_⟩
          simp only [Act.put, List.setIfInBounds_toArray, List.set_cons_zero, List.set_cons_succ]
          refine at_one (i := 7) (m' := 2303) sk1reg (by decide) rfl ?_
          refine p_callG (args := #[.agg S2, .int .i64 (N : Int)]) (d := some 17) rfl (wanted_free rfl) rfl (by simp only [List.map_toArray, List.map_cons, List.map_nil]; rfl) rfl Tryd.call41 ((hsq z8 hb8).mono ?_)
          rintro e y9 ⟨v, ks, rfl, hkl, hk1, oo, g9⟩
          have ybs := (hb8).size
          have nb := fun b hb => oo.1.lt b hb
          try have zlt := heap_ltW zc
          try replace zc := (g9.block _ (heap_ltW zc)).trans zc
          have hb9 := keep_trans hb8 g9
          refine ⟨_, rfl, hb9, ?_⟩
          simp only [Act.put, List.setIfInBounds_toArray, List.set_cons_zero, List.set_cons_succ]
          refine at_takeD (i := 8) (m' := 2559) (d := some 9) (v := .tuple #[.agg ks.toArray, v]) sk1reg rfl (by decide) rfl rfl (y_moveG (wanted_free rfl) rfl rfl) hb9 ?_
          simp only [Act.put, List.setIfInBounds_toArray, List.set_cons_zero, List.set_cons_succ]
          refine at_takeD (i := 9) (m' := 3071) (d := some 18) (v := .agg ks.toArray) sk1reg rfl (by decide) rfl rfl (y_extractG (wanted_free rfl) rfl rfl rfl) hb9 ?_
          simp only [Act.put, List.setIfInBounds_toArray, List.set_cons_zero, List.set_cons_succ]
          refine at_takeD (i := 10) (m' := 4095) (d := some 19) (v := v) sk1reg rfl (by decide) rfl rfl (y_extractG (wanted_free rfl) rfl rfl rfl) hb9 ?_
          simp only [Act.put, List.setIfInBounds_toArray, List.set_cons_zero, List.set_cons_succ]
          refine at_one (i := 12) (m' := 8191) sk1reg (by decide) rfl ?_
          refine p_rowA (cells := ks.toArray) rfl rfl rfl rfl rfl rfl zc (by rw [List.size_toArray, hkl]; kernel_rfl) (by rw [hz28, List.size_toArray, hkl]) hk1 ?_
          have ofin := own_butW oo ((But.refl Z y9).setRow ks.toArray) (fun b hb => by have := nb b hb; omega)
          have hb13 : Below W.heap.size W (y9.setRow Z ks.toArray) := (hb9).trans (((But.refl Z _).setRow _).below zsz (hb9).size)
          refine ⟨hb13, ?_⟩
          refine at_takeD (i := 13) (m' := 16383) (d := some 8) (v := v) sk1reg rfl (by decide) rfl rfl (y_assignG (wanted_free rfl) rfl rfl) hb13 ?_
          simp only [Act.put, List.setIfInBounds_toArray, List.set_cons_zero, List.set_cons_succ]
          refine at_done sk1reg (by decide) ?_
          exact hQ _ _ _ _ _ _ _ _ _ _ _ _ _ _ (ofin.mono ybs) hb13
      · refine p_allocW (d := some 7) rfl rfl (wanted_free rfl) rfl ?_
        have kz7 := keep_alloc y6 (.cells (sl 0 (zs 25) 0 false).toArray 70)
        have hb7 := keep_trans hb6 kz7
        have zc := heap_alloc_last y6 (.cells (sl 0 (zs 25) 0 false).toArray 70)
        try replace rr := rr.below kz7
        try replace rj := rj.below kz7
        try replace oo : Own 5 .u8 256 _ _ v OUT := ⟨own_below oo.1 kz7, oo.2⟩
        have zsz := (hb6).size
        obtain ⟨Z, hZ⟩ : ∃ Z : Nat, y6.heap.size = Z := ⟨_, rfl⟩
        rw [hZ] at zc zsz ⊢
        obtain ⟨z7, hz7⟩ : ∃ z : World, z = y6.alloc (.cells (sl 0 (zs 25) 0 false).toArray 70) := ⟨_, rfl⟩
        rw [← hz7] at zc hb7 kz7 ⊢
        try rw [← hz7] at rr
        try rw [← hz7] at rj
        try rw [← hz7] at oo
        clear hz7
        refine ⟨hb7, ?_⟩
        simp only [Act.put, List.setIfInBounds_toArray, List.set_cons_zero, List.set_cons_succ]
        refine at_one (i := 5) (m' := 2175) sk1reg (by decide) rfl ?_
        refine p_callG (args := #[.agg cs.toArray, jv]) (d := some 15) rfl (wanted_free rfl) rfl (by simp only [List.map_toArray, List.map_cons, List.map_nil]; rfl) rfl Tryd.call39 ((hab z7 _ hb7 rj).mono ?_)
        rintro e y8 ⟨rfl, g8⟩
        try have zlt := heap_ltW zc
        try replace zc := (g8.block _ (heap_ltW zc)).trans zc
        have hb8 := keep_trans hb7 g8
        refine ⟨_, rfl, hb8, ?_⟩
        simp only [Act.put, List.setIfInBounds_toArray, List.set_cons_zero, List.set_cons_succ]
        refine at_one (i := 7) (m' := 2303) sk1reg (by decide) rfl ?_
        refine p_callG (args := #[.agg S2, .int .i64 (N : Int)]) (d := some 17) rfl (wanted_free rfl) rfl (by simp only [List.map_toArray, List.map_cons, List.map_nil]; rfl) rfl Tryd.call41 ((hsq y8 hb8).mono ?_)
        rintro e y9 ⟨v, ks, rfl, hkl, hk1, oo, g9⟩
        have ybs := (hb8).size
        have nb := fun b hb => oo.1.lt b hb
        try have zlt := heap_ltW zc
        try replace zc := (g9.block _ (heap_ltW zc)).trans zc
        have hb9 := keep_trans hb8 g9
        refine ⟨_, rfl, hb9, ?_⟩
        simp only [Act.put, List.setIfInBounds_toArray, List.set_cons_zero, List.set_cons_succ]
        refine at_takeD (i := 8) (m' := 2559) (d := some 9) (v := .tuple #[.agg ks.toArray, v]) sk1reg rfl (by decide) rfl rfl (y_moveG (wanted_free rfl) rfl rfl) hb9 ?_
        simp only [Act.put, List.setIfInBounds_toArray, List.set_cons_zero, List.set_cons_succ]
        refine at_takeD (i := 9) (m' := 3071) (d := some 18) (v := .agg ks.toArray) sk1reg rfl (by decide) rfl rfl (y_extractG (wanted_free rfl) rfl rfl rfl) hb9 ?_
        simp only [Act.put, List.setIfInBounds_toArray, List.set_cons_zero, List.set_cons_succ]
        refine at_takeD (i := 10) (m' := 4095) (d := some 19) (v := v) sk1reg rfl (by decide) rfl rfl (y_extractG (wanted_free rfl) rfl rfl rfl) hb9 ?_
        simp only [Act.put, List.setIfInBounds_toArray, List.set_cons_zero, List.set_cons_succ]
        refine at_one (i := 12) (m' := 8191) sk1reg (by decide) rfl ?_
        refine p_rowA (cells := ks.toArray) rfl rfl rfl rfl rfl rfl zc (by rw [List.size_toArray, hkl]; kernel_rfl) (by rw [hz28, List.size_toArray, hkl]) hk1 ?_
        have ofin := own_butW oo ((But.refl Z y9).setRow ks.toArray) (fun b hb => by have := nb b hb; omega)
        have hb13 : Below W.heap.size W (y9.setRow Z ks.toArray) := (hb9).trans (((But.refl Z _).setRow _).below zsz (hb9).size)
        refine ⟨hb13, ?_⟩
        refine at_takeD (i := 13) (m' := 16383) (d := some 8) (v := v) sk1reg rfl (by decide) rfl rfl (y_assignG (wanted_free rfl) rfl rfl) hb13 ?_
        simp only [Act.put, List.setIfInBounds_toArray, List.set_cons_zero, List.set_cons_succ]
        refine at_done sk1reg (by decide) ?_
        exact hQ _ _ _ _ _ _ _ _ _ _ _ _ _ _ (ofin.mono ybs) hb13
    · refine p_allocW (d := some 7) rfl rfl (wanted_free rfl) rfl ?_
      have kz6 := keep_alloc (W.drew.alloc (.cells #[.slice (some ⟨B, 0, none⟩) 32 32, .slice ta tl tc] 26)) (.cells (sl 0 (zs 25) 0 false).toArray 70)
      have hb6 := keep_trans hb5 kz6
      have zc := heap_alloc_last (W.drew.alloc (.cells #[.slice (some ⟨B, 0, none⟩) 32 32, .slice ta tl tc] 26)) (.cells (sl 0 (zs 25) 0 false).toArray 70)
      try replace rr := rr.below kz6
      try replace rj := rj.below kz6
      try replace oo : Own 5 .u8 256 _ _ v OUT := ⟨own_below oo.1 kz6, oo.2⟩
      have zsz := (hb5).size
      obtain ⟨Z, hZ⟩ : ∃ Z : Nat, (W.drew.alloc (.cells #[.slice (some ⟨B, 0, none⟩) 32 32, .slice ta tl tc] 26)).heap.size = Z := ⟨_, rfl⟩
      rw [hZ] at zc zsz ⊢
      obtain ⟨z6, hz6⟩ : ∃ z : World, z = (W.drew.alloc (.cells #[.slice (some ⟨B, 0, none⟩) 32 32, .slice ta tl tc] 26)).alloc (.cells (sl 0 (zs 25) 0 false).toArray 70) := ⟨_, rfl⟩
      rw [← hz6] at zc hb6 kz6 ⊢
      try rw [← hz6] at rr
      try rw [← hz6] at rj
      try rw [← hz6] at oo
      clear hz6
      refine ⟨hb6, ?_⟩
      simp only [Act.put, List.setIfInBounds_toArray, List.set_cons_zero, List.set_cons_succ]
      refine at_one (i := 4) (m' := 2143) sk1reg (by decide) rfl ?_
      refine p_callG (args := #[.slice (some ⟨W.drew.heap.size, 0, none⟩) 2 2]) (d := some 14) rfl (wanted_free rfl) rfl (by simp only [List.map_toArray, List.map_cons, List.map_nil]; rfl) rfl Tryd.call15 ((hjn z6 _ rr).mono ?_)
      rintro e y7 ⟨jv, rfl, oj, g7⟩
      have rj := oj.row
      try have zlt := heap_ltW zc
      try replace zc := (g7.block _ (heap_ltW zc)).trans zc
      have hb7 := keep_trans hb6 g7
      refine ⟨_, rfl, hb7, ?_⟩
      simp only [Act.put, List.setIfInBounds_toArray, List.set_cons_zero, List.set_cons_succ]
      refine at_one (i := 5) (m' := 2175) sk1reg (by decide) rfl ?_
      refine p_callG (args := #[.agg cs.toArray, jv]) (d := some 15) rfl (wanted_free rfl) rfl (by simp only [List.map_toArray, List.map_cons, List.map_nil]; rfl) rfl Tryd.call39 ((hab y7 _ hb7 rj).mono ?_)
      rintro e y8 ⟨rfl, g8⟩
      try have zlt := heap_ltW zc
      try replace zc := (g8.block _ (heap_ltW zc)).trans zc
      have hb8 := keep_trans hb7 g8
      refine ⟨_, rfl, hb8, ?_⟩
      simp only [Act.put, List.setIfInBounds_toArray, List.set_cons_zero, List.set_cons_succ]
      refine at_one (i := 7) (m' := 2303) sk1reg (by decide) rfl ?_
      refine p_callG (args := #[.agg S2, .int .i64 (N : Int)]) (d := some 17) rfl (wanted_free rfl) rfl (by simp only [List.map_toArray, List.map_cons, List.map_nil]; rfl) rfl Tryd.call41 ((hsq y8 hb8).mono ?_)
      rintro e y9 ⟨v, ks, rfl, hkl, hk1, oo, g9⟩
      have ybs := (hb8).size
      have nb := fun b hb => oo.1.lt b hb
      try have zlt := heap_ltW zc
      try replace zc := (g9.block _ (heap_ltW zc)).trans zc
      have hb9 := keep_trans hb8 g9
      refine ⟨_, rfl, hb9, ?_⟩
      simp only [Act.put, List.setIfInBounds_toArray, List.set_cons_zero, List.set_cons_succ]
      refine at_takeD (i := 8) (m' := 2559) (d := some 9) (v := .tuple #[.agg ks.toArray, v]) sk1reg rfl (by decide) rfl rfl (y_moveG (wanted_free rfl) rfl rfl) hb9 ?_
      simp only [Act.put, List.setIfInBounds_toArray, List.set_cons_zero, List.set_cons_succ]
      refine at_takeD (i := 9) (m' := 3071) (d := some 18) (v := .agg ks.toArray) sk1reg rfl (by decide) rfl rfl (y_extractG (wanted_free rfl) rfl rfl rfl) hb9 ?_
      simp only [Act.put, List.setIfInBounds_toArray, List.set_cons_zero, List.set_cons_succ]
      refine at_takeD (i := 10) (m' := 4095) (d := some 19) (v := v) sk1reg rfl (by decide) rfl rfl (y_extractG (wanted_free rfl) rfl rfl rfl) hb9 ?_
      simp only [Act.put, List.setIfInBounds_toArray, List.set_cons_zero, List.set_cons_succ]
      refine at_one (i := 12) (m' := 8191) sk1reg (by decide) rfl ?_
      refine p_rowA (cells := ks.toArray) rfl rfl rfl rfl rfl rfl zc (by rw [List.size_toArray, hkl]; kernel_rfl) (by rw [hz28, List.size_toArray, hkl]) hk1 ?_
      have ofin := own_butW oo ((But.refl Z y9).setRow ks.toArray) (fun b hb => by have := nb b hb; omega)
      have hb13 : Below W.heap.size W (y9.setRow Z ks.toArray) := (hb9).trans (((But.refl Z _).setRow _).below zsz (hb9).size)
      refine ⟨hb13, ?_⟩
      refine at_takeD (i := 13) (m' := 16383) (d := some 8) (v := v) sk1reg rfl (by decide) rfl rfl (y_assignG (wanted_free rfl) rfl rfl) hb13 ?_
      simp only [Act.put, List.setIfInBounds_toArray, List.set_cons_zero, List.set_cons_succ]
      refine at_done sk1reg (by decide) ?_
      exact hQ _ _ _ _ _ _ _ _ _ _ _ _ _ _ (ofin.mono ybs) hb13
  · refine p_allocW (d := some 7) rfl rfl (wanted_free rfl) rfl ?_
    have kz5 := keep_alloc W.drew (.cells (sl 0 (zs 25) 0 false).toArray 70)
    have hb5 := keep_trans hbd kz5
    have zc := heap_alloc_last W.drew (.cells (sl 0 (zs 25) 0 false).toArray 70)
    try replace rr := rr.below kz5
    try replace rj := rj.below kz5
    try replace oo : Own 5 .u8 256 _ _ v OUT := ⟨own_below oo.1 kz5, oo.2⟩
    have zsz := (hbd).size
    obtain ⟨Z, hZ⟩ : ∃ Z : Nat, W.drew.heap.size = Z := ⟨_, rfl⟩
    rw [hZ] at zc zsz ⊢
    obtain ⟨z5, hz5⟩ : ∃ z : World, z = W.drew.alloc (.cells (sl 0 (zs 25) 0 false).toArray 70) := ⟨_, rfl⟩
    rw [← hz5] at zc hb5 kz5 ⊢
    try rw [← hz5] at rr
    try rw [← hz5] at rj
    try rw [← hz5] at oo
    clear hz5
    refine ⟨hb5, ?_⟩
    simp only [Act.put, List.setIfInBounds_toArray, List.set_cons_zero, List.set_cons_succ]
    refine at_one (i := 3) (m' := 2127) sk1reg (by decide) rfl ?_
    refine p_build2G (d := some 13) rfl (wanted_free rfl) rfl rfl rfl rfl Tryd.underlying38 hi0 hz1 hz0 ?_
    have hb6 := keep_trans hb5 (keep_alloc z5 (.cells #[.slice (some ⟨B, 0, none⟩) 32 32, .slice ta tl tc] 26))
    try replace zc := ((keep_alloc z5 (.cells #[.slice (some ⟨B, 0, none⟩) 32 32, .slice ta tl tc] 26)).block _ (heap_ltW zc)).trans zc
    have rr := rows_litL (B := z5.heap.size) (k := 2) (texts_cons (ra.below hb5) tidy_someW (texts_cons (rt.below hb5) tt (Texts.nil _))) rfl rfl (by decide)
    refine ⟨hb6, ?_⟩
    simp only [Act.put, List.setIfInBounds_toArray, List.set_cons_zero, List.set_cons_succ]
    refine at_one (i := 4) (m' := 2143) sk1reg (by decide) rfl ?_
    refine p_callG (args := #[.slice (some ⟨z5.heap.size, 0, none⟩) 2 2]) (d := some 14) rfl (wanted_free rfl) rfl (by simp only [List.map_toArray, List.map_cons, List.map_nil]; rfl) rfl Tryd.call15 ((hjn (z5.alloc (.cells #[.slice (some ⟨B, 0, none⟩) 32 32, .slice ta tl tc] 26)) _ rr).mono ?_)
    rintro e y7 ⟨jv, rfl, oj, g7⟩
    have rj := oj.row
    try have zlt := heap_ltW zc
    try replace zc := (g7.block _ (heap_ltW zc)).trans zc
    have hb7 := keep_trans hb6 g7
    refine ⟨_, rfl, hb7, ?_⟩
    simp only [Act.put, List.setIfInBounds_toArray, List.set_cons_zero, List.set_cons_succ]
    refine at_one (i := 5) (m' := 2175) sk1reg (by decide) rfl ?_
    refine p_callG (args := #[.agg cs.toArray, jv]) (d := some 15) rfl (wanted_free rfl) rfl (by simp only [List.map_toArray, List.map_cons, List.map_nil]; rfl) rfl Tryd.call39 ((hab y7 _ hb7 rj).mono ?_)
    rintro e y8 ⟨rfl, g8⟩
    try have zlt := heap_ltW zc
    try replace zc := (g8.block _ (heap_ltW zc)).trans zc
    have hb8 := keep_trans hb7 g8
    refine ⟨_, rfl, hb8, ?_⟩
    simp only [Act.put, List.setIfInBounds_toArray, List.set_cons_zero, List.set_cons_succ]
    refine at_one (i := 7) (m' := 2303) sk1reg (by decide) rfl ?_
    refine p_callG (args := #[.agg S2, .int .i64 (N : Int)]) (d := some 17) rfl (wanted_free rfl) rfl (by simp only [List.map_toArray, List.map_cons, List.map_nil]; rfl) rfl Tryd.call41 ((hsq y8 hb8).mono ?_)
    rintro e y9 ⟨v, ks, rfl, hkl, hk1, oo, g9⟩
    have ybs := (hb8).size
    have nb := fun b hb => oo.1.lt b hb
    try have zlt := heap_ltW zc
    try replace zc := (g9.block _ (heap_ltW zc)).trans zc
    have hb9 := keep_trans hb8 g9
    refine ⟨_, rfl, hb9, ?_⟩
    simp only [Act.put, List.setIfInBounds_toArray, List.set_cons_zero, List.set_cons_succ]
    refine at_takeD (i := 8) (m' := 2559) (d := some 9) (v := .tuple #[.agg ks.toArray, v]) sk1reg rfl (by decide) rfl rfl (y_moveG (wanted_free rfl) rfl rfl) hb9 ?_
    simp only [Act.put, List.setIfInBounds_toArray, List.set_cons_zero, List.set_cons_succ]
    refine at_takeD (i := 9) (m' := 3071) (d := some 18) (v := .agg ks.toArray) sk1reg rfl (by decide) rfl rfl (y_extractG (wanted_free rfl) rfl rfl rfl) hb9 ?_
    simp only [Act.put, List.setIfInBounds_toArray, List.set_cons_zero, List.set_cons_succ]
    refine at_takeD (i := 10) (m' := 4095) (d := some 19) (v := v) sk1reg rfl (by decide) rfl rfl (y_extractG (wanted_free rfl) rfl rfl rfl) hb9 ?_
    simp only [Act.put, List.setIfInBounds_toArray, List.set_cons_zero, List.set_cons_succ]
    refine at_one (i := 12) (m' := 8191) sk1reg (by decide) rfl ?_
    refine p_rowA (cells := ks.toArray) rfl rfl rfl rfl rfl rfl zc (by rw [List.size_toArray, hkl]; kernel_rfl) (by rw [hz28, List.size_toArray, hkl]) hk1 ?_
    have ofin := own_butW oo ((But.refl Z y9).setRow ks.toArray) (fun b hb => by have := nb b hb; omega)
    have hb13 : Below W.heap.size W (y9.setRow Z ks.toArray) := (hb9).trans (((But.refl Z _).setRow _).below zsz (hb9).size)
    refine ⟨hb13, ?_⟩
    refine at_takeD (i := 13) (m' := 16383) (d := some 8) (v := v) sk1reg rfl (by decide) rfl rfl (y_assignG (wanted_free rfl) rfl rfl) hb13 ?_
    simp only [Act.put, List.setIfInBounds_toArray, List.set_cons_zero, List.set_cons_succ]
    refine at_done sk1reg (by decide) ?_
    exact hQ _ _ _ _ _ _ _ _ _ _ _ _ _ _ (ofin.mono ybs) hb13
theorem tl_shake {q r N : Nat} {pub : List Nat} (hN : N ≤ 1000) (hpl : pub.length ≤ 1000) :
    Tl (fun a t => sumK 7 (pub ++ (a ++ t)) N) 40 #[.pointer (some ⟨q, 0, none⟩), .pointer (some ⟨r, 0, none⟩)] (fun x => Csts x ∧ KAt x q 7 pub ∧ x.cell? ⟨r, 0, none⟩ = some (.int .i64 (N : Int))) := by
  refine ⟨Tryd.call40, fun x y h k => ⟨h.1.below k, h.2.1.below k, keep_cell h.2.2 k⟩, fun x a text tv hI ha rt tt htl => ?_⟩
  obtain ⟨hC, hK, hc⟩ := hI
  show Calls Tryd.prog 40 #[.agg (arr .u8 a), tv, .pointer (some ⟨q, 0, none⟩), .pointer (some ⟨r, 0, none⟩)] x _
  obtain ⟨ta, tc, rfl, _⟩ := rt.opens rfl
  obtain ⟨W0, hW0⟩ : ∃ W0 : World, W0 = x.alloc (.cells (arr .u8 a) 23) := ⟨_, rfl⟩
  have k0 : Below x.heap.size x W0 := by rw [hW0]; exact keep_alloc _ _
  have L0 : Lies .u8 23 W0 x.heap.size a := by rw [hW0]; exact Lies.new .u8 23 x a
  have kw := k0
  have K0 := hK.below kw
  have C0 := keep_cell hc kw
  have hC0 := hC.below kw
  have rt0 := rt.below k0
  have hjn : ∀ y lv, Rows2 y lv [a, text] → Calls Tryd.prog 15 #[lv] y fun e w' => ∃ v, e = .returned v ∧ Own 5 .u8 256 w' y.heap.size v (a ++ text) ∧ Below y.heap.size y w' := fun y lv r => by
    have := join_any lv _ y r (by simp only [List.flatten_cons, List.flatten_nil, List.append_nil, List.length_append, ha.1]; omega)
    simpa using this
  have hab : ∀ y jv, Below W0.heap.size W0 y → Row .u8 256 y jv (a ++ text) → Calls Tryd.prog 39 #[.agg (spK 7 pub), jv] y fun e w' => e = .returned (.agg (spK 7 (pub ++ (a ++ text)))) ∧ Below y.heap.size y w' := fun y jv k r => spK_abs 7 pub _ jv y (hC0.below k) (by decide) r (by rw [List.length_append, ha.1]; omega)
  have hsq := fun y (k : Below W0.heap.size W0 y) => wsqz (pub ++ (a ++ text)) N y (hC0.below k) hN
  try dsimp only
  generalize sumK 7 (pub ++ (a ++ text)) N = OUT at *
  generalize spK 7 (pub ++ (a ++ text)) = S2 at *
  generalize a ++ text = JJ at *
  clear hK hc hC rt
  go_enter Tryd.func40, Tryd.ntmps40
  go_wp2
  rw [← hW0]
  clear hW0
  refine sk_reg (cs := sl 7 (stK 7 pub).1 ((stK 7 pub).2 : Nat) false) ha L0 K0 (sl_len (stK_w 7 pub).1) C0 rt0 tt hjn hab hsq ?_
  intro y7 y9 y10 y11 y12 y13 y14 y15 y16 y17 y18 y19 v z oz kz
  go_wp2
  go_ret
  exact ⟨_, rfl, oz.row, oz.new.mono k0.size, keep_trans k0 kz⟩
def sc1lt : List Lt := [(0, some 7, [2]), (0, some 8, [4]), (2, some 9, [8]), (0, some 10, [1]), (12, some 11, [9, 10]), (20, some 12, [11]), (33, some 13, [7, 12]), (64, some 14, [13]), (0, some 15, [3]), (384, some 16, [14, 15]), (1023, some 6, [16])]
theorem sc1reg : Reg (opsA (cLA (cRA (Tryd.f45.body.getD .skip)))) sc1lt := ⟨by kernel_rfl, by kernel_rfl⟩
set_option maxHeartbeats 4000000 in
set_option maxRecDepth 100000 in
theorem sc_reg {Q : Exit → Act → World → Prop} {x0 x5 x6 x7 x8 x9 x10 x11 x12 x13 x14 x15 x16 : Value} {B q r N tl tc : Nat} {ta : Option Addr} {a text OUT JJ SA : List Nat} {cs : List Value} {S2 : Value → Array Value} {TL : Value → World → Prop} {W : World} (ha : Pl a) (La : Lies .u8 23 W B a)
    (hq : W.heap[q]? = some (.cells cs.toArray 79 (0, 0))) (hcl : cs.length = 11) (hc : W.cell? ⟨r, 0, none⟩ = some (.int .i64 (N : Int))) (rt : Row .u8 256 W (.slice ta tl tc) text) (tt : Tidy (.slice ta tl tc)) (hNO : N ≤ OUT.length)
    (hsh : ∀ y, Calls Tryd.prog 47 #[.agg (arr .u8 a)] y fun e w' => ∃ v, e = .returned v ∧ Own 5 .u8 256 w' y.heap.size v SA ∧ Below y.heap.size y w')
    (hjn : ∀ y lv, Rows2 y lv [SA, text] → Calls Tryd.prog 15 #[lv] y fun e w' => ∃ v, e = .returned v ∧ Own 5 .u8 256 w' y.heap.size v JJ ∧ Below y.heap.size y w')
    (had : ∀ y jv, Below W.heap.size W y → Row .u8 256 y jv JJ → Tidy jv → Calls Tryd.prog 43 #[.agg cs.toArray, jv] y fun e w' => ∃ v, e = .returned (.agg (S2 v)) ∧ TL v w' ∧ Below y.heap.size y w')
    (hen : ∀ y v, Below W.heap.size W y → TL v y → Calls Tryd.prog 46 #[.agg (S2 v)] y fun e x' => ∃ v', e = .returned v' ∧ Own 5 .u8 256 x' y.heap.size v' OUT ∧ Below y.heap.size y x')
    (hQ : ∀ (y7 y8 y9 y10 y11 y12 y13 y14 y15 y16 : Value) (v : Value) (z : World), Row .u8 256 z v (OUT.take N) → New W.heap.size v → Below W.heap.size W z → Q .normal { tmps := #[x0, .slice ta tl tc, .pointer (some ⟨q, 0, none⟩), .pointer (some ⟨r, 0, none⟩), .pointer (some ⟨B, 0, none⟩), x5, v, y7, y8, y9, y10, y11, y12, y13, y14, y15, y16], defers := [] } z) :
    (Code.region 1 (opsA (cLA (cRA (Tryd.f45.body.getD .skip)))) true).wp Tryd.prog Q { tmps := #[x0, .slice ta tl tc, .pointer (some ⟨q, 0, none⟩), .pointer (some ⟨r, 0, none⟩), .pointer (some ⟨B, 0, none⟩), x5, x6, x7, x8, x9, x10, x11, x12, x13, x14, x15, x16], defers := [] } W := by
  have hbd : Below W.heap.size W W.drew := (Below.refl _ _).drew
  have ra := row_ad La ha
  obtain ⟨i0, hi0, hz0, hz1, hz2⟩ := info_text
  refine at_begin (ops := opsA (cLA (cRA (Tryd.f45.body.getD .skip)))) (n := 11) (fun y => Below W.heap.size W y) (by kernel_rfl) (by kernel_rfl) ?_
  refine at_takeD (i := 0) (m' := 1) (d := some 7) (v := .agg cs.toArray) sc1reg rfl (by decide) rfl rfl (y_rowG (cs := cs) (wanted_free rfl) rfl rfl Tryd.underlying79 rfl (by rw [hcl]; kernel_rfl) (fun _ h => row_rangeW ((h.block _ (heap_ltW hq)).trans hq))) hbd ?_
  simp only [Act.put, List.setIfInBounds_toArray, List.set_cons_zero, List.set_cons_succ]
  refine at_takeD (i := 1) (m' := 3) (d := some 8) (v := .agg (arr .u8 a)) sc1reg rfl (by decide) rfl rfl (y_rowG (cs := vals .u8 a) (wanted_free rfl) rfl rfl Tryd.underlying23 rfl (by rw [vals_length, ha.1]; kernel_rfl) (fun _ h => lies_rangeW (La.below h))) hbd ?_
  simp only [Act.put, List.setIfInBounds_toArray, List.set_cons_zero, List.set_cons_succ]
  refine at_takeD (i := 3) (m' := 11) (d := some 10) (v := .slice ta tl tc) sc1reg rfl (by decide) rfl rfl (y_moveG (wanted_free rfl) rfl rfl) hbd ?_
  simp only [Act.put, List.setIfInBounds_toArray, List.set_cons_zero, List.set_cons_succ]
  refine at_takeD (i := 8) (m' := 267) (d := some 15) (v := .int .i64 (N : Int)) sc1reg rfl (by decide) rfl rfl (y_plainG (wanted_free rfl) rfl rfl Tryd.underlying3 rfl (fun _ h => keep_cell hc h)) hbd ?_
  simp only [Act.put, List.setIfInBounds_toArray, List.set_cons_zero, List.set_cons_succ]
  refine at_one (i := 2) (m' := 271) sc1reg (by decide) rfl ?_
  refine p_callG (args := #[.agg (arr .u8 a)]) (d := some 9) rfl (wanted_free rfl) rfl (by simp only [List.map_toArray, List.map_cons, List.map_nil]; rfl) rfl Tryd.call47 ((hsh W.drew).mono ?_)
  rintro e y5 ⟨sv, rfl, os, g5⟩
  have rs := os.row
  have ts := os.tidy
  obtain ⟨sa, sc, rfl, _⟩ := rs.opens rfl
  have hb5 := keep_trans hbd g5
  refine ⟨_, rfl, hb5, ?_⟩
  simp only [Act.put, List.setIfInBounds_toArray, List.set_cons_zero, List.set_cons_succ]
  refine at_one (i := 4) (m' := 287) sc1reg (by decide) rfl ?_
  refine p_build2G (d := some 11) rfl (wanted_free rfl) rfl rfl rfl rfl Tryd.underlying38 hi0 hz1 hz0 ?_
  have hb6 := keep_trans hb5 (keep_alloc y5 (.cells #[.slice sa SA.length sc, .slice ta tl tc] 26))
  have rr := rows_litL (B := y5.heap.size) (k := 2) (texts_cons rs ts (texts_cons (rt.below hb5) tt (Texts.nil _))) rfl rfl (by decide)
  refine ⟨hb6, ?_⟩
  simp only [Act.put, List.setIfInBounds_toArray, List.set_cons_zero, List.set_cons_succ]
  refine at_one (i := 5) (m' := 319) sc1reg (by decide) rfl ?_
  refine p_callG (args := #[.slice (some ⟨y5.heap.size, 0, none⟩) 2 2]) (d := some 12) rfl (wanted_free rfl) rfl (by simp only [List.map_toArray, List.map_cons, List.map_nil]; rfl) rfl Tryd.call15 ((hjn (y5.alloc (.cells #[.slice sa SA.length sc, .slice ta tl tc] 26)) _ rr).mono ?_)
  rintro e y7 ⟨jv, rfl, oj, g7⟩
  have rj := oj.row
  have tj := oj.tidy
  have hb7 := keep_trans hb6 g7
  refine ⟨_, rfl, hb7, ?_⟩
  simp only [Act.put, List.setIfInBounds_toArray, List.set_cons_zero, List.set_cons_succ]
  refine at_one (i := 6) (m' := 383) sc1reg (by decide) rfl ?_
  refine p_callG (args := #[.agg cs.toArray, jv]) (d := some 13) rfl (wanted_free rfl) rfl (by simp only [List.map_toArray, List.map_cons, List.map_nil]; rfl) rfl Tryd.call43 ((had y7 _ hb7 rj tj).mono ?_)
  rintro e y8 ⟨hv2, rfl, hTL, g8⟩
  have hb8 := keep_trans hb7 g8
  refine ⟨_, rfl, hb8, ?_⟩
  simp only [Act.put, List.setIfInBounds_toArray, List.set_cons_zero, List.set_cons_succ]
  refine at_one (i := 7) (m' := 511) sc1reg (by decide) rfl ?_
  refine p_callG (args := #[.agg (S2 hv2)]) (d := some 14) rfl (wanted_free rfl) rfl (by simp only [List.map_toArray, List.map_cons, List.map_nil]; rfl) rfl Tryd.call46 ((hen y8 _ hb8 hTL).mono ?_)
  rintro e y9 ⟨v, rfl, oo, g9⟩
  have ybs := (hb8).size
  have ro := oo.row
  have no := oo.new
  obtain ⟨oa, oc, rfl, lo, _⟩ := ro.opens rfl
  have hb9 := keep_trans hb8 g9
  refine ⟨_, rfl, hb9, ?_⟩
  simp only [Act.put, List.setIfInBounds_toArray, List.set_cons_zero, List.set_cons_succ]
  refine at_takeD (i := 9) (m' := 1023) (d := some 16) (v := .slice oa N oc) sc1reg rfl (by decide) rfl rfl (y_hiW (wanted_free rfl) rfl rfl rfl (by omega)) hb9 ?_
  simp only [Act.put, List.setIfInBounds_toArray, List.set_cons_zero, List.set_cons_succ]
  refine at_takeD (i := 10) (m' := 2047) (d := some 6) (v := .slice oa N oc) sc1reg rfl (by decide) rfl rfl (y_assignG (wanted_free rfl) rfl rfl) hb9 ?_
  simp only [Act.put, List.setIfInBounds_toArray, List.set_cons_zero, List.set_cons_succ]
  refine at_done sc1reg (by decide) ?_
  exact hQ _ _ _ _ _ _ _ _ _ _ _ _ (ro.cut hNO) (fun b hb => (no.mono ybs) b (own_lenW.trans hb)) hb9
theorem tl_sha {q r N : Nat} {P : List Nat} {tv0 : Value} (tT : Tidy tv0) (hN : N ≤ 32) (hpl : P.length ≤ 1000) :
    Tl (fun a t => (digD 1 (P ++ (shA a ++ t))).take N) 45 #[.pointer (some ⟨q, 0, none⟩), .pointer (some ⟨r, 0, none⟩)] (fun x => Roots x ∧ x.heap[q]? = some (.cells (hvP 1 P tv0) 79 (0, 0)) ∧ Row .u8 256 x tv0 (tlH 1 P) ∧ x.cell? ⟨r, 0, none⟩ = some (.int .i64 (N : Int))) := by
  refine ⟨Tryd.call45, fun x y h k => ⟨h.1.below k, (k.block q (heap_ltW h.2.1)).trans h.2.1, h.2.2.1.below k, keep_cell h.2.2.2 k⟩, fun x a text tv hI ha rt tt htl => ?_⟩
  obtain ⟨hT, hH, hR, hc⟩ := hI
  show Calls Tryd.prog 45 #[.agg (arr .u8 a), tv, .pointer (some ⟨q, 0, none⟩), .pointer (some ⟨r, 0, none⟩)] x _
  obtain ⟨ta, tc, rfl, _⟩ := rt.opens rfl
  obtain ⟨W0, hW0⟩ : ∃ W0 : World, W0 = x.alloc (.cells (arr .u8 a) 23) := ⟨_, rfl⟩
  have k0 : Below x.heap.size x W0 := by rw [hW0]; exact keep_alloc _ _
  have L0 : Lies .u8 23 W0 x.heap.size a := by rw [hW0]; exact Lies.new .u8 23 x a
  have kw := k0
  have K0 := (kw.block q (heap_ltW hH)).trans hH
  have C0 := keep_cell hc kw
  have hT0 := hT.below kw
  have hR0 := hR.below kw
  have rt0 := rt.below k0
  have hsl := shA_len ha.1
  have hsh := fun y => wsho_any a y ha
  have hjn : ∀ y lv, Rows2 y lv [shA a, text] → Calls Tryd.prog 15 #[lv] y fun e w' => ∃ v, e = .returned v ∧ Own 5 .u8 256 w' y.heap.size v (shA a ++ text) ∧ Below y.heap.size y w' := fun y lv r => by
    have := join_any lv _ y r (by simp only [List.flatten_cons, List.flatten_nil, List.append_nil, List.length_append, hsl]; omega)
    simpa using this
  have had : ∀ y jv, Below W0.heap.size W0 y → Row .u8 256 y jv (shA a ++ text) → Tidy jv → Calls Tryd.prog 43 #[.agg (hvP 1 P tv0), jv] y fun e w' => ∃ v, e = .returned (.agg (hvP 1 (P ++ (shA a ++ text)) v)) ∧ (Row .u8 256 w' v (tlH 1 (P ++ (shA a ++ text))) ∧ Tidy v) ∧ Below y.heap.size y w' := fun y jv k r t =>
    (wadd P _ tv0 jv y (hT0.below k) (hR0.below k) tT r t (by omega) (by rw [List.length_append, hsl]; omega)).mono fun e w' ⟨v, h1, h2, h3, _, h5⟩ => ⟨v, h1, ⟨h2, h3⟩, h5⟩
  have hen : ∀ y v, Below W0.heap.size W0 y → (Row .u8 256 y v (tlH 1 (P ++ (shA a ++ text))) ∧ Tidy v) → Calls Tryd.prog 46 #[.agg (hvP 1 (P ++ (shA a ++ text)) v)] y fun e x' => ∃ v', e = .returned v' ∧ Own 5 .u8 256 x' y.heap.size v' (digD 1 (P ++ (shA a ++ text))) ∧ Below y.heap.size y x' := fun y v k h =>
    wend _ v y (hT0.below k) h.1 h.2 (by simp only [List.length_append, hsl]; omega)
  have hdl : (digD 1 (P ++ (shA a ++ text))).length = 32 := digD_length (by decide) _
  try dsimp only
  obtain ⟨cs, hcs, hcl⟩ : ∃ cs : List Value, cs.toArray = hvP 1 P tv0 ∧ cs.length = 11 := ⟨(hvP 1 P tv0).toList, by simp, rfl⟩
  rw [← hcs] at K0 had
  generalize digD 1 (P ++ (shA a ++ text)) = OUT at *
  generalize shA a ++ text = JJ at *
  generalize shA a = SA at *
  clear hH hc hT rt hcs
  go_enter Tryd.func45, Tryd.ntmps45
  go_wp2
  rw [← hW0]
  clear hW0
  refine sc_reg (S2 := fun v => hvP 1 (P ++ JJ) v) (TL := fun v y => Row .u8 256 y v (tlH 1 (P ++ JJ)) ∧ Tidy v) ha L0 K0 hcl C0 rt0 tt (by omega) hsh hjn had hen ?_
  intro y7 y8 y9 y10 y11 y12 y13 y14 y15 y16 v z rz nz kz
  go_wp2
  go_ret
  exact ⟨_, rfl, rz, nz.mono k0.size, keep_trans k0 kz⟩
end Go.Proofs.YtpmobjfhhkglbaaDoor
