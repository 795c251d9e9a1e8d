/- Leaves that sign once, the program's own: leafOf, secretLeaf. -/
import Derived.Test.YtogiballdmgcpaaGreatDoorLcS
import Derived.Test.YtogiballdmgcpaaGreatDoorPlan3
import Derived.Test.YtogiballdmgcpaaGreatDoorLcD
namespace Go.Proofs.YtogiballdmgcpaaGreatDoor
open Go.RowKit
set_option linter.unusedVariables false
set_option linter.unusedSimpArgs false

theorem own_butL {w w' : World} {base g : Nat} {e : TypeId} {size : Nat} {v : Value} {n : Nat} {xs : List Value} (h : w.ownsRow base e size v n xs) (hb : But g w w') (hg : g < base) : w'.ownsRow base e size v n xs := by
  obtain ⟨h1, h2⟩ := h
  refine ⟨h1, ?_⟩
  rcases h2 with h2 | ⟨q, cap, cur, rfl, h3, h4, h5⟩
  · exact .inl h2
  · exact .inr ⟨q, cap, cur, rfl, h3, by rw [hb.block q (Array.getElem?_eq_some_iff.1 h4).1 (by omega)]; exact h4, h5⟩
/-- a leaf's box -/
structure BxL (W : World) (B : Nat) (a b c d e : Value) : Prop where
  here : W.heap[B]? = some (.cells #[a, b, c, d, e] 126 (0, 0))
theorem BxL.lt {W : World} {B : Nat} {a b c d e : Value} (h : BxL W B a b c d e) : B < W.heap.size := (Array.getElem?_eq_some_iff.1 h.here).1
theorem BxL.below {W W' : World} {B : Nat} {a b c d e : Value} (h : BxL W B a b c d e) (hb : Below W.heap.size W W') : BxL W' B a b c d e := ⟨(hb.block _ h.lt).trans h.here⟩
theorem BxL.new (W : World) (a b c d e : Value) : BxL (W.alloc (.cells #[a, b, c, d, e] 126)) W.heap.size a b c d e := ⟨heap_alloc_new W _⟩
theorem BxL.row {W : World} {B : Nat} {a b c d e a' b' c' d' e' : Value} (h : BxL W B a b c d e) : BxL (W.setRow B #[a', b', c', d', e']) B a' b' c' d' e' := ⟨setRow_heap W B _ _ _ _ h.here⟩
theorem BxL.range {W : World} {B : Nat} {a b c d e : Value} (h : BxL W B a b c d e) : W.rangeAt B 0 [a, b, c, d, e] := fun j v hv => by
  rw [Nat.zero_add]
  simp only [World.cell?, h.here]
  simpa using hv
theorem BxL.ret {W : World} {B : Nat} {a b c d e : Value} (h : BxL W B a b c d e) {fn : Func} {p q : Tmp} (hr : fn.results = #[.cell p 126, .tmp q]) (tmps : Array Value) {v : Value} (hp : tmps.getD p undef = .pointer (some ⟨B, 0, none⟩)) (hv : tmps.getD q undef = v) :
    (results fn tmps).run Tryz.prog W = .ok (.tuple #[.agg #[a, b, c, d, e], v]) W := by
  subst hv
  have hp' : tmps[p]?.getD undef = .pointer (some ⟨B, 0, none⟩) := by simpa using hp
  simp [results, hr, hp', asAddr, run_loadVar_row W B 126 126 #[a, b, c, d, e] (0, 0) _ h.here Tryz.underlying126 rfl (by kernel_rfl)]
/-- all but a leaf's box stays -/
structure SF (Z : Nat) (x y : World) : Prop where
  but : But Z x y
  box : ∃ a b c d e, BxL y Z a b c d e
theorem SF.keep {Z : Nat} {x y z : World} (h : SF Z x y) (k : Below y.heap.size y z) : SF Z x z := ⟨h.but.trans (But.of_below k), by obtain ⟨a, b, c, d, e, h2⟩ := h.box; exact ⟨a, b, c, d, e, h2.below k⟩⟩
theorem SF.row {Z : Nat} {x y : World} (h : SF Z x y) (a b c d e : Value) : SF Z x (y.setRow Z #[a, b, c, d, e]) := ⟨h.but.setRow _, by obtain ⟨a, b, c, d, e, h2⟩ := h.box; exact ⟨_, _, _, _, _, h2.row⟩⟩
theorem SF.below {Z : Nat} {w x y : World} (h : SF Z x y) (hB : w.heap.size ≤ Z) (hk : Below w.heap.size w x) : Below w.heap.size w y := hk.trans (h.but.below hB hk.size)
theorem y_buildLf {ops : Array Oper} {S : World → Prop} {o : Oper} {a : Act} {x y : Operand} {z0 z1 z2 z3 : Value} {ja : Option Addr} {jn jc : Nat} (hw : Region.wanted o (yielded ops a.tmps) = true) (ho : o.op = .build 126 #[(0, x), (1, y)]) (hx : a.eval x = .agg #[z0, z1, z2, z3]) (hy : a.eval y = .slice ja jn jc) : YieldsIf Tryz.prog ops S o (.agg #[z0, z1, z2, z3, .slice ja jn jc]) a := by
  refine y_ofG hw fun w _ => ?_
  unfold execOp
  simp only [ho, List.map_toArray, List.map_cons, List.map_nil, hx, hy]
  simp [go_sem]
def lf6lt : List Lt := [(0, some 23, [8]), (0, some 24, [1]), (0, some 25, [2]), (4, some 26, [25]), (8, some 27, [26]), (18, some 28, [24, 27]), (48, some 29, [28]), (65, some 30, [23, 29]), (255, none, [6, 30]), (511, some 7, [])]
theorem lf6reg : Reg (opsA (cLA (cRA (cRA (cRA (cRA (Tryz.f91.body.getD .skip))))))) lf6lt := ⟨by kernel_rfl, by kernel_rfl⟩
set_option maxHeartbeats 4000000 in
set_option maxRecDepth 100000 in
theorem cleaf_ok {k n m s c P : Nat} (h : Kd k n m s c) (hP : P = n + m) (q : Nat) (id : List Nat) (idv : Value) (w : World) (hi : Row .u8 256 w idv id) (ti : Tidy idv) (hl : id.length = 16) (hq : q < 4294967296) :
    Calls Tryz.prog 91 #[.int .i64 (k : Int), idv, .int .u32 (q : Int)] w fun e w' => ∃ v, e = .returned (.tuple #[.agg #[.int .i64 (k : Int), .int .i64 (P : Int), .int .i64 (s : Int), .int .u64 (c : Int), v], .int .i64 0]) ∧ Own 5 .u8 256 w' w.heap.size v (preL id q) ∧ Below w.heap.size w w' := by
  obtain ⟨ia, ic, rfl, _⟩ := hi.opens hl
  have hk := fun y => ckind_ok h hP y
  have h4 := fun y => cbe4 q y (by omega)
  have hjn := fun y lv (r : Rows2 y lv [id, be4 q]) => join_any lv _ y r (by simp only [List.flatten_cons, List.flatten_nil, List.append_nil, List.length_append, be4_len]; omega)
  have hfl : [id, be4 q].flatten = preL id q := by simp [preL]
  rw [hfl] at hjn
  have hpl : (preL id q).length = 20 := by rw [len_pre, hl]
  obtain ⟨PR, hPR⟩ : ∃ x, x = preL id q := ⟨_, rfl⟩
  rw [← hPR] at hjn hpl ⊢
  obtain ⟨i0, hi0, hz0, hz1, hz2⟩ := info_text
  have b0 := BxL.new w (.int .i64 0) (.int .i64 0) (.int .i64 0) (.int .u64 0) (.slice none 0 0)
  have k0 := keep_alloc w (.cells #[.int .i64 0, .int .i64 0, .int .i64 0, .int .u64 0, .slice none 0 0] 126)
  clear h hP hPR hfl
  go_enter Tryz.func91, Tryz.ntmps91
  go_wp2_with (first
    | (go_at_call 115; refine (hk _).mono ?_; rintro e w1 ⟨rfl, g1⟩)
    | fail)
  have b1 := b0.below (keep_trans g1 (keep_alloc w1 (.cells #[.int .i64 (k : Int), .int .i64 (P : Int), .int .i64 (s : Int), .int .u64 (c : Int)] 124)))
  have kw1 : Below w.heap.size w (w1.alloc (.cells #[.int .i64 (k : Int), .int .i64 (P : Int), .int .i64 (s : Int), .int .u64 (c : Int)] 124)) := keep_trans k0 (keep_trans g1 (keep_alloc _ _))
  have hbox := kd_range w1 (.int .i64 (k : Int)) (.int .i64 (P : Int)) (.int .i64 (s : Int)) (.int .u64 (c : Int)) 124
  have hne : w1.heap.size ≠ w.heap.size := by have := g1.size; rw [World.size_alloc] at this; omega
  have hW1 : w.heap.size + 1 ≤ (w1.alloc (.cells #[.int .i64 (k : Int), .int .i64 (P : Int), .int .i64 (s : Int), .int .u64 (c : Int)] 124)).heap.size := by have := g1.size; rw [World.size_alloc] at this ⊢; omega
  generalize w1.alloc (.cells #[.int .i64 (k : Int), .int .i64 (P : Int), .int .i64 (s : Int), .int .u64 (c : Int)] 124) = W1 at *
  have hbd : SF w.heap.size W1 W1.drew := ⟨(But.refl _ _).drew, _, _, _, _, _, b1.below (Below.refl _ _).drew⟩
  refine at_begin (ops := opsA (cLA (cRA (cRA (cRA (cRA (Tryz.f91.body.getD .skip))))))) (n := 10) (fun y => SF w.heap.size W1 y) (by kernel_rfl) (by kernel_rfl) ?_
  refine at_takeD (i := 0) (m' := 1) (d := some 23) (v := .agg #[.int .i64 (k : Int), .int .i64 (P : Int), .int .i64 (s : Int), .int .u64 (c : Int)]) lf6reg rfl (by decide) rfl rfl (y_rowG (cs := [.int .i64 (k : Int), .int .i64 (P : Int), .int .i64 (s : Int), .int .u64 (c : Int)]) (wanted_free rfl) rfl rfl Tryz.underlying124 rfl (by kernel_rfl) (fun _ h j v hv => But.cell (hbox j v hv) h.but hne)) hbd ?_
  simp only [Act.put, List.setIfInBounds_toArray, List.set_cons_zero, List.set_cons_succ]
  refine at_takeD (i := 1) (m' := 3) (d := some 24) (v := .slice ia 16 ic) lf6reg rfl (by decide) rfl rfl (y_moveG (wanted_free rfl) rfl rfl) hbd ?_
  simp only [Act.put, List.setIfInBounds_toArray, List.set_cons_zero, List.set_cons_succ]
  refine at_takeD (i := 2) (m' := 7) (d := some 25) (v := .int .u32 (q : Int)) lf6reg rfl (by decide) rfl rfl (y_moveG (wanted_free rfl) rfl rfl) hbd ?_
  simp only [Act.put, List.setIfInBounds_toArray, List.set_cons_zero, List.set_cons_succ]
  refine at_takeD (i := 3) (m' := 15) (d := some 26) (v := .int .u64 (q : Int)) lf6reg rfl (by decide) rfl rfl (y_convI (wanted_free rfl) rfl rfl (conv_u32u64 q hq)) hbd ?_
  simp only [Act.put, List.setIfInBounds_toArray, List.set_cons_zero, List.set_cons_succ]
  refine at_one (i := 4) (m' := 31) lf6reg (by decide) rfl ?_
  refine p_callG (args := #[.int .u64 (q : Int), .int .i64 4]) (d := some 27) rfl (wanted_free rfl) rfl (by simp only [List.map_toArray, List.map_cons, List.map_nil]; rfl) rfl Tryz.call21 ((h4 W1.drew).mono ?_)
  rintro e y5 ⟨bv, rfl, ob, g5⟩
  obtain ⟨ba, bc, rfl, _⟩ := ob.row.opens (be4_len q)
  have hb5 := SF.keep hbd g5
  have yb0 := hb5
  refine ⟨_, rfl, hb5, ?_⟩
  simp only [Act.put, List.setIfInBounds_toArray, List.set_cons_zero, List.set_cons_succ]
  refine at_one (i := 5) (m' := 63) lf6reg (by decide) rfl ?_
  refine p_build2G (d := some 28) rfl (wanted_free rfl) rfl rfl rfl rfl Tryz.underlying48 hi0 hz1 hz0 ?_
  have hb6 := SF.keep hb5 (keep_alloc y5 (.cells #[.slice ia 16 ic, .slice ba 4 bc] 23))
  have rr := rows_litL (B := y5.heap.size) (k := 2) (texts_cons (hi.below (yb0.below (Nat.le_refl _) kw1)) ti (texts_cons ob.row ob.tidy (Texts.nil _))) rfl rfl (by decide)
  refine ⟨hb6, ?_⟩
  simp only [Act.put, List.setIfInBounds_toArray, List.set_cons_zero, List.set_cons_succ]
  refine at_one (i := 6) (m' := 127) lf6reg (by decide) rfl ?_
  refine p_callG (args := #[.slice (some ⟨y5.heap.size, 0, none⟩) 2 2]) (d := some 29) rfl (wanted_free rfl) rfl (by simp only [List.map_toArray, List.map_cons, List.map_nil]; rfl) rfl Tryz.call20 ((hjn (y5.alloc (.cells #[.slice ia 16 ic, .slice ba 4 bc] 23)) _ rr).mono ?_)
  rintro e y7 ⟨jv, rfl, oj, g7⟩
  obtain ⟨ja, jc, rfl, _⟩ := oj.row.opens hpl
  replace oj := oj.mono (Nat.le_trans hW1 (hb6).but.size)
  have hb7 := SF.keep hb6 g7
  have hbz := hb7
  refine ⟨_, rfl, hb7, ?_⟩
  simp only [Act.put, List.setIfInBounds_toArray, List.set_cons_zero, List.set_cons_succ]
  refine at_takeD (i := 7) (m' := 255) (d := some 30) (v := .agg #[.int .i64 (k : Int), .int .i64 (P : Int), .int .i64 (s : Int), .int .u64 (c : Int), .slice ja 20 jc]) lf6reg rfl (by decide) rfl rfl (y_buildLf (wanted_free rfl) rfl rfl rfl) hb7 ?_
  simp only [Act.put, List.setIfInBounds_toArray, List.set_cons_zero, List.set_cons_succ]
  refine at_one (i := 8) (m' := 511) lf6reg (by decide) rfl ?_
  obtain ⟨_, _, _, _, _, bz0⟩ := (hb7).box
  have hb9 := (hb7).row (.int .i64 (k : Int)) (.int .i64 (P : Int)) (.int .i64 (s : Int)) (.int .u64 (c : Int)) (.slice ja 20 jc)
  refine p_rowA (cells := #[.int .i64 (k : Int), .int .i64 (P : Int), .int .i64 (s : Int), .int .u64 (c : Int), .slice ja 20 jc]) rfl rfl rfl rfl rfl rfl bz0.here (by kernel_rfl) rfl (by simp [Value.oneCell']) ?_
  refine ⟨hb9, ?_⟩
  refine at_takeD (i := 9) (m' := 1023) (d := some 7) (v := .int .i64 0) lf6reg rfl (by decide) rfl rfl (y_assignG (wanted_free rfl) rfl rfl) hb9 ?_
  simp only [Act.put, List.setIfInBounds_toArray, List.set_cons_zero, List.set_cons_succ]
  refine at_done lf6reg (by decide) ?_
  go_wp2
  obtain ⟨_, _, _, _, _, bz⟩ := hbz.box
  refine bodyPost_ret (bz.row.ret rfl _ rfl rfl) rfl ⟨_, rfl, ?_, (hb9).below (Nat.le_refl _) kw1⟩
  exact Own.mono (B := w.heap.size + 1) ⟨own_butL oj.1 ((But.refl _ _).setRow _) (Nat.lt_succ_self _), oj.2⟩ (Nat.le_succ _)
end Go.Proofs.YtogiballdmgcpaaGreatDoor

/- Leaves that sign once, the program's own: secretLeaf; texts that are laid in order into a block; steps of plans. -/
namespace Go.Proofs.YtogiballdmgcpaaGreatDoor
open Go.RowKit
set_option linter.unusedVariables false
set_option linter.unusedSimpArgs false

theorem but_keep {H : Nat} {x y z : World} (h : But H x y) (k : Below y.heap.size y z) : But H x z := h.trans (But.of_below k)
/-- up to place i, texts lie in block H of N places -/
def UpS (wr : World) (H N i : Nat) (f : Nat → List Nat) : Prop := ∃ us : Array Value, us.size = N ∧ wr.heap[H]? = some (.cells us 23 (0, 0)) ∧ ∀ j, j < i → j < N → ∃ u, us[j]? = some u ∧ Row .u8 256 wr u (f j) ∧ Tidy u ∧ ∀ q, u.ownBlock = some q → q ≠ H
theorem UpS.lt {wr : World} {H N i : Nat} {f : Nat → List Nat} (h : UpS wr H N i f) : H < wr.heap.size := by
  obtain ⟨us, _, h1, _⟩ := h
  exact (Array.getElem?_eq_some_iff.1 h1).1
theorem UpS.below {wr w' : World} {H N i : Nat} {f : Nat → List Nat} (h : UpS wr H N i f) (hb : Below wr.heap.size wr w') : UpS w' H N i f := by
  have hl := h.lt
  obtain ⟨us, h1, h2, h3⟩ := h
  refine ⟨us, h1, (hb.block _ hl).trans h2, fun j k1 k2 => ?_⟩
  obtain ⟨u, e1, e2, e3, e4⟩ := h3 j k1 k2
  exact ⟨u, e1, e2.below hb, e3, e4⟩
theorem UpS.frozen {wr : World} {H N i : Nat} {f : Nat → List Nat} (h : UpS wr H N i f) (j : Nat) : wr.frozen? ⟨H, j, none⟩ = false := by
  obtain ⟨us, _, h1, _⟩ := h
  simp [World.frozen?, h1]
theorem UpS.any {wr : World} {H N i : Nat} {f : Nat → List Nat} (h : UpS wr H N i f) {j : Nat} (hj : j < N) : (wr.cell? ⟨H, j, none⟩).isSome = true := by
  obtain ⟨us, h0, h1, _⟩ := h
  rw [cell_of_row wr H j _ _ (0, 0) h1]
  simp [h0, hj]
theorem UpS.store {wr : World} {H N i : Nat} {f : Nat → List Nat} {v : Value} (h : UpS wr H N i f) (hi : i < N) (hv : Row .u8 256 wr v (f i)) (tv : Tidy v) (hn : ∀ q, v.ownBlock = some q → q ≠ H) : UpS (wr.setCell ⟨H, i, none⟩ v) H N (i + 1) f := by
  obtain ⟨us, h0, h1, h2⟩ := h
  have hB : But H wr (wr.setCell ⟨H, i, none⟩ v) := (But.refl H wr).setCell i v
  have rw' : ∀ {u : Value} {l : List Nat}, Row .u8 256 wr u l → (∀ q, u.ownBlock = some q → q ≠ H) → Row .u8 256 (wr.setCell ⟨H, i, none⟩ v) u l := fun {u l} hu hq => by
    obtain ⟨a, cap, rfl, k1, k2, k3, k4⟩ := hu
    refine ⟨a, cap, rfl, k1, k2, fun hl => ?_, k4⟩
    obtain ⟨b, off, rfl, hc⟩ := k3 hl
    exact ⟨b, off, rfl, fun j hj => But.cell (hc j hj) hB (hq b (by simp [Value.ownBlock]))⟩
  refine ⟨us.setIfInBounds i v, by simp [h0], ?_, fun j k1 k2 => ?_⟩
  · rw [setCell_eq_setRow wr H i _ 23 (0, 0) _ h1]
    exact setRow_heap wr H _ _ 23 _ h1
  · by_cases e : j = i
    · subst e
      exact ⟨v, by rw [Array.getElem?_setIfInBounds_self_of_lt (by omega)], rw' hv hn, tv, hn⟩
    · obtain ⟨u, e1, e2, e3, e4⟩ := h2 j (by omega) k2
      exact ⟨u, by rw [Array.getElem?_setIfInBounds_ne (fun x => e x.symm)]; exact e1, rw' e2 e4, e3, e4⟩
theorem UpS.made {w : World} {base g n : Nat} {xs : List Value} (f : Nat → List Nat) (h : w.ownsRow base 23 1 (.slice (some ⟨g, 0, none⟩) n n) n xs) : UpS w g n 0 f := by
  obtain ⟨_, ⟨h1, _⟩ | ⟨g', cap, cur, h1, _, h3, _, _, h4, h5⟩⟩ := h
  · cases h1
  · simp only [Value.slice.injEq, Option.some.injEq, Addr.mk.injEq] at h1
    obtain ⟨⟨rfl, _⟩, rfl⟩ : (g = g' ∧ True) ∧ n = cap := ⟨⟨h1.1.1, trivial⟩, h1.2.2⟩
    exact ⟨cur, by omega, h3, fun j k1 k2 => by omega⟩
theorem UpS.rows {wr : World} {H N : Nat} {f : Nat → List Nat} (h : UpS wr H N N f) (hN : N ≤ 100000) : Rows2 wr (.slice (some ⟨H, 0, none⟩) N N) ((List.range N).map f) := by
  obtain ⟨us, h0, h1, h2⟩ := h
  have hl : ((List.range N).map f).length = N := by simp
  refine ⟨some ⟨H, 0, none⟩, N, by rw [hl], by rw [hl]; exact Nat.le_refl _, by unfold maxLen; omega, fun _ => ⟨H, 0, rfl, fun i hi => ?_⟩⟩
  rw [hl] at hi
  obtain ⟨u, e1, e2, e3, _⟩ := h2 i hi hi
  refine ⟨u, by rw [Nat.zero_add, cell_of_row wr H i _ _ (0, 0) h1]; exact e1, ?_, e3⟩
  have ht : tx ((List.range N).map f) i = f i := by simp [tx, hi]
  rw [ht]
  exact e2
theorem y_ix0 {ops : Array Oper} {S : World → Prop} {o : Oper} {a : Act} {x y : Operand} {t e : TypeId} {g n c i : Nat} (hw : Region.wanted o (yielded ops a.tmps) = true) (ho : o.op = .indexAddr t x y) (hx : a.eval x = .slice (some ⟨g, 0, none⟩) n c) (hy : a.eval y = .int .i64 (i : Int)) (hu : Tryz.prog.underlying t = some (.slice e)) (hs : (Tryz.prog.info? e).map (·.size) = some 1) (hi : i < n) : YieldsIf Tryz.prog ops S o (.pointer (some ⟨g, i, none⟩)) a := by
  have := y_indexG (ops := ops) (S := S) hw ho hx hy hu hs hi
  rw [Nat.zero_add, Nat.mul_one] at this
  exact this
theorem BxL.range4 {W : World} {B : Nat} {a b c d e : Value} (h : BxL W B a b c d e) : W.rangeAt B 0 [a, b, c, d] := fun j v hv => by
  refine h.range j v ?_
  have : j < 4 := (List.getElem?_eq_some_iff.1 hv).1
  match j, this with
  | 0, _ => exact hv
  | 1, _ => exact hv
  | 2, _ => exact hv
  | 3, _ => exact hv
theorem BxL.but {W W' : World} {B H : Nat} {a b c d e : Value} (h : BxL W B a b c d e) (hb : But H W W') (hn : B ≠ H) : BxL W' B a b c d e := ⟨(hb.block _ h.lt hn).trans h.here⟩
set_option maxHeartbeats 4000000 in
set_option maxRecDepth 100000 in
theorem csec_ok {k n m s c P : Nat} (h : Kd k n m s c) (hP : P = n + m) (q : Nat) (id : List Nat) (idv : Value) (sa : Option Addr) (sc : Nat) (w : World) (hi : Row .u8 256 w idv id) (ti : Tidy idv) (hl : id.length = 16) (hq : q < 4294967296) :
    Calls Tryz.prog 108 #[.int .i64 (k : Int), idv, .int .u32 (q : Int), .slice sa 32 sc] w fun e w' => ∃ v, e = .returned (.tuple #[.agg #[.int .i64 (k : Int), .int .i64 (P : Int), .int .i64 (s : Int), .int .u64 (c : Int), v], .int .i64 0]) ∧ Own 5 .u8 256 w' w.heap.size v (preL id q) ∧ Below w.heap.size w w' := by
  have b0 := BxL.new w (.int .i64 0) (.int .i64 0) (.int .i64 0) (.int .u64 0) (.slice none 0 0)
  have k0 := keep_alloc w (.cells #[.int .i64 0, .int .i64 0, .int .i64 0, .int .u64 0, .slice none 0 0] 126)
  have hk := cleaf_ok h hP q id idv (w.alloc (.cells #[.int .i64 0, .int .i64 0, .int .i64 0, .int .u64 0, .slice none 0 0] 126)) (hi.below k0) ti hl hq
  obtain ⟨ia, ic, rfl, _⟩ := hi.opens hl
  have hpl : (preL id q).length = 20 := by rw [len_pre, hl]
  obtain ⟨PR, hPR⟩ : ∃ x, x = preL id q := ⟨_, rfl⟩
  rw [← hPR] at hk hpl ⊢
  clear h hP hi hPR
  go_enter Tryz.func108, Tryz.ntmps108
  go_wp2_with (first
    | (go_at_call 91; refine hk.mono ?_; rintro e w1 ⟨jv, rfl, oj, g1⟩; obtain ⟨ja, jc, rfl, _⟩ := oj.row.opens hpl; have b1 := b0.below (keep_trans g1 (keep_alloc w1 (.cells #[.int .i64 (k : Int), .int .i64 (P : Int), .int .i64 (s : Int), .int .u64 (c : Int), .slice ja 20 jc] 126))); have c1 := BxL.new w1 (.int .i64 (k : Int)) (.int .i64 (P : Int)) (.int .i64 (s : Int)) (.int .u64 (c : Int)) (.slice ja 20 jc))
    | (refine wpList_load_row rfl 126 _ (by rfl) w1.heap.size (by rfl) _ _ _ _ c1.here Tryz.underlying126 rfl (by kernel_rfl) ?_)
    | (refine wpList_store_row rfl 126 _ _ (by rfl) w.heap.size #[.int .i64 (k : Int), .int .i64 (P : Int), .int .i64 (s : Int), .int .u64 (c : Int), .slice ja 20 jc] (by rfl) (by rfl) _ _ b1.here (by kernel_rfl) rfl (by simp [Value.oneCell']) ?_)
    | fail)
  have kk := keep_trans k0 (keep_trans g1 (keep_alloc w1 (.cells #[.int .i64 (k : Int), .int .i64 (P : Int), .int .i64 (s : Int), .int .u64 (c : Int), .slice ja 20 jc] 126)))
  refine bodyPost_ret (v := .tuple #[.agg #[.int .i64 (k : Int), .int .i64 (P : Int), .int .i64 (s : Int), .int .u64 (c : Int), .slice ja 20 jc], .int .i64 0]) (b1.row.ret rfl _ rfl rfl) rfl ⟨_, rfl, ?_, ?_⟩
  · have o2 := oj.mono (show w.heap.size + 1 ≤ _ by rw [World.size_alloc]; exact Nat.le_refl _)
    exact Own.mono (B := w.heap.size + 1) ⟨own_butL (o2.1.alloc (.cells #[.int .i64 (k : Int), .int .i64 (P : Int), .int .i64 (s : Int), .int .u64 (c : Int), .slice ja 20 jc] 126)) ((But.refl w.heap.size _).setRow _) (Nat.lt_succ_self _), o2.2⟩ (Nat.le_succ _)
  · exact kk.trans (((But.refl _ _).setRow _).below (Nat.le_refl _) (Nat.le_of_lt b1.lt))
end Go.Proofs.YtogiballdmgcpaaGreatDoor
