/- Parts of a text, nil or not. -/
import Derived.Test.YtjeofkemfpdieaaHKi2
import Derived.Test.YtjeofkemfpdieaaJTh
import Derived.Test.YtjeofkemfpdieaaYXor
import Derived.Test.YtjeofkemfpdieaaAApp
namespace Go.Proofs.Ytjeofkemfpdieaa
open Go.RowKit
set_option linter.unusedVariables false
set_option linter.unusedSimpArgs false

theorem slice_to (ba : Option Addr) (n bc F : Nat) (hF : F ≤ bc) (w : World) : (Instr.slice 22 (.slice ba n bc) none (some (.int .i64 (F : Int))) none).run Try.prog w = .ok (.slice ba F bc) w := by
  obtain ⟨i0, hi0, _, hz1, _⟩ := info_parts Try.info5
  have h : (F : Int) ≤ (bc : Int) := by omega
  cases ba <;> simp [Instr.slice, Instr.sliceBounds, Instr.sliceBound, asIntOf, Sem.run_bind, run_underlying Try.underlying22, h, hF, sizeOf, typeInfo, hi0, hz1, Addr.add]
theorem slice_from (ba : Option Addr) (n bc F : Nat) (hF : F ≤ n) (hn : n ≤ bc) : ∃ A, (∀ w : World, (Instr.slice 22 (.slice ba n bc) (some (.int .i64 (F : Int))) none none).run Try.prog w = .ok (.slice A (n - F) (bc - F)) w) ∧ (A = ba ∧ bc = F ∨ A = ba.map (·.add F)) := by
  obtain ⟨i0, hi0, _, hz1, _⟩ := info_parts Try.info5
  have h : (F : Int) ≤ (n : Int) := by omega
  refine ⟨if bc = F then ba else ba.map (·.add F), fun w => ?_, ?_⟩
  · simp [Instr.slice, Instr.sliceBounds, Instr.sliceBound, asIntOf, Sem.run_bind, run_underlying Try.underlying22, h, hF, sizeOf, typeInfo, hi0, hz1]
  · by_cases e : bc = F
    · exact .inl ⟨if_pos e, e⟩
    · exact .inr (if_neg e)
/-- what is behind the first bytes of a text -/
theorem Row.behind {w : World} {ba : Option Addr} {n bc F : Nat} {b : List Nat} (h : Row .u8 256 w (.slice ba n bc) b) (hF : F ≤ n) {A : Option Addr} (hA : A = ba ∧ bc = F ∨ A = ba.map (·.add F)) : Row .u8 256 w (.slice A (n - F) (bc - F)) (b.drop F) := by
  obtain ⟨a', c', he, h1, h2, h3, h4⟩ := h
  simp only [Value.slice.injEq] at he
  obtain ⟨rfl, rfl, rfl⟩ := he
  refine ⟨A, _, by rw [List.length_drop], by rw [List.length_drop]; omega, by omega, fun hp => ?_, fun x hx => h4 x (List.mem_of_mem_drop hx)⟩
  rw [List.length_drop] at hp
  obtain ⟨b', o', rfl, hc⟩ := h3 (by omega)
  rcases hA with ⟨_, e⟩ | rfl
  · omega
  · refine ⟨b', o' + F, by simp [Addr.add_lit], fun x hx => ?_⟩
    rw [List.length_drop] at hx
    rw [el_drop, Nat.add_assoc]
    exact hc (F + x) (by omega)
theorem own_any (A : Option Addr) (n c n' c' : Nat) : (Value.slice A n c).ownBlock = (Value.slice A n' c').ownBlock := by cases A <;> rfl
theorem add_block (x : Addr) (F : Nat) : (x.add F).block = x.block := by unfold Addr.add; split <;> rfl
theorem Away.behind {g : Nat} {ba : Option Addr} {n bc F n' c' : Nat} {b : List Nat} (h : Away g (.slice ba n bc) b) {A : Option Addr} (hA : A = ba ∧ bc = F ∨ A = ba.map (·.add F)) : Away g (.slice A n' c') (b.drop F) := fun hp q hq => by
  refine h (by rw [List.length_drop] at hp; omega) q ?_
  rcases hA with ⟨rfl, _⟩ | rfl
  · rw [own_any _ _ _ n' c']; exact hq
  · cases ba with
    | none => cases hq
    | some x =>
      have e : (x.add F).block = q := Option.some.inj hq
      rw [add_block] at e
      exact congrArg some e
theorem Tidy.behind {ba : Option Addr} {n bc F : Nat} (h : Tidy (.slice ba n bc)) (hF : F ≤ n) {A : Option Addr} (hA : A = ba ∧ bc = F ∨ A = ba.map (·.add F)) : Tidy (.slice A (n - F) (bc - F)) := fun m c he => by
  simp only [Value.slice.injEq] at he
  obtain ⟨hA0, rfl, rfl⟩ := he
  have hb : ba = none := by
    rcases hA with ⟨rfl, _⟩ | rfl
    · exact hA0
    · simpa using hA0
  subst hb
  obtain ⟨rfl, rfl⟩ := h _ _ rfl
  omega
theorem Tidy.to {ba : Option Addr} {n bc F : Nat} (h : Tidy (.slice ba n bc)) (hF : F ≤ n) : Tidy (.slice ba F bc) := fun m c he => by
  simp only [Value.slice.injEq] at he
  obtain ⟨rfl, rfl, rfl⟩ := he
  obtain ⟨rfl, rfl⟩ := h _ _ rfl
  omega
theorem Away.to {g : Nat} {ba : Option Addr} {n bc F c' : Nat} {b : List Nat} (h : Away g (.slice ba n bc) b) : Away g (.slice ba F c') (b.take F) := fun hp q hq => h (by rw [List.length_take] at hp; omega) q (by rw [own_any _ _ _ F c']; exact hq)
theorem step_store_row {P : Program} {w : World} {ops : Array Oper} {o : Oper} {a : Act} {K : Act → World → Prop} {Q : Exit → Act → World → Prop} {E : Prop} (hgd : o.guard = none) (ty : TypeId) (x y : Operand) (ho : o.op = .store ty x y)
    (g : Nat) (cells : Array Value) (hx : a.eval x = .pointer (some ⟨g, 0, none⟩)) (hy : a.eval y = .agg cells)
    (t : TypeId) (old : Array Value) (hg : w.heap[g]? = some (.cells old t (0, 0))) (hi : (P.info? ty).map (·.size) = some cells.size)
    (hold : old.size = cells.size) (h1 : cells.all (·.oneCell') = true)
    (h : K (a.put o.dst undef) (w.setRow g cells)) : if Region.wanted o (yielded ops a.tmps) = true then Oper.wp P o a w K Q else E := by
  have hw : Region.wanted o (yielded ops a.tmps) = true := by simp [Region.wanted, hgd]
  rw [if_pos hw]
  exact wp_store_row ty x y ho g cells hx hy t old hg hi hold h1 h
/-- what a sum is, behind more bytes, in two steps -/
theorem add_parts (c : Bool) (ws tl b : List Nat) (F : Nat) (hF : F = b.length ∨ F = bz c - tl.length ∧ tl.length < bz c ∧ F ≤ b.length) :
    eat c (eat c ws (tl ++ b.take F)) (b.drop F) = eat c ws (tl ++ b) ∧ left c (tl ++ b.take F) ++ left c (b.drop F) = left c (tl ++ b) := by
  rcases hF with rfl | ⟨rfl, h1, h2⟩
  · rw [List.take_of_length_le (Nat.le_refl _), List.drop_of_length_le (Nat.le_refl _), eat_short (by simpa using bz_pos c), left_short (l := []) (by simpa using bz_pos c), List.append_nil]
    exact ⟨rfl, rfl⟩
  · have hl : (tl ++ b.take (bz c - tl.length)).length = bz c := by rw [List.length_append, List.length_take]; omega
    have hz : left c (tl ++ b.take (bz c - tl.length)) = [] := by
      apply List.eq_nil_of_length_eq_zero
      rw [left_length, hl, Nat.mod_self]
    have e : (tl ++ b.take (bz c - tl.length)) ++ b.drop (bz c - tl.length) = tl ++ b := by rw [List.append_assoc, List.take_append_drop]
    have p1 := eat_parts c ws (tl ++ b.take (bz c - tl.length)) (b.drop (bz c - tl.length))
    have p2 := left_parts c (tl ++ b.take (bz c - tl.length)) (b.drop (bz c - tl.length))
    rw [hz, List.nil_append, e] at p1 p2
    rw [hz, List.nil_append]
    exact ⟨p1.symm, p2.symm⟩
end Go.Proofs.Ytjeofkemfpdieaa

/- A text in the stream. -/
namespace Go.Proofs.Ytjeofkemfpdieaa
open Go.RowKit Go.Shelf
set_option linter.unusedVariables false
set_option linter.unusedSimpArgs false
attribute [local go_sem] Oper.semAt_some

theorem xorT_app {b s u : List Nat} (h : s.length ≤ b.length) : xorT b (s ++ u) = xorT b s ++ xorT (b.drop s.length) u := by
  have hlen : (xorT b (s ++ u)).length = (xorT b s ++ xorT (b.drop s.length) u).length := by rw [List.length_append, xorT_len, xorT_len, xorT_len, List.length_append, List.length_drop]; omega
  apply List.ext_getElem? 
  intro i
  by_cases hi : i < (xorT b (s ++ u)).length
  · have h1 : i < min b.length (s.length + u.length) := by rw [xorT_len, List.length_append] at hi; exact hi
    have g : ∀ (l : List Nat), i < l.length → l[i]? = some (el l i) := fun l h => by unfold el; rw [List.getElem?_eq_getElem h]; rfl
    rw [g _ hi, g _ (by rw [← hlen]; exact hi), xorT_el (by rw [List.length_append]; exact h1)]
    by_cases hs : i < s.length
    · have e1 : el (xorT b s ++ xorT (b.drop s.length) u) i = el (xorT b s) i := by unfold el; rw [List.getElem?_append_left (by rw [xorT_len]; omega)]
      have e2 : el (s ++ u) i = el s i := by unfold el; rw [List.getElem?_append_left hs]
      rw [e1, e2, xorT_el (by omega)]
    · have e1 : el (xorT b s ++ xorT (b.drop s.length) u) i = el (xorT (b.drop s.length) u) (i - s.length) := by unfold el; rw [List.getElem?_append_right (by rw [xorT_len]; omega), xorT_len, Nat.min_eq_right h]
      have e2 : el (s ++ u) i = el u (i - s.length) := by unfold el; rw [List.getElem?_append_right (by omega)]
      have e3 : el (b.drop s.length) (i - s.length) = el b i := by unfold el; rw [List.getElem?_drop, show s.length + (i - s.length) = i by omega]
      rw [e1, e2, xorT_el (by rw [List.length_drop]; omega), e3]
  · rw [List.getElem?_eq_none (by omega), List.getElem?_eq_none (by omega)]
theorem xrL_T (a b : List Nat) : xrL a b = xorT a b := rfl
section
variable {ops : Array Oper} {Q : Exit → Act → World → Prop} {S : World → Prop} {K : Act → World → Prop}
theorem y_lenQ {o : Oper} {a : Act} {x : Operand} {aa : Option Addr} {n cc : Nat} (hg : o.guard = none) (ho : o.op = .call { callee := .builtin .len, args := #[x], argTypes := #[22] }) (hx : a.eval x = .slice aa n cc) : YieldsIf Try.prog ops S o (.int .i64 (n : Int)) a :=
  y_of hg fun w _ => by
    unfold execOp
    have ha : (#[x] : Array Operand).map a.eval = #[.slice aa n cc] := by simp only [List.map_toArray, List.map_cons, List.map_nil, hx]
    generalize (#[x] : Array Operand) = xs at ho ha
    simp only [ho]
    simp [resolve, ha, go_sem]
theorem y_sliceQ {o : Oper} {a : Act} {x y : Operand} {v u : Value} {F : Nat} (hg : o.guard = none) (ho : o.op = .slice 22 x (some y) none none) (hx : a.eval x = v) (hy : a.eval y = .int .i64 (F : Int)) (hr : ∀ w : World, (Instr.slice 22 v (some (.int .i64 (F : Int))) none none).run Try.prog w = .ok u w) (hv : ∃ aa n c, v = .slice aa n c) : YieldsIf Try.prog ops S o u a := by
  obtain ⟨aa, n, c, rfl⟩ := hv
  refine y_of hg fun w _ => ?_
  have h := hr w
  unfold execOp
  simp only [ho, hx, Option.map_none, Option.map_some, hy]
  simp [Instr.sliceAt, Sem.run_bind, h, run_underlying Try.underlying22, go_sem]
theorem p_loadT' {i : Nat} {o : Oper} {a : Act} {w : World} {v : Value} {d : Option Nat} (hi : ops[i]? = some o) (hg : o.guard = none) (hd : o.dst = d) (hy : YieldsIf Try.prog ops (fun y => y = w) o v a) (h : K (a.put d v) w) : wpOp Try.prog ops Q i K a w := by
  rcases hy with ⟨_, hr⟩ | ⟨hw, _⟩
  · unfold wpOp
    simp only [hi]
    rw [if_pos (wanted_free hg)]
    left
    unfold Oper.wp
    rw [hr w rfl]
    show K (a.put o.dst _) _
    rw [hd]
    exact h
  · rw [wanted_free hg] at hw; cases hw
theorem p_appQ {i : Nat} {o : Oper} {a : Act} {w : World} {s x : Operand} {d : Option Nat} (hi : ops[i]? = some o) (hg : o.guard = none) (ho : o.op = .call { callee := .builtin .append, args := #[s, x], argTypes := #[22, 22] }) (hd : o.dst = d)
    (base : Nat) (v bv : Value) (l b : List Nat) (hs : a.eval s = v) (hown : Own 5 .u8 256 w base v l) (hx : a.eval x = bv) (rb : Row .u8 256 w bv b) (tb : Tidy bv) (hn : l.length ≤ 1000000) (hb : b.length ≤ 1000000) (hbase : base ≤ w.heap.size)
    (h : ∀ v' w', Own 5 .u8 256 w' base v' (l ++ b) → w.grownBy w' v.ownBlock → K (a.put d v') w') : wpOp Try.prog ops Q i K a w := by
  obtain ⟨i0, hi0, hz0, hz1, hz2⟩ := info_byte
  have hu : Under 256 (l ++ b) := Under.append hown.2 rb.under
  have hr : ∃ v' w', (Builtin.append_ #[22, 22] o.type #[v, bv]).run Try.prog w = .ok v' w' ∧ Own 5 .u8 256 w' base v' (l ++ b) ∧ w.grownBy w' v.ownBlock := by
    obtain ⟨ba, bc, rfl, h1, h2, h3, h4⟩ := rb
    cases ba with
    | none =>
      obtain ⟨h0, rfl⟩ := tb _ _ rfl
      obtain rfl := List.eq_nil_of_length_eq_zero h0
      have := run_append_owned_none (P := Try.prog) (w := w) base 22 o.type 5 i0 1 Try.underlying22 hi0 v l.length _ hown.1
      exact ⟨v, w, this, by rw [List.append_nil]; exact hown, ⟨rfl, rfl, rfl, Nat.le_refl _, fun _ _ _ => rfl⟩⟩
    | some y =>
      obtain ⟨v', w', r1, r2, r3, _⟩ := run_append_own (P := Try.prog) (w := w) base 22 o.type 5 i0 (.int .u8 0) 1 1 Try.underlying22 hi0 hz0 hz1 hz2 rfl (by decide) v l.length _ hown.1 y b.length bc (vals .u8 b) (by rw [vals_length, Nat.mul_one]) (cells_news h3) (vals_one _ _) (by unfold maxLen; omega) (by omega) hbase
      exact ⟨v', w', r1, ⟨by rw [vals_append, List.length_append]; exact r2, hu⟩, r3⟩
  obtain ⟨v', w', r1, r2, r3⟩ := hr
  unfold wpOp
  simp only [hi]
  rw [if_pos (wanted_free hg)]
  left
  have he : (execOp a.eval o).run Try.prog w = .ok (.value v') w' := by
    simp [execOp, ho, resolve, invoke, builtin, hs, hx, r1, Result.andThen]
  unfold Oper.wp
  rw [he]
  show K (a.put o.dst v') w'
  rw [hd]
  exact h v' w' r2 r3
end
/-- where the loop stands -/
structure MkL (w : World) (B7 : Nat) (kv nv bv : Value) (o : List Nat) (W : World) : Prop where
  bt : Boxed W w.heap.size 22 bv
  bo : ∃ ov, Boxed W B7 22 ov ∧ Own 5 .u8 256 W w.heap.size ov o
  bk : Boxed W (B7 + 1) 22 kv
  bn : Boxed W (B7 + 1 + 1) 22 nv
  bel : Below w.heap.size w W
theorem MkL.own {w : World} {B7 D : Nat} {kv nv bv : Value} {o : List Nat} {A C : World} {row : Option Nat} (f : MkL w B7 kv nv bv o A) (hD : w.heap.size ≤ D) (hg : A.grownBy C row) (hr : ∀ r, row = some r → D ≤ r ∧ ∃ o : Obj, A.heap[r]? = some o ∧ o.isCells = false) : MkL w B7 kv nv bv o C := by
  have hr2 := fun r e => (hr r e).2
  obtain ⟨ov, b1, b2⟩ := f.bo
  exact ⟨cells_kept8 hg hr2 f.bt, ⟨ov, cells_kept8 hg hr2 b1, owns_kept8 b2.1 hg hr2, b2.2⟩, cells_kept8 hg hr2 f.bk, cells_kept8 hg hr2 f.bn, f.bel.grown hg f.bel.size fun r e => by have := (hr r e).1; omega⟩
theorem row_ownQ {A B : World} {row : Option Nat} {v : Value} {l : List Nat} (h : Row .u8 256 A v l) (hg : A.grownBy B row) (hr : ∀ r, row = some r → ∃ o : Obj, A.heap[r]? = some o ∧ o.isCells = false) : Row .u8 256 B v l := by
  obtain ⟨a, cap, he, h1, h2, h3, h4⟩ := h
  refine ⟨a, cap, he, h1, h2, fun hl => ?_, h4⟩
  obtain ⟨b, off, ha, hc⟩ := h3 hl
  refine ⟨b, off, ha, fun i hi => hg.cell (hc i hi) fun e => ?_⟩
  obtain ⟨o, ho, ho2⟩ := hr b e.symm
  have := hc i hi
  unfold World.cell? at this
  simp only [ho] at this
  cases o <;> simp_all [Obj.isCells]
/-- what a round leaves -/
theorem MkL.step {w : World} {B7 : Nat} {kv nv bv : Value} {o o' : List Nat} {W z w' : World} {ov v' : Value} (f : MkL w B7 kv nv bv o W) (hov : Boxed W B7 22 ov) (how : Own 5 .u8 256 W w.heap.size ov o) (hB7 : w.heap.size < B7) (hz : Below W.heap.size W z) (hown' : Own 5 .u8 256 w' w.heap.size v' o') (hg : z.grownBy w' ov.ownBlock) :
    MkL w B7 kv nv bv o' (w'.setCell ⟨B7, 0, none⟩ v') ∧ KeepsFrom (B7 + 1 + 1 + 1) W (w'.setCell ⟨B7, 0, none⟩ v') ∧ w'.cell? ⟨B7, 0, none⟩ = some ov ∧ w'.frozen? ⟨B7, 0, none⟩ = false := by
  have gz := (⟨hz.os, hz.tape, hz.output, hz.size, fun k hk _ => hz.block k hk⟩ : W.grownBy z none)
  have nb : ∀ {B : Nat} {u : Value}, Boxed W B 22 u → Boxed w' B 22 u ∧ some B ≠ v'.ownBlock := fun {B u} h => by
    have h1 : Boxed z B 22 u := h.kept gz (by simp)
    have h2 : Boxed w' B 22 u := h1.kept hg (h.not_row (by decide) how.1)
    exact ⟨h2, h2.not_row (by decide) hown'.1⟩
  have hs := grownBy_setCell' w' B7 v'
  have b7 := (nb hov).1
  refine ⟨⟨(nb f.bt).1.kept hs (by simp; omega), ⟨v', b7.set v', ?_, hown'.2⟩, (nb f.bk).1.kept hs (by simp), (nb f.bn).1.kept hs (by simp; omega), ?_⟩, ?_, b7.cell, b7.frozen⟩
  · exact hown'.1.kept hs (.inr (nb hov).2.symm)
  · have h1 := f.bel.trans (hz.mono f.bel.size)
    have h2 := h1.grown hg h1.size fun j ej => by
      rcases how.1.2 with ⟨rfl, _⟩ | ⟨g, cap, cur, rfl, hb, _, _⟩
      · simp [Value.ownBlock] at ej
      · have : g = j := by simpa [Value.ownBlock] using ej
        omega
    exact h2.setCell (p := ⟨B7, 0, none⟩) (by show w.heap.size ≤ B7; omega) v'
  · refine ⟨by have := hz.size; have := hg.size; have := hs.size; omega, fun k ob hk ho hc => ?_⟩
    have lk := (Array.getElem?_eq_some_iff.1 ho).1
    have h1 := (hz.block k lk).trans ho
    have h2 : w'.heap[k]? = some ob := (hg.block k (Nat.lt_of_lt_of_le lk hz.size) fun e => by
      rcases how.1.2 with ⟨rfl, _⟩ | ⟨g, cap, cur, rfl, _, hgb, _⟩
      · simp [Value.ownBlock] at e
      · obtain rfl : k = g := by simpa [Value.ownBlock] using e
        rw [ho] at hgb; cases hgb; cases hc).trans h1
    exact (hs.block k (Array.getElem?_eq_some_iff.1 h2).1 (by simp; omega)).trans h2
def mklt : List Lt := [(0, some 16, [7]), (0, some 17, [5]), (0, some 18, [7]), (4, some 19, [18]), (10, some 20, [17, 19]), (0, some 21, [8]), (48, some 22, [20, 21]), (65, some 23, [16, 22]), (255, none, [7, 23])]
theorem mkreg : Reg (opsA (cLA (cBA (cFA (cBA (cRA (cLA (cRA (cRA (Try.f27.body.getD .skip)))))))))) mklt := ⟨by kernel_rfl, by kernel_rfl⟩
set_option maxHeartbeats 4000000 in
set_option maxRecDepth 100000 in
theorem mk_reg (l n : Nat) (Q : Exit → Act → World → Prop) (x0 x1 x2 x3 x4 x6 x9 x10 x11 x12 x13 x14 x15 x16 x17 x18 x19 x20 x21 x22 x23 x24 x25 x26 x27 x28 x29 : Value) (w W : World) (B7 Z bc P : Nat) (kv nv mv : Value) (ba : Option Addr) (o b mk : List Nat) (f : MkL w B7 kv nv (.slice ba Z bc) o W) (hB7 : w.heap.size < B7) (rb : Row .u8 256 W (.slice ba Z bc) b) (hZ : b.length = Z) (rm : Row .u8 256 W mv mk) (hP : o.length = P) (hPZ : P ≤ Z) (hZl : Z ≤ 1000000)
    (hQ : ∀ (y16 y18 y19 y20 y22 y23 : Value) (z : World), MkL w B7 kv nv (.slice ba Z bc) (o ++ xorT (b.drop P) mk) z → KeepsFrom (B7 + 1 + 1 + 1) W z → Q .normal { tmps := #[x0, x1, x2, x3, x4, .pointer (some ⟨w.heap.size, 0, none⟩), x6, .pointer (some ⟨B7, 0, none⟩), mv, x9, x10, x11, x12, x13, x14, x15, y16, .slice ba Z bc, y18, y19, y20, mv, y22, y23, x24, x25, x26, x27, x28, x29], defers := [] } z) :
    (Code.region 4 (opsA (cLA (cBA (cFA (cBA (cRA (cLA (cRA (cRA (Try.f27.body.getD .skip)))))))))) true).wpIn (Fence.wide.inRound l) n Try.prog Q { tmps := #[x0, x1, x2, x3, x4, .pointer (some ⟨w.heap.size, 0, none⟩), x6, .pointer (some ⟨B7, 0, none⟩), mv, x9, x10, x11, x12, x13, x14, x15, x16, x17, x18, x19, x20, x21, x22, x23, x24, x25, x26, x27, x28, x29], defers := [] } W := by
  obtain ⟨ov, hov, how⟩ := f.bo
  obtain ⟨oa, oc, rfl, _⟩ := how.row.opens hP
  have lbc : Z ≤ bc := by obtain ⟨_, _, he, h1, _⟩ := rb; simp only [Value.slice.injEq] at he; omega
  obtain ⟨A, hA, hAd⟩ := slice_from ba Z bc P hPZ lbc
  have rA := rb.behind hPZ hAd
  have hbd : Below W.heap.size W W.drew := (Below.refl _ _).drew
  have c5 : ∀ y, Below W.heap.size W y → y.cell? ⟨w.heap.size, 0, none⟩ = some (.slice ba Z bc) := fun y hy => cell_ofQ ((hy.block _ f.bt.lt).trans f.bt) rfl
  have c7 : ∀ y, Below W.heap.size W y → y.cell? ⟨B7, 0, none⟩ = some (.slice oa P oc) := fun y hy => cell_ofQ ((hy.block _ hov.lt).trans hov) rfl
  have hxr := fun y (hy : Below W.heap.size W y) => xr_any _ _ _ _ y (rA.below hy) (rm.below hy) (by rw [List.length_drop]; omega)
  rw [xrL_T] at hxr
  have hxl : (xorT (b.drop P) mk).length ≤ 1000000 := by rw [xorT_len, List.length_drop]; omega
  generalize xorT (b.drop P) mk = X at *
  have hK2 : ∀ (xv : Value) (z : World), Below W.heap.size W z → Own 5 .u8 256 z W.heap.size xv X → At Try.prog (opsA (cLA (cBA (cFA (cBA (cRA (cLA (cRA (cRA (Try.f27.body.getD .skip)))))))))) (onlyN fun a w => Q .normal a w) (fun y => y.cell? ⟨w.heap.size, 0, none⟩ = some (.slice ba Z bc)) 2 127 { tmps := #[x0, x1, x2, x3, x4, .pointer (some ⟨w.heap.size, 0, none⟩), x6, .pointer (some ⟨B7, 0, none⟩), mv, x9, x10, x11, x12, x13, x14, x15, .slice oa P oc, .slice ba Z bc, .slice oa P oc, .int .i64 (P : Int), .slice A (Z - P) (bc - P), mv, xv, x23, x24, x25, x26, x27, x28, x29], defers := [] } z := by
    intro xv z hz hxo
    refine at_one (i := 7) (m' := 255) mkreg (by decide) rfl ?_
    refine p_appQ (d := some 23) rfl rfl rfl rfl w.heap.size (.slice oa P oc) xv o X rfl ⟨own_belowA how.1 hz, how.2⟩ rfl hxo.row (own_tidyG hxo) (by omega) hxl (Nat.le_trans f.bel.size hz.size) ?_
    intro v' w' ho' hg'
    obtain ⟨f2, kf2, cc, ff⟩ := f.step hov how hB7 hz ho' hg'
    have hS1 : w'.cell? ⟨w.heap.size, 0, none⟩ = some (.slice ba Z bc) := by
      have h1 : Boxed z w.heap.size 22 (.slice ba Z bc) := (hz.block _ f.bt.lt).trans f.bt
      exact (h1.kept hg' (f.bt.not_row (by decide) how.1)).cell
    refine ⟨hS1, ?_⟩
    simp only [Act.put, List.setIfInBounds_toArray, List.set_cons_zero, List.set_cons_succ]
    obtain ⟨va, vc, rfl⟩ := own_sliceQ ho'
    refine at_one (i := 8) (m' := 511) mkreg (by decide) rfl ?_
    refine p_store_plain (p := ⟨B7, 0, none⟩) (ad := va) (n := (o ++ X).length) (c := vc) rfl rfl rfl rfl rfl rfl Try.underlying22 rfl (by kernel_rfl) (by rw [cc]; rfl) ff ⟨f2.bt.cell, ?_⟩
    refine at_done mkreg (by decide) ?_
    dsimp only [onlyN]
    exact hQ _ _ _ _ _ _ _ f2 kf2
  have hK1 : At Try.prog (opsA (cLA (cBA (cFA (cBA (cRA (cLA (cRA (cRA (Try.f27.body.getD .skip)))))))))) (onlyN fun a w => Q .normal a w) (fun y => y.cell? ⟨w.heap.size, 0, none⟩ = some (.slice ba Z bc)) 3 63 { tmps := #[x0, x1, x2, x3, x4, .pointer (some ⟨w.heap.size, 0, none⟩), x6, .pointer (some ⟨B7, 0, none⟩), mv, x9, x10, x11, x12, x13, x14, x15, .slice oa P oc, .slice ba Z bc, .slice oa P oc, .int .i64 (P : Int), .slice A (Z - P) (bc - P), mv, x22, x23, x24, x25, x26, x27, x28, x29], defers := [] } W.drew := by
    refine at_one (i := 6) (m' := 127) mkreg (by decide) rfl ?_
    refine p_call2 (u := .slice A (Z - P) (bc - P)) (v := mv) (d := some 22) rfl rfl rfl rfl rfl rfl Try.call42 ((hxr _ hbd).mono ?_)
    rintro e z ⟨xv, rfl, xo, hb1⟩
    refine ⟨_, rfl, c5 _ (keep_trans hbd hb1), ?_⟩
    simp only [Act.put, List.setIfInBounds_toArray, List.set_cons_zero, List.set_cons_succ]
    exact hK2 xv z (keep_trans hbd hb1) xo
  refine at_begin_in (ops := (opsA (cLA (cBA (cFA (cBA (cRA (cLA (cRA (cRA (Try.f27.body.getD .skip))))))))))) (k := 9) (fun y => y.cell? ⟨w.heap.size, 0, none⟩ = some (.slice ba Z bc)) (by kernel_rfl) (by kernel_rfl) (by kernel_rfl) ?_
  refine at_takeD (i := 1) (m' := 2) (d := some 17) (v := .slice ba Z bc) mkreg rfl (by decide) rfl rfl (y_load_plain rfl rfl rfl Try.underlying22 rfl (fun _ h => h)) (c5 _ hbd) ?_
  simp only [Act.put, List.setIfInBounds_toArray, List.set_cons_zero, List.set_cons_succ]
  refine at_takeD (i := 5) (m' := 34) (d := some 21) (v := mv) mkreg rfl (by decide) rfl rfl (y_move rfl rfl rfl) (c5 _ hbd) ?_
  simp only [Act.put, List.setIfInBounds_toArray, List.set_cons_zero, List.set_cons_succ]
  refine at_two (i := 0) (j := 2) (m1 := 35) (m2 := 38) mkreg (by decide) rfl rfl ?_ ?_
  · refine p_loadT' (d := some 16) (v := .slice oa P oc) rfl rfl rfl (y_load_plain rfl rfl rfl Try.underlying22 rfl (fun y e => by rw [e]; exact c7 _ hbd)) ⟨c5 _ hbd, ?_⟩
    simp only [Act.put, List.setIfInBounds_toArray, List.set_cons_zero, List.set_cons_succ]
    refine at_one (i := 2) (m' := 39) mkreg (by decide) rfl ?_
    refine p_loadT' (d := some 18) (v := .slice oa P oc) rfl rfl rfl (y_load_plain rfl rfl rfl Try.underlying22 rfl (fun y e => by rw [e]; exact c7 _ hbd)) ⟨c5 _ hbd, ?_⟩
    simp only [Act.put, List.setIfInBounds_toArray, List.set_cons_zero, List.set_cons_succ]
    refine at_takeD (i := 3) (m' := 47) (d := some 19) (v := .int .i64 (P : Int)) mkreg rfl (by decide) rfl rfl (y_lenQ rfl rfl rfl) (c5 _ hbd) ?_
    simp only [Act.put, List.setIfInBounds_toArray, List.set_cons_zero, List.set_cons_succ]
    refine at_takeD (i := 4) (m' := 63) (d := some 20) (v := .slice A (Z - P) (bc - P)) mkreg rfl (by decide) rfl rfl (y_sliceQ rfl rfl rfl rfl hA ⟨_, _, _, rfl⟩) (c5 _ hbd) ?_
    simp only [Act.put, List.setIfInBounds_toArray, List.set_cons_zero, List.set_cons_succ]
    exact hK1
  · refine p_loadT' (d := some 18) (v := .slice oa P oc) rfl rfl rfl (y_load_plain rfl rfl rfl Try.underlying22 rfl (fun y e => by rw [e]; exact c7 _ hbd)) ⟨c5 _ hbd, ?_⟩
    simp only [Act.put, List.setIfInBounds_toArray, List.set_cons_zero, List.set_cons_succ]
    refine at_takeD (i := 3) (m' := 46) (d := some 19) (v := .int .i64 (P : Int)) mkreg rfl (by decide) rfl rfl (y_lenQ rfl rfl rfl) (c5 _ hbd) ?_
    simp only [Act.put, List.setIfInBounds_toArray, List.set_cons_zero, List.set_cons_succ]
    refine at_takeD (i := 4) (m' := 62) (d := some 20) (v := .slice A (Z - P) (bc - P)) mkreg rfl (by decide) rfl rfl (y_sliceQ rfl rfl rfl rfl hA ⟨_, _, _, rfl⟩) (c5 _ hbd) ?_
    simp only [Act.put, List.setIfInBounds_toArray, List.set_cons_zero, List.set_cons_succ]
    refine at_two (i := 0) (j := 6) (m1 := 63) (m2 := 126) mkreg (by decide) rfl rfl ?_ ?_
    · refine p_loadT' (d := some 16) (v := .slice oa P oc) rfl rfl rfl (y_load_plain rfl rfl rfl Try.underlying22 rfl (fun y e => by rw [e]; exact c7 _ hbd)) ⟨c5 _ hbd, ?_⟩
      simp only [Act.put, List.setIfInBounds_toArray, List.set_cons_zero, List.set_cons_succ]
      exact hK1
    · refine p_call2 (u := .slice A (Z - P) (bc - P)) (v := mv) (d := some 22) rfl rfl rfl rfl rfl rfl Try.call42 ((hxr _ hbd).mono ?_)
      rintro e z ⟨xv, rfl, xo, hb1⟩
      have hz := keep_trans hbd hb1
      refine ⟨_, rfl, c5 _ hz, ?_⟩
      simp only [Act.put, List.setIfInBounds_toArray, List.set_cons_zero, List.set_cons_succ]
      refine at_one (i := 0) (m' := 127) mkreg (by decide) rfl ?_
      refine p_loadT' (d := some 16) (v := .slice oa P oc) rfl rfl rfl (y_load_plain rfl rfl rfl Try.underlying22 rfl (fun y e => by rw [e]; exact c7 _ hz)) ⟨c5 _ hz, ?_⟩
      simp only [Act.put, List.setIfInBounds_toArray, List.set_cons_zero, List.set_cons_succ]
      exact hK2 xv z hz xo
end Go.Proofs.Ytjeofkemfpdieaa
