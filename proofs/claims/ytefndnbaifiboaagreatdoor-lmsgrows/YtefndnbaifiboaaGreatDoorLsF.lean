/- Trees of leaves that sign once, the program's own: the neighbours of the knots from a leaf up, by an iterator. -/
import Derived.Test.YtefndnbaifiboaaGreatDoorLsE
import Derived.Test.YtefndnbaifiboaaGreatDoorLsA
import Derived.LoopIn
import Derived.Stop.RegionWithIn
import Derived.Test.YtefndnbaifiboaaGreatDoorLcS
import Derived.Test.YtefndnbaifiboaaGreatDoorPlan3
import Derived.Test.YtefndnbaifiboaaGreatDoorLcD
namespace Go.Proofs.YtefndnbaifiboaaGreatDoor
open Go.RowKit Go.Shelf
set_option linter.unusedVariables false
set_option linter.unusedSimpArgs false
attribute [local go_sem] Oper.semAt_some

theorem grown_belowL {W y : World} (hb : Below W.heap.size W y) : W.grownBy y none := ⟨hb.os, hb.tape, hb.output, hb.size, fun k hk _ => hb.block k hk⟩
/-- a struct read, inside a fence -/
theorem wpListIn_rowL {F : Fence} {n : Nat} {ops : Array Oper} {Q : Exit → Act → World → Prop} {rest : List Oper} {o : Oper} {a : Act} {w : World} (hF : ∀ f, F.fn f) (hg : o.guard = none) (t : TypeId) (x : Operand) (ho : o.op = .load t x) (b c : Nat) (hx : a.eval x = .pointer (some ⟨b, c, none⟩)) (cs : List Value) (d : TypeDesc) (hc : w.rangeAt b c cs)
    (hu : Tryz.prog.underlying t = some d) (hd : d.isRow = true) (hi : (Tryz.prog.info? t).map (·.size) = some cs.length) (h : wpListIn F n Tryz.prog ops Q rest (a.put o.dst (.agg cs.toArray)) w) : wpListIn F n Tryz.prog ops Q (o :: rest) a w := by
  have hr : (execOp a.eval o).run Tryz.prog w = .ok (.value (.agg cs.toArray)) w := by
    unfold execOp
    simp only [ho, hx, Instr.loadAt, Instr.sureAddr, Sem.run_bind, Sem.run_pure, Result.andThen_ok, run_loadVar_mid w b c t cs d hc hu hd hi]
  refine wpListIn_plain hg fun K hK => ?_
  unfold Oper.wpIn
  refine ⟨fun f _ => hF f, ?_⟩
  rw [Oper.semAt_eq _ _ _ (fun c hc => by rw [ho] at hc; cases hc), hr]
  exact hK _ _ h
theorem xor1_i64L (n : Nat) (hn : n < 67108864) : bits .xor .i64 (n : Int) 1 = ((n ^^^ 1 : Nat) : Int) := by
  show IntKind.i64.wrap ((BitVec.ofInt 64 (n : Int) ^^^ BitVec.ofInt 64 ((1 : Nat) : Int)).toNat : Int) = _
  rw [BitVec.toNat_xor, ofInt_u64 _ (by omega), ofInt_u64 _ (by omega), IntKind.wrap_i64]
  have : n ^^^ 1 < 2 ^ 26 := Nat.xor_lt_two_pow (by omega) (by decide)
  omega
/-- what the iterator hands out -/
def nbV (n i : Nat) : Array Value := #[.int .i64 (i : Int), .int .i64 (((n / 2 ^ i) ^^^ 1 : Nat) : Int)]
theorem range_pre_step {h k : Nat} (hk : k < h) : (List.range k ++ [k]) <+: List.range h := by
  rw [← List.range_succ]
  exact ⟨(List.range (h - (k + 1))).map (· + (k + 1)), by
    have := List.range_add (n := k + 1) (m := h - (k + 1))
    rw [show k + 1 + (h - (k + 1)) = h by omega] at this
    rw [this]
    congr 1
    apply List.map_congr_left
    intro x _
    omega⟩
theorem pre_range {h x : Nat} {pre : List Nat} (hp : (pre ++ [x]) <+: List.range h) : pre = List.range x ∧ x < h := by
  obtain ⟨r, hr⟩ := hp
  have hx : (List.range h)[pre.length]? = some x := by rw [← hr]; simp
  have hlt : pre.length < h := by
    have := (List.getElem?_eq_some_iff.1 hx).1
    simpa using this
  rw [List.getElem?_range hlt] at hx
  have e : pre.length = x := Option.some.inj hx
  refine ⟨?_, by omega⟩
  have ht := congrArg (List.take x) hr
  rw [List.take_range, Nat.min_eq_left (by omega), List.append_assoc, List.take_append_of_le_length (by omega), List.take_of_length_le (by omega)] at ht
  exact ht
set_option maxHeartbeats 2000000 in
set_option maxRecDepth 100000 in
theorem neighbours_any (h : Nat) (xv idv : Value) (q : Nat) (w : World) (x1 : ∃ x, xv = .int .i64 x) (i1 : ∃ a n c, idv = .slice a n c) :
    Calls Tryz.prog 68 #[.agg #[.int .i64 (h : Int), xv, idv], .int .u32 (q : Int)] w fun e w' => e = .returned (.func (.func 88) #[] #[.pointer (some ⟨w.heap.size, 0, none⟩), .pointer (some ⟨w.heap.size + 1, 0, none⟩)]) ∧ w' = (w.alloc (.cells #[.int .i64 (h : Int), xv, idv] 48)).alloc (.cells #[.int .u32 (q : Int)] 25) := by
  obtain ⟨x, rfl⟩ := x1
  obtain ⟨a, n, c, rfl⟩ := i1
  go_enter Tryz.func68, Tryz.ntmps68
  go_wp2
  go_ret
  exact ⟨rfl, rfl⟩
set_option maxHeartbeats 4000000 in
set_option maxRecDepth 100000 in
theorem nb1_own (m : Nat) (hm : 2 ≤ m) (B1 B2 h q : Nat) (xv idv : Value) (x1 : ∃ x, xv = .int .i64 x) (i1 : ∃ a n c, idv = .slice a n c) (hh : h ≤ 25) (hq : q < 2 ^ h) (w0 : World) (V : World → Prop) (b1 : BxD w0 B1 (.int .i64 (h : Int)) xv idv) (b2 : Boxed w0 B2 25 (.int .u32 (q : Int))) :
    OwnPre m Tryz.prog 88 #[.pointer (some ⟨B1, 0, none⟩), .pointer (some ⟨B2, 0, none⟩)] (fun i : Nat => nbV (2 ^ h + q) i) (List.range h) V w0 := by
  intro l J W hW hlW hJ hJV hY h0
  show CallsIn Fence.wide m Tryz.prog 88 #[.func (.yield l) #[] #[], .pointer (some ⟨B1, 0, none⟩), .pointer (some ⟨B2, 0, none⟩)] W _
  have h1m : 1 ≤ m := by omega
  have bW := b1.below hW
  have bQ : Boxed W B2 25 (.int .u32 (q : Int)) := (hW.block _ b2.lt).trans b2
  have c2 := bQ.cell
  obtain ⟨p1, p2⟩ := pow_25 hh
  have hkn := fun y => cknotOf h q xv idv y hh (by omega) x1 i1
  obtain ⟨x, rfl⟩ := x1
  obtain ⟨ia, il, ic, rfl⟩ := i1
  obtain ⟨n0, hn0⟩ : ∃ n0, n0 = 2 ^ h + q := ⟨_, rfl⟩
  rw [← hn0] at hkn hY
  have hnl : n0 < 67108864 := by omega
  clear hn0 b1 b2 p1 p2 hq hJV
  refine callsIn_of_wp Tryz.func88 rfl trivial ?_ rfl
  simp only [Tryz.ntmps88, List.size_toArray, List.length_cons, List.length_nil, Nat.reduceAdd, Nat.reduceSub, Array.replicate_succ, Array.replicate_zero, List.push_toArray, List.append_toArray, List.nil_append, List.cons_append]
  gi_wp2_with (first
    | (refine wpListIn_rowL (fun _ => trivial) rfl 48 _ rfl B1 0 rfl [.int .i64 (h : Int), .int .i64 x, .slice ia il ic] _ bW.range Tryz.underlying48 rfl (by kernel_rfl) ?_)
    | (refine ⟨trivial, ?_⟩; gi_at_call 81; refine (callsIn_wide.2 (hkn _)).mono ?_; rintro e w1 ⟨rfl, g1⟩; have bX := bW.below g1; have cX := bX.c0)
    | fail)
  gi_loopw [4, 12] (fun vk vi wr => ∃ i : Nat, i ≤ h ∧ vi = .int .i64 (i : Int) ∧ vk = .int .i64 ((n0 / 2 ^ i : Nat) : Int) ∧ J (List.range i) wr ∧ W.heap.size ≤ wr.heap.size) (fun _ vi _ => h - (intOf vi).toNat)
  case atStart => exact ⟨0, Nat.zero_le _, rfl, by rw [Nat.pow_zero, Nat.div_one], hJ _ W w1 none h0 (grown_belowL g1) (fun r e => by cases e), g1.size⟩
  case round =>
    obtain ⟨i, hi, rfl, rfl, hJs, hsz⟩ := hrel
    by_cases hlt : i < h
    · have hli : (i : Int) < (h : Int) := by omega
      obtain ⟨I, hI⟩ : ∃ I : Nat, I = i + 1 := ⟨_, rfl⟩
      have e_I : (i : Int) + 1 = (I : Int) := by omega
      have s_I : IntKind.i64.wrap (I : Int) = (I : Int) := by rw [IntKind.wrap_i64]; omega
      have hyy := hY (List.range i) i _ hJs (range_pre_step hlt) hsz
      have hdv : n0 / 2 ^ i ≤ n0 := Nat.div_le_self _ _
      have hdd : n0 / 2 ^ (i + 1) = n0 / 2 ^ i / 2 := by rw [Nat.pow_succ, Nat.div_div_eq_div_mul]
      unfold nbV at hyy
      obtain ⟨D, hD⟩ : ∃ D, D = n0 / 2 ^ i := ⟨_, rfl⟩
      rw [← hD] at hyy hdv hdd ⊢
      have x_D := xor1_i64L D (by omega)
      obtain ⟨X, hX⟩ : ∃ X, X = D ^^^ 1 := ⟨_, rfl⟩
      rw [← hX] at hyy x_D
      obtain ⟨Q, hQ⟩ : ∃ Q, Q = D / 2 := ⟨_, rfl⟩
      have e_Q : (D : Int).tdiv 2 = (Q : Int) := by rw [Int.tdiv_eq_ediv_of_nonneg (by omega)]; omega
      have e_Q2 : (D : Int) / 2 = (Q : Int) := by omega
      have s_Q : IntKind.i64.wrap (Q : Int) = (Q : Int) := by rw [IntKind.wrap_i64]; omega
      obtain ⟨fn, tmps, assign, body, hy, hR⟩ := hyy
      have HX := hide (And.intro hI (And.intro hX (And.intro hQ (And.intro hD (And.intro hdv hdd)))))
      clear hI hX hQ hD hdv hdd
      gi_wp2_with (first
        | (refine hR.mono ?_; rintro e W3 ⟨rfl, hJ3, hk3⟩)
        | fail)
      obtain ⟨hI, hX, hQ, hD, hdv, hdd⟩ := HX.out
      go_roundw
      case rel => exact ⟨i + 1, by omega, vint (by omega), by rw [hdd, ← hQ], by rw [List.range_succ]; exact hJ3, Nat.le_trans hsz hk3.size⟩
      case measure => simp [intOf]; omega
    · obtain rfl : i = h := by omega
      have hge : ¬ ((i : Int) < (i : Int)) := by omega
      gi_wp2
      go_end0
      exact ⟨⟨_, rfl⟩, hJs⟩
end Go.Proofs.YtefndnbaifiboaaGreatDoor

/- Leaves that sign once, the program's own: leafOf, secretLeaf. -/
namespace Go.Proofs.YtefndnbaifiboaaGreatDoor
open Go.RowKit
set_option linter.unusedVariables false
set_option linter.unusedSimpArgs false

theorem own_butL {w w' : World} {base g : Nat} {e : TypeId} {size : Nat} {v : Value} {n : Nat} {xs : List Value} (h : w.ownsRow base e size v n xs) (hb : But g w w') (hg : g < base) : w'.ownsRow base e size v n xs := by
  obtain ⟨h1, h2⟩ := h
  refine ⟨h1, ?_⟩
  rcases h2 with h2 | ⟨q, cap, cur, rfl, h3, h4, h5⟩
  · exact .inl h2
  · exact .inr ⟨q, cap, cur, rfl, h3, by rw [hb.block q (Array.getElem?_eq_some_iff.1 h4).1 (by omega)]; exact h4, h5⟩
/-- a leaf's box -/
structure BxL (W : World) (B : Nat) (a b c d e : Value) : Prop where
  here : W.heap[B]? = some (.cells #[a, b, c, d, e] 84 (0, 0))
theorem BxL.lt {W : World} {B : Nat} {a b c d e : Value} (h : BxL W B a b c d e) : B < W.heap.size := (Array.getElem?_eq_some_iff.1 h.here).1
theorem BxL.below {W W' : World} {B : Nat} {a b c d e : Value} (h : BxL W B a b c d e) (hb : Below W.heap.size W W') : BxL W' B a b c d e := ⟨(hb.block _ h.lt).trans h.here⟩
theorem BxL.new (W : World) (a b c d e : Value) : BxL (W.alloc (.cells #[a, b, c, d, e] 84)) W.heap.size a b c d e := ⟨heap_alloc_new W _⟩
theorem BxL.row {W : World} {B : Nat} {a b c d e a' b' c' d' e' : Value} (h : BxL W B a b c d e) : BxL (W.setRow B #[a', b', c', d', e']) B a' b' c' d' e' := ⟨setRow_heap W B _ _ _ _ h.here⟩
theorem BxL.range {W : World} {B : Nat} {a b c d e : Value} (h : BxL W B a b c d e) : W.rangeAt B 0 [a, b, c, d, e] := fun j v hv => by
  rw [Nat.zero_add]
  simp only [World.cell?, h.here]
  simpa using hv
theorem BxL.ret {W : World} {B : Nat} {a b c d e : Value} (h : BxL W B a b c d e) {fn : Func} {p q : Tmp} (hr : fn.results = #[.cell p 84, .tmp q]) (tmps : Array Value) {v : Value} (hp : tmps.getD p undef = .pointer (some ⟨B, 0, none⟩)) (hv : tmps.getD q undef = v) :
    (results fn tmps).run Tryz.prog W = .ok (.tuple #[.agg #[a, b, c, d, e], v]) W := by
  subst hv
  have hp' : tmps[p]?.getD undef = .pointer (some ⟨B, 0, none⟩) := by simpa using hp
  simp [results, hr, hp', asAddr, run_loadVar_row W B 84 84 #[a, b, c, d, e] (0, 0) _ h.here Tryz.underlying84 rfl (by kernel_rfl)]
/-- all but a leaf's box stays -/
structure SF (Z : Nat) (x y : World) : Prop where
  but : But Z x y
  box : ∃ a b c d e, BxL y Z a b c d e
theorem SF.keep {Z : Nat} {x y z : World} (h : SF Z x y) (k : Below y.heap.size y z) : SF Z x z := ⟨h.but.trans (But.of_below k), by obtain ⟨a, b, c, d, e, h2⟩ := h.box; exact ⟨a, b, c, d, e, h2.below k⟩⟩
theorem SF.row {Z : Nat} {x y : World} (h : SF Z x y) (a b c d e : Value) : SF Z x (y.setRow Z #[a, b, c, d, e]) := ⟨h.but.setRow _, by obtain ⟨a, b, c, d, e, h2⟩ := h.box; exact ⟨_, _, _, _, _, h2.row⟩⟩
theorem SF.below {Z : Nat} {w x y : World} (h : SF Z x y) (hB : w.heap.size ≤ Z) (hk : Below w.heap.size w x) : Below w.heap.size w y := hk.trans (h.but.below hB hk.size)
theorem y_buildLf {ops : Array Oper} {S : World → Prop} {o : Oper} {a : Act} {x y : Operand} {z0 z1 z2 z3 : Value} {ja : Option Addr} {jn jc : Nat} (hw : Region.wanted o (yielded ops a.tmps) = true) (ho : o.op = .build 84 #[(0, x), (1, y)]) (hx : a.eval x = .agg #[z0, z1, z2, z3]) (hy : a.eval y = .slice ja jn jc) : YieldsIf Tryz.prog ops S o (.agg #[z0, z1, z2, z3, .slice ja jn jc]) a := by
  refine y_ofG hw fun w _ => ?_
  unfold execOp
  simp only [ho, List.map_toArray, List.map_cons, List.map_nil, hx, hy]
  simp [go_sem]
def lf6lt : List Lt := [(0, some 23, [8]), (0, some 24, [1]), (0, some 25, [2]), (4, some 26, [25]), (8, some 27, [26]), (18, some 28, [24, 27]), (48, some 29, [28]), (65, some 30, [23, 29]), (255, none, [6, 30]), (511, some 7, [])]
theorem lf6reg : Reg (opsA (cLA (cRA (cRA (cRA (cRA (Tryz.f76.body.getD .skip))))))) lf6lt := ⟨by kernel_rfl, by kernel_rfl⟩
set_option maxHeartbeats 4000000 in
set_option maxRecDepth 100000 in
theorem cleaf_no (x : Int) (q : Nat) (ia : Option Addr) (il ic : Nat) (w : World) (h : NoK x) :
    Calls Tryz.prog 76 #[.int .i64 x, .slice ia il ic, .int .u32 (q : Int)] w fun e w' => e = .returned (.tuple #[.agg #[.int .i64 0, .int .i64 0, .int .i64 0, .int .u64 0, .slice none 0 0], .int .i64 9]) ∧ Below w.heap.size w w' := by
  have hk := fun y => ckind_no x y h
  have b0 := BxL.new w (.int .i64 0) (.int .i64 0) (.int .i64 0) (.int .u64 0) (.slice none 0 0)
  have k0 := keep_alloc w (.cells #[.int .i64 0, .int .i64 0, .int .i64 0, .int .u64 0, .slice none 0 0] 84)
  clear h
  go_enter Tryz.func76, Tryz.ntmps76
  go_wp2_with (first
    | (go_at_call 91; refine (hk _).mono ?_; rintro e w1 ⟨rfl, g1⟩; have b1 := b0.below (keep_trans g1 (keep_alloc w1 (.cells #[.int .i64 0, .int .i64 0, .int .i64 0, .int .u64 0] 82))))
    | (refine wpList_store_row rfl 84 _ _ (by rfl) w.heap.size #[.int .i64 0, .int .i64 0, .int .i64 0, .int .u64 0, .slice none 0 0] (by rfl) (by rfl) _ _ b1.here (by kernel_rfl) rfl (by simp [Value.oneCell']) ?_)
    | fail)
  refine bodyPost_ret (v := .tuple #[.agg #[.int .i64 0, .int .i64 0, .int .i64 0, .int .u64 0, .slice none 0 0], .int .i64 9]) (b1.row.ret rfl _ rfl rfl) rfl ⟨rfl, ?_⟩
  exact (keep_trans k0 (keep_trans g1 (keep_alloc _ _))).trans (((But.refl _ _).setRow _).below (Nat.le_refl _) (Nat.le_of_lt b1.lt))
set_option maxHeartbeats 4000000 in
set_option maxRecDepth 100000 in
theorem cleaf_size {k n m s c P : Nat} (h : Kd k n m s c) (hP : P = n + m) (q : Nat) (ia : Option Addr) (il ic : Nat) (w : World) (hl : ¬ il = 16) :
    Calls Tryz.prog 76 #[.int .i64 (k : Int), .slice ia il ic, .int .u32 (q : Int)] w fun e w' => e = .returned (.tuple #[.agg #[.int .i64 0, .int .i64 0, .int .i64 0, .int .u64 0, .slice none 0 0], .int .i64 14]) ∧ Below w.heap.size w w' := by
  have hk := fun y => ckind_ok h hP y
  have hli : ¬ (il : Int) = 16 := by omega
  have b0 := BxL.new w (.int .i64 0) (.int .i64 0) (.int .i64 0) (.int .u64 0) (.slice none 0 0)
  have k0 := keep_alloc w (.cells #[.int .i64 0, .int .i64 0, .int .i64 0, .int .u64 0, .slice none 0 0] 84)
  clear h hP hl
  go_enter Tryz.func76, Tryz.ntmps76
  go_wp2_with (first
    | (go_at_call 91; refine (hk _).mono ?_; rintro e w1 ⟨rfl, g1⟩; have b1 := b0.below (keep_trans g1 (keep_alloc w1 (.cells #[.int .i64 (k : Int), .int .i64 (P : Int), .int .i64 (s : Int), .int .u64 (c : Int)] 82))))
    | (refine wpList_store_row rfl 84 _ _ (by rfl) w.heap.size #[.int .i64 0, .int .i64 0, .int .i64 0, .int .u64 0, .slice none 0 0] (by rfl) (by rfl) _ _ b1.here (by kernel_rfl) rfl (by simp [Value.oneCell']) ?_)
    | fail)
  refine bodyPost_ret (v := .tuple #[.agg #[.int .i64 0, .int .i64 0, .int .i64 0, .int .u64 0, .slice none 0 0], .int .i64 14]) (b1.row.ret rfl _ rfl rfl) rfl ⟨rfl, ?_⟩
  exact (keep_trans k0 (keep_trans g1 (keep_alloc _ _))).trans (((But.refl _ _).setRow _).below (Nat.le_refl _) (Nat.le_of_lt b1.lt))
set_option maxHeartbeats 4000000 in
set_option maxRecDepth 100000 in
theorem cleaf_ok {k n m s c P : Nat} (h : Kd k n m s c) (hP : P = n + m) (q : Nat) (id : List Nat) (idv : Value) (w : World) (hi : Row .u8 256 w idv id) (ti : Tidy idv) (hl : id.length = 16) (hq : q < 4294967296) :
    Calls Tryz.prog 76 #[.int .i64 (k : Int), idv, .int .u32 (q : Int)] w fun e w' => ∃ v, e = .returned (.tuple #[.agg #[.int .i64 (k : Int), .int .i64 (P : Int), .int .i64 (s : Int), .int .u64 (c : Int), v], .int .i64 0]) ∧ Own 5 .u8 256 w' w.heap.size v (preL id q) ∧ Below w.heap.size w w' := by
  obtain ⟨ia, ic, rfl, _⟩ := hi.opens hl
  have hk := fun y => ckind_ok h hP y
  have h4 := fun y => cbe4 q y (by omega)
  have hjn := fun y lv (r : Rows2 y lv [id, be4 q]) => join_any lv _ y r (by simp only [List.flatten_cons, List.flatten_nil, List.append_nil, List.length_append, be4_len]; omega)
  have hfl : [id, be4 q].flatten = preL id q := by simp [preL]
  rw [hfl] at hjn
  have hpl : (preL id q).length = 20 := by rw [len_pre, hl]
  obtain ⟨PR, hPR⟩ : ∃ x, x = preL id q := ⟨_, rfl⟩
  rw [← hPR] at hjn hpl ⊢
  obtain ⟨i0, hi0, hz0, hz1, hz2⟩ := info_text
  have b0 := BxL.new w (.int .i64 0) (.int .i64 0) (.int .i64 0) (.int .u64 0) (.slice none 0 0)
  have k0 := keep_alloc w (.cells #[.int .i64 0, .int .i64 0, .int .i64 0, .int .u64 0, .slice none 0 0] 84)
  clear h hP hPR hfl
  go_enter Tryz.func76, Tryz.ntmps76
  go_wp2_with (first
    | (go_at_call 91; refine (hk _).mono ?_; rintro e w1 ⟨rfl, g1⟩)
    | fail)
  have b1 := b0.below (keep_trans g1 (keep_alloc w1 (.cells #[.int .i64 (k : Int), .int .i64 (P : Int), .int .i64 (s : Int), .int .u64 (c : Int)] 82)))
  have kw1 : Below w.heap.size w (w1.alloc (.cells #[.int .i64 (k : Int), .int .i64 (P : Int), .int .i64 (s : Int), .int .u64 (c : Int)] 82)) := keep_trans k0 (keep_trans g1 (keep_alloc _ _))
  have hbox := kd_range w1 (.int .i64 (k : Int)) (.int .i64 (P : Int)) (.int .i64 (s : Int)) (.int .u64 (c : Int)) 82
  have hne : w1.heap.size ≠ w.heap.size := by have := g1.size; rw [World.size_alloc] at this; omega
  have hW1 : w.heap.size + 1 ≤ (w1.alloc (.cells #[.int .i64 (k : Int), .int .i64 (P : Int), .int .i64 (s : Int), .int .u64 (c : Int)] 82)).heap.size := by have := g1.size; rw [World.size_alloc] at this ⊢; omega
  generalize w1.alloc (.cells #[.int .i64 (k : Int), .int .i64 (P : Int), .int .i64 (s : Int), .int .u64 (c : Int)] 82) = W1 at *
  have hbd : SF w.heap.size W1 W1.drew := ⟨(But.refl _ _).drew, _, _, _, _, _, b1.below (Below.refl _ _).drew⟩
  refine at_begin (ops := opsA (cLA (cRA (cRA (cRA (cRA (Tryz.f76.body.getD .skip))))))) (n := 10) (fun y => SF w.heap.size W1 y) (by kernel_rfl) (by kernel_rfl) ?_
  refine at_takeD (i := 0) (m' := 1) (d := some 23) (v := .agg #[.int .i64 (k : Int), .int .i64 (P : Int), .int .i64 (s : Int), .int .u64 (c : Int)]) lf6reg rfl (by decide) rfl rfl (y_rowG (cs := [.int .i64 (k : Int), .int .i64 (P : Int), .int .i64 (s : Int), .int .u64 (c : Int)]) (wanted_free rfl) rfl rfl Tryz.underlying82 rfl (by kernel_rfl) (fun _ h j v hv => But.cell (hbox j v hv) h.but hne)) hbd ?_
  simp only [Act.put, List.setIfInBounds_toArray, List.set_cons_zero, List.set_cons_succ]
  refine at_takeD (i := 1) (m' := 3) (d := some 24) (v := .slice ia 16 ic) lf6reg rfl (by decide) rfl rfl (y_moveG (wanted_free rfl) rfl rfl) hbd ?_
  simp only [Act.put, List.setIfInBounds_toArray, List.set_cons_zero, List.set_cons_succ]
  refine at_takeD (i := 2) (m' := 7) (d := some 25) (v := .int .u32 (q : Int)) lf6reg rfl (by decide) rfl rfl (y_moveG (wanted_free rfl) rfl rfl) hbd ?_
  simp only [Act.put, List.setIfInBounds_toArray, List.set_cons_zero, List.set_cons_succ]
  refine at_takeD (i := 3) (m' := 15) (d := some 26) (v := .int .u64 (q : Int)) lf6reg rfl (by decide) rfl rfl (y_convI (wanted_free rfl) rfl rfl (conv_u32u64 q hq)) hbd ?_
  simp only [Act.put, List.setIfInBounds_toArray, List.set_cons_zero, List.set_cons_succ]
  refine at_one (i := 4) (m' := 31) lf6reg (by decide) rfl ?_
  refine p_callG (args := #[.int .u64 (q : Int), .int .i64 4]) (d := some 27) rfl (wanted_free rfl) rfl (by simp only [List.map_toArray, List.map_cons, List.map_nil]; rfl) rfl Tryz.call31 ((h4 W1.drew).mono ?_)
  rintro e y5 ⟨bv, rfl, ob, g5⟩
  obtain ⟨ba, bc, rfl, _⟩ := ob.row.opens (be4_len q)
  have hb5 := SF.keep hbd g5
  have yb0 := hb5
  refine ⟨_, rfl, hb5, ?_⟩
  simp only [Act.put, List.setIfInBounds_toArray, List.set_cons_zero, List.set_cons_succ]
  refine at_one (i := 5) (m' := 63) lf6reg (by decide) rfl ?_
  refine p_build2G (d := some 28) rfl (wanted_free rfl) rfl rfl rfl rfl Tryz.underlying46 hi0 hz1 hz0 ?_
  have hb6 := SF.keep hb5 (keep_alloc y5 (.cells #[.slice ia 16 ic, .slice ba 4 bc] 24))
  have rr := rows_litL (B := y5.heap.size) (k := 2) (texts_cons (hi.below (yb0.below (Nat.le_refl _) kw1)) ti (texts_cons ob.row ob.tidy (Texts.nil _))) rfl rfl (by decide)
  refine ⟨hb6, ?_⟩
  simp only [Act.put, List.setIfInBounds_toArray, List.set_cons_zero, List.set_cons_succ]
  refine at_one (i := 6) (m' := 127) lf6reg (by decide) rfl ?_
  refine p_callG (args := #[.slice (some ⟨y5.heap.size, 0, none⟩) 2 2]) (d := some 29) rfl (wanted_free rfl) rfl (by simp only [List.map_toArray, List.map_cons, List.map_nil]; rfl) rfl Tryz.call23 ((hjn (y5.alloc (.cells #[.slice ia 16 ic, .slice ba 4 bc] 24)) _ rr).mono ?_)
  rintro e y7 ⟨jv, rfl, oj, g7⟩
  obtain ⟨ja, jc, rfl, _⟩ := oj.row.opens hpl
  replace oj := oj.mono (Nat.le_trans hW1 (hb6).but.size)
  have hb7 := SF.keep hb6 g7
  have hbz := hb7
  refine ⟨_, rfl, hb7, ?_⟩
  simp only [Act.put, List.setIfInBounds_toArray, List.set_cons_zero, List.set_cons_succ]
  refine at_takeD (i := 7) (m' := 255) (d := some 30) (v := .agg #[.int .i64 (k : Int), .int .i64 (P : Int), .int .i64 (s : Int), .int .u64 (c : Int), .slice ja 20 jc]) lf6reg rfl (by decide) rfl rfl (y_buildLf (wanted_free rfl) rfl rfl rfl) hb7 ?_
  simp only [Act.put, List.setIfInBounds_toArray, List.set_cons_zero, List.set_cons_succ]
  refine at_one (i := 8) (m' := 511) lf6reg (by decide) rfl ?_
  obtain ⟨_, _, _, _, _, bz0⟩ := (hb7).box
  have hb9 := (hb7).row (.int .i64 (k : Int)) (.int .i64 (P : Int)) (.int .i64 (s : Int)) (.int .u64 (c : Int)) (.slice ja 20 jc)
  refine p_rowA (cells := #[.int .i64 (k : Int), .int .i64 (P : Int), .int .i64 (s : Int), .int .u64 (c : Int), .slice ja 20 jc]) rfl rfl rfl rfl rfl rfl bz0.here (by kernel_rfl) rfl (by simp [Value.oneCell']) ?_
  refine ⟨hb9, ?_⟩
  refine at_takeD (i := 9) (m' := 1023) (d := some 7) (v := .int .i64 0) lf6reg rfl (by decide) rfl rfl (y_assignG (wanted_free rfl) rfl rfl) hb9 ?_
  simp only [Act.put, List.setIfInBounds_toArray, List.set_cons_zero, List.set_cons_succ]
  refine at_done lf6reg (by decide) ?_
  go_wp2
  obtain ⟨_, _, _, _, _, bz⟩ := hbz.box
  refine bodyPost_ret (bz.row.ret rfl _ rfl rfl) rfl ⟨_, rfl, ?_, (hb9).below (Nat.le_refl _) kw1⟩
  exact Own.mono (B := w.heap.size + 1) ⟨own_butL oj.1 ((But.refl _ _).setRow _) (Nat.lt_succ_self _), oj.2⟩ (Nat.le_succ _)
end Go.Proofs.YtefndnbaifiboaaGreatDoor
