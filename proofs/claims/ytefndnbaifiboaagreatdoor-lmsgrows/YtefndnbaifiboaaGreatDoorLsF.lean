/- Trees of leaves that sign once, the program's own: the neighbours of the knots from a leaf up, by an iterator. -/
import Derived.Test.YtefndnbaifiboaaGreatDoorLsE
import Derived.Test.YtefndnbaifiboaaGreatDoorLtC2
import Derived.LoopIn
import Derived.Stop.RegionWithIn
import Derived.Test.YtefndnbaifiboaaGreatDoorPgF
import Derived.Test.YtefndnbaifiboaaGreatDoorLtN
namespace Go.Proofs.YtefndnbaifiboaaGreatDoor
open Go.RowKit Go.Shelf
set_option linter.unusedVariables false
set_option linter.unusedSimpArgs false
attribute [local go_sem] Oper.semAt_some

theorem grown_belowL {W y : World} (hb : Below W.heap.size W y) : W.grownBy y none := ⟨hb.os, hb.tape, hb.output, hb.size, fun k hk _ => hb.block k hk⟩
/-- a struct read, inside a fence -/
theorem wpListIn_rowL {F : Fence} {n : Nat} {ops : Array Oper} {Q : Exit → Act → World → Prop} {rest : List Oper} {o : Oper} {a : Act} {w : World} (hF : ∀ f, F.fn f) (hg : o.guard = none) (t : TypeId) (x : Operand) (ho : o.op = .load t x) (b c : Nat) (hx : a.eval x = .pointer (some ⟨b, c, none⟩)) (cs : List Value) (d : TypeDesc) (hc : w.rangeAt b c cs)
    (hu : Tryz.prog.underlying t = some d) (hd : d.isRow = true) (hi : (Tryz.prog.info? t).map (·.size) = some cs.length) (h : wpListIn F n Tryz.prog ops Q rest (a.put o.dst (.agg cs.toArray)) w) : wpListIn F n Tryz.prog ops Q (o :: rest) a w := by
  have hr : (execOp a.eval o).run Tryz.prog w = .ok (.value (.agg cs.toArray)) w := by
    unfold execOp
    simp only [ho, hx, Instr.loadAt, Instr.sureAddr, Sem.run_bind, Sem.run_pure, Result.andThen_ok, run_loadVar_mid w b c t cs d hc hu hd hi]
  refine wpListIn_plain hg fun K hK => ?_
  unfold Oper.wpIn
  refine ⟨fun f _ => hF f, ?_⟩
  rw [Oper.semAt_eq _ _ _ (fun c hc => by rw [ho] at hc; cases hc), hr]
  exact hK _ _ h
theorem xor1_i64L (n : Nat) (hn : n < 67108864) : bits .xor .i64 (n : Int) 1 = ((n ^^^ 1 : Nat) : Int) := by
  show IntKind.i64.wrap ((BitVec.ofInt 64 (n : Int) ^^^ BitVec.ofInt 64 ((1 : Nat) : Int)).toNat : Int) = _
  rw [BitVec.toNat_xor, ofInt_u64 _ (by omega), ofInt_u64 _ (by omega), IntKind.wrap_i64]
  have : n ^^^ 1 < 2 ^ 26 := Nat.xor_lt_two_pow (by omega) (by decide)
  omega
/-- what the iterator hands out -/
def nbV (n i : Nat) : Array Value := #[.int .i64 (i : Int), .int .i64 (((n / 2 ^ i) ^^^ 1 : Nat) : Int)]
theorem range_pre_step {h k : Nat} (hk : k < h) : (List.range k ++ [k]) <+: List.range h := by
  rw [← List.range_succ]
  exact ⟨(List.range (h - (k + 1))).map (· + (k + 1)), by
    have := List.range_add (n := k + 1) (m := h - (k + 1))
    rw [show k + 1 + (h - (k + 1)) = h by omega] at this
    rw [this]
    congr 1
    apply List.map_congr_left
    intro x _
    omega⟩
theorem pre_range {h x : Nat} {pre : List Nat} (hp : (pre ++ [x]) <+: List.range h) : pre = List.range x ∧ x < h := by
  obtain ⟨r, hr⟩ := hp
  have hx : (List.range h)[pre.length]? = some x := by rw [← hr]; simp
  have hlt : pre.length < h := by
    have := (List.getElem?_eq_some_iff.1 hx).1
    simpa using this
  rw [List.getElem?_range hlt] at hx
  have e : pre.length = x := Option.some.inj hx
  refine ⟨?_, by omega⟩
  have ht := congrArg (List.take x) hr
  rw [List.take_range, Nat.min_eq_left (by omega), List.append_assoc, List.take_append_of_le_length (by omega), List.take_of_length_le (by omega)] at ht
  exact ht
set_option maxHeartbeats 2000000 in
set_option maxRecDepth 100000 in
theorem neighbours_any (h : Nat) (xv idv : Value) (q : Nat) (w : World) (x1 : ∃ x, xv = .int .i64 x) (i1 : ∃ a n c, idv = .slice a n c) :
    Calls Tryz.prog 68 #[.agg #[.int .i64 (h : Int), xv, idv], .int .u32 (q : Int)] w fun e w' => e = .returned (.func (.func 88) #[] #[.pointer (some ⟨w.heap.size, 0, none⟩), .pointer (some ⟨w.heap.size + 1, 0, none⟩)]) ∧ w' = (w.alloc (.cells #[.int .i64 (h : Int), xv, idv] 48)).alloc (.cells #[.int .u32 (q : Int)] 25) := by
  obtain ⟨x, rfl⟩ := x1
  obtain ⟨a, n, c, rfl⟩ := i1
  go_enter Tryz.func68, Tryz.ntmps68
  go_wp2
  go_ret
  exact ⟨rfl, rfl⟩
set_option maxHeartbeats 4000000 in
set_option maxRecDepth 100000 in
theorem nb1_own (m : Nat) (hm : 2 ≤ m) (B1 B2 h q : Nat) (xv idv : Value) (x1 : ∃ x, xv = .int .i64 x) (i1 : ∃ a n c, idv = .slice a n c) (hh : h ≤ 25) (hq : q < 2 ^ h) (w0 : World) (V : World → Prop) (b1 : BxD w0 B1 (.int .i64 (h : Int)) xv idv) (b2 : Boxed w0 B2 25 (.int .u32 (q : Int))) :
    OwnPre m Tryz.prog 88 #[.pointer (some ⟨B1, 0, none⟩), .pointer (some ⟨B2, 0, none⟩)] (fun i : Nat => nbV (2 ^ h + q) i) (List.range h) V w0 := by
  intro l J W hW hlW hJ hJV hY h0
  show CallsIn Fence.wide m Tryz.prog 88 #[.func (.yield l) #[] #[], .pointer (some ⟨B1, 0, none⟩), .pointer (some ⟨B2, 0, none⟩)] W _
  have h1m : 1 ≤ m := by omega
  have bW := b1.below hW
  have bQ : Boxed W B2 25 (.int .u32 (q : Int)) := (hW.block _ b2.lt).trans b2
  have c2 := bQ.cell
  obtain ⟨p1, p2⟩ := pow_25 hh
  have hkn := fun y => cknotOf h q xv idv y hh (by omega) x1 i1
  obtain ⟨x, rfl⟩ := x1
  obtain ⟨ia, il, ic, rfl⟩ := i1
  obtain ⟨n0, hn0⟩ : ∃ n0, n0 = 2 ^ h + q := ⟨_, rfl⟩
  rw [← hn0] at hkn hY
  have hnl : n0 < 67108864 := by omega
  clear hn0 b1 b2 p1 p2 hq hJV
  refine callsIn_of_wp Tryz.func88 rfl trivial ?_ rfl
  simp only [Tryz.ntmps88, List.size_toArray, List.length_cons, List.length_nil, Nat.reduceAdd, Nat.reduceSub, Array.replicate_succ, Array.replicate_zero, List.push_toArray, List.append_toArray, List.nil_append, List.cons_append]
  gi_wp2_with (first
    | (refine wpListIn_rowL (fun _ => trivial) rfl 48 _ rfl B1 0 rfl [.int .i64 (h : Int), .int .i64 x, .slice ia il ic] _ bW.range Tryz.underlying48 rfl (by kernel_rfl) ?_)
    | (refine ⟨trivial, ?_⟩; gi_at_call 81; refine (callsIn_wide.2 (hkn _)).mono ?_; rintro e w1 ⟨rfl, g1⟩; have bX := bW.below g1; have cX := bX.c0)
    | fail)
  gi_loopw [4, 12] (fun vk vi wr => ∃ i : Nat, i ≤ h ∧ vi = .int .i64 (i : Int) ∧ vk = .int .i64 ((n0 / 2 ^ i : Nat) : Int) ∧ J (List.range i) wr ∧ W.heap.size ≤ wr.heap.size) (fun _ vi _ => h - (intOf vi).toNat)
  case atStart => exact ⟨0, Nat.zero_le _, rfl, by rw [Nat.pow_zero, Nat.div_one], hJ _ W w1 none h0 (grown_belowL g1) (fun r e => by cases e), g1.size⟩
  case round =>
    obtain ⟨i, hi, rfl, rfl, hJs, hsz⟩ := hrel
    by_cases hlt : i < h
    · have hli : (i : Int) < (h : Int) := by omega
      obtain ⟨I, hI⟩ : ∃ I : Nat, I = i + 1 := ⟨_, rfl⟩
      have e_I : (i : Int) + 1 = (I : Int) := by omega
      have s_I : IntKind.i64.wrap (I : Int) = (I : Int) := by rw [IntKind.wrap_i64]; omega
      have hyy := hY (List.range i) i _ hJs (range_pre_step hlt) hsz
      have hdv : n0 / 2 ^ i ≤ n0 := Nat.div_le_self _ _
      have hdd : n0 / 2 ^ (i + 1) = n0 / 2 ^ i / 2 := by rw [Nat.pow_succ, Nat.div_div_eq_div_mul]
      unfold nbV at hyy
      obtain ⟨D, hD⟩ : ∃ D, D = n0 / 2 ^ i := ⟨_, rfl⟩
      rw [← hD] at hyy hdv hdd ⊢
      have x_D := xor1_i64L D (by omega)
      obtain ⟨X, hX⟩ : ∃ X, X = D ^^^ 1 := ⟨_, rfl⟩
      rw [← hX] at hyy x_D
      obtain ⟨Q, hQ⟩ : ∃ Q, Q = D / 2 := ⟨_, rfl⟩
      have e_Q : (D : Int).tdiv 2 = (Q : Int) := by rw [Int.tdiv_eq_ediv_of_nonneg (by omega)]; omega
      have e_Q2 : (D : Int) / 2 = (Q : Int) := by omega
      have s_Q : IntKind.i64.wrap (Q : Int) = (Q : Int) := by rw [IntKind.wrap_i64]; omega
      obtain ⟨fn, tmps, assign, body, hy, hR⟩ := hyy
      have HX := hide (And.intro hI (And.intro hX (And.intro hQ (And.intro hD (And.intro hdv hdd)))))
      clear hI hX hQ hD hdv hdd
      gi_wp2_with (first
        | (refine hR.mono ?_; rintro e W3 ⟨rfl, hJ3, hk3⟩)
        | fail)
      obtain ⟨hI, hX, hQ, hD, hdv, hdd⟩ := HX.out
      go_roundw
      case rel => exact ⟨i + 1, by omega, vint (by omega), by rw [hdd, ← hQ], by rw [List.range_succ]; exact hJ3, Nat.le_trans hsz hk3.size⟩
      case measure => simp [intOf]; omega
    · obtain rfl : i = h := by omega
      have hge : ¬ ((i : Int) < (i : Int)) := by omega
      gi_wp2
      go_end0
      exact ⟨⟨_, rfl⟩, hJs⟩
end Go.Proofs.YtefndnbaifiboaaGreatDoor

/- Trees of leaves that sign once: the document's Verify, where it refuses at first. -/
namespace Go.Proofs.YtefndnbaifiboaaGreatDoor
open Go.RowKit
set_option linter.unusedVariables false
set_option linter.unusedSimpArgs false

/-- a key that can be one -/
def vKey (pub : List Nat) : Prop := pub.length = 56 ∧ hgtL (numL (pub.take 4)) ≠ 0 ∧ dgtL (numL ((pub.drop 4).take 4)) ≠ 0
set_option maxHeartbeats 4000000 in
set_option maxRecDepth 100000 in
theorem rver_key (pub : List Nat) (pv tv sv : Value) (w : World) (hp : Row .u8 256 w pv pub) (h : ¬ vKey pub) :
    Calls Tryz.prog 20 #[pv, tv, sv] w fun e w' => e = .returned (.int .i64 10) ∧ w' = w := by
  have hrow := hp
  obtain ⟨pa, pc, rfl, lc1, lc2, ho⟩ := hp.opens rfl
  by_cases h56 : pub.length = 56
  · obtain ⟨bb, bo, rfl, _⟩ := ho (by omega)
    have r4 : Row .u8 256 w (.slice (some ⟨bb, bo, none⟩) 4 pc) (pub.take 4) := hrow.cut (by omega)
    have r8 : Row .u8 256 w (.slice (some ⟨bb, bo + 4, none⟩) 4 (pc - 4)) ((pub.drop 4).take 4) := hrow.mid (i := 4) (j := 8) (by decide) (by omega)
    have hn4 := rnum_any _ _ _ r4
    have hn8 := rnum_any _ _ _ r8
    have hht := fun y => rheight_any (numL (pub.take 4)) y (numL_lt _)
    have hdg := fun y => rdigit_any (numL ((pub.drop 4).take 4)) y (numL_lt _)
    have hd : hgtL (numL (pub.take 4)) = 0 ∨ hgtL (numL (pub.take 4)) ≠ 0 ∧ dgtL (numL ((pub.drop 4).take 4)) = 0 := by
      by_cases h1 : hgtL (numL (pub.take 4)) = 0
      · exact .inl h1
      · refine .inr ⟨h1, Decidable.byContradiction fun h2 => h ⟨h56, h1, h2⟩⟩
    generalize hgtL (numL (pub.take 4)) = HH at *
    generalize dgtL (numL ((pub.drop 4).take 4)) = DD at *
    generalize numL (pub.take 4) = X at *
    generalize numL ((pub.drop 4).take 4) = Y at *
    rw [h56] at lc1 ⊢
    have h4c : (4 : Int) ≤ (pc : Int) := by omega
    have h8c : (8 : Int) ≤ (pc : Int) := by omega
    clear hp hrow r4 r8 ho h
    rcases hd with h0 | ⟨h0, h1⟩
    · rw [h0] at hht
      clear h0 hdg hn8
      go_enter Tryz.func20, Tryz.ntmps20
      go_wp2_with (first
        | (go_at_call 42; refine hn4.mono ?_; rintro e yy ⟨rfl, hy⟩; obtain rfl := hy.symm)
        | (go_at_call 43; refine (hht _).mono ?_; rintro e yy ⟨rfl, hy⟩; obtain rfl := hy.symm)
        | fail)
      go_ret
      exact ⟨rfl, rfl⟩
    · rw [h1] at hdg
      have hHb : ((HH : Int) == 0) = false := by simp; exact h0
      have hHi : ¬ (HH : Int) = 0 := by omega
      clear h0 h1
      go_enter Tryz.func20, Tryz.ntmps20
      go_wp2_with (first
        | (go_at_call 42; have hu := hn4; clear hn4; refine hu.mono ?_; rintro e yy ⟨rfl, hy⟩; obtain rfl := hy.symm; clear hu)
        | (go_at_call 42; refine hn8.mono ?_; rintro e yy ⟨rfl, hy⟩; obtain rfl := hy.symm)
        | (go_at_call 43; refine (hht _).mono ?_; rintro e yy ⟨rfl, hy⟩; obtain rfl := hy.symm)
        | (go_at_call 41; refine (hdg _).mono ?_; rintro e yy ⟨rfl, hy⟩; obtain rfl := hy.symm)
        | fail)
      go_ret
      exact ⟨rfl, rfl⟩
  · generalize pub.length = L at *
    have hi : ¬ (L : Int) = 56 := by omega
    have hb : ((L : Int) == 56) = false := beq_eq_false_iff_ne.2 hi
    have hn : ((L : Int) != 56) = true := by simp [bne, hb]
    clear hp hrow ho h h56
    go_enter Tryz.func20, Tryz.ntmps20
    go_wp2
    go_ret
    exact ⟨rfl, rfl⟩
theorem zeroTr : ∀ w, (zeroValue 23).run Tryz.prog w = .ok (.agg #[.int .i64 0, .int .i64 0]) w := fun w => by kernel_rfl
set_option maxHeartbeats 4000000 in
set_option maxRecDepth 100000 in
theorem rver_cut (pub sig : List Nat) (pv tv sv : Value) (w : World) (hp : Row .u8 256 w pv pub) (hs : Row .u8 256 w sv sig) (h : vKey pub) (hc : ctE sig ≠ 0) :
    Calls Tryz.prog 20 #[pv, tv, sv] w fun e w' => e = .returned (.int .i64 (ctE sig : Nat)) ∧ Below w.heap.size w w' := by
  obtain ⟨h56, h0, h1⟩ := h
  have hrow := hp
  have hct := rcut_no sig sv w hs hc
  obtain ⟨pa, pc, rfl, lc1, lc2, ho⟩ := hp.opens h56
  obtain ⟨bb, bo, rfl, _⟩ := ho (by decide)
  have r4 : Row .u8 256 w (.slice (some ⟨bb, bo, none⟩) 4 pc) (pub.take 4) := hrow.cut (by omega)
  have r8 : Row .u8 256 w (.slice (some ⟨bb, bo + 4, none⟩) 4 (pc - 4)) ((pub.drop 4).take 4) := hrow.mid (i := 4) (j := 8) (by decide) (by omega)
  have hn4 := rnum_any _ _ _ r4
  have hn8 := rnum_any _ _ _ r8
  have hht := fun y => rheight_any (numL (pub.take 4)) y (numL_lt _)
  have hdg := fun y => rdigit_any (numL ((pub.drop 4).take 4)) y (numL_lt _)
  generalize hgtL (numL (pub.take 4)) = HH at *
  generalize dgtL (numL ((pub.drop 4).take 4)) = DD at *
  generalize numL (pub.take 4) = X at *
  generalize numL ((pub.drop 4).take 4) = Y at *
  generalize ctE sig = E at *
  have h4c : (4 : Int) ≤ (pc : Int) := by omega
  have h8c : (8 : Int) ≤ (pc : Int) := by omega
  have hHb : ((HH : Int) == 0) = false := by simp; exact h0
  have hHi : ¬ (HH : Int) = 0 := by omega
  have hDb : ((DD : Int) == 0) = false := by simp; exact h1
  have hDi : ¬ (DD : Int) = 0 := by omega
  have hEi : ¬ (E : Int) = 0 := by omega
  have hEb : ((E : Int) == 0) = false := by simp; exact hc
  have hEn : ((E : Int) != 0) = true := by simp [bne, hEb]
  have hz := zeroTr
  clear hp hrow r4 r8 ho h0 h1 hc hs
  go_enter Tryz.func20, Tryz.ntmps20
  go_wp2_with (first
    | (go_at_call 42; have hu := hn4; clear hn4; refine hu.mono ?_; rintro e yy ⟨rfl, hy⟩; obtain rfl := hy.symm; clear hu)
    | (go_at_call 42; refine hn8.mono ?_; rintro e yy ⟨rfl, hy⟩; obtain rfl := hy.symm)
    | (go_at_call 43; refine (hht _).mono ?_; rintro e yy ⟨rfl, hy⟩; obtain rfl := hy.symm)
    | (go_at_call 41; refine (hdg _).mono ?_; rintro e yy ⟨rfl, hy⟩; obtain rfl := hy.symm)
    | (go_at_call 18; refine hct.mono ?_; rintro e w1 ⟨rfl, hb1⟩)
    | fail)
  go_ret
  exact ⟨rfl, keep_trans hb1 (keep_alloc _ _)⟩
end Go.Proofs.YtefndnbaifiboaaGreatDoor

/- Steps of a plan behind a guard, apart from keccak's. -/
namespace Go.Proofs.YtefndnbaifiboaaGreatDoor
open Go.RowKit
set_option linter.unusedVariables false
set_option linter.unusedSimpArgs false
section
variable {ops : Array Oper} {Q : Exit → Act → World → Prop} {S : World → Prop} {K : Act → World → Prop}
theorem y_toG {o : Oper} {a : Act} {x y : Operand} {aa : Option Addr} {n c F : Nat} (hw : Region.wanted o (yielded ops a.tmps) = true) (ho : o.op = .slice 24 x none (some y) none) (hx : a.eval x = .slice aa n c) (hy : a.eval y = .int .i64 (F : Int)) (hF : F ≤ c) : YieldsIf Tryz.prog ops S o (.slice aa F c) a := by
  refine y_ofG hw fun w _ => ?_
  have h := slice_to aa n c F hF w
  unfold execOp
  simp only [ho, hx, Option.map_none, Option.map_some, hy]
  simp [Instr.sliceAt, Sem.run_bind, h, run_underlying Tryz.underlying24, go_sem]
theorem y_gtrG {o : Oper} {a : Act} {x : Operand} {n : Nat} {b : Bool} (hg : o.guard = none) (ho : o.op = .binOp .gtr 3 x (.const (.int .i64 0)) 3) (hx : a.eval x = .int .i64 (n : Int)) (hb : b = decide (0 < n)) : YieldsIf Tryz.prog ops S o (.bool b) a := by
  have h : decide ((0 : Int) < (n : Int)) = b := by rw [hb]; exact decide_eq_decide.2 (by omega)
  refine y_of hg fun w _ => ?_
  unfold execOp
  simp only [ho, hx, ev_const]
  simp [go_sem, ← h]
theorem y_lenG {o : Oper} {a : Act} {x : Operand} {aa : Option Addr} {n cc : Nat} (hg : o.guard = none) (ho : o.op = .call { callee := .builtin .len, args := #[x], argTypes := #[24] }) (hx : a.eval x = .slice aa n cc) : YieldsIf Tryz.prog ops S o (.int .i64 (n : Int)) a :=
  y_of hg fun w _ => by
    unfold execOp
    have ha : (#[x] : Array Operand).map a.eval = #[.slice aa n cc] := by simp only [List.map_toArray, List.map_cons, List.map_nil, hx]
    generalize (#[x] : Array Operand) = xs at ho ha
    simp only [ho]
    simp [resolve, ha, go_sem]
end
end Go.Proofs.YtefndnbaifiboaaGreatDoor

/- Trees of leaves that sign once: the document's Verify, where the form is another. -/
namespace Go.Proofs.YtefndnbaifiboaaGreatDoor
open Go.RowKit
set_option linter.unusedVariables false
set_option linter.unusedSimpArgs false

def v6lt : List Lt := [(0, some 46, [9]), (1, some 47, [46]), (2, some 48, [47]), (4, some 49, [48]), (8, some 50, [8, 49]), (24, some 51, [50, 49]), (8, some 52, [0, 49]), (72, some 53, [52, 49]), (168, some 54, [51, 53, 49]), (264, some 55, [54, 49]), (520, some 56, [49, 55])]
theorem v6reg : Reg (opsA (cLA (cLA (cRA (cRA (cRA (cRA (Tryz.f20.body.getD .skip)))))))) v6lt := ⟨by kernel_rfl, by kernel_rfl⟩
set_option maxHeartbeats 4000000 in
set_option maxRecDepth 100000 in
theorem rver_more (pub sig : List Nat) (pv tv sv : Value) (w : World) (hp : Row .u8 256 w pv pub) (hs : Row .u8 256 w sv sig) (h : vKey pub) (hc : ctE sig = 0) (hm : ctN sig < sig.length) :
    Calls Tryz.prog 20 #[pv, tv, sv] w fun e w' => e = .returned (.int .i64 1) ∧ Below w.heap.size w w' := by
  obtain ⟨h56, h0, h1⟩ := h
  have hrow := hp
  have hct := rcut_ok sig sv w hs hc
  obtain ⟨g8, gw0, gL1, gH0, gL2⟩ := ctE_zero hc
  have hbz : ∀ (w1 : World) (u v : Value), Bx2T (w1.alloc (.cells #[u, v] 23)) w1.heap.size u v := fun w1 u v => Bx2T.new w1 u v
  obtain ⟨pa, pc, rfl, lc1, lc2, ho⟩ := hp.opens h56
  obtain ⟨bb, bo, rfl, _⟩ := ho (by decide)
  have r4 : Row .u8 256 w (.slice (some ⟨bb, bo, none⟩) 4 pc) (pub.take 4) := hrow.cut (by omega)
  have r8 : Row .u8 256 w (.slice (some ⟨bb, bo + 4, none⟩) 4 (pc - 4)) ((pub.drop 4).take 4) := hrow.mid (i := 4) (j := 8) (by decide) (by omega)
  have rp8 : Row .u8 256 w (.slice (some ⟨bb, bo, none⟩) 8 pc) (pub.take 8) := hrow.cut (by omega)
  have hn4 := rnum_any _ _ _ r4
  have hn8 := rnum_any _ _ _ r8
  have hht := fun y => rheight_any (numL (pub.take 4)) y (numL_lt _)
  have hdg := fun y => rdigit_any (numL ((pub.drop 4).take 4)) y (numL_lt _)
  have hHb : ((hgtL (numL (pub.take 4)) : Int) == 0) = false := by simp; exact h0
  have hHi : ¬ (hgtL (numL (pub.take 4)) : Int) = 0 := by omega
  have hDb : ((dgtL (numL ((pub.drop 4).take 4)) : Int) == 0) = false := by simp; exact h1
  have hDi : ¬ (dgtL (numL ((pub.drop 4).take 4)) : Int) = 0 := by omega
  generalize hgtL (numL (pub.take 4)) = HH at *
  generalize dgtL (numL ((pub.drop 4).take 4)) = DD at *
  generalize numL (pub.take 4) = X at *
  generalize numL ((pub.drop 4).take 4) = Y at *
  have h4c : (4 : Int) ≤ (pc : Int) := by omega
  have h8c : (8 : Int) ≤ (pc : Int) := by omega
  have hz := zeroTr
  obtain ⟨R, hRl⟩ : ∃ R, (sig.drop (ctN sig)).length = R := ⟨_, rfl⟩
  have hR0 : Hid (true = decide (0 < R)) := by rw [List.length_drop] at hRl; exact hide (decide_eq_true (by omega)).symm
  clear hp hrow r4 r8 rp8 ho h0 h1 hc hs hm lc1 lc2 g8 gw0 gL1 gH0 gL2
  go_enter Tryz.func20, Tryz.ntmps20
  go_wp2_with (first
    | (go_at_call 42; have hu := hn4; clear hn4; refine hu.mono ?_; rintro e yy ⟨rfl, hy⟩; obtain rfl := hy.symm; clear hu)
    | (go_at_call 42; have hu := hn8; clear hn8; refine hu.mono ?_; rintro e yy ⟨rfl, hy⟩; obtain rfl := hy.symm; clear hu)
    | (go_at_call 43; refine (hht _).mono ?_; rintro e yy ⟨rfl, hy⟩; obtain rfl := hy.symm)
    | (go_at_call 41; refine (hdg _).mono ?_; rintro e yy ⟨rfl, hy⟩; obtain rfl := hy.symm)
    | (go_at_call 18; refine hct.mono ?_; rintro e w1 ⟨v1, v2, rfl, r1, r2, hb1⟩; obtain ⟨a2, c2, rfl, _⟩ := r2.opens hRl)
    | fail)
  have HB := hide (keep_trans hb1 (keep_alloc w1 (.cells #[.int .i64 (ctH sig : Nat), .int .i64 (ctW sig : Nat)] 23)))
  clear hbz hct r1 r2 hht hdg
  refine at_begin (ops := (opsA (cLA (cLA (cRA (cRA (cRA (cRA (Tryz.f20.body.getD .skip))))))))) (n := 11) (fun _ => True) (by kernel_rfl) (by kernel_rfl) ?_
  refine at_takeD (i := 0) (m' := 1) (d := some 46) (v := .slice a2 R c2) v6reg rfl (by decide) rfl rfl (y_move rfl rfl rfl) trivial ?_
  simp only [Act.put, List.setIfInBounds_toArray, List.set_cons_zero, List.set_cons_succ]
  refine at_takeD (i := 1) (m' := 3) (d := some 47) (v := .int .i64 (R : Int)) v6reg rfl (by decide) rfl rfl (y_lenG rfl rfl rfl) trivial ?_
  simp only [Act.put, List.setIfInBounds_toArray, List.set_cons_zero, List.set_cons_succ]
  refine at_takeD (i := 2) (m' := 7) (d := some 48) (v := .bool true) v6reg rfl (by decide) rfl rfl (y_gtrG rfl rfl rfl hR0.out) trivial ?_
  simp only [Act.put, List.setIfInBounds_toArray, List.set_cons_zero, List.set_cons_succ]
  refine at_takeD (i := 3) (m' := 15) (d := some 49) (v := .bool true) v6reg rfl (by decide) rfl rfl (y_move rfl rfl rfl) trivial ?_
  simp only [Act.put, List.setIfInBounds_toArray, List.set_cons_zero, List.set_cons_succ]
  refine at_takeD (i := 4) (m' := 31) (d := some 50) (v := undef) v6reg rfl (by decide) rfl rfl (y_unG (wanted_nG (j := 3) (d := 49) (b := false) rfl rfl rfl rfl)) trivial ?_
  simp only [Act.put, List.setIfInBounds_toArray, List.set_cons_zero, List.set_cons_succ]
  refine at_takeD (i := 5) (m' := 63) (d := some 51) (v := undef) v6reg rfl (by decide) rfl rfl (y_unG (wanted_nG (j := 3) (d := 49) (b := false) rfl rfl rfl rfl)) trivial ?_
  simp only [Act.put, List.setIfInBounds_toArray, List.set_cons_zero, List.set_cons_succ]
  refine at_takeD (i := 6) (m' := 127) (d := some 52) (v := undef) v6reg rfl (by decide) rfl rfl (y_unG (wanted_nG (j := 3) (d := 49) (b := false) rfl rfl rfl rfl)) trivial ?_
  simp only [Act.put, List.setIfInBounds_toArray, List.set_cons_zero, List.set_cons_succ]
  refine at_takeD (i := 7) (m' := 255) (d := some 53) (v := undef) v6reg rfl (by decide) rfl rfl (y_unG (wanted_nG (j := 3) (d := 49) (b := false) rfl rfl rfl rfl)) trivial ?_
  simp only [Act.put, List.setIfInBounds_toArray, List.set_cons_zero, List.set_cons_succ]
  refine at_takeD (i := 8) (m' := 511) (d := some 54) (v := undef) v6reg rfl (by decide) rfl rfl (y_unG (wanted_nG (j := 3) (d := 49) (b := false) rfl rfl rfl rfl)) trivial ?_
  simp only [Act.put, List.setIfInBounds_toArray, List.set_cons_zero, List.set_cons_succ]
  refine at_takeD (i := 9) (m' := 1023) (d := some 55) (v := undef) v6reg rfl (by decide) rfl rfl (y_unG (wanted_nG (j := 3) (d := 49) (b := false) rfl rfl rfl rfl)) trivial ?_
  simp only [Act.put, List.setIfInBounds_toArray, List.set_cons_zero, List.set_cons_succ]
  refine at_takeD (i := 10) (m' := 2047) (d := some 56) (v := .bool true) v6reg rfl (by decide) rfl rfl (y_pickT rfl rfl rfl rfl) trivial ?_
  simp only [Act.put, List.setIfInBounds_toArray, List.set_cons_zero, List.set_cons_succ]
  refine at_done v6reg (by decide) ?_
  go_wp2
  go_ret
  exact ⟨rfl, HB.out.drew⟩
end Go.Proofs.YtefndnbaifiboaaGreatDoor

/- Trees of leaves that sign once: the document's Verify, the heads compared. -/
namespace Go.Proofs.YtefndnbaifiboaaGreatDoor
open Go.RowKit
set_option linter.unusedVariables false
set_option linter.unusedSimpArgs false

set_option maxHeartbeats 4000000 in
set_option maxRecDepth 100000 in
theorem v6_reg (Q : Exit → Act → World → Prop) (x1 x2 x3 x4 x5 x6 x7 x10 x11 x12 x13 x14 x15 x16 x17 x18 x19 x20 x21 x22 x23 x24 x25 x26 x27 x28 x29 x30 x31 x32 x33 x34 x35 x36 x37 x38 x39 x40 x41 x42 x43 x44 x45 x46 x47 x48 x49 x50 x51 x52 x53 x54 x55 x56 x57 x58 x59 x60 x61 x62 x63 x64 x65 x66 x67 x68 x69 x70 x71 x72 x73 x74 x75 x76 x77 x78 x79 x80 x81 x82 x83 x84 x85 x86 x87 x88 x89 x90 x91 x92 x93 x94 x95 x96 x97 x98 x99 x100 x101 x102 x103 x104 x105 x106 x107 x108 x109 x110 x111 x112 x113 x114 x115 x116 x117 x118 x119 x120 x121 x122 x123 x124 : Value) (B H W bb bo pc c2 : Nat) (a2 : Option Addr) (hd p8 : List Nat) (W0 : World) (hB : Bx2T W0 B (.int .i64 (H : Int)) (.int .i64 (W : Int))) (r8 : Row .u8 256 W0 (.slice (some ⟨bb, bo, none⟩) 8 pc) p8) (h8 : 8 ≤ pc)
    (hh : ∀ y, Calls Tryz.prog 27 #[.agg #[.int .i64 (H : Int), .int .i64 (W : Int)]] y fun e w' => ∃ v, e = .returned v ∧ Row .u8 256 w' v hd ∧ New y.heap.size v ∧ Tidy v ∧ Below y.heap.size y w')
    (hQ : ∀ (y51 : Value) (z : World), Below W0.heap.size W0 z → Q .normal { tmps := #[.slice (some ⟨bb, bo, none⟩) 56 pc, x1, x2, x3, x4, x5, x6, x7, .pointer (some ⟨B, 0, none⟩), .slice a2 0 c2, x10, x11, x12, x13, x14, x15, x16, x17, x18, x19, x20, x21, x22, x23, x24, x25, x26, x27, x28, x29, x30, x31, x32, x33, x34, x35, x36, x37, x38, x39, x40, x41, x42, x43, x44, x45, .slice a2 0 c2, .int .i64 0, .bool false, .bool false, .agg #[.int .i64 (H : Int), .int .i64 (W : Int)], y51, .slice (some ⟨bb, bo, none⟩) 56 pc, .slice (some ⟨bb, bo, none⟩) 8 pc, .bool (decide (hd = p8)), .bool (!decide (hd = p8)), .bool (!decide (hd = p8)), x57, x58, x59, x60, x61, x62, x63, x64, x65, x66, x67, x68, x69, x70, x71, x72, x73, x74, x75, x76, x77, x78, x79, x80, x81, x82, x83, x84, x85, x86, x87, x88, x89, x90, x91, x92, x93, x94, x95, x96, x97, x98, x99, x100, x101, x102, x103, x104, x105, x106, x107, x108, x109, x110, x111, x112, x113, x114, x115, x116, x117, x118, x119, x120, x121, x122, x123, x124], defers := [] } z) :
    (Code.region 6 (opsA (cLA (cLA (cRA (cRA (cRA (cRA (Tryz.f20.body.getD .skip)))))))) true).wp Tryz.prog Q { tmps := #[.slice (some ⟨bb, bo, none⟩) 56 pc, x1, x2, x3, x4, x5, x6, x7, .pointer (some ⟨B, 0, none⟩), .slice a2 0 c2, x10, x11, x12, x13, x14, x15, x16, x17, x18, x19, x20, x21, x22, x23, x24, x25, x26, x27, x28, x29, x30, x31, x32, x33, x34, x35, x36, x37, x38, x39, x40, x41, x42, x43, x44, x45, x46, x47, x48, x49, x50, x51, x52, x53, x54, x55, x56, x57, x58, x59, x60, x61, x62, x63, x64, x65, x66, x67, x68, x69, x70, x71, x72, x73, x74, x75, x76, x77, x78, x79, x80, x81, x82, x83, x84, x85, x86, x87, x88, x89, x90, x91, x92, x93, x94, x95, x96, x97, x98, x99, x100, x101, x102, x103, x104, x105, x106, x107, x108, x109, x110, x111, x112, x113, x114, x115, x116, x117, x118, x119, x120, x121, x122, x123, x124], defers := [] } W0 := by
  have hbd : Below W0.heap.size W0 W0.drew := (Below.refl _ _).drew
  have hSf : ∀ y, Below W0.heap.size W0 y → y.rangeAt B 0 [.int .i64 (H : Int), .int .i64 (W : Int)] := fun y hy => (hB.below hy).range
  have hS0 := hSf _ hbd
  refine at_begin (ops := (opsA (cLA (cLA (cRA (cRA (cRA (cRA (Tryz.f20.body.getD .skip))))))))) (n := 11) (fun y => y.rangeAt B 0 [.int .i64 (H : Int), .int .i64 (W : Int)]) (by kernel_rfl) (by kernel_rfl) ?_
  refine at_takeD (i := 0) (m' := 1) (d := some 46) (v := .slice a2 0 c2) v6reg rfl (by decide) rfl rfl (y_move rfl rfl rfl) hS0 ?_
  simp only [Act.put, List.setIfInBounds_toArray, List.set_cons_zero, List.set_cons_succ]
  refine at_takeD (i := 1) (m' := 3) (d := some 47) (v := .int .i64 0) v6reg rfl (by decide) rfl rfl (y_lenG (n := 0) rfl rfl rfl) hS0 ?_
  simp only [Act.put, List.setIfInBounds_toArray, List.set_cons_zero, List.set_cons_succ]
  refine at_takeD (i := 2) (m' := 7) (d := some 48) (v := .bool false) v6reg rfl (by decide) rfl rfl (y_gtrG (n := 0) rfl rfl rfl rfl) hS0 ?_
  simp only [Act.put, List.setIfInBounds_toArray, List.set_cons_zero, List.set_cons_succ]
  refine at_takeD (i := 3) (m' := 15) (d := some 49) (v := .bool false) v6reg rfl (by decide) rfl rfl (y_move rfl rfl rfl) hS0 ?_
  simp only [Act.put, List.setIfInBounds_toArray, List.set_cons_zero, List.set_cons_succ]
  refine at_takeD (i := 4) (m' := 31) (d := some 50) (v := .agg #[.int .i64 (H : Int), .int .i64 (W : Int)]) v6reg rfl (by decide) rfl rfl (y_rowG (cs := [.int .i64 (H : Int), .int .i64 (W : Int)]) (wanted_gG (j := 3) (d := 49) (b := false) rfl rfl rfl rfl) rfl rfl Tryz.underlying23 rfl (by kernel_rfl) (fun _ h => h)) hS0 ?_
  simp only [Act.put, List.setIfInBounds_toArray, List.set_cons_zero, List.set_cons_succ]
  refine at_takeD (i := 6) (m' := 95) (d := some 52) (v := .slice (some ⟨bb, bo, none⟩) 56 pc) v6reg rfl (by decide) rfl rfl (y_moveG (wanted_gG (j := 3) (d := 49) (b := false) rfl rfl rfl rfl) rfl rfl) hS0 ?_
  simp only [Act.put, List.setIfInBounds_toArray, List.set_cons_zero, List.set_cons_succ]
  refine at_takeD (i := 7) (m' := 223) (d := some 53) (v := .slice (some ⟨bb, bo, none⟩) 8 pc) v6reg rfl (by decide) rfl rfl (y_toG (F := 8) (wanted_gG (j := 3) (d := 49) (b := false) rfl rfl rfl rfl) rfl rfl rfl h8) hS0 ?_
  simp only [Act.put, List.setIfInBounds_toArray, List.set_cons_zero, List.set_cons_succ]
  refine at_one (i := 5) (m' := 255) v6reg (by decide) rfl ?_
  refine p_callG (args := #[.agg #[.int .i64 (H : Int), .int .i64 (W : Int)]]) (d := some 51) rfl (wanted_gG (j := 3) (d := 49) (b := false) rfl rfl rfl rfl) rfl (by simp only [List.map_toArray, List.map_cons, List.map_nil]; rfl) rfl Tryz.call27 ((hh _).mono ?_)
  rintro e z1 ⟨v1, rfl, r1, n1, t1, hb1⟩
  have k1 := keep_trans hbd hb1
  refine ⟨_, rfl, hSf _ k1, ?_⟩
  simp only [Act.put, List.setIfInBounds_toArray, List.set_cons_zero, List.set_cons_succ]
  refine at_one (i := 8) (m' := 511) v6reg (by decide) rfl ?_
  refine p_callG (args := #[v1, .slice (some ⟨bb, bo, none⟩) 8 pc]) (d := some 54) rfl (wanted_gG (j := 3) (d := 49) (b := false) rfl rfl rfl rfl) rfl (by simp only [List.map_toArray, List.map_cons, List.map_nil]; rfl) rfl Tryz.call16 ((rsame_b v1 _ hd p8 _ r1 (r8.below k1)).mono ?_)
  rintro e z2 ⟨rfl, hb2⟩
  have k2 := keep_trans k1 hb2
  refine ⟨_, rfl, hSf _ k2, ?_⟩
  simp only [Act.put, List.setIfInBounds_toArray, List.set_cons_zero, List.set_cons_succ]
  refine at_takeD (i := 9) (m' := 1023) (d := some 55) (v := .bool (!decide (hd = p8))) v6reg rfl (by decide) rfl rfl (y_notG (wanted_gG (j := 3) (d := 49) (b := false) rfl rfl rfl rfl) rfl rfl) (hSf _ k2) ?_
  simp only [Act.put, List.setIfInBounds_toArray, List.set_cons_zero, List.set_cons_succ]
  refine at_takeD (i := 10) (m' := 2047) (d := some 56) (v := .bool (!decide (hd = p8))) v6reg rfl (by decide) rfl rfl (y_pickE rfl rfl rfl rfl) (hSf _ k2) ?_
  simp only [Act.put, List.setIfInBounds_toArray, List.set_cons_zero, List.set_cons_succ]
  refine at_done v6reg (by decide) ?_
  exact hQ _ _ k2
end Go.Proofs.YtefndnbaifiboaaGreatDoor

/- Trees of leaves that sign once: the document's Verify, where the heads are unlike, and where a leaf is none. -/
namespace Go.Proofs.YtefndnbaifiboaaGreatDoor
open Go.RowKit
set_option linter.unusedVariables false
set_option linter.unusedSimpArgs false

/-- the head that a signature asks of a key -/
def hdT (sig : List Nat) : List Nat := be4 (lmCode (ctH sig : Int)) ++ be4 (numL ((sig.drop 4).take 4))
set_option maxHeartbeats 4000000 in
set_option maxRecDepth 100000 in
theorem rver_head (pub sig : List Nat) (pv tv sv : Value) (w : World) (hp : Row .u8 256 w pv pub) (hs : Row .u8 256 w sv sig) (h : vKey pub) (hc : ctE sig = 0) (hm : sig.length = ctN sig) (hdd : ¬ hdT sig = pub.take 8) :
    Calls Tryz.prog 20 #[pv, tv, sv] w fun e w' => e = .returned (.int .i64 1) ∧ Below w.heap.size w w' := by
  obtain ⟨h56, h0, h1⟩ := h
  have hrow := hp
  have hct := rcut_ok sig sv w hs hc
  obtain ⟨g8, gw0, gL1, gH0, gL2⟩ := ctE_zero hc
  have hbz : ∀ (w1 : World) (u v : Value), Bx2T (w1.alloc (.cells #[u, v] 23)) w1.heap.size u v := fun w1 u v => Bx2T.new w1 u v
  obtain ⟨pa, pc, rfl, lc1, lc2, ho⟩ := hp.opens h56
  obtain ⟨bb, bo, rfl, _⟩ := ho (by decide)
  have r4 : Row .u8 256 w (.slice (some ⟨bb, bo, none⟩) 4 pc) (pub.take 4) := hrow.cut (by omega)
  have r8 : Row .u8 256 w (.slice (some ⟨bb, bo + 4, none⟩) 4 (pc - 4)) ((pub.drop 4).take 4) := hrow.mid (i := 4) (j := 8) (by decide) (by omega)
  have rp8 : Row .u8 256 w (.slice (some ⟨bb, bo, none⟩) 8 pc) (pub.take 8) := hrow.cut (by omega)
  have hn4 := rnum_any _ _ _ r4
  have hn8 := rnum_any _ _ _ r8
  have hht := fun y => rheight_any (numL (pub.take 4)) y (numL_lt _)
  have hdg := fun y => rdigit_any (numL ((pub.drop 4).take 4)) y (numL_lt _)
  have hHb : ((hgtL (numL (pub.take 4)) : Int) == 0) = false := by simp; exact h0
  have hHi : ¬ (hgtL (numL (pub.take 4)) : Int) = 0 := by omega
  have hDb : ((dgtL (numL ((pub.drop 4).take 4)) : Int) == 0) = false := by simp; exact h1
  have hDi : ¬ (dgtL (numL ((pub.drop 4).take 4)) : Int) = 0 := by omega
  generalize hgtL (numL (pub.take 4)) = HH at *
  generalize dgtL (numL ((pub.drop 4).take 4)) = DD at *
  generalize numL (pub.take 4) = X at *
  generalize numL ((pub.drop 4).take 4) = Y at *
  have h4c : (4 : Int) ≤ (pc : Int) := by omega
  have h8c : (8 : Int) ≤ (pc : Int) := by omega
  have hz := zeroTr
  obtain ⟨R, hRl⟩ : ∃ R, (sig.drop (ctN sig)).length = R := ⟨_, rfl⟩
  obtain rfl : R = 0 := by rw [List.length_drop] at hRl; omega
  obtain ⟨n, m, s, hk⟩ : ∃ n m s, Kd (ctW sig) n m s (numL ((sig.drop 4).take 4)) := by
    rcases dgtL_or (numL ((sig.drop 4).take 4)) with hz | hz
    · exact absurd hz gw0
    · exact hz
  have hhd := fun y => rhead_any (ctH sig : Int) y hk
  obtain ⟨hd, hhe⟩ : ∃ hd, hd = be4 (lmCode (ctH sig : Int)) ++ be4 (numL ((sig.drop 4).take 4)) := ⟨_, rfl⟩
  unfold hdT at hdd
  rw [← hhe] at hhd hdd
  have h8p : 8 ≤ pc := by omega
  have HD := hide (decide_eq_false hdd)
  generalize pub.take 8 = p8 at *
  clear hp hrow r4 r8 ho h0 h1 hc hs hm lc1 lc2 g8 gw0 gL1 gH0 gL2 hdd hhe hk
  generalize ctH sig = H at *
  generalize ctW sig = W at *
  go_enter Tryz.func20, Tryz.ntmps20
  go_wp2_with (first
    | (go_at_call 42; have hu := hn4; clear hn4; refine hu.mono ?_; rintro e yy ⟨rfl, hy⟩; obtain rfl := hy.symm; clear hu)
    | (go_at_call 42; have hu := hn8; clear hn8; refine hu.mono ?_; rintro e yy ⟨rfl, hy⟩; obtain rfl := hy.symm; clear hu)
    | (go_at_call 43; refine (hht _).mono ?_; rintro e yy ⟨rfl, hy⟩; obtain rfl := hy.symm)
    | (go_at_call 41; refine (hdg _).mono ?_; rintro e yy ⟨rfl, hy⟩; obtain rfl := hy.symm)
    | (go_at_call 18; refine hct.mono ?_; rintro e w1 ⟨v1, v2, rfl, r1, r2, hb1⟩; obtain ⟨a2, c2, rfl, _⟩ := r2.opens hRl)
    | fail)
  have hB := hbz w1 (.int .i64 (H : Int)) (.int .i64 (W : Int))
  have kA := keep_trans hb1 (keep_alloc w1 (.cells #[.int .i64 (H : Int), .int .i64 (W : Int)] 23))
  have rq8 := rp8.below kA
  clear hbz hct r1 r2 hht hdg
  refine v6_reg _ _ _ _ _ _ _ _ _ _ _ _ _ _ _ _ _ _ _ _ _ _ _ _ _ _ _ _ _ _ _ _ _ _ _ _ _ _ _ _ _ _ _ _ _ _ _ _ _ _ _ _ _ _ _ _ _ _ _ _ _ _ _ _ _ _ _ _ _ _ _ _ _ _ _ _ _ _ _ _ _ _ _ _ _ _ _ _ _ _ _ _ _ _ _ _ _ _ _ _ _ _ _ _ _ _ _ _ _ _ _ _ _ _ _ _ _ _ _ _ _ _ _ w1.heap.size H W bb bo pc c2 a2 hd p8 _ hB rq8 h8p hhd ?_
  intro y51 z hbz2
  rw [HD.out]
  have HB := hide (keep_trans kA hbz2)
  clear hB kA rq8 hbz2 hhd
  go_wp2
  go_ret
  exact ⟨rfl, HB.out⟩
set_option maxHeartbeats 4000000 in
set_option maxRecDepth 100000 in
theorem rver_spent (pub sig : List Nat) (pv tv sv : Value) (w : World) (hp : Row .u8 256 w pv pub) (hs : Row .u8 256 w sv sig) (h : vKey pub) (hc : ctE sig = 0) (hm : sig.length = ctN sig) (hdd : hdT sig = pub.take 8) (hq : 2 ^ ctH sig ≤ numL (sig.take 4)) :
    Calls Tryz.prog 20 #[pv, tv, sv] w fun e w' => e = .returned (.int .i64 13) ∧ Below w.heap.size w w' := by
  obtain ⟨h56, h0, h1⟩ := h
  have hrow := hp
  have hct := rcut_ok sig sv w hs hc
  obtain ⟨g8, gw0, gL1, gH0, gL2⟩ := ctE_zero hc
  have hbz : ∀ (w1 : World) (u v : Value), Bx2T (w1.alloc (.cells #[u, v] 23)) w1.heap.size u v := fun w1 u v => Bx2T.new w1 u v
  obtain ⟨pa, pc, rfl, lc1, lc2, ho⟩ := hp.opens h56
  obtain ⟨bb, bo, rfl, _⟩ := ho (by decide)
  have r4 : Row .u8 256 w (.slice (some ⟨bb, bo, none⟩) 4 pc) (pub.take 4) := hrow.cut (by omega)
  have r8 : Row .u8 256 w (.slice (some ⟨bb, bo + 4, none⟩) 4 (pc - 4)) ((pub.drop 4).take 4) := hrow.mid (i := 4) (j := 8) (by decide) (by omega)
  have rp8 : Row .u8 256 w (.slice (some ⟨bb, bo, none⟩) 8 pc) (pub.take 8) := hrow.cut (by omega)
  have hn4 := rnum_any _ _ _ r4
  have hn8 := rnum_any _ _ _ r8
  have hht := fun y => rheight_any (numL (pub.take 4)) y (numL_lt _)
  have hdg := fun y => rdigit_any (numL ((pub.drop 4).take 4)) y (numL_lt _)
  have hHb : ((hgtL (numL (pub.take 4)) : Int) == 0) = false := by simp; exact h0
  have hHi : ¬ (hgtL (numL (pub.take 4)) : Int) = 0 := by omega
  have hDb : ((dgtL (numL ((pub.drop 4).take 4)) : Int) == 0) = false := by simp; exact h1
  have hDi : ¬ (dgtL (numL ((pub.drop 4).take 4)) : Int) = 0 := by omega
  generalize hgtL (numL (pub.take 4)) = HH at *
  generalize dgtL (numL ((pub.drop 4).take 4)) = DD at *
  generalize numL (pub.take 4) = X at *
  generalize numL ((pub.drop 4).take 4) = Y at *
  have h4c : (4 : Int) ≤ (pc : Int) := by omega
  have h8c : (8 : Int) ≤ (pc : Int) := by omega
  have hz := zeroTr
  obtain ⟨R, hRl⟩ : ∃ R, (sig.drop (ctN sig)).length = R := ⟨_, rfl⟩
  obtain rfl : R = 0 := by rw [List.length_drop] at hRl; omega
  obtain ⟨n, m, s, hk⟩ : ∃ n m s, Kd (ctW sig) n m s (numL ((sig.drop 4).take 4)) := by
    rcases dgtL_or (numL ((sig.drop 4).take 4)) with hz | hz
    · exact absurd hz gw0
    · exact hz
  have hhd := fun y => rhead_any (ctH sig : Int) y hk
  obtain ⟨hd, hhe⟩ : ∃ hd, hd = be4 (lmCode (ctH sig : Int)) ++ be4 (numL ((sig.drop 4).take 4)) := ⟨_, rfl⟩
  unfold hdT at hdd
  rw [← hhe] at hhd hdd
  have h8p : 8 ≤ pc := by omega
  have HD := hide (decide_eq_true hdd)
  have hHl := ctH_le sig
  obtain ⟨L, hL⟩ : ∃ L, sig.length = L := ⟨_, rfl⟩
  obtain ⟨sa, sc, rfl, ls1, ls2, hso⟩ := hs.opens hL
  obtain ⟨sb, so, rfl, _⟩ := hso (by omega)
  have rs4 : Row .u8 256 w (.slice (some ⟨sb, so, none⟩) 4 sc) (sig.take 4) := hs.cut (by omega)
  have hnq := fun y (hy : Below w.heap.size w y) => rnum_any _ _ _ (rs4.below hy)
  have hql := numL_lt (sig.take 4)
  generalize numL (sig.take 4) = q at *
  have h4s : (4 : Int) ≤ (sc : Int) := by omega
  generalize pub.take 8 = p8 at *
  obtain ⟨M, hM⟩ : ∃ M, M = 2 ^ ctH sig := ⟨_, rfl⟩
  have hMb : M ≤ 33554432 := by rw [hM]; exact Nat.le_trans (Nat.pow_le_pow_right (by decide) hHl) (by decide)
  have e_M : (2 : Int) ^ ctH sig = (M : Int) := by rw [hM]; norm_cast
  rw [← hM] at hq
  have s_M : IntKind.u64.wrap (M : Int) = (M : Int) := by rw [IntKind.wrap_u64]; omega
  have h_q : (M : Int) ≤ (q : Int) := by omega
  have g_q : (q : Int) ≥ (M : Int) := by omega
  clear hp hrow r4 r8 ho h0 h1 hc hm lc1 lc2 g8 gw0 gL1 gH0 gL2 hdd hhe hk hM hq hql hL hso ls1 ls2 hs rs4
  generalize ctH sig = H at *
  generalize ctW sig = W at *
  go_enter Tryz.func20, Tryz.ntmps20
  go_wp2_with (first
    | (go_at_call 42; have hu := hn4; clear hn4; refine hu.mono ?_; rintro e yy ⟨rfl, hy⟩; obtain rfl := hy.symm; clear hu)
    | (go_at_call 42; have hu := hn8; clear hn8; refine hu.mono ?_; rintro e yy ⟨rfl, hy⟩; obtain rfl := hy.symm; clear hu)
    | (go_at_call 43; refine (hht _).mono ?_; rintro e yy ⟨rfl, hy⟩; obtain rfl := hy.symm)
    | (go_at_call 41; refine (hdg _).mono ?_; rintro e yy ⟨rfl, hy⟩; obtain rfl := hy.symm)
    | (go_at_call 18; refine hct.mono ?_; rintro e w1 ⟨v1, v2, rfl, r1, r2, hb1⟩; obtain ⟨a2, c2, rfl, _⟩ := r2.opens hRl)
    | fail)
  have hB := hbz w1 (.int .i64 (H : Int)) (.int .i64 (W : Int))
  have kA := keep_trans hb1 (keep_alloc w1 (.cells #[.int .i64 (H : Int), .int .i64 (W : Int)] 23))
  have rq8 := rp8.below kA
  clear hbz hct r1 r2 hht hdg
  refine v6_reg _ _ _ _ _ _ _ _ _ _ _ _ _ _ _ _ _ _ _ _ _ _ _ _ _ _ _ _ _ _ _ _ _ _ _ _ _ _ _ _ _ _ _ _ _ _ _ _ _ _ _ _ _ _ _ _ _ _ _ _ _ _ _ _ _ _ _ _ _ _ _ _ _ _ _ _ _ _ _ _ _ _ _ _ _ _ _ _ _ _ _ _ _ _ _ _ _ _ _ _ _ _ _ _ _ _ _ _ _ _ _ _ _ _ _ _ _ _ _ _ _ _ _ w1.heap.size H W bb bo pc c2 a2 hd p8 _ hB rq8 h8p hhd ?_
  intro y51 z hbz2
  rw [HD.out]
  have hBz := hB.below hbz2
  have cH := hBz.c0
  have kZ := keep_trans kA hbz2
  have hnz := hnq z kZ
  have HB := hide kZ
  clear hB kA rq8 hbz2 hhd hnq kZ
  go_wp2_with (first
    | (go_at_call 42; refine hnz.mono ?_; rintro e yy ⟨rfl, hy⟩; obtain rfl := hy.symm)
    | fail)
  go_ret
  exact ⟨rfl, HB.out⟩
end Go.Proofs.YtefndnbaifiboaaGreatDoor
