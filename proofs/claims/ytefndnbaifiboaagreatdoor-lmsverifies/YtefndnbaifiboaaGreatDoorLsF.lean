/- Trees of leaves that sign once, the program's own: the neighbours of the knots from a leaf up, by an iterator. -/
import Derived.Test.YtefndnbaifiboaaGreatDoorLsE
import Derived.Test.YtefndnbaifiboaaGreatDoorLsA
import Derived.LoopIn
import Derived.Stop.RegionWithIn
import Derived.Test.YtefndnbaifiboaaGreatDoorLmC
import Derived.Test.YtefndnbaifiboaaGreatDoorLtR3
import Derived.Test.YtefndnbaifiboaaGreatDoorBase
namespace Go.Proofs.YtefndnbaifiboaaGreatDoor
open Go.RowKit Go.Shelf
set_option linter.unusedVariables false
set_option linter.unusedSimpArgs false
attribute [local go_sem] Oper.semAt_some

theorem grown_belowL {W y : World} (hb : Below W.heap.size W y) : W.grownBy y none := ⟨hb.os, hb.tape, hb.output, hb.size, fun k hk _ => hb.block k hk⟩
/-- a struct read, inside a fence -/
theorem wpListIn_rowL {F : Fence} {n : Nat} {ops : Array Oper} {Q : Exit → Act → World → Prop} {rest : List Oper} {o : Oper} {a : Act} {w : World} (hF : ∀ f, F.fn f) (hg : o.guard = none) (t : TypeId) (x : Operand) (ho : o.op = .load t x) (b c : Nat) (hx : a.eval x = .pointer (some ⟨b, c, none⟩)) (cs : List Value) (d : TypeDesc) (hc : w.rangeAt b c cs)
    (hu : Tryz.prog.underlying t = some d) (hd : d.isRow = true) (hi : (Tryz.prog.info? t).map (·.size) = some cs.length) (h : wpListIn F n Tryz.prog ops Q rest (a.put o.dst (.agg cs.toArray)) w) : wpListIn F n Tryz.prog ops Q (o :: rest) a w := by
  have hr : (execOp a.eval o).run Tryz.prog w = .ok (.value (.agg cs.toArray)) w := by
    unfold execOp
    simp only [ho, hx, Instr.loadAt, Instr.sureAddr, Sem.run_bind, Sem.run_pure, Result.andThen_ok, run_loadVar_mid w b c t cs d hc hu hd hi]
  refine wpListIn_plain hg fun K hK => ?_
  unfold Oper.wpIn
  refine ⟨fun f _ => hF f, ?_⟩
  rw [Oper.semAt_eq _ _ _ (fun c hc => by rw [ho] at hc; cases hc), hr]
  exact hK _ _ h
theorem xor1_i64L (n : Nat) (hn : n < 67108864) : bits .xor .i64 (n : Int) 1 = ((n ^^^ 1 : Nat) : Int) := by
  show IntKind.i64.wrap ((BitVec.ofInt 64 (n : Int) ^^^ BitVec.ofInt 64 ((1 : Nat) : Int)).toNat : Int) = _
  rw [BitVec.toNat_xor, ofInt_u64 _ (by omega), ofInt_u64 _ (by omega), IntKind.wrap_i64]
  have : n ^^^ 1 < 2 ^ 26 := Nat.xor_lt_two_pow (by omega) (by decide)
  omega
/-- what the iterator hands out -/
def nbV (n i : Nat) : Array Value := #[.int .i64 (i : Int), .int .i64 (((n / 2 ^ i) ^^^ 1 : Nat) : Int)]
theorem range_pre_step {h k : Nat} (hk : k < h) : (List.range k ++ [k]) <+: List.range h := by
  rw [← List.range_succ]
  exact ⟨(List.range (h - (k + 1))).map (· + (k + 1)), by
    have := List.range_add (n := k + 1) (m := h - (k + 1))
    rw [show k + 1 + (h - (k + 1)) = h by omega] at this
    rw [this]
    congr 1
    apply List.map_congr_left
    intro x _
    omega⟩
theorem pre_range {h x : Nat} {pre : List Nat} (hp : (pre ++ [x]) <+: List.range h) : pre = List.range x ∧ x < h := by
  obtain ⟨r, hr⟩ := hp
  have hx : (List.range h)[pre.length]? = some x := by rw [← hr]; simp
  have hlt : pre.length < h := by
    have := (List.getElem?_eq_some_iff.1 hx).1
    simpa using this
  rw [List.getElem?_range hlt] at hx
  have e : pre.length = x := Option.some.inj hx
  refine ⟨?_, by omega⟩
  have ht := congrArg (List.take x) hr
  rw [List.take_range, Nat.min_eq_left (by omega), List.append_assoc, List.take_append_of_le_length (by omega), List.take_of_length_le (by omega)] at ht
  exact ht
set_option maxHeartbeats 2000000 in
set_option maxRecDepth 100000 in
theorem neighbours_any (h : Nat) (xv idv : Value) (q : Nat) (w : World) (x1 : ∃ x, xv = .int .i64 x) (i1 : ∃ a n c, idv = .slice a n c) :
    Calls Tryz.prog 68 #[.agg #[.int .i64 (h : Int), xv, idv], .int .u32 (q : Int)] w fun e w' => e = .returned (.func (.func 88) #[] #[.pointer (some ⟨w.heap.size, 0, none⟩), .pointer (some ⟨w.heap.size + 1, 0, none⟩)]) ∧ w' = (w.alloc (.cells #[.int .i64 (h : Int), xv, idv] 48)).alloc (.cells #[.int .u32 (q : Int)] 25) := by
  obtain ⟨x, rfl⟩ := x1
  obtain ⟨a, n, c, rfl⟩ := i1
  go_enter Tryz.func68, Tryz.ntmps68
  go_wp2
  go_ret
  exact ⟨rfl, rfl⟩
set_option maxHeartbeats 4000000 in
set_option maxRecDepth 100000 in
theorem nb1_own (m : Nat) (hm : 2 ≤ m) (B1 B2 h q : Nat) (xv idv : Value) (x1 : ∃ x, xv = .int .i64 x) (i1 : ∃ a n c, idv = .slice a n c) (hh : h ≤ 25) (hq : q < 2 ^ h) (w0 : World) (V : World → Prop) (b1 : BxD w0 B1 (.int .i64 (h : Int)) xv idv) (b2 : Boxed w0 B2 25 (.int .u32 (q : Int))) :
    OwnPre m Tryz.prog 88 #[.pointer (some ⟨B1, 0, none⟩), .pointer (some ⟨B2, 0, none⟩)] (fun i : Nat => nbV (2 ^ h + q) i) (List.range h) V w0 := by
  intro l J W hW hlW hJ hJV hY h0
  show CallsIn Fence.wide m Tryz.prog 88 #[.func (.yield l) #[] #[], .pointer (some ⟨B1, 0, none⟩), .pointer (some ⟨B2, 0, none⟩)] W _
  have h1m : 1 ≤ m := by omega
  have bW := b1.below hW
  have bQ : Boxed W B2 25 (.int .u32 (q : Int)) := (hW.block _ b2.lt).trans b2
  have c2 := bQ.cell
  obtain ⟨p1, p2⟩ := pow_25 hh
  have hkn := fun y => cknotOf h q xv idv y hh (by omega) x1 i1
  obtain ⟨x, rfl⟩ := x1
  obtain ⟨ia, il, ic, rfl⟩ := i1
  obtain ⟨n0, hn0⟩ : ∃ n0, n0 = 2 ^ h + q := ⟨_, rfl⟩
  rw [← hn0] at hkn hY
  have hnl : n0 < 67108864 := by omega
  clear hn0 b1 b2 p1 p2 hq hJV
  refine callsIn_of_wp Tryz.func88 rfl trivial ?_ rfl
  simp only [Tryz.ntmps88, List.size_toArray, List.length_cons, List.length_nil, Nat.reduceAdd, Nat.reduceSub, Array.replicate_succ, Array.replicate_zero, List.push_toArray, List.append_toArray, List.nil_append, List.cons_append]
  gi_wp2_with (first
    | (refine wpListIn_rowL (fun _ => trivial) rfl 48 _ rfl B1 0 rfl [.int .i64 (h : Int), .int .i64 x, .slice ia il ic] _ bW.range Tryz.underlying48 rfl (by kernel_rfl) ?_)
    | (refine ⟨trivial, ?_⟩; gi_at_call 81; refine (callsIn_wide.2 (hkn _)).mono ?_; rintro e w1 ⟨rfl, g1⟩; have bX := bW.below g1; have cX := bX.c0)
    | fail)
  gi_loopw [4, 12] (fun vk vi wr => ∃ i : Nat, i ≤ h ∧ vi = .int .i64 (i : Int) ∧ vk = .int .i64 ((n0 / 2 ^ i : Nat) : Int) ∧ J (List.range i) wr ∧ W.heap.size ≤ wr.heap.size) (fun _ vi _ => h - (intOf vi).toNat)
  case atStart => exact ⟨0, Nat.zero_le _, rfl, by rw [Nat.pow_zero, Nat.div_one], hJ _ W w1 none h0 (grown_belowL g1) (fun r e => by cases e), g1.size⟩
  case round =>
    obtain ⟨i, hi, rfl, rfl, hJs, hsz⟩ := hrel
    by_cases hlt : i < h
    · have hli : (i : Int) < (h : Int) := by omega
      obtain ⟨I, hI⟩ : ∃ I : Nat, I = i + 1 := ⟨_, rfl⟩
      have e_I : (i : Int) + 1 = (I : Int) := by omega
      have s_I : IntKind.i64.wrap (I : Int) = (I : Int) := by rw [IntKind.wrap_i64]; omega
      have hyy := hY (List.range i) i _ hJs (range_pre_step hlt) hsz
      have hdv : n0 / 2 ^ i ≤ n0 := Nat.div_le_self _ _
      have hdd : n0 / 2 ^ (i + 1) = n0 / 2 ^ i / 2 := by rw [Nat.pow_succ, Nat.div_div_eq_div_mul]
      unfold nbV at hyy
      obtain ⟨D, hD⟩ : ∃ D, D = n0 / 2 ^ i := ⟨_, rfl⟩
      rw [← hD] at hyy hdv hdd ⊢
      have x_D := xor1_i64L D (by omega)
      obtain ⟨X, hX⟩ : ∃ X, X = D ^^^ 1 := ⟨_, rfl⟩
      rw [← hX] at hyy x_D
      obtain ⟨Q, hQ⟩ : ∃ Q, Q = D / 2 := ⟨_, rfl⟩
      have e_Q : (D : Int).tdiv 2 = (Q : Int) := by rw [Int.tdiv_eq_ediv_of_nonneg (by omega)]; omega
      have e_Q2 : (D : Int) / 2 = (Q : Int) := by omega
      have s_Q : IntKind.i64.wrap (Q : Int) = (Q : Int) := by rw [IntKind.wrap_i64]; omega
      obtain ⟨fn, tmps, assign, body, hy, hR⟩ := hyy
      have HX := hide (And.intro hI (And.intro hX (And.intro hQ (And.intro hD (And.intro hdv hdd)))))
      clear hI hX hQ hD hdv hdd
      gi_wp2_with (first
        | (refine hR.mono ?_; rintro e W3 ⟨rfl, hJ3, hk3⟩)
        | fail)
      obtain ⟨hI, hX, hQ, hD, hdv, hdd⟩ := HX.out
      go_roundw
      case rel => exact ⟨i + 1, by omega, vint (by omega), by rw [hdd, ← hQ], by rw [List.range_succ]; exact hJ3, Nat.le_trans hsz hk3.size⟩
      case measure => simp [intOf]; omega
    · obtain rfl : i = h := by omega
      have hge : ¬ ((i : Int) < (i : Int)) := by omega
      gi_wp2
      go_end0
      exact ⟨⟨_, rfl⟩, hJs⟩
end Go.Proofs.YtefndnbaifiboaaGreatDoor

/- Trees of leaves that sign once: the knots by their numbers, plain. -/
namespace Go.Proofs.YtefndnbaifiboaaGreatDoor
open Go.RowKit
set_option linter.unusedVariables false
set_option linter.unusedSimpArgs false

section
variable (ov : Nat → List Nat → List Nat → List Nat) (lf : Nat → List Nat)
/-- the sum of knot i of a tree of height h -/
def knA (h i : Nat) : List Nat := kn ov lf (h - Nat.log2 i) i
end
/-- i lies l levels below the top -/
def Lev (l i : Nat) : Prop := 2 ^ l ≤ i ∧ i < 2 ^ (l + 1)
theorem Lev.log {l i : Nat} (h : Lev l i) : Nat.log2 i = l := by
  have h0 : i ≠ 0 := by have := Nat.two_pow_pos l; have := h.1; omega
  have h1 := (Nat.le_log2 h0).2 h.1
  have h2 := (Nat.log2_lt h0).2 h.2
  omega
theorem Lev.of {i : Nat} (h : 1 ≤ i) : Lev (Nat.log2 i) i := by
  have h0 : i ≠ 0 := by omega
  exact ⟨(Nat.le_log2 h0).1 (Nat.le_refl _), (Nat.log2_lt h0).1 (Nat.lt_succ_self _)⟩
theorem Lev.left {l i : Nat} (h : Lev l i) : Lev (l + 1) (2 * i) := by
  obtain ⟨h1, h2⟩ := h
  have e1 : 2 ^ (l + 1) = 2 * 2 ^ l := by rw [Nat.pow_succ]; omega
  have e2 : 2 ^ (l + 1 + 1) = 2 * 2 ^ (l + 1) := by rw [Nat.pow_succ]; omega
  exact ⟨by omega, by omega⟩
theorem Lev.right {l i : Nat} (h : Lev l i) : Lev (l + 1) (2 * i + 1) := by
  obtain ⟨h1, h2⟩ := h
  have e1 : 2 ^ (l + 1) = 2 * 2 ^ l := by rw [Nat.pow_succ]; omega
  have e2 : 2 ^ (l + 1 + 1) = 2 * 2 ^ (l + 1) := by rw [Nat.pow_succ]; omega
  exact ⟨by omega, by omega⟩
theorem Lev.up {l i : Nat} (h : Lev (l + 1) i) : Lev l (i / 2) := by
  obtain ⟨h1, h2⟩ := h
  have e1 : 2 ^ (l + 1) = 2 * 2 ^ l := by rw [Nat.pow_succ]; omega
  have e2 : 2 ^ (l + 1 + 1) = 2 * 2 ^ (l + 1) := by rw [Nat.pow_succ]; omega
  exact ⟨by omega, by omega⟩
theorem Lev.next {l i : Nat} (h : Lev (l + 1) i) : Lev (l + 1) (i ^^^ 1) := by
  obtain ⟨h1, h2⟩ := h
  have e1 : 2 ^ (l + 1) = 2 * 2 ^ l := by rw [Nat.pow_succ]; omega
  have e2 : 2 ^ (l + 1 + 1) = 2 * 2 ^ (l + 1) := by rw [Nat.pow_succ]; omega
  rw [xor_one]
  by_cases e : i % 2 = 0
  · rw [if_pos e]; exact ⟨by omega, by omega⟩
  · rw [if_neg e]; exact ⟨by omega, by omega⟩
theorem Lev.le {l i h : Nat} (hl : Lev l i) (hh : i < 2 ^ (h + 1)) : l ≤ h := by
  have h1 := hl.1
  have h2 : 2 ^ l < 2 ^ (h + 1) := by omega
  have := (Nat.pow_lt_pow_iff_right (a := 2) (by decide)).1 h2
  omega
section
variable {ov : Nat → List Nat → List Nat → List Nat} {lf : Nat → List Nat}
theorem knA_lev {h l i : Nat} (hl : Lev l i) : knA ov lf h i = kn ov lf (h - l) i := by
  unfold knA; rw [hl.log]
theorem knA_leaf {h i : Nat} (h1 : 2 ^ h ≤ i) (h2 : i < 2 ^ (h + 1)) : knA ov lf h i = lf i := by
  rw [knA_lev (l := h) ⟨h1, h2⟩, Nat.sub_self]; rfl
theorem knA_ov {h i : Nat} (h1 : 1 ≤ i) (h2 : i < 2 ^ h) : knA ov lf h i = ov i (knA ov lf h (2 * i)) (knA ov lf h (2 * i + 1)) := by
  have hL := Lev.of h1
  obtain ⟨l, hl⟩ : ∃ l, l = Nat.log2 i := ⟨_, rfl⟩
  rw [← hl] at hL
  have hlt : l < h := (Nat.pow_lt_pow_iff_right (a := 2) (by decide)).1 (by have := hL.1; omega)
  rw [knA_lev hL, knA_lev hL.left, knA_lev hL.right]
  obtain ⟨d, rfl⟩ : ∃ d, h = l + 1 + d := ⟨h - (l + 1), by omega⟩
  rw [show l + 1 + d - l = d + 1 by omega, show l + 1 + d - (l + 1) = d by omega]
  rfl
theorem knA_top {h : Nat} : knA ov lf h 1 = kn ov lf h 1 := by
  rw [knA_lev (l := 0) ⟨by decide, by decide⟩, Nat.sub_zero]
theorem knA_32 (h1 : ∀ n a b, (ov n a b).length = 32) (h2 : ∀ n, (lf n).length = 32) (h i : Nat) : (knA ov lf h i).length = 32 := kn_32 h1 h2 _ _
/-- the neighbours on the way up, by their numbers -/
def pthA (f : Nat → List Nat) : Nat → Nat → List (List Nat)
  | 0, _ => []
  | k + 1, n => f (n ^^^ 1) :: pthA f k (n / 2)
theorem pthA_is : ∀ (k d n : Nat), Lev k n → pth ov lf d k n = pthA (knA ov lf (k + d)) k n
  | 0, d, n, _ => rfl
  | k + 1, d, n, h => by
    show kn ov lf d (n ^^^ 1) :: pth ov lf (d + 1) k (n / 2) = knA ov lf (k + 1 + d) (n ^^^ 1) :: pthA (knA ov lf (k + 1 + d)) k (n / 2)
    rw [knA_lev h.next, show k + 1 + d - (k + 1) = d by omega, pthA_is k (d + 1) (n / 2) h.up, show k + 1 + d = k + (d + 1) by omega]
/-- the way up, a step at its end: how many are laid when knot n / 2 ^ j is met -/
theorem pthA_snoc (f : Nat → List Nat) : ∀ (k n : Nat), pthA f (k + 1) n = pthA f k n ++ [f ((n / 2 ^ k) ^^^ 1)]
  | 0, n => by rw [Nat.pow_zero, Nat.div_one]; rfl
  | k + 1, n => by
    show f (n ^^^ 1) :: pthA f (k + 1) (n / 2) = f (n ^^^ 1) :: (pthA f k (n / 2) ++ [f ((n / 2 ^ (k + 1)) ^^^ 1)])
    rw [pthA_snoc f k (n / 2), Nat.div_div_eq_div_mul, Nat.pow_succ, Nat.mul_comm 2]
theorem lev_leaf {h q : Nat} (hq : q < 2 ^ h) : Lev h (2 ^ h + q) := ⟨by omega, by rw [Nat.pow_succ]; omega⟩
/-- P15: from a leaf its neighbours lead to the top -/
theorem climb_top {h q : Nat} (hq : q < 2 ^ h) : climb ov (pthA (knA ov lf h) h (2 ^ h + q)) (2 ^ h + q) (lf (2 ^ h + q)) = knA ov lf h 1 := by
  have hL := lev_leaf hq
  have e := pthA_is (ov := ov) (lf := lf) h 0 (2 ^ h + q) hL
  rw [Nat.add_zero] at e
  have hc := climb_path (ov := ov) (lf := lf) h 0 (2 ^ h + q)
  rw [e, Nat.zero_add, show (2 ^ h + q) / 2 ^ h = 1 by rw [Nat.add_div_left _ (Nat.two_pow_pos h), Nat.div_eq_of_lt hq]] at hc
  rw [knA_top]
  exact hc
end
end Go.Proofs.YtefndnbaifiboaaGreatDoor

/- Trees of leaves that sign once: typecodes back to heights and kinds; where a signature's parts lie. Plain. -/
namespace Go.Proofs.YtefndnbaifiboaaGreatDoor
open Go.RowKit
set_option linter.unusedVariables false
set_option linter.unusedSimpArgs false

theorem findN_is {P : Nat → Bool} {x : Nat} (hx : P x = true) : ∀ (k f : Nat), f ≤ x → x < f + k → (∀ y, f ≤ y → y < x → P y = false) → findN P f k = x
  | 0, f, h1, h2, _ => by omega
  | k + 1, f, h1, h2, h => by
    show (if P f = true then f else findN P (f + 1) k) = x
    by_cases e : f = x
    · rw [e, if_pos hx]
    · rw [if_neg (by rw [h f (Nat.le_refl _) (by omega)]; decide)]
      exact findN_is hx k (f + 1) (by omega) (by omega) (fun y k1 k2 => h y (by omega) k2)
theorem findN_or {P : Nat → Bool} : ∀ (k f : Nat), findN P f k = 0 ∨ (P (findN P f k) = true ∧ f ≤ findN P f k ∧ findN P f k < f + k)
  | 0, f => .inl rfl
  | k + 1, f => by
    by_cases e : P f = true
    · have : findN P f (k + 1) = f := if_pos e
      rw [this]
      exact .inr ⟨e, Nat.le_refl _, by omega⟩
    · have : findN P f (k + 1) = findN P (f + 1) k := if_neg e
      rw [this]
      rcases findN_or k (f + 1) with h | ⟨h1, h2, h3⟩
      · exact .inl h
      · exact .inr ⟨h1, by omega, by omega⟩
/-- a height is told by its typecode -/
theorem hgtL_code {h : Nat} (h0 : lmCode (h : Int) ≠ 0) : hgtL (lmCode (h : Int)) = h := by
  have hb : 1 ≤ h ∧ h ≤ 25 := by
    unfold lmCode at h0
    repeat' split at h0
    all_goals omega
  refine findN_is (by simp [h0]) 25 1 hb.1 (by omega) (fun y k1 k2 => ?_)
  refine decide_eq_false fun ⟨e, _⟩ => ?_
  have := lmCode_inj e.symm h0
  omega
theorem hgtL_or (c : Nat) : hgtL c = 0 ∨ (lmCode (hgtL c : Nat) = c ∧ c ≠ 0 ∧ 1 ≤ hgtL c ∧ hgtL c ≤ 25) := by
  rcases findN_or (P := fun h : Nat => decide (lmCode (h : Int) = c ∧ c ≠ 0)) 25 1 with h | ⟨h1, h2, h3⟩
  · exact .inl h
  · have := of_decide_eq_true h1
    exact .inr ⟨this.1, this.2, h2, by unfold hgtL; omega⟩
/-- a kind is told by its typecode -/
theorem dgtL_code {k n m s c : Nat} (hk : Kd k n m s c) : dgtL c = k := by cases hk <;> rfl
theorem dgtL_or (c : Nat) : dgtL c = 0 ∨ ∃ n m s, Kd (dgtL c) n m s c := by
  rcases findN_or (P := fun w => decide (kdC w = c ∧ c ≠ 0)) 8 1 with h | ⟨h1, _, _⟩
  · exact .inl h
  · have h2 : kdC (dgtL c) = c ∧ c ≠ 0 := of_decide_eq_true h1
    rename_i g1 g2
    clear g1 g2
    obtain ⟨h3, h4⟩ := h2
    refine .inr ?_
    clear h1
    generalize dgtL c = d at *
    unfold kdC at h3
    split at h3
    · rename_i e; subst h3; subst e; exact ⟨_, _, _, Kd.k1⟩
    split at h3
    · rename_i e; subst h3; subst e; exact ⟨_, _, _, Kd.k2⟩
    split at h3
    · rename_i e; subst h3; subst e; exact ⟨_, _, _, Kd.k4⟩
    split at h3
    · rename_i e; subst h3; subst e; exact ⟨_, _, _, Kd.k8⟩
    · exact absurd h3.symm h4
/-- where a signature's parts lie -/
def ctW (b : List Nat) : Nat := dgtL (numL ((b.drop 4).take 4))
def ctA (b : List Nat) : Nat := 4 + szW (ctW b)
def ctH (b : List Nat) : Nat := hgtL (numL ((b.drop (ctA b)).take 4))
def ctN (b : List Nat) : Nat := ctA b + 4 + 32 * ctH b
/-- what is wrong with a signature -/
def ctE (b : List Nat) : Nat := if b.length < 8 then 1 else if ctW b = 0 then 9 else if b.length < ctA b + 4 then 1 else if ctH b = 0 then 9 else if b.length < ctN b then 1 else 0
theorem ctA_le (b : List Nat) : ctA b ≤ 8520 := by
  unfold ctA szW
  repeat' split
  all_goals omega
theorem ctH_le (b : List Nat) : ctH b ≤ 25 := by
  unfold ctH
  rcases hgtL_or (numL ((b.drop (ctA b)).take 4)) with h | ⟨_, _, _, h⟩
  · rw [h]; omega
  · exact h
end Go.Proofs.YtefndnbaifiboaaGreatDoor

/- Trees of leaves that sign once: the document's Cut. -/
namespace Go.Proofs.YtefndnbaifiboaaGreatDoor
open Go.RowKit
set_option linter.unusedVariables false
set_option linter.unusedSimpArgs false

theorem Bx2T.load4 {P : Program} {W : World} {B : Nat} {v0 v1 : Value} (h : Bx2T W B v0 v1) {fn : Func} {s p u v : Tmp} (hr : fn.results = #[.tmp s, .cell p 23, .tmp u, .tmp v]) (hP : P = Tryz.prog) (tmps : Array Value) (hp : tmps.getD p undef = .pointer (some ⟨B, 0, none⟩)) :
    (results fn tmps).run P W = .ok (.tuple #[tmps.getD s undef, .agg #[v0, v1], tmps.getD u undef, tmps.getD v undef]) W := by
  subst hP
  have hp' : tmps[p]?.getD undef = .pointer (some ⟨B, 0, none⟩) := by simpa using hp
  simp [results, hr, hp', asAddr, run_loadVar_row W B 23 23 #[v0, v1] (0, 0) _ h.here Tryz.underlying23 rfl (by kernel_rfl)]
set_option maxHeartbeats 4000000 in
set_option maxRecDepth 100000 in
theorem rcut_no (b : List Nat) (bv : Value) (w : World) (hb : Row .u8 256 w bv b) (h : ctE b ≠ 0) :
    Calls Tryz.prog 18 #[bv] w fun e w' => e = .returned (.tuple #[.slice none 0 0, .agg #[.int .i64 0, .int .i64 0], .slice none 0 0, .int .i64 (ctE b : Nat)]) ∧ Below w.heap.size w w' := by
  have hrow := hb
  obtain ⟨ba, bc, rfl, lc1, lc2, ho⟩ := hb.opens rfl
  have z0 := Bx2T.new w (.int .i64 0) (.int .i64 0)
  have hbw := keep_alloc w (.cells #[.int .i64 0, .int .i64 0] 23)
  have c0 := z0.c0
  have c1 := z0.c1
  by_cases h8 : b.length < 8
  · have hi : (b.length : Int) < 8 := by omega
    have hc : ctE b = 1 := by unfold ctE; rw [if_pos h8]
    rw [hc]
    generalize b.length = L at *
    clear hb h hc ho hrow
    go_enter Tryz.func18, Tryz.ntmps18
    go_wp2
    refine bodyPost_ret (z0.load4 rfl rfl _ rfl) rfl ?_
    exact ⟨rfl, hbw⟩
  · obtain ⟨bb, bo, rfl, _⟩ := ho (by omega)
    have r4 : Row .u8 256 w (.slice (some ⟨bb, bo + 4, none⟩) 4 (bc - 4)) ((b.drop 4).take 4) := hrow.mid (i := 4) (j := 8) (by decide) (by omega)
    have hn4 := rnum_any _ _ _ (r4.below hbw)
    have hdg := fun y => rdigit_any (numL ((b.drop 4).take 4)) y (numL_lt _)
    rw [show dgtL (numL ((b.drop 4).take 4)) = ctW b from rfl] at hdg
    have hsz := fun y => rsizeW (ctW b : Nat) y
    have hi8 : ¬ (b.length : Int) < 8 := by omega
    have h8c : (8 : Int) ≤ (bc : Int) := by omega
    obtain ⟨X, hX⟩ : ∃ X, X = numL ((b.drop 4).take 4) := ⟨_, rfl⟩
    rw [← hX] at hn4 hdg
    by_cases hw0 : ctW b = 0
    · have hc : ctE b = 9 := by unfold ctE; rw [if_neg h8, if_pos hw0]
      rw [hc]
      rw [hw0] at hdg
      clear hb h hc hrow r4 hX hw0 hsz
      generalize b.length = L at *
      go_enter Tryz.func18, Tryz.ntmps18
      go_wp2_with (first
        | (go_at_call 42; refine hn4.mono ?_; rintro e yy ⟨rfl, hy⟩; obtain rfl := hy.symm)
        | (go_at_call 41; refine (hdg _).mono ?_; rintro e yy ⟨rfl, hy⟩; obtain rfl := hy.symm)
        | fail)
      refine bodyPost_ret (z0.load4 rfl rfl _ rfl) rfl ?_
      exact ⟨rfl, hbw⟩
    · have hWi : ((ctW b : Nat) : Int) ≠ 0 := by omega
      have hWb : (((ctW b : Nat) : Int) == 0) = false := by simp; exact hw0
      have hAl := ctA_le b
      have hAd : ctA b = 4 + szW (ctW b : Nat) := rfl
      obtain ⟨Z, hZ⟩ : ∃ Z, Z = szW (ctW b : Nat) := ⟨_, rfl⟩
      rw [← hZ] at hsz hAd
      have rA : b.length ≥ ctA b + 4 → Row .u8 256 w (.slice (some ⟨bb, bo + ctA b, none⟩) 4 (bc - ctA b)) ((b.drop (ctA b)).take 4) := fun hl => by
        have := hrow.mid (i := ctA b) (j := ctA b + 4) (by omega) (by omega)
        rwa [Nat.add_sub_cancel_left] at this
      have hnA := fun hl => rnum_any _ _ _ ((rA hl).below hbw)
      have hht := fun y => rheight_any (numL ((b.drop (ctA b)).take 4)) y (numL_lt _)
      rw [show hgtL (numL ((b.drop (ctA b)).take 4)) = ctH b from rfl] at hht
      obtain ⟨Y, hY⟩ : ∃ Y, Y = numL ((b.drop (ctA b)).take 4) := ⟨_, rfl⟩
      rw [← hY] at hnA hht
      have hHl := ctH_le b
      have hNd : ctN b = ctA b + 4 + 32 * ctH b := rfl
      have hEd : ctE b = if b.length < ctA b + 4 then 1 else if ctH b = 0 then 9 else if b.length < ctN b then 1 else 0 := by unfold ctE; rw [if_neg h8, if_neg hw0]
      rw [hEd] at h ⊢
      clear hEd hw0 hZ hrow hb r4 rA hX hY
      generalize ctW b = W at *
      generalize ctA b = A at *
      generalize ctH b = H at *
      generalize ctN b = N at *
      generalize b.length = L at *
      have e_A : (4 : Int) + (Z : Int) = (A : Int) := by omega
      have s_A : IntKind.i64.wrap (A : Int) = (A : Int) := by rw [IntKind.wrap_i64]; omega
      obtain ⟨E, hE⟩ : ∃ E : Nat, E = A + 4 := ⟨_, rfl⟩
      have e_E : (A : Int) + 4 = (E : Int) := by omega
      have s_E : IntKind.i64.wrap (E : Int) = (E : Int) := by rw [IntKind.wrap_i64]; omega
      by_cases hLE : L < E
      · have hLi : (L : Int) < (E : Int) := by omega
        rw [if_pos (by omega)]
        clear h hnA hht hHl hNd hE hLE hAd hAl
        go_enter Tryz.func18, Tryz.ntmps18
        go_wp2_with (first
          | (go_at_call 42; refine hn4.mono ?_; rintro e yy ⟨rfl, hy⟩; obtain rfl := hy.symm)
          | (go_at_call 41; refine (hdg _).mono ?_; rintro e yy ⟨rfl, hy⟩; obtain rfl := hy.symm)
          | (go_at_call 38; refine (hsz _).mono ?_; rintro e yy ⟨rfl, hy⟩; obtain rfl := hy.symm)
          | fail)
        refine bodyPost_ret (z0.load4 rfl rfl _ rfl) rfl ?_
        exact ⟨rfl, hbw⟩
      · have hLi : ¬ (L : Int) < (E : Int) := by omega
        have hnA' := hnA (by omega)
        rw [if_neg (by omega)] at h ⊢
        have hAE : (A : Int) ≤ (E : Int) := by omega
        have hEc : (E : Int) ≤ (bc : Int) := by omega
        have hEA : E - A = 4 := by omega
        have hEAi : (E : Int) - (A : Int) = 4 := by omega
        have z_A : (0 : Int) ≤ (A : Int) := Int.natCast_nonneg _
        by_cases hH0 : H = 0
        · rw [if_pos hH0]
          rw [hH0] at hht
          clear h hnA hHl hNd hE hLE hAd hAl hH0
          go_enter Tryz.func18, Tryz.ntmps18
          go_wp2_with (first
            | (go_at_call 42; have hn4u := hn4; clear hn4; refine hn4u.mono ?_; rintro e yy ⟨rfl, hy⟩; obtain rfl := hy.symm; clear hn4u)
            | (go_at_call 42; refine hnA'.mono ?_; rintro e yy ⟨rfl, hy⟩; obtain rfl := hy.symm)
            | (go_at_call 41; refine (hdg _).mono ?_; rintro e yy ⟨rfl, hy⟩; obtain rfl := hy.symm)
            | (go_at_call 38; refine (hsz _).mono ?_; rintro e yy ⟨rfl, hy⟩; obtain rfl := hy.symm)
            | (go_at_call 43; refine (hht _).mono ?_; rintro e yy ⟨rfl, hy⟩; obtain rfl := hy.symm)
            | fail)
          refine bodyPost_ret (z0.load4 rfl rfl _ rfl) rfl ?_
          exact ⟨rfl, hbw⟩
        · rw [if_neg hH0] at h ⊢
          have hLN : L < N := Decidable.byContradiction fun hh => h (if_neg hh)
          rw [if_pos hLN]
          have hLNi : (L : Int) < (N : Int) := by omega
          have hHb : ((H : Int) == 0) = false := by simp; exact hH0
          have hHi : (H : Int) ≠ 0 := by omega
          obtain ⟨T, hT⟩ : ∃ T : Nat, T = 32 * H := ⟨_, rfl⟩
          have e_T : (32 : Int) * (H : Int) = (T : Int) := by omega
          have s_T : IntKind.i64.wrap (T : Int) = (T : Int) := by rw [IntKind.wrap_i64]; omega
          have e_N : (E : Int) + (T : Int) = (N : Int) := by omega
          have s_N : IntKind.i64.wrap (N : Int) = (N : Int) := by rw [IntKind.wrap_i64]; omega
          clear h hnA hHl hNd hE hLE hAd hAl hH0 hT hLN
          go_enter Tryz.func18, Tryz.ntmps18
          go_wp2_with (first
            | (go_at_call 42; have hn4u := hn4; clear hn4; refine hn4u.mono ?_; rintro e yy ⟨rfl, hy⟩; obtain rfl := hy.symm; clear hn4u)
            | (go_at_call 42; refine hnA'.mono ?_; rintro e yy ⟨rfl, hy⟩; obtain rfl := hy.symm)
            | (go_at_call 41; refine (hdg _).mono ?_; rintro e yy ⟨rfl, hy⟩; obtain rfl := hy.symm)
            | (go_at_call 38; refine (hsz _).mono ?_; rintro e yy ⟨rfl, hy⟩; obtain rfl := hy.symm)
            | (go_at_call 43; refine (hht _).mono ?_; rintro e yy ⟨rfl, hy⟩; obtain rfl := hy.symm)
            | fail)
          refine bodyPost_ret (z0.load4 rfl rfl _ rfl) rfl ?_
          exact ⟨rfl, hbw⟩
end Go.Proofs.YtefndnbaifiboaaGreatDoor

/- Trees of leaves that sign once, the program's own: the number that has a typecode; a signature's kind. -/
namespace Go.Proofs.YtefndnbaifiboaaGreatDoor
open Go.RowKit
set_option linter.unusedVariables false
set_option linter.unusedSimpArgs false

theorem findN_congr {P Q : Nat → Bool} : ∀ (k f : Nat), (∀ y, f ≤ y → P y = Q y) → findN P f k = findN Q f k
  | 0, _, _ => rfl
  | k + 1, f, h => by
    show (if P f = true then f else findN P (f + 1) k) = (if Q f = true then f else findN Q (f + 1) k)
    rw [h f (Nat.le_refl _), findN_congr k (f + 1) fun y hy => h y (by omega)]
/-- from 0 on, where nothing has typecode 0 but what is none -/
theorem findN_zero {g : Nat → Nat} (h0 : g 0 = 0) (c k : Nat) : findN (fun n => decide (g n = c)) 0 (k + 1) = findN (fun n => decide (g n = c ∧ c ≠ 0)) 1 k := by
  show (if decide (g 0 = c) = true then 0 else findN (fun n => decide (g n = c)) (0 + 1) k) = _
  by_cases hc : c = 0
  · subst hc
    rw [if_pos (by simp [h0])]
    have : ∀ (k f : Nat), findN (fun n => decide (g n = 0 ∧ (0 : Nat) ≠ 0)) f k = 0 := by
      intro k
      induction k with
      | zero => intro f; rfl
      | succ k ih => intro f; show (if _ then f else _) = 0; rw [if_neg (by simp)]; exact ih _
    exact (this _ _).symm
  · rw [if_neg (by rw [h0]; simp; exact fun e => hc e.symm)]
    exact findN_congr _ _ fun y _ => by simp [hc]
def FnZ (P : Nat → Bool) (T k0 : Nat) (vi : Value) (w wr : World) : Prop := ∃ f k : Nat, f + k = T ∧ vi = .int .i64 (f : Int) ∧ findN P f k = k0 ∧ wr = w
set_option maxHeartbeats 4000000 in
set_option maxRecDepth 100000 in
theorem whose_any (F : FuncId) (g : Nat → Nat) (N : Nat) (hN : N ≤ 100) (l : List Nat) (cv : Value) (w : World) (hl : Row .u8 256 w cv l)
    (he : ∀ (args : Array Value) (y : World), (callFunc F args).run Tryz.prog y = .ok (.enter F args) y)
    (hf : ∀ (n : Nat) (y : World), Calls Tryz.prog F #[.int .i64 (n : Int)] y fun e w' => e = .returned (.int .u64 (g n : Nat)) ∧ w' = y) :
    Calls Tryz.prog 90 #[cv, .func (.func F) #[] #[], .int .i64 (N : Int)] w fun e w' => e = .returned (.int .i64 (findN (fun n => decide (g n = numL l)) 0 (N + 1) : Nat)) ∧ w' = w := by
  obtain ⟨M, hM⟩ : ∃ M : Nat, M = N + 1 := ⟨_, rfl⟩
  have e_M : (N : Int) + 1 = (M : Int) := by omega
  have s_M : IntKind.i64.wrap (M : Int) = (M : Int) := by rw [IntKind.wrap_i64]; omega
  rw [← hM]
  have hn := num_any _ _ _ hl
  obtain ⟨c, hc⟩ : ∃ c, c = numL l := ⟨_, rfl⟩
  rw [← hc] at hn ⊢
  obtain ⟨P, hP⟩ : ∃ P : Nat → Bool, P = fun n => decide (g n = c) := ⟨_, rfl⟩
  rw [← hP]
  obtain ⟨R, hR⟩ : ∃ R, R = findN P 0 M := ⟨_, rfl⟩
  rw [← hR]
  have H0 : Hid (FnZ P M R (.int .i64 0) w w) := hide ⟨0, M, by omega, rfl, hR.symm, rfl⟩
  have HP := hide (And.intro hP (And.intro hM hN))
  clear hP hR hc hM hN hl
  go_enter Tryz.func90, Tryz.ntmps90
  go_wp2
  go_loopw [10] (fun vi wr => FnZ P M R vi w wr) (fun vi _ => M - (intOf vi).toNat)
  case atStart => exact H0.out
  case round =>
    obtain ⟨f, k, hfk, rfl, hfn, rfl⟩ := hrel
    clear H0
    by_cases hlt : f < M
    · obtain ⟨k', rfl⟩ : ∃ k', k = k' + 1 := ⟨k - 1, by omega⟩
      have hle : (f : Int) < (M : Int) := by omega
      have hst : (if P f = true then f else findN P (f + 1) k') = R := hfn
      obtain ⟨X, hX⟩ : ∃ X : Nat, X = g f := ⟨_, rfl⟩
      have hcf := hf f
      rw [← hX] at hcf
      have hPf : P f = decide (X = c) := by rw [HP.out.1, hX]
      obtain ⟨I, hI⟩ : ∃ I : Nat, I = f + 1 := ⟨_, rfl⟩
      have e_I : (f : Int) + 1 = (I : Int) := by omega
      have s_I : IntKind.i64.wrap (I : Int) = (I : Int) := by rw [IntKind.wrap_i64]; have := HP.out.2; omega
      have HK := hide (And.intro hst (And.intro hX (And.intro hPf (And.intro hI (And.intro hfk hlt)))))
      by_cases hq : X = c
      · have hqi : (X : Int) = (c : Int) := by omega
        have HQ := hide hq
        clear hst hX hPf hI hfn hfk hlt hq
        go_wp2_with (first
          | (go_at_call 45; refine hn.mono ?_; rintro e yy ⟨rfl, hy⟩; obtain rfl := hy.symm)
          | (refine (hcf _).mono ?_; rintro e yy ⟨rfl, hy⟩; obtain rfl := hy.symm)
          | fail)
        go_ret
        obtain ⟨hst, hX, hPf, hI, hfk, hlt⟩ := HK.out
        exact ⟨by rw [← hst, if_pos (by rw [hPf]; simp [HQ.out])]; rfl, rfl⟩
      · have hqi : ¬ (X : Int) = (c : Int) := by omega
        have HQ := hide hq
        clear hst hX hPf hI hfn hfk hlt hq
        go_wp2_with (first
          | (go_at_call 45; refine hn.mono ?_; rintro e yy ⟨rfl, hy⟩; obtain rfl := hy.symm)
          | (refine (hcf _).mono ?_; rintro e yy ⟨rfl, hy⟩; obtain rfl := hy.symm)
          | fail)
        obtain ⟨hst, hX, hPf, hI, hfk, hlt⟩ := HK.out
        go_roundw
        case rel => exact ⟨f + 1, k', by omega, vint (by omega), by rw [← hst, if_neg (by rw [hPf]; simp [HQ.out])], rfl⟩
        case measure => simp [intOf]; omega
    · obtain rfl : k = 0 := by omega
      have hR0 : R = 0 := hfn.symm
      have hge : ¬ (f : Int) < (M : Int) := by omega
      rw [hR0]
      clear hfn hfk hlt
      go_wp2
      go_ret
      exact ⟨rfl, rfl⟩
set_option maxHeartbeats 4000000 in
set_option maxRecDepth 100000 in
theorem cheightOf (l : List Nat) (cv : Value) (w : World) (hl : Row .u8 256 w cv l) : Calls Tryz.prog 75 #[cv] w fun e w' => e = .returned (.int .i64 (hgtL (numL l) : Nat)) ∧ w' = w := by
  have hw := whose_any 32 (fun n => lmCode (n : Int)) 25 (by decide) l cv w hl (fun args y => by simp [Tryz.call32]) (fun n y => chc_any _ y)
  rw [findN_zero (g := fun n => lmCode (n : Int)) (by decide)] at hw
  have e0 : hgtL (numL l) = findN (fun n => decide (lmCode (n : Int) = numL l ∧ numL l ≠ 0)) 1 25 := rfl
  rw [← e0] at hw
  generalize hgtL (numL l) = R at *
  clear e0
  go_enter Tryz.func75, Tryz.ntmps75
  go_wp2_with (first
    | (go_at_call 90; refine hw.mono ?_; rintro e yy ⟨rfl, hy⟩; obtain rfl := hy.symm)
    | fail)
  go_ret
  exact ⟨rfl, rfl⟩
set_option maxHeartbeats 4000000 in
set_option maxRecDepth 100000 in
theorem cwidthOf (l : List Nat) (cv : Value) (w : World) (hl : Row .u8 256 w cv l) : Calls Tryz.prog 74 #[cv] w fun e w' => e = .returned (.int .i64 (dgtL (numL l) : Nat)) ∧ w' = w := by
  have hw := whose_any 37 kdC 8 (by decide) l cv w hl (fun args y => by simp [Tryz.call37]) (fun n y => by have := cwc_any (n : Int) y; rwa [wdC_nat] at this)
  rw [findN_zero (g := kdC) (by decide)] at hw
  have e0 : dgtL (numL l) = findN (fun n => decide (kdC n = numL l ∧ numL l ≠ 0)) 1 8 := rfl
  rw [← e0] at hw
  generalize dgtL (numL l) = R at *
  clear e0
  go_enter Tryz.func74, Tryz.ntmps74
  go_wp2_with (first
    | (go_at_call 90; refine hw.mono ?_; rintro e yy ⟨rfl, hy⟩; obtain rfl := hy.symm)
    | fail)
  go_ret
  exact ⟨rfl, rfl⟩
end Go.Proofs.YtefndnbaifiboaaGreatDoor
