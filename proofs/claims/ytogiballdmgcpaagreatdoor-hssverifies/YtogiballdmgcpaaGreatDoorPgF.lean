/- Steps of a plan behind guards, over a frame of which some slots are known: tools/pg.py writes regions out by them. -/
import Derived.Test.YtogiballdmgcpaaGreatDoorPlan
import Derived.Test.YtogiballdmgcpaaGreatDoorNumLe
import Derived.Test.YtogiballdmgcpaaGreatDoorHRes32
import Derived.Test.YtogiballdmgcpaaGreatDoorHSpr32
import Derived.Test.YtogiballdmgcpaaGreatDoorHTur64
import Derived.Laws.ShiftsVarLaws
import Derived.BigRegion
import Derived.Deep.AppendLies
import Derived.ArgAppend
namespace Go.Proofs.YtogiballdmgcpaaGreatDoor
open Go.RowKit
set_option linter.unusedVariables false
set_option linter.unusedSimpArgs false
section
variable {ops : Array Oper} {Q : Exit → Act → World → Prop} {S : World → Prop} {K : Act → World → Prop}
theorem tmp_isG {a : Act} {d : Nat} {b : Bool} (h : a.eval (.tmp d) = .bool b) : a.tmps[d]? = some (.bool b) := by
  have h' : a.tmps.getD d undef = .bool b := h
  rw [Array.getD_eq_getD_getElem?] at h'
  cases hq : a.tmps[d]? with
  | none => rw [hq] at h'; simp [undef] at h'
  | some v => rw [hq] at h'; simp at h'; rw [h']
theorem wanted_gG {o oj : Oper} {a : Act} {j d : Nat} {b : Bool} (hg : o.guard = some (j, b)) (hj : ops[j]? = some oj) (hd : oj.dst = some d) (hv : a.eval (.tmp d) = .bool b) : Region.wanted o (yielded ops a.tmps) = true := by
  have ht := tmp_isG hv
  simp [Region.wanted, hg, yielded, hj, hd, ht]
theorem wanted_nG {o oj : Oper} {a : Act} {j d : Nat} {b : Bool} (hg : o.guard = some (j, b)) (hj : ops[j]? = some oj) (hd : oj.dst = some d) (hv : a.eval (.tmp d) = .bool (!b)) : Region.wanted o (yielded ops a.tmps) = false := by
  have ht := tmp_isG hv
  cases b <;> simp [Region.wanted, hg, yielded, hj, hd, ht]
theorem y_unG {o : Oper} {a : Act} (hw : Region.wanted o (yielded ops a.tmps) = false) : YieldsIf Tryz.prog ops S o undef a := .inr ⟨hw, rfl⟩
theorem y_ofG {o : Oper} {v : Value} {a : Act} (hw : Region.wanted o (yielded ops a.tmps) = true) (h : ∀ w, S w → (execOp a.eval o).run Tryz.prog w = .ok (.value v) w) : YieldsIf Tryz.prog ops S o v a := .inl ⟨hw, h⟩
theorem y_moveG {o : Oper} {v : Value} {a : Act} {x : Operand} (hw : Region.wanted o (yielded ops a.tmps) = true) (ho : o.op = .move x) (hx : a.eval x = v) : YieldsIf Tryz.prog ops S o v a :=
  y_ofG hw fun w _ => by unfold execOp; simp only [ho, hx]; rfl
theorem y_rowG {o : Oper} {a : Act} {x : Operand} {t : TypeId} {b c : Nat} {cs : List Value} {d : TypeDesc} (hw : Region.wanted o (yielded ops a.tmps) = true) (ho : o.op = .load t x) (hx : a.eval x = .pointer (some ⟨b, c, none⟩))
    (hu : Tryz.prog.underlying t = some d) (hd : d.isRow = true) (hi : (Tryz.prog.info? t).map (·.size) = some cs.length) (hc : ∀ w, S w → w.rangeAt b c cs) : YieldsIf Tryz.prog ops S o (.agg cs.toArray) a := yieldsIf_load_mid hw t x ho b c hx cs d hc hu hd hi
theorem y_notG {o : Oper} {a : Act} {x : Operand} {t : TypeId} {b : Bool} (hw : Region.wanted o (yielded ops a.tmps) = true) (ho : o.op = .unOp .not t x) (hx : a.eval x = .bool b) : YieldsIf Tryz.prog ops S o (.bool (!b)) a := by
  refine y_ofG hw fun w _ => ?_
  unfold execOp
  simp only [ho, hx]
  simp [Op.unary, go_sem]
theorem y_pickT {o : Oper} {v : Value} {a : Act} {c x y : Operand} (hg : o.guard = none) (ho : o.op = .pick c x y) (hc : a.eval c = .bool true) (hx : a.eval x = v) : YieldsIf Tryz.prog ops S o v a :=
  y_of hg fun w _ => by unfold execOp; simp only [ho, hc, hx]; rfl
theorem y_pickE {o : Oper} {v : Value} {a : Act} {c x y : Operand} (hg : o.guard = none) (ho : o.op = .pick c x y) (hc : a.eval c = .bool false) (hy : a.eval y = v) : YieldsIf Tryz.prog ops S o v a :=
  y_of hg fun w _ => by unfold execOp; simp only [ho, hc, hy]; rfl
theorem p_callG {i : Nat} {o : Oper} {a : Act} {w : World} {f : FuncId} {xs : Array Operand} {ts : Array TypeId} {args : Array Value} {d : Option Nat} (hi : ops[i]? = some o) (hw : Region.wanted o (yielded ops a.tmps) = true)
    (ho : o.op = .call { callee := .value (.func f), args := xs, argTypes := ts }) (ha : xs.map a.eval = args) (hd : o.dst = d) (hf : ∀ (args : Array Value) (w : World), (callFunc f args).run Tryz.prog w = .ok (.enter f args) w)
    (h : Calls Tryz.prog f args w fun e w' => ∃ v, e = .returned v ∧ K (a.put d v) w') : wpOp Tryz.prog ops Q i K a w := by
  have hr : (execOp a.eval o).run Tryz.prog w = .ok (.enter f args) w := by
    unfold execOp
    simp only [ho]
    simp [resolve, ha, go_sem, hf]
  unfold wpOp
  simp only [hi]
  rw [if_pos hw]
  left
  unfold Oper.wp
  rw [hr]
  refine h.mono ?_
  rintro e w' ⟨v, rfl, hk⟩
  rw [← hd] at hk
  exact hk
theorem y_assignG {o : Oper} {v : Value} {a : Act} {x : Operand} (hw : Region.wanted o (yielded ops a.tmps) = true) (ho : o.op = .assign x) (hx : a.eval x = v) : YieldsIf Tryz.prog ops S o v a :=
  y_ofG hw fun w _ => by unfold execOp; simp only [ho, hx]; rfl
theorem y_extractG {o : Oper} {v : Value} {a : Act} {x : Operand} {k : Nat} {vs : Array Value} (hw : Region.wanted o (yielded ops a.tmps) = true) (ho : o.op = .extract x k) (hx : a.eval x = .tuple vs) (hk : vs[k]? = some v) : YieldsIf Tryz.prog ops S o v a :=
  y_ofG hw fun w _ => by unfold execOp; simp only [ho, hx]; simp [hk, go_sem]
theorem y_pickEG {o : Oper} {v : Value} {a : Act} {c x y : Operand} (hw : Region.wanted o (yielded ops a.tmps) = true) (ho : o.op = .pick c x y) (hc : a.eval c = .bool false) (hy : a.eval y = v) : YieldsIf Tryz.prog ops S o v a :=
  y_ofG hw fun w _ => by unfold execOp; simp only [ho, hc, hy]; rfl
theorem y_plainG {o : Oper} {v : Value} {a : Act} {x : Operand} {t : TypeId} {p : Addr} {d : TypeDesc} (hw : Region.wanted o (yielded ops a.tmps) = true) (ho : o.op = .load t x) (hx : a.eval x = .pointer (some p)) (hu : Tryz.prog.underlying t = some d) (hd : (match d with | .struct _ | .array _ _ => true | _ => false) = false) (hc : ∀ w, S w → w.cell? p = some v) : YieldsIf Tryz.prog ops S o v a := by
  refine y_ofG hw fun w hs => ?_
  have c := hc w hs
  have hag : (isAgg t).run Tryz.prog w = .ok false w := by
    unfold isAgg
    rw [Sem.run_bind, run_underlying hu w]
    cases d <;> first | rfl | cases hd
  unfold execOp
  simp only [ho, hx]
  simp [Instr.loadAt, Instr.sureAddr, Sem.run_bind, run_underlying hu w, hag, c, go_sem]
theorem y_fieldG {o : Oper} {a : Act} {x : Operand} {t : TypeId} {q q' f off : Nat} (hw : Region.wanted o (yielded ops a.tmps) = true) (ho : o.op = .fieldAddr t x f) (hx : a.eval x = .pointer (some ⟨q, q', none⟩))
    (hf : ∀ w : World, (Instr.fieldAt t (.pointer (some ⟨q, q', none⟩)) f).run Tryz.prog w = .ok (.pointer (some ⟨q, off, none⟩)) w) : YieldsIf Tryz.prog ops S o (.pointer (some ⟨q, off, none⟩)) a := by
  refine y_ofG hw fun w _ => ?_
  unfold execOp
  simp only [ho, hx]
  simp [hf w, Sem.run_bind]
/-- the place of an element of m cells -/
theorem y_indexG {o : Oper} {a : Act} {x y : Operand} {t e : TypeId} {g f n c i m : Nat} (hw : Region.wanted o (yielded ops a.tmps) = true) (ho : o.op = .indexAddr t x y) (hx : a.eval x = .slice (some ⟨g, f, none⟩) n c) (hy : a.eval y = .int .i64 (i : Int)) (hu : Tryz.prog.underlying t = some (.slice e)) (hs : (Tryz.prog.info? e).map (·.size) = some m) (hi : i < n) : YieldsIf Tryz.prog ops S o (.pointer (some ⟨g, f + i * m, none⟩)) a := by
  cases hq : Tryz.prog.info? e with
  | none => simp [hq] at hs
  | some z =>
    have hz : z.size = m := by simpa [hq] using hs
    refine y_ofG hw fun w _ => ?_
    unfold execOp
    simp only [ho, hx, hy]
    simp [Instr.indexAt, asIntOf, Sem.run_bind, run_underlying hu w, sizeOf, typeInfo, hq, hz, hi, Addr.add, go_sem]
    try omega
theorem y_lenP {o : Oper} {a : Act} {x : Operand} {t e : TypeId} {aa : Option Addr} {n cc : Nat} (hw : Region.wanted o (yielded ops a.tmps) = true) (ho : o.op = .call { callee := .builtin .len, args := #[x], argTypes := #[t] }) (hx : a.eval x = .slice aa n cc) (hu : Tryz.prog.underlying t = some (.slice e)) : YieldsIf Tryz.prog ops S o (.int .i64 (n : Int)) a :=
  y_ofG hw fun w _ => by
    unfold execOp
    have ha : (#[x] : Array Operand).map a.eval = #[.slice aa n cc] := by simp only [List.map_toArray, List.map_cons, List.map_nil, hx]
    generalize (#[x] : Array Operand) = xs at ho ha
    simp only [ho]
    simp [resolve, ha, go_sem, Builtin.len_, Sem.run_bind, run_underlying hu]
theorem y_neI {o : Oper} {a : Act} {x y : Operand} {t t' : TypeId} {k : IntKind} {i j : Int} {b : Bool} (hw : Region.wanted o (yielded ops a.tmps) = true) (ho : o.op = .binOp .neq t x y t') (hx : a.eval x = .int k i) (hy : a.eval y = .int k j) (hu : Tryz.prog.underlying t = some (.int k)) (hb : (i != j) = b) : YieldsIf Tryz.prog ops S o (.bool b) a := by
  refine y_ofG hw fun w _ => ?_
  unfold execOp
  simp only [ho, hx, hy]
  simp [go_sem, Sem.run_bind, eqGuard, run_underlying hu, ← hb]
/-- a sum of two ints -/
theorem y_addI {o : Oper} {a : Act} {x y : Operand} {t t' : TypeId} {i j q : Int} (hw : Region.wanted o (yielded ops a.tmps) = true) (ho : o.op = .binOp .add t x y t') (hx : a.eval x = .int .i64 i) (hy : a.eval y = .int .i64 j) (hu : Tryz.prog.underlying t = some (.int .i64)) (hb : IntKind.i64.wrap (i + j) = q) : YieldsIf Tryz.prog ops S o (.int .i64 q) a := by
  refine y_ofG hw fun w _ => ?_
  unfold execOp
  simp only [ho, hx, hy]
  simp [go_sem, Sem.run_bind, run_underlying hu, hb]
theorem y_mulI {o : Oper} {a : Act} {x y : Operand} {t t' : TypeId} {i j q : Int} (hw : Region.wanted o (yielded ops a.tmps) = true) (ho : o.op = .binOp .mul t x y t') (hx : a.eval x = .int .i64 i) (hy : a.eval y = .int .i64 j) (hu : Tryz.prog.underlying t = some (.int .i64)) (hb : IntKind.i64.wrap (i * j) = q) : YieldsIf Tryz.prog ops S o (.int .i64 q) a := by
  refine y_ofG hw fun w _ => ?_
  unfold execOp
  simp only [ho, hx, hy]
  simp [go_sem, Sem.run_bind, run_underlying hu, hb]
theorem y_convI {o : Oper} {a : Act} {x : Operand} {t t' : TypeId} {k k' : IntKind} {i j : Int} (hw : Region.wanted o (yielded ops a.tmps) = true) (ho : o.op = .convert t t' x) (hx : a.eval x = .int k i) (hr : ∀ w, (convert t t' (.int k i)).run Tryz.prog w = .ok (.int k' j) w) : YieldsIf Tryz.prog ops S o (.int k' j) a := by
  refine y_ofG hw fun w _ => ?_
  have h := hr w
  unfold execOp
  simp only [ho, hx]
  simp [Sem.run_bind, h]
theorem p_build2G {i : Nat} {o : Oper} {a : Act} {w : World} {t e : TypeId} {x y : Operand} {ax ay : Option Addr} {nx cx ny cy : Nat} {d : Option Nat} {z : TypeInfo} (hi : ops[i]? = some o) (hw : Region.wanted o (yielded ops a.tmps) = true) (ho : o.op = .buildSlice t 2 #[(0, x), (1, y)]) (hx : a.eval x = .slice ax nx cx) (hy : a.eval y = .slice ay ny cy) (hd : o.dst = d)
    (hu : Tryz.prog.underlying t = some (.slice e)) (hz : Tryz.prog.info? e = some z) (hs : z.size = 1) (hz0 : z.zero = some (.slice none 0 0)) (h : K (a.put d (.slice (some ⟨w.heap.size, 0, none⟩) 2 2)) (w.alloc (.cells #[.slice ax nx cx, .slice ay ny cy] e))) : wpOp Tryz.prog ops Q i K a w := by
  have hr : (execOp a.eval o).run Tryz.prog w = .ok (.value (.slice (some ⟨w.heap.size, 0, none⟩) 2 2)) (w.alloc (.cells #[.slice ax nx cx, .slice ay ny cy] e)) := by
    unfold execOp
    simp only [ho, List.map_toArray, List.map_cons, List.map_nil, hx, hy]
    simp [Sem.run_bind, run_underlying hu, sizeOf, typeInfo, zeroValue, hz, hs, hz0, go_sem]
  unfold wpOp
  simp only [hi]
  rw [if_pos hw]
  left
  unfold Oper.wp
  rw [hr]
  show K (a.put o.dst _) _
  rw [hd]
  exact h
end
end Go.Proofs.YtogiballdmgcpaaGreatDoor

/- Leaves that sign once: plain facts. -/
namespace Go.Proofs.YtogiballdmgcpaaGreatDoor
open Go.RowKit
set_option linter.unusedVariables false
set_option linter.unusedSimpArgs false

theorem leM_under (V o : Nat) : Under 256 (leL V o) := by
  intro x hx
  obtain ⟨i, _, rfl⟩ := List.mem_map.1 hx
  exact Nat.mod_lt _ (by decide)

theorem dig_ltM (l : List Nat) (w i : Nat) : dig l w i < 2 ^ w := Nat.mod_lt _ (pp w)
/-- the sum of what digits lack -/
def lackL (m : Nat) : List Nat → Nat
  | [] => 0
  | x :: l => (m - x) + lackL m l
theorem lack_lt (m : Nat) : ∀ a : List Nat, lackL m a ≤ a.length * m
  | [] => Nat.zero_le _
  | x :: a => by
    have := lack_lt m a
    show (m - x) + lackL m a ≤ (a.length + 1) * m
    rw [Nat.add_mul, Nat.one_mul]
    omega
theorem lack_snoc (m : Nat) (x : Nat) : ∀ a : List Nat, lackL m (a ++ [x]) = lackL m a + (m - x)
  | [] => by show (m - x) + 0 = 0 + (m - x); omega
  | y :: a => by show (m - y) + lackL m (a ++ [x]) = (m - y) + lackL m a + (m - x); rw [lack_snoc m x a]; omega
/-- a kind: how many digits a digest has, how many its check; the shift -/
structure KindL (w n m s : Nat) : Prop where
  w1 : 1 ≤ w
  w8 : w ≤ 8
  full : n * w = 256
  chk : s + m * w = 16
  room : n * (2 ^ w - 1) < 2 ^ (m * w)
theorem kind_1 : KindL 1 256 9 7 := ⟨by decide, by decide, by decide, by decide, by decide⟩
theorem kind_2 : KindL 2 128 5 6 := ⟨by decide, by decide, by decide, by decide, by decide⟩
theorem kind_4 : KindL 4 64 3 4 := ⟨by decide, by decide, by decide, by decide, by decide⟩
theorem kind_8 : KindL 8 32 2 0 := ⟨by decide, by decide, by decide, by decide, by decide⟩
/-- the digits of a digest, with their check -/
def chkL (w n : Nat) (d : List Nat) : Nat := lackL (2 ^ w - 1) (digL d w n)
def digsL (w n m s : Nat) (d : List Nat) : List Nat := digL (d ++ (leL (chkL w n d * 2 ^ s) 2).reverse) w (n + m)
section
variable {w n m s : Nat} (hK : KindL w n m s) {d : List Nat} (hd : d.length = 32) (hu : Under 256 d)
include hK in
theorem chk_lt (d : List Nat) : chkL w n d < 2 ^ (m * w) := by
  have := lack_lt (2 ^ w - 1) (digL d w n)
  rw [digL_length] at this
  exact Nat.lt_of_le_of_lt this hK.room
include hK in
theorem chk_16 (d : List Nat) : chkL w n d * 2 ^ s < 65536 := by
  have h1 := chk_lt hK d
  have h2 : 2 ^ (m * w) * 2 ^ s = 65536 := by rw [← Nat.pow_add, Nat.add_comm, hK.chk]
  have := Nat.mul_lt_mul_of_pos_right h1 (Nat.pow_pos (n := s) (by decide : 0 < 2))
  omega
theorem digs_len (d : List Nat) : (digsL w n m s d).length = n + m := digL_length _ _ _
theorem digs_lt (d : List Nat) : ∀ x ∈ digsL w n m s d, x < 2 ^ w := by
  intro x hx
  unfold digsL digL at hx
  obtain ⟨i, _, rfl⟩ := List.mem_map.1 hx
  exact dig_ltM _ _ _
end
end Go.Proofs.YtogiballdmgcpaaGreatDoor

/- Leaves that sign once: chains, plain, over whatever sum H. -/
namespace Go.Proofs.YtogiballdmgcpaaGreatDoor
open Go.RowKit
set_option linter.unusedVariables false
set_option linter.unusedSimpArgs false

def be2 (n : Nat) : List Nat := (leL n 2).reverse
def be4 (n : Nat) : List Nat := (leL n 4).reverse
theorem be2_len (n : Nat) : (be2 n).length = 2 := by unfold be2; rw [List.length_reverse, leL_length]
theorem be4_len (n : Nat) : (be4 n).length = 4 := by unfold be4; rw [List.length_reverse, leL_length]
theorem be4_under (n : Nat) : Under 256 (be4 n) := fun x hx => leM_under _ _ x (List.mem_reverse.1 hx)
theorem flat_32_len : ∀ (ps : List (List Nat)), (∀ p ∈ ps, p.length = 32) → ps.flatten.length = 32 * ps.length
  | [], _ => rfl
  | p :: ps, hp => by
    show (p ++ ps.flatten).length = _
    rw [List.length_append, hp p (by simp), flat_32_len ps (fun q hq => hp q (by simp [hq])), List.length_cons]
    omega
section
variable (H : List Nat → List Nat) (pre : List Nat)
/-- a part's step, and its beginning (b of 255, y the seed) -/
def lmX (i b : Nat) (y : List Nat) : List Nat := H (pre ++ (be2 i ++ ([b] ++ y)))
/-- k steps from f on -/
def chN (i f : Nat) : Nat → List Nat → List Nat
  | 0, y => y
  | k + 1, y => lmX H pre i (f + k) (chN i f k y)
def keyH (ends : List (List Nat)) : List Nat := H (pre ++ (be2 32896 ++ ends.flatten))
def digH (c text : List Nat) : List Nat := H (pre ++ (be2 33153 ++ (c ++ text)))
def endsC (W : Nat) (ds : List Nat) (sig : List Nat) : List (List Nat) := (List.range ds.length).map fun i => chN H pre i (el ds i) (W - el ds i) ((sig.drop (36 + 32 * i)).take 32)
end
section
variable {H : List Nat → List Nat} {pre : List Nat}
theorem chN_len (hH : ∀ x, (H x).length = 32) (i f : Nat) (y : List Nat) (hy : y.length = 32) : ∀ k, (chN H pre i f k y).length = 32
  | 0 => hy
  | k + 1 => hH _
variable (hH : ∀ x, (H x).length = 32)
end
end Go.Proofs.YtogiballdmgcpaaGreatDoor

/- Trees of leaves that sign once: plain facts, over whatever sums of knots (ov) and leaves (lf). -/
namespace Go.Proofs.YtogiballdmgcpaaGreatDoor
open Go.RowKit
set_option linter.unusedVariables false
set_option linter.unusedSimpArgs false

section
variable (ov : Nat → List Nat → List Nat → List Nat) (lf : Nat → List Nat)
/-- the sum of a knot with d levels below it -/
def kn : Nat → Nat → List Nat
  | 0, n => lf n
  | d + 1, n => ov n (kn d (2 * n)) (kn d (2 * n + 1))
/-- up from a sum by its neighbours -/
def climb : List (List Nat) → Nat → List Nat → List Nat
  | [], _, s => s
  | p :: ps, n, s => climb ps (n / 2) (if n % 2 = 0 then ov (n / 2) s p else ov (n / 2) p s)
end
theorem xor_one (n : Nat) : n ^^^ 1 = if n % 2 = 0 then n + 1 else n - 1 := by
  have h : ∀ m, (2 * m) ^^^ 1 = 2 * m + 1 := fun m => by
    apply Nat.eq_of_testBit_eq
    intro i
    rw [Nat.testBit_xor]
    cases i with
    | zero => simp
    | succ i =>
      rw [Nat.testBit_succ, Nat.testBit_succ, Nat.testBit_succ, show 2 * m / 2 = m by omega, show (2 * m + 1) / 2 = m by omega]
      simp
  by_cases e : n % 2 = 0
  · obtain ⟨m, rfl⟩ : ∃ m, n = 2 * m := ⟨n / 2, by omega⟩
    rw [if_pos e, h]
  · obtain ⟨m, rfl⟩ : ∃ m, n = 2 * m + 1 := ⟨n / 2, by omega⟩
    rw [if_neg e, ← h m, Nat.xor_assoc, Nat.xor_self, Nat.xor_zero, h]
    omega
section
variable {ov : Nat → List Nat → List Nat → List Nat} {lf : Nat → List Nat}
end
/-- a height's typecode -/
def lmCode (h : Int) : Nat := if 1 ≤ h ∧ h ≤ 4 then 3758096384 + h.toNat else if 5 ≤ h ∧ h ≤ 25 ∧ h % 5 = 0 then 4 + h.toNat / 5 else 0
theorem lmCode_32 (h : Int) : lmCode h < 4294967296 := by
  unfold lmCode
  repeat' split
  all_goals omega
theorem lmCode_inj {h k : Int} (e : lmCode h = lmCode k) (h0 : lmCode h ≠ 0) : h = k := by
  unfold lmCode at e h0
  repeat' split at h0
  all_goals (repeat' split at e)
  all_goals omega
end Go.Proofs.YtogiballdmgcpaaGreatDoor

/- A value whose block is not older than a bound. -/
namespace Go.Proofs.YtogiballdmgcpaaGreatDoor
open Go.RowKit
set_option linter.unusedVariables false
def New (B : Nat) (v : Value) : Prop := ∀ q, v.ownBlock = some q → B ≤ q
theorem New.at {B g n c o : Nat} (h : B ≤ g) : New B (.slice (some ⟨g, o, none⟩) n c) := fun q hq => by
  have : g = q := by simpa [Value.ownBlock] using hq
  omega
theorem New.nil (B n c : Nat) : New B (.slice none n c) := fun q hq => by simp [Value.ownBlock] at hq
theorem New.mono {B B' : Nat} {v : Value} (h : New B v) (hB : B' ≤ B) : New B' v := fun q hq => Nat.le_trans hB (h q hq)
theorem Own.new {e : TypeId} {k : IntKind} {m : Nat} {w : World} {B : Nat} {v : Value} {l : List Nat} (h : Own e k m w B v l) : New B v := fun q hq => (h.1.lt q hq).1
end Go.Proofs.YtogiballdmgcpaaGreatDoor

/- Contracts of the document's right, mix; its tables. -/
namespace Go.Proofs.YtogiballdmgcpaaGreatDoor
open Go.RowKit
set_option linter.unusedVariables false
set_option linter.unusedSimpArgs false

/-- what right tells, of any number -/
def rgt (b : Bool) (r x : Nat) : Nat := bif b then rot true r x else x / 2 ^ r ||| x * 2 ^ (32 - r) % 18446744073709551616 % 4294967296
theorem rgt_rot {b : Bool} {r x : Nat} (hx : x < wm b) (hr : r ≤ 32) : rgt b r x = rot b r x := by
  cases b with
  | true => rfl
  | false =>
    show x / 2 ^ r ||| x * 2 ^ (32 - r) % 18446744073709551616 % 4294967296 = x / 2 ^ r ||| x * 2 ^ (32 - r) % 4294967296
    congr 1
    rw [Nat.mod_mod_of_dvd _ (by decide)]
theorem rgt_lt {b : Bool} {r x : Nat} (hx : x < 18446744073709551616) : rgt b r x < 18446744073709551616 := by
  cases b with
  | true => exact rot_lt (b := true) hx r
  | false =>
    have h2 : x * 2 ^ (32 - r) % 18446744073709551616 % 4294967296 < 4294967296 := Nat.mod_lt _ (by decide)
    exact Nat.or_lt_two_pow (n := 64) (Nat.lt_of_le_of_lt (Nat.div_le_self _ _) hx) (Nat.lt_of_lt_of_le h2 (by decide))
theorem and_ones32 (x : Nat) (hx : x < 18446744073709551616) : bits .and .u64 (x : Int) 4294967295 = ((x % 4294967296 : Nat) : Int) := by
  rw [show (4294967295 : Int) = ((4294967295 : Nat) : Int) from rfl, u64_and_nat x _ hx (by decide)]
  congr 1
  exact Nat.and_two_pow_sub_one_eq_mod x 32
theorem and_ones64 (x : Nat) (hx : x < 18446744073709551616) : bits .and .u64 (x : Int) 18446744073709551615 = ((x : Nat) : Int) := by
  rw [show (18446744073709551615 : Int) = ((18446744073709551615 : Nat) : Int) from rfl, u64_and_nat x _ hx (by decide)]
  congr 1
  rw [Nat.and_two_pow_sub_one_eq_mod x 64]
  exact Nat.mod_eq_of_lt hx

set_option maxHeartbeats 1000000 in
theorem right_any (b : Bool) (x r : Nat) (w : World) (hx : x < 18446744073709551616) (hr : r < wb b) :
    Calls Tryz.prog 149 #[.int .u64 x, .int .i64 r, .bool b] w fun e w' => e = .returned (.int .u64 (rgt b r x : Nat)) ∧ Below w.heap.size w w' := by
  cases b with
  | true =>
    have hr' : r < 64 := hr
    have m1 : min r 64 = r := by omega
    clear hr
    go_enter Tryz.func149, Tryz.ntmps149
    go_wp2
    go_quiet (fail)
    go_wp2
    go_ret
    exact ⟨ret_int (rot_is64 x r hx hr'), bel_drewN (Below.refl _ _) _⟩
  | false =>
    have hr' : r < 32 := hr
    have m1 : min r 64 = r := by omega
    clear hr
    go_enter Tryz.func149, Tryz.ntmps149
    go_wp2
    go_quiet (fail)
    go_wp2
    go_ret
    refine ⟨ret_int ?_, bel_drewN (Below.refl _ _) _⟩
    have e1 : (x : Int) / 2 ^ r = ((x / 2 ^ r : Nat) : Int) := by simp
    have e2 : IntKind.u64.wrap ((x : Int) * 2 ^ (32 - r)) = ((x * 2 ^ (32 - r) % 18446744073709551616 : Nat) : Int) := by rw [IntKind.wrap_u64]; simp
    rw [e1, e2, and_ones32 _ (Nat.mod_lt _ (by decide)), u64_or_nat _ _ (Nat.lt_of_le_of_lt (Nat.div_le_self _ _) hx) (Nat.lt_of_lt_of_le (Nat.mod_lt _ (by decide)) (by decide))]
    rfl

/-- what mix tells, of any number -/
def rmx (b sh : Bool) (r1 r2 r3 x : Nat) : Nat := rgt b r1 x ^^^ rgt b r2 x ^^^ (bif sh then x / 2 ^ r3 else rgt b r3 x)
theorem rmx_lt {b sh : Bool} {r1 r2 r3 x : Nat} (hx : x < 18446744073709551616) : rmx b sh r1 r2 r3 x < 18446744073709551616 := by
  have h := fun r => rgt_lt (b := b) (r := r) hx
  refine Nat.xor_lt_two_pow (n := 64) (Nat.xor_lt_two_pow (n := 64) (h r1) (h r2)) ?_
  cases sh with
  | true => exact Nat.lt_of_le_of_lt (Nat.div_le_self _ _) hx
  | false => exact h r3
theorem rmx_turn {b : Bool} {r1 r2 r3 x : Nat} (hx : x < wm b) (h1 : r1 < wb b) (h2 : r2 < wb b) (h3 : r3 < wb b) : rmx b false r1 r2 r3 x = turn3 b r1 r2 r3 x := by
  cases b with
  | true => rfl
  | false =>
    have h1' : r1 < 32 := h1
    have h2' : r2 < 32 := h2
    have h3' : r3 < 32 := h3
    unfold rmx turn3
    rw [rgt_rot hx (by omega), rgt_rot hx (by omega), cond_false, rgt_rot hx (by omega)]
theorem rmx_shft {b : Bool} {r1 r2 r3 x : Nat} (hx : x < wm b) (h1 : r1 < wb b) (h2 : r2 < wb b) : rmx b true r1 r2 r3 x = shft3 b r1 r2 r3 x := by
  cases b with
  | true => rfl
  | false =>
    have h1' : r1 < 32 := h1
    have h2' : r2 < 32 := h2
    unfold rmx shft3
    rw [rgt_rot hx (by omega), rgt_rot hx (by omega), cond_true]

set_option maxHeartbeats 1000000 in
theorem rmix_any (b sh : Bool) (x r1 r2 r3 : Nat) (w : World) (hx : x < 18446744073709551616) (h1 : r1 < wb b) (h2 : r2 < wb b) (h3 : r3 < wb b) :
    Calls Tryz.prog 137 #[.int .u64 x, .int .i64 r1, .int .i64 r2, .int .i64 r3, .bool sh, .bool b] w fun e w' => e = .returned (.int .u64 (rmx b sh r1 r2 r3 x : Nat)) ∧ Below w.heap.size w w' := by
  have hle : wb b ≤ 64 := by cases b <;> decide
  have m1 : min r3 64 = r3 := by omega
  have hrg := fun r => rgt_lt (b := b) (r := r) hx
  cases sh with
  | true =>
    go_enter Tryz.func137, Tryz.ntmps137
    go_wp2_with fail
    refine (right_any b x r1 _ hx h1).mono ?_
    rintro e w1 ⟨rfl, hb1⟩
    go_wp2_with fail
    refine (right_any b x r2 _ hx h2).mono ?_
    rintro e w2 ⟨rfl, hb2⟩
    go_wp2
    go_ret
    refine ⟨ret_int ?_, keep_trans hb1 hb2⟩
    have e1 : (x : Int) / 2 ^ r3 = ((x / 2 ^ r3 : Nat) : Int) := by simp
    rw [e1, xor_is64 _ _ (hrg r1) (hrg r2), xor_is64 _ _ (Nat.xor_lt_two_pow (n := 64) (hrg r1) (hrg r2)) (Nat.lt_of_le_of_lt (Nat.div_le_self _ _) hx)]
    rfl
  | false =>
    go_enter Tryz.func137, Tryz.ntmps137
    go_wp2_with fail
    refine (right_any b x r3 _ hx h3).mono ?_
    rintro e w0 ⟨rfl, hb0⟩
    go_wp2_with fail
    refine (right_any b x r1 _ hx h1).mono ?_
    rintro e w1 ⟨rfl, hb1⟩
    go_wp2_with fail
    refine (right_any b x r2 _ hx h2).mono ?_
    rintro e w2 ⟨rfl, hb2⟩
    go_wp2
    go_ret
    refine ⟨ret_int ?_, keep_trans hb0 (keep_trans hb1 hb2)⟩
    rw [xor_is64 _ _ (hrg r1) (hrg r2), xor_is64 _ _ (Nat.xor_lt_two_pow (n := 64) (hrg r1) (hrg r2)) (hrg r3)]
    rfl

end Go.Proofs.YtogiballdmgcpaaGreatDoor

/- append onto a row of the call's own: its old cells stay as they were. -/
namespace Go.Proofs.YtogiballdmgcpaaGreatDoor
open Go.RowKit
set_option linter.unusedVariables false
set_option linter.unusedSimpArgs false

theorem run_append_keeps {P : Program} (w : World) (t ty : TypeId) (base : Nat) (e : TypeId) (i : TypeInfo) (z : Value) (bytes : Nat) (ht : P.underlying t = some (.slice e)) (hi : P.info? e = some i) (hz : i.zero = some z)
    (hsize : i.size = 1) (hby : i.bytes = bytes) (hzs : z.cells.size = 1)
    (g0 n cap0 : Nat) (xs : List Value) (hown : w.ownsRow base e 1 (.slice (some ⟨g0, 0, none⟩) n cap0) n xs)
    (ad : Addr) (m c : Nat) (news : List Value) (hl : news.length = m) (hnews : ∀ j u, news[j]? = some u → w.cell? (ad.add j) = some u) (h1 : ∀ u ∈ news, u.oneCell' = true)
    (hm : 0 < m) (h63 : n + m ≤ maxLen) (hbytes : (n + m) * bytes ≤ 140737488355328) (hbase : base ≤ w.heap.size) :
    ∃ g cap w', (Builtin.append_ #[t, t] ty #[.slice (some ⟨g0, 0, none⟩) n cap0, .slice (some ad) m c]).run P w = .ok (.slice (some ⟨g, 0, none⟩) (n + m) cap) w' ∧
      w'.ownsRow base e 1 (.slice (some ⟨g, 0, none⟩) (n + m) cap) (n + m) (xs ++ news) ∧ w.grownBy w' (some g0) ∧ ∀ j, j < n → w'.cell? ⟨g0, j, none⟩ = w.cell? ⟨g0, j, none⟩ := by
  obtain ⟨g, cap, w', hr, h2, h3, h4, h5⟩ := run_append_lies (P := P) w t ty base e i z 1 bytes ht hi hz hsize hby hzs (by decide) _ n xs hown ad m c news (by rw [hl, Nat.mul_one]) hnews h1 hm h63 hbytes hbase _ rfl
  refine ⟨g, cap, w', hr, h2, h3, fun j hj => ?_⟩
  have hown' := hown
  obtain ⟨hlen, ⟨he, _⟩ | ⟨q, cq, cur, he, hB, hg, hn, hc, hcs, htk⟩⟩ := hown
  · cases he
  · obtain ⟨rfl, rfl⟩ : g0 = q ∧ cap0 = cq := by simpa using he
    by_cases hroom : n + m ≤ cap0
    · have hrr := run_append_room_cells (P := P) w t ty e i ht hi g0 0 n cap0 ad m c news (by rw [hl, hsize, Nat.mul_one]) hnews h1 hroom
        (fun j hj => by rw [cell_of_row w g0 _ cur e (0, 0) hg, hsize]; simp; omega)
        (fun j hj => by simp [World.frozen?, hg])
      rw [hr] at hrr
      obtain rfl : w' = w.setCells g0 (0 + n * i.size) news := (Result.ok.inj hrr).2
      exact World.cell?_setCells_out g0 news _ w ⟨g0, j, none⟩ (fun _ _ => .inl (by show j < 0 + n * i.size; rw [hsize]; omega))
    · obtain ⟨v2, w2, hr2, _, hg2⟩ := run_append_arg_grows (P := P) w t ty e i z 1 bytes ht hi hz hsize hby hzs (by decide) ⟨g0, 0, none⟩ n cap0 xs hlen
        (fun j u hu => by
          have hjx : j < xs.length := (List.getElem?_eq_some_iff.1 hu).1
          rw [Addr.add_lit, Nat.zero_add, hown'.cellAt j (by omega)]; exact hu) ad m c news (by rw [hl, Nat.mul_one]) hnews (by omega) h63 hbytes
      rw [hr] at hr2
      obtain rfl : w' = w2 := (Result.ok.inj hr2).2
      exact World.cell?_of_block (hg2.block g0 (by rcases Nat.lt_or_ge g0 w.heap.size with h' | h'
                                                   · exact h'
                                                   · rw [Array.getElem?_eq_none h'] at hg; cases hg) (by simp))

theorem step_append_keeps {P : Program} {w : World} {ops : Array Oper} {o : Oper} {a : Act} {K : Act → World → Prop} {Q : Exit → Act → World → Prop} {E : Prop} (hgd : o.guard = none) (s x : Operand) (t : TypeId)
    (ho : o.op = .call { callee := .builtin .append, args := #[s, x], argTypes := #[t, t] })
    (base : Nat) (e : TypeId) (i : TypeInfo) (z : Value) (bytes : Nat) (ht : P.underlying t = some (.slice e)) (hi : P.info? e = some i) (hz : i.zero = some z)
    (hsize : i.size = 1) (hby : i.bytes = bytes) (hzs : z.cells.size = 1)
    (g0 n cap0 : Nat) (xs : List Value) (hs : a.eval s = .slice (some ⟨g0, 0, none⟩) n cap0) (hown : w.ownsRow base e 1 (.slice (some ⟨g0, 0, none⟩) n cap0) n xs)
    (ad : Addr) (m c : Nat) (news : List Value) (hx : a.eval x = .slice (some ad) m c) (hl : news.length = m) (hnews : ∀ j u, news[j]? = some u → w.cell? (ad.add j) = some u) (h1 : ∀ u ∈ news, u.oneCell' = true)
    (hm : 0 < m) (h63 : n + m ≤ maxLen) (hbytes : (n + m) * bytes ≤ 140737488355328) (hbase : base ≤ w.heap.size)
    (h : ∀ g cap w', w'.ownsRow base e 1 (.slice (some ⟨g, 0, none⟩) (n + m) cap) (n + m) (xs ++ news) → w.grownBy w' (some g0) → (∀ j, j < n → w'.cell? ⟨g0, j, none⟩ = w.cell? ⟨g0, j, none⟩) → K (a.put o.dst (.slice (some ⟨g, 0, none⟩) (n + m) cap)) w') :
    if Region.wanted o (yielded ops a.tmps) = true then Oper.wp P o a w K Q else E := by
  have hw : Region.wanted o (yielded ops a.tmps) = true := by simp [Region.wanted, hgd]
  rw [if_pos hw]
  obtain ⟨g, cap, w', hr, h2, h3, h4⟩ := run_append_keeps (P := P) w t o.type base e i z bytes ht hi hz hsize hby hzs g0 n cap0 xs hown ad m c news hl hnews h1 hm h63 hbytes hbase
  unfold Oper.wp execOp
  simp only [ho, resolve, invoke, builtin, Sem.run_bind, Sem.run_pure, Result.andThen_ok, List.map_toArray, List.map_cons, List.map_nil, hs, hx, hr]
  exact h g cap w' h2 h3 h4
end Go.Proofs.YtogiballdmgcpaaGreatDoor
