/- Steps of a plan behind guards, over a frame of which some slots are known: tools/pg.py writes regions out by them. -/
import Derived.Test.YtogiballdmgcpaaDoorHEnd
import Derived.Test.YtogiballdmgcpaaDoorBase
import Derived.Test.YtogiballdmgcpaaDoorHaM
import Derived.Test.YtogiballdmgcpaaDoorHTak32
import Derived.Test.YtogiballdmgcpaaDoorHKi2
import Derived.Test.YtogiballdmgcpaaDoorHTur64
import Derived.Laws.ShiftsVarLaws
import Derived.BigRegion
import Derived.Deep.AppendLies
import Derived.ArgAppend
import Derived.Test.YtogiballdmgcpaaDoorHTur32
import Derived.Test.YtogiballdmgcpaaDoorHRes64
import Derived.Laws.AppendOwnNone
import Derived.Lib.MinMax
import Derived.Deep.RegionLaw
import Derived.BigQuiet
namespace Go.Proofs.YtogiballdmgcpaaDoor
open Go.RowKit
set_option linter.unusedVariables false
set_option linter.unusedSimpArgs false
section
variable {ops : Array Oper} {Q : Exit → Act → World → Prop} {S : World → Prop} {K : Act → World → Prop}
theorem tmp_isG {a : Act} {d : Nat} {b : Bool} (h : a.eval (.tmp d) = .bool b) : a.tmps[d]? = some (.bool b) := by
  have h' : a.tmps.getD d undef = .bool b := h
  rw [Array.getD_eq_getD_getElem?] at h'
  cases hq : a.tmps[d]? with
  | none => rw [hq] at h'; simp [undef] at h'
  | some v => rw [hq] at h'; simp at h'; rw [h']
theorem wanted_gG {o oj : Oper} {a : Act} {j d : Nat} {b : Bool} (hg : o.guard = some (j, b)) (hj : ops[j]? = some oj) (hd : oj.dst = some d) (hv : a.eval (.tmp d) = .bool b) : Region.wanted o (yielded ops a.tmps) = true := by
  have ht := tmp_isG hv
  simp [Region.wanted, hg, yielded, hj, hd, ht]
theorem y_ofG {o : Oper} {v : Value} {a : Act} (hw : Region.wanted o (yielded ops a.tmps) = true) (h : ∀ w, S w → (execOp a.eval o).run Tryd.prog w = .ok (.value v) w) : YieldsIf Tryd.prog ops S o v a := .inl ⟨hw, h⟩
theorem y_moveG {o : Oper} {v : Value} {a : Act} {x : Operand} (hw : Region.wanted o (yielded ops a.tmps) = true) (ho : o.op = .move x) (hx : a.eval x = v) : YieldsIf Tryd.prog ops S o v a :=
  y_ofG hw fun w _ => by unfold execOp; simp only [ho, hx]; rfl
theorem y_rowG {o : Oper} {a : Act} {x : Operand} {t : TypeId} {b c : Nat} {cs : List Value} {d : TypeDesc} (hw : Region.wanted o (yielded ops a.tmps) = true) (ho : o.op = .load t x) (hx : a.eval x = .pointer (some ⟨b, c, none⟩))
    (hu : Tryd.prog.underlying t = some d) (hd : d.isRow = true) (hi : (Tryd.prog.info? t).map (·.size) = some cs.length) (hc : ∀ w, S w → w.rangeAt b c cs) : YieldsIf Tryd.prog ops S o (.agg cs.toArray) a := yieldsIf_load_mid hw t x ho b c hx cs d hc hu hd hi
theorem p_callG {i : Nat} {o : Oper} {a : Act} {w : World} {f : FuncId} {xs : Array Operand} {ts : Array TypeId} {args : Array Value} {d : Option Nat} (hi : ops[i]? = some o) (hw : Region.wanted o (yielded ops a.tmps) = true)
    (ho : o.op = .call { callee := .value (.func f), args := xs, argTypes := ts }) (ha : xs.map a.eval = args) (hd : o.dst = d) (hf : ∀ (args : Array Value) (w : World), (callFunc f args).run Tryd.prog w = .ok (.enter f args) w)
    (h : Calls Tryd.prog f args w fun e w' => ∃ v, e = .returned v ∧ K (a.put d v) w') : wpOp Tryd.prog ops Q i K a w := by
  have hr : (execOp a.eval o).run Tryd.prog w = .ok (.enter f args) w := by
    unfold execOp
    simp only [ho]
    simp [resolve, ha, go_sem, hf]
  unfold wpOp
  simp only [hi]
  rw [if_pos hw]
  left
  unfold Oper.wp
  rw [hr]
  refine h.mono ?_
  rintro e w' ⟨v, rfl, hk⟩
  rw [← hd] at hk
  exact hk
theorem y_assignG {o : Oper} {v : Value} {a : Act} {x : Operand} (hw : Region.wanted o (yielded ops a.tmps) = true) (ho : o.op = .assign x) (hx : a.eval x = v) : YieldsIf Tryd.prog ops S o v a :=
  y_ofG hw fun w _ => by unfold execOp; simp only [ho, hx]; rfl
theorem y_extractG {o : Oper} {v : Value} {a : Act} {x : Operand} {k : Nat} {vs : Array Value} (hw : Region.wanted o (yielded ops a.tmps) = true) (ho : o.op = .extract x k) (hx : a.eval x = .tuple vs) (hk : vs[k]? = some v) : YieldsIf Tryd.prog ops S o v a :=
  y_ofG hw fun w _ => by unfold execOp; simp only [ho, hx]; simp [hk, go_sem]
theorem y_pickEG {o : Oper} {v : Value} {a : Act} {c x y : Operand} (hw : Region.wanted o (yielded ops a.tmps) = true) (ho : o.op = .pick c x y) (hc : a.eval c = .bool false) (hy : a.eval y = v) : YieldsIf Tryd.prog ops S o v a :=
  y_ofG hw fun w _ => by unfold execOp; simp only [ho, hc, hy]; rfl
theorem y_plainG {o : Oper} {v : Value} {a : Act} {x : Operand} {t : TypeId} {p : Addr} {d : TypeDesc} (hw : Region.wanted o (yielded ops a.tmps) = true) (ho : o.op = .load t x) (hx : a.eval x = .pointer (some p)) (hu : Tryd.prog.underlying t = some d) (hd : (match d with | .struct _ | .array _ _ => true | _ => false) = false) (hc : ∀ w, S w → w.cell? p = some v) : YieldsIf Tryd.prog ops S o v a := by
  refine y_ofG hw fun w hs => ?_
  have c := hc w hs
  have hag : (isAgg t).run Tryd.prog w = .ok false w := by
    unfold isAgg
    rw [Sem.run_bind, run_underlying hu w]
    cases d <;> first | rfl | cases hd
  unfold execOp
  simp only [ho, hx]
  simp [Instr.loadAt, Instr.sureAddr, Sem.run_bind, run_underlying hu w, hag, c, go_sem]
theorem y_fieldG {o : Oper} {a : Act} {x : Operand} {t : TypeId} {q q' f off : Nat} (hw : Region.wanted o (yielded ops a.tmps) = true) (ho : o.op = .fieldAddr t x f) (hx : a.eval x = .pointer (some ⟨q, q', none⟩))
    (hf : ∀ w : World, (Instr.fieldAt t (.pointer (some ⟨q, q', none⟩)) f).run Tryd.prog w = .ok (.pointer (some ⟨q, off, none⟩)) w) : YieldsIf Tryd.prog ops S o (.pointer (some ⟨q, off, none⟩)) a := by
  refine y_ofG hw fun w _ => ?_
  unfold execOp
  simp only [ho, hx]
  simp [hf w, Sem.run_bind]
theorem y_neI {o : Oper} {a : Act} {x y : Operand} {t t' : TypeId} {k : IntKind} {i j : Int} {b : Bool} (hw : Region.wanted o (yielded ops a.tmps) = true) (ho : o.op = .binOp .neq t x y t') (hx : a.eval x = .int k i) (hy : a.eval y = .int k j) (hu : Tryd.prog.underlying t = some (.int k)) (hb : (i != j) = b) : YieldsIf Tryd.prog ops S o (.bool b) a := by
  refine y_ofG hw fun w _ => ?_
  unfold execOp
  simp only [ho, hx, hy]
  simp [go_sem, Sem.run_bind, eqGuard, run_underlying hu, ← hb]
theorem y_convI {o : Oper} {a : Act} {x : Operand} {t t' : TypeId} {k k' : IntKind} {i j : Int} (hw : Region.wanted o (yielded ops a.tmps) = true) (ho : o.op = .convert t t' x) (hx : a.eval x = .int k i) (hr : ∀ w, (convert t t' (.int k i)).run Tryd.prog w = .ok (.int k' j) w) : YieldsIf Tryd.prog ops S o (.int k' j) a := by
  refine y_ofG hw fun w _ => ?_
  have h := hr w
  unfold execOp
  simp only [ho, hx]
  simp [Sem.run_bind, h]
end
end Go.Proofs.YtogiballdmgcpaaDoor

/- How a kind of tree that came in is read. -/
namespace Go.Proofs.YtogiballdmgcpaaDoor
open Go.ChangeShapes Go.WideShapes Go.ChangeAt Go.RowKit Go.Deep
set_option linter.unusedVariables false
set_option linter.unusedSimpArgs false

theorem Tryd.cellsTrS : Tryd.prog.cellsOf 41 = 2 := by kernel_rfl
theorem Tryd.cellsIntS : Tryd.prog.cellsOf 3 = 1 := by kernel_rfl
/-- a kind of tree, as it came in -/
structure TrIs (cs : Array Value) (th tw : Int) : Prop where
  is : cs = #[.int .i64 th, .int .i64 tw]
set_option maxRecDepth 100000 in
theorem read_treeS {H : Type} {enc : TypeId × Value → H} {W : World} {fuel : Nat} {cs : Array Value} {x : DataW H × List MemPlace}
    (h : DataW.trod enc Tryd.prog W 0 (fun _ => true) true fuel 41 cs.toList = some x) : ∃ th tw, TrIs cs th tw := by
  obtain ⟨l⟩ := cs
  obtain ⟨xs, n, _, _, hcl, hlen, hf⟩ := DataW.trod_struct Tryd.underlying41 h
  rw [Tryd.cellsTrS] at hcl
  match l, hcl with
  | [c0, c1], _ =>
    have hlen' : xs.length = 2 := hlen
    match xs, hlen' with
    | [y0, y1], _ =>
      have g0 := hf 0 _ rfl
      have g1 := hf 1 _ rfl
      simp [Tryd.cellsIntS] at g0 g1
      obtain ⟨t, e0, _, _⟩ := DataW.trod_int Tryd.underlying3 g0
      obtain ⟨u, e1, _, _⟩ := DataW.trod_int Tryd.underlying3 g1
      simp at e0 e1
      exact ⟨t, u, ⟨by rw [e0, e1]⟩⟩
end Go.Proofs.YtogiballdmgcpaaDoor

/- Leaves that sign once: plain facts. -/
namespace Go.Proofs.YtogiballdmgcpaaDoor
open Go.RowKit
set_option linter.unusedVariables false
set_option linter.unusedSimpArgs false

/-- a kind: how many digits a digest has, how many its check; the shift -/
structure KindL (w n m s : Nat) : Prop where
  w1 : 1 ≤ w
  w8 : w ≤ 8
  full : n * w = 256
  chk : s + m * w = 16
  room : n * (2 ^ w - 1) < 2 ^ (m * w)
theorem kind_1 : KindL 1 256 9 7 := ⟨by decide, by decide, by decide, by decide, by decide⟩
theorem kind_2 : KindL 2 128 5 6 := ⟨by decide, by decide, by decide, by decide, by decide⟩
theorem kind_4 : KindL 4 64 3 4 := ⟨by decide, by decide, by decide, by decide, by decide⟩
theorem kind_8 : KindL 8 32 2 0 := ⟨by decide, by decide, by decide, by decide, by decide⟩
section
variable {w n m s : Nat} (hK : KindL w n m s) {d : List Nat} (hd : d.length = 32) (hu : Under 256 d)
end
end Go.Proofs.YtogiballdmgcpaaDoor

/- Leaves that sign once: chains, plain, over whatever sum H. -/
namespace Go.Proofs.YtogiballdmgcpaaDoor
open Go.RowKit
set_option linter.unusedVariables false
set_option linter.unusedSimpArgs false

def be2 (n : Nat) : List Nat := (leL n 2).reverse
def be4 (n : Nat) : List Nat := (leL n 4).reverse
theorem be2_len (n : Nat) : (be2 n).length = 2 := by unfold be2; rw [List.length_reverse, leL_length]
theorem be4_len (n : Nat) : (be4 n).length = 4 := by unfold be4; rw [List.length_reverse, leL_length]
section
variable (H : List Nat → List Nat) (pre : List Nat)
/-- a part's step, and its beginning (b of 255, y the seed) -/
def lmX (i b : Nat) (y : List Nat) : List Nat := H (pre ++ (be2 i ++ ([b] ++ y)))
end
section
variable {H : List Nat → List Nat} {pre : List Nat}
variable (hH : ∀ x, (H x).length = 32)
end
end Go.Proofs.YtogiballdmgcpaaDoor

/- Trees of leaves that sign once: plain facts, over whatever sums of knots (ov) and leaves (lf). -/
namespace Go.Proofs.YtogiballdmgcpaaDoor
open Go.RowKit
set_option linter.unusedVariables false
set_option linter.unusedSimpArgs false

section
variable (ov : Nat → List Nat → List Nat → List Nat) (lf : Nat → List Nat)
/-- the sum of a knot with d levels below it -/
def kn : Nat → Nat → List Nat
  | 0, n => lf n
  | d + 1, n => ov n (kn d (2 * n)) (kn d (2 * n + 1))
end
section
variable {ov : Nat → List Nat → List Nat → List Nat} {lf : Nat → List Nat}
end
/-- a height's typecode -/
def lmCode (h : Int) : Nat := if 1 ≤ h ∧ h ≤ 4 then 3758096384 + h.toNat else if 5 ≤ h ∧ h ≤ 25 ∧ h % 5 = 0 then 4 + h.toNat / 5 else 0
end Go.Proofs.YtogiballdmgcpaaDoor

/- A value whose block is not older than a bound. -/
namespace Go.Proofs.YtogiballdmgcpaaDoor
open Go.RowKit
set_option linter.unusedVariables false
def New (B : Nat) (v : Value) : Prop := ∀ q, v.ownBlock = some q → B ≤ q
theorem New.at {B g n c o : Nat} (h : B ≤ g) : New B (.slice (some ⟨g, o, none⟩) n c) := fun q hq => by
  have : g = q := by simpa [Value.ownBlock] using hq
  omega
theorem New.nil (B n c : Nat) : New B (.slice none n c) := fun q hq => by simp [Value.ownBlock] at hq
theorem New.mono {B B' : Nat} {v : Value} (h : New B v) (hB : B' ≤ B) : New B' v := fun q hq => Nat.le_trans hB (h q hq)
theorem Own.new {e : TypeId} {k : IntKind} {m : Nat} {w : World} {B : Nat} {v : Value} {l : List Nat} (h : Own e k m w B v l) : New B v := fun q hq => (h.1.lt q hq).1
end Go.Proofs.YtogiballdmgcpaaDoor

/- Leaves that sign once: the document's Kind, Size, H, part, chain, key, digest. -/
namespace Go.Proofs.YtogiballdmgcpaaDoor
open Go.RowKit
set_option linter.unusedVariables false
set_option linter.unusedSimpArgs false

/-- SHA-256 -/
def shaL (b : List Nat) : List Nat := endS (wide 1) (ini 1) b b.length (outn 1)
theorem shaL_len (b : List Nat) : (shaL b).length = 32 := by
  have e8 : ∀ (c : Bool) (l : List Nat), (eat c (ini 1) l).length = 8 := fun c l => eat_len _ (by decide)
  unfold shaL
  simp [endS, bytesW_length, e8, outn, wide, ez]
/-- what a kind is: digits of a digest, of its check, the shift, the typecode -/
inductive Kd : Nat → Nat → Nat → Nat → Nat → Prop
  | k1 : Kd 1 256 9 7 1
  | k2 : Kd 2 128 5 6 2
  | k4 : Kd 4 64 3 4 3
  | k8 : Kd 8 32 2 0 4
theorem Kd.kind {w n m s c : Nat} (h : Kd w n m s c) : KindL w n m s := by
  cases h
  · exact kind_1
  · exact kind_2
  · exact kind_4
  · exact kind_8
def NoK (x : Int) : Prop := ¬ x = 1 ∧ ¬ x = 2 ∧ ¬ x = 4 ∧ ¬ x = 8
theorem kd_or (x : Int) : NoK x ∨ ∃ w n m s c : Nat, x = (w : Int) ∧ Kd w n m s c := by
  by_cases h1 : x = 1
  · exact .inr ⟨1, _, _, _, _, h1, .k1⟩
  by_cases h2 : x = 2
  · exact .inr ⟨2, _, _, _, _, h2, .k2⟩
  by_cases h4 : x = 4
  · exact .inr ⟨4, _, _, _, _, h4, .k4⟩
  by_cases h8 : x = 8
  · exact .inr ⟨8, _, _, _, _, h8, .k8⟩
  exact .inl ⟨h1, h2, h4, h8⟩
set_option maxHeartbeats 2000000 in
set_option maxRecDepth 100000 in
theorem rkind_no (x : Int) (y : World) (h : NoK x) : Calls Tryd.prog 42 #[.int .i64 x] y fun e y' => e = .returned (.tuple #[.int .i64 0, .int .i64 0, .int .u64 0]) ∧ y' = y := by
  obtain ⟨h1, h2, h4, h8⟩ := h
  go_enter Tryd.func42, Tryd.ntmps42
  go_wp2
  go_ret3
  exact ⟨rfl, rfl⟩
set_option maxHeartbeats 2000000 in
set_option maxRecDepth 100000 in
theorem rkind_ok {w n m s c : Nat} (y : World) (h : Kd w n m s c) : Calls Tryd.prog 42 #[.int .i64 (w : Int)] y fun e y' => e = .returned (.tuple #[.int .i64 ((n + m : Nat) : Int), .int .i64 (s : Int), .int .u64 (c : Int)]) ∧ y' = y := by
  cases h
  · go_enter Tryd.func42, Tryd.ntmps42
    go_wp2
    go_ret3
    exact ⟨rfl, rfl⟩
  · go_enter Tryd.func42, Tryd.ntmps42
    go_wp2
    go_ret3
    exact ⟨rfl, rfl⟩
  · go_enter Tryd.func42, Tryd.ntmps42
    go_wp2
    go_ret3
    exact ⟨rfl, rfl⟩
  · go_enter Tryd.func42, Tryd.ntmps42
    go_wp2
    go_ret3
    exact ⟨rfl, rfl⟩
theorem texts_cons {w : World} {u : Value} {x : List Nat} {us : List Value} {ls : List (List Nat)} (h : Row .u8 256 w u x) (t : Tidy u) (k : Texts w us ls) : Texts w (u :: us) (x :: ls) := (Texts.one h t).append k
theorem rows_litL {w : World} {us : List Value} {ls : List (List Nat)} {B k : Nat} (h : Texts w us ls) (hB : w.heap.size = B) (hk : ls.length = k) (hl : k ≤ 1000) : Rows2 (w.alloc (.cells us.toArray 23)) (.slice (some ⟨B, 0, none⟩) k k) ls := by
  subst hB hk
  refine ⟨_, ls.length, rfl, Nat.le_refl _, by unfold maxLen; omega, fun _ => ⟨_, _, rfl, fun i hi => ?_⟩⟩
  have hb := keep_alloc w (.cells us.toArray 23)
  obtain ⟨u, hu, hr, ht⟩ := h.2 i hi
  refine ⟨u, ?_, hr.below hb, ht⟩
  rw [World.cell?_alloc_at _ _ _ _ rfl, Nat.zero_add]
  simpa using hu
theorem leS_2 (n : Nat) : leS n 2 = leL n 2 := by unfold leS; rw [if_neg (by decide)]; rfl
theorem leS_4 (n : Nat) : leS n 4 = leL n 4 := by unfold leS; rw [if_neg (by decide)]; rfl
theorem one_byte (w : World) (x : Nat) (hx : x < 256) : Row .u8 256 (w.alloc (.cells #[.int .u8 (x : Int)] 5)) (.slice (some ⟨w.heap.size, 0, none⟩) 1 1) [x] ∧ Tidy (.slice (some ⟨w.heap.size, 0, none⟩) 1 1) := by
  refine ⟨⟨_, 1, rfl, Nat.le_refl _, by unfold maxLen; decide, fun _ => ⟨_, _, rfl, fun i hi => ?_⟩, ?_⟩, fun n c e => by cases e⟩
  · match i, hi with
    | 0, _ => rw [World.cell?_alloc_at _ _ _ _ rfl]; rfl
  · intro y hy
    simp at hy
    omega
/-- what stands ahead: the tree's id and the leaf's number -/
def preL (id : List Nat) (q : Nat) : List Nat := id ++ be4 q
theorem len_pre (id : List Nat) (q : Nat) : (preL id q).length = id.length + 4 := by unfold preL; rw [List.length_append, be4_len]
end Go.Proofs.YtogiballdmgcpaaDoor

/- Leaves that sign once: the document's key, digest, wrong, Size. -/
namespace Go.Proofs.YtogiballdmgcpaaDoor
open Go.RowKit
set_option linter.unusedVariables false
set_option linter.unusedSimpArgs false

theorem Kd.pos {w n m s c : Nat} (h : Kd w n m s c) : 1 ≤ n + m ∧ n + m ≤ 265 ∧ w ≤ 8 ∧ 1 ≤ w ∧ n * w = 256 ∧ c ≤ 4 ∧ s ≤ 7 := by cases h <;> decide
set_option maxHeartbeats 4000000 in
set_option maxRecDepth 100000 in
theorem rsize_no (x : Int) (w : World) (h : NoK x) : Calls Tryd.prog 30 #[.int .i64 x] w fun e w' => e = .returned (.int .i64 0) ∧ w' = w := by
  have hk := fun y => rkind_no x y h
  clear h
  go_enter Tryd.func30, Tryd.ntmps30
  go_wp2_with (first | (go_at_call 42; refine (hk _).mono ?_; rintro e yy ⟨rfl, hy⟩; obtain rfl := hy.symm) | fail)
  go_ret
  exact ⟨rfl, rfl⟩
set_option maxHeartbeats 4000000 in
set_option maxRecDepth 100000 in
theorem rsize_ok {k n m s c : Nat} (w : World) (h : Kd k n m s c) : Calls Tryd.prog 30 #[.int .i64 (k : Int)] w fun e w' => e = .returned (.int .i64 ((36 + 32 * (n + m) : Nat) : Int)) ∧ w' = w := by
  have hk := fun y => rkind_ok y h
  obtain ⟨P, hP⟩ : ∃ P : Nat, P = n + m := ⟨_, rfl⟩
  rw [← hP] at hk ⊢
  have hp := h.pos
  have hp0 : ¬ ((P : Int) = 0) := by omega
  obtain ⟨A, hA⟩ : ∃ A : Nat, A = 32 * P := ⟨_, rfl⟩
  obtain ⟨B, hB⟩ : ∃ B : Nat, B = 36 + A := ⟨_, rfl⟩
  have e_A : (32 : Int) * (P : Int) = (A : Int) := by omega
  have s_A : IntKind.i64.wrap (A : Int) = (A : Int) := by rw [IntKind.wrap_i64]; omega
  have e_B : (36 : Int) + (A : Int) = (B : Int) := by omega
  have s_B : IntKind.i64.wrap (B : Int) = (B : Int) := by rw [IntKind.wrap_i64]; omega
  rw [← hA, ← hB]
  clear h hP hA hB hp
  go_enter Tryd.func30, Tryd.ntmps30
  go_wp2_with (first | (go_at_call 42; refine (hk _).mono ?_; rintro e yy ⟨rfl, hy⟩; obtain rfl := hy.symm) | fail)
  go_ret
  exact ⟨rfl, rfl⟩
end Go.Proofs.YtogiballdmgcpaaDoor

/- Trees of leaves that sign once: the document's Code, height, digit, over, leafSum. -/
namespace Go.Proofs.YtogiballdmgcpaaDoor
open Go.RowKit
set_option linter.unusedVariables false
set_option linter.unusedSimpArgs false

set_option maxHeartbeats 4000000 in
set_option maxRecDepth 100000 in
theorem rcode_any (h : Int) (w : World) : Calls Tryd.prog 29 #[.int .i64 h] w fun e w' => e = .returned (.int .u64 (lmCode h : Nat)) ∧ w' = w := by
  by_cases h1 : 1 ≤ h
  · by_cases h4 : h ≤ 4
    · obtain ⟨n, rfl⟩ : ∃ n : Nat, h = (n : Int) := ⟨h.toNat, by omega⟩
      obtain ⟨C, hC⟩ : ∃ C : Nat, C = 3758096384 + n := ⟨_, rfl⟩
      have e0 : lmCode (n : Int) = C := by unfold lmCode; rw [if_pos ⟨h1, h4⟩, hC]; rfl
      rw [e0]
      have u_n : IntKind.u64.wrap (n : Int) = (n : Int) := by rw [IntKind.wrap_u64]; omega
      have e_C : (3758096384 : Int) + (n : Int) = (C : Int) := by omega
      have u_C : IntKind.u64.wrap (C : Int) = (C : Int) := by rw [IntKind.wrap_u64]; omega
      clear hC e0
      go_enter Tryd.func29, Tryd.ntmps29
      go_wp2
      go_ret
      exact ⟨rfl, rfl⟩
    · have h5 : 5 ≤ h := by omega
      by_cases h25 : h ≤ 25
      · by_cases hm : h % 5 = 0
        · have hk : h = 5 ∨ h = 10 ∨ h = 15 ∨ h = 20 ∨ h = 25 := by omega
          clear h1 h4 h5 h25 hm
          rcases hk with hk | hk | hk | hk | hk <;> subst hk
          · go_enter Tryd.func29, Tryd.ntmps29
            go_wp2
            go_ret
            exact ⟨rfl, rfl⟩
          · go_enter Tryd.func29, Tryd.ntmps29
            go_wp2
            go_ret
            exact ⟨rfl, rfl⟩
          · go_enter Tryd.func29, Tryd.ntmps29
            go_wp2
            go_ret
            exact ⟨rfl, rfl⟩
          · go_enter Tryd.func29, Tryd.ntmps29
            go_wp2
            go_ret
            exact ⟨rfl, rfl⟩
          · go_enter Tryd.func29, Tryd.ntmps29
            go_wp2
            go_ret
            exact ⟨rfl, rfl⟩
        · have e0 : lmCode h = 0 := by unfold lmCode; rw [if_neg (by omega), if_neg (by omega)]
          rw [e0]
          have hb : (h % 5 == 0) = false := by simp [hm]
          have ht : ¬ h.tmod 5 = 0 := by rw [Int.tmod_eq_emod_of_nonneg (by omega)]; exact hm
          clear e0
          go_enter Tryd.func29, Tryd.ntmps29
          go_wp2
          go_ret
          exact ⟨rfl, rfl⟩
      · have e0 : lmCode h = 0 := by unfold lmCode; rw [if_neg (by omega), if_neg (by omega)]
        rw [e0]
        clear e0
        go_enter Tryd.func29, Tryd.ntmps29
        go_wp2
        go_ret
        exact ⟨rfl, rfl⟩
  · have e0 : lmCode h = 0 := by unfold lmCode; rw [if_neg (by omega), if_neg (by omega)]
    rw [e0]
    have h5 : ¬ 5 ≤ h := by omega
    clear e0
    go_enter Tryd.func29, Tryd.ntmps29
    go_wp2
    go_ret
    exact ⟨rfl, rfl⟩
end Go.Proofs.YtogiballdmgcpaaDoor

/- append of whatever row, apart from mac's and aes'. -/
namespace Go.Proofs.YtogiballdmgcpaaDoor
open Go.RowKit
set_option linter.unusedVariables false
set_option linter.unusedSimpArgs false

theorem tidy_atA (x : Addr) (n c : Nat) : Tidy (.slice (some x) n c) := fun n c he => by simp at he
theorem own_belowA {w w' : World} {base : Nat} {e : TypeId} {size : Nat} {v : Value} {n : Nat} {xs : List Value} (h : w.ownsRow base e size v n xs) (hb : Below w.heap.size w w') : w'.ownsRow base e size v n xs := by
  obtain ⟨h1, h2⟩ := h
  refine ⟨h1, ?_⟩
  rcases h2 with h2 | ⟨g, cap, cur, rfl, h3, h4, h5⟩
  · exact .inl h2
  · refine .inr ⟨g, cap, cur, rfl, h3, ?_, h5⟩
    rw [hb.block g (by
      rcases Nat.lt_or_ge g w.heap.size with hlt | hge
      · exact hlt
      · rw [Array.getElem?_eq_none hge] at h4; cases h4)]
    exact h4
theorem row_tidyA {k : IntKind} {m : Nat} {w : World} {v : Value} {l : List Nat} (h : Row k m w v l) (hl : 0 < l.length) : Tidy v := by
  obtain ⟨a, c, rfl, _, _, h3, _⟩ := h
  obtain ⟨b, off, rfl, _⟩ := h3 hl
  exact tidy_atA _ _ _
end Go.Proofs.YtogiballdmgcpaaDoor

/- Trees of leaves that sign once: the document's over, leafSum, Fit, Size, wrong, head. -/
namespace Go.Proofs.YtogiballdmgcpaaDoor
open Go.RowKit
set_option linter.unusedVariables false
set_option linter.unusedSimpArgs false

/-- how many bytes a leaf's signature has; 0: there is no such kind -/
def szW (x : Int) : Nat := if x = 1 then 8516 else if x = 2 then 4292 else if x = 4 then 2180 else if x = 8 then 1124 else 0
theorem rsizeW (x : Int) (w : World) : Calls Tryd.prog 30 #[.int .i64 x] w fun e w' => e = .returned (.int .i64 (szW x : Nat)) ∧ w' = w := by
  rcases kd_or x with h | ⟨k, n, m, s, c, rfl, h⟩
  · have e0 : szW x = 0 := by
      obtain ⟨h1, h2, h4, h8⟩ := h
      unfold szW
      rw [if_neg h1, if_neg h2, if_neg h4, if_neg h8]
    rw [e0]
    exact rsize_no x w h
  · have e0 : szW (k : Int) = 36 + 32 * (n + m) := by cases h <;> rfl
    rw [e0]
    exact rsize_ok w h
/-- a tree is fit -/
def FitL (h x : Int) : Prop := lmCode h ≠ 0 ∧ szW x ≠ 0
instance (h x : Int) : Decidable (FitL h x) := by unfold FitL; infer_instance
structure Bx2T (W : World) (B : Nat) (v0 v1 : Value) : Prop where
  here : W.heap[B]? = some (.cells #[v0, v1] 41 (0, 0))
theorem Bx2T.lt {W : World} {B : Nat} {v0 v1 : Value} (h : Bx2T W B v0 v1) : B < W.heap.size := (Array.getElem?_eq_some_iff.1 h.here).1
theorem Bx2T.c0 {W : World} {B : Nat} {v0 v1 : Value} (h : Bx2T W B v0 v1) : W.cell? ⟨B, 0, none⟩ = some v0 := by simp [World.cell?, h.here]
theorem Bx2T.c1 {W : World} {B : Nat} {v0 v1 : Value} (h : Bx2T W B v0 v1) : W.cell? ⟨B, 1, none⟩ = some v1 := by simp [World.cell?, h.here]
theorem Bx2T.below {W W' : World} {B : Nat} {v0 v1 : Value} (h : Bx2T W B v0 v1) (hb : Below W.heap.size W W') : Bx2T W' B v0 v1 := ⟨(hb.block _ h.lt).trans h.here⟩
theorem Bx2T.new (W : World) (v0 v1 : Value) : Bx2T (W.alloc (.cells #[v0, v1] 41)) W.heap.size v0 v1 := ⟨heap_alloc_new W _⟩
set_option maxHeartbeats 4000000 in
set_option maxRecDepth 100000 in
theorem rfitT_any (h x : Int) (w : World) : Calls Tryd.prog 19 #[.agg #[.int .i64 h, .int .i64 x]] w fun e w' => e = .returned (.bool (decide (FitL h x))) ∧ Below w.heap.size w w' := by
  have hc := fun y => rcode_any h y
  have hs := fun y => rsizeW x y
  by_cases h1 : lmCode h = 0
  · have hd : decide (FitL h x) = false := decide_eq_false fun hh => hh.1 h1
    rw [hd]
    rw [h1] at hc
    clear hd h1
    go_enter Tryd.func19, Tryd.ntmps19
    go_wp2_with (first | (go_at_call 29; refine (hc _).mono ?_; rintro e yy ⟨rfl, hy⟩; obtain rfl := hy.symm) | fail)
    go_ret
    exact ⟨rfl, keep_alloc _ _⟩
  · obtain ⟨C, hC⟩ : ∃ C, C = lmCode h := ⟨_, rfl⟩
    obtain ⟨Z, hZ⟩ : ∃ Z, Z = szW x := ⟨_, rfl⟩
    have hCb : ((C : Int) != 0) = true := by have : C ≠ 0 := by rw [hC]; exact h1
                                             simp [this]
    have hd : decide (FitL h x) = ((Z : Int) != 0) := by
      by_cases hz : Z = 0
      · rw [decide_eq_false (fun hh => hh.2 (by rw [← hZ]; exact hz))]; simp [hz]
      · rw [decide_eq_true ⟨h1, by rw [← hZ]; exact hz⟩]; simp [hz]
    rw [hd]
    rw [← hC] at hc
    rw [← hZ] at hs
    clear hd h1 hC hZ
    go_enter Tryd.func19, Tryd.ntmps19
    go_wp2_with (first
      | (go_at_call 29; refine (hc _).mono ?_; rintro e yy ⟨rfl, hy⟩; obtain rfl := hy.symm)
      | (go_at_call 30; refine (hs _).mono ?_; rintro e yy ⟨rfl, hy⟩; obtain rfl := hy.symm)
      | fail)
    go_ret
    exact ⟨rfl, keep_alloc _ _⟩
end Go.Proofs.YtogiballdmgcpaaDoor

/- Trees of leaves that sign once: the document's Size, wrong. -/
namespace Go.Proofs.YtogiballdmgcpaaDoor
open Go.RowKit
set_option linter.unusedVariables false
set_option linter.unusedSimpArgs false

theorem FitL.pos {h x : Int} (hf : FitL h x) : 1 ≤ h ∧ h ≤ 25 ∧ 1124 ≤ szW x ∧ szW x ≤ 8516 := by
  obtain ⟨h1, h2⟩ := hf
  refine ⟨?_, ?_, ?_, ?_⟩
  · unfold lmCode at h1; split at h1; · omega
    split at h1 <;> omega
  · unfold lmCode at h1; split at h1; · omega
    split at h1 <;> omega
  · unfold szW at h2 ⊢; repeat' split
    all_goals first | omega | (exfalso; simp_all)
  · unfold szW; repeat' split
    all_goals omega
end Go.Proofs.YtogiballdmgcpaaDoor

/- Trees of trees: plain facts. A key's trees are pairs of a height and a width. -/
namespace Go.Proofs.YtogiballdmgcpaaDoor
open Go.RowKit
set_option linter.unusedVariables false
set_option linter.unusedSimpArgs false

/-- a tree that a key may have -/
def FitG (t : Int × Int) : Prop := FitL t.1 t.2 ∧ t.1 ≤ 10
instance (t : Int × Int) : Decidable (FitG t) := by unfold FitG; infer_instance
def sumH : List (Int × Int) → Int
  | [] => 0
  | t :: ts => t.1 + sumH ts
def FitK (ts : List (Int × Int)) (il sl : Nat) : Prop := 1 ≤ ts.length ∧ ts.length ≤ 8 ∧ (∀ t ∈ ts, FitG t) ∧ sumH ts ≤ 60 ∧ il = 16 ∧ sl = 32
instance (ts : List (Int × Int)) (il sl : Nat) : Decidable (FitK ts il sl) := by unfold FitK; infer_instance
theorem FitG.pos {t : Int × Int} (h : FitG t) : 1 ≤ t.1 ∧ t.1 ≤ 10 := by
  refine ⟨?_, h.2⟩
  have := h.1.1
  unfold lmCode at this
  repeat' split at this
  all_goals omega
theorem sumH_snoc : ∀ (ts : List (Int × Int)) (t : Int × Int), sumH (ts ++ [t]) = sumH ts + t.1
  | [], t => by show t.1 + 0 = 0 + t.1; omega
  | x :: ts, t => by show x.1 + sumH (ts ++ [t]) = x.1 + sumH ts + t.1; rw [sumH_snoc ts t]; omega
theorem sumH_le : ∀ (ts : List (Int × Int)), (∀ t ∈ ts, FitG t) → 0 ≤ sumH ts ∧ sumH ts ≤ 10 * (ts.length : Int)
  | [], _ => by show (0 : Int) ≤ 0 ∧ (0 : Int) ≤ _; simp
  | t :: ts, h => by
    have h1 := sumH_le ts (fun x hx => h x (List.mem_cons_of_mem _ hx))
    have h2 := (h t (by simp)).pos
    show 0 ≤ t.1 + sumH ts ∧ t.1 + sumH ts ≤ _
    rw [List.length_cons]
    omega
/-- the tree at a place -/
def trA (ts : List (Int × Int)) (i : Nat) : Int × Int := ts.getD i (0, 0)
theorem trA_mem {ts : List (Int × Int)} {i : Nat} (h : i < ts.length) : trA ts i ∈ ts := by
  unfold trA
  rw [List.getD_eq_getElem?_getD, List.getElem?_eq_getElem h]
  exact List.getElem_mem h
theorem tr_take {ts : List (Int × Int)} {i : Nat} (h : i < ts.length) : ts.take (i + 1) = ts.take i ++ [trA ts i] := by
  rw [List.take_succ_eq_append_getElem h]
  unfold trA
  rw [List.getD_eq_getElem?_getD, List.getElem?_eq_getElem h]
  rfl
/-- how many texts a key can sign -/
def lvN (ts : List (Int × Int)) : Nat := 2 ^ (sumH ts).toNat
/-- v is a slice of trees -/
def TrS (w : World) (v : Value) (ts : List (Int × Int)) : Prop :=
  ∃ a cap, v = .slice a ts.length cap ∧ ts.length ≤ cap ∧ cap ≤ maxLen ∧ (0 < ts.length → ∃ b off, a = some ⟨b, off, none⟩ ∧ ∀ i, i < ts.length → w.cell? ⟨b, off + i * 2, none⟩ = some (.int .i64 (trA ts i).1) ∧ w.cell? ⟨b, off + i * 2 + 1, none⟩ = some (.int .i64 (trA ts i).2))
theorem TrS.below {w w' : World} {v : Value} {ts : List (Int × Int)} (h : TrS w v ts) (hb : Below w.heap.size w w') : TrS w' v ts := by
  obtain ⟨a, cap, rfl, h1, h2, h3⟩ := h
  refine ⟨a, cap, rfl, h1, h2, fun hl => ?_⟩
  obtain ⟨b, off, rfl, hc⟩ := h3 hl
  refine ⟨b, off, rfl, fun i hi => ?_⟩
  obtain ⟨c1, c2⟩ := hc i hi
  have k1 := World.block_lt_of_cell? w _ c1
  rw [hb.cell (p := ⟨b, off + i * 2, none⟩) k1, hb.cell (p := ⟨b, off + i * 2 + 1, none⟩) k1]
  exact ⟨c1, c2⟩
end Go.Proofs.YtogiballdmgcpaaDoor

/- How a key of trees in trees that came in is read. -/
namespace Go.Proofs.YtogiballdmgcpaaDoor
open Go.ChangeShapes Go.WideShapes Go.ChangeAt Go.RowKit Go.Deep
set_option linter.unusedVariables false
set_option linter.unusedSimpArgs false

theorem Tryd.cellsKyH : Tryd.prog.cellsOf 25 = 3 := by kernel_rfl
theorem Tryd.cellsTsH : Tryd.prog.cellsOf 22 = 1 := by kernel_rfl
theorem add_addH (a : Addr) (m n : Nat) : (a.add m).add n = a.add (m + n) := by
  unfold Addr.add
  split <;> split <;> simp_all [Nat.add_assoc]
/-- a slice of trees that is read -/
theorem read_treesH {H : Type} {enc : TypeId × Value → H} {W : World} {fuel : Nat} {v : Value} {x : DataW H × List MemPlace}
    (h : DataW.trod enc Tryd.prog W 0 (fun _ => true) true fuel 22 [v] = some x) : ∃ ts, TrS W v ts := by
  rcases DataW.trod_slice Tryd.underlying22 h with ⟨hcs, _⟩ | ⟨a, len, cap, elems, rest, m, hfm, hcs, _, _, hl, hm, hel, hx, _⟩
  · simp at hcs
    subst hcs
    exact ⟨[], none, 0, rfl, Nat.le_refl _, Nat.zero_le _, fun h => by simp at h⟩
  · simp at hcs
    subst hcs
    rw [Tryd.cellsTrS] at hx
    have each : ∀ i, i < len → ∃ q : Int × Int, W.cell? (a.add (i * 2)) = some (.int .i64 q.1) ∧ W.cell? (a.add (i * 2 + 1)) = some (.int .i64 q.2) := by
      intro i hi
      have h1 := hx i hi
      rw [List.getElem?_eq_getElem (by omega)] at h1
      obtain ⟨cs', h2, h3⟩ := Option.bind_eq_some_iff.1 h1
      obtain ⟨_, hcl, hcell⟩ := World.cells?_some h2
      match cs', hcl with
      | [k0, k1], _ =>
        obtain ⟨th, tw, hT⟩ := read_treeS (cs := #[k0, k1]) h3
        have e := hT.is
        simp at e
        obtain ⟨rfl, rfl⟩ := e
        have e0 := hcell 0 (by omega)
        have e1 := hcell 1 (by omega)
        rw [add_addH] at e0 e1
        exact ⟨(th, tw), by simpa using e0, by simpa using e1⟩
    obtain ⟨q, hq⟩ := choose_lt (α := Int × Int) each
    have hkl : ((List.range len).map q).length = len := by simp
    refine ⟨(List.range len).map q, some a, cap, by rw [hkl], by rw [hkl]; exact hl, hm, fun hp => ?_⟩
    rw [hkl] at hp
    obtain ⟨b0, off, spot⟩ := a
    have h0 := (hq 0 hp).1
    have hspot : spot = none := by simpa [Addr.add] using World.cell?_spot h0
    subst hspot
    refine ⟨b0, off, rfl, fun i hi => ?_⟩
    rw [hkl] at hi
    obtain ⟨h0, h1⟩ := hq i hi
    rw [Addr.add_lit] at h0 h1
    have e : trA ((List.range len).map q) i = q i := by unfold trA; simp [hi]
    rw [e]
    exact ⟨h0, by rw [← Nat.add_assoc] at h1; exact h1⟩
/-- a key, as it came in -/
structure HkIs (w : World) (cs : Array Value) (tv : Value) (ts : List (Int × Int)) (iv : Value) (il : List Nat) (sv : Value) (sl : List Nat) : Prop where
  is : cs = #[tv, iv, sv]
  tr : TrS w tv ts
  ri : Row .u8 256 w iv il
  ti : Tidy iv
  rs : Row .u8 256 w sv sl
  tis : Tidy sv
set_option maxRecDepth 100000 in
theorem read_keyH {H : Type} {enc : TypeId × Value → H} {W : World} {fuel : Nat} {cs : Array Value} {x : DataW H × List MemPlace}
    (h : DataW.trod enc Tryd.prog W 0 (fun _ => true) true fuel 25 cs.toList = some x) : ∃ tv ts iv il sv sl, HkIs W cs tv ts iv il sv sl := by
  obtain ⟨l⟩ := cs
  obtain ⟨xs, n, _, _, hcl, hlen, hf⟩ := DataW.trod_struct Tryd.underlying25 h
  rw [Tryd.cellsKyH] at hcl
  match l, hcl with
  | [c0, c1, c2], _ =>
    have hlen' : xs.length = 3 := hlen
    match xs, hlen' with
    | [y0, y1, y2], _ =>
      have g0 := hf 0 _ rfl
      have g1 := hf 1 _ rfl
      have g2 := hf 2 _ rfl
      simp [Tryd.cellsTsH, Tryd.cells23] at g0 g1 g2
      obtain ⟨ts, hts⟩ := read_treesH g0
      obtain ⟨il, hri, hti⟩ := read_text g1
      obtain ⟨sl, hrs, hts2⟩ := read_text g2
      exact ⟨c0, ts, c1, il, c2, sl, ⟨rfl, hts, hri, hti, hrs, hts2⟩⟩
end Go.Proofs.YtogiballdmgcpaaDoor
