/- Trees of leaves that sign once: the document's Cut where it answers. -/
import Derived.Test.YtefndnbaifiboaaDoorLtK
import Derived.Test.YtefndnbaifiboaaDoorPlan3
import Derived.Test.YtefndnbaifiboaaDoorHSl
import Derived.Test.YtefndnbaifiboaaDoorPgF
import Derived.Test.YtefndnbaifiboaaDoorLtN
import Derived.Test.YtefndnbaifiboaaDoorLcP
import Derived.Test.YtefndnbaifiboaaDoorBase
namespace Go.Proofs.YtefndnbaifiboaaDoor
open Go.RowKit
set_option linter.unusedVariables false
set_option linter.unusedSimpArgs false

section
variable {ops : Array Oper} {S : World → Prop}
theorem built_tree (u v : Int) : Tryd.prog.built 29 [(0, .int .i64 u), (1, .int .i64 v)] = some #[.int .i64 u, .int .i64 v] := by kernel_rfl
theorem y_tree {o : Oper} {a : Act} {x y : Operand} {u v : Int} (hg : o.guard = none) (ho : o.op = .build 29 #[(0, x), (1, y)]) (hx : a.eval x = .int .i64 u) (hy : a.eval y = .int .i64 v) : YieldsIf Tryd.prog ops S o (.agg #[.int .i64 u, .int .i64 v]) a := by
  refine y_of hg fun w _ => ?_
  have hb := run_build (P := Tryd.prog) w 29 #[(0, .int .i64 u), (1, .int .i64 v)] _ (built_tree u v)
  unfold execOp
  simp only [ho, List.map_toArray, List.map_cons, List.map_nil, hx, hy]
  simp [Sem.run_bind, hb]
theorem y_fromT {o : Oper} {a : Act} {x y : Operand} {v u : Value} {F : Nat} (hg : o.guard = none) (ho : o.op = .slice 25 x (some y) none none) (hx : a.eval x = v) (hy : a.eval y = .int .i64 (F : Int)) (hr : ∀ w : World, (Instr.slice 25 v (some (.int .i64 (F : Int))) none none).run Tryd.prog w = .ok u w) (hv : ∃ aa n c, v = .slice aa n c) : YieldsIf Tryd.prog ops S o u a := by
  obtain ⟨aa, n, c, rfl⟩ := hv
  refine y_of hg fun w _ => ?_
  have h := hr w
  unfold execOp
  simp only [ho, hx, Option.map_none, Option.map_some, hy]
  simp [Instr.sliceAt, Sem.run_bind, h, run_underlying Tryd.underlying25, go_sem]
theorem y_toT {o : Oper} {a : Act} {x y : Operand} {aa : Option Addr} {n c F : Nat} (hg : o.guard = none) (ho : o.op = .slice 25 x none (some y) none) (hx : a.eval x = .slice aa n c) (hy : a.eval y = .int .i64 (F : Int)) (hF : F ≤ c) : YieldsIf Tryd.prog ops S o (.slice aa F c) a := by
  refine y_of hg fun w _ => ?_
  have h := slice_to aa n c F hF w
  unfold execOp
  simp only [ho, hx, Option.map_none, Option.map_some, hy]
  simp [Instr.sliceAt, Sem.run_bind, h, run_underlying Tryd.underlying25, go_sem]
end
theorem one2T (a b : Int) : (#[.int .i64 a, .int .i64 b] : Array Value).all (·.oneCell') = true := by simp [Value.oneCell']
def ctlt : List Lt := [(0, some 50, [0]), (0, some 51, [9]), (3, some 52, [50, 51]), (0, some 53, [8]), (0, some 54, [6]), (24, some 55, [53, 54]), (0, some 56, [0]), (0, some 57, [9]), (192, some 58, [56, 57]), (7, some 2, [52]), (575, none, [3, 55]), (2047, some 4, [58]), (4095, some 5, [])]
theorem ctE_zero {b : List Nat} (h : ctE b = 0) : 8 ≤ b.length ∧ ctW b ≠ 0 ∧ ctA b + 4 ≤ b.length ∧ ctH b ≠ 0 ∧ ctN b ≤ b.length := by
  unfold ctE at h
  by_cases h1 : b.length < 8
  · rw [if_pos h1] at h; exact absurd h (by decide)
  rw [if_neg h1] at h
  by_cases h2 : ctW b = 0
  · rw [if_pos h2] at h; exact absurd h (by decide)
  rw [if_neg h2] at h
  by_cases h3 : b.length < ctA b + 4
  · rw [if_pos h3] at h; exact absurd h (by decide)
  rw [if_neg h3] at h
  by_cases h4 : ctH b = 0
  · rw [if_pos h4] at h; exact absurd h (by decide)
  rw [if_neg h4] at h
  by_cases h5 : b.length < ctN b
  · rw [if_pos h5] at h; exact absurd h (by decide)
  exact ⟨by omega, h2, by omega, h4, by omega⟩
end Go.Proofs.YtefndnbaifiboaaDoor

/- Trees of leaves that sign once: the document's Verify, where it refuses at first. -/
namespace Go.Proofs.YtefndnbaifiboaaDoor
open Go.RowKit
set_option linter.unusedVariables false
set_option linter.unusedSimpArgs false

/-- a key that can be one -/
def vKey (pub : List Nat) : Prop := pub.length = 56 ∧ hgtL (numL (pub.take 4)) ≠ 0 ∧ dgtL (numL ((pub.drop 4).take 4)) ≠ 0
theorem zeroTr : ∀ w, (zeroValue 29).run Tryd.prog w = .ok (.agg #[.int .i64 0, .int .i64 0]) w := fun w => by kernel_rfl
end Go.Proofs.YtefndnbaifiboaaDoor

/- Steps of a plan behind a guard, apart from keccak's. -/
namespace Go.Proofs.YtefndnbaifiboaaDoor
open Go.RowKit
set_option linter.unusedVariables false
set_option linter.unusedSimpArgs false
section
variable {ops : Array Oper} {Q : Exit → Act → World → Prop} {S : World → Prop} {K : Act → World → Prop}
theorem y_toG {o : Oper} {a : Act} {x y : Operand} {aa : Option Addr} {n c F : Nat} (hw : Region.wanted o (yielded ops a.tmps) = true) (ho : o.op = .slice 25 x none (some y) none) (hx : a.eval x = .slice aa n c) (hy : a.eval y = .int .i64 (F : Int)) (hF : F ≤ c) : YieldsIf Tryd.prog ops S o (.slice aa F c) a := by
  refine y_ofG hw fun w _ => ?_
  have h := slice_to aa n c F hF w
  unfold execOp
  simp only [ho, hx, Option.map_none, Option.map_some, hy]
  simp [Instr.sliceAt, Sem.run_bind, h, run_underlying Tryd.underlying25, go_sem]
theorem y_gtrG {o : Oper} {a : Act} {x : Operand} {n : Nat} {b : Bool} (hg : o.guard = none) (ho : o.op = .binOp .gtr 3 x (.const (.int .i64 0)) 3) (hx : a.eval x = .int .i64 (n : Int)) (hb : b = decide (0 < n)) : YieldsIf Tryd.prog ops S o (.bool b) a := by
  have h : decide ((0 : Int) < (n : Int)) = b := by rw [hb]; exact decide_eq_decide.2 (by omega)
  refine y_of hg fun w _ => ?_
  unfold execOp
  simp only [ho, hx, ev_const]
  simp [go_sem, ← h]
theorem y_lenG {o : Oper} {a : Act} {x : Operand} {aa : Option Addr} {n cc : Nat} (hg : o.guard = none) (ho : o.op = .call { callee := .builtin .len, args := #[x], argTypes := #[25] }) (hx : a.eval x = .slice aa n cc) : YieldsIf Tryd.prog ops S o (.int .i64 (n : Int)) a :=
  y_of hg fun w _ => by
    unfold execOp
    have ha : (#[x] : Array Operand).map a.eval = #[.slice aa n cc] := by simp only [List.map_toArray, List.map_cons, List.map_nil, hx]
    generalize (#[x] : Array Operand) = xs at ho ha
    simp only [ho]
    simp [resolve, ha, go_sem]
end
end Go.Proofs.YtefndnbaifiboaaDoor

/- Trees of leaves that sign once: the document's Verify, where the form is another. -/
namespace Go.Proofs.YtefndnbaifiboaaDoor
open Go.RowKit
set_option linter.unusedVariables false
set_option linter.unusedSimpArgs false

def v6lt : List Lt := [(0, some 46, [9]), (1, some 47, [46]), (2, some 48, [47]), (4, some 49, [48]), (8, some 50, [8, 49]), (24, some 51, [50, 49]), (8, some 52, [0, 49]), (72, some 53, [52, 49]), (168, some 54, [51, 53, 49]), (264, some 55, [54, 49]), (520, some 56, [49, 55])]
end Go.Proofs.YtefndnbaifiboaaDoor

/- Trees of leaves that sign once: the document's Verify, the heads compared. -/
namespace Go.Proofs.YtefndnbaifiboaaDoor
open Go.RowKit
set_option linter.unusedVariables false
set_option linter.unusedSimpArgs false

end Go.Proofs.YtefndnbaifiboaaDoor

/- Trees of leaves that sign once: the document's Verify, where the heads are unlike, and where a leaf is none. -/
namespace Go.Proofs.YtefndnbaifiboaaDoor
open Go.RowKit
set_option linter.unusedVariables false
set_option linter.unusedSimpArgs false

/-- the head that a signature asks of a key -/
def hdT (sig : List Nat) : List Nat := be4 (lmCode (ctH sig : Int)) ++ be4 (numL ((sig.drop 4).take 4))
end Go.Proofs.YtefndnbaifiboaaDoor

/- Trees of leaves that sign once: the document's Sign. -/
namespace Go.Proofs.YtefndnbaifiboaaDoor
open Go.RowKit
set_option linter.unusedVariables false
set_option linter.unusedSimpArgs false

/-- a leaf's signature -/
def sgT (k n m s c : Nat) (id seed text : List Nat) (q : Nat) : List Nat := sgnH shaL (preL id q) c (digsL k n m s (digH shaL (preL id q) (lmCn shaL (preL id q) seed) text)) seed
theorem sgT_len (k n m s c : Nat) (id seed text : List Nat) (q : Nat) : (sgT k n m s c id seed text q).length = 36 + 32 * (n + m) := by unfold sgT; rw [sgnH_len, digs_len]; exact fun _ => shaL_len _
theorem GrT.lit3 {w : World} {u v x : Value} {a b c : List Nat} (hu : Row .u8 256 w u a) (tu : Tidy u) (hv : Row .u8 256 w v b) (tv : Tidy v) (hx : Row .u8 256 w x c) (tx' : Tidy x) (la : 0 < a.length) (lb : 0 < b.length) (lc : 0 < c.length) : GrT (w.alloc (.cells #[u, v, x] 25)) w.heap.size (.slice (some ⟨w.heap.size, 0, none⟩) 3 3) [a, b, c] := by
  have hb := keep_alloc w (.cells #[u, v, x] 25)
  have ap : ∀ {y : Value} {l : List Nat}, Row .u8 256 w y l → 0 < l.length → Apart1 (w.alloc (.cells #[u, v, x] 25)) (.slice (some ⟨w.heap.size, 0, none⟩) 3 3) y := fun hx hl q hq => by
    have h1 := hx.old hl hq
    refine ⟨by rw [World.size_alloc]; omega, fun e => ?_⟩
    have : w.heap.size = q := by simpa [Value.ownBlock] using e
    omega
  refine ⟨⟨[u, v, x], World.ownsRow_lit (base := w.heap.size) (e := 25) (size := 1) w #[u, v, x] 3 (Nat.le_refl _) (by decide) rfl, texts_cons (hu.below hb) tu (texts_cons (hv.below hb) tv (texts_cons (hx.below hb) tx' (Texts.nil _))), fun y hy => ?_⟩⟩
  rcases List.mem_cons.1 hy with h | h
  · rw [h]; exact ap hu la
  · rcases List.mem_cons.1 h with h | h
    · rw [h]; exact ap hv lb
    · have : y = x := by simpa using h
      rw [this]; exact ap hx lc
theorem lev_div {h n : Nat} (hn : Lev h n) : ∀ i, i ≤ h → Lev (h - i) (n / 2 ^ i)
  | 0, _ => by rw [Nat.pow_zero, Nat.div_one]; exact hn
  | i + 1, hi => by
    have := lev_div hn i (by omega)
    rw [show h - i = (h - (i + 1)) + 1 by omega] at this
    rw [Nat.pow_succ, ← Nat.div_div_eq_div_mul]
    exact this.up
section
variable {ops : Array Oper} {S : World → Prop}
theorem y_convT {o : Oper} {a : Act} {x : Operand} {q : Nat} (hg : o.guard = none) (ho : o.op = .convert 24 53 x) (hx : a.eval x = .int .u32 (q : Int)) (hq : q < 4294967296) : YieldsIf Tryd.prog ops S o (.int .u64 (q : Int)) a := by
  have h1 : IntKind.u64.wrap (q : Int) = (q : Int) := by rw [IntKind.wrap_u64]; omega
  refine y_of hg fun w _ => ?_
  unfold execOp
  simp only [ho, hx]
  simp [h1, go_sem]
theorem y_fieldT {o : Oper} {a : Act} {x : Operand} {t : TypeId} {q q' f off : Nat} (hg : o.guard = none) (ho : o.op = .fieldAddr t x f) (hx : a.eval x = .pointer (some ⟨q, q', none⟩))
    (hf : ∀ w : World, (Instr.fieldAt t (.pointer (some ⟨q, q', none⟩)) f).run Tryd.prog w = .ok (.pointer (some ⟨q, off, none⟩)) w) : YieldsIf Tryd.prog ops S o (.pointer (some ⟨q, off, none⟩)) a := by
  refine y_of hg fun w _ => ?_
  unfold execOp
  simp only [ho, hx]
  simp [hf w, Sem.run_bind]
theorem fT0 (q : Nat) (w : World) : (Instr.fieldAt 29 (.pointer (some ⟨q, 0, none⟩)) 0).run Tryd.prog w = .ok (.pointer (some ⟨q, 0, none⟩)) w := by simp [go_sem]
end
/-- where the loop stands -/
def SgL (w wD : World) (gO h n : Nat) (pf : List (List Nat)) (f : Nat → List Nat) (vo vi : Value) (wr : World) : Prop := ∃ i : Nat, i ≤ h ∧ vi = .int .i64 ((n / 2 ^ i : Nat) : Int) ∧ GrT wr w.heap.size vo (pf ++ pthA f i n) ∧ But gO wD wr ∧ (∀ g, vo.ownBlock = some g → g = gO ∨ wD.heap.size ≤ g) ∧ Below w.heap.size w wr
def sglt : List Lt := [(0, some 41, [3]), (1, some 42, [41]), (2, some 43, [42]), (0, some 44, [13]), (0, some 45, [5]), (16, some 46, [45]), (36, some 47, [46]), (64, some 48, [47]), (140, some 49, [43, 44, 48]), (511, some 15, [49])]
end Go.Proofs.YtefndnbaifiboaaDoor

/- Leaves that sign once: the document's Candidate. -/
namespace Go.Proofs.YtefndnbaifiboaaDoor
open Go.RowKit
set_option linter.unusedVariables false
set_option linter.unusedSimpArgs false

end Go.Proofs.YtefndnbaifiboaaDoor

/- Leaves that sign once: the document's Candidate of 8 bits. -/
namespace Go.Proofs.YtefndnbaifiboaaDoor
open Go.RowKit
set_option linter.unusedVariables false
set_option linter.unusedSimpArgs false

end Go.Proofs.YtefndnbaifiboaaDoor

/- Trees of leaves that sign once: the document's Verify where it comes to the sums. -/
namespace Go.Proofs.YtefndnbaifiboaaDoor
open Go.RowKit
set_option linter.unusedVariables false
set_option linter.unusedSimpArgs false

/-- what a kind of leaf has -/
def nK (k : Nat) : Nat := if k = 1 then 256 else if k = 2 then 128 else if k = 4 then 64 else 32
def mK (k : Nat) : Nat := if k = 1 then 9 else if k = 2 then 5 else if k = 4 then 3 else 2
def sK (k : Nat) : Nat := if k = 1 then 7 else if k = 2 then 6 else if k = 4 then 4 else 0
def cK (k : Nat) : Nat := if k = 1 then 1 else if k = 2 then 2 else if k = 4 then 3 else 4
theorem Kd.is {k n m s c : Nat} (h : Kd k n m s c) : n = nK k ∧ m = mK k ∧ s = sK k ∧ c = cK k := by cases h <;> exact ⟨rfl, rfl, rfl, rfl⟩
/-- the key that a leaf's signature leads to -/
def cndT (k n m s : Nat) (id text sig : List Nat) (q : Nat) : List Nat := keyH shaL (preL id q) (endsC shaL (preL id q) (2 ^ k - 1) (digsL k n m s (digH shaL (preL id q) ((sig.drop 4).take 32) text)) sig)
theorem cndT_len (k n m s : Nat) (id text sig : List Nat) (q : Nat) : (cndT k n m s id text sig q).length = 32 := shaL_len _
/-- the neighbours that a signature ends with -/
def vChk (l : List Nat) : Nat → List (List Nat)
  | 0 => []
  | h + 1 => l.take 32 :: vChk (l.drop 32) h
theorem vChk_len : ∀ (h : Nat) (l : List Nat), (vChk l h).length = h
  | 0, _ => rfl
  | h + 1, l => by show (vChk (l.drop 32) h).length + 1 = _; rw [vChk_len h]
theorem vChk_flat : ∀ (h : Nat) (l : List Nat), l.length = 32 * h → (vChk l h).flatten = l
  | 0, l, hl => (List.eq_nil_of_length_eq_zero (by omega)).symm
  | h + 1, l, hl => by
    show l.take 32 ++ (vChk (l.drop 32) h).flatten = l
    rw [vChk_flat h (l.drop 32) (by rw [List.length_drop]; omega), List.take_append_drop]
theorem vChk_32 : ∀ (h : Nat) (l : List Nat), l.length = 32 * h → ∀ p ∈ vChk l h, p.length = 32
  | 0, _, _, p, hp => by cases hp
  | h + 1, l, hl, p, hp => by
    rcases List.mem_cons.1 hp with e | e
    · rw [e, List.length_take]; omega
    · exact vChk_32 h (l.drop 32) (by rw [List.length_drop]; omega) p e
/-- the sum that a signature leads to -/
def vTopK (k n m s : Nat) (pub text sig : List Nat) : List Nat :=
  climb (ovL ((pub.drop 8).take 16)) (vChk (sig.drop (8 + szW (k : Int))) (ctH sig)) (2 ^ ctH sig + numL (sig.take 4)) (lfS ((pub.drop 8).take 16) (2 ^ ctH sig + numL (sig.take 4)) (cndT k n m s ((pub.drop 8).take 16) text ((sig.drop 4).take (szW (k : Int))) (numL (sig.take 4))))
theorem fTr1 (q : Nat) (w : World) : (Instr.fieldAt 29 (.pointer (some ⟨q, 0, none⟩)) 1).run Tryd.prog w = .ok (.pointer (some ⟨q, 1, none⟩)) w := by simp [go_sem]
theorem conv_u64u32 (n : Nat) (h : n < 4294967296) (w : World) : (convert 53 24 (.int .u64 (n : Int))).run Tryd.prog w = .ok (.int .u32 (n : Int)) w := by
  have hq : IntKind.u32.wrap (n : Int) = (n : Int) := by rw [IntKind.wrap_u32]; omega
  simp [go_sem, convert, Sem.run_bind, run_underlying Tryd.underlying53, run_underlying Tryd.underlying24, hq]
theorem Kd.size {k n m s c : Nat} (h : Kd k n m s c) : szW (k : Int) = 36 + 32 * (n + m) := by cases h <;> rfl
/-- where the climb stands -/
def VcI (id TOP : List Nat) (w : World) (vn vs vp : Value) (wr : World) : Prop := ∃ (ps : List (List Nat)) (n : Nat) (s : List Nat), vn = .int .u64 (n : Int) ∧ Row .u8 256 wr vs s ∧ s.length = 32 ∧ Row .u8 256 wr vp ps.flatten ∧ (∀ p ∈ ps, p.length = 32) ∧ Lev ps.length n ∧ n < 67108864 ∧ climb (ovL id) ps n s = TOP ∧ Below w.heap.size w wr
end Go.Proofs.YtefndnbaifiboaaDoor
