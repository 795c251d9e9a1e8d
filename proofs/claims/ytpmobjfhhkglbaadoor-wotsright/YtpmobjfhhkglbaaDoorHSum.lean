/- Contract of sha.Sum. -/
import Derived.Test.YtpmobjfhhkglbaaDoorHEnd
import Derived.Test.YtpmobjfhhkglbaaDoorPlan2
import Derived.Test.YtpmobjfhhkglbaaDoorHHsh
import Derived.Laws.ShiftsVarLaws
import Derived.BigRegion
import Derived.Deep.AppendLies
import Derived.ArgAppend
import Derived.Test.YtpmobjfhhkglbaaDoorHTur32
import Derived.Test.YtpmobjfhhkglbaaDoorWtM
import Derived.Test.YtpmobjfhhkglbaaDoorBase
import Derived.Laws.AppendOwnNone
import Derived.Test.YtpmobjfhhkglbaaDoorHSl
import Derived.Test.YtpmobjfhhkglbaaDoorHAdd64
import Derived.Deep.RegionLaw
import Derived.Test.YtpmobjfhhkglbaaDoorHFin64
import Derived.Test.YtpmobjfhhkglbaaDoorHKit
namespace Go.Proofs.YtpmobjfhhkglbaaDoor
open Go.RowKit
set_option linter.unusedVariables false
set_option linter.unusedSimpArgs false

set_option maxHeartbeats 2000000 in
set_option maxRecDepth 100000 in
theorem sum_3 (bv : Value) (b : List Nat) (w : World) (hT : Roots w) (hR : Row .u8 256 w bv b) (tB : Tidy bv) (hbl : b.length ≤ 100000) :
    Calls Tryd.prog 49 #[.int .i64 3, bv] w fun e w' => ∃ v', e = .returned (.tuple #[v', .int .i64 0]) ∧ Own 5 .u8 256 w' w.heap.size v' (endS (wide 3) (ini 3) b b.length (outn 3)) ∧ Below w.heap.size w w' := by
  have h8 : (ini 3).length = 8 := by decide
  have hu : Under (wm (wide 3)) (ini 3) := dec_under (by decide)
  have hnew := new_3 w hT
  obtain ⟨ba, bc, rfl⟩ := hR.form
  have hse := fun w1 (hb1 : Below w.heap.size w w1) => send_any 3 (by decide) (ini 3) (.slice ba b.length bc) b b.length _ ((hT.below hb1).below (keep_alloc w1 (.cells (hv 3 (ini 3) (.slice ba b.length bc) b.length) 79))) h8 hu ((hR.below hb1).below (keep_alloc w1 (.cells (hv 3 (ini 3) (.slice ba b.length bc) b.length) 79))) tB hbl (by omega)
  generalize ini 3 = E at *
  have hwr : IntKind.u64.wrap (b.length : Int) = (b.length : Int) := by rw [IntKind.wrap_u64]; omega
  unfold hv at *
  go_enter Tryd.func49, Tryd.ntmps49
  go_wp2_with (first
    | (go_at_call 42; refine hnew.mono ?_; rintro e w1 ⟨rfl, hb1⟩)
    | (go_at_call 63; refine (hse w1 hb1).mono ?_; rintro e w2 ⟨v2, rfl, hO2, hb2⟩)
    | fail)
  go_ret2
  exact ⟨_, rfl, hO2.mono (by have := hb1.size; simp; omega), keep_trans (keep_trans hb1 (keep_alloc _ _)) hb2⟩

end Go.Proofs.YtpmobjfhhkglbaaDoor

/- The document's Add, End and Sum, of whatever kind; New and Sum of the code, of whatever kind. -/
namespace Go.Proofs.YtpmobjfhhkglbaaDoor
open Go.RowKit
set_option linter.unusedVariables false
set_option linter.unusedSimpArgs false

theorem fill_left (c : Bool) (l : List Nat) (s : Nat) : fill c (left c l).length s = fill c l.length s := by
  unfold fill room
  rw [left_length, Nat.mod_mod]
end Go.Proofs.YtpmobjfhhkglbaaDoor

/- Leaves that sign once: the document's Kind, Size, H, part, chain, key, digest. -/
namespace Go.Proofs.YtpmobjfhhkglbaaDoor
open Go.RowKit
set_option linter.unusedVariables false
set_option linter.unusedSimpArgs false

theorem texts_cons {w : World} {u : Value} {x : List Nat} {us : List Value} {ls : List (List Nat)} (h : Row .u8 256 w u x) (t : Tidy u) (k : Texts w us ls) : Texts w (u :: us) (x :: ls) := (Texts.one h t).append k
theorem rows_litL {w : World} {us : List Value} {ls : List (List Nat)} {B k : Nat} (h : Texts w us ls) (hB : w.heap.size = B) (hk : ls.length = k) (hl : k ≤ 1000) : Rows2 (w.alloc (.cells us.toArray 26)) (.slice (some ⟨B, 0, none⟩) k k) ls := by
  subst hB hk
  refine ⟨_, ls.length, rfl, Nat.le_refl _, by unfold maxLen; omega, fun _ => ⟨_, _, rfl, fun i hi => ?_⟩⟩
  have hb := keep_alloc w (.cells us.toArray 26)
  obtain ⟨u, hu, hr, ht⟩ := h.2 i hi
  refine ⟨u, ?_, hr.below hb, ht⟩
  rw [World.cell?_alloc_at _ _ _ _ rfl, Nat.zero_add]
  simpa using hu
theorem new_ntidy {w : World} {v : Value} {l : List Nat} (h : Row .u8 256 w v l) (hl : 0 < l.length) : Tidy v := by
  obtain ⟨a, c, rfl, _, _, g⟩ := h.opens rfl
  obtain ⟨b, o, rfl, _⟩ := g hl
  intro n c e
  cases e
end Go.Proofs.YtpmobjfhhkglbaaDoor

/- Keys of chains: the document's pair and short; steps of plans over a place's box. -/
namespace Go.Proofs.YtpmobjfhhkglbaaDoor
open Go.RowKit
set_option linter.unusedVariables false
set_option linter.unusedSimpArgs false

theorem p_build3G {ops : Array Oper} {Q : Exit → Act → World → Prop} {K : Act → World → Prop} {i : Nat} {o : Oper} {a : Act} {w : World} {t e : TypeId} {p q r : Operand} {adp adq adr : Option Addr} {np cp nq cq nr cr : Nat} {d : Option Nat} {z : TypeInfo} (hi : ops[i]? = some o) (hw : Region.wanted o (yielded ops a.tmps) = true) (ho : o.op = .buildSlice t 3 #[(0, p), (1, q), (2, r)]) (hp : a.eval p = .slice adp np cp) (hq : a.eval q = .slice adq nq cq) (hr : a.eval r = .slice adr nr cr) (hd : o.dst = d)
    (hu : Tryd.prog.underlying t = some (.slice e)) (hz : Tryd.prog.info? e = some z) (hsz : z.size = 1) (hz0 : z.zero = some (.slice none 0 0)) (h : K (a.put d (.slice (some ⟨w.heap.size, 0, none⟩) 3 3)) (w.alloc (.cells #[.slice adp np cp, .slice adq nq cq, .slice adr nr cr] e))) : wpOp Tryd.prog ops Q i K a w := by
  have hr : (execOp a.eval o).run Tryd.prog w = .ok (.value (.slice (some ⟨w.heap.size, 0, none⟩) 3 3)) (w.alloc (.cells #[.slice adp np cp, .slice adq nq cq, .slice adr nr cr] e)) := by
    unfold execOp
    simp only [ho, List.map_toArray, List.map_cons, List.map_nil, hp, hq, hr]
    simp [Sem.run_bind, run_underlying hu, sizeOf, typeInfo, zeroValue, hz, hsz, hz0, go_sem]
  unfold wpOp
  simp only [hi]
  rw [if_pos hw]
  left
  unfold Oper.wp
  rw [hr]
  show K (a.put o.dst _) _
  rw [hd]
  exact h
theorem run_midA3_4 {o : Oper} {a : Act} (w : World) {x : Operand} {g : Nat} (ho : o.op = .slice 23 x (some (.const (.int .i64 3))) (some (.const (.int .i64 4))) none) (hx : a.eval x = .pointer (some ⟨g, 0, none⟩)) : (execOp a.eval o).run Tryd.prog w = .ok (.value (.slice (some ⟨g, 3, none⟩) 1 29)) w := by
  obtain ⟨i0, hi0, hz0, hz1, hz2⟩ := info_byte
  have hr : (execOp a.eval o).run Tryd.prog w = .ok (.value (.slice (some ⟨g, 3, none⟩) 1 29)) w := by
    unfold execOp
    simp only [ho, hx, Option.map_some, Option.map_none, ev_const]
    simp [Instr.sliceAt, Instr.slice, Instr.sliceBounds, Sem.run_bind, run_underlying Tryd.underlying23, run_underlying Tryd.underlying26, sizeOf, typeInfo, hi0, hz1, Addr.add, go_sem]
  exact hr
theorem y_midA3_4 {ops : Array Oper} {S : World → Prop} {o : Oper} {a : Act} {x : Operand} {g : Nat} (hw : Region.wanted o (yielded ops a.tmps) = true) (ho : o.op = .slice 23 x (some (.const (.int .i64 3))) (some (.const (.int .i64 4))) none) (hx : a.eval x = .pointer (some ⟨g, 0, none⟩)) : YieldsIf Tryd.prog ops S o (.slice (some ⟨g, 3, none⟩) 1 29) a := .inl ⟨hw, fun w _ => run_midA3_4 w ho hx⟩
theorem run_midA8_16 {o : Oper} {a : Act} (w : World) {x : Operand} {g : Nat} (ho : o.op = .slice 23 x (some (.const (.int .i64 8))) (some (.const (.int .i64 16))) none) (hx : a.eval x = .pointer (some ⟨g, 0, none⟩)) : (execOp a.eval o).run Tryd.prog w = .ok (.value (.slice (some ⟨g, 8, none⟩) 8 24)) w := by
  obtain ⟨i0, hi0, hz0, hz1, hz2⟩ := info_byte
  have hr : (execOp a.eval o).run Tryd.prog w = .ok (.value (.slice (some ⟨g, 8, none⟩) 8 24)) w := by
    unfold execOp
    simp only [ho, hx, Option.map_some, Option.map_none, ev_const]
    simp [Instr.sliceAt, Instr.slice, Instr.sliceBounds, Sem.run_bind, run_underlying Tryd.underlying23, run_underlying Tryd.underlying26, sizeOf, typeInfo, hi0, hz1, Addr.add, go_sem]
  exact hr
theorem y_midA8_16 {ops : Array Oper} {S : World → Prop} {o : Oper} {a : Act} {x : Operand} {g : Nat} (hw : Region.wanted o (yielded ops a.tmps) = true) (ho : o.op = .slice 23 x (some (.const (.int .i64 8))) (some (.const (.int .i64 16))) none) (hx : a.eval x = .pointer (some ⟨g, 0, none⟩)) : YieldsIf Tryd.prog ops S o (.slice (some ⟨g, 8, none⟩) 8 24) a := .inl ⟨hw, fun w _ => run_midA8_16 w ho hx⟩
theorem run_arrA {o : Oper} {a : Act} (w : World) {x : Operand} {g : Nat} (ho : o.op = .slice 23 x none none none) (hx : a.eval x = .pointer (some ⟨g, 0, none⟩)) : (execOp a.eval o).run Tryd.prog w = .ok (.value (.slice (some ⟨g, 0, none⟩) 32 32)) w := by
  obtain ⟨i0, hi0, hz0, hz1, hz2⟩ := info_byte
  unfold execOp
  simp only [ho, hx, Option.map_none]
  simp [Instr.sliceAt, Instr.slice, Instr.sliceBounds, Sem.run_bind, run_underlying Tryd.underlying23, run_underlying Tryd.underlying26, sizeOf, typeInfo, hi0, hz1, Addr.add, go_sem]
theorem y_arrA {ops : Array Oper} {S : World → Prop} {o : Oper} {a : Act} {x : Operand} {g : Nat} (hw : Region.wanted o (yielded ops a.tmps) = true) (ho : o.op = .slice 23 x none none none) (hx : a.eval x = .pointer (some ⟨g, 0, none⟩)) : YieldsIf Tryd.prog ops S o (.slice (some ⟨g, 0, none⟩) 32 32) a := .inl ⟨hw, fun w _ => run_arrA w ho hx⟩
/-- a place in a box is a text -/
theorem row_ad {w : World} {g : Nat} {a : List Nat} (h : Lies .u8 23 w g a) (ha : Pl a) : Row .u8 256 w (.slice (some ⟨g, 0, none⟩) 32 32) a :=
  ⟨_, 32, by rw [ha.1], by rw [ha.1]; exact Nat.le_refl _, by unfold maxLen; decide, fun _ => ⟨g, 0, rfl, fun i hi => by rw [Nat.zero_add]; exact h.cell hi⟩, ha.2⟩
theorem tidy_someW {b o n c : Nat} : Tidy (.slice (some ⟨b, o, none⟩) n c) := fun n c e => by cases e
/-- a place, short -/
def shA (a : List Nat) : List Nat := (a.drop 3).take 1 ++ ((a.drop 8).take 8 ++ ((a.drop 19).take 1 ++ (a.drop 20).take 12))
theorem shA_len {a : List Nat} (ha : a.length = 32) : (shA a).length = 22 := by
  unfold shA
  simp only [List.length_append, List.length_take, List.length_drop]
  omega
end Go.Proofs.YtpmobjfhhkglbaaDoor
