/- Steps of a plan that any program may take: fields, nil checks, slices, method values. -/
import Derived.Test.YtnjiilnkobhibaaPlIn
import Derived.Test.YtnjiilnkobhibaaFrameT
namespace Go.Proofs.Ytnjiilnkobhibaa
open Go.RowKit
set_option linter.unusedVariables false
set_option linter.unusedSimpArgs false
section
variable {ops : Array Oper} {Q : Exit → Act → World → Prop} {S : World → Prop} {K : Act → World → Prop}
theorem y_fieldX {o : Oper} {a : Act} {x : Operand} {t : TypeId} {q q' f off : Nat} (hg : o.guard = none) (ho : o.op = .fieldAddr t x f) (hx : a.eval x = .pointer (some ⟨q, q', none⟩))
    (hf : ∀ w : World, (Instr.fieldAt t (.pointer (some ⟨q, q', none⟩)) f).run Try.prog w = .ok (.pointer (some ⟨q, off, none⟩)) w) : YieldsIf Try.prog ops S o (.pointer (some ⟨q, off, none⟩)) a := by
  refine y_of hg fun w _ => ?_
  unfold execOp
  simp only [ho, hx]
  simp [hf w, Sem.run_bind]
theorem y_nilX {o : Oper} {a : Act} {x : Operand} {p : Addr} (hg : o.guard = none) (ho : o.op = .nilCheck x) (hx : a.eval x = .pointer (some p)) : YieldsIf Try.prog ops S o (.pointer (some p)) a := by
  refine y_of hg fun w _ => ?_
  unfold execOp
  simp only [ho, hx]
  simp [go_sem]
theorem y_sliceX {o : Oper} {a : Act} {x y z : Operand} {u : Value} {aa : Option Addr} {n c F G : Nat} (hg : o.guard = none) (ho : o.op = .slice 22 x (some y) (some z) none) (hx : a.eval x = .slice aa n c) (hy : a.eval y = .int .i64 (F : Int)) (hz : a.eval z = .int .i64 (G : Int)) (hr : ∀ w : World, (Instr.slice 22 (.slice aa n c) (some (.int .i64 (F : Int))) (some (.int .i64 (G : Int))) none).run Try.prog w = .ok u w) : YieldsIf Try.prog ops S o u a := by
  refine y_of hg fun w _ => ?_
  have h := hr w
  unfold execOp
  simp only [ho, hx, Option.map_none, Option.map_some, hy, hz]
  simp [Instr.sliceAt, Sem.run_bind, h, run_underlying Try.underlying22, go_sem]
/-- a text from F to G -/
theorem slice_mid (ba : Option Addr) (n bc F G : Nat) (hF : F ≤ G) (hG : G ≤ bc) : ∃ A, (∀ w : World, (Instr.slice 22 (.slice ba n bc) (some (.int .i64 (F : Int))) (some (.int .i64 (G : Int))) none).run Try.prog w = .ok (.slice A (G - F) (bc - F)) w) ∧ (A = ba ∧ bc = F ∨ A = ba.map (·.add F)) := by
  obtain ⟨i0, hi0, _, hz1, _⟩ := info_parts Try.info5
  have h : (F : Int) ≤ (G : Int) := by omega
  have h2 : (G : Int) ≤ (bc : Int) := by omega
  refine ⟨if bc = F then ba else ba.map (·.add F), fun w => ?_, ?_⟩
  · by_cases e : bc = F
    · subst e
      cases ba <;> simp [Instr.slice, Instr.sliceBounds, Instr.sliceBound, asIntOf, Sem.run_bind, run_underlying Try.underlying22, h, h2, hF, hG, sizeOf, typeInfo, hi0, hz1, Addr.add]
    · cases ba <;> simp [Instr.slice, Instr.sliceBounds, Instr.sliceBound, asIntOf, Sem.run_bind, run_underlying Try.underlying22, h, h2, hF, hG, e, sizeOf, typeInfo, hi0, hz1, Addr.add]
  · by_cases e : bc = F
    · rw [if_pos e]; exact .inl ⟨rfl, e⟩
    · rw [if_neg e]; exact .inr rfl
end
end Go.Proofs.Ytnjiilnkobhibaa
