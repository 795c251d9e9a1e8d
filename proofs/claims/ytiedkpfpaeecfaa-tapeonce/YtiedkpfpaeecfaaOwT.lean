/- Texts of the call's own in a slice of the call's own. -/
import Derived.Test.YtiedkpfpaeecfaaApO
import Derived.Test.YtiedkpfpaeecfaaPApp
import Derived.Test.YtiedkpfpaeecfaaPlIn
import Derived.Test.YtiedkpfpaeecfaaKit
namespace Go.Proofs.Ytiedkpfpaeecfaa
open Go.RowKit
set_option linter.unusedVariables false
set_option linter.unusedSimpArgs false

theorem own_tidyG {e : TypeId} {k : IntKind} {m : Nat} {w : World} {B : Nat} {v : Value} {l : List Nat} (h : Own e k m w B v l) : Tidy v := by
  rcases h.1.2 with ⟨rfl, _⟩ | ⟨g, cap, cur, rfl, _⟩
  · intro n c e; cases e; exact ⟨rfl, rfl⟩
  · intro n c e; cases e
/-- texts of the call's own, one behind the other -/
def OwnT (w : World) (us : List Value) (l : List (List Nat)) : Prop := us.length = l.length ∧ ∀ i, i < l.length → ∃ u, us[i]? = some u ∧ Own 5 .u8 256 w 0 u (tx l i)
theorem OwnT.nil (w : World) : OwnT w [] [] := ⟨rfl, fun i hi => by simp at hi⟩
theorem OwnT.below {w w' : World} {us : List Value} {l : List (List Nat)} (h : OwnT w us l) (hb : Below w.heap.size w w') : OwnT w' us l :=
  ⟨h.1, fun i hi => by obtain ⟨u, hu, ho⟩ := h.2 i hi; exact ⟨u, hu, own_belowA ho.1 hb, ho.2⟩⟩
theorem OwnT.grown {w w' : World} {us : List Value} {l : List (List Nat)} {base n : Nat} {v : Value} {xs : List Value} (h : OwnT w us l) (how : w.ownsRow base 22 1 v n xs) (hg : w.grownBy w' v.ownBlock) : OwnT w' us l := by
  refine ⟨h.1, fun i hi => ?_⟩
  obtain ⟨u, hu, ho⟩ := h.2 i hi
  refine ⟨u, hu, ho.1.kept hg ?_, ho.2⟩
  rcases ho.1.2 with ⟨rfl, _⟩ | ⟨g, cap, cur, rfl, _, hg1, _⟩
  · exact .inl rfl
  · refine .inr fun e => ?_
    rcases how.2 with ⟨rfl, _⟩ | ⟨g', cap', cur', rfl, _, hg2, _⟩
    · cases e
    · have e2 : g = g' := by simpa [Value.ownBlock] using e
      subst e2
      rw [hg1] at hg2
      exact absurd hg2 (by simp)
theorem OwnT.snoc {w : World} {us : List Value} {l : List (List Nat)} {u : Value} {x : List Nat} (h : OwnT w us l) (ho : Own 5 .u8 256 w 0 u x) : OwnT w (us ++ [u]) (l ++ [x]) := by
  refine ⟨by rw [List.length_append, List.length_append, h.1]; rfl, fun i hi => ?_⟩
  rw [List.length_append] at hi
  by_cases hl : i < l.length
  · obtain ⟨v, hv, hr⟩ := h.2 i hl
    refine ⟨v, by rw [List.getElem?_append_left (by rw [h.1]; exact hl)]; exact hv, ?_⟩
    have e : tx (l ++ [x]) i = tx l i := by unfold tx; rw [List.getElem?_append_left hl]
    rw [e]; exact hr
  · have e0 : i = l.length := by simp at hi; omega
    subst e0
    refine ⟨u, by rw [List.getElem?_append_right (by rw [h.1]; exact Nat.le_refl _), h.1, Nat.sub_self]; rfl, ?_⟩
    have e : tx (l ++ [x]) l.length = x := by unfold tx; rw [List.getElem?_append_right (Nat.le_refl _), Nat.sub_self]; rfl
    rw [e]; exact ho
theorem OwnT.texts {w : World} {us : List Value} {l : List (List Nat)} (h : OwnT w us l) : Texts w us l :=
  ⟨h.1, fun i hi => by obtain ⟨u, hu, ho⟩ := h.2 i hi; exact ⟨u, hu, ho.row, own_tidyG ho⟩⟩
end Go.Proofs.Ytiedkpfpaeecfaa

/- Steps of a plan that any program may take: fields, nil checks, slices, method values. -/
namespace Go.Proofs.Ytiedkpfpaeecfaa
open Go.RowKit
set_option linter.unusedVariables false
set_option linter.unusedSimpArgs false
section
variable {ops : Array Oper} {Q : Exit → Act → World → Prop} {S : World → Prop} {K : Act → World → Prop}
theorem y_fieldX {o : Oper} {a : Act} {x : Operand} {t : TypeId} {q q' f off : Nat} (hg : o.guard = none) (ho : o.op = .fieldAddr t x f) (hx : a.eval x = .pointer (some ⟨q, q', none⟩))
    (hf : ∀ w : World, (Instr.fieldAt t (.pointer (some ⟨q, q', none⟩)) f).run Try.prog w = .ok (.pointer (some ⟨q, off, none⟩)) w) : YieldsIf Try.prog ops S o (.pointer (some ⟨q, off, none⟩)) a := by
  refine y_of hg fun w _ => ?_
  unfold execOp
  simp only [ho, hx]
  simp [hf w, Sem.run_bind]
theorem y_nilX {o : Oper} {a : Act} {x : Operand} {p : Addr} (hg : o.guard = none) (ho : o.op = .nilCheck x) (hx : a.eval x = .pointer (some p)) : YieldsIf Try.prog ops S o (.pointer (some p)) a := by
  refine y_of hg fun w _ => ?_
  unfold execOp
  simp only [ho, hx]
  simp [go_sem]
theorem y_sliceX {o : Oper} {a : Act} {x y z : Operand} {u : Value} {aa : Option Addr} {n c F G : Nat} (hg : o.guard = none) (ho : o.op = .slice 22 x (some y) (some z) none) (hx : a.eval x = .slice aa n c) (hy : a.eval y = .int .i64 (F : Int)) (hz : a.eval z = .int .i64 (G : Int)) (hr : ∀ w : World, (Instr.slice 22 (.slice aa n c) (some (.int .i64 (F : Int))) (some (.int .i64 (G : Int))) none).run Try.prog w = .ok u w) : YieldsIf Try.prog ops S o u a := by
  refine y_of hg fun w _ => ?_
  have h := hr w
  unfold execOp
  simp only [ho, hx, Option.map_none, Option.map_some, hy, hz]
  simp [Instr.sliceAt, Sem.run_bind, h, run_underlying Try.underlying22, go_sem]
/-- a text from F to G -/
theorem slice_mid (ba : Option Addr) (n bc F G : Nat) (hF : F ≤ G) (hG : G ≤ bc) : ∃ A, (∀ w : World, (Instr.slice 22 (.slice ba n bc) (some (.int .i64 (F : Int))) (some (.int .i64 (G : Int))) none).run Try.prog w = .ok (.slice A (G - F) (bc - F)) w) ∧ (A = ba ∧ bc = F ∨ A = ba.map (·.add F)) := by
  obtain ⟨i0, hi0, _, hz1, _⟩ := info_parts Try.info5
  have h : (F : Int) ≤ (G : Int) := by omega
  have h2 : (G : Int) ≤ (bc : Int) := by omega
  refine ⟨if bc = F then ba else ba.map (·.add F), fun w => ?_, ?_⟩
  · by_cases e : bc = F
    · subst e
      cases ba <;> simp [Instr.slice, Instr.sliceBounds, Instr.sliceBound, asIntOf, Sem.run_bind, run_underlying Try.underlying22, h, h2, hF, hG, sizeOf, typeInfo, hi0, hz1, Addr.add]
    · cases ba <;> simp [Instr.slice, Instr.sliceBounds, Instr.sliceBound, asIntOf, Sem.run_bind, run_underlying Try.underlying22, h, h2, hF, hG, e, sizeOf, typeInfo, hi0, hz1, Addr.add]
  · by_cases e : bc = F
    · rw [if_pos e]; exact .inl ⟨rfl, e⟩
    · rw [if_neg e]; exact .inr rfl
end
end Go.Proofs.Ytiedkpfpaeecfaa
