/- The document's Parts. -/
import Derived.Test.YtnjiilnkobhibaaTpM
import Derived.Test.YtnjiilnkobhibaaPApp
import Derived.Test.YtnjiilnkobhibaaPlIn
import Derived.Test.YtnjiilnkobhibaaSame
namespace Go.Proofs.Ytnjiilnkobhibaa
open Go.RowKit
set_option linter.unusedVariables false
set_option linter.unusedSimpArgs false

def ptlt : List Lt := [(0, some 21, [7]), (0, some 22, [1]), (0, some 23, [9]), (6, some 24, [22, 23]), (8, some 25, [24]), (17, some 26, [21, 25]), (32, some 20, [26]), (64, some 27, [20]), (64, some 28, [20]), (64, some 29, [20]), (0, some 10, []), (1279, none, [10, 27]), (3583, some 11, [28]), (8191, some 12, [29])]
theorem at_beginR {P : Program} {ops : Array Oper} {id k : Nat} {a : Act} {w : World} {Q : Exit → Act → World → Prop} {R : Act → World → Prop} (S : World → Prop) (hm : P.follows .mixedOrders = true) (hn : ops.size = k) (h : At P ops (onlyN R) S k 0 a w.drew) (hQ : ∀ a w, R a w → Q .normal a w) : (Code.region id ops true).wp P Q a w := by
  refine Code.wp_mono ?_ (at_begin S hm hn h)
  intro e a w hh
  cases e <;> first | exact hQ _ _ hh | exact (hh : False).elim
/-- an int read off a slice of ints -/
theorem y_index_at {P : Program} {ops : Array Oper} {S : World → Prop} {o : Oper} {a : Act} {x y : Operand} {t e : TypeId} {g f n c i : Nat} (hg : o.guard = none) (ho : o.op = .indexAddr t x y) (hx : a.eval x = .slice (some ⟨g, f, none⟩) n c) (hy : a.eval y = .int .i64 (i : Int)) (hu : P.underlying t = some (.slice e)) (hs : (P.info? e).map (·.size) = some 1) (hi : i < n) : YieldsIf P ops S o (.pointer (some ⟨g, f + i, none⟩)) a := by
  cases hq : P.info? e with
  | none => simp [hq] at hs
  | some z =>
    have hz : z.size = 1 := by simpa [hq] using hs
    refine y_of hg fun w _ => ?_
    unfold execOp
    simp only [ho, hx, hy]
    simp [Instr.indexAt, asIntOf, Sem.run_bind, run_underlying hu w, sizeOf, typeInfo, hq, hz, hi, Addr.add, go_sem]
    try omega
theorem p_alloc2 {P : Program} {ops : Array Oper} {K : Act → World → Prop} {Q : Exit → Act → World → Prop} {i : Nat} {o : Oper} {a : Act} {w : World} {t : TypeId} {d : Option Nat} {z : TypeInfo} {v0 v1 : Value} (hi : ops[i]? = some o) (hg : o.guard = none) (ho : o.op = .alloc t) (hd : o.dst = d) (hz : P.info? t = some z) (hz0 : z.zero = some (.agg #[v0, v1]))
    (h : K (a.put d (.pointer (some ⟨w.heap.size, 0, none⟩))) (w.alloc (.cells #[v0, v1] t))) : wpOp P ops Q i K a w := by
  have hr : (execOp a.eval o).run P w = .ok (.value (.pointer (some ⟨w.heap.size, 0, none⟩))) (w.alloc (.cells #[v0, v1] t)) := by
    unfold execOp
    simp only [ho]
    simp [Sem.run_bind, Instr.alloc, zeroValue, typeInfo, hz, hz0, go_sem]
  unfold wpOp
  simp only [hi]
  rw [if_pos (wanted_free hg)]
  left
  unfold Oper.wp
  rw [hr]
  show K (a.put o.dst _) _
  rw [hd]
  exact h
/-- Take, whatever comes -/
def tkY (n : Nat) (x k : Int) : Int := if tkC n x k = 0 then x + k else x
theorem keep_row {x y : World} {B : Nat} {c : Array Value} (h : Below x.heap.size x y) (hB : x.heap.size ≤ B) : Below x.heap.size x (y.setRow B c) := h.trans (((But.refl B y).setRow c).below hB h.size)
theorem own_set2 {W : World} {base B n : Nat} {e : TypeId} {v u0 u1 : Value} {xs : List Value} (h : W.ownsRow base e 1 v n xs) (hB : B < base) : ((W.setCell ⟨B, 0, none⟩ u0).setCell ⟨B, 1, none⟩ u1).ownsRow base e 1 v n xs := by
  have hb := but_set2 W B u0 u1
  refine h.kept (row := some B) ⟨hb.os, hb.tape, hb.output, hb.size, fun k hk hne => hb.block k hk fun e => hne (by rw [e])⟩ ?_
  cases hvo : v.ownBlock with
  | none => exact .inl rfl
  | some q => exact .inr fun e => by have := (h.lt q hvo).1; cases e; omega
theorem own_after {W : World} {base n : Nat} {e : TypeId} {v : Value} {xs : List Value} (h : W.ownsRow base e 1 v n xs) (W0 : World) (B : Nat) (u0 u1 : Value) (hB : B < base) (o : Obj) : (((W.setCell ⟨B, 0, none⟩ u0).setCell ⟨B, 1, none⟩ u1).alloc o).ownsRow base e 1 v n xs := (own_set2 h hB).alloc o
end Go.Proofs.Ytnjiilnkobhibaa

/- Steps of a plan that any program may take: fields, nil checks, slices, method values. -/
namespace Go.Proofs.Ytnjiilnkobhibaa
open Go.RowKit
set_option linter.unusedVariables false
set_option linter.unusedSimpArgs false
section
variable {ops : Array Oper} {Q : Exit → Act → World → Prop} {S : World → Prop} {K : Act → World → Prop}
theorem y_fieldX {o : Oper} {a : Act} {x : Operand} {t : TypeId} {q q' f off : Nat} (hg : o.guard = none) (ho : o.op = .fieldAddr t x f) (hx : a.eval x = .pointer (some ⟨q, q', none⟩))
    (hf : ∀ w : World, (Instr.fieldAt t (.pointer (some ⟨q, q', none⟩)) f).run Try.prog w = .ok (.pointer (some ⟨q, off, none⟩)) w) : YieldsIf Try.prog ops S o (.pointer (some ⟨q, off, none⟩)) a := by
  refine y_of hg fun w _ => ?_
  unfold execOp
  simp only [ho, hx]
  simp [hf w, Sem.run_bind]
theorem y_nilX {o : Oper} {a : Act} {x : Operand} {p : Addr} (hg : o.guard = none) (ho : o.op = .nilCheck x) (hx : a.eval x = .pointer (some p)) : YieldsIf Try.prog ops S o (.pointer (some p)) a := by
  refine y_of hg fun w _ => ?_
  unfold execOp
  simp only [ho, hx]
  simp [go_sem]
theorem y_sliceX {o : Oper} {a : Act} {x y z : Operand} {u : Value} {aa : Option Addr} {n c F G : Nat} (hg : o.guard = none) (ho : o.op = .slice 22 x (some y) (some z) none) (hx : a.eval x = .slice aa n c) (hy : a.eval y = .int .i64 (F : Int)) (hz : a.eval z = .int .i64 (G : Int)) (hr : ∀ w : World, (Instr.slice 22 (.slice aa n c) (some (.int .i64 (F : Int))) (some (.int .i64 (G : Int))) none).run Try.prog w = .ok u w) : YieldsIf Try.prog ops S o u a := by
  refine y_of hg fun w _ => ?_
  have h := hr w
  unfold execOp
  simp only [ho, hx, Option.map_none, Option.map_some, hy, hz]
  simp [Instr.sliceAt, Sem.run_bind, h, run_underlying Try.underlying22, go_sem]
/-- a text from F to G -/
theorem slice_mid (ba : Option Addr) (n bc F G : Nat) (hF : F ≤ G) (hG : G ≤ bc) : ∃ A, (∀ w : World, (Instr.slice 22 (.slice ba n bc) (some (.int .i64 (F : Int))) (some (.int .i64 (G : Int))) none).run Try.prog w = .ok (.slice A (G - F) (bc - F)) w) ∧ (A = ba ∧ bc = F ∨ A = ba.map (·.add F)) := by
  obtain ⟨i0, hi0, _, hz1, _⟩ := info_parts Try.info5
  have h : (F : Int) ≤ (G : Int) := by omega
  have h2 : (G : Int) ≤ (bc : Int) := by omega
  refine ⟨if bc = F then ba else ba.map (·.add F), fun w => ?_, ?_⟩
  · by_cases e : bc = F
    · subst e
      cases ba <;> simp [Instr.slice, Instr.sliceBounds, Instr.sliceBound, asIntOf, Sem.run_bind, run_underlying Try.underlying22, h, h2, hF, hG, sizeOf, typeInfo, hi0, hz1, Addr.add]
    · cases ba <;> simp [Instr.slice, Instr.sliceBounds, Instr.sliceBound, asIntOf, Sem.run_bind, run_underlying Try.underlying22, h, h2, hF, hG, e, sizeOf, typeInfo, hi0, hz1, Addr.add]
  · by_cases e : bc = F
    · rw [if_pos e]; exact .inl ⟨rfl, e⟩
    · rw [if_neg e]; exact .inr rfl
end
end Go.Proofs.Ytnjiilnkobhibaa
