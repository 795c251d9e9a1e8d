/- Steps of drawn regions, apart from keccak's: parts of a code, what runs. -/
import Derived.Test.YtnjiilnkobhibaaDoorPlan
import Derived.Test.YtnjiilnkobhibaaDoorHKi2
import Derived.RangeFuncCalls
import Derived.RangeFuncBox
import Derived.Stop.RegionWithIn
import Derived.Test.YtnjiilnkobhibaaDoorBase
namespace Go.Proofs.YtnjiilnkobhibaaDoor
open Go.RowKit
set_option linter.unusedVariables false
set_option linter.unusedSimpArgs false

def cLA : Code → Code
  | .seq a _ => a
  | c => c
def cRA : Code → Code
  | .seq _ b => b
  | c => c
def cBA : Code → Code
  | .block _ b => b
  | c => c
def cLpA : Code → Code
  | .loop b => b
  | c => c
def opsA : Code → Array Oper
  | .region _ ops _ => ops
  | _ => #[]
section
variable {ops : Array Oper} {Q : Exit → Act → World → Prop} {S : World → Prop} {K : Act → World → Prop}
theorem p_opA {i : Nat} {o : Oper} {a : Act} {w w' : World} {v : Value} (hi : ops[i]? = some o) (hg : o.guard = none) (hr : (execOp a.eval o).run Tryd.prog w = .ok (.value v) w') (h : K (a.put o.dst v) w') : wpOp Tryd.prog ops Q i K a w := by
  unfold wpOp
  simp only [hi]
  rw [if_pos (wanted_free hg)]
  left
  unfold Oper.wp
  rw [hr]
  exact h
theorem p_rowA {i : Nat} {o : Oper} {a : Act} {w : World} {t : TypeId} {x y : Operand} {g : Nat} {cells old : Array Value} {t' : TypeId} (hi : ops[i]? = some o) (hg : o.guard = none) (ho : o.op = .store t x y) (hd : o.dst = none) (hx : a.eval x = .pointer (some ⟨g, 0, none⟩)) (hy : a.eval y = .agg cells)
    (hb : w.heap[g]? = some (.cells old t' (0, 0))) (hs : (Tryd.prog.info? t).map (·.size) = some cells.size) (hold : old.size = cells.size) (h1 : cells.all (·.oneCell') = true)
    (h : K a (w.setRow g cells)) : wpOp Tryd.prog ops Q i K a w := by
  unfold wpOp
  simp only [hi]
  rw [if_pos (wanted_free hg)]
  left
  refine wp_store_row t x y ho g cells hx hy t' old hb hs hold h1 ?_
  rw [hd]
  exact h
theorem y_assignA {o : Oper} {v : Value} {a : Act} {x : Operand} (hg : o.guard = none) (ho : o.op = .assign x) (hx : a.eval x = v) : YieldsIf Tryd.prog ops S o v a :=
  y_of hg fun w _ => by unfold execOp; simp only [ho, hx]; rfl
end
theorem results_isA {fn : Func} {p : Tmp} (h : fn.results = #[.tmp p]) {a : Act} {v : Value} (hv : a.eval (.tmp p) = v) (w : World) : (results fn a.tmps).run Tryd.prog w = .ok v w := by
  have h' : a.tmps.getD p undef = v := hv
  rw [Array.getD_eq_getD_getElem?] at h'
  simp [results, h, h']
/-- a frame of n slots that keeps those of another, but t and those from lo up to hi -/
structure Fr (n lo hi t : Nat) (a0 a : Act) : Prop where
  fz : Fz n a
  keep : ∀ j, (j < lo ∨ hi < j) → j ≠ t → a.eval (.tmp j) = a0.eval (.tmp j)
theorem Fr.step {n lo up t : Nat} {a0 a : Act} {x : World} {Q : Exit → Act → World → Prop} (h : Fr n lo up t a0 a) {kk fuel m : Nat} {v : Value} {d : Option Nat} {ops : Array Oper} {S : World → Prop} (hd : d = some kk) (h3 : kk = t ∨ (lo ≤ kk ∧ kk ≤ up)) (hk : kk < n)
    (hc : ∀ a' : Act, Fr n lo up t a0 a' → a'.eval (.tmp kk) = v → (∀ j, kk ≠ j → a'.eval (.tmp j) = a.eval (.tmp j)) → At Tryd.prog ops Q S fuel m a' x) : At Tryd.prog ops Q S fuel m (a.put d v) x := by
  subst hd
  exact hc _ ⟨h.fz.put _ _, fun j h1 h2 => (put_else (by omega)).trans (h.keep j h1 h2)⟩ (put_same (by rw [h.fz.1]; exact hk)) (fun j hj => put_else hj)
end Go.Proofs.YtnjiilnkobhibaaDoor

/- A drawn region in a round of a loop over an iterator, by a plan. -/
namespace Go.Proofs.YtnjiilnkobhibaaDoor
open Go.RowKit
set_option linter.unusedVariables false
set_option linter.unusedSimpArgs false

def cFA : Code → Code
  | .rangeFunc _ _ _ b => b
  | c => c
/-- what a region that never stops leaves -/
def onlyN (R : Act → World → Prop) : Exit → Act → World → Prop
  | .normal, a, w => R a w
  | _, _, _ => False
theorem not_out (R : Act → World → Prop) : ¬ LetsOut (NoPanic (onlyN R)) := fun ⟨a, w, h⟩ => h
def noDefer (o : Oper) : Bool := match o.op with
  | .defer _ => false
  | _ => true
section
variable {P : Program} {ops : Array Oper} {R : Act → World → Prop} {l n : Nat}
theorem oper_in {o : Oper} {a : Act} {w : World} {K : Act → World → Prop} (hd : noDefer o = true) (h : o.wp P a w K (NoPanic (onlyN R))) : o.wpIn (Fence.wide.inRound l) n P a w K (NoPanic (onlyN R)) := by
  unfold Oper.wpIn
  unfold Oper.wp at h
  refine ⟨fun _ _ => trivial, ?_⟩
  rw [Oper.semAt_eq _ _ _ (fun c hc => by unfold noDefer at hd; rw [hc] at hd; cases hd)]
  generalize (execOp a.eval o).run P w = r at *
  cases r with
  | ok x w' =>
    cases x <;> simp only [Oper.upon, Oper.uponIn] at h ⊢ <;>
      first
        | exact h
        | exact ⟨fun e => (by cases e), CallsIn.inRound l (callsIn_wide.2 h)⟩
        | exact ⟨fun e => (by cases e), fun c cs _ => let ⟨v, w', r, s⟩ := h c cs; ⟨v, w', r, stepsIn_wide.2 s⟩⟩
  | halt x w' => cases x <;> simp only [Oper.upon, Oper.uponIn] at h ⊢ <;> exact h
theorem op_in {i : Nat} {a : Act} {w : World} {K : Act → World → Prop} (hd : ops.all noDefer = true) (h : wpOp P ops (NoPanic (onlyN R)) i K a w) : wpOpIn (Fence.wide.inRound l) n P ops (NoPanic (onlyN R)) i K a w := by
  unfold wpOp at h
  unfold wpOpIn
  cases ho : ops[i]? with
  | none => simp only [ho] at h ⊢; exact h
  | some o =>
    simp only [ho] at h ⊢
    by_cases hw : Region.wanted o (yielded ops a.tmps) = true
    · rw [if_pos hw] at h ⊢
      rcases h with h | h
      · refine oper_in ?_ h
        obtain ⟨hi, he⟩ := Array.getElem?_eq_some_iff.1 ho
        rw [← he]
        exact Array.all_eq_true.1 hd i hi
      · exact absurd h.2 (not_out R)
    · rw [if_neg hw] at h ⊢
      exact ⟨fun _ _ => trivial, h⟩
theorem any_in (hd : ops.all noDefer = true) : ∀ (fuel : Nat) (listed : Array Bool) (a : Act) (w : World), wpAny P .any ops (NoPanic (onlyN R)) fuel listed a w → wpAnyIn (Fence.wide.inRound l) n P .any ops (NoPanic (onlyN R)) fuel listed a w
  | 0, listed, a, w, h => h
  | fuel + 1, listed, a, w, h => ⟨h.1, fun i hi => wpOpIn_mono (fun a w => any_in hd fuel _ a w) (op_in hd (h.2 i hi))⟩
/-- a region in a round begins -/
theorem at_begin_in {id k : Nat} {a : Act} {w : World} {Q : Exit → Act → World → Prop} (S : World → Prop) (hm : P.follows .mixedOrders = true) (hn : ops.size = k) (hd : ops.all noDefer = true) (h : At P ops (onlyN fun a w => Q .normal a w) S k 0 a w.drew) : (Code.region id ops true).wpIn (Fence.wide.inRound l) n P Q a w := by
  subst hn
  unfold At at h
  rw [← lsd_zero] at h
  refine wpIn_mono (wpIn_region_any hm (any_in hd _ _ _ _ (wpAny_of_held _ _ _ _ h))) ?_
  intro e a w hh
  cases e <;> first | exact hh | exact (hh : False).elim
/-- a region outside of rounds begins -/
theorem at_begin_wide {id k : Nat} {a : Act} {w : World} {Q : Exit → Act → World → Prop} (S : World → Prop) (hm : P.follows .mixedOrders = true) (hn : ops.size = k) (h : At P ops Q S k 0 a w.drew) : (Code.region id ops true).wpIn Fence.wide n P Q a w :=
  wpIn_wide.2 (at_begin S hm hn h)
variable {S : World → Prop} {Q : Exit → Act → World → Prop} {K : Act → World → Prop}
theorem y_load_plain {o : Oper} {v : Value} {a : Act} {x : Operand} {t : TypeId} {p : Addr} {d : TypeDesc} (hg : o.guard = none) (ho : o.op = .load t x) (hx : a.eval x = .pointer (some p)) (hu : P.underlying t = some d) (hd : (match d with | .struct _ | .array _ _ => true | _ => false) = false) (hc : ∀ w, S w → w.cell? p = some v) : YieldsIf P ops S o v a := by
  refine y_of hg fun w hw => ?_
  have c := hc w hw
  have hag : (isAgg t).run P w = .ok false w := by
    unfold isAgg
    rw [Sem.run_bind, run_underlying hu w]
    cases d <;> first | rfl | cases hd
  unfold execOp
  simp only [ho, hx]
  simp [Instr.loadAt, Instr.sureAddr, Sem.run_bind, run_underlying hu w, hag, c, go_sem]
theorem y_index_slice {o : Oper} {a : Act} {x y : Operand} {t e : TypeId} {g n c i : Nat} (hg : o.guard = none) (ho : o.op = .indexAddr t x y) (hx : a.eval x = .slice (some ⟨g, 0, none⟩) n c) (hy : a.eval y = .int .i64 (i : Int)) (hu : P.underlying t = some (.slice e)) (hs : (P.info? e).map (·.size) = some 1) (hi : i < n) : YieldsIf P ops S o (.pointer (some ⟨g, i, none⟩)) a := by
  cases hq : P.info? e with
  | none => simp [hq] at hs
  | some z =>
    have hz : z.size = 1 := by simpa [hq] using hs
    refine y_of hg fun w _ => ?_
    unfold execOp
    simp only [ho, hx, hy]
    simp [Instr.indexAt, asIntOf, Sem.run_bind, run_underlying hu w, sizeOf, typeInfo, hq, hz, hi, Addr.add, go_sem]
    omega
theorem p_store_plain {i : Nat} {o : Oper} {a : Act} {w : World} {t : TypeId} {x y : Operand} {p : Addr} {ad : Option Addr} {n c : Nat} {d : TypeDesc} (hi : ops[i]? = some o) (hg : o.guard = none)
    (ho : o.op = .store t x y) (hdst : o.dst = none) (hx : a.eval x = .pointer (some p)) (hy : a.eval y = .slice ad n c) (hu : P.underlying t = some d) (hd : (match d with | .struct _ | .array _ _ => true | _ => false) = false) (hs : (P.info? t).map (·.size) = some 1) (hc : (w.cell? p).isSome = true) (hz : w.frozen? p = false)
    (h : K a (w.setCell p (.slice ad n c))) : wpOp P ops Q i K a w := by
  obtain ⟨u, hc'⟩ := Option.isSome_iff_exists.1 hc
  have hr : (execOp a.eval o).run P w = .ok .skip (w.setCell p (.slice ad n c)) := by
    have hag : (isAgg t).run P w = .ok false w := by
      unfold isAgg
      rw [Sem.run_bind, run_underlying hu w]
      cases d <;> first | rfl | cases hd
    cases hq : P.info? t with
    | none => simp [hq] at hs
    | some m =>
      have hm : m.size = 1 := by simpa [hq] using hs
      unfold execOp
      simp only [ho, hx, hy]
      simp [Instr.storeAt, Instr.sureAddr, Sem.run_bind, hag, hc', hz, sizeOf, typeInfo, hq, hm, go_sem]
  unfold wpOp
  simp only [hi]
  rw [if_pos (wanted_free hg)]
  left
  unfold Oper.wp
  rw [hr]
  show K (a.put o.dst undef) _
  rw [hdst]
  exact h
theorem at_takeD {lt : List Lt} (Rg : Reg ops lt) {m m' i fuel : Nat} {a : Act} {w : World} {o : Oper} {v : Value} {d : Option Nat} (hi : ops[i]? = some o) (hc : takeL lt i m = true) (he : m ||| 2 ^ i = m') (hd : o.dst = d) (hy : YieldsIf P ops S o v a) (hS : S w)
    (h : At P ops Q S fuel m' (a.put d v) w) : At P ops Q S (fuel + 1) m a w := at_take Rg hi hc he hy hS (by rw [hd]; exact h)
theorem p_callD {i : Nat} {o : Oper} {a : Act} {w : World} {f : FuncId} {xs : Array Operand} {ts : Array TypeId} {args : Array Value} {d : Option Nat} (hi : ops[i]? = some o) (hg : o.guard = none)
    (ho : o.op = .call { callee := .value (.func f), args := xs, argTypes := ts }) (ha : xs.map a.eval = args) (hd : o.dst = d) (hf : ∀ (args : Array Value) (w : World), (callFunc f args).run P w = .ok (.enter f args) w)
    (h : Calls P f args w fun e w' => ∃ v, e = .returned v ∧ K (a.put d v) w') : wpOp P ops Q i K a w := p_call hi hg ho ha hf (by rw [hd]; exact h)
theorem p_build2 {i : Nat} {o : Oper} {a : Act} {w : World} {t e : TypeId} {x y : Operand} {ax ay : Option Addr} {nx cx ny cy : Nat} {d : Option Nat} {z : TypeInfo} (hi : ops[i]? = some o) (hg : o.guard = none) (ho : o.op = .buildSlice t 2 #[(0, x), (1, y)]) (hx : a.eval x = .slice ax nx cx) (hy : a.eval y = .slice ay ny cy) (hd : o.dst = d)
    (hu : P.underlying t = some (.slice e)) (hz : P.info? e = some z) (hs : z.size = 1) (hz0 : z.zero = some (.slice none 0 0)) (h : K (a.put d (.slice (some ⟨w.heap.size, 0, none⟩) 2 2)) (w.alloc (.cells #[.slice ax nx cx, .slice ay ny cy] e))) : wpOp P ops Q i K a w := by
  have hr : (execOp a.eval o).run P w = .ok (.value (.slice (some ⟨w.heap.size, 0, none⟩) 2 2)) (w.alloc (.cells #[.slice ax nx cx, .slice ay ny cy] e)) := by
    unfold execOp
    simp only [ho, List.map_toArray, List.map_cons, List.map_nil, hx, hy]
    simp [Sem.run_bind, run_underlying hu, sizeOf, typeInfo, zeroValue, hz, hs, hz0, go_sem]
  unfold wpOp
  simp only [hi]
  rw [if_pos (wanted_free hg)]
  left
  unfold Oper.wp
  rw [hr]
  show K (a.put o.dst _) _
  rw [hd]
  exact h
theorem p_call0 {i : Nat} {o : Oper} {a : Act} {w : World} {f : FuncId} {ts : Array TypeId} {d : Option Nat} (hi : ops[i]? = some o) (hg : o.guard = none) (ho : o.op = .call { callee := .value (.func f), args := #[], argTypes := ts }) (hd : o.dst = d)
    (hf : ∀ (args : Array Value) (w : World), (callFunc f args).run P w = .ok (.enter f args) w) (h : Calls P f #[] w fun e w' => ∃ v, e = .returned v ∧ K (a.put d v) w') : wpOp P ops Q i K a w := p_callD hi hg ho (by simp only [List.map_toArray, List.map_nil]) hd hf h
theorem p_call1 {i : Nat} {o : Oper} {a : Act} {w : World} {f : FuncId} {x : Operand} {ts : Array TypeId} {u : Value} {d : Option Nat} (hi : ops[i]? = some o) (hg : o.guard = none) (ho : o.op = .call { callee := .value (.func f), args := #[x], argTypes := ts }) (hx : a.eval x = u) (hd : o.dst = d)
    (hf : ∀ (args : Array Value) (w : World), (callFunc f args).run P w = .ok (.enter f args) w) (h : Calls P f #[u] w fun e w' => ∃ v, e = .returned v ∧ K (a.put d v) w') : wpOp P ops Q i K a w := p_callD hi hg ho (by simp only [List.map_toArray, List.map_cons, List.map_nil, hx]) hd hf h
theorem p_call2 {i : Nat} {o : Oper} {a : Act} {w : World} {f : FuncId} {x y : Operand} {ts : Array TypeId} {u v : Value} {d : Option Nat} (hi : ops[i]? = some o) (hg : o.guard = none) (ho : o.op = .call { callee := .value (.func f), args := #[x, y], argTypes := ts }) (hx : a.eval x = u) (hy : a.eval y = v) (hd : o.dst = d)
    (hf : ∀ (args : Array Value) (w : World), (callFunc f args).run P w = .ok (.enter f args) w) (h : Calls P f #[u, v] w fun e w' => ∃ v, e = .returned v ∧ K (a.put d v) w') : wpOp P ops Q i K a w := p_callD hi hg ho (by simp only [List.map_toArray, List.map_cons, List.map_nil, hx, hy]) hd hf h
theorem y_slice_hi {o : Oper} {a : Act} {x : Operand} {t e : TypeId} {b off n c : Nat} {z : TypeInfo} (hg : o.guard = none) (ho : o.op = .slice t x none (some (.const (.int .i64 8))) none) (hx : a.eval x = .slice (some ⟨b, off, none⟩) n c) (hu : P.underlying t = some (.slice e)) (hz : P.info? e = some z) (hs : z.size = 1) (hc : 8 ≤ c) : YieldsIf P ops S o (.slice (some ⟨b, off, none⟩) 8 c) a := by
  have hc2 : (8 : Int) ≤ (c : Int) := by omega
  refine y_of hg fun w _ => ?_
  unfold execOp
  simp only [ho, hx, Option.map_none, Option.map_some, ev_const]
  simp [Instr.sliceAt, Instr.slice, Instr.sliceBounds, Sem.run_bind, run_underlying hu, sizeOf, typeInfo, hz, hs, hc2, Addr.add, go_sem]
theorem y_slice_lo {o : Oper} {a : Act} {x : Operand} {t e : TypeId} {b off n c : Nat} {z : TypeInfo} (hg : o.guard = none) (ho : o.op = .slice t x (some (.const (.int .i64 8))) none none) (hx : a.eval x = .slice (some ⟨b, off, none⟩) n c) (hu : P.underlying t = some (.slice e)) (hz : P.info? e = some z) (hs : z.size = 1) (hn : 8 ≤ n) (hc : n ≤ c) (hc9 : 8 < c) : YieldsIf P ops S o (.slice (some ⟨b, off + 8, none⟩) (n - 8) (c - 8)) a := by
  have hn2 : (8 : Int) ≤ (n : Int) := by omega
  have hc2 : (8 : Int) ≤ (c : Int) := by omega
  have hnc : (n : Int) ≤ (c : Int) := by omega
  have hne : ¬ c = 8 := by omega
  refine y_of hg fun w _ => ?_
  unfold execOp
  simp only [ho, hx, Option.map_none, Option.map_some, ev_const]
  simp [Instr.sliceAt, Instr.slice, Instr.sliceBounds, Sem.run_bind, run_underlying hu, sizeOf, typeInfo, hz, hs, hn2, hnc, hc2, hne, Addr.add, go_sem]
theorem p_alloc {i : Nat} {o : Oper} {a : Act} {w : World} {t : TypeId} {d : Option Nat} {z : TypeInfo} (hi : ops[i]? = some o) (hg : o.guard = none) (ho : o.op = .alloc t) (hd : o.dst = d) (hz : P.info? t = some z) (hz0 : z.zero = some (.slice none 0 0))
    (h : K (a.put d (.pointer (some ⟨w.heap.size, 0, none⟩))) (w.alloc (.cells #[.slice none 0 0] t))) : wpOp P ops Q i K a w := by
  have hr : (execOp a.eval o).run P w = .ok (.value (.pointer (some ⟨w.heap.size, 0, none⟩))) (w.alloc (.cells #[.slice none 0 0] t)) := by
    unfold execOp
    simp only [ho]
    simp [Sem.run_bind, Instr.alloc, zeroValue, typeInfo, hz, hz0, go_sem]
  unfold wpOp
  simp only [hi]
  rw [if_pos (wanted_free hg)]
  left
  unfold Oper.wp
  rw [hr]
  show K (a.put o.dst _) _
  rw [hd]
  exact h
theorem y_not {o : Oper} {a : Act} {x : Operand} {t : TypeId} {b : Bool} (hg : o.guard = none) (ho : o.op = .unOp .not t x) (hx : a.eval x = .bool b) : YieldsIf P ops S o (.bool (!b)) a := by
  refine y_of hg fun w _ => ?_
  unfold execOp
  simp only [ho, hx]
  simp [Op.unary, go_sem]
theorem at_begin_wideR {id k : Nat} {a : Act} {w : World} {Q : Exit → Act → World → Prop} {R : Act → World → Prop} (S : World → Prop) (hm : P.follows .mixedOrders = true) (hn : ops.size = k) (h : At P ops (onlyN R) S k 0 a w.drew) (hQ : ∀ a w, R a w → Q .normal a w) : (Code.region id ops true).wpIn Fence.wide n P Q a w := by
  refine wpIn_wide.2 (Code.wp_mono ?_ (at_begin S hm hn h))
  intro e a w hh
  cases e <;> first | exact hQ _ _ hh | exact (hh : False).elim
/-- one of three -/
theorem at_three8 {lt : List Lt} (Rg : Reg ops lt) {m m1 m2 m3 i j k fuel : Nat} {a : Act} {w : World} (hc : someL lt [i, j, k] m = true) (e1 : m ||| 2 ^ i = m1) (e2 : m ||| 2 ^ j = m2) (e3 : m ||| 2 ^ k = m3)
    (h1 : wpOp P ops (NoPanic Q) i (fun a' w' => S w' ∧ At P ops Q S fuel m1 a' w') a w) (h2 : wpOp P ops (NoPanic Q) j (fun a' w' => S w' ∧ At P ops Q S fuel m2 a' w') a w) (h3 : wpOp P ops (NoPanic Q) k (fun a' w' => S w' ∧ At P ops Q S fuel m3 a' w') a w) : At P ops Q S (fuel + 1) m a w :=
  at_some Rg [i, j, k] hc fun q hq => by
    simp only [List.mem_cons, List.not_mem_nil, or_false] at hq
    rcases hq with rfl | rfl | rfl
    · rw [e1]; exact h1
    · rw [e2]; exact h2
    · rw [e3]; exact h3
end
end Go.Proofs.YtnjiilnkobhibaaDoor

/- Steps of a plan that any program may take: fields, nil checks, slices, method values. -/
namespace Go.Proofs.YtnjiilnkobhibaaDoor
open Go.RowKit
set_option linter.unusedVariables false
set_option linter.unusedSimpArgs false
section
variable {ops : Array Oper} {Q : Exit → Act → World → Prop} {S : World → Prop} {K : Act → World → Prop}
theorem y_fieldX {o : Oper} {a : Act} {x : Operand} {t : TypeId} {q q' f off : Nat} (hg : o.guard = none) (ho : o.op = .fieldAddr t x f) (hx : a.eval x = .pointer (some ⟨q, q', none⟩))
    (hf : ∀ w : World, (Instr.fieldAt t (.pointer (some ⟨q, q', none⟩)) f).run Tryd.prog w = .ok (.pointer (some ⟨q, off, none⟩)) w) : YieldsIf Tryd.prog ops S o (.pointer (some ⟨q, off, none⟩)) a := by
  refine y_of hg fun w _ => ?_
  unfold execOp
  simp only [ho, hx]
  simp [hf w, Sem.run_bind]
theorem y_nilX {o : Oper} {a : Act} {x : Operand} {p : Addr} (hg : o.guard = none) (ho : o.op = .nilCheck x) (hx : a.eval x = .pointer (some p)) : YieldsIf Tryd.prog ops S o (.pointer (some p)) a := by
  refine y_of hg fun w _ => ?_
  unfold execOp
  simp only [ho, hx]
  simp [go_sem]
theorem y_sliceX {o : Oper} {a : Act} {x y z : Operand} {u : Value} {aa : Option Addr} {n c F G : Nat} (hg : o.guard = none) (ho : o.op = .slice 22 x (some y) (some z) none) (hx : a.eval x = .slice aa n c) (hy : a.eval y = .int .i64 (F : Int)) (hz : a.eval z = .int .i64 (G : Int)) (hr : ∀ w : World, (Instr.slice 22 (.slice aa n c) (some (.int .i64 (F : Int))) (some (.int .i64 (G : Int))) none).run Tryd.prog w = .ok u w) : YieldsIf Tryd.prog ops S o u a := by
  refine y_of hg fun w _ => ?_
  have h := hr w
  unfold execOp
  simp only [ho, hx, Option.map_none, Option.map_some, hy, hz]
  simp [Instr.sliceAt, Sem.run_bind, h, run_underlying Tryd.underlying22, go_sem]
/-- a text from F to G -/
theorem slice_mid (ba : Option Addr) (n bc F G : Nat) (hF : F ≤ G) (hG : G ≤ bc) : ∃ A, (∀ w : World, (Instr.slice 22 (.slice ba n bc) (some (.int .i64 (F : Int))) (some (.int .i64 (G : Int))) none).run Tryd.prog w = .ok (.slice A (G - F) (bc - F)) w) ∧ (A = ba ∧ bc = F ∨ A = ba.map (·.add F)) := by
  obtain ⟨i0, hi0, _, hz1, _⟩ := info_parts Tryd.info5
  have h : (F : Int) ≤ (G : Int) := by omega
  have h2 : (G : Int) ≤ (bc : Int) := by omega
  refine ⟨if bc = F then ba else ba.map (·.add F), fun w => ?_, ?_⟩
  · by_cases e : bc = F
    · subst e
      cases ba <;> simp [Instr.slice, Instr.sliceBounds, Instr.sliceBound, asIntOf, Sem.run_bind, run_underlying Tryd.underlying22, h, h2, hF, hG, sizeOf, typeInfo, hi0, hz1, Addr.add]
    · cases ba <;> simp [Instr.slice, Instr.sliceBounds, Instr.sliceBound, asIntOf, Sem.run_bind, run_underlying Tryd.underlying22, h, h2, hF, hG, e, sizeOf, typeInfo, hi0, hz1, Addr.add]
  · by_cases e : bc = F
    · rw [if_pos e]; exact .inl ⟨rfl, e⟩
    · rw [if_neg e]; exact .inr rfl
end
end Go.Proofs.YtnjiilnkobhibaaDoor
