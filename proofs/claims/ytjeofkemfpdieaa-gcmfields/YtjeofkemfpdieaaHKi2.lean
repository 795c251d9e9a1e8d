/- More words for blocks: rows beside a block, results that are arrays. -/
import Derived.Test.YtjeofkemfpdieaaHKit
import Derived.Test.YtjeofkemfpdieaaQcB
import Derived.RangeFuncCalls
import Derived.RangeFuncBox
import Derived.Stop.RegionWithIn
import Derived.Laws.ShiftsVarLaws
import Derived.BigRegion
namespace Go.Proofs.Ytjeofkemfpdieaa
open Go.RowKit
set_option linter.unusedVariables false
set_option linter.unusedSimpArgs false

/-- a row that does not lie in block g -/
def Away (g : Nat) (v : Value) (l : List Nat) : Prop := 0 < l.length → ∀ q, v.ownBlock = some q → q ≠ g
theorem Row.old {k : IntKind} {m : Nat} {w : World} {v : Value} {l : List Nat} (h : Row k m w v l) (hl : 0 < l.length) {q : Nat} (hq : v.ownBlock = some q) : q < w.heap.size := by
  obtain ⟨a, cap, rfl, h1, h2, h3, h4⟩ := h
  obtain ⟨b, off, rfl, hc⟩ := h3 hl
  have e : b = q := by simpa [Value.ownBlock] using hq
  subst e
  exact World.block_lt_of_cell? w _ (hc 0 hl)
theorem Row.away {k : IntKind} {m : Nat} {w : World} {v : Value} {l : List Nat} (h : Row k m w v l) {g : Nat} (hg : w.heap.size ≤ g) : Away g v l := fun hl q hq => by
  have := h.old hl hq
  omega
theorem Row.but {k : IntKind} {m : Nat} {w w' : World} {v : Value} {l : List Nat} {g : Nat} (h : Row k m w v l) (ha : Away g v l) (hb : But g w w') : Row k m w' v l := by
  obtain ⟨a, cap, rfl, h1, h2, h3, h4⟩ := h
  refine ⟨a, cap, rfl, h1, h2, fun hl => ?_, h4⟩
  obtain ⟨b, off, rfl, hc⟩ := h3 hl
  refine ⟨b, off, rfl, fun i hi => ?_⟩
  exact But.cell (hc i hi) hb (ha hl b (by simp [Value.ownBlock]))
theorem Own.away {e : TypeId} {k : IntKind} {m : Nat} {w : World} {B g : Nat} {v : Value} {l : List Nat} (h : Own e k m w B v l) (hg : g < B) : Away g v l := fun _ q hq => by
  have := (h.1.lt q hq).1
  omega
/-- a text without its first bytes -/
theorem Row.rest {k : IntKind} {m : Nat} {w : World} {b off n cap : Nat} {l : List Nat} (h : Row k m w (.slice (some ⟨b, off, none⟩) n cap) l) {i : Nat} (hi : i ≤ n) (A : Option Addr) (hA : A = some ⟨b, off, none⟩ ∧ cap = i ∨ A = some ⟨b, off + i, none⟩) :
    Row k m w (.slice A (n - i) (cap - i)) (l.drop i) := by
  obtain ⟨a', cap', he, h1, h2, h3, h4⟩ := h
  simp at he
  obtain ⟨rfl, rfl, rfl⟩ := he
  refine ⟨A, _, by rw [List.length_drop], by rw [List.length_drop]; omega, by omega, fun hp => ?_, fun x hx => h4 x (List.mem_of_mem_drop hx)⟩
  rw [List.length_drop] at hp
  rcases hA with ⟨_, hc⟩ | rfl
  · omega
  · obtain ⟨b', o', e, hc⟩ := h3 (by omega)
    simp at e
    obtain ⟨rfl, rfl⟩ := e
    refine ⟨b, off + i, rfl, fun x hx => ?_⟩
    rw [List.length_drop] at hx
    rw [el_drop, Nat.add_assoc]
    exact hc (i + x) (by omega)
/-- how long a slice is -/
def slen : Value → Nat
  | .slice _ n _ => n
  | _ => 0
theorem rndN_congr {b : Bool} {ks ws ws' s : List Nat} : ∀ n, (∀ i, i < n → el ws i = el ws' i) → rndN b ks ws n s = rndN b ks ws' n s
  | 0, _ => rfl
  | n + 1, h => by simp only [rndN]; rw [rndN_congr n (fun i hi => h i (by omega)), h n (by omega)]
theorem comp_pad {b : Bool} (h l : List Nat) : addW b h (rndN b (ks b) (pad 80 (sched b l (rn b - 16))) (rn b) h) 8 = comp b h l := by
  unfold comp
  rw [rndN_congr (ws' := sched b l (rn b - 16)) (rn b) (fun i hi => pad_el (by rw [sched_length]; cases b <;> simp [rn] at hi ⊢ <;> omega))]
end Go.Proofs.Ytjeofkemfpdieaa

/- Steps of drawn regions, apart from keccak's: parts of a code, what runs. -/
namespace Go.Proofs.Ytjeofkemfpdieaa
open Go.RowKit
set_option linter.unusedVariables false
set_option linter.unusedSimpArgs false

def cLA : Code → Code
  | .seq a _ => a
  | c => c
def cRA : Code → Code
  | .seq _ b => b
  | c => c
def cBA : Code → Code
  | .block _ b => b
  | c => c
def cLpA : Code → Code
  | .loop b => b
  | c => c
def opsA : Code → Array Oper
  | .region _ ops _ => ops
  | _ => #[]
section
variable {ops : Array Oper} {Q : Exit → Act → World → Prop} {S : World → Prop} {K : Act → World → Prop}
theorem p_opA {i : Nat} {o : Oper} {a : Act} {w w' : World} {v : Value} (hi : ops[i]? = some o) (hg : o.guard = none) (hr : (execOp a.eval o).run Try.prog w = .ok (.value v) w') (h : K (a.put o.dst v) w') : wpOp Try.prog ops Q i K a w := by
  unfold wpOp
  simp only [hi]
  rw [if_pos (wanted_free hg)]
  left
  unfold Oper.wp
  rw [hr]
  exact h
theorem p_rowA {i : Nat} {o : Oper} {a : Act} {w : World} {t : TypeId} {x y : Operand} {g : Nat} {cells old : Array Value} {t' : TypeId} (hi : ops[i]? = some o) (hg : o.guard = none) (ho : o.op = .store t x y) (hd : o.dst = none) (hx : a.eval x = .pointer (some ⟨g, 0, none⟩)) (hy : a.eval y = .agg cells)
    (hb : w.heap[g]? = some (.cells old t' (0, 0))) (hs : (Try.prog.info? t).map (·.size) = some cells.size) (hold : old.size = cells.size) (h1 : cells.all (·.oneCell') = true)
    (h : K a (w.setRow g cells)) : wpOp Try.prog ops Q i K a w := by
  unfold wpOp
  simp only [hi]
  rw [if_pos (wanted_free hg)]
  left
  refine wp_store_row t x y ho g cells hx hy t' old hb hs hold h1 ?_
  rw [hd]
  exact h
theorem y_assignA {o : Oper} {v : Value} {a : Act} {x : Operand} (hg : o.guard = none) (ho : o.op = .assign x) (hx : a.eval x = v) : YieldsIf Try.prog ops S o v a :=
  y_of hg fun w _ => by unfold execOp; simp only [ho, hx]; rfl
end
theorem results_isA {fn : Func} {p : Tmp} (h : fn.results = #[.tmp p]) {a : Act} {v : Value} (hv : a.eval (.tmp p) = v) (w : World) : (results fn a.tmps).run Try.prog w = .ok v w := by
  have h' : a.tmps.getD p undef = v := hv
  rw [Array.getD_eq_getD_getElem?] at h'
  simp [results, h, h']
/-- a frame of n slots that keeps those of another, but t and those from lo up to hi -/
structure Fr (n lo hi t : Nat) (a0 a : Act) : Prop where
  fz : Fz n a
  keep : ∀ j, (j < lo ∨ hi < j) → j ≠ t → a.eval (.tmp j) = a0.eval (.tmp j)
theorem Fr.step {n lo up t : Nat} {a0 a : Act} {x : World} {Q : Exit → Act → World → Prop} (h : Fr n lo up t a0 a) {kk fuel m : Nat} {v : Value} {d : Option Nat} {ops : Array Oper} {S : World → Prop} (hd : d = some kk) (h3 : kk = t ∨ (lo ≤ kk ∧ kk ≤ up)) (hk : kk < n)
    (hc : ∀ a' : Act, Fr n lo up t a0 a' → a'.eval (.tmp kk) = v → (∀ j, kk ≠ j → a'.eval (.tmp j) = a.eval (.tmp j)) → At Try.prog ops Q S fuel m a' x) : At Try.prog ops Q S fuel m (a.put d v) x := by
  subst hd
  exact hc _ ⟨h.fz.put _ _, fun j h1 h2 => (put_else (by omega)).trans (h.keep j h1 h2)⟩ (put_same (by rw [h.fz.1]; exact hk)) (fun j hj => put_else hj)
end Go.Proofs.Ytjeofkemfpdieaa

/- A drawn region in a round of a loop over an iterator, by a plan. -/
namespace Go.Proofs.Ytjeofkemfpdieaa
open Go.RowKit
set_option linter.unusedVariables false
set_option linter.unusedSimpArgs false

def cFA : Code → Code
  | .rangeFunc _ _ _ b => b
  | c => c
/-- what a region that never stops leaves -/
def onlyN (R : Act → World → Prop) : Exit → Act → World → Prop
  | .normal, a, w => R a w
  | _, _, _ => False
theorem not_out (R : Act → World → Prop) : ¬ LetsOut (NoPanic (onlyN R)) := fun ⟨a, w, h⟩ => h
def noDefer (o : Oper) : Bool := match o.op with
  | .defer _ => false
  | _ => true
section
variable {P : Program} {ops : Array Oper} {R : Act → World → Prop} {l n : Nat}
theorem oper_in {o : Oper} {a : Act} {w : World} {K : Act → World → Prop} (hd : noDefer o = true) (h : o.wp P a w K (NoPanic (onlyN R))) : o.wpIn (Fence.wide.inRound l) n P a w K (NoPanic (onlyN R)) := by
  unfold Oper.wpIn
  unfold Oper.wp at h
  refine ⟨fun _ _ => trivial, ?_⟩
  rw [Oper.semAt_eq _ _ _ (fun c hc => by unfold noDefer at hd; rw [hc] at hd; cases hd)]
  generalize (execOp a.eval o).run P w = r at *
  cases r with
  | ok x w' =>
    cases x <;> simp only [Oper.upon, Oper.uponIn] at h ⊢ <;>
      first
        | exact h
        | exact ⟨fun e => (by cases e), CallsIn.inRound l (callsIn_wide.2 h)⟩
        | exact ⟨fun e => (by cases e), fun c cs _ => let ⟨v, w', r, s⟩ := h c cs; ⟨v, w', r, stepsIn_wide.2 s⟩⟩
  | halt x w' => cases x <;> simp only [Oper.upon, Oper.uponIn] at h ⊢ <;> exact h
theorem op_in {i : Nat} {a : Act} {w : World} {K : Act → World → Prop} (hd : ops.all noDefer = true) (h : wpOp P ops (NoPanic (onlyN R)) i K a w) : wpOpIn (Fence.wide.inRound l) n P ops (NoPanic (onlyN R)) i K a w := by
  unfold wpOp at h
  unfold wpOpIn
  cases ho : ops[i]? with
  | none => simp only [ho] at h ⊢; exact h
  | some o =>
    simp only [ho] at h ⊢
    by_cases hw : Region.wanted o (yielded ops a.tmps) = true
    · rw [if_pos hw] at h ⊢
      rcases h with h | h
      · refine oper_in ?_ h
        obtain ⟨hi, he⟩ := Array.getElem?_eq_some_iff.1 ho
        rw [← he]
        exact Array.all_eq_true.1 hd i hi
      · exact absurd h.2 (not_out R)
    · rw [if_neg hw] at h ⊢
      exact ⟨fun _ _ => trivial, h⟩
theorem any_in (hd : ops.all noDefer = true) : ∀ (fuel : Nat) (listed : Array Bool) (a : Act) (w : World), wpAny P .any ops (NoPanic (onlyN R)) fuel listed a w → wpAnyIn (Fence.wide.inRound l) n P .any ops (NoPanic (onlyN R)) fuel listed a w
  | 0, listed, a, w, h => h
  | fuel + 1, listed, a, w, h => ⟨h.1, fun i hi => wpOpIn_mono (fun a w => any_in hd fuel _ a w) (op_in hd (h.2 i hi))⟩
/-- a region in a round begins -/
theorem at_begin_in {id k : Nat} {a : Act} {w : World} {Q : Exit → Act → World → Prop} (S : World → Prop) (hm : P.follows .mixedOrders = true) (hn : ops.size = k) (hd : ops.all noDefer = true) (h : At P ops (onlyN fun a w => Q .normal a w) S k 0 a w.drew) : (Code.region id ops true).wpIn (Fence.wide.inRound l) n P Q a w := by
  subst hn
  unfold At at h
  rw [← lsd_zero] at h
  refine wpIn_mono (wpIn_region_any hm (any_in hd _ _ _ _ (wpAny_of_held _ _ _ _ h))) ?_
  intro e a w hh
  cases e <;> first | exact hh | exact (hh : False).elim
/-- a region outside of rounds begins -/
theorem at_begin_wide {id k : Nat} {a : Act} {w : World} {Q : Exit → Act → World → Prop} (S : World → Prop) (hm : P.follows .mixedOrders = true) (hn : ops.size = k) (h : At P ops Q S k 0 a w.drew) : (Code.region id ops true).wpIn Fence.wide n P Q a w :=
  wpIn_wide.2 (at_begin S hm hn h)
variable {S : World → Prop} {Q : Exit → Act → World → Prop} {K : Act → World → Prop}
theorem y_load_plain {o : Oper} {v : Value} {a : Act} {x : Operand} {t : TypeId} {p : Addr} {d : TypeDesc} (hg : o.guard = none) (ho : o.op = .load t x) (hx : a.eval x = .pointer (some p)) (hu : P.underlying t = some d) (hd : (match d with | .struct _ | .array _ _ => true | _ => false) = false) (hc : ∀ w, S w → w.cell? p = some v) : YieldsIf P ops S o v a := by
  refine y_of hg fun w hw => ?_
  have c := hc w hw
  have hag : (isAgg t).run P w = .ok false w := by
    unfold isAgg
    rw [Sem.run_bind, run_underlying hu w]
    cases d <;> first | rfl | cases hd
  unfold execOp
  simp only [ho, hx]
  simp [Instr.loadAt, Instr.sureAddr, Sem.run_bind, run_underlying hu w, hag, c, go_sem]
theorem y_index_slice {o : Oper} {a : Act} {x y : Operand} {t e : TypeId} {g n c i : Nat} (hg : o.guard = none) (ho : o.op = .indexAddr t x y) (hx : a.eval x = .slice (some ⟨g, 0, none⟩) n c) (hy : a.eval y = .int .i64 (i : Int)) (hu : P.underlying t = some (.slice e)) (hs : (P.info? e).map (·.size) = some 1) (hi : i < n) : YieldsIf P ops S o (.pointer (some ⟨g, i, none⟩)) a := by
  cases hq : P.info? e with
  | none => simp [hq] at hs
  | some z =>
    have hz : z.size = 1 := by simpa [hq] using hs
    refine y_of hg fun w _ => ?_
    unfold execOp
    simp only [ho, hx, hy]
    simp [Instr.indexAt, asIntOf, Sem.run_bind, run_underlying hu w, sizeOf, typeInfo, hq, hz, hi, Addr.add, go_sem]
    omega
theorem p_store_plain {i : Nat} {o : Oper} {a : Act} {w : World} {t : TypeId} {x y : Operand} {p : Addr} {ad : Option Addr} {n c : Nat} {d : TypeDesc} (hi : ops[i]? = some o) (hg : o.guard = none)
    (ho : o.op = .store t x y) (hdst : o.dst = none) (hx : a.eval x = .pointer (some p)) (hy : a.eval y = .slice ad n c) (hu : P.underlying t = some d) (hd : (match d with | .struct _ | .array _ _ => true | _ => false) = false) (hs : (P.info? t).map (·.size) = some 1) (hc : (w.cell? p).isSome = true) (hz : w.frozen? p = false)
    (h : K a (w.setCell p (.slice ad n c))) : wpOp P ops Q i K a w := by
  obtain ⟨u, hc'⟩ := Option.isSome_iff_exists.1 hc
  have hr : (execOp a.eval o).run P w = .ok .skip (w.setCell p (.slice ad n c)) := by
    have hag : (isAgg t).run P w = .ok false w := by
      unfold isAgg
      rw [Sem.run_bind, run_underlying hu w]
      cases d <;> first | rfl | cases hd
    cases hq : P.info? t with
    | none => simp [hq] at hs
    | some m =>
      have hm : m.size = 1 := by simpa [hq] using hs
      unfold execOp
      simp only [ho, hx, hy]
      simp [Instr.storeAt, Instr.sureAddr, Sem.run_bind, hag, hc', hz, sizeOf, typeInfo, hq, hm, go_sem]
  unfold wpOp
  simp only [hi]
  rw [if_pos (wanted_free hg)]
  left
  unfold Oper.wp
  rw [hr]
  show K (a.put o.dst undef) _
  rw [hdst]
  exact h
theorem at_takeD {lt : List Lt} (Rg : Reg ops lt) {m m' i fuel : Nat} {a : Act} {w : World} {o : Oper} {v : Value} {d : Option Nat} (hi : ops[i]? = some o) (hc : takeL lt i m = true) (he : m ||| 2 ^ i = m') (hd : o.dst = d) (hy : YieldsIf P ops S o v a) (hS : S w)
    (h : At P ops Q S fuel m' (a.put d v) w) : At P ops Q S (fuel + 1) m a w := at_take Rg hi hc he hy hS (by rw [hd]; exact h)
theorem p_callD {i : Nat} {o : Oper} {a : Act} {w : World} {f : FuncId} {xs : Array Operand} {ts : Array TypeId} {args : Array Value} {d : Option Nat} (hi : ops[i]? = some o) (hg : o.guard = none)
    (ho : o.op = .call { callee := .value (.func f), args := xs, argTypes := ts }) (ha : xs.map a.eval = args) (hd : o.dst = d) (hf : ∀ (args : Array Value) (w : World), (callFunc f args).run P w = .ok (.enter f args) w)
    (h : Calls P f args w fun e w' => ∃ v, e = .returned v ∧ K (a.put d v) w') : wpOp P ops Q i K a w := p_call hi hg ho ha hf (by rw [hd]; exact h)
theorem p_build2 {i : Nat} {o : Oper} {a : Act} {w : World} {t e : TypeId} {x y : Operand} {ax ay : Option Addr} {nx cx ny cy : Nat} {d : Option Nat} {z : TypeInfo} (hi : ops[i]? = some o) (hg : o.guard = none) (ho : o.op = .buildSlice t 2 #[(0, x), (1, y)]) (hx : a.eval x = .slice ax nx cx) (hy : a.eval y = .slice ay ny cy) (hd : o.dst = d)
    (hu : P.underlying t = some (.slice e)) (hz : P.info? e = some z) (hs : z.size = 1) (hz0 : z.zero = some (.slice none 0 0)) (h : K (a.put d (.slice (some ⟨w.heap.size, 0, none⟩) 2 2)) (w.alloc (.cells #[.slice ax nx cx, .slice ay ny cy] e))) : wpOp P ops Q i K a w := by
  have hr : (execOp a.eval o).run P w = .ok (.value (.slice (some ⟨w.heap.size, 0, none⟩) 2 2)) (w.alloc (.cells #[.slice ax nx cx, .slice ay ny cy] e)) := by
    unfold execOp
    simp only [ho, List.map_toArray, List.map_cons, List.map_nil, hx, hy]
    simp [Sem.run_bind, run_underlying hu, sizeOf, typeInfo, zeroValue, hz, hs, hz0, go_sem]
  unfold wpOp
  simp only [hi]
  rw [if_pos (wanted_free hg)]
  left
  unfold Oper.wp
  rw [hr]
  show K (a.put o.dst _) _
  rw [hd]
  exact h
theorem p_call0 {i : Nat} {o : Oper} {a : Act} {w : World} {f : FuncId} {ts : Array TypeId} {d : Option Nat} (hi : ops[i]? = some o) (hg : o.guard = none) (ho : o.op = .call { callee := .value (.func f), args := #[], argTypes := ts }) (hd : o.dst = d)
    (hf : ∀ (args : Array Value) (w : World), (callFunc f args).run P w = .ok (.enter f args) w) (h : Calls P f #[] w fun e w' => ∃ v, e = .returned v ∧ K (a.put d v) w') : wpOp P ops Q i K a w := p_callD hi hg ho (by simp only [List.map_toArray, List.map_nil]) hd hf h
theorem p_call1 {i : Nat} {o : Oper} {a : Act} {w : World} {f : FuncId} {x : Operand} {ts : Array TypeId} {u : Value} {d : Option Nat} (hi : ops[i]? = some o) (hg : o.guard = none) (ho : o.op = .call { callee := .value (.func f), args := #[x], argTypes := ts }) (hx : a.eval x = u) (hd : o.dst = d)
    (hf : ∀ (args : Array Value) (w : World), (callFunc f args).run P w = .ok (.enter f args) w) (h : Calls P f #[u] w fun e w' => ∃ v, e = .returned v ∧ K (a.put d v) w') : wpOp P ops Q i K a w := p_callD hi hg ho (by simp only [List.map_toArray, List.map_cons, List.map_nil, hx]) hd hf h
theorem p_call2 {i : Nat} {o : Oper} {a : Act} {w : World} {f : FuncId} {x y : Operand} {ts : Array TypeId} {u v : Value} {d : Option Nat} (hi : ops[i]? = some o) (hg : o.guard = none) (ho : o.op = .call { callee := .value (.func f), args := #[x, y], argTypes := ts }) (hx : a.eval x = u) (hy : a.eval y = v) (hd : o.dst = d)
    (hf : ∀ (args : Array Value) (w : World), (callFunc f args).run P w = .ok (.enter f args) w) (h : Calls P f #[u, v] w fun e w' => ∃ v, e = .returned v ∧ K (a.put d v) w') : wpOp P ops Q i K a w := p_callD hi hg ho (by simp only [List.map_toArray, List.map_cons, List.map_nil, hx, hy]) hd hf h
theorem y_slice_hi {o : Oper} {a : Act} {x : Operand} {t e : TypeId} {b off n c : Nat} {z : TypeInfo} (hg : o.guard = none) (ho : o.op = .slice t x none (some (.const (.int .i64 8))) none) (hx : a.eval x = .slice (some ⟨b, off, none⟩) n c) (hu : P.underlying t = some (.slice e)) (hz : P.info? e = some z) (hs : z.size = 1) (hc : 8 ≤ c) : YieldsIf P ops S o (.slice (some ⟨b, off, none⟩) 8 c) a := by
  have hc2 : (8 : Int) ≤ (c : Int) := by omega
  refine y_of hg fun w _ => ?_
  unfold execOp
  simp only [ho, hx, Option.map_none, Option.map_some, ev_const]
  simp [Instr.sliceAt, Instr.slice, Instr.sliceBounds, Sem.run_bind, run_underlying hu, sizeOf, typeInfo, hz, hs, hc2, Addr.add, go_sem]
theorem y_slice_lo {o : Oper} {a : Act} {x : Operand} {t e : TypeId} {b off n c : Nat} {z : TypeInfo} (hg : o.guard = none) (ho : o.op = .slice t x (some (.const (.int .i64 8))) none none) (hx : a.eval x = .slice (some ⟨b, off, none⟩) n c) (hu : P.underlying t = some (.slice e)) (hz : P.info? e = some z) (hs : z.size = 1) (hn : 8 ≤ n) (hc : n ≤ c) (hc9 : 8 < c) : YieldsIf P ops S o (.slice (some ⟨b, off + 8, none⟩) (n - 8) (c - 8)) a := by
  have hn2 : (8 : Int) ≤ (n : Int) := by omega
  have hc2 : (8 : Int) ≤ (c : Int) := by omega
  have hnc : (n : Int) ≤ (c : Int) := by omega
  have hne : ¬ c = 8 := by omega
  refine y_of hg fun w _ => ?_
  unfold execOp
  simp only [ho, hx, Option.map_none, Option.map_some, ev_const]
  simp [Instr.sliceAt, Instr.slice, Instr.sliceBounds, Sem.run_bind, run_underlying hu, sizeOf, typeInfo, hz, hs, hn2, hnc, hc2, hne, Addr.add, go_sem]
theorem p_alloc {i : Nat} {o : Oper} {a : Act} {w : World} {t : TypeId} {d : Option Nat} {z : TypeInfo} (hi : ops[i]? = some o) (hg : o.guard = none) (ho : o.op = .alloc t) (hd : o.dst = d) (hz : P.info? t = some z) (hz0 : z.zero = some (.slice none 0 0))
    (h : K (a.put d (.pointer (some ⟨w.heap.size, 0, none⟩))) (w.alloc (.cells #[.slice none 0 0] t))) : wpOp P ops Q i K a w := by
  have hr : (execOp a.eval o).run P w = .ok (.value (.pointer (some ⟨w.heap.size, 0, none⟩))) (w.alloc (.cells #[.slice none 0 0] t)) := by
    unfold execOp
    simp only [ho]
    simp [Sem.run_bind, Instr.alloc, zeroValue, typeInfo, hz, hz0, go_sem]
  unfold wpOp
  simp only [hi]
  rw [if_pos (wanted_free hg)]
  left
  unfold Oper.wp
  rw [hr]
  show K (a.put o.dst _) _
  rw [hd]
  exact h
theorem y_not {o : Oper} {a : Act} {x : Operand} {t : TypeId} {b : Bool} (hg : o.guard = none) (ho : o.op = .unOp .not t x) (hx : a.eval x = .bool b) : YieldsIf P ops S o (.bool (!b)) a := by
  refine y_of hg fun w _ => ?_
  unfold execOp
  simp only [ho, hx]
  simp [Op.unary, go_sem]
theorem at_begin_wideR {id k : Nat} {a : Act} {w : World} {Q : Exit → Act → World → Prop} {R : Act → World → Prop} (S : World → Prop) (hm : P.follows .mixedOrders = true) (hn : ops.size = k) (h : At P ops (onlyN R) S k 0 a w.drew) (hQ : ∀ a w, R a w → Q .normal a w) : (Code.region id ops true).wpIn Fence.wide n P Q a w := by
  refine wpIn_wide.2 (Code.wp_mono ?_ (at_begin S hm hn h))
  intro e a w hh
  cases e <;> first | exact hQ _ _ hh | exact (hh : False).elim
/-- one of three -/
theorem at_three8 {lt : List Lt} (Rg : Reg ops lt) {m m1 m2 m3 i j k fuel : Nat} {a : Act} {w : World} (hc : someL lt [i, j, k] m = true) (e1 : m ||| 2 ^ i = m1) (e2 : m ||| 2 ^ j = m2) (e3 : m ||| 2 ^ k = m3)
    (h1 : wpOp P ops (NoPanic Q) i (fun a' w' => S w' ∧ At P ops Q S fuel m1 a' w') a w) (h2 : wpOp P ops (NoPanic Q) j (fun a' w' => S w' ∧ At P ops Q S fuel m2 a' w') a w) (h3 : wpOp P ops (NoPanic Q) k (fun a' w' => S w' ∧ At P ops Q S fuel m3 a' w') a w) : At P ops Q S (fuel + 1) m a w :=
  at_some Rg [i, j, k] hc fun q hq => by
    simp only [List.mem_cons, List.not_mem_nil, or_false] at hq
    rcases hq with rfl | rfl | rfl
    · rw [e1]; exact h1
    · rw [e2]; exact h2
    · rw [e3]; exact h3
end
end Go.Proofs.Ytjeofkemfpdieaa

/- Sums that go on, as values; the constants; few texts in a new slice. -/
namespace Go.Proofs.Ytjeofkemfpdieaa
open Go.RowKit
set_option linter.unusedVariables false
set_option linter.unusedSimpArgs false

/-- a sum that goes on: its cells -/
def hv (kind : Int) (ws : List Nat) (tv : Value) (size : Nat) : Array Value :=
  #[.int .i64 kind, .int .u64 (el ws 0), .int .u64 (el ws 1), .int .u64 (el ws 2), .int .u64 (el ws 3), .int .u64 (el ws 4), .int .u64 (el ws 5), .int .u64 (el ws 6), .int .u64 (el ws 7), tv, .int .u64 size]
/-- a text's value is one cell -/
theorem Row.cell1 {k : IntKind} {m : Nat} {w : World} {u : Value} {l : List Nat} (h : Row k m w u l) : u.oneCell' = true := by
  obtain ⟨a, cap, rfl, _⟩ := h; rfl
theorem Row.form {k : IntKind} {m : Nat} {w : World} {v : Value} {l : List Nat} (h : Row k m w v l) : ∃ a c, v = .slice a l.length c := by
  obtain ⟨a, c, rfl, _⟩ := h; exact ⟨a, c, rfl⟩

theorem range_below {w w' : World} {b o : Nat} {cs : List Value} (h : w.rangeAt b o cs) (hb : Below w.heap.size w w') : w'.rangeAt b o cs := fun j v hv => keep_cell (h j v hv) hb
theorem tidy_at (x : Addr) (n c : Nat) : Tidy (.slice (some x) n c) := fun n c he => by simp at he
theorem tidy_nil : Tidy (.slice none 0 0) := fun a c he => by simp at he; omega
theorem Own.tidy {e : TypeId} {k : IntKind} {m : Nat} {w : World} {B : Nat} {v : Value} {l : List Nat} (h : Own e k m w B v l) : Tidy v := by
  obtain ⟨⟨_, ⟨rfl, _⟩ | ⟨g, cap, cur, rfl, _⟩⟩, _⟩ := h
  · exact tidy_nil
  · exact tidy_at _ _ _
theorem rows_lit2 {w : World} {u v : Value} {a b : List Nat} (hu : Row .u8 256 w u a) (hv : Row .u8 256 w v b) (tu : Tidy u) (tv : Tidy v) :
    Rows2 (w.alloc (.cells #[u, v] 22)) (.slice (some ⟨w.heap.size, 0, none⟩) 2 2) [a, b] := by
  refine ⟨_, 2, rfl, Nat.le_refl _, by unfold maxLen; decide, fun _ => ⟨_, _, rfl, fun i hi => ?_⟩⟩
  have hb := keep_alloc w (.cells #[u, v] 22)
  match i, hi with
  | 0, _ => exact ⟨u, by rw [World.cell?_alloc_at _ _ _ _ rfl]; rfl, hu.below hb, tu⟩
  | 1, _ => exact ⟨v, by rw [World.cell?_alloc_at _ _ _ _ rfl]; rfl, hv.below hb, tv⟩
theorem rows_lit3 {w : World} {u v x : Value} {a b c : List Nat} (hu : Row .u8 256 w u a) (hv : Row .u8 256 w v b) (hx : Row .u8 256 w x c) (tu : Tidy u) (tv : Tidy v) (tx : Tidy x) :
    Rows2 (w.alloc (.cells #[u, v, x] 22)) (.slice (some ⟨w.heap.size, 0, none⟩) 3 3) [a, b, c] := by
  refine ⟨_, 3, rfl, Nat.le_refl _, by unfold maxLen; decide, fun _ => ⟨_, _, rfl, fun i hi => ?_⟩⟩
  have hb := keep_alloc w (.cells #[u, v, x] 22)
  match i, hi with
  | 0, _ => exact ⟨u, by rw [World.cell?_alloc_at _ _ _ _ rfl]; rfl, hu.below hb, tu⟩
  | 1, _ => exact ⟨v, by rw [World.cell?_alloc_at _ _ _ _ rfl]; rfl, hv.below hb, tv⟩
  | 2, _ => exact ⟨x, by rw [World.cell?_alloc_at _ _ _ _ rfl]; rfl, hx.below hb, tx⟩

/-- bytes of words, at a place -/
theorem el_flat (f : Nat → List Nat) (k : Nat) (hk : 0 < k) (hf : ∀ x, (f x).length = k) : ∀ (l : List Nat) (i : Nat), i < l.length * k → el (l.map f).flatten i = el (f (el l (i / k))) (i % k)
  | [], i, h => by simp at h
  | x :: l, i, h => by
    rw [List.map_cons, List.flatten_cons]
    by_cases hi : i < k
    · rw [el_app_left (by rw [hf]; exact hi), Nat.div_eq_of_lt hi, Nat.mod_eq_of_lt hi]; rfl
    · have e : el (x :: l) (i / k) = el l ((i - k) / k) := by
        rw [Nat.div_eq_sub_div hk (by omega)]; rfl
      rw [el_app_right (by rw [hf]; omega), hf, el_flat f k hk hf l (i - k) (by rw [List.length_cons, Nat.add_mul, Nat.one_mul] at h; omega), e, Nat.mod_eq_sub_mod (by omega : i ≥ k)]
theorem el_be (x k j : Nat) (hj : j < k) : el (leL x k).reverse j = x / 256 ^ (k - 1 - j) % 256 := by
  have hl : (leL x k).length = k := leL_length x k
  rw [el_at (by rw [List.length_reverse, hl]; exact hj), List.getElem_reverse]
  simp only [leL, List.getElem_map, List.getElem_range, List.length_map, List.length_range]
theorem bytesW_length (b : Bool) (h : List Nat) : (bytesW b h).length = h.length * ez b := by
  unfold bytesW
  induction h with
  | nil => simp
  | cons x l ih => rw [List.map_cons, List.flatten_cons, List.length_append, ih, List.length_reverse, leL_length, List.length_cons, Nat.add_mul]; omega
theorem bytesW_el (b : Bool) (h : List Nat) (i : Nat) (hi : i < h.length * ez b) : el (bytesW b h) i = el h (i / ez b) / 256 ^ (ez b - 1 - i % ez b) % 256 := by
  have hp : 0 < ez b := by cases b <;> decide
  unfold bytesW
  rw [el_flat (fun x => (leL x (ez b)).reverse) (ez b) hp (fun x => by rw [List.length_reverse, leL_length]) h i hi, el_be _ _ _ (Nat.mod_lt _ hp)]
theorem bytesW_under (b : Bool) (h : List Nat) : Under 256 (bytesW b h) := by
  intro x hx
  unfold bytesW at hx
  obtain ⟨l, hl, hxl⟩ := List.mem_flatten.1 hx
  obtain ⟨y, _, rfl⟩ := List.mem_map.1 hl
  have := List.mem_reverse.1 hxl
  unfold leL at this
  obtain ⟨i, _, rfl⟩ := List.mem_map.1 this
  omega
theorem el_take {l : List Nat} {n i : Nat} (h : i < n) : el (l.take n) i = el l i := by unfold el; rw [List.getElem?_take_of_lt h]
end Go.Proofs.Ytjeofkemfpdieaa

/- Contracts of sha.either, turned, shifted, firstBits at words of 64 bits. -/
namespace Go.Proofs.Ytjeofkemfpdieaa
open Go.RowKit
set_option linter.unusedVariables false
set_option linter.unusedSimpArgs false

theorem ones64 : bits BinOp.xor .u64 IntKind.u64.max 0 = 18446744073709551616 - 1 := by decide
theorem sgn64 : IntKind.u64.signed = false := rfl

theorem wrapN64 (n : Nat) : IntKind.u64.wrap (n : Int) = ((n % 18446744073709551616 : Nat) : Int) := by rw [IntKind.wrap_u64]; omega
/-- a word turned, in the walk's spelling -/
theorem rot_is64 (x r : Nat) (hx : x < 18446744073709551616) (hr : r < 64) : bits .or .u64 ((x : Int) / 2 ^ r) (IntKind.u64.wrap ((x : Int) * 2 ^ (64 - r))) = ((rot true r x : Nat) : Int) := by
  have e1 : (x : Int) / 2 ^ r = ((x / 2 ^ r : Nat) : Int) := by simp
  have e2 : (IntKind.u64.wrap ((x : Int) * 2 ^ (64 - r))) = ((x * 2 ^ (64 - r) % 18446744073709551616 : Nat) : Int) := by
    rw [IntKind.wrap_u64]; simp
  rw [e1, e2, u64_or_nat _ _ (Nat.lt_of_le_of_lt (Nat.div_le_self _ _) hx) (Nat.mod_lt _ (by decide))]
  rfl
theorem xor_is64 (x y : Nat) (hx : x < 18446744073709551616) (hy : y < 18446744073709551616) : bits .xor .u64 (x : Int) (y : Int) = ((x ^^^ y : Nat) : Int) := u64_xor_nat x y hx hy
theorem turn_is64 (x a b c : Nat) (hx : x < 18446744073709551616) (ha : a < 64) (hb : b < 64) (hc : c < 64) :
    bits .xor .u64 (bits .xor .u64 (bits .or .u64 ((x : Int) / 2 ^ a) (IntKind.u64.wrap ((x : Int) * 2 ^ (64 - a)))) (bits .or .u64 ((x : Int) / 2 ^ b) (IntKind.u64.wrap ((x : Int) * 2 ^ (64 - b))))) (bits .or .u64 ((x : Int) / 2 ^ c) (IntKind.u64.wrap ((x : Int) * 2 ^ (64 - c)))) = ((turn3 true a b c x : Nat) : Int) := by
  have r := fun r => rot_lt (b := true) hx r
  rw [rot_is64 x a hx ha, rot_is64 x b hx hb, rot_is64 x c hx hc, xor_is64 _ _ (r a) (r b), xor_is64 _ _ (xor_lt (b := true) (r a) (r b)) (r c)]
  rfl
theorem shft_is64 (x a b c : Nat) (hx : x < 18446744073709551616) (ha : a < 64) (hb : b < 64) (hc : c < 64) :
    bits .xor .u64 (bits .xor .u64 (bits .or .u64 ((x : Int) / 2 ^ a) (IntKind.u64.wrap ((x : Int) * 2 ^ (64 - a)))) (bits .or .u64 ((x : Int) / 2 ^ b) (IntKind.u64.wrap ((x : Int) * 2 ^ (64 - b))))) ((x : Int) / 2 ^ c) = ((shft3 true a b c x : Nat) : Int) := by
  have r := fun r => rot_lt (b := true) hx r
  have e1 : (x : Int) / 2 ^ c = ((x / 2 ^ c : Nat) : Int) := by simp
  rw [rot_is64 x a hx ha, rot_is64 x b hx hb, e1, xor_is64 _ _ (r a) (r b), xor_is64 _ _ (xor_lt (b := true) (r a) (r b)) (shr_lt (b := true) hx c)]
  rfl

theorem and_is64 (x y : Nat) (hx : x < 18446744073709551616) (hy : y < 18446744073709551616) : bits .and .u64 (x : Int) (y : Int) = ((x &&& y : Nat) : Int) := u64_and_nat x y hx hy
theorem add_is64 (x y : Nat) : (IntKind.u64.wrap ((x : Int) + (y : Int))) = (((x + y) % 18446744073709551616 : Nat) : Int) := by
  rw [IntKind.wrap_u64]
  omega
theorem not_is64 (e : Nat) (he : e < 18446744073709551616) : bits .xor .u64 IntKind.u64.max (e : Int) = ((18446744073709551616 - 1 - e : Nat) : Int) := by
  rw [show IntKind.u64.max = ((18446744073709551616 - 1 : Nat) : Int) from rfl, xor_is64 _ _ (by decide) he, ← ones_xor 64 e he]
theorem chs_is64 (e f g : Nat) (he : e < 18446744073709551616) (hf : f < 18446744073709551616) (hg : g < 18446744073709551616) : bits .xor .u64 (bits .and .u64 (e : Int) (f : Int)) (bits .and .u64 (bits .xor .u64 IntKind.u64.max (e : Int)) (g : Int)) = ((chs true e f g : Nat) : Int) := by
  rw [not_is64 e he, and_is64 e f he hf, and_is64 _ g (by omega) hg, xor_is64 _ _ (and_lt (b := true) he) (and_lt (b := true) (by show 18446744073709551616 - 1 - e < 18446744073709551616; omega))]
  rfl
theorem maj_is64 (x y z : Nat) (hx : x < 18446744073709551616) (hy : y < 18446744073709551616) (hz : z < 18446744073709551616) : bits .xor .u64 (bits .xor .u64 (bits .and .u64 (x : Int) (y : Int)) (bits .and .u64 (x : Int) (z : Int))) (bits .and .u64 (y : Int) (z : Int)) = ((maj x y z : Nat) : Int) := by
  rw [and_is64 x y hx hy, and_is64 x z hx hz, and_is64 y z hy hz, xor_is64 _ _ (and_lt (b := true) hx) (and_lt (b := true) hx), xor_is64 _ _ (xor_lt (b := true) (and_lt (b := true) hx) (and_lt (b := true) hx)) (and_lt (b := true) hy)]
  rfl
theorem rnd064 (s : List Nat) (k w : Nat) : (((((el s 7 + turn3 true 14 18 41 (el s 4)) % 18446744073709551616 + chs true (el s 4) (el s 5) (el s 6)) % 18446744073709551616 + k) % 18446744073709551616 + w) % 18446744073709551616 + (turn3 true 28 34 39 (el s 0) + maj (el s 0) (el s 1) (el s 2)) % 18446744073709551616) % 18446744073709551616 = el (rnd true k w s) 0 := by
  show _ = (tOne true s k w + tTwo true s) % wm true
  unfold tOne tTwo
  simp only [gS0, gS1, wm, cond_true, cond_false]
  omega
theorem rnd464 (s : List Nat) (k w : Nat) : (el s 3 + ((((el s 7 + turn3 true 14 18 41 (el s 4)) % 18446744073709551616 + chs true (el s 4) (el s 5) (el s 6)) % 18446744073709551616 + k) % 18446744073709551616 + w) % 18446744073709551616) % 18446744073709551616 = el (rnd true k w s) 4 := by
  show _ = (el s 3 + tOne true s k w) % wm true
  unfold tOne
  simp only [gS0, gS1, wm, cond_true, cond_false]
  omega

/-- three turns, as a value -/
def tur64 (a b c : Nat) : Value := .agg #[.int .i64 (a : Int), .int .i64 (b : Int), .int .i64 (c : Int)]

end Go.Proofs.Ytjeofkemfpdieaa
