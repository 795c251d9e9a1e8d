/- How the laws' frames are opened: the library's variables as the row lists them. -/
import Derived.Test.YtpmdbbmichncmaaDoorFrame
import Derived.Test.YtpmdbbmichncmaaDoorOAwk
import Derived.Stop.LaidErr
import Derived.Lib.LaidTab
import Derived.Lay
import Derived.LaidMore
import Derived.HandedShaped
import Derived.SevenTiedAt
import Derived.Stop.Joined
import Derived.Test.YtpmdbbmichncmaaDoorTie
import Derived.Test.YtpmdbbmichncmaaDoorCards
namespace Go.Proofs.YtpmdbbmichncmaaDoor
open Go.ChangeShapes Go.WideShapes Go.ChangeAt Go.RowKit
set_option linter.unusedVariables false

/-- a law's frame where the row lists variables: the contract is told that they read so, and that the world is well shaped -/
theorem change_laid_shaped {H : Type} {enc : TypeId × Value → H} {a : Assume} {C : Checked} {os : Os} {f : FuncId} {fn : Func} {s : ChangeSpec} {conds : List PathCond} {apart fresh handsOn again : Bool} {X : World → Array Value → Prop}
    (hX : ∀ (w w' : World) (args : Array Value), w.heap = w'.heap → X w args → X w' args)
    (own : ownKnob C.prog.godebug = none) (started : os.Started) (noInit : C.prog.inits.idxOf? f = none) (hfn : C.prog.funcs[f]? = some fn)
    (witness : ∃ (w : World) (tape : Tape) (i : Input), w.os = os ∧ (w.forCall tape i).Shaped C.prog ∧ i.vars = [] ∧ Input.okWide C.prog (w.forCall tape i) .any w.heap.size f i ∧
      ((s.pre enc C.prog fn conds apart (w.forCall tape i).memory i.args ∧ X (w.forCall tape i).memory i.args) ∧ sizedMet enc C.prog fn (OpenSpec.ofChange s) apart (w.forCall tape i).memory i.args) ∧ a.holds C.prog (lone (Frame.enter C.prog f i.args .normal) [] (w.forCall tape i)))
    (contract : ∀ (W : World) (base : Nat) (args : Array Value) (ds gs : List (DataW H)) (before : List MemPlace),
      (∀ (j : Nat) t v, fn.params[j]? = some t → args[j]? = some v → Value.okWide C.prog W .any base t v) →
      DataW.Whole enc C.prog fn.params.toList s.vars apart W args.toList ds gs before →
      (DataW.weightsEach C.prog (fn.params.toList ++ s.plain.varTypes C.prog) (ds ++ gs)).all (· ≤ reachBytes) = true → X W args → W.ShapedOpen C.prog →
      Calls C.prog f args W fun e W' => ∃ v, e = .returned v ∧ s.post enc C.prog fn apart fresh handsOn again W args v W') :
    ReturnsInHanded a C os f .any (fun w args => (s.pre enc C.prog fn conds apart w args ∧ X w args) ∧ sizedMet enc C.prog fn (OpenSpec.ofChange s) apart w args) (s.post enc C.prog fn apart fresh handsOn again) := by
  refine returnsInHanded_of_calls own started noInit witness ?_
  intro w tape i _ hsh _ hok hpre _
  obtain ⟨_, _, _, fn', hfn', _, _, _, _, hval⟩ := hok
  obtain rfl : fn' = fn := Option.some.inj (hfn'.symm.trans hfn)
  obtain ⟨⟨⟨ds, gs, before, hw, hc⟩, hx⟩, hz⟩ := hpre
  have hw' := DataW.Whole.of_heap (w' := w.forCall tape i) (by rfl) hw
  refine (contract (w.forCall tape i) w.heap.size i.args ds gs before hval hw' (hz.weights hw) (hX _ _ _ (by rfl) hx) hsh).mono fun e W' ⟨v, he, hp⟩ => ?_
  subst he
  exact ChangeSpec.post_blind hp

theorem tSyn : (Tryd.prog.globals[0]?).map (·.type) = some 50 := by kernel_rfl
theorem tRng : (Tryd.prog.globals[1]?).map (·.type) = some 50 := by kernel_rfl
theorem tPow : (Tryd.prog.globals[2]?).map (·.type) = some 89 := by kernel_rfl

theorem star : "*" ++ "errors.errorString" = "*errors.errorString" := by decide
theorem rowErr (u : TypeId) (h : Tryd.prog.typeName? 3 u = some "*errors.errorString") : u = 94 :=
  typeName_ptr_named (nm := "errors.errorString") (by rw [star]; kernel_rfl) (by kernel_rfl) (by decide) u (by rw [star]; exact h)

set_option maxRecDepth 100000 in
theorem vars_of_laid {W : World} (h : laidMetH Tryd.prog Rows.oidTellsRow.laid W) (hsh : W.ShapedOpen Tryd.prog) : Vars W := by
  rw [MakeChecks.laidMetH_plain _ _ _ (by kernel_rfl)] at h
  have h3 := h.tail.tail
  have h5 := h3.tail.tail
  have h6 := h5.tail
  refine ⟨Tryd.laysM147.s1_3 W hsh, ?_, ?_, ?_⟩
  · obtain ⟨a, _, hv, _⟩ := laid_sentinel h6 gSyn tSyn Tryd.underlying50 rowErr Tryd.underlying94 Tryd.underlying96 rfl rfl Tryd.underlying9 (by kernel_rfl) (by kernel_rfl)
    exact ⟨_, _, hv⟩
  · obtain ⟨a, _, hv, _⟩ := laid_sentinel h5 gRng tRng Tryd.underlying50 rowErr Tryd.underlying94 Tryd.underlying96 rfl rfl Tryd.underlying9 (by kernel_rfl) (by kernel_rfl)
    exact ⟨_, _, hv⟩
  · exact Lib.tabIs_of_head (zs := Lib.pow10Tab) gPow tPow Tryd.underlying89 Tryd.underlying43 (by kernel_rfl) (by kernel_rfl) h3
end Go.Proofs.YtpmdbbmichncmaaDoor
