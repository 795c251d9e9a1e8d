/- How the laws' frames are opened: the library's two tables as the row lists them. -/
import Derived.Test.YtjkciheoknjfhaaDoorBase
import Derived.Test.YtjkciheoknjfhaaDoorSame
import Derived.Test.YtjkciheoknjfhaaDoorEAwk
import Derived.Lib.LaidU8T
import Derived.Lib.LaidIn
import Derived.Lay
import Derived.LaidMore
import Derived.HandedShaped
import Derived.SevenTiedAt
import Derived.Stop.Joined
import Derived.Test.YtjkciheoknjfhaaDoorTie
import Derived.Test.YtjkciheoknjfhaaDoorCards
namespace Go.Proofs.YtjkciheoknjfhaaDoor
open Go.ChangeShapes Go.WideShapes Go.ChangeAt Go.RowKit
set_option linter.unusedVariables false

/-- a law's frame where the row lists variables: the contract is told that they read so, and that the world is well shaped -/
theorem change_laid_shaped {H : Type} {enc : TypeId × Value → H} {a : Assume} {C : Checked} {os : Os} {f : FuncId} {fn : Func} {s : ChangeSpec} {conds : List PathCond} {apart fresh handsOn again : Bool} {X : World → Array Value → Prop}
    (hX : ∀ (w w' : World) (args : Array Value), w.heap = w'.heap → X w args → X w' args)
    (own : ownKnob C.prog.godebug = none) (started : os.Started) (noInit : C.prog.inits.idxOf? f = none) (hfn : C.prog.funcs[f]? = some fn)
    (witness : ∃ (w : World) (tape : Tape) (i : Input), w.os = os ∧ (w.forCall tape i).Shaped C.prog ∧ i.vars = [] ∧ Input.okWide C.prog (w.forCall tape i) .any w.heap.size f i ∧
      ((s.pre enc C.prog fn conds apart (w.forCall tape i).memory i.args ∧ X (w.forCall tape i).memory i.args) ∧ sizedMet enc C.prog fn (OpenSpec.ofChange s) apart (w.forCall tape i).memory i.args) ∧ a.holds C.prog (lone (Frame.enter C.prog f i.args .normal) [] (w.forCall tape i)))
    (contract : ∀ (W : World) (base : Nat) (args : Array Value) (ds gs : List (DataW H)) (before : List MemPlace),
      (∀ (j : Nat) t v, fn.params[j]? = some t → args[j]? = some v → Value.okWide C.prog W .any base t v) →
      DataW.Whole enc C.prog fn.params.toList s.vars apart W args.toList ds gs before →
      (DataW.weightsEach C.prog (fn.params.toList ++ s.plain.varTypes C.prog) (ds ++ gs)).all (· ≤ reachBytes) = true → X W args → W.ShapedOpen C.prog →
      Calls C.prog f args W fun e W' => ∃ v, e = .returned v ∧ s.post enc C.prog fn apart fresh handsOn again W args v W') :
    ReturnsInHanded a C os f .any (fun w args => (s.pre enc C.prog fn conds apart w args ∧ X w args) ∧ sizedMet enc C.prog fn (OpenSpec.ofChange s) apart w args) (s.post enc C.prog fn apart fresh handsOn again) := by
  refine returnsInHanded_of_calls own started noInit witness ?_
  intro w tape i _ hsh _ hok hpre _
  obtain ⟨_, _, _, fn', hfn', _, _, _, _, hval⟩ := hok
  obtain rfl : fn' = fn := Option.some.inj (hfn'.symm.trans hfn)
  obtain ⟨⟨⟨ds, gs, before, hw, hc⟩, hx⟩, hz⟩ := hpre
  have hw' := DataW.Whole.of_heap (w' := w.forCall tape i) (by rfl) hw
  refine (contract (w.forCall tape i) w.heap.size i.args ds gs before hval hw' (hz.weights hw) (hX _ _ _ (by rfl) hx) hsh).mono fun e W' ⟨v, he, hp⟩ => ?_
  subst he
  exact ChangeSpec.post_blind hp


/-- the numbers that the library's text gives to what the tables are made of -/
def renU : Shelf.Ren := { f := id, g := fun n => if n = 3 then 0 else 1, t := fun n => if n = 5 then 5 else if n = 119 then 91 else if n = 138 then 93 else 94 }
theorem typU : U8Types Tryd.prog renU := ⟨Tryd.underlying5, Tryd.underlying91, Tryd.underlying93, Tryd.underlying94⟩
theorem dat1 : (Rows.laid_unicode_utf8_acceptRanges : DataW Unit) = Lib.acceptData := by kernel_rfl
theorem dat2 : Rows.laid_unicode_utf8_first = Lib.firstData := by kernel_rfl
/-- what the walks take of the library's variables -/
def Vars (w : World) : Prop := UTabs w
set_option maxRecDepth 100000 in
theorem vars_of_laid {W : World} (h : laidMetH Tryd.prog [("unicode/utf8.acceptRanges", Rows.laid_unicode_utf8_acceptRanges), ("unicode/utf8.first", Rows.laid_unicode_utf8_first)] W) (hsh : W.ShapedOpen Tryd.prog) : Vars W := by
  rw [MakeChecks.laidMetH_plain _ _ _ (by kernel_rfl)] at h
  rw [dat1, dat2] at h
  exact utf8Tabs_of_readsT typU ⟨by kernel_rfl, by kernel_rfl, by kernel_rfl, by kernel_rfl, by kernel_rfl, by kernel_rfl, by kernel_rfl⟩ (Lib.laidMet.reads h (.tail _ (.head _))) (Lib.laidMet.reads h (.head _))
theorem arr3 {cs : Array Value} (h : cs.size = 3) : ∃ a b c, cs = #[a, b, c] := by
  obtain ⟨l⟩ := cs
  match l, h with
  | [a, b, c], _ => exact ⟨a, b, c, rfl⟩
theorem isRow_tidy {k : IntKind} {w : World} {a : Option Addr} {len cap : Nat} {zs : List Int} (h : IsRow k w a len cap zs) : Tidy (.slice a len cap) := by
  rcases h with ⟨rfl, rfl, rfl, rfl⟩ | ⟨x, rfl, _⟩
  · exact fun n c he => by simp at he; omega
  · exact tidy_some _ _ _
theorem dsame_true {w : World} {d d' : Nat} {a0 a1 a2 b0 b1 b2 : Value} {x : Nd} (h : NdAt w d a0 a1 a2 x) (h' : NdAt w d' b0 b1 b2 x) :
    Calls Tryd.prog 11 #[.agg #[a0, a1, a2], .agg #[b0, b1, b2]] w fun e w' => e = .returned (.bool true) ∧ Below w.heap.size w w' :=
  (rsameN_any (max d d') a0 a1 a2 b0 b1 b2 x x w (h.le (Nat.le_max_left _ _)) (h'.le (Nat.le_max_right _ _))).mono fun _ _ h => h.true rfl
theorem nod0_at (w : World) : NdAt w 1 (.int .i64 0) (.slice none 0 0) (.slice none 0 0) (.mk 0 [] []) :=
  ⟨rfl, by unfold I64; omega, Row.nil _ _ _, fun n c he => by simp at he; omega, fun n c he => by simp at he; omega, none, 0, rfl, Nat.le_refl _, Nat.zero_le _, fun h => by simp at h⟩
theorem NdAt.forms {w : World} {d : Nat} {c0 c1 c2 : Value} {x : Nd} (h : NdAt w d c0 c1 c2 x) : ∃ t a1 n1 p1 a2 n2 p2, c0 = .int .i64 t ∧ c1 = .slice a1 n1 p1 ∧ c2 = .slice a2 n2 p2 := by
  cases d with
  | zero => exact h.elim
  | succ d =>
    obtain ⟨t, b, ks⟩ := x
    obtain ⟨rfl, _, ⟨a1, p1, rfl, _⟩, _, _, a2, p2, rfl, _⟩ := h
    exact ⟨_, _, _, _, _, _, _, rfl, rfl, rfl⟩
end Go.Proofs.YtjkciheoknjfhaaDoor
