/- Plain facts for the law of what fills up a text. -/
import Derived.Test.YtgdcpdbmacmheaaDoorHSum
import Derived.Test.YtgdcpdbmacmheaaDoorBase
import Derived.Stop.Joined
import Derived.Lib.LaidU8
import Derived.Lay
import Derived.LaidMore
import Derived.HandedShaped
import Derived.SevenTiedAt
import Derived.Test.YtgdcpdbmacmheaaDoorTie
import Derived.Test.YtgdcpdbmacmheaaDoorCards
namespace Go.Proofs.YtgdcpdbmacmheaaDoor

theorem leL_len (n : Nat) : ∀ k, (leL n k).length = k := by
  intro k
  simp [leL]
theorem bytesW_cons (x : Nat) (h : List Nat) : bytesW false (x :: h) = (leL x 4).reverse ++ bytesW false h := by
  simp [bytesW, ez]
theorem bytesW_at : ∀ (h : List Nat) (i : Nat), i < h.length → ((bytesW false h).drop (4 * i)).take 4 = (leL (el h i) 4).reverse
  | [], i, hi => by simp at hi
  | x :: h, 0, _ => by
    rw [bytesW_cons]
    have h4 : (leL x 4).reverse.length = 4 := by simp [leL_len]
    rw [Nat.mul_zero, List.drop_zero, List.take_append, h4, List.take_of_length_le (by omega)]
    simp [el]
  | x :: h, i + 1, hi => by
    rw [bytesW_cons, show 4 * (i + 1) = (leL x 4).reverse.length + 4 * i by simp [leL_len]; omega, List.drop_append]
    simp only [List.length_cons] at hi
    rw [List.drop_eq_nil_of_le (by omega), List.nil_append, Nat.add_sub_cancel_left, bytesW_at h i (by omega)]
    simp [el]
theorem room_8 (n : Nat) : 8 ≤ room false n := by
  have : bz false = 64 := rfl
  unfold room
  rw [this]
  split <;> omega
theorem room_mod (n : Nat) : (n + 1 + room false n) % 64 = 0 := by
  have : bz false = 64 := rfl
  unfold room
  rw [this]
  split <;> omega
theorem room_first (n k : Nat) (hk : (n + 1 + k) % 64 = 56) (h : k < 64) : k = room false n - 8 := by
  have : bz false = 64 := rfl
  unfold room
  rw [this]
  split <;> omega
theorem fill_len (n size : Nat) : (fill false n size).length = 1 + room false n := by
  unfold fill
  simp [leL_len]
  omega
theorem left_fill (l : List Nat) (size : Nat) : left false (l ++ fill false l.length size) = [] := by
  apply List.eq_nil_of_length_eq_zero
  rw [left_length, List.length_append, fill_len]
  have := room_mod l.length
  have h : bz false = 64 := rfl
  rw [h]
  omega
theorem num_be4 (n : Nat) (hn : n < 4294967296) : numL (leL n 4).reverse = n := by
  have e : (leL n 4).reverse = [n / 16777216 % 256, n / 65536 % 256, n / 256 % 256, n % 256] := by
    simp [leL, List.range_succ]
  rw [e]
  simp only [numL, List.foldl]
  omega
theorem word_num (h : List Nat) (i : Nat) (hi : i < h.length) (hu : Under 4294967296 h) : numL (((bytesW false h).drop (4 * i)).take 4) = el h i := by
  rw [bytesW_at h i hi]
  exact num_be4 _ (el_lt hu (by decide) i)
theorem bytesW_len : ∀ h : List Nat, (bytesW false h).length = 4 * h.length
  | [] => rfl
  | x :: h => by
    rw [bytesW_cons, List.length_append, bytesW_len h]
    simp [leL_len]
    omega
/-- the law's way to fill up a text of n bytes is the code's -/
theorem fill_law (n k : Nat) (hn : n < 1152921504606846976) (hk : (n + 1 + k) % 64 = 56) (h : k < 64) : [128] ++ List.replicate k 0 ++ (leL (8 * n) 8).reverse = fill false n n := by
  rw [fill_is false n n hn (room_8 n), ← room_first n k hk h]
end Go.Proofs.YtgdcpdbmacmheaaDoor

/- The two tables of roots, as the row lists them. -/
namespace Go.Proofs.YtgdcpdbmacmheaaDoor
open Go.ChangeShapes Go.WideShapes Go.ChangeAt Go.RowKit Go.Lib
set_option linter.unusedVariables false
set_option linter.unusedSimpArgs false

/-- a law's frame where the row lists variables: the contract is told that they read so, and that the world is well shaped -/
theorem change_laid_shaped {H : Type} {enc : TypeId × Value → H} {a : Assume} {C : Checked} {os : Os} {f : FuncId} {fn : Func} {s : ChangeSpec} {conds : List PathCond} {apart fresh handsOn again : Bool} {X : World → Array Value → Prop}
    (hX : ∀ (w w' : World) (args : Array Value), w.heap = w'.heap → X w args → X w' args)
    (own : ownKnob C.prog.godebug = none) (started : os.Started) (noInit : C.prog.inits.idxOf? f = none) (hfn : C.prog.funcs[f]? = some fn)
    (witness : ∃ (w : World) (tape : Tape) (i : Input), w.os = os ∧ (w.forCall tape i).Shaped C.prog ∧ i.vars = [] ∧ Input.okWide C.prog (w.forCall tape i) .any w.heap.size f i ∧
      ((s.pre enc C.prog fn conds apart (w.forCall tape i).memory i.args ∧ X (w.forCall tape i).memory i.args) ∧ sizedMet enc C.prog fn (OpenSpec.ofChange s) apart (w.forCall tape i).memory i.args) ∧ a.holds C.prog (lone (Frame.enter C.prog f i.args .normal) [] (w.forCall tape i)))
    (contract : ∀ (W : World) (base : Nat) (args : Array Value) (ds gs : List (DataW H)) (before : List MemPlace),
      (∀ (j : Nat) t v, fn.params[j]? = some t → args[j]? = some v → Value.okWide C.prog W .any base t v) →
      DataW.Whole enc C.prog fn.params.toList s.vars apart W args.toList ds gs before →
      (DataW.weightsEach C.prog (fn.params.toList ++ s.plain.varTypes C.prog) (ds ++ gs)).all (· ≤ reachBytes) = true → X W args → W.ShapedOpen C.prog →
      Calls C.prog f args W fun e W' => ∃ v, e = .returned v ∧ s.post enc C.prog fn apart fresh handsOn again W args v W') :
    ReturnsInHanded a C os f .any (fun w args => (s.pre enc C.prog fn conds apart w args ∧ X w args) ∧ sizedMet enc C.prog fn (OpenSpec.ofChange s) apart w args) (s.post enc C.prog fn apart fresh handsOn again) := by
  refine returnsInHanded_of_calls own started noInit witness ?_
  intro w tape i _ hsh _ hok hpre _
  obtain ⟨_, _, _, fn', hfn', _, _, _, _, hval⟩ := hok
  obtain rfl : fn' = fn := Option.some.inj (hfn'.symm.trans hfn)
  obtain ⟨⟨⟨ds, gs, before, hw, hc⟩, hx⟩, hz⟩ := hpre
  have hw' := DataW.Whole.of_heap (w' := w.forCall tape i) (by rfl) hw
  refine (contract (w.forCall tape i) w.heap.size i.args ds gs before hval hw' (hz.weights hw) (hX _ _ _ (by rfl) hx) hsh).mono fun e W' ⟨v, he, hp⟩ => ?_
  subst he
  exact ChangeSpec.post_blind hp

theorem tabC : (Rows.laid_apostille_sha_cubeRoots : DataW Unit) = tabData .u64 (cubes.map Int.ofNat) := by kernel_rfl
theorem tabS : (Rows.laid_apostille_sha_squareRoots : DataW Unit) = tabData .u64 (squares.map Int.ofNat) := by kernel_rfl
theorem tab_cells {w : World} {n : String} {g : Nat} {t : TypeId} {l : List Nat} (hn : Tryd.prog.globalNamed n = some g) (hy : (Tryd.prog.globals[g]?).map (·.type) = some t) (ht : Tryd.prog.underlying t = some (.array l.length 23)) (hc : Tryd.prog.cellsOf t = l.length) (hc1 : Tryd.prog.cellsOf 23 = 1)
    (h : VarReads Tryd.prog w n (tabData .u64 (l.map Int.ofNat))) : w.rangeAt g 0 (vals .u64 l) := by
  obtain ⟨g', t', cs, fuel, p, hg, hty, hvar, hd⟩ := h
  obtain rfl := Option.some.inj (hn.symm.trans hg)
  obtain rfl := Option.some.inj (hy.symm.trans hty)
  have hcs := cells_of_tab ht Tryd.underlying23 hc1 hc hd
  intro j v hv
  have := World.var?_cell hg hvar j
  rw [Nat.zero_add, this, ← Array.getElem?_toList, hcs]
  simpa [vals] using hv
def Vars (w : World) : Prop := Roots w
set_option maxRecDepth 100000 in
theorem vars_of_laid {W : World} (h : laidMetH Tryd.prog [("apostille/sha.cubeRoots", Rows.laid_apostille_sha_cubeRoots), ("apostille/sha.squareRoots", Rows.laid_apostille_sha_squareRoots)] W) (hsh : W.ShapedOpen Tryd.prog) : Vars W := by
  rw [MakeChecks.laidMetH_plain _ _ _ (by kernel_rfl)] at h
  rw [tabC, tabS] at h
  exact ⟨tab_cells (by kernel_rfl) (by kernel_rfl) Tryd.underlying68 (by kernel_rfl) (by kernel_rfl) (Lib.laidMet.reads h (.head _)), tab_cells (by kernel_rfl) (by kernel_rfl) Tryd.underlying55 (by kernel_rfl) (by kernel_rfl) (Lib.laidMet.reads h (.tail _ (.head _)))⟩
theorem isRow_tidy {k : IntKind} {w : World} {a : Option Addr} {len cap : Nat} {zs : List Int} (h : IsRow k w a len cap zs) : Tidy (.slice a len cap) := by
  rcases h with ⟨rfl, rfl, rfl, rfl⟩ | ⟨x, rfl, _⟩
  · exact fun n c he => by simp at he; omega
  · exact fun _ _ h => by cases h
end Go.Proofs.YtgdcpdbmacmheaaDoor
