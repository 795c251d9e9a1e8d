/- The table of constants of keccak, as the row lists it. -/
import Derived.Test.YtnbohjoakngkeaaDoorBase
import Derived.Test.YtnbohjoakngkeaaDoorCSm
import Derived.Stop.Joined
import Derived.Lib.LaidU8
import Derived.Lay
import Derived.LaidMore
import Derived.HandedShaped
import Derived.SevenTiedAt
import Derived.Test.YtnbohjoakngkeaaDoorTie
import Derived.Test.YtnbohjoakngkeaaDoorCards
import Derived.Deep.Slices
namespace Go.Proofs.YtnbohjoakngkeaaDoor
open Go.ChangeShapes Go.WideShapes Go.ChangeAt Go.RowKit Go.Lib
set_option linter.unusedVariables false
set_option linter.unusedSimpArgs false

/-- a law's frame where the row lists variables: the contract is told that they read so, and that the world is well shaped -/
theorem change_laid_shaped {H : Type} {enc : TypeId × Value → H} {a : Assume} {C : Checked} {os : Os} {f : FuncId} {fn : Func} {s : ChangeSpec} {conds : List PathCond} {apart fresh handsOn again : Bool} {X : World → Array Value → Prop}
    (hX : ∀ (w w' : World) (args : Array Value), w.heap = w'.heap → X w args → X w' args)
    (own : ownKnob C.prog.godebug = none) (started : os.Started) (noInit : C.prog.inits.idxOf? f = none) (hfn : C.prog.funcs[f]? = some fn)
    (witness : ∃ (w : World) (tape : Tape) (i : Input), w.os = os ∧ (w.forCall tape i).Shaped C.prog ∧ i.vars = [] ∧ Input.okWide C.prog (w.forCall tape i) .any w.heap.size f i ∧
      ((s.pre enc C.prog fn conds apart (w.forCall tape i).memory i.args ∧ X (w.forCall tape i).memory i.args) ∧ sizedMet enc C.prog fn (OpenSpec.ofChange s) apart (w.forCall tape i).memory i.args) ∧ a.holds C.prog (lone (Frame.enter C.prog f i.args .normal) [] (w.forCall tape i)))
    (contract : ∀ (W : World) (base : Nat) (args : Array Value) (ds gs : List (DataW H)) (before : List MemPlace),
      (∀ (j : Nat) t v, fn.params[j]? = some t → args[j]? = some v → Value.okWide C.prog W .any base t v) →
      DataW.Whole enc C.prog fn.params.toList s.vars apart W args.toList ds gs before →
      (DataW.weightsEach C.prog (fn.params.toList ++ s.plain.varTypes C.prog) (ds ++ gs)).all (· ≤ reachBytes) = true → X W args → W.ShapedOpen C.prog →
      Calls C.prog f args W fun e W' => ∃ v, e = .returned v ∧ s.post enc C.prog fn apart fresh handsOn again W args v W') :
    ReturnsInHanded a C os f .any (fun w args => (s.pre enc C.prog fn conds apart w args ∧ X w args) ∧ sizedMet enc C.prog fn (OpenSpec.ofChange s) apart w args) (s.post enc C.prog fn apart fresh handsOn again) := by
  refine returnsInHanded_of_calls own started noInit witness ?_
  intro w tape i _ hsh _ hok hpre _
  obtain ⟨_, _, _, fn', hfn', _, _, _, _, hval⟩ := hok
  obtain rfl : fn' = fn := Option.some.inj (hfn'.symm.trans hfn)
  obtain ⟨⟨⟨ds, gs, before, hw, hc⟩, hx⟩, hz⟩ := hpre
  have hw' := DataW.Whole.of_heap (w' := w.forCall tape i) (by rfl) hw
  refine (contract (w.forCall tape i) w.heap.size i.args ds gs before hval hw' (hz.weights hw) (hX _ _ _ (by rfl) hx) hsh).mono fun e W' ⟨v, he, hp⟩ => ?_
  subst he
  exact ChangeSpec.post_blind hp

theorem tabK : (Rows.laid_apostille_keccak_constants : DataW Unit) = tabData .u64 (csts.map Int.ofNat) := by kernel_rfl
theorem tab_cells {w : World} {n : String} {g : Nat} {t : TypeId} {l : List Nat} (hn : Tryd.prog.globalNamed n = some g) (hy : (Tryd.prog.globals[g]?).map (·.type) = some t) (ht : Tryd.prog.underlying t = some (.array l.length 22)) (hc : Tryd.prog.cellsOf t = l.length) (hc1 : Tryd.prog.cellsOf 22 = 1)
    (h : VarReads Tryd.prog w n (tabData .u64 (l.map Int.ofNat))) : w.rangeAt g 0 (vals .u64 l) := by
  obtain ⟨g', t', cs, fuel, p, hg, hty, hvar, hd⟩ := h
  obtain rfl := Option.some.inj (hn.symm.trans hg)
  obtain rfl := Option.some.inj (hy.symm.trans hty)
  have hcs := cells_of_tab ht Tryd.underlying22 hc1 hc hd
  intro j v hv
  have := World.var?_cell hg hvar j
  rw [Nat.zero_add, this, ← Array.getElem?_toList, hcs]
  simpa [vals] using hv
def Vars (w : World) : Prop := Csts w
theorem under24 : Tryd.prog.underlying 50 = some (.array csts.length 22) := by rw [csts_length]; exact Tryd.underlying50
theorem cells24 : Tryd.prog.cellsOf 50 = csts.length := by rw [csts_length]; kernel_rfl
set_option maxRecDepth 100000 in
theorem vars_of_laid {W : World} (h : laidMetH Tryd.prog [("apostille/keccak.constants", Rows.laid_apostille_keccak_constants)] W) (hsh : W.ShapedOpen Tryd.prog) : Vars W := by
  rw [MakeChecks.laidMetH_plain _ _ _ (by kernel_rfl)] at h
  rw [tabK] at h
  exact tab_cells (t := 50) (by kernel_rfl) (by kernel_rfl) under24 cells24 (by kernel_rfl) (Lib.laidMet.reads h (.head _))
theorem isRow_tidy {k : IntKind} {w : World} {a : Option Addr} {len cap : Nat} {zs : List Int} (h : IsRow k w a len cap zs) : Tidy (.slice a len cap) := by
  rcases h with ⟨rfl, rfl, rfl, rfl⟩ | ⟨x, rfl, _⟩
  · exact fun n c he => by simp at he; omega
  · exact fun _ _ h => by cases h
end Go.Proofs.YtnbohjoakngkeaaDoor

/- How a slice of texts that came in is read. -/
namespace Go.Proofs.YtnbohjoakngkeaaDoor
open Go.ChangeShapes Go.WideShapes Go.ChangeAt Go.RowKit Go.Deep
set_option linter.unusedVariables false

theorem Tryd.cells24 : Tryd.prog.cellsOf 24 = 1 := by kernel_rfl

/-- a text that is read -/
theorem read_text {H : Type} {enc : TypeId × Value → H} {W : World} {fuel : Nat} {v : Value} {x : DataW H × List MemPlace}
    (h : DataW.trod enc Tryd.prog W 0 (fun _ => true) true fuel 24 [v] = some x) : ∃ l, Row .u8 256 W v l ∧ Tidy v := by
  rcases open_ints Tryd.underlying24 Tryd.underlying5 (by kernel_rfl) h with ⟨hcs, _⟩ | ⟨a, len, cap, zs, hcs, _, hl, hm, hz, _, hcell, hwz⟩
  · simp at hcs
    subst hcs
    exact ⟨[], Row.nil _ _ _, fun n c he => by simp at he; omega⟩
  · simp at hcs
    subst hcs
    have hr : IsRow .u8 W (some a) len cap zs := .inr ⟨a, rfl, hl, hm, by simpa using hz, hcell, hwz⟩
    obtain ⟨l, _, hrow⟩ := hr.row wf_u8
    exact ⟨l, hrow, fun n c he => by simp at he⟩

/-- a slice of texts that is read -/
theorem read_texts {H : Type} {enc : TypeId × Value → H} {W : World} {fuel : Nat} {v : Value} {x : DataW H × List MemPlace}
    (h : DataW.trod enc Tryd.prog W 0 (fun _ => true) true fuel 46 [v] = some x) : ∃ ls, Rows2 W v ls := by
  rcases open_slice1 Tryd.underlying46 Tryd.cells24 h with ⟨hcs, _⟩ | ⟨a, len, cap, m, n, V, D, Pl, hcs, _, hl, hm, hmm, _, hx⟩
  · simp at hcs
    subst hcs
    exact ⟨[], none, 0, rfl, Nat.le_refl _, Nat.zero_le _, fun h => by simp at h⟩
  · simp at hcs
    subst hcs
    have hm' : m = cap := by simpa using hmm
    subst hm'
    obtain ⟨L, hL⟩ := choose_lt (α := List Nat) (p := fun i l => Row .u8 256 W (V i) l ∧ Tidy (V i)) (fun i (hi : i < m) => read_text (hx i hi).2)
    refine ⟨(List.range len).map L, some a, m, by simp, by simpa using hl, hm, fun hp => ?_⟩
    have hp' : 0 < len := by simpa using hp
    obtain ⟨b, off, spot⟩ := a
    have h0 := (hx 0 (by omega)).1
    have hspot : spot = none := by simpa [Addr.add] using World.cell?_spot h0
    subst hspot
    refine ⟨b, off, rfl, fun i hi => ?_⟩
    have hi' : i < len := by simpa using hi
    refine ⟨V i, ?_, ?_, (hL i (by omega)).2⟩
    · have := (hx i (by omega)).1
      rw [Addr.add_lit] at this
      exact this
    · have e : tx ((List.range len).map L) i = L i := by unfold tx; simp [hi']
      rw [e]
      exact (hL i (by omega)).1
end Go.Proofs.YtnbohjoakngkeaaDoor

/- How a sponge, and 25 words, that came in are read. -/
namespace Go.Proofs.YtnbohjoakngkeaaDoor
open Go.ChangeShapes Go.WideShapes Go.ChangeAt Go.RowKit Go.Deep
set_option linter.unusedVariables false
set_option linter.unusedSimpArgs false

theorem Tryd.cellsS : Tryd.prog.cellsOf 26 = 28 := by kernel_rfl
theorem Tryd.cellsInt : Tryd.prog.cellsOf 3 = 1 := by kernel_rfl
theorem Tryd.cellsBool : Tryd.prog.cellsOf 4 = 1 := by kernel_rfl
theorem Tryd.cellsU64 : Tryd.prog.cellsOf 22 = 1 := by kernel_rfl
theorem Tryd.cellsW25 : Tryd.prog.cellsOf 23 = 25 := by kernel_rfl
theorem okWide_array {P : Program} {w : World} {r : Reach} {base : Nat} {t e : TypeId} {n : Nat} {v : Value} (ht : P.underlying t = some (.array n e)) (h : Value.okWide P w r base t v) : ∃ cs, v = .agg cs ∧ cs.size = P.cellsOf t := by
  simp only [Value.okWide, ht] at h
  obtain ⟨cs, h1, h2, _⟩ := h
  exact ⟨cs, h1, h2⟩
/-- 25 words, as they came in -/
structure WIs (cs : Array Value) (ws : List Nat) : Prop where
  is : cs = arr .u64 ws
  w : W25 ws
/-- a sponge, as it came in -/
structure SIs (cs : Array Value) (kind : Int) (ws : List Nat) (p : Int) (o : Bool) : Prop where
  is : cs = (sl kind ws p o).toArray
  kmin : -9223372036854775808 ≤ kind
  kmax : kind ≤ 9223372036854775807
  w : W25 ws
  pmin : -9223372036854775808 ≤ p
  pmax : p ≤ 9223372036854775807
theorem read_u64 {H : Type} {enc : TypeId × Value → H} {W : World} {fuel : Nat} {v : Value} {x : DataW H × List MemPlace}
    (h : DataW.trod enc Tryd.prog W 0 (fun _ => true) true fuel 22 [v] = some x) : ∃ n : Nat, v = .int .u64 (n : Int) ∧ n < 18446744073709551616 := by
  obtain ⟨t, e0, _, hw⟩ := DataW.trod_int Tryd.underlying22 h
  have hb := wf_u64 t hw
  simp at e0
  exact ⟨t.toNat, by rw [e0, Int.toNat_of_nonneg hb.1], by omega⟩
/-- numbers out of values -/
theorem words_of : ∀ l : List Value, (∀ i, i < l.length → ∃ n : Nat, l[i]? = some (.int .u64 (n : Int)) ∧ n < 18446744073709551616) → ∃ ws : List Nat, ws.length = l.length ∧ Under 18446744073709551616 ws ∧ l = vals .u64 ws
  | [], _ => ⟨[], rfl, fun x hx => by simp at hx, rfl⟩
  | v :: l, h => by
    obtain ⟨ws, h1, h2, h3⟩ := words_of l (fun i hi => by
      have := h (i + 1) (by simp; omega)
      simpa using this)
    obtain ⟨n, hn, hb⟩ := h 0 (by simp)
    have hv : v = .int .u64 (n : Int) := by simpa using hn
    refine ⟨n :: ws, by simp [h1], fun x hx => ?_, by rw [hv, h3]; rfl⟩
    rcases List.mem_cons.1 hx with rfl | hx
    · exact hb
    · exact h2 x hx
theorem read_list {H : Type} {enc : TypeId × Value → H} {W : World} {fuel : Nat} {l : List Value} {x : DataW H × List MemPlace}
    (h : DataW.trod enc Tryd.prog W 0 (fun _ => true) true fuel 23 l = some x) : ∃ ws, W25 ws ∧ l = vals .u64 ws := by
  obtain ⟨zs, m, _, _, hcl, hzl, hz⟩ := DataW.trod_array Tryd.underlying23 h
  rw [Tryd.cellsW25] at hcl
  obtain ⟨ws, h1, h2, h3⟩ := words_of l (fun i hi => by
    have hi' : i < 25 := by omega
    have := hz i hi'
    rw [Tryd.cellsU64, Nat.mul_one] at this
    have hd : (l.drop i).take 1 = [l[i]] := by
      rw [List.drop_eq_getElem_cons hi]; rfl
    rw [hd, List.getElem?_eq_getElem (by omega)] at this
    obtain ⟨n, hn, hb⟩ := read_u64 this
    exact ⟨n, by rw [List.getElem?_eq_getElem hi, hn], hb⟩)
  exact ⟨ws, ⟨by omega, h2⟩, h3⟩
theorem read_words {H : Type} {enc : TypeId × Value → H} {W : World} {fuel : Nat} {cs : Array Value} {x : DataW H × List MemPlace}
    (h : DataW.trod enc Tryd.prog W 0 (fun _ => true) true fuel 23 cs.toList = some x) : ∃ ws, WIs cs ws := by
  obtain ⟨ws, hw, hl⟩ := read_list h
  exact ⟨ws, by unfold arr; rw [← hl], hw⟩
theorem read_sponge {H : Type} {enc : TypeId × Value → H} {W : World} {fuel : Nat} {cs : Array Value} {x : DataW H × List MemPlace}
    (h : DataW.trod enc Tryd.prog W 0 (fun _ => true) true fuel 26 cs.toList = some x) : ∃ kind ws p o, SIs cs kind ws p o := by
  obtain ⟨l⟩ := cs
  obtain ⟨xs, n, _, _, hcl, hlen, hf⟩ := DataW.trod_struct Tryd.underlying26 h
  rw [Tryd.cellsS] at hcl
  have hcl : l.length = 28 := hcl
  have hlen' : xs.length = 4 := hlen
  match xs, hlen' with
  | [y0, y1, y2, y3], _ =>
    have g0 := hf 0 _ rfl
    have g1 := hf 1 _ rfl
    have g2 := hf 2 _ rfl
    have g3 := hf 3 _ rfl
    have one : ∀ i (hi : i < l.length), (l.drop i).take 1 = [l[i]] := fun i hi => by rw [List.drop_eq_getElem_cons hi]; rfl
    simp only [Tryd.cellsInt, Tryd.cellsW25, Tryd.cellsBool] at g0 g1 g2 g3
    change DataW.trod enc Tryd.prog W 0 (fun _ => true) true n 3 ((l.drop 0).take 1) = _ at g0
    change DataW.trod enc Tryd.prog W 0 (fun _ => true) true n 23 ((l.drop 1).take 25) = _ at g1
    change DataW.trod enc Tryd.prog W 0 (fun _ => true) true n 3 ((l.drop 26).take 1) = _ at g2
    change DataW.trod enc Tryd.prog W 0 (fun _ => true) true n 4 ((l.drop 27).take 1) = _ at g3
    rw [one 0 (by omega)] at g0
    rw [one 26 (by omega)] at g2
    rw [one 27 (by omega)] at g3
    obtain ⟨t, e0, _, hw⟩ := DataW.trod_int Tryd.underlying3 g0
    obtain ⟨t2, e2, _, hw2⟩ := DataW.trod_int Tryd.underlying3 g2
    obtain ⟨b, e3, _⟩ := DataW.trod_bool Tryd.underlying4 g3
    obtain ⟨ws, hww, hl1⟩ := read_list g1
    have hk := wf_i64 t hw
    have hp := wf_i64 t2 hw2
    simp at e0 e2 e3
    refine ⟨t, ws, t2, b, ?_, hk.1, hk.2, hww, hp.1, hp.2⟩
    have hsp : l = l[0] :: ((l.drop 1).take 25 ++ [l[26], l[27]]) := by
      apply List.ext_getElem?
      intro i
      match i with
      | 0 => simp
      | i + 1 =>
        rw [List.getElem?_cons_succ]
        by_cases h1 : i < 25
        · rw [List.getElem?_append_left (by simp; omega), List.getElem?_take, if_pos h1, List.getElem?_drop, Nat.add_comm]
        · rw [List.getElem?_append_right (by simp; omega)]
          have hle : ((l.drop 1).take 25).length = 25 := by simp; omega
          rw [hle]
          by_cases h2 : i = 25
          · subst h2; simp
          · by_cases h3 : i = 26
            · subst h3; simp
            · rw [List.getElem?_eq_none (by omega), List.getElem?_eq_none (by simp; omega)]
    rw [hsp, hl1, e0, e2, e3]
    rfl
end Go.Proofs.YtnbohjoakngkeaaDoor
