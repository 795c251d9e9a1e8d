/- der's end, read (what is thrown is caught), Parse. -/
import Derived.Test.YtlddpjcacnahmaaGreatDoorEFit
import Derived.Tactics
import Derived.Tactics2
import Derived.Defers
import Derived.Recover
import Derived.Laws.Pointers
import Derived.Test.YtlddpjcacnahmaaGreatDoorBase
import Derived.Test.YtlddpjcacnahmaaGreatDoorKit
import Derived.Lib.LaidU8T
import Derived.Lib.LaidIn
import Derived.Lay
import Derived.LaidMore
import Derived.HandedShaped
import Derived.SevenTiedAt
import Derived.Stop.Joined
import Derived.Test.YtlddpjcacnahmaaGreatDoorTie
import Derived.Test.YtlddpjcacnahmaaGreatDoorCards
namespace Go.Proofs.YtlddpjcacnahmaaGreatDoor
open Go.RowKit Go.Deep
set_option linter.unusedVariables false

set_option maxHeartbeats 4000000 in
theorem assert_errno (x : Value) (w : World) : (Instr.typeAssert (.iface 29 x) 20 29 false).run Tryz.prog w = .ok x w := by kernel_rfl
/-- what is told of bytes, in memory: an error beside a node of nothing, or the value -/
def ParE (r : Res Nd) (w : World) (e : Ending) (w' : World) : Prop :=
  ((∃ er, r = .err er ∧ 0 < er ∧ e = .returned (.tuple #[nod0, .int .i64 (er : Nat)])) ∨ (∃ x d c0 c1 c2, r = .ok x ∧ e = .returned (.tuple #[.agg #[c0, c1, c2], .int .i64 0]) ∧ NdAt w' d c0 c1 c2 x)) ∧ Below w.heap.size w w'
/-- the value that bytes are, all of them, however many -/
def allR (FB : Int → List Nat → Bool) (b : List Nat) : Res Nd :=
  match rd FB 32 b with
  | .err e => .err e
  | .ok (x, m) => if m < b.length then .err 7 else .ok x
theorem cell1 {w : World} {q : Nat} {v : Value} {t : TypeId} (h : w.heap[q]? = some (.cells #[v] t)) : w.cell? ⟨q, 0, none⟩ = some v ∧ w.frozen? ⟨q, 0, none⟩ = false :=
  ⟨by rw [cell_at' h]; rfl, frozen_of_row w _ 0 _ _ h⟩

/-- the same, with what blocks the value lies in -/
def ParB (B0 : Nat) (r : Res Nd) (w : World) (e : Ending) (w' : World) : Prop :=
  ((∃ er, r = .err er ∧ 0 < er ∧ e = .returned (.tuple #[nod0, .int .i64 (er : Nat)])) ∨ (∃ x d c0 c1 c2, r = .ok x ∧ e = .returned (.tuple #[.agg #[c0, c1, c2], .int .i64 0]) ∧ NdIn (fun k => k < B0 ∨ w.heap.size ≤ k) w' d c0 c1 c2 x)) ∧ Below w.heap.size w w'
theorem in_old {w : World} {v : Value} {l : List Nat} (h : Row .u8 256 w v l) : ValIn (fun k => k < w.heap.size) v := by
  obtain ⟨a, cap, rfl, g1, g2, g3, g4⟩ := h
  intro b hb he
  obtain ⟨bl, off, rfl, hc⟩ := g3 hb
  have e : bl = b := by simpa [Value.ownBlock] using he
  subst e
  exact World.block_lt_of_cell? w _ (hc 0 hb)

theorem ParB.parE {B0 : Nat} {r : Res Nd} {w w' : World} {e : Ending} (h : ParB B0 r w e w') : ParE r w e w' := by
  obtain ⟨h1 | ⟨x, d, c0, c1, c2, h1, h2, h3⟩, h4⟩ := h
  · exact ⟨.inl h1, h4⟩
  · exact ⟨.inr ⟨x, d, c0, c1, c2, h1, h2, NdIn.at _ _ _ _ _ h3⟩, h4⟩
end Go.Proofs.YtlddpjcacnahmaaGreatDoor

/- The document's Parse. -/
namespace Go.Proofs.YtlddpjcacnahmaaGreatDoor
open Go.RowKit Go.Deep
set_option linter.unusedVariables false

end Go.Proofs.YtlddpjcacnahmaaGreatDoor

/- Contract of apostillelaw05.awake. -/
namespace Go.Proofs.YtlddpjcacnahmaaGreatDoor
open Go.RowKit Go.Deep
set_option linter.unusedVariables false

theorem exists_FB : ∃ FB, FBok FB := ⟨fun t b => @decide (FitP t b) (Classical.propDecidable _), fun t b => @decide_eq_true_iff (FitP t b) (Classical.propDecidable _)⟩
theorem FBok.no {FB : Int → List Nat → Bool} (h : FBok FB) {t : Int} {b : List Nat} (hn : ¬ FitP t b) : FB t b = false := by
  cases hf : FB t b with
  | false => rfl
  | true => exact absurd ((h t b).1 hf) hn
theorem ParE.bad {r : Res Nd} {er : Nat} {w w' : World} {e : Ending} (h : ParE r w e w') (hr : r = .err er) : e = .returned (.tuple #[nod0, .int .i64 (er : Nat)]) ∧ Below w.heap.size w w' := by
  obtain ⟨⟨er', h1, h2, h3⟩ | ⟨x, d, c0, c1, c2, h1, h2, h3⟩, h4⟩ := h
  · rw [hr] at h1
    cases h1
    exact ⟨h3, h4⟩
  · rw [hr] at h1
    cases h1
theorem ParE.good {r : Res Nd} {x : Nd} {w w' : World} {e : Ending} (h : ParE r w e w') (hr : r = .ok x) : ∃ d c0 c1 c2, e = .returned (.tuple #[.agg #[c0, c1, c2], .int .i64 0]) ∧ NdAt w' d c0 c1 c2 x ∧ Below w.heap.size w w' := by
  obtain ⟨⟨er', h1, h2, h3⟩ | ⟨x', d, c0, c1, c2, h1, h2, h3⟩, h4⟩ := h
  · rw [hr] at h1
    cases h1
  · rw [hr] at h1
    cases h1
    exact ⟨d, c0, c1, c2, h2, h3, h4⟩
theorem ex_1 {FB : Int → List Nat → Bool} (h : FBok FB) : parseD FB [2, 1, 5] = .ok (.mk 2 [5] []) := by
  have hf : FB 2 [5] = true := (h _ _).2 ((fitp_2 _).2 (by decide))
  have hl : lenD [1, 5] = (1, 1) := by decide
  unfold parseD
  rw [if_neg (by decide), rd, if_neg (by decide), hl]
  simp only
  rw [if_neg (by decide), if_pos (by decide), show (List.take 1 (List.drop 1 [1, 5])) = [5] from rfl]
  rw [show ((2 : Nat) : Int) = 2 from rfl, hf]
  rfl
theorem ex_2 {FB : Int → List Nat → Bool} (h : FBok FB) : parseD FB [2, 2, 0, 5] = .err 5 := by
  have hf : FB 2 [0, 5] = false := h.no (fun hp => absurd ((fitp_2 _).1 hp) (by decide))
  have hl : lenD [2, 0, 5] = (2, 1) := by decide
  unfold parseD
  rw [if_neg (by decide), rd, if_neg (by decide), hl]
  simp only
  rw [if_neg (by decide), if_pos (by decide), show (List.take 2 (List.drop 1 [2, 0, 5])) = [0, 5] from rfl]
  rw [show ((2 : Nat) : Int) = 2 from rfl, hf]
  rfl
theorem ex_3 (FB : Int → List Nat → Bool) : parseD FB [2, 129, 1, 5] = .err 1 := by
  unfold parseD
  rw [if_neg (by decide), rd, if_neg (by decide), if_pos (by decide)]
theorem ex_4 {FB : Int → List Nat → Bool} (h : FBok FB) : parseD FB [5, 0, 0] = .err 7 := by
  have hf : FB 5 [] = true := (h _ _).2 ((fitp_5 _).2 (by decide))
  have hl : lenD [0, 0] = (0, 1) := by decide
  unfold parseD
  rw [if_neg (by decide), rd, if_neg (by decide), hl]
  simp only
  rw [if_neg (by decide), if_pos (by decide), show (List.take 0 (List.drop 1 [0, 0])) = [] from rfl]
  rw [show ((5 : Nat) : Int) = 5 from rfl, hf]
  rfl
theorem ex_5 (FB : Int → List Nat → Bool) : parseD FB [31, 0] = .err 4 := by
  unfold parseD
  rw [if_neg (by decide), rd, if_pos (by decide)]

theorem lit1 (w : World) : Row .u8 256 (w.alloc (.cells #[.int .u8 2, .int .u8 1, .int .u8 5] 5)) (.slice (some ⟨w.heap.size, 0, none⟩) 3 3) [2, 1, 5] := lit_row .u8 256 w [2, 1, 5] 5 (dec_under (by decide)) (by decide)
theorem lit2 (w : World) : Row .u8 256 (w.alloc (.cells #[.int .u8 2, .int .u8 2, .int .u8 0, .int .u8 5] 5)) (.slice (some ⟨w.heap.size, 0, none⟩) 4 4) [2, 2, 0, 5] := lit_row .u8 256 w [2, 2, 0, 5] 5 (dec_under (by decide)) (by decide)
theorem lit3 (w : World) : Row .u8 256 (w.alloc (.cells #[.int .u8 2, .int .u8 129, .int .u8 1, .int .u8 5] 5)) (.slice (some ⟨w.heap.size, 0, none⟩) 4 4) [2, 129, 1, 5] := lit_row .u8 256 w [2, 129, 1, 5] 5 (dec_under (by decide)) (by decide)
theorem lit4 (w : World) : Row .u8 256 (w.alloc (.cells #[.int .u8 5, .int .u8 0, .int .u8 0] 5)) (.slice (some ⟨w.heap.size, 0, none⟩) 3 3) [5, 0, 0] := lit_row .u8 256 w [5, 0, 0] 5 (dec_under (by decide)) (by decide)
theorem lit5 (w : World) : Row .u8 256 (w.alloc (.cells #[.int .u8 31, .int .u8 0] 5)) (.slice (some ⟨w.heap.size, 0, none⟩) 2 2) [31, 0] := lit_row .u8 256 w [31, 0] 5 (dec_under (by decide)) (by decide)
theorem lit6 (w : World) : Row .u8 256 (w.alloc (.cells #[.int .u8 5] 5)) (.slice (some ⟨w.heap.size, 0, none⟩) 1 1) [5] := lit_row .u8 256 w [5] 5 (dec_under (by decide)) (by decide)
theorem tidy_some (x : Addr) (n c : Nat) : Tidy (.slice (some x) n c) := fun a b h => by simp at h

end Go.Proofs.YtlddpjcacnahmaaGreatDoor

/- How the laws' frames are opened: the library's two tables as the row lists them. -/
namespace Go.Proofs.YtlddpjcacnahmaaGreatDoor
open Go.ChangeShapes Go.WideShapes Go.ChangeAt Go.RowKit
set_option linter.unusedVariables false

/-- a law's frame where the row lists variables: the contract is told that they read so, and that the world is well shaped -/
theorem change_laid_shaped {H : Type} {enc : TypeId × Value → H} {a : Assume} {C : Checked} {os : Os} {f : FuncId} {fn : Func} {s : ChangeSpec} {conds : List PathCond} {apart fresh handsOn again : Bool} {X : World → Array Value → Prop}
    (hX : ∀ (w w' : World) (args : Array Value), w.heap = w'.heap → X w args → X w' args)
    (own : ownKnob C.prog.godebug = none) (started : os.Started) (noInit : C.prog.inits.idxOf? f = none) (hfn : C.prog.funcs[f]? = some fn)
    (witness : ∃ (w : World) (tape : Tape) (i : Input), w.os = os ∧ (w.forCall tape i).Shaped C.prog ∧ i.vars = [] ∧ Input.okWide C.prog (w.forCall tape i) .any w.heap.size f i ∧
      ((s.pre enc C.prog fn conds apart (w.forCall tape i).memory i.args ∧ X (w.forCall tape i).memory i.args) ∧ sizedMet enc C.prog fn (OpenSpec.ofChange s) apart (w.forCall tape i).memory i.args) ∧ a.holds C.prog (lone (Frame.enter C.prog f i.args .normal) [] (w.forCall tape i)))
    (contract : ∀ (W : World) (base : Nat) (args : Array Value) (ds gs : List (DataW H)) (before : List MemPlace),
      (∀ (j : Nat) t v, fn.params[j]? = some t → args[j]? = some v → Value.okWide C.prog W .any base t v) →
      DataW.Whole enc C.prog fn.params.toList s.vars apart W args.toList ds gs before →
      (DataW.weightsEach C.prog (fn.params.toList ++ s.plain.varTypes C.prog) (ds ++ gs)).all (· ≤ reachBytes) = true → X W args → W.ShapedOpen C.prog →
      Calls C.prog f args W fun e W' => ∃ v, e = .returned v ∧ s.post enc C.prog fn apart fresh handsOn again W args v W') :
    ReturnsInHanded a C os f .any (fun w args => (s.pre enc C.prog fn conds apart w args ∧ X w args) ∧ sizedMet enc C.prog fn (OpenSpec.ofChange s) apart w args) (s.post enc C.prog fn apart fresh handsOn again) := by
  refine returnsInHanded_of_calls own started noInit witness ?_
  intro w tape i _ hsh _ hok hpre _
  obtain ⟨_, _, _, fn', hfn', _, _, _, _, hval⟩ := hok
  obtain rfl : fn' = fn := Option.some.inj (hfn'.symm.trans hfn)
  obtain ⟨⟨⟨ds, gs, before, hw, hc⟩, hx⟩, hz⟩ := hpre
  have hw' := DataW.Whole.of_heap (w' := w.forCall tape i) (by rfl) hw
  refine (contract (w.forCall tape i) w.heap.size i.args ds gs before hval hw' (hz.weights hw) (hX _ _ _ (by rfl) hx) hsh).mono fun e W' ⟨v, he, hp⟩ => ?_
  subst he
  exact ChangeSpec.post_blind hp


/-- the numbers that the library's text gives to what the tables are made of -/
def renU : Shelf.Ren := { f := id, g := fun n => if n = 3 then 1 else 2, t := fun n => if n = 5 then 5 else if n = 119 then 180 else if n = 138 then 182 else 183 }
theorem typU : U8Types Tryz.prog renU := ⟨Tryz.underlying5, Tryz.underlying180, Tryz.underlying182, Tryz.underlying183⟩
theorem dat1 : (Rows.laid_unicode_utf8_acceptRanges : DataW Unit) = Lib.acceptData := by kernel_rfl
theorem dat2 : Rows.laid_unicode_utf8_first = Lib.firstData := by kernel_rfl
/-- what the walks take of the library's variables -/
def Vars (w : World) : Prop := UTabs w
set_option maxRecDepth 100000 in
theorem vars_of_laid {W : World} (h : laidMetH Tryz.prog [("unicode/utf8.acceptRanges", Rows.laid_unicode_utf8_acceptRanges), ("unicode/utf8.first", Rows.laid_unicode_utf8_first)] W) (hsh : W.ShapedOpen Tryz.prog) : Vars W := by
  rw [MakeChecks.laidMetH_plain _ _ _ (by kernel_rfl)] at h
  rw [dat1, dat2] at h
  exact utf8Tabs_of_readsT typU ⟨by kernel_rfl, by kernel_rfl, by kernel_rfl, by kernel_rfl, by kernel_rfl, by kernel_rfl, by kernel_rfl⟩ (Lib.laidMet.reads h (.tail _ (.head _))) (Lib.laidMet.reads h (.head _))
theorem arr3 {cs : Array Value} (h : cs.size = 3) : ∃ a b c, cs = #[a, b, c] := by
  obtain ⟨l⟩ := cs
  match l, h with
  | [a, b, c], _ => exact ⟨a, b, c, rfl⟩
theorem isRow_tidy {k : IntKind} {w : World} {a : Option Addr} {len cap : Nat} {zs : List Int} (h : IsRow k w a len cap zs) : Tidy (.slice a len cap) := by
  rcases h with ⟨rfl, rfl, rfl, rfl⟩ | ⟨x, rfl, _⟩
  · exact fun n c he => by simp at he; omega
  · exact tidy_some _ _ _
theorem dsame_true {w : World} {d d' : Nat} {a0 a1 a2 b0 b1 b2 : Value} {x : Nd} (h : NdAt w d a0 a1 a2 x) (h' : NdAt w d' b0 b1 b2 x) :
    Calls Tryz.prog 15 #[.agg #[a0, a1, a2], .agg #[b0, b1, b2]] w fun e w' => e = .returned (.bool true) ∧ Below w.heap.size w w' :=
  (rsameN_any (max d d') a0 a1 a2 b0 b1 b2 x x w (h.le (Nat.le_max_left _ _)) (h'.le (Nat.le_max_right _ _))).mono fun _ _ h => h.true rfl
theorem nod0_at (w : World) : NdAt w 1 (.int .i64 0) (.slice none 0 0) (.slice none 0 0) (.mk 0 [] []) :=
  ⟨rfl, by unfold I64; omega, Row.nil _ _ _, fun n c he => by simp at he; omega, fun n c he => by simp at he; omega, none, 0, rfl, Nat.le_refl _, Nat.zero_le _, fun h => by simp at h⟩
theorem NdAt.forms {w : World} {d : Nat} {c0 c1 c2 : Value} {x : Nd} (h : NdAt w d c0 c1 c2 x) : ∃ t a1 n1 p1 a2 n2 p2, c0 = .int .i64 t ∧ c1 = .slice a1 n1 p1 ∧ c2 = .slice a2 n2 p2 := by
  cases d with
  | zero => exact h.elim
  | succ d =>
    obtain ⟨t, b, ks⟩ := x
    obtain ⟨rfl, _, ⟨a1, p1, rfl, _⟩, _, _, a2, p2, rfl, _⟩ := h
    exact ⟨_, _, _, _, _, _, _, rfl, rfl, rfl⟩
end Go.Proofs.YtlddpjcacnahmaaGreatDoor

/- How a slice of values that came in is read. -/
namespace Go.Proofs.YtlddpjcacnahmaaGreatDoor
open Go.ChangeShapes Go.WideShapes Go.ChangeAt Go.RowKit Go.Deep
set_option linter.unusedVariables false

/-- a slice of nodes that is read -/
theorem read_kids {H : Type} {enc : TypeId × Value → H} {W : World} {fuel : Nat} {v : Value} {x : DataW H × List MemPlace}
    (h : DataW.trod enc Tryz.prog W 0 (fun _ => true) true fuel 26 [v] = some x) : ∃ d ks, KidsAt (NdAt W d) W v ks ∧ Tidy v := by
  rcases DataW.trod_slice Tryz.underlying26 h with ⟨hcs, _⟩ | ⟨a, len, cap, elems, rest, m, hfm, hcs, _, _, hl, hm, hel, hx, _⟩
  · simp at hcs
    subst hcs
    exact ⟨1, [], ⟨none, 0, rfl, Nat.le_refl _, Nat.zero_le _, fun h => by simp at h⟩, fun n c he => by simp at he; omega⟩
  · simp at hcs
    subst hcs
    rw [Tryz.cellsN] at hx
    have each : ∀ i, i < len → ∃ q : Nat × Nd, ∃ k0 k1 k2, W.cell? (a.add (i * 3)) = some k0 ∧ W.cell? (a.add (i * 3 + 1)) = some k1 ∧ W.cell? (a.add (i * 3 + 2)) = some k2 ∧ NdAt W q.1 k0 k1 k2 q.2 := by
      intro i hi
      have h1 := hx i hi
      rw [List.getElem?_eq_getElem (by omega)] at h1
      obtain ⟨cs', h2, h3⟩ := Option.bind_eq_some_iff.1 h1
      obtain ⟨_, hcl, hcell⟩ := World.cells?_some h2
      match cs', hcl with
      | [k0, k1, k2], _ =>
        obtain ⟨d, nd, hnd⟩ := read_cells m k0 k1 k2 _ h3
        have e0 := hcell 0 (by omega)
        have e1 := hcell 1 (by omega)
        have e2 := hcell 2 (by omega)
        rw [add_add] at e0 e1 e2
        exact ⟨(d, nd), k0, k1, k2, by simpa using e0, by simpa using e1, by simpa using e2, hnd⟩
    have : Inhabited (Nat × Nd) := ⟨(0, .mk 0 [] [])⟩
    obtain ⟨q, hq⟩ := choose_lt (α := Nat × Nd) each
    obtain ⟨D, hD⟩ := max_below (fun i => (q i).1) len
    have hkl : ((List.range len).map fun i => (q i).2).length = len := by simp
    refine ⟨D, (List.range len).map fun i => (q i).2, ⟨some a, cap, by rw [hkl], by rw [hkl]; exact hl, hm, fun hp => ?_⟩, fun n c he => by simp at he⟩
    rw [hkl] at hp
    obtain ⟨b0, off, spot⟩ := a
    obtain ⟨k0, k1, k2, h0, _⟩ := hq 0 hp
    have hspot : spot = none := by simpa [Addr.add] using World.cell?_spot h0
    subst hspot
    refine ⟨b0, off, rfl, fun i hi => ?_⟩
    rw [hkl] at hi
    obtain ⟨k0, k1, k2, h0, h1, h2, h3⟩ := hq i hi
    rw [Addr.add_lit] at h0 h1 h2
    have e : kx ((List.range len).map fun i => (q i).2) i = (q i).2 := by unfold kx; simp [hi]
    exact ⟨k0, k1, k2, ⟨h0, by rw [← Nat.add_assoc] at h1; exact h1, by rw [← Nat.add_assoc] at h2; exact h2⟩, by rw [e]; exact h3.le (hD i hi)⟩
end Go.Proofs.YtlddpjcacnahmaaGreatDoor

/- Values of bytes alone: leaf, Bytes, Null, Part; the document's Bytes, Part, Seq, Box. -/
namespace Go.Proofs.YtlddpjcacnahmaaGreatDoor
open Go.RowKit Go.Deep
set_option linter.unusedVariables false

/-- a value is told, in new memory -/
def NodE (x : Nd) (w : World) (e : Ending) (w' : World) : Prop := (∃ d c0 c1 c2, e = .returned (.agg #[c0, c1, c2]) ∧ NdIn (fun q => w.heap.size ≤ q) w' d c0 c1 c2 x) ∧ Below w.heap.size w w'
/-- a value and a number are told, the value in new memory -/
def NodT (x : Nd) (er : Int) (w : World) (e : Ending) (w' : World) : Prop := (∃ d c0 c1 c2, e = .returned (.tuple #[.agg #[c0, c1, c2], .int .i64 er]) ∧ NdIn (fun q => w.heap.size ≤ q) w' d c0 c1 c2 x) ∧ Below w.heap.size w w'
/-- no value -/
def nd0 : Nd := .mk 0 [] []
theorem nil_row (w : World) : Row .u8 256 w (.slice none 0 0) [] := Row.nil _ _ _
theorem nil_tidy : Tidy (.slice none 0 0) := fun a c he => by simp at he; omega
theorem nil_kids (N : Value → Value → Value → Nd → Prop) (w : World) : KidsAt N w (.slice none 0 0) [] := ⟨none, 0, rfl, Nat.le_refl _, Nat.zero_le _, fun h => by simp at h⟩
theorem at_leaf {w : World} {v : Value} {l : List Nat} {t : Int} (ht : I64 t) (h : Row .u8 256 w v l) (hv : Tidy v) : NdAt w 1 (.int .i64 t) v (.slice none 0 0) (.mk t l []) :=
  ⟨rfl, ht, h, hv, nil_tidy, nil_kids _ _⟩
theorem at_nd0 (w : World) : NdAt w 1 (.int .i64 0) (.slice none 0 0) (.slice none 0 0) nd0 := at_leaf (by unfold I64; omega) (nil_row w) nil_tidy
theorem in_leaf {S : Nat → Prop} {w : World} {v : Value} {l : List Nat} {t : Int} (ht : I64 t) (h : Row .u8 256 w v l) (hv : Tidy v) (hs : ValIn S v) : NdIn S w 1 (.int .i64 t) v (.slice none 0 0) (.mk t l []) :=
  ⟨rfl, ht, h, hv, nil_tidy, hs, fun q hq => by simp [lenV] at hq, nil_kids _ _⟩
theorem in_nd0 (S : Nat → Prop) (w : World) : NdIn S w 1 (.int .i64 0) (.slice none 0 0) (.slice none 0 0) nd0 := in_leaf (by unfold I64; omega) (nil_row w) nil_tidy (fun q hq => by simp [lenV] at hq)
theorem own_in {w : World} {B : Nat} {e : TypeId} {v : Value} {n s : Nat} {xs : List Value} (h : w.ownsRow B e s v n xs) {S : Nat → Prop} (hS : ∀ q, B ≤ q → S q) : ValIn S v := fun q _ hq => hS q (h.lt q hq).1
/-- a row that lies in one new block -/
theorem in_at {S : Nat → Prop} {b o n c : Nat} (h : S b) : ValIn S (.slice (some ⟨b, o, none⟩) n c) := fun q _ hq => by
  have e : b = q := by simpa [Value.ownBlock] using hq
  rw [← e]; exact h
/-- a value in new memory is stored as the result -/
theorem NdIn.set3 {w : World} {P d : Nat} {c0 c1 c2 v0 v1 v2 : Value} {x : Nd} (h : NdIn (fun q => P + 1 ≤ q) w d c0 c1 c2 x) : NdIn (fun q => P ≤ q) (((w.setCell ⟨P, 0, none⟩ v0).setCell ⟨P, 1, none⟩ v1).setCell ⟨P, 2, none⟩ v2) d c0 c1 c2 x :=
  h.turn (fun b hb _ => ⟨by rw [heap_setCell_other _ _ _ _ (by show b ≠ P; omega), heap_setCell_other _ _ _ _ (by show b ≠ P; omega), heap_setCell_other _ _ _ _ (by show b ≠ P; omega)], by omega⟩)
theorem NodE.at {x : Nd} {w w' : World} {e : Ending} (h : NodE x w e w') : ∃ d t a1 n1 p1 a2 n2 p2, e = .returned (.agg #[.int .i64 t, .slice a1 n1 p1, .slice a2 n2 p2]) ∧ NdIn (fun q => w.heap.size ≤ q) w' d (.int .i64 t) (.slice a1 n1 p1) (.slice a2 n2 p2) x ∧ Below w.heap.size w w' := by
  obtain ⟨⟨d, c0, c1, c2, he, hn⟩, hb⟩ := h
  obtain ⟨t, a1, n1, p1, a2, n2, p2, rfl, rfl, rfl⟩ := hn.forms
  exact ⟨d, t, a1, n1, p1, a2, n2, p2, he, hn, hb⟩
theorem NodT.at {x : Nd} {er : Int} {w w' : World} {e : Ending} (h : NodT x er w e w') : ∃ d t a1 n1 p1 a2 n2 p2, e = .returned (.tuple #[.agg #[.int .i64 t, .slice a1 n1 p1, .slice a2 n2 p2], .int .i64 er]) ∧ NdIn (fun q => w.heap.size ≤ q) w' d (.int .i64 t) (.slice a1 n1 p1) (.slice a2 n2 p2) x ∧ Below w.heap.size w w' := by
  obtain ⟨⟨d, c0, c1, c2, he, hn⟩, hb⟩ := h
  obtain ⟨t, a1, n1, p1, a2, n2, p2, rfl, rfl, rfl⟩ := hn.forms
  exact ⟨d, t, a1, n1, p1, a2, n2, p2, he, hn, hb⟩
theorem Row.set3 {w : World} {P : Nat} {v v0 v1 v2 : Value} {l : List Nat} (h : Row .u8 256 w v l) (hp : ∀ b, v.ownBlock = some b → b ≠ P) : Row .u8 256 (((w.setCell ⟨P, 0, none⟩ v0).setCell ⟨P, 1, none⟩ v1).setCell ⟨P, 2, none⟩ v2) v l :=
  h.otherIn (S := fun b => b ≠ P) (fun b _ hb => hp b hb) (fun b hb _ => by
    rw [heap_setCell_other _ _ _ _ (by show b ≠ P; exact hb), heap_setCell_other _ _ _ _ (by show b ≠ P; exact hb), heap_setCell_other _ _ _ _ (by show b ≠ P; exact hb)])

set_option maxRecDepth 100000 in
set_option maxHeartbeats 2000000 in
theorem leaf_any (t : Int) (v : Value) (l : List Nat) (w : World) (ht : I64 t) (h : Row .u8 256 w v l) (hl : l.length ≤ 1000000) :
    Calls Tryz.prog 46 #[.int .i64 t, v] w fun e w' => NodE (.mk t l []) w e w' := by
  have hu := h.under
  obtain ⟨a, cap, rfl, g1, g2, g3, g4⟩ := h
  have h : Row .u8 256 w (.slice a l.length cap) l := ⟨a, cap, rfl, g1, g2, g3, g4⟩
  have hb0 := keep_alloc w (.cells #[.int .i64 0, .slice none 0 0, .slice none 0 0] 28)
  have hn := row_news (h.below hb0)
  have hS : (w.alloc (.cells #[.int .i64 0, .slice none 0 0, .slice none 0 0] 28)).heap[w.heap.size]? = _ := heap_alloc_new w _
  obtain ⟨i0, hi, hz0, hz1, hz2⟩ := info_byte
  clear g1 g2 g3 g4 h
  go_enter Tryz.func46, Tryz.ntmps46
  go_wp2_with (first
    | (at_builtin; refine wpList_append_rows _ rfl _ _ 22 22 5 (by rfl) Tryz.underlying22 (w.heap.size + 1) 5 i0 (.int .u8 0) 1 Tryz.underlying22 hi hz0 hz1 hz2 rfl _ _ _ (by rfl) (World.ownsRow_nil _ _ _ _) a l.length cap (vals .u8 l) (by rfl) (vals_length _ _) hn.2 (vals_one _ _) (by unfold maxLen; simp; omega) (by simp; omega) (by simp) ?_; intro v6 w6 ho6 hg6; obtain ⟨va, vc, rfl⟩ := own_slice ho6; have hS6 : w6.heap[w.heap.size]? = _ := (hg6.block _ (by simp) (fun e => by simp [Value.ownBlock] at e)).trans hS; obtain ⟨y0, y1, y2, z0, z1, z2⟩ := cells3 hS6)
    | go_in)
  rw [List.nil_append, Nat.zero_add] at ho6
  have hb6 : Below w.heap.size w w6 := hb0.grown hg6 (by simp) (fun k h => by cases h)
  have hr6 : Row .u8 256 w6 (.slice va l.length vc) l := Own.row ⟨ho6, hu⟩
  obtain ⟨s0, s1, s2, _⟩ := cells3 (set3 hS6 (.int .i64 t) (.slice va l.length vc) (.slice none 0 0))
  exact bodyPost_ret (v := .agg #[.int .i64 t, .slice va l.length vc, .slice none 0 0]) (by simp [results, Tryz.results46, go_sem, s0, s1, s2]) rfl ⟨⟨1, _, _, _, rfl, (in_leaf ht hr6 (own_tidy ho6) (own_in ho6 (fun q hq => hq))).set3⟩, below3 hb6 (Nat.le_refl _) _ _ _⟩
end Go.Proofs.YtlddpjcacnahmaaGreatDoor
