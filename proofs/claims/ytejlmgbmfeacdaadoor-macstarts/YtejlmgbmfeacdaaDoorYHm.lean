/- mac's Digest, Hmac and Extract. -/
import Derived.Test.YtejlmgbmfeacdaaDoorMHma
import Derived.Test.YtejlmgbmfeacdaaDoorYMk
import Derived.Test.YtejlmgbmfeacdaaDoorBase
import Derived.Test.YtejlmgbmfeacdaaDoorGApp
import Derived.Stop.Joined
import Derived.Lib.LaidU8
import Derived.Lay
import Derived.LaidMore
import Derived.HandedShaped
import Derived.SevenTiedAt
import Derived.Test.YtejlmgbmfeacdaaDoorTie
import Derived.Test.YtejlmgbmfeacdaaDoorCards
namespace Go.Proofs.YtejlmgbmfeacdaaDoor
open Go.RowKit
set_option linter.unusedVariables false
set_option linter.unusedSimpArgs false

theorem cdig_ok (kind : Int) (bv : Value) (b : List Nat) (w : World) (hR : Roots w) (hC : Csts w) (h1 : 1 ≤ kind) (h7 : kind ≤ 7) (rb : Row .u8 256 w bv b) (tb : Tidy bv) (hbl : b.length ≤ 100000) :
    Calls Tryd.prog 10 #[.int .i64 kind, bv] w fun e w' => ∃ v', e = .returned (.tuple #[v', .int .i64 0]) ∧ Own 5 .u8 256 w' w.heap.size v' (digD kind b) ∧ Below w.heap.size w w' :=
  cdig_of kind bv b w (sizeD_pos h1 h7) (beh_e kind h1 h7 w hR hC) rb tb hbl
set_option maxHeartbeats 2000000 in
set_option maxRecDepth 100000 in
theorem cdig_no (kind : Int) (bv : Value) (w : World) (h : sizeD kind = 0) : Calls Tryd.prog 10 #[.int .i64 kind, bv] w fun e w' => e = .returned (.tuple #[.slice none 0 0, .int .i64 9]) ∧ w' = w := by
  have hs := fun x => csize_any kind x
  rw [h] at hs
  clear h
  go_enter Tryd.func10, Tryd.ntmps10
  go_wp2_with (first
    | (go_at_call 11; refine (hs _).mono ?_; rintro e x1 ⟨rfl, hx⟩; obtain rfl := hx.symm)
    | fail)
  go_ret2
  exact ⟨rfl, rfl⟩
set_option maxHeartbeats 2000000 in
set_option maxRecDepth 100000 in
theorem chmac_ok (kind : Int) (key b : List Nat) (kv bv : Value) (w : World) (hR : Roots w) (hC : Csts w) (h1 : 1 ≤ kind) (h5 : kind ≤ 5) (rk : Row .u8 256 w kv key) (tk : Tidy kv) (rb : Row .u8 256 w bv b) (tb : Tidy bv) (hkl : key.length ≤ 100000) (hbl : b.length ≤ 100000) :
    Calls Tryd.prog 8 #[.int .i64 kind, kv, bv] w fun e w' => ∃ v', e = .returned (.tuple #[v', .int .i64 0]) ∧ Own 5 .u8 256 w' w.heap.size v' (hmacD (digD kind) (blkD kind) key b) ∧ Below w.heap.size w w' := by
  have hblk := fun x => cblk_any kind x
  have z0 : (((bkD kind : Nat) : Int) == 0) = false := by rw [beq_eq_false_iff_ne]; have := bkD_pos h1 h5; omega
  have hke := keyed_any kind key kv w h1 h5 (beh_e kind h1 (by omega) w hR hC) rk tk hkl
  generalize bkD kind = B at *
  have eb : [] ++ [b].flatten = b := by simp
  obtain ⟨ba, bc, rfl⟩ := rb.form
  obtain ⟨ka, kc, rfl⟩ := rk.form
  go_enter Tryd.func8, Tryd.ntmps8
  go_wp2_with (first
    | (go_at_call 12; refine (hblk _).mono ?_; rintro e x1 ⟨rfl, hx⟩; obtain rfl := hx.symm)
    | (go_at_call 13; refine hke.mono ?_; rintro e x1 ⟨fn, cap, rfl, hD, hb1⟩; have hen := hD.enters)
    | fail)
  refine (hD.calls _ _ [b] (keep_alloc _ _) (rows_lit1 (rb.below hb1) tb) (by simpa using hbl)).mono ?_
  rintro e x2 ⟨v2, rfl, hO, hb2⟩
  rw [eb] at hO
  go_wp2_with fail
  go_ret2
  exact ⟨_, rfl, hO.mono (keep_trans hb1 (keep_alloc _ _)).size, keep_trans (keep_trans hb1 (keep_alloc _ _)) hb2⟩
set_option maxHeartbeats 2000000 in
set_option maxRecDepth 100000 in
theorem chmac_no (kind : Int) (kv bv : Value) (w : World) (h : kind < 1 ∨ 5 < kind) : Calls Tryd.prog 8 #[.int .i64 kind, kv, bv] w fun e w' => e = .returned (.tuple #[.slice none 0 0, .int .i64 9]) ∧ w' = w := by
  have hblk := fun x => cblk_any kind x
  rw [bkD_no h] at hblk
  clear h
  go_enter Tryd.func8, Tryd.ntmps8
  go_wp2_with (first
    | (go_at_call 12; refine (hblk _).mono ?_; rintro e x1 ⟨rfl, hx⟩; obtain rfl := hx.symm)
    | fail)
  go_ret2
  exact ⟨rfl, rfl⟩
end Go.Proofs.YtejlmgbmfeacdaaDoor

/- The chapter's examples of mac: awake. -/
namespace Go.Proofs.YtejlmgbmfeacdaaDoor
open Go.RowKit
set_option linter.unusedVariables false
set_option linter.unusedSimpArgs false

theorem hmac_32 : (hmacD (digD 1) (blkD 1) [] []).length = 32 := digD_length (by decide) _
set_option maxHeartbeats 2000000 in
set_option maxRecDepth 100000 in
theorem awake_any (w : World) (hR : Roots w) (hC : Csts w) : Calls Tryd.prog 4 #[] w fun e w' => e = .returned (.bool true) ∧ Below w.heap.size w w' := by
  have hh := chmac_ok 1 [] [] (.slice none 0 0) (.slice none 0 0) w hR hC (by decide) (by decide) (Row.nil _ _ _) tidy_nil (Row.nil _ _ _) tidy_nil (by decide) (by decide)
  have hl := hmac_32
  have hx : (hmacD (digD 1) (blkD 1) [] []).take 4 = [182, 19, 103, 154] := hmac_ex
  generalize hmacD (digD 1) (blkD 1) [] [] = O at *
  have hs9 := fun x => csize_any 9 x
  have s9 : sizeD 9 = 0 := by decide
  rw [s9] at hs9
  go_enter Tryd.func4, Tryd.ntmps4
  go_wp2_with fail
  refine hh.mono ?_
  rintro e w2 ⟨v2, rfl, hO2, hb2⟩
  have r2 := hO2.row
  obtain ⟨a2, c2, rfl, g2, g3⟩ : ∃ a c, v2 = .slice a 32 c ∧ 32 ≤ c ∧ c ≤ 9223372036854775807 := by
    obtain ⟨a, c, h1, h2, h3, _⟩ := r2.opens hl
    exact ⟨a, c, h1, h2, h3⟩
  clear hh hO2
  have he := cexp_ok 1 [] [] (.slice none 0 0) (.slice none 0 0) 0 w2 (hR.below hb2) (hC.below hb2) (by decide) (by decide) (Row.nil _ _ _) tidy_nil (Row.nil _ _ _) tidy_nil (by decide) (by decide) (by decide)
  have e0 : expD (digD 1) (blkD 1) [] [] 0 = [] := by unfold expD; rw [List.take_zero]
  rw [e0] at he
  go_wp2_with fail
  refine he.mono ?_
  rintro e w4 ⟨v4, rfl, r4, hb4⟩
  obtain ⟨a4, c4, rfl⟩ := r4.form
  have r5 := (r2.below hb4).cut (M := 4) (by rw [hl]; decide)
  rw [hx] at r5
  have hb5 := keep_trans hb2 hb4
  rw [List.length_nil]
  clear he hb2 hb4 r2 r4
  have lit := lit_row .u8 256 w4 [182, 19, 103, 154] 5 (dec_under (by decide)) (by decide)
  have i4 : (4 : Int) ≤ (c2 : Int) := by omega
  go_wp2_with fail
  refine (rsame_true _ _ _ _ (r5.below (keep_alloc _ _)) lit).mono ?_
  rintro e w6 ⟨rfl, hb6⟩
  have hb7 := keep_trans hb5 (keep_trans (keep_alloc w4 _) hb6)
  clear r5 lit hb5 hb6
  go_wp2_with (first
    | (go_at_call 11; refine (hs9 _).mono ?_; rintro e x1 ⟨rfl, hx⟩; obtain rfl := hx.symm)
    | fail)
  go_ret
  exact ⟨rfl, hb7⟩
end Go.Proofs.YtejlmgbmfeacdaaDoor

/- The three tables that mac's sums lean on, as the row lists them. -/
namespace Go.Proofs.YtejlmgbmfeacdaaDoor
open Go.ChangeShapes Go.WideShapes Go.ChangeAt Go.RowKit Go.Lib
set_option linter.unusedVariables false
set_option linter.unusedSimpArgs false

/-- a law's frame where the row lists variables: the contract is told that they read so, and that the world is well shaped -/
theorem change_laid_shaped {H : Type} {enc : TypeId × Value → H} {a : Assume} {C : Checked} {os : Os} {f : FuncId} {fn : Func} {s : ChangeSpec} {conds : List PathCond} {apart fresh handsOn again : Bool} {X : World → Array Value → Prop}
    (hX : ∀ (w w' : World) (args : Array Value), w.heap = w'.heap → X w args → X w' args)
    (own : ownKnob C.prog.godebug = none) (started : os.Started) (noInit : C.prog.inits.idxOf? f = none) (hfn : C.prog.funcs[f]? = some fn)
    (witness : ∃ (w : World) (tape : Tape) (i : Input), w.os = os ∧ (w.forCall tape i).Shaped C.prog ∧ i.vars = [] ∧ Input.okWide C.prog (w.forCall tape i) .any w.heap.size f i ∧
      ((s.pre enc C.prog fn conds apart (w.forCall tape i).memory i.args ∧ X (w.forCall tape i).memory i.args) ∧ sizedMet enc C.prog fn (OpenSpec.ofChange s) apart (w.forCall tape i).memory i.args) ∧ a.holds C.prog (lone (Frame.enter C.prog f i.args .normal) [] (w.forCall tape i)))
    (contract : ∀ (W : World) (base : Nat) (args : Array Value) (ds gs : List (DataW H)) (before : List MemPlace),
      (∀ (j : Nat) t v, fn.params[j]? = some t → args[j]? = some v → Value.okWide C.prog W .any base t v) →
      DataW.Whole enc C.prog fn.params.toList s.vars apart W args.toList ds gs before →
      (DataW.weightsEach C.prog (fn.params.toList ++ s.plain.varTypes C.prog) (ds ++ gs)).all (· ≤ reachBytes) = true → X W args → W.ShapedOpen C.prog →
      Calls C.prog f args W fun e W' => ∃ v, e = .returned v ∧ s.post enc C.prog fn apart fresh handsOn again W args v W') :
    ReturnsInHanded a C os f .any (fun w args => (s.pre enc C.prog fn conds apart w args ∧ X w args) ∧ sizedMet enc C.prog fn (OpenSpec.ofChange s) apart w args) (s.post enc C.prog fn apart fresh handsOn again) := by
  refine returnsInHanded_of_calls own started noInit witness ?_
  intro w tape i _ hsh _ hok hpre _
  obtain ⟨_, _, _, fn', hfn', _, _, _, _, hval⟩ := hok
  obtain rfl : fn' = fn := Option.some.inj (hfn'.symm.trans hfn)
  obtain ⟨⟨⟨ds, gs, before, hw, hc⟩, hx⟩, hz⟩ := hpre
  have hw' := DataW.Whole.of_heap (w' := w.forCall tape i) (by rfl) hw
  refine (contract (w.forCall tape i) w.heap.size i.args ds gs before hval hw' (hz.weights hw) (hX _ _ _ (by rfl) hx) hsh).mono fun e W' ⟨v, he, hp⟩ => ?_
  subst he
  exact ChangeSpec.post_blind hp

theorem tabC : (Rows.laid_apostille_sha_cubeRoots : DataW Unit) = tabData .u64 (cubes.map Int.ofNat) := by kernel_rfl
theorem tabS : (Rows.laid_apostille_sha_squareRoots : DataW Unit) = tabData .u64 (squares.map Int.ofNat) := by kernel_rfl
theorem tabK : (Rows.laid_apostille_keccak_constants : DataW Unit) = tabData .u64 (csts.map Int.ofNat) := by kernel_rfl
theorem tab_cells {w : World} {n : String} {g : Nat} {t : TypeId} {l : List Nat} (hn : Tryd.prog.globalNamed n = some g) (hy : (Tryd.prog.globals[g]?).map (·.type) = some t) (ht : Tryd.prog.underlying t = some (.array l.length 37)) (hc : Tryd.prog.cellsOf t = l.length) (hc1 : Tryd.prog.cellsOf 37 = 1)
    (h : VarReads Tryd.prog w n (tabData .u64 (l.map Int.ofNat))) : w.rangeAt g 0 (vals .u64 l) := by
  obtain ⟨g', t', cs, fuel, p, hg, hty, hvar, hd⟩ := h
  obtain rfl := Option.some.inj (hn.symm.trans hg)
  obtain rfl := Option.some.inj (hy.symm.trans hty)
  have hcs := cells_of_tab ht Tryd.underlying37 hc1 hc hd
  intro j v hv
  have := World.var?_cell hg hvar j
  rw [Nat.zero_add, this, ← Array.getElem?_toList, hcs]
  simpa [vals] using hv
def Vars (w : World) : Prop := Roots w ∧ Csts w
theorem under24 : Tryd.prog.underlying 102 = some (.array csts.length 37) := by rw [csts_length]; exact Tryd.underlying102
theorem cells24 : Tryd.prog.cellsOf 102 = csts.length := by rw [csts_length]; kernel_rfl
set_option maxRecDepth 100000 in
theorem vars_of_laid {W : World} (h : laidMetH Tryd.prog [("apostille/keccak.constants", Rows.laid_apostille_keccak_constants), ("apostille/sha.cubeRoots", Rows.laid_apostille_sha_cubeRoots), ("apostille/sha.squareRoots", Rows.laid_apostille_sha_squareRoots)] W) (hsh : W.ShapedOpen Tryd.prog) : Vars W := by
  rw [MakeChecks.laidMetH_plain _ _ _ (by kernel_rfl)] at h
  rw [tabC, tabS, tabK] at h
  exact ⟨⟨tab_cells (by kernel_rfl) (by kernel_rfl) Tryd.underlying92 (by kernel_rfl) (by kernel_rfl) (Lib.laidMet.reads h (.tail _ (.head _))), tab_cells (by kernel_rfl) (by kernel_rfl) Tryd.underlying69 (by kernel_rfl) (by kernel_rfl) (Lib.laidMet.reads h (.tail _ (.tail _ (.head _))))⟩, tab_cells (t := 102) (by kernel_rfl) (by kernel_rfl) under24 cells24 (by kernel_rfl) (Lib.laidMet.reads h (.head _))⟩
theorem isRow_tidy {k : IntKind} {w : World} {a : Option Addr} {len cap : Nat} {zs : List Int} (h : IsRow k w a len cap zs) : Tidy (.slice a len cap) := by
  rcases h with ⟨rfl, rfl, rfl, rfl⟩ | ⟨x, rfl, _⟩
  · exact fun n c he => by simp at he; omega
  · exact fun _ _ h => by cases h
end Go.Proofs.YtejlmgbmfeacdaaDoor
