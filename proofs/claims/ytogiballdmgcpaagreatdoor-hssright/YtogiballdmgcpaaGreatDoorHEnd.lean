/- Contracts of sha.end, Sum, End. -/
import Derived.Test.YtogiballdmgcpaaGreatDoorHSl
import Derived.Test.YtogiballdmgcpaaGreatDoorHTak64
import Derived.Test.YtogiballdmgcpaaGreatDoorHKi2
import Derived.Test.YtogiballdmgcpaaGreatDoorBase
import Derived.Test.YtogiballdmgcpaaGreatDoorHMix64
import Derived.Test.YtogiballdmgcpaaGreatDoorHaM
import Derived.Lib.SlBytesConst
import Derived.Stop.Joined
import Derived.Lib.LaidU8
import Derived.Lay
import Derived.LaidMore
import Derived.HandedShaped
import Derived.SevenTiedAt
import Derived.Test.YtogiballdmgcpaaGreatDoorTie
import Derived.Test.YtogiballdmgcpaaGreatDoorCards
import Derived.Deep.Slices
import Derived.OrdersHeld
import Derived.Deep.RegionHeld3
namespace Go.Proofs.YtogiballdmgcpaaGreatDoor
open Go.RowKit
set_option linter.unusedVariables false
set_option linter.unusedSimpArgs false

/-- how many bytes a kind's sum has -/
def outn (kind : Int) : Nat := if kind = 1 then 32 else if kind = 2 then 48 else 64
set_option maxHeartbeats 2000000 in
set_option maxRecDepth 100000 in
theorem send_1 (ws : List Nat) (tv : Value) (tl : List Nat) (size : Nat) (w : World) (hT : Roots w) (h8 : ws.length = 8) (hu : Under 4294967296 ws) (hRt : Row .u8 256 w tv tl) (tT : Tidy tv) (htl : tl.length ≤ 100000) (hsz : size < 1152921504606846976) :
    Calls Tryz.prog 121 #[.agg (hv 1 ws tv size)] w fun e w' => ∃ v', e = .returned v' ∧ Own 5 .u8 256 w' w.heap.size v' (endS false ws tl size 32) ∧ Below w.heap.size w w' := by
  have hb0 := keep_alloc w (.cells (hv 1 ws tv size) 146)
  have hf := finish_any32 1 ws tv tl size 32 _ (hT.below hb0) h8 hu (hRt.below hb0) tT htl hsz (by decide)
  obtain ⟨ta, tc, rfl⟩ := hRt.form
  unfold hv at *
  go_enter Tryz.func121, Tryz.ntmps121
  go_wp2_with (first | (go_at_call 132; refine hf.mono ?_; rintro e w1 ⟨v1, rfl, hO1, hb1⟩) | fail)
  go_ret
  exact ⟨_, rfl, hO1.mono (by simp), keep_trans hb0 hb1⟩

set_option maxHeartbeats 2000000 in
set_option maxRecDepth 100000 in
theorem send_2 (ws : List Nat) (tv : Value) (tl : List Nat) (size : Nat) (w : World) (hT : Roots w) (h8 : ws.length = 8) (hu : Under 18446744073709551616 ws) (hRt : Row .u8 256 w tv tl) (tT : Tidy tv) (htl : tl.length ≤ 100000) (hsz : size < 1152921504606846976) :
    Calls Tryz.prog 121 #[.agg (hv 2 ws tv size)] w fun e w' => ∃ v', e = .returned v' ∧ Own 5 .u8 256 w' w.heap.size v' (endS true ws tl size 48) ∧ Below w.heap.size w w' := by
  have hb0 := keep_alloc w (.cells (hv 2 ws tv size) 146)
  have hf := finish_any64 2 ws tv tl size 48 _ (hT.below hb0) h8 hu (hRt.below hb0) tT htl hsz (by decide)
  obtain ⟨ta, tc, rfl⟩ := hRt.form
  unfold hv at *
  go_enter Tryz.func121, Tryz.ntmps121
  go_wp2_with (first | (go_at_call 133; refine hf.mono ?_; rintro e w1 ⟨v1, rfl, hO1, hb1⟩) | fail)
  go_ret
  exact ⟨_, rfl, hO1.mono (by simp), keep_trans hb0 hb1⟩

set_option maxHeartbeats 2000000 in
set_option maxRecDepth 100000 in
theorem send_3 (ws : List Nat) (tv : Value) (tl : List Nat) (size : Nat) (w : World) (hT : Roots w) (h8 : ws.length = 8) (hu : Under 18446744073709551616 ws) (hRt : Row .u8 256 w tv tl) (tT : Tidy tv) (htl : tl.length ≤ 100000) (hsz : size < 1152921504606846976) :
    Calls Tryz.prog 121 #[.agg (hv 3 ws tv size)] w fun e w' => ∃ v', e = .returned v' ∧ Own 5 .u8 256 w' w.heap.size v' (endS true ws tl size 64) ∧ Below w.heap.size w w' := by
  have hb0 := keep_alloc w (.cells (hv 3 ws tv size) 146)
  have hf := finish_any64 3 ws tv tl size 64 _ (hT.below hb0) h8 hu (hRt.below hb0) tT htl hsz (by decide)
  obtain ⟨ta, tc, rfl⟩ := hRt.form
  unfold hv at *
  go_enter Tryz.func121, Tryz.ntmps121
  go_wp2_with (first | (go_at_call 133; refine hf.mono ?_; rintro e w1 ⟨v1, rfl, hO1, hb1⟩) | fail)
  go_ret
  exact ⟨_, rfl, hO1.mono (by simp), keep_trans hb0 hb1⟩

theorem send_any (kind : Int) (hk : kind = 1 ∨ kind = 2 ∨ kind = 3) (ws : List Nat) (tv : Value) (tl : List Nat) (size : Nat) (w : World) (hT : Roots w) (h8 : ws.length = 8) (hu : Under (wm (wide kind)) ws) (hRt : Row .u8 256 w tv tl) (tT : Tidy tv) (htl : tl.length ≤ 100000) (hsz : size < 1152921504606846976) :
    Calls Tryz.prog 121 #[.agg (hv kind ws tv size)] w fun e w' => ∃ v', e = .returned v' ∧ Own 5 .u8 256 w' w.heap.size v' (endS (wide kind) ws tl size (outn kind)) ∧ Below w.heap.size w w' := by
  rcases hk with rfl | rfl | rfl
  · exact send_1 ws tv tl size w hT h8 hu hRt tT htl hsz
  · exact send_2 ws tv tl size w hT h8 hu hRt tT htl hsz
  · exact send_3 ws tv tl size w hT h8 hu hRt tT htl hsz

end Go.Proofs.YtogiballdmgcpaaGreatDoor

/- Contract of sha.Sum. -/
namespace Go.Proofs.YtogiballdmgcpaaGreatDoor
open Go.RowKit
set_option linter.unusedVariables false
set_option linter.unusedSimpArgs false

set_option maxHeartbeats 2000000 in
set_option maxRecDepth 100000 in
theorem sum_1 (bv : Value) (b : List Nat) (w : World) (hT : Roots w) (hR : Row .u8 256 w bv b) (tB : Tidy bv) (hbl : b.length ≤ 100000) :
    Calls Tryz.prog 107 #[.int .i64 1, bv] w fun e w' => ∃ v', e = .returned (.tuple #[v', .int .i64 0]) ∧ Own 5 .u8 256 w' w.heap.size v' (endS (wide 1) (ini 1) b b.length (outn 1)) ∧ Below w.heap.size w w' := by
  have h8 : (ini 1).length = 8 := by decide
  have hu : Under (wm (wide 1)) (ini 1) := dec_under (by decide)
  have hnew := new_1 w hT
  obtain ⟨ba, bc, rfl⟩ := hR.form
  have hse := fun w1 (hb1 : Below w.heap.size w w1) => send_any 1 (by decide) (ini 1) (.slice ba b.length bc) b b.length _ ((hT.below hb1).below (keep_alloc w1 (.cells (hv 1 (ini 1) (.slice ba b.length bc) b.length) 146))) h8 hu ((hR.below hb1).below (keep_alloc w1 (.cells (hv 1 (ini 1) (.slice ba b.length bc) b.length) 146))) tB hbl (by omega)
  generalize ini 1 = E at *
  have hwr : IntKind.u64.wrap (b.length : Int) = (b.length : Int) := by rw [IntKind.wrap_u64]; omega
  unfold hv at *
  go_enter Tryz.func107, Tryz.ntmps107
  go_wp2_with (first
    | (go_at_call 120; refine hnew.mono ?_; rintro e w1 ⟨rfl, hb1⟩)
    | (go_at_call 121; refine (hse w1 hb1).mono ?_; rintro e w2 ⟨v2, rfl, hO2, hb2⟩)
    | fail)
  go_ret2
  exact ⟨_, rfl, hO2.mono (by have := hb1.size; simp; omega), keep_trans (keep_trans hb1 (keep_alloc _ _)) hb2⟩

end Go.Proofs.YtogiballdmgcpaaGreatDoor

/- Plain facts for the law of what fills up a text. -/
namespace Go.Proofs.YtogiballdmgcpaaGreatDoor

theorem num_be4 (n : Nat) (hn : n < 4294967296) : numL (leL n 4).reverse = n := by
  have e : (leL n 4).reverse = [n / 16777216 % 256, n / 65536 % 256, n / 256 % 256, n % 256] := by
    simp [leL, List.range_succ]
  rw [e]
  simp only [numL, List.foldl]
  omega
end Go.Proofs.YtogiballdmgcpaaGreatDoor

/- The two tables of roots, as the row lists them. -/
namespace Go.Proofs.YtogiballdmgcpaaGreatDoor
open Go.ChangeShapes Go.WideShapes Go.ChangeAt Go.RowKit Go.Lib
set_option linter.unusedVariables false
set_option linter.unusedSimpArgs false

/-- a law's frame where the row lists variables: the contract is told that they read so, and that the world is well shaped -/
theorem change_laid_shaped {H : Type} {enc : TypeId × Value → H} {a : Assume} {C : Checked} {os : Os} {f : FuncId} {fn : Func} {s : ChangeSpec} {conds : List PathCond} {apart fresh handsOn again : Bool} {X : World → Array Value → Prop}
    (hX : ∀ (w w' : World) (args : Array Value), w.heap = w'.heap → X w args → X w' args)
    (own : ownKnob C.prog.godebug = none) (started : os.Started) (noInit : C.prog.inits.idxOf? f = none) (hfn : C.prog.funcs[f]? = some fn)
    (witness : ∃ (w : World) (tape : Tape) (i : Input), w.os = os ∧ (w.forCall tape i).Shaped C.prog ∧ i.vars = [] ∧ Input.okWide C.prog (w.forCall tape i) .any w.heap.size f i ∧
      ((s.pre enc C.prog fn conds apart (w.forCall tape i).memory i.args ∧ X (w.forCall tape i).memory i.args) ∧ sizedMet enc C.prog fn (OpenSpec.ofChange s) apart (w.forCall tape i).memory i.args) ∧ a.holds C.prog (lone (Frame.enter C.prog f i.args .normal) [] (w.forCall tape i)))
    (contract : ∀ (W : World) (base : Nat) (args : Array Value) (ds gs : List (DataW H)) (before : List MemPlace),
      (∀ (j : Nat) t v, fn.params[j]? = some t → args[j]? = some v → Value.okWide C.prog W .any base t v) →
      DataW.Whole enc C.prog fn.params.toList s.vars apart W args.toList ds gs before →
      (DataW.weightsEach C.prog (fn.params.toList ++ s.plain.varTypes C.prog) (ds ++ gs)).all (· ≤ reachBytes) = true → X W args → W.ShapedOpen C.prog →
      Calls C.prog f args W fun e W' => ∃ v, e = .returned v ∧ s.post enc C.prog fn apart fresh handsOn again W args v W') :
    ReturnsInHanded a C os f .any (fun w args => (s.pre enc C.prog fn conds apart w args ∧ X w args) ∧ sizedMet enc C.prog fn (OpenSpec.ofChange s) apart w args) (s.post enc C.prog fn apart fresh handsOn again) := by
  refine returnsInHanded_of_calls own started noInit witness ?_
  intro w tape i _ hsh _ hok hpre _
  obtain ⟨_, _, _, fn', hfn', _, _, _, _, hval⟩ := hok
  obtain rfl : fn' = fn := Option.some.inj (hfn'.symm.trans hfn)
  obtain ⟨⟨⟨ds, gs, before, hw, hc⟩, hx⟩, hz⟩ := hpre
  have hw' := DataW.Whole.of_heap (w' := w.forCall tape i) (by rfl) hw
  refine (contract (w.forCall tape i) w.heap.size i.args ds gs before hval hw' (hz.weights hw) (hX _ _ _ (by rfl) hx) hsh).mono fun e W' ⟨v, he, hp⟩ => ?_
  subst he
  exact ChangeSpec.post_blind hp

theorem tabC : (Rows.laid_apostille_sha_cubeRoots : DataW Unit) = tabData .u64 (cubes.map Int.ofNat) := by kernel_rfl
theorem tabS : (Rows.laid_apostille_sha_squareRoots : DataW Unit) = tabData .u64 (squares.map Int.ofNat) := by kernel_rfl
theorem tab_cells {w : World} {n : String} {g : Nat} {t : TypeId} {l : List Nat} (hn : Tryz.prog.globalNamed n = some g) (hy : (Tryz.prog.globals[g]?).map (·.type) = some t) (ht : Tryz.prog.underlying t = some (.array l.length 26)) (hc : Tryz.prog.cellsOf t = l.length) (hc1 : Tryz.prog.cellsOf 26 = 1)
    (h : VarReads Tryz.prog w n (tabData .u64 (l.map Int.ofNat))) : w.rangeAt g 0 (vals .u64 l) := by
  obtain ⟨g', t', cs, fuel, p, hg, hty, hvar, hd⟩ := h
  obtain rfl := Option.some.inj (hn.symm.trans hg)
  obtain rfl := Option.some.inj (hy.symm.trans hty)
  have hcs := cells_of_tab ht Tryz.underlying26 hc1 hc hd
  intro j v hv
  have := World.var?_cell hg hvar j
  rw [Nat.zero_add, this, ← Array.getElem?_toList, hcs]
  simpa [vals] using hv
def Vars (w : World) : Prop := Roots w
set_option maxRecDepth 100000 in
theorem vars_of_laid {W : World} (h : laidMetH Tryz.prog [("apostille/sha.cubeRoots", Rows.laid_apostille_sha_cubeRoots), ("apostille/sha.squareRoots", Rows.laid_apostille_sha_squareRoots)] W) (hsh : W.ShapedOpen Tryz.prog) : Vars W := by
  rw [MakeChecks.laidMetH_plain _ _ _ (by kernel_rfl)] at h
  rw [tabC, tabS] at h
  exact ⟨tab_cells (by kernel_rfl) (by kernel_rfl) Tryz.underlying174 (by kernel_rfl) (by kernel_rfl) (Lib.laidMet.reads h (.head _)), tab_cells (by kernel_rfl) (by kernel_rfl) Tryz.underlying167 (by kernel_rfl) (by kernel_rfl) (Lib.laidMet.reads h (.tail _ (.head _)))⟩
end Go.Proofs.YtogiballdmgcpaaGreatDoor

/- An append whose second argument is a slice of another named type. -/
namespace Go.Proofs.YtogiballdmgcpaaGreatDoor
open Go.RowKit
set_option linter.unusedVariables false

theorem append_types {P : Program} (w : World) (t tx ty e e' : TypeId) (ht : P.underlying t = some (.slice e)) (hx : P.underlying tx = some (.slice e')) (v x : Value) :
    (Builtin.append_ #[t, tx] ty #[v, x]).run P w = (Builtin.append_ #[t, t] ty #[v, x]).run P w := by
  unfold Builtin.append_
  simp only [List.getElem?_toArray, List.getElem?_cons_zero, List.getElem?_cons_succ, Sem.run_bind, run_underlying ht, Result.andThen_ok]
  cases v <;> try rfl
  simp only [Sem.run_bind]
  cases (sizeOf e).run P w
  · simp only [Result.andThen, run_underlying ht, run_underlying hx]
  all_goals rfl

end Go.Proofs.YtogiballdmgcpaaGreatDoor

/- An append of a slice whatever it is (nil, empty or not); texts one behind the other. -/
namespace Go.Proofs.YtogiballdmgcpaaGreatDoor
open Go.RowKit Go.Deep
set_option linter.unusedVariables false

theorem run_append_none2 {P : Program} (w : World) (base : Nat) (t tx ty e e' : TypeId) (i : TypeInfo) (size : Nat) (ht : P.underlying t = some (.slice e)) (htx : P.underlying tx = some (.slice e')) (hi : P.info? e = some i)
    (v : Value) (n c : Nat) (xs : List Value) (hown : w.ownsRow base e size v n xs) : (Builtin.append_ #[t, tx] ty #[v, .slice none 0 c]).run P w = .ok v w := by
  rw [append_types w t tx ty e e' ht htx]
  rcases hown.2 with ⟨rfl, rfl⟩ | ⟨g, cap, cur, rfl, _, _, hnc, _⟩
  · simp [Builtin.append_, run_underlying ht, sizeOf, typeInfo, hi, Builtin.lenOf, Builtin.firstCells]
  · simp [Builtin.append_, run_underlying ht, sizeOf, typeInfo, hi, Builtin.lenOf, Builtin.firstCells, hnc, storeCells]
theorem grown_refl (w : World) (r : Option Nat) : w.grownBy w r := ⟨rfl, rfl, rfl, Nat.le_refl _, fun _ _ _ => rfl⟩

theorem run_append_rows {P : Program} (w : World) (t tx ty e' : TypeId) (htx : P.underlying tx = some (.slice e'))
    (base : Nat) (e : TypeId) (i : TypeInfo) (z : Value) (bytes : Nat) (ht : P.underlying t = some (.slice e)) (hi : P.info? e = some i) (hz : i.zero = some z)
    (hsize : i.size = 1) (hby : i.bytes = bytes) (hzs : z.cells.size = 1) (v : Value) (n : Nat) (xs : List Value) (hown : w.ownsRow base e 1 v n xs)
    (ad : Option Addr) (m c : Nat) (news : List Value) (hl : news.length = m)
    (hnews : 0 < m → ∃ b off, ad = some ⟨b, off, none⟩ ∧ ∀ j u, news[j]? = some u → w.cell? ⟨b, off + j, none⟩ = some u) (h1 : ∀ u ∈ news, u.oneCell' = true)
    (h63 : n + m ≤ maxLen) (hbytes : (n + m) * bytes ≤ 140737488355328) (hbase : base ≤ w.heap.size) :
    ∃ v' w', (Builtin.append_ #[t, tx] ty #[v, .slice ad m c]).run P w = .ok v' w' ∧ w'.ownsRow base e 1 v' (n + m) (xs ++ news) ∧ w.grownBy w' v.ownBlock := by
  cases ad with
  | none =>
    have hm : m = 0 := by
      rcases Nat.eq_zero_or_pos m with h0 | h0
      · exact h0
      · obtain ⟨_, _, h2, _⟩ := hnews h0; cases h2
    subst hm
    have hn0 : news = [] := List.eq_nil_of_length_eq_zero hl
    subst hn0
    exact ⟨v, w, run_append_none2 (P := P) w base t tx ty e e' i 1 ht htx hi v n c xs hown, by rw [List.append_nil]; exact hown, grown_refl _ _⟩
  | some x0 =>
    obtain ⟨v', w', hr, h2, h3, _⟩ := run_append_own (P := P) w base t ty e i z 1 bytes ht hi hz hsize hby hzs (by decide) v n xs hown x0 m c news (by rw [hl, Nat.mul_one]) (by
      intro j u hj
      have hj' : j < news.length := (List.getElem?_eq_some_iff.1 hj).1
      obtain ⟨b, off, h2, h3⟩ := hnews (by omega)
      obtain rfl := Option.some.inj h2
      rw [Addr.add_lit]
      exact h3 j u hj) h1 h63 hbytes hbase
    rw [← append_types w t tx ty e e' ht htx] at hr
    exact ⟨v', w', hr, h2, h3⟩
theorem wp_append_rows {P : Program} (w : World) {o : Oper} {a : Act} {K : Act → World → Prop} {Q : Exit → Act → World → Prop} (s x : Operand) (t tx e' : TypeId)
    (ho : o.op = .call { callee := .builtin .append, args := #[s, x], argTypes := #[t, tx] }) (htx : P.underlying tx = some (.slice e'))
    (base : Nat) (e : TypeId) (i : TypeInfo) (z : Value) (bytes : Nat) (ht : P.underlying t = some (.slice e)) (hi : P.info? e = some i) (hz : i.zero = some z)
    (hsize : i.size = 1) (hby : i.bytes = bytes) (hzs : z.cells.size = 1)
    (v : Value) (n : Nat) (xs : List Value) (hs : a.eval s = v) (hown : w.ownsRow base e 1 v n xs)
    (ad : Option Addr) (m c : Nat) (news : List Value) (hx : a.eval x = .slice ad m c) (hl : news.length = m)
    (hnews : 0 < m → ∃ b off, ad = some ⟨b, off, none⟩ ∧ ∀ j u, news[j]? = some u → w.cell? ⟨b, off + j, none⟩ = some u) (h1 : ∀ u ∈ news, u.oneCell' = true)
    (h63 : n + m ≤ maxLen) (hbytes : (n + m) * bytes ≤ 140737488355328) (hbase : base ≤ w.heap.size)
    (h : ∀ v' w', w'.ownsRow base e 1 v' (n + m) (xs ++ news) → w.grownBy w' v.ownBlock → K (a.put o.dst v') w') : o.wp P a w K Q := by
  obtain ⟨v', w', hr, h2, h3⟩ := run_append_rows (P := P) w t tx o.type e' htx base e i z bytes ht hi hz hsize hby hzs v n xs hown ad m c news hl hnews h1 h63 hbytes hbase
  unfold Oper.wp execOp
  simp only [ho, resolve, invoke, builtin, Sem.run_bind, Sem.run_pure, Result.andThen_ok, List.map_toArray, List.map_cons, List.map_nil, hs, hx, hr]
  exact h v' w' h2 h3
theorem Tryz.infoT : (Tryz.prog.info? 23).map (fun i => (i.zero, i.size, i.bytes)) = some (some (.slice none 0 0), 1, 24) := by kernel_rfl
theorem info_text : ∃ i, Tryz.prog.info? 23 = some i ∧ i.zero = some (.slice none 0 0) ∧ i.size = 1 ∧ i.bytes = 24 := by
  have h := Tryz.infoT
  obtain ⟨i, hi, he⟩ := Option.map_eq_some_iff.1 h
  simp only [Prod.mk.injEq] at he
  exact ⟨i, hi, he.1, he.2.1, he.2.2⟩
theorem info_byte : ∃ i, Tryz.prog.info? 5 = some i ∧ i.zero = some (.int .u8 0) ∧ i.size = 1 ∧ i.bytes = 1 := by
  have h := Tryz.info5
  obtain ⟨i, hi, he⟩ := Option.map_eq_some_iff.1 h
  simp only [Prod.mk.injEq] at he
  exact ⟨i, hi, he.1, he.2.1, he.2.2⟩

/-- values that are texts of the world w -/
def Texts (w : World) (us : List Value) (l : List (List Nat)) : Prop := us.length = l.length ∧ ∀ i, i < l.length → ∃ u, us[i]? = some u ∧ Row .u8 256 w u (tx l i) ∧ Tidy u
theorem Texts.nil (w : World) : Texts w [] [] := ⟨rfl, fun i hi => by simp at hi⟩
theorem Texts.append {w : World} {us vs : List Value} {l m : List (List Nat)} (h : Texts w us l) (k : Texts w vs m) : Texts w (us ++ vs) (l ++ m) := by
  refine ⟨by rw [List.length_append, List.length_append, h.1, k.1], fun i hi => ?_⟩
  rw [List.length_append] at hi
  by_cases hl : i < l.length
  · obtain ⟨u, hu, hr⟩ := h.2 i hl
    refine ⟨u, by rw [List.getElem?_append_left (by rw [h.1]; exact hl)]; exact hu, ?_⟩
    have e : tx (l ++ m) i = tx l i := by unfold tx; rw [List.getElem?_append_left hl]
    rw [e]; exact hr
  · obtain ⟨u, hu, hr⟩ := k.2 (i - l.length) (by omega)
    refine ⟨u, by rw [List.getElem?_append_right (by rw [h.1]; omega), h.1]; exact hu, ?_⟩
    have e : tx (l ++ m) i = tx m (i - l.length) := by unfold tx; rw [List.getElem?_append_right (by omega)]
    rw [e]; exact hr
theorem Texts.one {w : World} {u : Value} {x : List Nat} (h : Row .u8 256 w u x) (ht : Tidy u) : Texts w [u] [x] := by
  refine ⟨rfl, fun i hi => ?_⟩
  have : i = 0 := by simp at hi; omega
  subst this
  exact ⟨u, rfl, h, ht⟩
theorem Texts.below {w w' : World} {us : List Value} {l : List (List Nat)} (h : Texts w us l) (hb : Below w.heap.size w w') : Texts w' us l :=
  ⟨h.1, fun i hi => by obtain ⟨u, hu, hr, ht⟩ := h.2 i hi; exact ⟨u, hu, hr.below hb, ht⟩⟩
theorem Row.one {k : IntKind} {m : Nat} {w : World} {u : Value} {l : List Nat} (h : Row k m w u l) : u.oneCell' = true := by
  obtain ⟨a, c, rfl, _⟩ := h
  rfl
theorem Texts.cells {w : World} {us : List Value} {l : List (List Nat)} (h : Texts w us l) : ∀ u ∈ us, u.oneCell' = true := by
  intro u hu
  obtain ⟨i, hi, rfl⟩ := List.getElem_of_mem hu
  obtain ⟨u', hu', hr, _⟩ := h.2 i (by rw [← h.1]; exact hi)
  rw [List.getElem?_eq_getElem hi] at hu'
  obtain rfl := Option.some.inj hu'
  exact hr.one
/-- a slice of texts, as the values that it holds -/
theorem Rows2.texts {w : World} {v : Value} {l : List (List Nat)} (h : Rows2 w v l) : ∃ us a cap, v = .slice a l.length cap ∧ l.length ≤ cap ∧ cap ≤ 9223372036854775807 ∧ Texts w us l ∧
    (0 < l.length → ∃ b off, a = some ⟨b, off, none⟩ ∧ ∀ j u, us[j]? = some u → w.cell? ⟨b, off + j, none⟩ = some u) := by
  obtain ⟨a, cap, rfl, h1, h2, h3⟩ := h
  unfold maxLen at h2
  by_cases hl : 0 < l.length
  · obtain ⟨b, off, rfl, hc⟩ := h3 hl
    have : Inhabited Value := ⟨undef⟩
    obtain ⟨f, hf⟩ := choose_lt (α := Value) hc
    refine ⟨(List.range l.length).map f, _, cap, rfl, h1, by omega, ⟨by simp, fun i hi => ⟨f i, by simp [hi], (hf i hi).2.1, (hf i hi).2.2⟩⟩, fun _ => ⟨b, off, rfl, fun j u hj => ?_⟩⟩
    have hj' : j < l.length := by have := (List.getElem?_eq_some_iff.1 hj).1; simpa using this
    simp [hj'] at hj
    subst hj
    exact (hf j hj').1
  · have h0 : l = [] := by cases l with | nil => rfl | cons x l => simp at hl
    subst h0
    exact ⟨[], a, cap, rfl, h1, by omega, Texts.nil _, fun h => by simp at h⟩
/-- a row of the call's own that holds texts -/
theorem Texts.rows2 {w : World} {B : Nat} {v : Value} {us : List Value} {l : List (List Nat)} (h : Texts w us l) (ho : w.ownsRow B 23 1 v l.length us) : Rows2 w v l := by
  have ho' := ho
  obtain ⟨h1, ⟨rfl, h2⟩ | ⟨g, cap, cur, rfl, h3, h4, h5, h6, h7, h8⟩⟩ := ho
  · exact ⟨none, 0, by rw [h2], by omega, Nat.zero_le _, fun hl => by omega⟩
  · refine ⟨_, cap, rfl, h5, h6, fun hl => ⟨g, 0, rfl, fun i hi => ?_⟩⟩
    obtain ⟨u, hu, hr⟩ := h.2 i hi
    refine ⟨u, ?_, hr⟩
    rw [Nat.zero_add, ho'.cellAt i (by omega)]
    exact hu
end Go.Proofs.YtogiballdmgcpaaGreatDoor

/- A drawn region by a plan: which operation is taken first, which runs because it alone may come up. The orders are asked by numbers (bits), the frame is known at the slots in use alone. -/
namespace Go.Proofs.YtogiballdmgcpaaGreatDoor
open Go.RowKit
set_option linter.unusedVariables false
set_option linter.unusedSimpArgs false

/-- of an operation: for whom it waits (as bits), where it writes, what it looks at -/
abbrev Lt := Nat × Option Nat × List Nat
def aftM (o : Oper) : Nat := o.after.toList.foldl (fun s e => if Region.binds .any e then s ||| 2 ^ e.on else s) 0
def ltOf (ops : Array Oper) : List Lt := ops.toList.map fun o => (aftM o, o.dst, o.looksAt ops)
def apL (x y : Lt) : Bool :=
  (match x.2.1 with
   | some d => !y.2.2.contains d && y.2.1 != some d
   | none => true) &&
  (match y.2.1 with
   | some d => !x.2.2.contains d
   | none => true)
def rdL (x : Lt) (i m : Nat) : Bool := !m.testBit i && (x.1 &&& m == x.1)
theorem aft_bits (l : List Edge) (k : Nat) : ∀ s : Nat, (l.foldl (fun s e => if Region.binds .any e then s ||| 2 ^ e.on else s) s).testBit k = (s.testBit k || l.any (fun e => Region.binds .any e && e.on == k)) := by
  induction l with
  | nil => intro s; simp
  | cons e l ih =>
    intro s
    rw [List.foldl_cons, ih, List.any_cons]
    cases hb : Region.binds .any e
    · simp
    · simp only [if_true, Nat.testBit_or, Nat.testBit_two_pow, Bool.true_and, Bool.or_assoc]
      congr 2
theorem aftM_bit (o : Oper) (k : Nat) : (aftM o).testBit k = true ↔ ∃ e ∈ o.after, Region.binds .any e = true ∧ e.on = k := by
  unfold aftM
  rw [aft_bits]
  simp only [Nat.zero_testBit, Bool.false_or, List.any_eq_true, Bool.and_eq_true, beq_iff_eq, Array.mem_toList_iff]
theorem sub_bits (x m : Nat) : x &&& m = x ↔ ∀ k, x.testBit k = true → m.testBit k = true := by
  constructor
  · intro h k hk
    rw [← h, Nat.testBit_and, Bool.and_eq_true] at hk
    exact hk.2
  · intro h
    apply Nat.eq_of_testBit_eq
    intro k
    rw [Nat.testBit_and]
    cases hk : x.testBit k
    · rfl
    · rw [h k hk]; rfl
/-- what has come up, as bits -/
structure Lsd (n m : Nat) (listed : Array Bool) : Prop where
  size : listed.size = n
  bit : ∀ j (h : j < listed.size), listed[j] = m.testBit j
  lt : m < 2 ^ n
theorem Lsd.tru {n m : Nat} {listed : Array Bool} (h : Lsd n m listed) {j : Nat} (hj : j < n) : listed.getD j true = m.testBit j := by
  have hs : j < listed.size := by rw [h.size]; exact hj
  simp [Array.getD, hs, h.bit j hs]
theorem Lsd.fls {n m : Nat} {listed : Array Bool} (h : Lsd n m listed) (j : Nat) : listed.getD j false = m.testBit j := by
  by_cases hj : j < n
  · have hs : j < listed.size := by rw [h.size]; exact hj
    simp [Array.getD, hs, h.bit j hs]
  · have hs : ¬ j < listed.size := by rw [h.size]; exact hj
    rw [Nat.testBit_lt_two_pow (Nat.lt_of_lt_of_le h.lt (Nat.pow_le_pow_right (by decide) (by omega)))]
    simp [Array.getD, hs]
theorem Lsd.set {n m : Nat} {listed : Array Bool} (h : Lsd n m listed) {i : Nat} (hi : i < n) : Lsd n (m ||| 2 ^ i) (listed.setIfInBounds i true) := by
  refine ⟨by simp [h.size], fun j hj => ?_, Nat.or_lt_two_pow h.lt (Nat.pow_lt_pow_right (by decide) hi)⟩
  have hj' : j < listed.size := by simpa using hj
  rw [Nat.testBit_or, Nat.testBit_two_pow, Array.getElem_setIfInBounds]
  by_cases hij : i = j
  · simp [hij]
  · simp [hij, h.bit j hj']
  exact hj'
theorem Lsd.zero (n : Nat) : Lsd n 0 (Array.replicate n false) := ⟨by simp, fun j hj => by simp, Nat.two_pow_pos n⟩
section
variable {P : Program} {ops : Array Oper} {Q : Exit → Act → World → Prop} {S : World → Prop}
theorem at_lt {lt : List Lt} (hlt : ltOf ops = lt) {i : Nat} {o : Oper} (h : ops[i]? = some o) : lt[i]? = some (aftM o, o.dst, o.looksAt ops) := by
  rw [← hlt]
  unfold ltOf
  rw [List.getElem?_map, show ops.toList[i]? = some o by simpa using h]
  rfl
theorem ready_of {m : Nat} {listed : Array Bool} (h : Lsd ops.size m listed) {i : Nat} {o : Oper} (ho : ops[i]? = some o) : i ∈ Region.ready .any ops listed ↔ rdL (aftM o, o.dst, o.looksAt ops) i m = true := by
  have hi : i < ops.size := (Array.getElem?_eq_some_iff.1 ho).1
  rw [mem_ready, h.tru hi]
  unfold rdL
  simp only [Bool.and_eq_true, Bool.not_eq_true', beq_iff_eq]
  rw [sub_bits]
  constructor
  · rintro ⟨h1, o', ho', h2⟩
    obtain rfl := Option.some.inj (ho.symm.trans ho')
    refine ⟨h1, fun k hk => ?_⟩
    obtain ⟨e, he, hb, rfl⟩ := (aftM_bit o k).1 hk
    rw [← h.fls]
    exact h2 e he hb
  · rintro ⟨h1, h2⟩
    exact ⟨h1, o, ho, fun e he hb => by rw [h.fls]; exact h2 e.on ((aftM_bit o e.on).2 ⟨e, he, hb, rfl⟩)⟩
/-! ### the frame at the slots in use -/
/-! ### operations -/
theorem wanted_free {o : Oper} (hg : o.guard = none) {f : Nat → Option Bool} : Region.wanted o f = true := by simp [Region.wanted, hg]
end
end Go.Proofs.YtogiballdmgcpaaGreatDoor

/- Steps of a plan that run: a call, a store. -/
namespace Go.Proofs.YtogiballdmgcpaaGreatDoor
open Go.RowKit
set_option linter.unusedVariables false
set_option linter.unusedSimpArgs false
section
variable {P : Program} {ops : Array Oper} {Q : Exit → Act → World → Prop} {K : Act → World → Prop}
theorem p_store {i : Nat} {o : Oper} {a : Act} {w : World} {t : TypeId} {x y : Operand} {p : Addr} {k : IntKind} {z : Int} (hi : ops[i]? = some o) (hg : o.guard = none)
    (ho : o.op = .store t x y) (hd : o.dst = none) (hx : a.eval x = .pointer (some p)) (hy : a.eval y = .int k z) (hu : P.underlying t = some (.int k)) (hs : (P.info? t).map (·.size) = some 1) (hc : (w.cell? p).isSome = true) (hz : w.frozen? p = false)
    (h : K a (w.setCell p (.int k z))) : wpOp P ops Q i K a w := by
  obtain ⟨u, hc'⟩ := Option.isSome_iff_exists.1 hc
  have hr : (execOp a.eval o).run P w = .ok .skip (w.setCell p (.int k z)) := by
    have hag : (isAgg t).run P w = .ok false w := by unfold isAgg; rw [Sem.run_bind, run_underlying hu w]; rfl
    cases hq : P.info? t with
    | none => simp [hq] at hs
    | some m =>
      have hm : m.size = 1 := by simpa [hq] using hs
      unfold execOp
      simp only [ho, hx, hy]
      simp [Instr.storeAt, Instr.sureAddr, Sem.run_bind, hag, hc', hz, sizeOf, typeInfo, hq, hm, go_sem]
  unfold wpOp
  simp only [hi]
  rw [if_pos (wanted_free hg)]
  left
  unfold Oper.wp
  rw [hr]
  show K (a.put o.dst undef) _
  rw [hd]
  exact h
end
end Go.Proofs.YtogiballdmgcpaaGreatDoor
