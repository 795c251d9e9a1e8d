/- For every two tapes, every number and every list of numbers: apostillelaw13.TapeTells returns true, and each argument reads afterwards as it read before. No condition. -/
import Derived.Test.YtiedkpfpaeecfaaTFrm
import Derived.Test.YtiedkpfpaeecfaaTcR
import Derived.WalkKit
import Derived.ProofKit
import Derived.OpenShut
import Derived.ShutString
import Derived.ChangeOld
import Derived.Below
import Derived.SizedLaws
namespace Go.Proofs.Ytiedkpfpaeecfaa.tapeTells
open Go.ChangeShapes Go.WideShapes Go.ChangeAt Go.RowKit
open Go.ChangeMaps (open_string shut_string)
set_option linter.unusedVariables false

set_option maxRecDepth 100000 in
set_option maxHeartbeats 4000000 in
theorem walk (cs0 : Array Value) (tv0 : Value) (tl0 : List Nat) (tx0 : Int) (cs1 : Array Value) (tv1 : Value) (tl1 : List Nat) (tx1 : Int) (a2 : Int) (a3 : Option Addr) (len3 cap3 : Nat) (z3 : List Int) (w : World) (w0 : TIz w cs0 tv0 tl0 tx0) (w1 : TIz w cs1 tv1 tl1 tx1) (w2 : (Lit.int .i64 a2).wf = true) (w3 : IsRow .i64 w a3 len3 cap3 z3) (s3 : len3 ≤ 140737488351232) :
    Calls Try.prog 3 #[.agg cs0, .agg cs1, .int .i64 a2, .slice a3 len3 cap3] w fun e w' => e = .returned (.bool true) ∧ Below w.heap.size w w' := by
  obtain ⟨⟨rfl, _, _, r0, td0⟩, hl0⟩ := w0
  obtain ⟨⟨rfl, _, _, r1, td1⟩, hl1⟩ := w1
  obtain ⟨ks, hks, rI⟩ := w3.rowI
  clear w3 w2
  have r0' := r0
  have r1' := r1
  obtain ⟨ta, tc, rfl, _⟩ := r0'.opens rfl
  obtain ⟨va, vc, rfl, _⟩ := r1'.opens rfl
  clear r0' r1'
  obtain ⟨n0, hn0⟩ : ∃ n, tl0.length = n := ⟨_, rfl⟩
  obtain ⟨n1, hn1⟩ : ∃ n, tl1.length = n := ⟨_, rfl⟩
  rw [hn0] at r0 td0 hl0 ⊢
  rw [hn1] at r1 td1 hl1 ⊢
  obtain ⟨e4, e5, hbw⟩ := two_bx w (.slice ta n0 tc) (.int .i64 tx0) (.slice va n1 vc) (.int .i64 tx1)
  have HE := hide (And.intro e4 (And.intro e5 hbw))
  have c4 := e4.c0
  have c5 := e5.c0
  have d4 := e4.c1
  clear e4 e5
  obtain ⟨S, hS⟩ : ∃ S, n0 + n1 = S := ⟨_, rfl⟩
  have e_S : (n0 : Int) + (n1 : Int) = (S : Int) := by omega
  have s_S : IntKind.i64.wrap (S : Int) = (S : Int) := by rw [IntKind.wrap_i64]; omega
  by_cases g1 : 2000 < S
  · have g1' : (2000 : Int) < (S : Int) := by omega
    clear hS hn0 hn1 hks s3
    go_enter Try.func3, Try.ntmps3
    go_wp2_with (first
      | (go_at_call 5; refine (tawake_any _).mono ?_; rintro e x2 ⟨rfl, g2⟩)
      | fail)
    go_ret
    exact ⟨rfl, keep_trans hbw g2⟩
  have g1' : ¬ ((2000 : Int) < (S : Int)) := by omega
  by_cases g3 : 20 < len3
  · have g3' : (20 : Int) < (len3 : Int) := by omega
    clear hS hn0 hn1 hks s3
    go_enter Try.func3, Try.ntmps3
    go_wp2_with (first
      | (go_at_call 5; refine (tawake_any _).mono ?_; rintro e x2 ⟨rfl, g2⟩)
      | fail)
    go_ret
    exact ⟨rfl, keep_trans hbw g2⟩
  have g3' : ¬ ((20 : Int) < (len3 : Int)) := by omega
  have hT1 := fun y (h : Below w.heap.size w y) => tTake_any tl0 (.slice ta n0 tc) tx0 a2 y (r0.below h) td0 (by omega)
  have hT2 := fun y (h : Below w.heap.size w y) => rtake_one tl0 (.slice ta n0 tc) tx0 a2 y (r0.below h) td0
  have hP1 := fun y (h : Below w.heap.size w y) => tParts_any tl0 (.slice ta n0 tc) (.slice a3 len3 cap3) tx0 ks y (r0.below h) td0 (by omega) (rI.below h) (by omega)
  have hP2 := fun y (h : Below w.heap.size w y) => rparts_one tl0 (.slice ta n0 tc) (.slice a3 len3 cap3) tx0 ks y (r0.below h) td0 (rI.below h) (by omega)
  rw [hn0] at hT1 hT2 hP1 hP2
  generalize tkY n0 tx0 a2 = AY at *
  generalize tkC n0 tx0 a2 = EC at *
  generalize tkB tl0 tx0 a2 = TB at *
  generalize ptY n0 tx0 ks = PY at *
  generalize ptC n0 tx0 ks = PC at *
  generalize ptB tl0 tx0 ks = PL at *
  have HR := hide (And.intro r0 (And.intro r1 hn0))
  clear hS hn1 hks s3 r0 r1 rI td1
  go_enter Try.func3, Try.ntmps3
  go_wp2_with (first
    | (go_at_call 6; refine (hT1 _ hbw).mono ?_; rintro e y1 ⟨av, bv, rfl, oa, ob, g1⟩; obtain ⟨aa, ac, rfl⟩ := own_sliceA oa.1; rw [hn0] at oa; have e1 := (HE.out.1.below g1).below (keep_alloc y1 (.cells #[.slice aa n0 ac, .int .i64 AY] 24)); have f1 := e1.c0; have f1' := e1.c1; have h1 := keep_trans (keep_trans hbw g1) (keep_alloc y1 (.cells #[.slice aa n0 ac, .int .i64 AY] 24)))
    | (go_at_call 7; refine (hT2 _ h1).mono ?_; rintro e y2 ⟨dv, rfl, rd2, g2⟩; have e2 := (e1.below g2).below (keep_alloc y2 (.cells #[.slice ta n0 tc, .int .i64 AY] 24)); have f2 := e2.c0; have f2' := e2.c1; have h2 := keep_trans (keep_trans h1 g2) (keep_alloc y2 (.cells #[.slice ta n0 tc, .int .i64 AY] 24)))
    | (go_at_call 8; refine (hP1 _ h2).mono ?_; rintro e y3 ⟨xv, lv, rfl, ox, rl3, g3⟩; obtain ⟨xa, xc, rfl⟩ := own_sliceA ox.1; rw [hn0] at ox; have e3 := (e2.below g3).below (keep_alloc y3 (.cells #[.slice xa n0 xc, .int .i64 PY] 24)); have f3 := e3.c0; have f3' := e3.c1; have h3 := keep_trans (keep_trans h2 g3) (keep_alloc y3 (.cells #[.slice xa n0 xc, .int .i64 PY] 24)))
    | (go_at_call 9; refine (hP2 _ h3).mono ?_; rintro e y4 ⟨mv, rfl, rm4, g4⟩)
    | fail)
  have k4 := keep_alloc y4 (.cells #[.slice ta n0 tc, .int .i64 PY] 24)
  have k34 := keep_trans g4 k4
  have k3 := keep_trans (keep_alloc y3 (.cells #[.slice xa n0 xc, .int .i64 PY] 24)) k34
  have k23 := keep_trans g3 k3
  have k2 := keep_trans (keep_alloc y2 (.cells #[.slice ta n0 tc, .int .i64 AY] 24)) k23
  have k12 := keep_trans g2 k2
  have k1 := keep_trans (keep_alloc y1 (.cells #[.slice aa n0 ac, .int .i64 AY] 24)) k12
  have k0 := keep_trans g1 k1
  have kw := keep_trans hbw k0
  obtain ⟨e4, e5, _⟩ := HE.out
  obtain ⟨r0, r1, _⟩ := HR.out
  refine tells_reg ⟨rfl, rfl⟩ rfl rfl rfl rfl rfl rfl rfl rfl rfl rfl rfl rfl rfl rfl (e4.below k0) (e5.below k0) ((Bx2.new y1 _ _).below k12) ((Bx2.new y2 _ _).below k23) ((Bx2.new y3 _ _).below k34) (Bx2.new y4 _ _) (r0.below kw) (r1.below kw) (oa.row.below k1) (ox.row.below k3) (ob.row.below k1) (rd2.below k2) (rl3.below k3) (rm4.below k4) ?_
  intro a' y F' s8 hb
  go_wp2
  exact F'.ret1 rfl s8 ⟨rfl, keep_trans kw hb⟩

set_option maxRecDepth 100000 in
theorem lifted (os : Os) (started : os.Started) (H : Type) (enc : TypeId × Value → H) :
    ReturnsInHanded {} Try.checked os 3 .any (Rows.tapeTellsSpec.pre6 enc Try.prog Try.f3 Rows.tapeTellsRow.domain false) (Rows.tapeTellsSpec.post enc Try.prog Try.f3 false true false false) := by
  refine returnsInHanded_of_change_sized (C := Try.checked) own started (by kernel_rfl) Try.func3
    (ChangeSpec.witness6 (enc := enc) (C := Try.checked) false ⟨#[], #[.agg #[.slice none 0 0, .int .i64 0], .agg #[.slice none 0 0, .int .i64 0], .int .i64 0, .slice none 0 0], []⟩ 8 (by kernel_rfl) (by kernel_rfl) (by kernel_rfl) (by kernel_rfl)) ?_
  intro W base args ds gs before hval0 hW hcnd hsz0 _
  have hsz : (DataW.weightsEach Try.prog (Try.f3.params.toList ++ Rows.tapeTellsSpec.plain.varTypes Try.prog) (ds ++ gs)).all (· ≤ reachBytes) = true := hsz0
  clear hsz0
  have hval : ∀ (j : Nat) t v, Try.f3.params[j]? = some t → args[j]? = some v → Value.okWide Try.prog W .any base t v := hval0
  have hW' := hW
  obtain ⟨p, q, hA0, hV, rfl, hfz, hnd⟩ := hW
  have hA : DataW.TrodAll enc Try.prog W 0 (fun _ => true) true Try.f3.params.toList args.toList ds p := hA0
  rw [Try.params3] at hA hval hsz
  obtain ⟨v0, vs0, d0, ds0, p0, q0, hargs, rfl, rfl, h0, r0⟩ := trodAll_cons hA
  obtain ⟨v1, vs1, d1, ds1, p1, q1, rfl, rfl, rfl, h1, r1⟩ := trodAll_cons r0
  obtain ⟨v2, vs2, d2, ds2, p2, q2, rfl, rfl, rfl, h2, r2⟩ := trodAll_cons r1
  obtain ⟨v3, vs3, d3, ds3, p3, q3, rfl, rfl, rfl, h3, r3⟩ := trodAll_cons r2
  obtain ⟨rfl, rfl, rfl⟩ := trodAll_nil r3
  obtain rfl : args = #[v0, v1, v2, v3] := by cases args; simp_all
  obtain ⟨rfl, rfl⟩ := trodVars_none hV
  obtain ⟨cs0, rfl, hcz0⟩ := okWide_struct Try.underlying24 (hval 0 24 v0 rfl rfl)
  have k0 := h0
  have lt0 : ∀ x ∈ p0, x.block < W.heap.size := by obtain ⟨m, hm⟩ := k0; exact DataW.trod_lt m _ _ _ hm
  obtain ⟨tv0, tl0, tx0, w0⟩ : ∃ tv tl tx, TIz W cs0 tv tl tx := by
    obtain ⟨fuel, hf⟩ := h0
    exact read_tapez hsz (j := 0) rfl rfl (by simpa [Value.cells] using hf)
  obtain ⟨cs1, rfl, hcz1⟩ := okWide_struct Try.underlying24 (hval 1 24 v1 rfl rfl)
  have k1 := h1
  have lt1 : ∀ x ∈ p1, x.block < W.heap.size := by obtain ⟨m, hm⟩ := k1; exact DataW.trod_lt m _ _ _ hm
  obtain ⟨tv1, tl1, tx1, w1⟩ : ∃ tv tl tx, TIz W cs1 tv tl tx := by
    obtain ⟨fuel, hf⟩ := h1
    exact read_tapez hsz (j := 1) rfl rfl (by simpa [Value.cells] using hf)
  obtain ⟨a2, rfl, rfl, rfl, w2⟩ := open_int Try.underlying3 (hval 2 3 v2 rfl rfl) h2
  obtain ⟨a3, len3, cap3, rfl⟩ := okWide_slice Try.underlying25 (hval 3 25 v3 rfl rfl)
  have k3 := h3
  have lt3 : ∀ x ∈ p3, x.block < W.heap.size := by obtain ⟨m, hm⟩ := k3; exact DataW.trod_lt m _ _ _ hm
  obtain ⟨z3, w3, s3⟩ : ∃ zs, IsRow .i64 W a3 len3 cap3 zs ∧ len3 ≤ 140737488351232 := by
    obtain ⟨fuel, hf⟩ := h3
    rcases open_ints Try.underlying25 Try.underlying3 (by kernel_rfl) hf with ⟨hcs, _⟩ | ⟨x, l, c, zs, hcs, _, hl, hm, hz, hx, hcell, hwz⟩
    · simp [Value.cells] at hcs
      obtain ⟨rfl, rfl, rfl⟩ := hcs
      exact ⟨[], .inl ⟨rfl, rfl, rfl, rfl⟩, Nat.zero_le _⟩
    · simp [Value.cells] at hcs
      obtain ⟨rfl, rfl, rfl⟩ := hcs
      have hs := sized_slice hsz (j := 3) (t := 25) (e := 3) rfl (by rw [(Prod.mk.inj hx).1]; rfl) Try.underlying25
      rw [Try.bytes3] at hs
      simp only [lits, List.length_map, List.length_take, List.length_drop, reachBytes] at hs
      have hz' : zs.length = cap3 := by simpa using hz
      exact ⟨zs, .inr ⟨_, rfl, hl, hm, hz', hcell, hwz⟩, by omega⟩
  clear hA0 hval0
  refine (walk cs0 tv0 tl0 tx0 cs1 tv1 tl1 tx1 a2 a3 len3 cap3 z3 W w0 w1 w2 w3 s3).mono fun e W' ⟨he, bel⟩ => ?_
  subst he
  exact ⟨_, rfl, _, _, _, [], _, [], hW', trodAll_mk1 (shut_bool Try.underlying4 _), (trodAll_cons_mk (Below.trod laidOut (by kernel_rfl) (of_decide_eq_true (by kernel_rfl)) k0 bel lt0) (trodAll_cons_mk (Below.trod laidOut (by kernel_rfl) (of_decide_eq_true (by kernel_rfl)) k1 bel lt1) (trodAll_cons_mk (shut_int Try.underlying3 w2) (trodAll_cons_mk (Below.trod laidOut (by kernel_rfl) (of_decide_eq_true (by kernel_rfl)) k3 bel lt3) trodAll_mk0)))), rfl, bel.frame _, fun h => by cases h⟩

theorem over : Rows.tapeTellsRow.holds Try.pinned (OpenSpec.ofChange Rows.tapeTellsSpec) :=
  OpenClaim.holds_of_wide 3 Try.f3 rfl rfl rfl rfl rfl rfl rfl ⟨rfl, rfl, rfl, rfl, rfl⟩ rfl rfl rfl rfl rfl (by kernel_rfl) Try.func3 (by kernel_rfl)
    (of_decide_eq_true (by kernel_rfl)) (by unfold Func.isWrapper; first | (rw [if_pos (by decide +kernel)]; kernel_rfl) | (rw [if_neg (by decide +kernel)]; exact ⟨rfl, rfl⟩))
    (fun os started H enc _ => lifted os started H enc)

end Go.Proofs.Ytiedkpfpaeecfaa.tapeTells
namespace Go.Proofs.Ytiedkpfpaeecfaa
theorem tapeTells_holds : Rows.TapeTellsSaid := tapeTells.over
end Go.Proofs.Ytiedkpfpaeecfaa
