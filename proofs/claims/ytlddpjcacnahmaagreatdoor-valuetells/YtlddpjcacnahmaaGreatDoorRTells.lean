/- For every value: apostillelaw06.ValueTells returns true, and each argument reads afterwards as it read before; the library's two tables of characters are as the program's text lays them. No other condition. -/
import Derived.Test.YtlddpjcacnahmaaGreatDoorEPar
import Derived.Test.YtlddpjcacnahmaaGreatDoorVAwk
import Derived.WalkKit
import Derived.ProofKit
import Derived.OpenShut
import Derived.ShutString
import Derived.ChangeOld
import Derived.Below
namespace Go.Proofs.YtlddpjcacnahmaaGreatDoor.valueTells
open Go.ChangeShapes Go.WideShapes Go.ChangeAt Go.RowKit
open Go.ChangeMaps (open_string shut_string)
set_option linter.unusedVariables false

set_option maxRecDepth 100000 in
set_option maxHeartbeats 4000000 in
theorem walk (ct0 cb0 ck0 : Value) (dd0 : Nat) (xx0 : Nd) (w : World) (w0 : NdAt w dd0 ct0 cb0 ck0 xx0) (hV : Vars w) :
    Calls Tryz.prog 4 #[.agg #[ct0, cb0, ck0]] w fun e w' => e = .returned (.bool true) ∧ Below w.heap.size w w' := by
  have hT : UTabs w := hV
  obtain ⟨FB, hFB⟩ := exists_FB
  obtain ⟨t, a1, n1, p1, a2, n2, p2, rfl, rfl, rfl⟩ := w0.forms
  have hb0 := keep_alloc w (.cells #[.int .i64 t, .slice a1 n1 p1, .slice a2 n2 p2] 28)
  obtain ⟨x0, x1, x2⟩ := box_cell w (.int .i64 t) (.slice a1 n1 p1) (.slice a2 n2 p2) 28
  have hsm := vsmall_any dd0 _ _ _ xx0 _ (NdAt.below hb0 _ _ _ _ _ w0)
  go_enter Tryz.func4, Tryz.ntmps4
  go_wp2_with fail
  refine hsm.mono ?_
  rintro e w1 ⟨⟨r, rfl, hr⟩, hb1⟩
  have hb01 := keep_trans hb0 hb1
  have x0 := Below.cells hb1 x0
  have x1 := Below.cells hb1 x1
  have x2 := Below.cells hb1 x2
  clear hsm
  cases r with
  | false =>
    clear hr
    go_wp2_with fail
    refine (vawake_any _ (hT.below hb01)).mono ?_
    rintro e wz ⟨rfl, hbz⟩
    go_wp2_with fail
    go_ret
    exact ⟨rfl, keep_trans hb01 hbz⟩
  | true =>
    have hsz : szF dd0 xx0 ≤ 10000 := Nat.le_trans (hr rfl) (by omega)
    clear hr hb0 hb1
    have c1 := fun w' (hb : Below w.heap.size w w') => intOf_any FB hFB dd0 _ _ _ xx0 w' (NdAt.below hb _ _ _ _ _ w0) hsz (hT.below hb)
    have c2 := fun w' (hb : Below w.heap.size w w') => rintOf_any FB hFB dd0 _ _ _ xx0 w' (NdAt.below hb _ _ _ _ _ w0) hsz
    have c3 := fun w' (hb : Below w.heap.size w w') => bytesOf_any FB hFB dd0 _ _ _ xx0 w' (NdAt.below hb _ _ _ _ _ w0) hsz (hT.below hb)
    have c4 := fun w' (hb : Below w.heap.size w w') => rbytesOf_any FB hFB dd0 _ _ _ xx0 w' (NdAt.below hb _ _ _ _ _ w0) hsz
    have c5 := fun w' (hb : Below w.heap.size w w') => utf8Of_any FB hFB dd0 _ _ _ xx0 w' (NdAt.below hb _ _ _ _ _ w0) hsz (hT.below hb)
    have c6 := fun w' (hb : Below w.heap.size w w') => rutf8Of_any FB hFB dd0 _ _ _ xx0 w' (NdAt.below hb _ _ _ _ _ w0) hsz
    have c7 := fun w' (hb : Below w.heap.size w w') => idOf_any FB hFB dd0 _ _ _ xx0 w' (NdAt.below hb _ _ _ _ _ w0) hsz (hT.below hb)
    have c8 := fun w' (hb : Below w.heap.size w w') => ridOf_any FB hFB dd0 _ _ _ xx0 w' (NdAt.below hb _ _ _ _ _ w0) hsz
    have c9 := fun w' (hb : Below w.heap.size w w') => timeOf_any FB hFB dd0 _ _ _ xx0 w' (NdAt.below hb _ _ _ _ _ w0) hsz (hT.below hb)
    have c10 := fun w' (hb : Below w.heap.size w w') => rtimeOf_any FB hFB dd0 _ _ _ xx0 w' (NdAt.below hb _ _ _ _ _ w0) hsz
    unfold NofE BofE UofE OofE TofE at *
    generalize ioV FB xx0 = iv at *
    generalize ioR FB xx0 = ir at *
    generalize codN FB 4 xx0 = k4 at *
    generalize codN FB 12 xx0 = k12 at *
    generalize codN FB 6 xx0 = k6 at *
    generalize hk24 : codN FB 24 xx0 = k24 at *
    generalize byO FB 4 xx0 = l4 at *
    generalize hl12 : bts (byO FB 12 xx0) = l12 at *
    generalize idO FB xx0 = o6 at *
    have C1 := hide c1
    have C2 := hide c2
    have C3 := hide c3
    have C4 := hide c4
    have C5 := hide c5
    have C6 := hide c6
    have C7 := hide c7
    have C8 := hide c8
    have C9 := hide c9
    have C10 := hide c10
    clear c1 c2 c3 c4 c5 c6 c7 c8 c9 c10 hk24 hl12
    go_wp2_with fail
    refine (C1.out _ hb01).mono ?_
    rintro e w2 ⟨rfl, hb2⟩
    have hb02 := keep_trans hb01 hb2
    have x0 := Below.cells hb2 x0
    have x1 := Below.cells hb2 x1
    have x2 := Below.cells hb2 x2
    go_wp2_with fail
    refine (C2.out _ hb02).mono ?_
    rintro e w3 ⟨rfl, hb3⟩
    have hb03 := keep_trans hb02 hb3
    have x0 := Below.cells hb3 x0
    have x1 := Below.cells hb3 x1
    have x2 := Below.cells hb3 x2
    go_wp2_with fail
    refine (C3.out _ hb03).mono ?_
    rintro e w4 ⟨⟨va, vn, vc, rfl, hr4⟩, hb4⟩
    have hb04 := keep_trans hb03 hb4
    have x0 := Below.cells hb4 x0
    have x1 := Below.cells hb4 x1
    have x2 := Below.cells hb4 x2
    go_wp2_with fail
    refine (C4.out _ hb04).mono ?_
    rintro e w5 ⟨⟨ua, un, uc, rfl, hr5⟩, hb5⟩
    have hb05 := keep_trans hb04 hb5
    have x0 := Below.cells hb5 x0
    have x1 := Below.cells hb5 x1
    have x2 := Below.cells hb5 x2
    have hr4 := hr4.below hb5
    go_wp2_with fail
    refine (C5.out _ hb05).mono ?_
    rintro e w6 ⟨rfl, hb6⟩
    have hb06 := keep_trans hb05 hb6
    have x0 := Below.cells hb6 x0
    have x1 := Below.cells hb6 x1
    have x2 := Below.cells hb6 x2
    have hr4 := hr4.below hb6
    have hr5 := hr5.below hb6
    go_wp2_with fail
    refine (C6.out _ hb06).mono ?_
    rintro e w7 ⟨rfl, hb7⟩
    have hb07 := keep_trans hb06 hb7
    have x0 := Below.cells hb7 x0
    have x1 := Below.cells hb7 x1
    have x2 := Below.cells hb7 x2
    have hr4 := hr4.below hb7
    have hr5 := hr5.below hb7
    go_wp2_with fail
    refine (C7.out _ hb07).mono ?_
    rintro e w8 ⟨⟨oa, on, oc, rfl, hr8⟩, hb8⟩
    have hb08 := keep_trans hb07 hb8
    have x0 := Below.cells hb8 x0
    have x1 := Below.cells hb8 x1
    have x2 := Below.cells hb8 x2
    have hr4 := hr4.below hb8
    have hr5 := hr5.below hb8
    go_wp2_with fail
    refine (C8.out _ hb08).mono ?_
    rintro e w9 ⟨⟨ra, rn, rc, rfl, hr9⟩, hb9⟩
    have hb09 := keep_trans hb08 hb9
    have x0 := Below.cells hb9 x0
    have x1 := Below.cells hb9 x1
    have x2 := Below.cells hb9 x2
    have hr4 := hr4.below hb9
    have hr5 := hr5.below hb9
    have hr8 := hr8.below hb9
    go_wp2_with fail
    refine (C9.out _ hb09).mono ?_
    rintro e w10 ⟨⟨tv, rfl, ht10⟩, hb10⟩
    have hb010 := keep_trans hb09 hb10
    have x0 := Below.cells hb10 x0
    have x1 := Below.cells hb10 x1
    have x2 := Below.cells hb10 x2
    have hr4 := hr4.below hb10
    have hr5 := hr5.below hb10
    have hr8 := hr8.below hb10
    have hr9 := hr9.below hb10
    have HT10 := hide ht10
    clear ht10
    go_wp2_with fail
    refine (C10.out _ hb010).mono ?_
    rintro e w11 ⟨⟨tu, rfl, ht11⟩, hb11⟩
    have hb011 := keep_trans hb010 hb11
    have hr4 := hr4.below hb11
    have hr5 := hr5.below hb11
    have hr8 := hr8.below hb11
    have hr9 := hr9.below hb11
    obtain rfl := TimO.same HT10.out ht11
    clear x0 x1 x2 ht11 hb2 hb3 hb4 hb5 hb6 hb7 hb8 hb9 hb10 hb11 hb01 hb02 hb03 hb04 hb05 hb06 hb07 hb08 hb09 hb010 C1 C2 C3 C4 C5 C6 C7 C8 C9 C10
    go_wp2_with fail
    refine (rsame_true _ _ l4 w11 hr4 hr5).mono ?_
    rintro e w12 ⟨rfl, hb12⟩
    have hr8 := hr8.below hb12
    have hr9 := hr9.below hb12
    go_wp2_with fail
    refine (rosame_b _ _ o6 o6 w12 hr8 hr9).mono ?_
    rintro e w13 ⟨rfl, hb13⟩
    rw [decide_eq_true (rfl : o6 = o6)]
    have hb013 := keep_trans hb011 (keep_trans hb12 hb13)
    go_wp2_with fail
    refine (vawake_any _ (hT.below hb013)).mono ?_
    rintro e wz ⟨rfl, hbz⟩
    go_wp2_with fail
    go_ret
    exact ⟨rfl, keep_trans hb013 hbz⟩

set_option maxRecDepth 100000 in
theorem lifted (os : Os) (started : os.Started) (H : Type) (enc : TypeId × Value → H) :
    ReturnsInHanded {} Tryz.checked os 4 .any (fun w args => (Rows.valueTellsSpec.pre enc Tryz.prog Tryz.f4 Rows.valueTellsRow.domain false w args ∧ laidMetH Tryz.prog Rows.valueTellsRow.laid w) ∧ sizedMet enc Tryz.prog Tryz.f4 (OpenSpec.ofChange Rows.valueTellsSpec) false w args) (Rows.valueTellsSpec.post enc Tryz.prog Tryz.f4 false true false false) := by
  refine change_laid_shaped (C := Tryz.checked) (X := fun w _ => laidMetH Tryz.prog Rows.valueTellsRow.laid w) (fun _ _ _ hh h => h.of_heap hh) own started (by kernel_rfl) Tryz.func4
    (ChangeSpec.witness_shaped (enc := enc) (C := Tryz.checked) (os := os) (X := fun w _ => laidMetH Tryz.prog Rows.valueTellsRow.laid w) false (World.laidAll Tryz.prog os Rows.valueTellsRow.laid) #[.agg #[.int .i64 0, .slice none 0 0, .slice none 0 0]] 8 (World.laidAll_os _ _ _)
      (World.shaped_of_ZipB (by kernel_rfl) (by kernel_rfl)) (by kernel_rfl) (by kernel_rfl) (by kernel_rfl)
      (by rw [MakeChecks.laidMetH_plain _ _ _ (by kernel_rfl)]; exact laidMet_laidAll _ (by kernel_rfl) (by kernel_rfl))) ?_
  intro W base args ds gs before hval0 hW hsz0 hL hsh
  have hVars : Vars W := vars_of_laid hL hsh
  have hval : ∀ (j : Nat) t v, Tryz.f4.params[j]? = some t → args[j]? = some v → Value.okWide Tryz.prog W .any base t v := hval0
  have hW' := hW
  obtain ⟨p, q, hA0, hV, rfl, hfz, hnd⟩ := hW
  have hA : DataW.TrodAll enc Tryz.prog W 0 (fun _ => true) true Tryz.f4.params.toList args.toList ds p := hA0
  rw [Tryz.params4] at hA hval
  obtain ⟨v0, vs0, d0, ds0, p0, q0, hargs, rfl, rfl, h0, r0⟩ := trodAll_cons hA
  obtain ⟨rfl, rfl, rfl⟩ := trodAll_nil r0
  obtain rfl : args = #[v0] := by cases args; simp_all
  obtain ⟨rfl, rfl⟩ := trodVars_none hV
  obtain ⟨cs0, rfl, hcz0⟩ := okWide_struct Tryz.underlying28 (hval 0 28 v0 rfl rfl)
  obtain ⟨ct0, cb0, ck0, rfl⟩ := arr3 (hcz0.trans Tryz.cellsN)
  have k0 := h0
  have lt0 : ∀ x ∈ p0, x.block < W.heap.size := by obtain ⟨m, hm⟩ := k0; exact DataW.trod_lt m _ _ _ hm
  obtain ⟨dd0, xx0, w0⟩ : ∃ d n, NdAt W d ct0 cb0 ck0 n := by
    obtain ⟨fuel, hf⟩ := h0
    exact read_cells fuel _ _ _ _ (by simpa [Value.cells] using hf)
  clear hA0 hval0
  refine (walk ct0 cb0 ck0 dd0 xx0 W w0 hVars).mono fun e W' ⟨he, bel⟩ => ?_
  subst he
  exact ⟨_, rfl, _, _, _, [], _, [], hW', trodAll_mk1 (shut_bool Tryz.underlying4 _), (trodAll_cons_mk (Below.trod laidOut (by kernel_rfl) (of_decide_eq_true (by kernel_rfl)) k0 bel lt0) trodAll_mk0), rfl, bel.frame _, fun h => by cases h⟩

theorem over : Rows.valueTellsRow.holds Tryz.pinned (OpenSpec.ofChange Rows.valueTellsSpec) :=
  OpenClaim.holds_of_wide 4 Tryz.f4 rfl rfl rfl rfl rfl rfl rfl ⟨rfl, rfl, rfl, rfl, rfl⟩ rfl rfl rfl rfl rfl (by kernel_rfl) Tryz.func4 (by kernel_rfl)
    (of_decide_eq_true (by kernel_rfl)) (by unfold Func.isWrapper; first | (rw [if_pos (by decide +kernel)]; kernel_rfl) | (rw [if_neg (by decide +kernel)]; exact ⟨rfl, rfl⟩))
    (fun os started H enc _ => lifted os started H enc)

end Go.Proofs.YtlddpjcacnahmaaGreatDoor.valueTells
namespace Go.Proofs.YtlddpjcacnahmaaGreatDoor
theorem valueTells_card : Rows.ValueTellsCardSaid :=
  Claim7.holds_tied_plain_at .later [] [.data, .pinned] true (true, "c0e721392a7b2804a856d21c0cd6dc3450823c10bf520f062ab1d682ea16459c") false
    valueTells.over (fun _ h => by cases h) (by kernel_rfl) (fun _ h => by cases h) valueTells_row_tie rfl ⟨rfl, rfl⟩ (by kernel_rfl) rfl
    (fun f fn hf hfn => by
      obtain rfl : f = 4 := Option.some.inj ((show Tryz.prog.funcNamed Tryz.f4.name = some 4 by kernel_rfl).symm.trans hf) |>.symm
      obtain rfl : fn = Tryz.f4 := (Option.some.inj (Tryz.func4.symm.trans hfn)).symm
      exact ⟨by kernel_rfl, fun j t ht => by
        rw [Tryz.params4] at ht
        have hm : t ∈ [28] := by simpa using Array.mem_of_getElem? ht
        have hall : ([28].all fun u => !Tryz.prog.wantsStandIn u) = true := by kernel_rfl
        exact (show Tryz.prog.wantsStandIn t = false by simpa using List.all_eq_true.1 hall t hm)⟩)
    (by kernel_rfl)
end Go.Proofs.YtlddpjcacnahmaaGreatDoor
