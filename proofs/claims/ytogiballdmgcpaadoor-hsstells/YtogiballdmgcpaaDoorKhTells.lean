/- For every key and every number: apostillelaw16.HssTells returns true, and each argument reads afterwards as it read before; sha's two tables of roots are as the program's text lays them. No other condition. -/
import Derived.Test.YtogiballdmgcpaaDoorHEnd
import Derived.Test.YtogiballdmgcpaaDoorLhFrm
import Derived.Test.YtogiballdmgcpaaDoorLhD
import Derived.WalkKit
import Derived.ProofKit
import Derived.OpenShut
import Derived.ShutString
import Derived.ChangeOld
import Derived.Below
namespace Go.Proofs.YtogiballdmgcpaaDoor.hssTells
open Go.ChangeShapes Go.WideShapes Go.ChangeAt Go.RowKit
open Go.ChangeMaps (open_string shut_string)
set_option linter.unusedVariables false

set_option maxRecDepth 100000 in
set_option maxHeartbeats 4000000 in
theorem walk (cs0 : Array Value) (kt0 : Value) (kl0 : List (Int × Int)) (ki0 : Value) (kil0 : List Nat) (ks0 : Value) (ksl0 : List Nat) (a1 : Int) (w : World) (w0 : HkIs w cs0 kt0 kl0 ki0 kil0 ks0 ksl0) (w1 : (Lit.int .u64 a1).wf = true) (hV : Vars w) :
    Calls Tryd.prog 3 #[.agg cs0, .int .u64 a1] w fun e w' => e = .returned (.bool true) ∧ Below w.heap.size w w' := by
  obtain ⟨rfl, ht, ri, ti, rs, tis⟩ := w0
  have hq2 := wf_u64 a1 w1
  obtain ⟨n, rfl⟩ : ∃ q : Nat, a1 = (q : Int) := ⟨a1.toNat, by omega⟩
  have hn : n < 18446744073709551616 := by omega
  have hT : Roots w := hV
  have haw := fun y (k : Below w.heap.size w y) => awakeH_any y (hT.below k)
  clear w1 hq2
  generalize kl0 = kts at *
  generalize kil0 = id at *
  generalize ksl0 = seed at *
  obtain ⟨ia, ic, rfl, _⟩ := ri.opens rfl
  obtain ⟨sa, sc, rfl, _⟩ := rs.opens rfl
  have bT := BxK.new w kt0 (.slice ia id.length ic) (.slice sa seed.length sc)
  have k0 := keep_alloc w (.cells #[kt0, .slice ia id.length ic, .slice sa seed.length sc] 25)
  have hfe := few2H ia sa id.length seed.length ic sc (w.alloc (.cells #[kt0, .slice ia id.length ic, .slice sa seed.length sc] 25))
  rw [World.size_alloc] at hfe
  obtain ⟨c, X, hv1, hv2⟩ := both_vecH kts kt0 _ _ id seed n ht ri ti rs tis hT hn
  have hf1 := fun y (k : Below w.heap.size w y) => cfitK_any kts kt0 ia sa id.length ic seed.length sc y (ht.below k)
  have hf2 := fun y (k : Below w.heap.size w y) => rfitK_any kts kt0 ia sa id.length ic seed.length sc y (ht.below k)
  have hl1 := fun y (k : Below w.heap.size w y) => clvs_any kts kt0 ia sa id.length ic seed.length sc y (ht.below k)
  have hl2 := fun y (k : Below w.heap.size w y) => rlvs_any kts kt0 ia sa id.length ic seed.length sc y (ht.below k)
  generalize decide (FitK kts id.length seed.length) = FB at *
  generalize (if FitK kts id.length seed.length then lvN kts else 0) = LV at *
  obtain ⟨ta, tc, rfl, _⟩ := ht
  clear ri rs ti tis hT hn
  have c0 := bT.c0
  have c1 := bT.c1
  have c2 := bT.c2
  by_cases h20 : kts.length > 20
  · have h20i : (kts.length : Int) > 20 := by omega
    have h20j : (20 : Int) < (kts.length : Int) := by omega
    clear hfe hv1 hv2 hf1 hf2 hl1 hl2
    generalize kts.length = N at *
    go_enter Tryd.func3, Tryd.ntmps3
    go_wp2_with (first
      | (go_at_call 6; refine (haw _ k0).mono ?_; rintro e y2 ⟨rfl, g2⟩)
      | fail)
    go_ret
    exact ⟨rfl, keep_trans k0 g2⟩
  have h20i : ¬ (kts.length : Int) > 20 := by omega
  have h20j : ¬ (20 : Int) < (kts.length : Int) := by omega
  generalize kts.length = N at *
  by_cases hf : id.length ≤ 300 ∧ seed.length ≤ 300
  · rw [decide_eq_true hf] at hfe
    clear hf h20
    go_enter Tryd.func3, Tryd.ntmps3
    go_wp2_with (first
      | (go_at_call 5; refine hfe.mono ?_; rintro e y1 ⟨rfl, g1⟩; have k1 := keep_trans k0 (by rw [World.size_alloc]; exact g1); have b1 := bT.below (by rw [World.size_alloc]; exact g1); clear bT)
      | (refine wpList_load_row rfl 25 _ (by rfl) w.heap.size (by rfl) _ _ _ _ b1.here Tryd.underlying25 rfl (by kernel_rfl) ?_)
      | (go_at_call 7; refine (hv1 _ k1).mono ?_; rintro e y2 ⟨v1, rfl, r1, g2⟩; obtain ⟨j1, d1, rfl, _⟩ := r1.opens rfl; have k2 := keep_trans k1 g2; have b2 := b1.below g2; clear b1)
      | (refine wpList_load_row rfl 25 _ (by rfl) w.heap.size (by rfl) _ _ _ _ b2.here Tryd.underlying25 rfl (by kernel_rfl) ?_)
      | (go_at_call 8; refine (hv2 _ k2).mono ?_; rintro e y3 ⟨v2, rfl, r2, g3⟩; obtain ⟨j2, d2, rfl, hqq⟩ := r2.opens rfl; clear hqq; have k3 := keep_trans k2 g3; have b3 := b2.below g3; clear b2)
      | fail)
    have r13 := r1.below g3
    have hbd : Below y3.heap.size y3 y3.drew := (Below.refl _ _).drew
    clear hv1 hv2 hfe r1
    refine at_begin (ops := opsA (cLA (cRA (cRA (cRA (cRA (Tryd.f3.body.getD .skip))))))) (n := 26) (fun y => Below y3.heap.size y3 y) (by kernel_rfl) (by kernel_rfl) ?_
    refine at_takeD (i := 0) (m' := 1) (d := some 35) (v := .agg #[.slice ta N tc, .slice ia id.length ic, .slice sa seed.length sc]) ht5reg rfl (by decide) rfl rfl (y_rowG (cs := [.slice ta N tc, .slice ia id.length ic, .slice sa seed.length sc]) (wanted_free rfl) rfl rfl Tryd.underlying25 rfl (by kernel_rfl) (fun _ h => (b3.below h).range)) hbd ?_
    simp only [Act.put, List.setIfInBounds_toArray, List.set_cons_zero, List.set_cons_succ]
    refine at_takeD (i := 2) (m' := 5) (d := some 37) (v := .agg #[.slice ta N tc, .slice ia id.length ic, .slice sa seed.length sc]) ht5reg rfl (by decide) rfl rfl (y_rowG (cs := [.slice ta N tc, .slice ia id.length ic, .slice sa seed.length sc]) (wanted_free rfl) rfl rfl Tryd.underlying25 rfl (by kernel_rfl) (fun _ h => (b3.below h).range)) hbd ?_
    simp only [Act.put, List.setIfInBounds_toArray, List.set_cons_zero, List.set_cons_succ]
    refine at_one (i := 1) (m' := 7) ht5reg (by decide) rfl ?_
    refine p_callG (args := #[.agg #[.slice ta N tc, .slice ia id.length ic, .slice sa seed.length sc]]) (d := some 36) rfl (wanted_free rfl) rfl (by simp only [List.map_toArray, List.map_cons, List.map_nil]; rfl) rfl Tryd.call9 ((hf1 y3.drew (keep_trans k3 hbd)).mono ?_)
    rintro e y3 ⟨rfl, g3⟩
    have hb3 := keep_trans hbd g3
    refine ⟨_, rfl, hb3, ?_⟩
    simp only [Act.put, List.setIfInBounds_toArray, List.set_cons_zero, List.set_cons_succ]
    refine at_one (i := 3) (m' := 15) ht5reg (by decide) rfl ?_
    refine p_callG (args := #[.agg #[.slice ta N tc, .slice ia id.length ic, .slice sa seed.length sc]]) (d := some 38) rfl (wanted_free rfl) rfl (by simp only [List.map_toArray, List.map_cons, List.map_nil]; rfl) rfl Tryd.call10 ((hf2 y3 (keep_trans k3 hb3)).mono ?_)
    rintro e y4 ⟨rfl, g4⟩
    have hb4 := keep_trans hb3 g4
    refine ⟨_, rfl, hb4, ?_⟩
    simp only [Act.put, List.setIfInBounds_toArray, List.set_cons_zero, List.set_cons_succ]
    refine at_takeD (i := 4) (m' := 31) (d := some 39) (v := .bool true) ht5reg rfl (by decide) rfl rfl (y_eqB (wanted_free rfl) rfl rfl rfl Tryd.underlying4 (by simp)) hb4 ?_
    simp only [Act.put, List.setIfInBounds_toArray, List.set_cons_zero, List.set_cons_succ]
    refine at_takeD (i := 5) (m' := 63) (d := some 40) (v := .bool true) ht5reg rfl (by decide) rfl rfl (y_moveG (wanted_free rfl) rfl rfl) hb4 ?_
    simp only [Act.put, List.setIfInBounds_toArray, List.set_cons_zero, List.set_cons_succ]
    refine at_takeD (i := 6) (m' := 127) (d := some 41) (v := .agg #[.slice ta N tc, .slice ia id.length ic, .slice sa seed.length sc]) ht5reg rfl (by decide) rfl rfl (y_rowG (cs := [.slice ta N tc, .slice ia id.length ic, .slice sa seed.length sc]) (wanted_gG (j := 5) (d := 40) (b := true) rfl rfl rfl rfl) rfl rfl Tryd.underlying25 rfl (by kernel_rfl) (fun _ h => (b3.below h).range)) hb4 ?_
    simp only [Act.put, List.setIfInBounds_toArray, List.set_cons_zero, List.set_cons_succ]
    refine at_takeD (i := 8) (m' := 383) (d := some 43) (v := .agg #[.slice ta N tc, .slice ia id.length ic, .slice sa seed.length sc]) ht5reg rfl (by decide) rfl rfl (y_rowG (cs := [.slice ta N tc, .slice ia id.length ic, .slice sa seed.length sc]) (wanted_gG (j := 5) (d := 40) (b := true) rfl rfl rfl rfl) rfl rfl Tryd.underlying25 rfl (by kernel_rfl) (fun _ h => (b3.below h).range)) hb4 ?_
    simp only [Act.put, List.setIfInBounds_toArray, List.set_cons_zero, List.set_cons_succ]
    refine at_one (i := 7) (m' := 511) ht5reg (by decide) rfl ?_
    refine p_callG (args := #[.agg #[.slice ta N tc, .slice ia id.length ic, .slice sa seed.length sc]]) (d := some 42) rfl (wanted_gG (j := 5) (d := 40) (b := true) rfl rfl rfl rfl) rfl (by simp only [List.map_toArray, List.map_cons, List.map_nil]; rfl) rfl Tryd.call11 ((hl1 y4 (keep_trans k3 hb4)).mono ?_)
    rintro e y9 ⟨rfl, g9⟩
    have hb9 := keep_trans hb4 g9
    refine ⟨_, rfl, hb9, ?_⟩
    simp only [Act.put, List.setIfInBounds_toArray, List.set_cons_zero, List.set_cons_succ]
    refine at_one (i := 9) (m' := 1023) ht5reg (by decide) rfl ?_
    refine p_callG (args := #[.agg #[.slice ta N tc, .slice ia id.length ic, .slice sa seed.length sc]]) (d := some 44) rfl (wanted_gG (j := 5) (d := 40) (b := true) rfl rfl rfl rfl) rfl (by simp only [List.map_toArray, List.map_cons, List.map_nil]; rfl) rfl Tryd.call12 ((hl2 y9 (keep_trans k3 hb9)).mono ?_)
    rintro e y10 ⟨rfl, g10⟩
    have hb10 := keep_trans hb9 g10
    refine ⟨_, rfl, hb10, ?_⟩
    simp only [Act.put, List.setIfInBounds_toArray, List.set_cons_zero, List.set_cons_succ]
    refine at_takeD (i := 10) (m' := 2047) (d := some 45) (v := .bool true) ht5reg rfl (by decide) rfl rfl (y_eqI (wanted_gG (j := 5) (d := 40) (b := true) rfl rfl rfl rfl) rfl rfl rfl Tryd.underlying26 (by simp)) hb10 ?_
    simp only [Act.put, List.setIfInBounds_toArray, List.set_cons_zero, List.set_cons_succ]
    refine at_takeD (i := 11) (m' := 4095) (d := some 46) (v := .bool true) ht5reg rfl (by decide) rfl rfl (y_pickTG (wanted_free rfl) rfl rfl rfl) hb10 ?_
    simp only [Act.put, List.setIfInBounds_toArray, List.set_cons_zero, List.set_cons_succ]
    refine at_takeD (i := 12) (m' := 8191) (d := some 47) (v := .bool true) ht5reg rfl (by decide) rfl rfl (y_moveG (wanted_free rfl) rfl rfl) hb10 ?_
    simp only [Act.put, List.setIfInBounds_toArray, List.set_cons_zero, List.set_cons_succ]
    refine at_takeD (i := 13) (m' := 16383) (d := some 48) (v := .slice j1 X.length d1) ht5reg rfl (by decide) rfl rfl (y_moveG (wanted_gG (j := 12) (d := 47) (b := true) rfl rfl rfl rfl) rfl rfl) hb10 ?_
    simp only [Act.put, List.setIfInBounds_toArray, List.set_cons_zero, List.set_cons_succ]
    refine at_takeD (i := 14) (m' := 32767) (d := some 49) (v := .slice j2 X.length d2) ht5reg rfl (by decide) rfl rfl (y_moveG (wanted_gG (j := 12) (d := 47) (b := true) rfl rfl rfl rfl) rfl rfl) hb10 ?_
    simp only [Act.put, List.setIfInBounds_toArray, List.set_cons_zero, List.set_cons_succ]
    refine at_one (i := 15) (m' := 65535) ht5reg (by decide) rfl ?_
    refine p_callG (args := #[.slice j1 X.length d1, .slice j2 X.length d2]) (d := some 50) rfl (wanted_gG (j := 12) (d := 47) (b := true) rfl rfl rfl rfl) rfl (by simp only [List.map_toArray, List.map_cons, List.map_nil]; rfl) rfl Tryd.call13 ((rsameNums_true _ _ _ y10 (r13.below hb10) (r2.below hb10)).mono ?_)
    rintro e y16 ⟨rfl, g16⟩
    have hb16 := keep_trans hb10 g16
    refine ⟨_, rfl, hb16, ?_⟩
    simp only [Act.put, List.setIfInBounds_toArray, List.set_cons_zero, List.set_cons_succ]
    refine at_takeD (i := 16) (m' := 131071) (d := some 51) (v := .bool true) ht5reg rfl (by decide) rfl rfl (y_pickTG (wanted_free rfl) rfl rfl rfl) hb16 ?_
    simp only [Act.put, List.setIfInBounds_toArray, List.set_cons_zero, List.set_cons_succ]
    refine at_takeD (i := 17) (m' := 262143) (d := some 52) (v := .bool true) ht5reg rfl (by decide) rfl rfl (y_moveG (wanted_free rfl) rfl rfl) hb16 ?_
    simp only [Act.put, List.setIfInBounds_toArray, List.set_cons_zero, List.set_cons_succ]
    refine at_takeD (i := 18) (m' := 524287) (d := some 53) (v := .int .i64 c) ht5reg rfl (by decide) rfl rfl (y_moveG (wanted_gG (j := 17) (d := 52) (b := true) rfl rfl rfl rfl) rfl rfl) hb16 ?_
    simp only [Act.put, List.setIfInBounds_toArray, List.set_cons_zero, List.set_cons_succ]
    refine at_takeD (i := 19) (m' := 1048575) (d := some 54) (v := .int .i64 c) ht5reg rfl (by decide) rfl rfl (y_moveG (wanted_gG (j := 17) (d := 52) (b := true) rfl rfl rfl rfl) rfl rfl) hb16 ?_
    simp only [Act.put, List.setIfInBounds_toArray, List.set_cons_zero, List.set_cons_succ]
    refine at_takeD (i := 20) (m' := 2097151) (d := some 55) (v := .bool true) ht5reg rfl (by decide) rfl rfl (y_eqI (wanted_gG (j := 17) (d := 52) (b := true) rfl rfl rfl rfl) rfl rfl rfl Tryd.underlying3 (by simp)) hb16 ?_
    simp only [Act.put, List.setIfInBounds_toArray, List.set_cons_zero, List.set_cons_succ]
    refine at_takeD (i := 21) (m' := 4194303) (d := some 56) (v := .bool true) ht5reg rfl (by decide) rfl rfl (y_pickTG (wanted_free rfl) rfl rfl rfl) hb16 ?_
    simp only [Act.put, List.setIfInBounds_toArray, List.set_cons_zero, List.set_cons_succ]
    refine at_takeD (i := 22) (m' := 8388607) (d := some 57) (v := .bool true) ht5reg rfl (by decide) rfl rfl (y_moveG (wanted_free rfl) rfl rfl) hb16 ?_
    simp only [Act.put, List.setIfInBounds_toArray, List.set_cons_zero, List.set_cons_succ]
    refine at_one (i := 23) (m' := 16777215) ht5reg (by decide) rfl ?_
    refine p_callG (args := #[]) (d := some 58) rfl (wanted_gG (j := 22) (d := 57) (b := true) rfl rfl rfl rfl) rfl (by simp only [List.map_toArray, List.map_nil]) rfl Tryd.call6 ((haw y16 (keep_trans k3 hb16)).mono ?_)
    rintro e y24 ⟨rfl, g24⟩
    have hb24 := keep_trans hb16 g24
    refine ⟨_, rfl, hb24, ?_⟩
    simp only [Act.put, List.setIfInBounds_toArray, List.set_cons_zero, List.set_cons_succ]
    refine at_takeD (i := 24) (m' := 33554431) (d := some 59) (v := .bool true) ht5reg rfl (by decide) rfl rfl (y_pickTG (wanted_free rfl) rfl rfl rfl) hb24 ?_
    simp only [Act.put, List.setIfInBounds_toArray, List.set_cons_zero, List.set_cons_succ]
    refine at_takeD (i := 25) (m' := 67108863) (d := some 4) (v := .bool true) ht5reg rfl (by decide) rfl rfl (y_assignG (wanted_free rfl) rfl rfl) hb24 ?_
    simp only [Act.put, List.setIfInBounds_toArray, List.set_cons_zero, List.set_cons_succ]
    refine at_done ht5reg (by decide) ?_
    go_wp2
    go_ret
    exact ⟨rfl, keep_trans k3 hb24⟩
  · rw [decide_eq_false hf] at hfe
    clear hf h20 hv1 hv2 hf1 hf2 hl1 hl2
    go_enter Tryd.func3, Tryd.ntmps3
    go_wp2_with (first
      | (go_at_call 5; refine hfe.mono ?_; rintro e y1 ⟨rfl, g1⟩; have k1 := keep_trans k0 (by rw [World.size_alloc]; exact g1))
      | (go_at_call 6; refine (haw _ k1).mono ?_; rintro e y2 ⟨rfl, g2⟩)
      | fail)
    go_ret
    exact ⟨rfl, keep_trans k1 g2⟩

set_option maxRecDepth 100000 in
theorem lifted (os : Os) (started : os.Started) (H : Type) (enc : TypeId × Value → H) :
    ReturnsInHanded {} Tryd.checked os 3 .any (fun w args => (Rows.hssTellsSpec.pre enc Tryd.prog Tryd.f3 Rows.hssTellsRow.domain false w args ∧ laidMetH Tryd.prog Rows.hssTellsRow.laid w) ∧ sizedMet enc Tryd.prog Tryd.f3 (OpenSpec.ofChange Rows.hssTellsSpec) false w args) (Rows.hssTellsSpec.post enc Tryd.prog Tryd.f3 false true false false) := by
  refine change_laid_shaped (C := Tryd.checked) (X := fun w _ => laidMetH Tryd.prog Rows.hssTellsRow.laid w) (fun _ _ _ hh h => h.of_heap hh) own started (by kernel_rfl) Tryd.func3
    (ChangeSpec.witness_shaped (enc := enc) (C := Tryd.checked) (os := os) (X := fun w _ => laidMetH Tryd.prog Rows.hssTellsRow.laid w) false (World.laidAll Tryd.prog os Rows.hssTellsRow.laid) #[.agg #[.slice none 0 0, .slice none 0 0, .slice none 0 0], .int .u64 0] 8 (World.laidAll_os _ _ _)
      (World.shaped_of_ZipB (by kernel_rfl) (by kernel_rfl)) (by kernel_rfl) (by kernel_rfl) (by kernel_rfl)
      (by rw [MakeChecks.laidMetH_plain _ _ _ (by kernel_rfl)]; exact laidMet_laidAll _ (by kernel_rfl) (by kernel_rfl))) ?_
  intro W base args ds gs before hval0 hW hsz0 hL hsh
  have hVars : Vars W := vars_of_laid hL hsh
  have hval : ∀ (j : Nat) t v, Tryd.f3.params[j]? = some t → args[j]? = some v → Value.okWide Tryd.prog W .any base t v := hval0
  have hW' := hW
  obtain ⟨p, q, hA0, hV, rfl, hfz, hnd⟩ := hW
  have hA : DataW.TrodAll enc Tryd.prog W 0 (fun _ => true) true Tryd.f3.params.toList args.toList ds p := hA0
  rw [Tryd.params3] at hA hval
  obtain ⟨v0, vs0, d0, ds0, p0, q0, hargs, rfl, rfl, h0, r0⟩ := trodAll_cons hA
  obtain ⟨v1, vs1, d1, ds1, p1, q1, rfl, rfl, rfl, h1, r1⟩ := trodAll_cons r0
  obtain ⟨rfl, rfl, rfl⟩ := trodAll_nil r1
  obtain rfl : args = #[v0, v1] := by cases args; simp_all
  obtain ⟨rfl, rfl⟩ := trodVars_none hV
  obtain ⟨cs0, rfl, hcz0⟩ := okWide_struct Tryd.underlying25 (hval 0 25 v0 rfl rfl)
  have k0 := h0
  have lt0 : ∀ x ∈ p0, x.block < W.heap.size := by obtain ⟨m, hm⟩ := k0; exact DataW.trod_lt m _ _ _ hm
  obtain ⟨kt0, kl0, ki0, kil0, ks0, ksl0, w0⟩ : ∃ kt kl ki kil ks ksl, HkIs W cs0 kt kl ki kil ks ksl := by
    obtain ⟨fuel, hf⟩ := h0
    exact read_keyH (by simpa [Value.cells] using hf)
  obtain ⟨a1, rfl, rfl, rfl, w1⟩ := open_int Tryd.underlying26 (hval 1 26 v1 rfl rfl) h1
  clear hA0 hval0
  refine (walk cs0 kt0 kl0 ki0 kil0 ks0 ksl0 a1 W w0 w1 hVars).mono fun e W' ⟨he, bel⟩ => ?_
  subst he
  exact ⟨_, rfl, _, _, _, [], _, [], hW', trodAll_mk1 (shut_bool Tryd.underlying4 _), (trodAll_cons_mk (Below.trod laidOut (by kernel_rfl) (of_decide_eq_true (by kernel_rfl)) k0 bel lt0) (trodAll_cons_mk (shut_int Tryd.underlying26 w1) trodAll_mk0)), rfl, bel.frame _, fun h => by cases h⟩

theorem over : Rows.hssTellsRow.holds Tryd.pinned (OpenSpec.ofChange Rows.hssTellsSpec) :=
  OpenClaim.holds_of_wide 3 Tryd.f3 rfl rfl rfl rfl rfl rfl rfl ⟨rfl, rfl, rfl, rfl, rfl⟩ rfl rfl rfl rfl rfl (by kernel_rfl) Tryd.func3 (by kernel_rfl)
    (of_decide_eq_true (by kernel_rfl)) (by unfold Func.isWrapper; first | (rw [if_pos (by decide +kernel)]; kernel_rfl) | (rw [if_neg (by decide +kernel)]; exact ⟨rfl, rfl⟩))
    (fun os started H enc _ => lifted os started H enc)

end Go.Proofs.YtogiballdmgcpaaDoor.hssTells
namespace Go.Proofs.YtogiballdmgcpaaDoor
theorem hssTells_card : Rows.HssTellsCardSaid :=
  Claim7.holds_tied_plain_at .later [] [.data, .data] true (true, "4fb66fb80f73eec8f1866452493b3e6691afe7a0023ea6c3062878210be6d3dd") false
    hssTells.over (fun _ h => by cases h) (by kernel_rfl) (fun _ h => by cases h) hssTells_row_tie rfl ⟨rfl, rfl⟩ (by kernel_rfl) rfl
    (fun f fn hf hfn => by
      obtain rfl : f = 3 := Option.some.inj ((show Tryd.prog.funcNamed Tryd.f3.name = some 3 by kernel_rfl).symm.trans hf) |>.symm
      obtain rfl : fn = Tryd.f3 := (Option.some.inj (Tryd.func3.symm.trans hfn)).symm
      exact ⟨by kernel_rfl, fun j t ht => by
        rw [Tryd.params3] at ht
        have hm : t ∈ [25, 26] := by simpa using Array.mem_of_getElem? ht
        have hall : ([25, 26].all fun u => !Tryd.prog.wantsStandIn u) = true := by kernel_rfl
        exact (show Tryd.prog.wantsStandIn t = false by simpa using List.all_eq_true.1 hall t hm)⟩)
    (by kernel_rfl)
end Go.Proofs.YtogiballdmgcpaaDoor
