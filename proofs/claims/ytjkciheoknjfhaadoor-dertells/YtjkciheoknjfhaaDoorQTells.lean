/- For every two values and every number: apostillelaw05.DerTells returns true, and each argument reads afterwards as it read before; the library's two tables of characters are as the program's text lays them. No other condition. -/
import Derived.Test.YtjkciheoknjfhaaDoorELaw
import Derived.WalkKit
import Derived.ProofKit
import Derived.OpenShut
import Derived.ShutString
import Derived.ChangeOld
import Derived.Below
namespace Go.Proofs.YtjkciheoknjfhaaDoor.derTells
open Go.ChangeShapes Go.WideShapes Go.ChangeAt Go.RowKit
open Go.ChangeMaps (open_string shut_string)
set_option linter.unusedVariables false

set_option maxRecDepth 100000 in
set_option maxHeartbeats 4000000 in
theorem walk (ct0 cb0 ck0 : Value) (dd0 : Nat) (xx0 : Nd) (ct1 cb1 ck1 : Value) (dd1 : Nat) (xx1 : Nd) (a2 : Int) (w : World) (w0 : NdAt w dd0 ct0 cb0 ck0 xx0) (w1 : NdAt w dd1 ct1 cb1 ck1 xx1) (w2 : (Lit.int .i64 a2).wf = true) (hV : Vars w) :
    Calls Tryd.prog 4 #[.agg #[ct0, cb0, ck0], .agg #[ct1, cb1, ck1], .int .i64 a2] w fun e w' => e = .returned (.bool true) ∧ Below w.heap.size w w' := by
  have hT : UTabs w := hV
  obtain ⟨FB, hFB⟩ := exists_FB
  obtain ⟨tt, a1', n1, p1, a2', n2, p2, rfl, rfl, rfl⟩ := w0.forms
  obtain ⟨uu, b1', m1, q1, b2', m2, q2, rfl, rfl, rfl⟩ := w1.forms
  have hbA := keep_alloc w (.cells #[.int .i64 tt, .slice a1' n1 p1, .slice a2' n2 p2] 26)
  have hbB := keep_alloc (w.alloc (.cells #[.int .i64 tt, .slice a1' n1 p1, .slice a2' n2 p2] 26)) (.cells #[.int .i64 uu, .slice b1' m1 q1, .slice b2' m2 q2] 26)
  have hbAB := keep_trans hbA hbB
  obtain ⟨x0, x1, x2⟩ := box_cell w (.int .i64 tt) (.slice a1' n1 p1) (.slice a2' n2 p2) 26
  obtain ⟨z0, z1, z2⟩ := box_cell (w.alloc (.cells #[.int .i64 tt, .slice a1' n1 p1, .slice a2' n2 p2] 26)) (.int .i64 uu) (.slice b1' m1 q1) (.slice b2' m2 q2) 26
  rw [World.size_alloc] at z0 z1 z2
  have x0 := Below.cells hbB x0
  have x1 := Below.cells hbB x1
  have x2 := Below.cells hbB x2
  have hsm := small_der dd0 _ _ _ xx0 _ (NdAt.below hbAB _ _ _ _ _ w0)
  go_enter Tryd.func4, Tryd.ntmps4
  go_wp2_with fail
  refine hsm.mono ?_
  rintro e w3 ⟨⟨r, rfl, hr1, hr2, hr3⟩, hb3⟩
  have hbw3 := keep_trans hbAB hb3
  have x0 := Below.cells hb3 x0
  have x1 := Below.cells hb3 x1
  have x2 := Below.cells hb3 x2
  have z0 := Below.cells hb3 z0
  have z1 := Below.cells hb3 z1
  have z2 := Below.cells hb3 z2
  clear hsm
  by_cases hrn : r < 0
  · have hrd : decide (r < 0) = true := decide_eq_true hrn
    clear hr3
    go_wp2_with fail
    refine (dawake_any _ (hT.below hbw3)).mono ?_
    rintro e wz ⟨rfl, hbz⟩
    go_wp2_with fail
    go_ret
    exact ⟨rfl, keep_trans hbw3 hbz⟩
  · have hrd : decide (r < 0) = false := decide_eq_false hrn
    have hsz := hr3 (by omega)
    have hsm := small_der dd1 _ _ _ xx1 w3 (NdAt.below hbw3 _ _ _ _ _ w1)
    clear hr3
    go_wp2_with fail
    refine hsm.mono ?_
    rintro e w4 ⟨⟨s, rfl, hs1, hs2, hs3⟩, hb4⟩
    have hbw4 := keep_trans hbw3 hb4
    have x0 := Below.cells hb4 x0
    have x1 := Below.cells hb4 x1
    have x2 := Below.cells hb4 x2
    have z0 := Below.cells hb4 z0
    have z1 := Below.cells hb4 z1
    have z2 := Below.cells hb4 z2
    clear hsm
    by_cases hsn : s < 0
    · have hsd : decide (s < 0) = true := decide_eq_true hsn
      clear hs3
      go_wp2_with fail
      refine (dawake_any _ (hT.below hbw4)).mono ?_
      rintro e wz ⟨rfl, hbz⟩
      go_wp2_with fail
      go_ret
      exact ⟨rfl, keep_trans hbw4 hbz⟩
    · have hsd : decide (s < 0) = false := decide_eq_false hsn
      clear hs3 hs1 hs2 hr1 hr2
      obtain ⟨fb, er, l, hlit, hfb, hby⟩ := bytE_told (bytesD FB xx0)
      have hB1 := (bytes_der FB hFB dd0 _ _ _ xx0 w4 (NdAt.below hbw4 _ _ _ _ _ w0) (by omega) (hT.below hbw4)).mono (fun _ _ h => hby _ _ _ h)
      have hn : decide (s < 0) = false := hsd
      rcases hlit with ⟨rfl, rfl⟩ | ⟨rfl, rfl⟩
      all_goals
        go_wp2_with fail
        refine hB1.mono ?_
        rintro e w5 ⟨a5, c5, rfl, hr5, hb5⟩
        have hbw5 := keep_trans hbw4 hb5
        have x0 := Below.cells hb5 x0
        have x1 := Below.cells hb5 x1
        have x2 := Below.cells hb5 x2
        have z0 := Below.cells hb5 z0
        have z1 := Below.cells hb5 z1
        have z2 := Below.cells hb5 z2
        clear hB1
        have hB2 := (rbytes_der FB hFB dd0 _ _ _ xx0 w5 (NdAt.below hbw5 _ _ _ _ _ w0) (by omega)).mono (fun _ _ h => hby _ _ _ h)
        go_wp2_with fail
        refine hB2.mono ?_
        rintro e w6 ⟨a6, c6, rfl, hr6, hb6⟩
        have hbw6 := keep_trans hbw5 hb6
        have x0 := Below.cells hb6 x0
        have x1 := Below.cells hb6 x1
        have x2 := Below.cells hb6 x2
        have z0 := Below.cells hb6 z0
        have z1 := Below.cells hb6 z1
        have z2 := Below.cells hb6 z2
        clear hB2
        have hH : HdT w w.heap.size (.int .i64 tt) (.slice a1' n1 p1) (.slice a2' n2 p2) (.int .i64 uu) (.slice b1' m1 q1) (.slice b2' m2 q2) (.slice a5 l.length c5) (.slice a6 l.length c6) l l w6 := ⟨x0, x1, x2, z0, z1, z2, hr5.below hb6, hr6, hbw6⟩
        have hF1 : ∀ w', Below w.heap.size w w' → Calls Tryd.prog 15 #[.agg #[.int .i64 tt, .slice a1' n1 p1, .slice a2' n2 p2]] w' _ := fun w' hb => fit_der FB hFB dd0 _ _ _ xx0 w' (NdAt.below hb _ _ _ _ _ w0) (by omega) (hT.below hb)
        have hF2 : ∀ w', Below w.heap.size w w' → Calls Tryd.prog 16 #[.agg #[.int .i64 tt, .slice a1' n1 p1, .slice a2' n2 p2]] w' _ := fun w' hb => rfitN_any FB hFB dd0 _ _ _ xx0 w' (NdAt.below hb _ _ _ _ _ w0) (by omega)
        rw [hfb] at hF1 hF2
        obtain ⟨sb, hsb⟩ := same_bool xx0 xx1
        have hS1 : ∀ w', Below w.heap.size w w' → Calls Tryd.prog 20 #[.agg #[.int .i64 tt, .slice a1' n1 p1, .slice a2' n2 p2], .agg #[.int .i64 uu, .slice b1' m1 q1, .slice b2' m2 q2]] w' _ := fun w' hb => (same_der (NdAt.below hb _ _ _ _ _ w0) (NdAt.below hb _ _ _ _ _ w1)).mono (fun _ _ h => sameE_bool h hsb)
        have hS2 : ∀ w', Below w.heap.size w w' → Calls Tryd.prog 11 #[.agg #[.int .i64 tt, .slice a1' n1 p1, .slice a2' n2 p2], .agg #[.int .i64 uu, .slice b1' m1 q1, .slice b2' m2 q2]] w' _ := fun w' hb => (rsame_der (NdAt.below hb _ _ _ _ _ w0) (NdAt.below hb _ _ _ _ _ w1)).mono (fun _ _ h => sameE_bool h hsb)
        have hS3 : ∀ w', Below w.heap.size w w' → Calls Tryd.prog 20 #[.agg #[.int .i64 tt, .slice a1' n1 p1, .slice a2' n2 p2], .agg #[.int .i64 tt, .slice a1' n1 p1, .slice a2' n2 p2]] w' _ := fun w' hb => (same_der (NdAt.below hb _ _ _ _ _ w0) (NdAt.below hb _ _ _ _ _ w0)).mono (fun _ _ h => sameE_bool (r := true) h ⟨fun _ => rfl, fun _ => rfl⟩)
        have hX1 := boxed_b a2
        have hX2 := rboxed_b a2
        generalize boxedB a2 = qb at hX1 hX2
        clear hsb hfb hby hbA hbB hbAB hb3 hb4 hb5 hb6 hbw3 hbw4 hbw5 hr5 hr6 w0 w1 w2 hV x0 x1 x2 z0 z1 z2
        go_wp2_with fail
        go_region_held3 (fun w' => w'.cell? ⟨w.heap.size, 0, none⟩ = some (.int .i64 tt) ∧ w'.cell? ⟨w.heap.size, 1, none⟩ = some (.slice a1' n1 p1) ∧ w'.cell? ⟨w.heap.size, 2, none⟩ = some (.slice a2' n2 p2) ∧ w'.cell? ⟨w.heap.size + 1, 0, none⟩ = some (.int .i64 uu) ∧ w'.cell? ⟨w.heap.size + 1, 1, none⟩ = some (.slice b1' m1 q1) ∧ w'.cell? ⟨w.heap.size + 1, 2, none⟩ = some (.slice b2' m2 q2) ∧ HdT w w.heap.size (.int .i64 tt) (.slice a1' n1 p1) (.slice a2' n2 p2) (.int .i64 uu) (.slice b1' m1 q1) (.slice b2' m2 q2) (.slice a5 l.length c5) (.slice a6 l.length c6) l l w')
          (first | exact HdT.all (HdT.keep (HdT.out (by assumption)) g9) | exact HdT.all (HdT.keep (by assumption) g9) | exact HdT.all (HdT.keep (HdT.out (by assumption)) g8) | exact HdT.all (HdT.keep (by assumption) g8) | exact HdT.all (HdT.keep (HdT.out (by assumption)) g7) | exact HdT.all (HdT.keep (by assumption) g7) | exact HdT.all (HdT.keep (HdT.out (by assumption)) g6) | exact HdT.all (HdT.keep (by assumption) g6) | exact HdT.all (HdT.keep (HdT.out (by assumption)) g5) | exact HdT.all (HdT.keep (by assumption) g5) | exact HdT.all (HdT.keep (HdT.out (by assumption)) g4) | exact HdT.all (HdT.keep (by assumption) g4) | exact HdT.all (HdT.keep (HdT.out (by assumption)) g3) | exact HdT.all (HdT.keep (by assumption) g3) | exact HdT.all (HdT.keep (HdT.out (by assumption)) g2) | exact HdT.all (HdT.keep (by assumption) g2) | exact HdT.all (HdT.keep (HdT.out (by assumption)) g1) | exact HdT.all (HdT.keep (by assumption) g1) | exact HdT.all (by assumption) | exact HdT.all (HdT.drew hH) | exact HdT.all (HdT.drew (HdT.out (by assumption))) | exact HdT.all (HdT.drew (by assumption)))
          (first
            | (go_at_call 15; refine (hF1 _ (by exact (HdT.out (w := w) (l := l) (m := l) (by assumption)).bel)).mono ?_; rintro e v1 ⟨rfl, g1⟩)
            | (go_at_call 16; refine (hF2 _ (by exact (HdT.out (w := w) (l := l) (m := l) (by assumption)).bel)).mono ?_; rintro e v2 ⟨rfl, g2⟩)
            | (go_at_call 17; refine (rsame_true _ _ l _ (by exact (HdT.out (w := w) (l := l) (m := l) (by assumption)).r1) (by exact (HdT.out (w := w) (l := l) (m := l) (by assumption)).r2)).mono ?_; rintro e v3 ⟨rfl, g3⟩)
            | (go_at_call 18; refine (hX1 _).mono ?_; rintro e v4 ⟨rfl, g4⟩)
            | (go_at_call 19; refine (hX2 _).mono ?_; rintro e v5 ⟨rfl, g5⟩)
            | (go_at_call 20; refine (hS1 _ (by exact (HdT.out (w := w) (l := l) (m := l) (by assumption)).bel)).mono ?_; rintro e v6 ⟨rfl, g6⟩; clear hS1)
            | (go_at_call 11; refine (hS2 _ (by exact (HdT.out (w := w) (l := l) (m := l) (by assumption)).bel)).mono ?_; rintro e v7 ⟨rfl, g7⟩)
            | (go_at_call 20; refine (hS3 _ (by exact (HdT.out (w := w) (l := l) (m := l) (by assumption)).bel)).mono ?_; rintro e v8 ⟨rfl, g8⟩)
            | (go_at_call 8; refine (dawake_any _ (hT.below (by exact (HdT.out (w := w) (l := l) (m := l) (by assumption)).bel))).mono ?_; rintro e v9 ⟨rfl, g9⟩))
        all_goals (go_wp2_with fail; go_ret; first | exact ⟨rfl, (HdT.out (w := w) (l := l) (m := l) (by assumption)).bel⟩ | exact ⟨rfl, (‹HdT w _ _ _ _ _ _ _ _ _ l l _›).bel⟩)

set_option maxRecDepth 100000 in
theorem lifted (os : Os) (started : os.Started) (H : Type) (enc : TypeId × Value → H) :
    ReturnsInHanded {} Tryd.checked os 4 .any (fun w args => (Rows.derTellsSpec.pre enc Tryd.prog Tryd.f4 Rows.derTellsRow.domain false w args ∧ laidMetH Tryd.prog Rows.derTellsRow.laid w) ∧ sizedMet enc Tryd.prog Tryd.f4 (OpenSpec.ofChange Rows.derTellsSpec) false w args) (Rows.derTellsSpec.post enc Tryd.prog Tryd.f4 false true false false) := by
  refine change_laid_shaped (C := Tryd.checked) (X := fun w _ => laidMetH Tryd.prog Rows.derTellsRow.laid w) (fun _ _ _ hh h => h.of_heap hh) own started (by kernel_rfl) Tryd.func4
    (ChangeSpec.witness_shaped (enc := enc) (C := Tryd.checked) (os := os) (X := fun w _ => laidMetH Tryd.prog Rows.derTellsRow.laid w) false (World.laidAll Tryd.prog os Rows.derTellsRow.laid) #[.agg #[.int .i64 0, .slice none 0 0, .slice none 0 0], .agg #[.int .i64 0, .slice none 0 0, .slice none 0 0], .int .i64 0] 8 (World.laidAll_os _ _ _)
      (World.shaped_of_ZipB (by kernel_rfl) (by kernel_rfl)) (by kernel_rfl) (by kernel_rfl) (by kernel_rfl)
      (by rw [MakeChecks.laidMetH_plain _ _ _ (by kernel_rfl)]; exact laidMet_laidAll _ (by kernel_rfl) (by kernel_rfl))) ?_
  intro W base args ds gs before hval0 hW hsz0 hL hsh
  have hVars : Vars W := vars_of_laid hL hsh
  have hval : ∀ (j : Nat) t v, Tryd.f4.params[j]? = some t → args[j]? = some v → Value.okWide Tryd.prog W .any base t v := hval0
  have hW' := hW
  obtain ⟨p, q, hA0, hV, rfl, hfz, hnd⟩ := hW
  have hA : DataW.TrodAll enc Tryd.prog W 0 (fun _ => true) true Tryd.f4.params.toList args.toList ds p := hA0
  rw [Tryd.params4] at hA hval
  obtain ⟨v0, vs0, d0, ds0, p0, q0, hargs, rfl, rfl, h0, r0⟩ := trodAll_cons hA
  obtain ⟨v1, vs1, d1, ds1, p1, q1, rfl, rfl, rfl, h1, r1⟩ := trodAll_cons r0
  obtain ⟨v2, vs2, d2, ds2, p2, q2, rfl, rfl, rfl, h2, r2⟩ := trodAll_cons r1
  obtain ⟨rfl, rfl, rfl⟩ := trodAll_nil r2
  obtain rfl : args = #[v0, v1, v2] := by cases args; simp_all
  obtain ⟨rfl, rfl⟩ := trodVars_none hV
  obtain ⟨cs0, rfl, hcz0⟩ := okWide_struct Tryd.underlying26 (hval 0 26 v0 rfl rfl)
  obtain ⟨ct0, cb0, ck0, rfl⟩ := arr3 (hcz0.trans Tryd.cellsN)
  have k0 := h0
  have lt0 : ∀ x ∈ p0, x.block < W.heap.size := by obtain ⟨m, hm⟩ := k0; exact DataW.trod_lt m _ _ _ hm
  obtain ⟨dd0, xx0, w0⟩ : ∃ d n, NdAt W d ct0 cb0 ck0 n := by
    obtain ⟨fuel, hf⟩ := h0
    exact read_cells fuel _ _ _ _ (by simpa [Value.cells] using hf)
  obtain ⟨cs1, rfl, hcz1⟩ := okWide_struct Tryd.underlying26 (hval 1 26 v1 rfl rfl)
  obtain ⟨ct1, cb1, ck1, rfl⟩ := arr3 (hcz1.trans Tryd.cellsN)
  have k1 := h1
  have lt1 : ∀ x ∈ p1, x.block < W.heap.size := by obtain ⟨m, hm⟩ := k1; exact DataW.trod_lt m _ _ _ hm
  obtain ⟨dd1, xx1, w1⟩ : ∃ d n, NdAt W d ct1 cb1 ck1 n := by
    obtain ⟨fuel, hf⟩ := h1
    exact read_cells fuel _ _ _ _ (by simpa [Value.cells] using hf)
  obtain ⟨a2, rfl, rfl, rfl, w2⟩ := open_int Tryd.underlying3 (hval 2 3 v2 rfl rfl) h2
  clear hA0 hval0
  refine (walk ct0 cb0 ck0 dd0 xx0 ct1 cb1 ck1 dd1 xx1 a2 W w0 w1 w2 hVars).mono fun e W' ⟨he, bel⟩ => ?_
  subst he
  exact ⟨_, rfl, _, _, _, [], _, [], hW', trodAll_mk1 (shut_bool Tryd.underlying4 _), (trodAll_cons_mk (Below.trod laidOut (by kernel_rfl) (of_decide_eq_true (by kernel_rfl)) k0 bel lt0) (trodAll_cons_mk (Below.trod laidOut (by kernel_rfl) (of_decide_eq_true (by kernel_rfl)) k1 bel lt1) (trodAll_cons_mk (shut_int Tryd.underlying3 w2) trodAll_mk0))), rfl, bel.frame _, fun h => by cases h⟩

theorem over : Rows.derTellsRow.holds Tryd.pinned (OpenSpec.ofChange Rows.derTellsSpec) :=
  OpenClaim.holds_of_wide 4 Tryd.f4 rfl rfl rfl rfl rfl rfl rfl ⟨rfl, rfl, rfl, rfl, rfl⟩ rfl rfl rfl rfl rfl (by kernel_rfl) Tryd.func4 (by kernel_rfl)
    (of_decide_eq_true (by kernel_rfl)) (by unfold Func.isWrapper; first | (rw [if_pos (by decide +kernel)]; kernel_rfl) | (rw [if_neg (by decide +kernel)]; exact ⟨rfl, rfl⟩))
    (fun os started H enc _ => lifted os started H enc)

end Go.Proofs.YtjkciheoknjfhaaDoor.derTells
namespace Go.Proofs.YtjkciheoknjfhaaDoor
theorem derTells_card : Rows.DerTellsCardSaid :=
  Claim7.holds_tied_plain_at .later [] [.data, .pinned] true (true, "7973f1f7aa88e92370905565be3a04acdac114a7f89cd62829bb056a977e33c6") true
    derTells.over (fun _ h => by cases h) (by kernel_rfl) (fun _ h => by cases h) derTells_row_tie rfl ⟨rfl, rfl⟩ (by kernel_rfl) rfl
    (fun f fn hf hfn => by
      obtain rfl : f = 4 := Option.some.inj ((show Tryd.prog.funcNamed Tryd.f4.name = some 4 by kernel_rfl).symm.trans hf) |>.symm
      obtain rfl : fn = Tryd.f4 := (Option.some.inj (Tryd.func4.symm.trans hfn)).symm
      exact ⟨by kernel_rfl, fun j t ht => by
        rw [Tryd.params4] at ht
        have hm : t ∈ [26, 26, 3] := by simpa using Array.mem_of_getElem? ht
        have hall : ([26, 26, 3].all fun u => !Tryd.prog.wantsStandIn u) = true := by kernel_rfl
        exact (show Tryd.prog.wantsStandIn t = false by simpa using List.all_eq_true.1 hall t hm)⟩)
    (by kernel_rfl)
end Go.Proofs.YtjkciheoknjfhaaDoor
