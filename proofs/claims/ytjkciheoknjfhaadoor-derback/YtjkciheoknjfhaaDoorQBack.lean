/- For every value and every text: apostillelaw05.DerBack returns true, and each argument reads afterwards as it read before; the library's two tables of characters are as the program's text lays them. No other condition. -/
import Derived.Test.YtjkciheoknjfhaaDoorELaw
import Derived.WalkKit
import Derived.ProofKit
import Derived.OpenShut
import Derived.ShutString
import Derived.ChangeOld
import Derived.Below
namespace Go.Proofs.YtjkciheoknjfhaaDoor.derBack
open Go.ChangeShapes Go.WideShapes Go.ChangeAt Go.RowKit
open Go.ChangeMaps (open_string shut_string)
set_option linter.unusedVariables false

set_option maxRecDepth 100000 in
set_option maxHeartbeats 4000000 in
theorem walk (ct0 cb0 ck0 : Value) (dd0 : Nat) (xx0 : Nd) (a1 : Option Addr) (len1 cap1 : Nat) (z1 : List Int) (w : World) (w0 : NdAt w dd0 ct0 cb0 ck0 xx0) (w1 : IsRow .u8 w a1 len1 cap1 z1) (hV : Vars w) :
    Calls Tryd.prog 5 #[.agg #[ct0, cb0, ck0], .slice a1 len1 cap1] w fun e w' => e = .returned (.bool true) ∧ Below w.heap.size w w' := by
  have hT : UTabs w := hV
  have htd := isRow_tidy w1
  obtain ⟨l, rfl, hr⟩ := w1.row wf_u8
  clear w1
  obtain ⟨FB, hFB⟩ := exists_FB
  have hcap : l.length ≤ cap1 := by obtain ⟨_, _, he, h1, _⟩ := hr; simp at he; omega
  obtain ⟨tt, a1', n1, p1, a2, n2, p2, rfl, rfl, rfl⟩ := w0.forms
  have hb0 : Below w.heap.size w (w.alloc (.cells #[.int .i64 tt, .slice a1' n1 p1, .slice a2 n2 p2] 26)) := keep_alloc _ _
  obtain ⟨x0, x1, x2⟩ := box_cell w (.int .i64 tt) (.slice a1' n1 p1) (.slice a2 n2 p2) 26
  have hsm := small_der dd0 _ _ _ xx0 _ (NdAt.below hb0 _ _ _ _ _ w0)
  go_enter Tryd.func5, Tryd.ntmps5
  go_wp2_with fail
  refine hsm.mono ?_
  rintro e w2 ⟨⟨r, rfl, hr1, hr2, hr3⟩, hb2⟩
  have hbw2 := keep_trans hb0 hb2
  have y0 := Below.cells hb2 x0
  have y1 := Below.cells hb2 x1
  have y2 := Below.cells hb2 x2
  clear hsm x0 x1 x2
  by_cases hrn : r < 0
  · have hrd : decide (r < 0) = true := decide_eq_true hrn
    clear hr3
    go_wp2_with fail
    refine (dawake_any _ (hT.below hbw2)).mono ?_
    rintro e w3 ⟨rfl, hb3⟩
    go_wp2_with fail
    go_ret
    exact ⟨rfl, keep_trans hbw2 hb3⟩
  · have hrd : decide (r < 0) = false := decide_eq_false hrn
    have hsz := hr3 (by omega)
    clear hr3
    by_cases hl3 : 3000 < l.length
    · have hli : (3000 : Int) < (l.length : Int) := by omega
      go_wp2_with fail
      refine (dawake_any _ (hT.below hbw2)).mono ?_
      rintro e w3 ⟨rfl, hb3⟩
      go_wp2_with fail
      go_ret
      exact ⟨rfl, keep_trans hbw2 hb3⟩
    · have hli : ¬ (3000 : Int) < (l.length : Int) := by omega
      have hld : decide ((3000 : Int) < (l.length : Int)) = false := decide_eq_false hli
      have hle : decide (3000 < l.length) = false := decide_eq_false hl3
      have hn2 := NdAt.below hbw2 _ _ _ _ _ w0
      have hfit := rfitN_any FB hFB dd0 _ _ _ xx0 w2 hn2 (by omega)
      go_wp2_with fail
      refine hfit.mono ?_
      rintro e w3 ⟨rfl, hb3⟩
      have hbw3 := keep_trans hbw2 hb3
      have y0 := Below.cells hb3 y0
      have y1 := Below.cells hb3 y1
      have y2 := Below.cells hb3 y2
      have hn3 := NdAt.below hb3 _ _ _ _ _ hn2
      clear hfit hn2
      cases hbo : bytesD FB xx0 with
      | none =>
        rw [show (Option.none : Option (List Nat)).isSome = false from rfl]
        clear y0 y1 y2 hn3
        have hp := parse_der FB hFB _ l w3 (hr.below hbw3) htd (hT.below hbw3) (by omega)
        go_wp2_with fail
        refine hp.mono ?_
        rintro e w5 ⟨⟨er, her, hpos, rfl⟩ | ⟨y, d5, e0, e1, e2, hok, rfl, hnd⟩, hb5⟩
        · have heri : ((er : Int) != 0) = true := by simp; omega
          have hbf := keep_trans hbw3 (keep_trans hb5 (keep_alloc w5 (.cells #[.int .i64 0, .slice none 0 0, .slice none 0 0] 26)))
          clear hp her
          unfold nod0
          go_wp2_with fail
          refine (dawake_any _ (hT.below hbf)).mono ?_
          rintro e w6 ⟨rfl, hb6⟩
          go_wp2_with fail
          go_ret
          exact ⟨rfl, keep_trans hbf hb6⟩
        · obtain ⟨uu, b1, m1, q1, b2, m2, q2, rfl, rfl, rfl⟩ := hnd.forms
          have hby := bytes_parse hr.under hok
          have hys := size_of_bytes hby d5
          have hbf := keep_trans hbw3 (keep_trans hb5 (keep_alloc w5 (.cells #[.int .i64 uu, .slice b1 m1 q1, .slice b2 m2 q2] 26)))
          obtain ⟨z0, z1, z2⟩ := box_cell w5 (.int .i64 uu) (.slice b1 m1 q1) (.slice b2 m2 q2) 26
          have hn5 := NdAt.below (keep_alloc w5 (.cells #[.int .i64 uu, .slice b1 m1 q1, .slice b2 m2 q2] 26)) _ _ _ _ _ hnd
          have hbd := (bytes_der FB hFB d5 _ _ _ y _ hn5 (by omega) (hT.below hbf)).mono (fun _ _ h => h.good hby)
          clear hp hok
          go_wp2_with fail
          generalize w5.alloc (.cells #[.int .i64 uu, .slice b1 m1 q1, .slice b2 m2 q2] 26) = W5 at *
          refine hbd.mono ?_
          rintro e w6 ⟨v6, rfl, hr6, ht6, hb6⟩
          have hbf6 := keep_trans hbf hb6
          have z0 := Below.cells hb6 z0
          have z1 := Below.cells hb6 z1
          have z2 := Below.cells hb6 z2
          have hn6 := NdAt.below hb6 _ _ _ _ _ hn5
          have hfd := fit_der FB hFB d5 _ _ _ y w6 hn6 (by omega) (hT.below hbf6)
          rw [show (bytesD FB y).isSome = true by rw [hby]; rfl] at hfd
          clear hbd
          obtain ⟨va6, vc6, rfl⟩ := hr6.sl
          go_wp2_with fail
          refine hfd.mono ?_
          rintro e w7 ⟨rfl, hb7⟩
          have hbf7 := keep_trans hbf6 hb7
          clear hfd z0 z1 z2
          go_wp2_with fail
          refine (rsame_true _ _ l w7 (hr6.below hb7) (hr.below hbf7)).mono ?_
          rintro e w8 ⟨rfl, hb8⟩
          have hbf8 := keep_trans hbf7 hb8
          go_wp2_with fail
          refine (dawake_any _ (hT.below hbf8)).mono ?_
          rintro e w9 ⟨rfl, hb9⟩
          go_wp2_with fail
          go_ret
          exact ⟨rfl, keep_trans hbf8 hb9⟩
      | some m =>
        rw [show (some m).isSome = true from rfl]
        have hml : m.length ≤ 15000 := by
          have := wr_size FB 32 dd0 xx0 m (bytes_wr hbo).1 ⟨_, _, _, _, w0⟩
          omega
        have hbd0 := (bytes_der FB hFB dd0 _ _ _ xx0 w3 hn3 (by omega) (hT.below hbw3)).mono (fun _ _ h => h.good hbo)
        go_wp2_with fail
        refine hbd0.mono ?_
        rintro e w4 ⟨v4, rfl, hr4, htd4, hb4⟩
        have hbw4 := keep_trans hbw3 hb4
        have y0 := Below.cells hb4 y0
        have y1 := Below.cells hb4 y1
        have y2 := Below.cells hb4 y2
        have hn4 := NdAt.below hb4 _ _ _ _ _ hn3
        have hpd := (parse_der FB hFB v4 m w4 hr4 htd4 (hT.below hbw4) (by omega)).mono (fun _ _ h => h.good (parse_bytes hbo))
        obtain ⟨va4, vc4, rfl⟩ := hr4.sl
        clear hbd0 hn3
        go_wp2_with fail
        refine hpd.mono ?_
        rintro e w5 ⟨d5, e0, e1, e2, rfl, hnd5, hb5⟩
        obtain ⟨uu, b1, m1, q1, b2, m2, q2, rfl, rfl, rfl⟩ := hnd5.forms
        have hk5 := keep_trans hb5 (keep_alloc w5 (.cells #[.int .i64 uu, .slice b1 m1 q1, .slice b2 m2 q2] 26))
        have hbw5 := keep_trans hbw4 hk5
        have y0 := Below.cells hk5 y0
        have y1 := Below.cells hk5 y1
        have y2 := Below.cells hk5 y2
        obtain ⟨z0, z1, z2⟩ := box_cell w5 (.int .i64 uu) (.slice b1 m1 q1) (.slice b2 m2 q2) 26
        have hn5 := NdAt.below hk5 _ _ _ _ _ hn4
        have hm5 := NdAt.below (keep_alloc w5 (.cells #[.int .i64 uu, .slice b1 m1 q1, .slice b2 m2 q2] 26)) _ _ _ _ _ hnd5
        clear hpd
        go_wp2_with fail
        generalize w5.alloc (.cells #[.int .i64 uu, .slice b1 m1 q1, .slice b2 m2 q2] 26) = W5 at *
        refine (dsame_true hm5 hn5).mono ?_
        rintro e w6 ⟨rfl, hb6⟩
        have hbw6 := keep_trans hbw5 hb6
        clear y0 y1 y2 z0 z1 z2 hm5 hn5 hn4 hnd5
        have hp := parse_der FB hFB _ l w6 (hr.below hbw6) htd (hT.below hbw6) (by omega)
        go_wp2_with fail
        refine hp.mono ?_
        rintro e w5 ⟨⟨er, her, hpos, rfl⟩ | ⟨y, d5, e0, e1, e2, hok, rfl, hnd⟩, hb5⟩
        · have heri : ((er : Int) != 0) = true := by simp; omega
          have hbf := keep_trans hbw6 (keep_trans hb5 (keep_alloc w5 (.cells #[.int .i64 0, .slice none 0 0, .slice none 0 0] 26)))
          clear hp her
          unfold nod0
          go_wp2_with fail
          refine (dawake_any _ (hT.below hbf)).mono ?_
          rintro e w6 ⟨rfl, hb6⟩
          go_wp2_with fail
          go_ret
          exact ⟨rfl, keep_trans hbf hb6⟩
        · obtain ⟨uu, b1, m1, q1, b2, m2, q2, rfl, rfl, rfl⟩ := hnd.forms
          have hby := bytes_parse hr.under hok
          have hys := size_of_bytes hby d5
          have hbf := keep_trans hbw6 (keep_trans hb5 (keep_alloc w5 (.cells #[.int .i64 uu, .slice b1 m1 q1, .slice b2 m2 q2] 26)))
          obtain ⟨z0, z1, z2⟩ := box_cell w5 (.int .i64 uu) (.slice b1 m1 q1) (.slice b2 m2 q2) 26
          have hn5 := NdAt.below (keep_alloc w5 (.cells #[.int .i64 uu, .slice b1 m1 q1, .slice b2 m2 q2] 26)) _ _ _ _ _ hnd
          have hbd := (bytes_der FB hFB d5 _ _ _ y _ hn5 (by omega) (hT.below hbf)).mono (fun _ _ h => h.good hby)
          clear hp hok
          go_wp2_with fail
          generalize w5.alloc (.cells #[.int .i64 uu, .slice b1 m1 q1, .slice b2 m2 q2] 26) = W5 at *
          refine hbd.mono ?_
          rintro e w6 ⟨v6, rfl, hr6, ht6, hb6⟩
          have hbf6 := keep_trans hbf hb6
          have z0 := Below.cells hb6 z0
          have z1 := Below.cells hb6 z1
          have z2 := Below.cells hb6 z2
          have hn6 := NdAt.below hb6 _ _ _ _ _ hn5
          have hfd := fit_der FB hFB d5 _ _ _ y w6 hn6 (by omega) (hT.below hbf6)
          rw [show (bytesD FB y).isSome = true by rw [hby]; rfl] at hfd
          clear hbd
          obtain ⟨va6, vc6, rfl⟩ := hr6.sl
          go_wp2_with fail
          refine hfd.mono ?_
          rintro e w7 ⟨rfl, hb7⟩
          have hbf7 := keep_trans hbf6 hb7
          clear hfd z0 z1 z2
          go_wp2_with fail
          refine (rsame_true _ _ l w7 (hr6.below hb7) (hr.below hbf7)).mono ?_
          rintro e w8 ⟨rfl, hb8⟩
          have hbf8 := keep_trans hbf7 hb8
          go_wp2_with fail
          refine (dawake_any _ (hT.below hbf8)).mono ?_
          rintro e w9 ⟨rfl, hb9⟩
          go_wp2_with fail
          go_ret
          exact ⟨rfl, keep_trans hbf8 hb9⟩

set_option maxRecDepth 100000 in
theorem lifted (os : Os) (started : os.Started) (H : Type) (enc : TypeId × Value → H) :
    ReturnsInHanded {} Tryd.checked os 5 .any (fun w args => (Rows.derBackSpec.pre enc Tryd.prog Tryd.f5 Rows.derBackRow.domain false w args ∧ laidMetH Tryd.prog Rows.derBackRow.laid w) ∧ sizedMet enc Tryd.prog Tryd.f5 (OpenSpec.ofChange Rows.derBackSpec) false w args) (Rows.derBackSpec.post enc Tryd.prog Tryd.f5 false true false false) := by
  refine change_laid_shaped (C := Tryd.checked) (X := fun w _ => laidMetH Tryd.prog Rows.derBackRow.laid w) (fun _ _ _ hh h => h.of_heap hh) own started (by kernel_rfl) Tryd.func5
    (ChangeSpec.witness_shaped (enc := enc) (C := Tryd.checked) (os := os) (X := fun w _ => laidMetH Tryd.prog Rows.derBackRow.laid w) false (World.laidAll Tryd.prog os Rows.derBackRow.laid) #[.agg #[.int .i64 0, .slice none 0 0, .slice none 0 0], .slice none 0 0] 8 (World.laidAll_os _ _ _)
      (World.shaped_of_ZipB (by kernel_rfl) (by kernel_rfl)) (by kernel_rfl) (by kernel_rfl) (by kernel_rfl)
      (by rw [MakeChecks.laidMetH_plain _ _ _ (by kernel_rfl)]; exact laidMet_laidAll _ (by kernel_rfl) (by kernel_rfl))) ?_
  intro W base args ds gs before hval0 hW hsz0 hL hsh
  have hVars : Vars W := vars_of_laid hL hsh
  have hval : ∀ (j : Nat) t v, Tryd.f5.params[j]? = some t → args[j]? = some v → Value.okWide Tryd.prog W .any base t v := hval0
  have hW' := hW
  obtain ⟨p, q, hA0, hV, rfl, hfz, hnd⟩ := hW
  have hA : DataW.TrodAll enc Tryd.prog W 0 (fun _ => true) true Tryd.f5.params.toList args.toList ds p := hA0
  rw [Tryd.params5] at hA hval
  obtain ⟨v0, vs0, d0, ds0, p0, q0, hargs, rfl, rfl, h0, r0⟩ := trodAll_cons hA
  obtain ⟨v1, vs1, d1, ds1, p1, q1, rfl, rfl, rfl, h1, r1⟩ := trodAll_cons r0
  obtain ⟨rfl, rfl, rfl⟩ := trodAll_nil r1
  obtain rfl : args = #[v0, v1] := by cases args; simp_all
  obtain ⟨rfl, rfl⟩ := trodVars_none hV
  obtain ⟨cs0, rfl, hcz0⟩ := okWide_struct Tryd.underlying26 (hval 0 26 v0 rfl rfl)
  obtain ⟨ct0, cb0, ck0, rfl⟩ := arr3 (hcz0.trans Tryd.cellsN)
  have k0 := h0
  have lt0 : ∀ x ∈ p0, x.block < W.heap.size := by obtain ⟨m, hm⟩ := k0; exact DataW.trod_lt m _ _ _ hm
  obtain ⟨dd0, xx0, w0⟩ : ∃ d n, NdAt W d ct0 cb0 ck0 n := by
    obtain ⟨fuel, hf⟩ := h0
    exact read_cells fuel _ _ _ _ (by simpa [Value.cells] using hf)
  obtain ⟨a1, len1, cap1, rfl⟩ := okWide_slice Tryd.underlying22 (hval 1 22 v1 rfl rfl)
  have k1 := h1
  have lt1 : ∀ x ∈ p1, x.block < W.heap.size := by obtain ⟨m, hm⟩ := k1; exact DataW.trod_lt m _ _ _ hm
  obtain ⟨z1, w1⟩ : ∃ zs, IsRow .u8 W a1 len1 cap1 zs := by
    obtain ⟨fuel, hf⟩ := h1
    rcases open_ints Tryd.underlying22 Tryd.underlying5 (by kernel_rfl) hf with ⟨hcs, _⟩ | ⟨x, l, c, zs, hcs, _, hl, hm, hz, _, hcell, hwz⟩
    · simp [Value.cells] at hcs
      obtain ⟨rfl, rfl, rfl⟩ := hcs
      exact ⟨[], .inl ⟨rfl, rfl, rfl, rfl⟩⟩
    · simp [Value.cells] at hcs
      obtain ⟨rfl, rfl, rfl⟩ := hcs
      exact ⟨zs, .inr ⟨_, rfl, hl, hm, by simpa using hz, hcell, hwz⟩⟩
  clear hA0 hval0
  refine (walk ct0 cb0 ck0 dd0 xx0 a1 len1 cap1 z1 W w0 w1 hVars).mono fun e W' ⟨he, bel⟩ => ?_
  subst he
  exact ⟨_, rfl, _, _, _, [], _, [], hW', trodAll_mk1 (shut_bool Tryd.underlying4 _), (trodAll_cons_mk (Below.trod laidOut (by kernel_rfl) (of_decide_eq_true (by kernel_rfl)) k0 bel lt0) (trodAll_cons_mk (Below.trod laidOut (by kernel_rfl) (of_decide_eq_true (by kernel_rfl)) k1 bel lt1) trodAll_mk0)), rfl, bel.frame _, fun h => by cases h⟩

theorem over : Rows.derBackRow.holds Tryd.pinned (OpenSpec.ofChange Rows.derBackSpec) :=
  OpenClaim.holds_of_wide 5 Tryd.f5 rfl rfl rfl rfl rfl rfl rfl ⟨rfl, rfl, rfl, rfl, rfl⟩ rfl rfl rfl rfl rfl (by kernel_rfl) Tryd.func5 (by kernel_rfl)
    (of_decide_eq_true (by kernel_rfl)) (by unfold Func.isWrapper; first | (rw [if_pos (by decide +kernel)]; kernel_rfl) | (rw [if_neg (by decide +kernel)]; exact ⟨rfl, rfl⟩))
    (fun os started H enc _ => lifted os started H enc)

end Go.Proofs.YtjkciheoknjfhaaDoor.derBack
namespace Go.Proofs.YtjkciheoknjfhaaDoor
theorem derBack_card : Rows.DerBackCardSaid :=
  Claim7.holds_tied_plain_at .later [] [.data, .pinned] true (true, "7973f1f7aa88e92370905565be3a04acdac114a7f89cd62829bb056a977e33c6") true
    derBack.over (fun _ h => by cases h) (by kernel_rfl) (fun _ h => by cases h) derBack_row_tie rfl ⟨rfl, rfl⟩ (by kernel_rfl) rfl
    (fun f fn hf hfn => by
      obtain rfl : f = 5 := Option.some.inj ((show Tryd.prog.funcNamed Tryd.f5.name = some 5 by kernel_rfl).symm.trans hf) |>.symm
      obtain rfl : fn = Tryd.f5 := (Option.some.inj (Tryd.func5.symm.trans hfn)).symm
      exact ⟨by kernel_rfl, fun j t ht => by
        rw [Tryd.params5] at ht
        have hm : t ∈ [26, 22] := by simpa using Array.mem_of_getElem? ht
        have hall : ([26, 22].all fun u => !Tryd.prog.wantsStandIn u) = true := by kernel_rfl
        exact (show Tryd.prog.wantsStandIn t = false by simpa using List.all_eq_true.1 hall t hm)⟩)
    (by kernel_rfl)
end Go.Proofs.YtjkciheoknjfhaaDoor
