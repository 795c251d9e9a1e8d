/- For every key, every number and every text: apostillelaw16.HssSigns returns true, and each argument reads afterwards as it read before; sha's two tables of roots are as the program's text lays them. No other condition. -/
import Derived.Test.YtogiballdmgcpaaGreatDoorHN1
import Derived.Test.YtogiballdmgcpaaGreatDoorLtR2
import Derived.Test.YtogiballdmgcpaaGreatDoorLhT
import Derived.WalkKit
import Derived.ProofKit
import Derived.OpenShut
import Derived.ShutString
import Derived.ChangeOld
import Derived.Below
namespace Go.Proofs.YtogiballdmgcpaaGreatDoor.hssSigns
open Go.ChangeShapes Go.WideShapes Go.ChangeAt Go.RowKit
open Go.ChangeMaps (open_string shut_string)
set_option linter.unusedVariables false

set_option maxRecDepth 100000 in
set_option maxHeartbeats 4000000 in
theorem walk (cs0 : Array Value) (kt0 : Value) (kl0 : List (Int × Int)) (ki0 : Value) (kil0 : List Nat) (ks0 : Value) (ksl0 : List Nat) (a1 : Int) (a2 : Option Addr) (len2 cap2 : Nat) (z2 : List Int) (w : World) (w0 : HkIs w cs0 kt0 kl0 ki0 kil0 ks0 ksl0) (w1 : (Lit.int .u64 a1).wf = true) (w2 : IsRow .u8 w a2 len2 cap2 z2) (hV : Vars w) :
    Calls Tryz.prog 3 #[.agg cs0, .int .u64 a1, .slice a2 len2 cap2] w fun e w' => e = .returned (.bool true) ∧ Below w.heap.size w w' := by
  obtain ⟨rfl, ht, ri, ti, rs, tis⟩ := w0
  have tt : Tidy (.slice a2 len2 cap2) := w2.tidy
  obtain ⟨text, rfl, rt⟩ := w2.row wf_u8
  have hq2 := wf_u64 a1 w1
  obtain ⟨n, rfl⟩ : ∃ q : Nat, a1 = (q : Int) := ⟨a1.toNat, by omega⟩
  have hn : n < 18446744073709551616 := by omega
  have hT : Roots w := hV
  have haw := fun y (k : Below w.heap.size w y) => awakeH_any y (hT.below k)
  clear w1 w2 hq2
  generalize kl0 = kts at *
  generalize kil0 = id at *
  generalize ksl0 = seed at *
  obtain ⟨ia, ic, rfl, _⟩ := ri.opens rfl
  obtain ⟨sa, sc, rfl, _⟩ := rs.opens rfl
  have hli := fun y (k : Below w.heap.size w y) => clightH kts kt0 ia sa id.length ic seed.length sc y (ht.below k)
  have bT := BxK.new w kt0 (.slice ia id.length ic) (.slice sa seed.length sc)
  have k0 := keep_alloc w (.cells #[kt0, .slice ia id.length ic, .slice sa seed.length sc] 25)
  by_cases hl : LightH kts id.length seed.length
  · rw [decide_eq_true hl] at hli
    by_cases hf : id.length ≤ 300 ∧ seed.length ≤ 300 ∧ text.length ≤ 300
    · have hfe := fun y => few3H ia sa a2 id.length seed.length text.length ic sc cap2 y
      rw [decide_eq_true hf] at hfe
      obtain ⟨c1, X1, hp1, hp2⟩ := both_pubH kts kt0 _ _ id seed hl ht ri ti rs tis hT
      obtain ⟨c2, X2, hs1, hs2⟩ := both_sgnH kts kt0 _ _ _ id seed text n hl ht ri ti rs tis rt tt hf.2.2 hT hn
      obtain ⟨ta, tc, rfl, _⟩ := ht
      clear ri rs rt ti tis tt hT hf hl hn
      go_enter Tryz.func3, Tryz.ntmps3
      go_wp2_with (first
        | (refine wpList_load_row rfl 25 _ (by rfl) w.heap.size (by rfl) _ _ _ _ bT.here Tryz.underlying25 rfl (by kernel_rfl) ?_)
        | (go_at_call 6; refine (hli _ k0).mono ?_; rintro e y0 ⟨rfl, g0⟩; have b0 := bT.below g0; have e01 := b0.c1; have e02 := b0.c2; clear bT)
        | (go_at_call 7; refine (hfe _).mono ?_; rintro e y1 ⟨rfl, g1⟩; have k1 := keep_trans k0 (keep_trans g0 g1); have b1 := b0.below g1; clear b0)
        | (refine wpList_load_row rfl 25 _ (by rfl) w.heap.size (by rfl) _ _ _ _ b1.here Tryz.underlying25 rfl (by kernel_rfl) ?_)
        | (go_at_call 9; refine (hp1 _ k1).mono ?_; rintro e y2 ⟨v1, rfl, r1, g2⟩; obtain ⟨j1, d1, rfl, _⟩ := r1.opens rfl; have k2 := keep_trans k1 g2; have b2 := b1.below g2; clear b1)
        | (refine wpList_load_row rfl 25 _ (by rfl) w.heap.size (by rfl) _ _ _ _ b2.here Tryz.underlying25 rfl (by kernel_rfl) ?_)
        | (go_at_call 10; refine (hp2 _ k2).mono ?_; rintro e y3 ⟨v2, rfl, r2, g3⟩; obtain ⟨j2, d2, rfl, _⟩ := r2.opens rfl; have k3 := keep_trans k2 g3; have b3 := b2.below g3; clear b2)
        | (refine wpList_load_row rfl 25 _ (by rfl) w.heap.size (by rfl) _ _ _ _ b3.here Tryz.underlying25 rfl (by kernel_rfl) ?_)
        | (go_at_call 11; refine (hs1 _ k3).mono ?_; rintro e y4 ⟨v3, rfl, r3, g4⟩; obtain ⟨j3, d3, rfl, _⟩ := r3.opens rfl; have k4 := keep_trans k3 g4; have b4 := b3.below g4; clear b3)
        | (refine wpList_load_row rfl 25 _ (by rfl) w.heap.size (by rfl) _ _ _ _ b4.here Tryz.underlying25 rfl (by kernel_rfl) ?_)
        | (go_at_call 12; refine (hs2 _ k4).mono ?_; rintro e y5 ⟨v4, rfl, r4, g5⟩; obtain ⟨j4, d4, rfl, _⟩ := r4.opens rfl; have k5 := keep_trans k4 g5; clear b4; have g45 := keep_trans g4 g5; have g35 := keep_trans g3 g45; have hs5 := rsame_true _ _ _ y5 (r1.below g35) (r2.below g45))
        | (go_at_call 13; have hu := hs5; clear hs5; refine hu.mono ?_; rintro e y6 ⟨rfl, g6⟩; have k6 := keep_trans k5 g6; have hs6 := rsame_true _ _ _ y6 ((r3.below g5).below g6) (r4.below g6))
        | (go_at_call 13; refine hs6.mono ?_; rintro e y7 ⟨rfl, g7⟩; have k7 := keep_trans k6 g7)
        | (go_at_call 8; refine (haw _ k7).mono ?_; rintro e y8 ⟨rfl, g8⟩)
        | fail)
      go_ret
      exact ⟨rfl, keep_trans k7 g8⟩
    · have hfe := fun y => few3H ia sa a2 id.length seed.length text.length ic sc cap2 y
      rw [decide_eq_false hf] at hfe
      obtain ⟨ta, tc, rfl, _⟩ := ht
      clear ri rs rt ti tis tt hT hf hl hn
      go_enter Tryz.func3, Tryz.ntmps3
      go_wp2_with (first
        | (refine wpList_load_row rfl 25 _ (by rfl) w.heap.size (by rfl) _ _ _ _ bT.here Tryz.underlying25 rfl (by kernel_rfl) ?_)
        | (go_at_call 6; refine (hli _ k0).mono ?_; rintro e y0 ⟨rfl, g0⟩; have b0 := bT.below g0; have e01 := b0.c1; have e02 := b0.c2; clear bT)
        | (go_at_call 7; refine (hfe _).mono ?_; rintro e y1 ⟨rfl, g1⟩; have k1 := keep_trans k0 (keep_trans g0 g1))
        | (go_at_call 8; refine (haw _ k1).mono ?_; rintro e y2 ⟨rfl, g2⟩)
        | fail)
      go_ret
      exact ⟨rfl, keep_trans k1 g2⟩
  · rw [decide_eq_false hl] at hli
    obtain ⟨ta, tc, rfl, _⟩ := ht
    clear ri rs rt ti tis tt hT hl hn
    go_enter Tryz.func3, Tryz.ntmps3
    go_wp2_with (first
      | (refine wpList_load_row rfl 25 _ (by rfl) w.heap.size (by rfl) _ _ _ _ bT.here Tryz.underlying25 rfl (by kernel_rfl) ?_)
      | (go_at_call 6; refine (hli _ k0).mono ?_; rintro e y0 ⟨rfl, g0⟩; have k01 := keep_trans k0 g0)
      | (go_at_call 8; refine (haw _ k01).mono ?_; rintro e y2 ⟨rfl, g2⟩)
      | fail)
    go_ret
    exact ⟨rfl, keep_trans k01 g2⟩

set_option maxRecDepth 100000 in
theorem lifted (os : Os) (started : os.Started) (H : Type) (enc : TypeId × Value → H) :
    ReturnsInHanded {} Tryz.checked os 3 .any (fun w args => (Rows.hssSignsSpec.pre enc Tryz.prog Tryz.f3 Rows.hssSignsRow.domain false w args ∧ laidMetH Tryz.prog Rows.hssSignsRow.laid w) ∧ sizedMet enc Tryz.prog Tryz.f3 (OpenSpec.ofChange Rows.hssSignsSpec) false w args) (Rows.hssSignsSpec.post enc Tryz.prog Tryz.f3 false true false false) := by
  refine change_laid_shaped (C := Tryz.checked) (X := fun w _ => laidMetH Tryz.prog Rows.hssSignsRow.laid w) (fun _ _ _ hh h => h.of_heap hh) own started (by kernel_rfl) Tryz.func3
    (ChangeSpec.witness_shaped (enc := enc) (C := Tryz.checked) (os := os) (X := fun w _ => laidMetH Tryz.prog Rows.hssSignsRow.laid w) false (World.laidAll Tryz.prog os Rows.hssSignsRow.laid) #[.agg #[.slice none 0 0, .slice none 0 0, .slice none 0 0], .int .u64 0, .slice none 0 0] 8 (World.laidAll_os _ _ _)
      (World.shaped_of_ZipB (by kernel_rfl) (by kernel_rfl)) (by kernel_rfl) (by kernel_rfl) (by kernel_rfl)
      (by rw [MakeChecks.laidMetH_plain _ _ _ (by kernel_rfl)]; exact laidMet_laidAll _ (by kernel_rfl) (by kernel_rfl))) ?_
  intro W base args ds gs before hval0 hW hsz0 hL hsh
  have hVars : Vars W := vars_of_laid hL hsh
  have hval : ∀ (j : Nat) t v, Tryz.f3.params[j]? = some t → args[j]? = some v → Value.okWide Tryz.prog W .any base t v := hval0
  have hW' := hW
  obtain ⟨p, q, hA0, hV, rfl, hfz, hnd⟩ := hW
  have hA : DataW.TrodAll enc Tryz.prog W 0 (fun _ => true) true Tryz.f3.params.toList args.toList ds p := hA0
  rw [Tryz.params3] at hA hval
  obtain ⟨v0, vs0, d0, ds0, p0, q0, hargs, rfl, rfl, h0, r0⟩ := trodAll_cons hA
  obtain ⟨v1, vs1, d1, ds1, p1, q1, rfl, rfl, rfl, h1, r1⟩ := trodAll_cons r0
  obtain ⟨v2, vs2, d2, ds2, p2, q2, rfl, rfl, rfl, h2, r2⟩ := trodAll_cons r1
  obtain ⟨rfl, rfl, rfl⟩ := trodAll_nil r2
  obtain rfl : args = #[v0, v1, v2] := by cases args; simp_all
  obtain ⟨rfl, rfl⟩ := trodVars_none hV
  obtain ⟨cs0, rfl, hcz0⟩ := okWide_struct Tryz.underlying25 (hval 0 25 v0 rfl rfl)
  have k0 := h0
  have lt0 : ∀ x ∈ p0, x.block < W.heap.size := by obtain ⟨m, hm⟩ := k0; exact DataW.trod_lt m _ _ _ hm
  obtain ⟨kt0, kl0, ki0, kil0, ks0, ksl0, w0⟩ : ∃ kt kl ki kil ks ksl, HkIs W cs0 kt kl ki kil ks ksl := by
    obtain ⟨fuel, hf⟩ := h0
    exact read_keyH (by simpa [Value.cells] using hf)
  obtain ⟨a1, rfl, rfl, rfl, w1⟩ := open_int Tryz.underlying26 (hval 1 26 v1 rfl rfl) h1
  obtain ⟨a2, len2, cap2, rfl⟩ := okWide_slice Tryz.underlying23 (hval 2 23 v2 rfl rfl)
  have k2 := h2
  have lt2 : ∀ x ∈ p2, x.block < W.heap.size := by obtain ⟨m, hm⟩ := k2; exact DataW.trod_lt m _ _ _ hm
  obtain ⟨z2, w2⟩ : ∃ zs, IsRow .u8 W a2 len2 cap2 zs := by
    obtain ⟨fuel, hf⟩ := h2
    rcases open_ints Tryz.underlying23 Tryz.underlying5 (by kernel_rfl) hf with ⟨hcs, _⟩ | ⟨x, l, c, zs, hcs, _, hl, hm, hz, _, hcell, hwz⟩
    · simp [Value.cells] at hcs
      obtain ⟨rfl, rfl, rfl⟩ := hcs
      exact ⟨[], .inl ⟨rfl, rfl, rfl, rfl⟩⟩
    · simp [Value.cells] at hcs
      obtain ⟨rfl, rfl, rfl⟩ := hcs
      exact ⟨zs, .inr ⟨_, rfl, hl, hm, by simpa using hz, hcell, hwz⟩⟩
  clear hA0 hval0
  refine (walk cs0 kt0 kl0 ki0 kil0 ks0 ksl0 a1 a2 len2 cap2 z2 W w0 w1 w2 hVars).mono fun e W' ⟨he, bel⟩ => ?_
  subst he
  exact ⟨_, rfl, _, _, _, [], _, [], hW', trodAll_mk1 (shut_bool Tryz.underlying4 _), (trodAll_cons_mk (Below.trod laidOut (by kernel_rfl) (of_decide_eq_true (by kernel_rfl)) k0 bel lt0) (trodAll_cons_mk (shut_int Tryz.underlying26 w1) (trodAll_cons_mk (Below.trod laidOut (by kernel_rfl) (of_decide_eq_true (by kernel_rfl)) k2 bel lt2) trodAll_mk0))), rfl, bel.frame _, fun h => by cases h⟩

theorem over : Rows.hssSignsRow.holds Tryz.pinned (OpenSpec.ofChange Rows.hssSignsSpec) :=
  OpenClaim.holds_of_wide 3 Tryz.f3 rfl rfl rfl rfl rfl rfl rfl ⟨rfl, rfl, rfl, rfl, rfl⟩ rfl rfl rfl rfl rfl (by kernel_rfl) Tryz.func3 (by kernel_rfl)
    (of_decide_eq_true (by kernel_rfl)) (by unfold Func.isWrapper; first | (rw [if_pos (by decide +kernel)]; kernel_rfl) | (rw [if_neg (by decide +kernel)]; exact ⟨rfl, rfl⟩))
    (fun os started H enc _ => lifted os started H enc)

end Go.Proofs.YtogiballdmgcpaaGreatDoor.hssSigns
namespace Go.Proofs.YtogiballdmgcpaaGreatDoor
theorem hssSigns_card : Rows.HssSignsCardSaid :=
  Claim7.holds_tied_plain_at .later [] [.data, .data] true (true, "0a640b7e697f3855e2ed015271d37461dde8d8faf02f84231c67d8fbae9741b5") false
    hssSigns.over (fun _ h => by cases h) (by kernel_rfl) (fun _ h => by cases h) hssSigns_row_tie rfl ⟨rfl, rfl⟩ (by kernel_rfl) rfl
    (fun f fn hf hfn => by
      obtain rfl : f = 3 := Option.some.inj ((show Tryz.prog.funcNamed Tryz.f3.name = some 3 by kernel_rfl).symm.trans hf) |>.symm
      obtain rfl : fn = Tryz.f3 := (Option.some.inj (Tryz.func3.symm.trans hfn)).symm
      exact ⟨by kernel_rfl, fun j t ht => by
        rw [Tryz.params3] at ht
        have hm : t ∈ [25, 26, 23] := by simpa using Array.mem_of_getElem? ht
        have hall : ([25, 26, 23].all fun u => !Tryz.prog.wantsStandIn u) = true := by kernel_rfl
        exact (show Tryz.prog.wantsStandIn t = false by simpa using List.all_eq_true.1 hall t hm)⟩)
    (by kernel_rfl)
end Go.Proofs.YtogiballdmgcpaaGreatDoor
