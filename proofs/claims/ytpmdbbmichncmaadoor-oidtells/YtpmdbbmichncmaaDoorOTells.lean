/- For every identifier and every text of bytes: apostillelaw02.OidTells returns true, and each argument reads afterwards as it read before; the library's variables are as the program's text lays them. No other condition. -/
import Derived.Test.YtpmdbbmichncmaaDoorOFrm
import Derived.WalkKit
import Derived.ProofKit
import Derived.OpenShut
import Derived.ShutString
import Derived.ChangeOld
import Derived.Below
import Derived.SizedLaws
namespace Go.Proofs.YtpmdbbmichncmaaDoor.oidTells
open Go.ChangeShapes Go.WideShapes Go.ChangeAt Go.RowKit
open Go.ChangeMaps (open_string shut_string)
set_option linter.unusedVariables false

set_option maxHeartbeats 2000000 in
theorem walk (a0 : Option Addr) (len0 cap0 : Nat) (z0 : List Int) (a1 : Option Addr) (len1 cap1 : Nat) (z1 : List Int) (w : World) (w0 : IsRow .u32 w a0 len0 cap0 z0) (w1 : IsRow .u8 w a1 len1 cap1 z1) (s0 : len0 ≤ 140737488351232) (s1 : len1 ≤ 140737488351232) (hV : Vars w) :
    Calls Tryd.prog 3 #[.slice a0 len0 cap0, .slice a1 len1 cap1] w fun e w' => e = .returned (.bool true) ∧ Below w.heap.size w w' := by
  obtain ⟨l, rfl, hr⟩ := w0.row wf_u32
  obtain ⟨b, rfl, hb⟩ := w1.row wf_u8
  have hub := hb.under
  clear w0 w1
  by_cases h1 : (100 : Int) < (l.length : Int)
  · go_enter Tryd.func3, Tryd.ntmps3
    go_wp2_with (go_at_call 7; refine (oawake_any _ hV).mono ?_; rintro e w' ⟨rfl, hb⟩)
    go_ret
    exact ⟨rfl, by assumption⟩
  by_cases h2 : (300 : Int) < (b.length : Int)
  · go_enter Tryd.func3, Tryd.ntmps3
    go_wp2_with (go_at_call 7; refine (oawake_any _ hV).mono ?_; rintro e w' ⟨rfl, hb⟩)
    go_ret
    exact ⟨rfl, by assumption⟩
  go_enter Tryd.func3, Tryd.ntmps3
  go_wp2_with fail
  refine (parse_any _ b _ hb).mono ?_
  rintro e w1 ⟨⟨u1, rfl, r1⟩, b1⟩
  generalize hc : (if (parO b).isSome = true then (0 : Int) else 5) = c
  have HC := hide hc
  clear hc
  go_wp2_with fail
  refine (rparse_any _ b _ (hb.below b1) (by omega)).mono ?_
  rintro e w2 ⟨⟨u2, rfl, r2⟩, b2⟩
  rw [parR_eq hub] at r2 ⊢
  rw [HC.out]
  have r1 := r1.below b2
  have b2 := keep_trans b1 b2
  clear b1
  clear HC
  generalize (parO b).getD [] = o at *
  go_wp2_with fail
  refine (fit_any _ l _ (hr.below b2)).mono ?_
  rintro e w3 ⟨rfl, hw⟩
  obtain rfl := hw.symm
  go_wp2_with fail
  refine (rfit_any _ l _ (hr.below b2)).mono ?_
  rintro e w3 ⟨rfl, hw⟩
  obtain rfl := hw.symm
  generalize fitB l = d
  have hdd : (d == d) = true := by cases d <;> rfl
  go_wp2_with fail
  refine (bytes_any _ l _ (hr.below b2)).mono ?_
  rintro e w4 ⟨v4, rfl, o4, b4⟩
  have r1 := r1.below b4
  have r2 := r2.below b4
  have b4 := keep_trans b2 b4
  clear b2
  go_wp2_with fail
  refine (rbytes_any _ l _ (hr.below b4)).mono ?_
  rintro e w5 ⟨v5, rfl, o5, b5⟩
  have r1 := r1.below b5
  have r2 := r2.below b5
  have r4 := o4.row.below b5
  have b5 := keep_trans b4 b5
  clear b4 o4
  go_wp2_with fail
  refine (rsame_true _ _ _ _ r4 o5.row).mono ?_
  rintro e w6 ⟨rfl, b6⟩
  have r1 := r1.below b6
  have r2 := r2.below b6
  have b6 := keep_trans b5 b6
  clear b5 o5 r4
  go_wp2_with fail
  refine (rosame_b _ _ o o _ r1 r2).mono ?_
  rintro e w7 ⟨rfl, b7⟩
  have b7 := keep_trans b6 b7
  clear b6
  rw [decide_eq_true rfl]
  have hcc : (c == c) = true := by simp
  go_wp2_with fail
  refine (oawake_any _ (hV.below b7)).mono ?_
  rintro e w8 ⟨rfl, b8⟩
  go_wp2
  go_ret
  exact ⟨rfl, keep_trans b7 b8⟩

set_option maxRecDepth 100000 in
theorem lifted (os : Os) (started : os.Started) (H : Type) (enc : TypeId × Value → H) :
    ReturnsInHanded {} Tryd.checked os 3 .any (fun w args => (Rows.oidTellsSpec.pre enc Tryd.prog Tryd.f3 Rows.oidTellsRow.domain false w args ∧ laidMetH Tryd.prog Rows.oidTellsRow.laid w) ∧ sizedMet enc Tryd.prog Tryd.f3 (OpenSpec.ofChange Rows.oidTellsSpec) false w args) (Rows.oidTellsSpec.post enc Tryd.prog Tryd.f3 false true false false) := by
  refine change_laid_shaped (C := Tryd.checked) (X := fun w _ => laidMetH Tryd.prog Rows.oidTellsRow.laid w) (fun _ _ _ hh h => h.of_heap hh) own started (by kernel_rfl) Tryd.func3
    (ChangeSpec.witness_shaped (enc := enc) (C := Tryd.checked) (os := os) (X := fun w _ => laidMetH Tryd.prog Rows.oidTellsRow.laid w) false (World.laidAll Tryd.prog os Rows.oidTellsRow.laid) #[.slice none 0 0, .slice none 0 0] 8 (World.laidAll_os _ _ _)
      (World.shaped_of_ZipB (by kernel_rfl) (by kernel_rfl)) (by kernel_rfl) (by kernel_rfl) (by kernel_rfl)
      (by rw [MakeChecks.laidMetH_plain _ _ _ (by kernel_rfl)]; exact laidMet_laidAll _ (by kernel_rfl) (by kernel_rfl))) ?_
  intro W base args ds gs before hval0 hW hsz0 hL hsh
  have hsz : (DataW.weightsEach Tryd.prog (Tryd.f3.params.toList ++ Rows.oidTellsSpec.plain.varTypes Tryd.prog) (ds ++ gs)).all (· ≤ reachBytes) = true := hsz0
  clear hsz0
  have hVars : Vars W := vars_of_laid hL hsh
  have hval : ∀ (j : Nat) t v, Tryd.f3.params[j]? = some t → args[j]? = some v → Value.okWide Tryd.prog W .any base t v := hval0
  have hW' := hW
  obtain ⟨p, q, hA0, hV, rfl, hfz, hnd⟩ := hW
  have hA : DataW.TrodAll enc Tryd.prog W 0 (fun _ => true) true Tryd.f3.params.toList args.toList ds p := hA0
  rw [Tryd.params3] at hA hval hsz
  obtain ⟨v0, vs0, d0, ds0, p0, q0, hargs, rfl, rfl, h0, r0⟩ := trodAll_cons hA
  obtain ⟨v1, vs1, d1, ds1, p1, q1, rfl, rfl, rfl, h1, r1⟩ := trodAll_cons r0
  obtain ⟨rfl, rfl, rfl⟩ := trodAll_nil r1
  obtain rfl : args = #[v0, v1] := by cases args; simp_all
  obtain ⟨rfl, rfl⟩ := trodVars_none hV
  obtain ⟨a0, len0, cap0, rfl⟩ := okWide_slice Tryd.underlying23 (hval 0 23 v0 rfl rfl)
  have k0 := h0
  have lt0 : ∀ x ∈ p0, x.block < W.heap.size := by obtain ⟨m, hm⟩ := k0; exact DataW.trod_lt m _ _ _ hm
  obtain ⟨z0, w0, s0⟩ : ∃ zs, IsRow .u32 W a0 len0 cap0 zs ∧ len0 ≤ 140737488351232 := by
    obtain ⟨fuel, hf⟩ := h0
    rcases open_ints Tryd.underlying23 Tryd.underlying41 (by kernel_rfl) hf with ⟨hcs, _⟩ | ⟨x, l, c, zs, hcs, _, hl, hm, hz, hx, hcell, hwz⟩
    · simp [Value.cells] at hcs
      obtain ⟨rfl, rfl, rfl⟩ := hcs
      exact ⟨[], .inl ⟨rfl, rfl, rfl, rfl⟩, Nat.zero_le _⟩
    · simp [Value.cells] at hcs
      obtain ⟨rfl, rfl, rfl⟩ := hcs
      have hs := sized_slice hsz (j := 0) (t := 23) (e := 41) rfl (by rw [(Prod.mk.inj hx).1]; rfl) Tryd.underlying23
      rw [Tryd.bytes41] at hs
      simp only [lits, List.length_map, List.length_take, List.length_drop, reachBytes] at hs
      have hz' : zs.length = cap0 := by simpa using hz
      exact ⟨zs, .inr ⟨_, rfl, hl, hm, hz', hcell, hwz⟩, by omega⟩
  obtain ⟨a1, len1, cap1, rfl⟩ := okWide_slice Tryd.underlying24 (hval 1 24 v1 rfl rfl)
  have k1 := h1
  have lt1 : ∀ x ∈ p1, x.block < W.heap.size := by obtain ⟨m, hm⟩ := k1; exact DataW.trod_lt m _ _ _ hm
  obtain ⟨z1, w1, s1⟩ : ∃ zs, IsRow .u8 W a1 len1 cap1 zs ∧ len1 ≤ 140737488351232 := by
    obtain ⟨fuel, hf⟩ := h1
    rcases open_ints Tryd.underlying24 Tryd.underlying5 (by kernel_rfl) hf with ⟨hcs, _⟩ | ⟨x, l, c, zs, hcs, _, hl, hm, hz, hx, hcell, hwz⟩
    · simp [Value.cells] at hcs
      obtain ⟨rfl, rfl, rfl⟩ := hcs
      exact ⟨[], .inl ⟨rfl, rfl, rfl, rfl⟩, Nat.zero_le _⟩
    · simp [Value.cells] at hcs
      obtain ⟨rfl, rfl, rfl⟩ := hcs
      have hs := sized_slice hsz (j := 1) (t := 24) (e := 5) rfl (by rw [(Prod.mk.inj hx).1]; rfl) Tryd.underlying24
      rw [Tryd.bytes5] at hs
      simp only [lits, List.length_map, List.length_take, List.length_drop, reachBytes] at hs
      have hz' : zs.length = cap1 := by simpa using hz
      exact ⟨zs, .inr ⟨_, rfl, hl, hm, hz', hcell, hwz⟩, by omega⟩
  clear hA0 hval0
  refine (walk a0 len0 cap0 z0 a1 len1 cap1 z1 W w0 w1 s0 s1 hVars).mono fun e W' ⟨he, bel⟩ => ?_
  subst he
  exact ⟨_, rfl, _, _, _, [], _, [], hW', trodAll_mk1 (shut_bool Tryd.underlying4 _), (trodAll_cons_mk (Below.trod laidOut (by kernel_rfl) (of_decide_eq_true (by kernel_rfl)) k0 bel lt0) (trodAll_cons_mk (Below.trod laidOut (by kernel_rfl) (of_decide_eq_true (by kernel_rfl)) k1 bel lt1) trodAll_mk0)), rfl, bel.frame _, fun h => by cases h⟩

theorem over : Rows.oidTellsRow.holds Tryd.pinned (OpenSpec.ofChange Rows.oidTellsSpec) :=
  OpenClaim.holds_of_wide 3 Tryd.f3 rfl rfl rfl rfl rfl rfl rfl ⟨rfl, rfl, rfl, rfl, rfl⟩ rfl rfl rfl rfl rfl (by kernel_rfl) Tryd.func3 (by kernel_rfl)
    (of_decide_eq_true (by kernel_rfl)) (by unfold Func.isWrapper; first | (rw [if_pos (by decide +kernel)]; kernel_rfl) | (rw [if_neg (by decide +kernel)]; exact ⟨rfl, rfl⟩))
    (fun os started H enc _ => lifted os started H enc)

end Go.Proofs.YtpmdbbmichncmaaDoor.oidTells
namespace Go.Proofs.YtpmdbbmichncmaaDoor
theorem oidTells_card : Rows.OidTellsCardSaid :=
  Claim7.holds_tied_plain_at .later [] [.data, .data, .data, .data, .sentinel, .sentinel, .pinned] true (true, "44ad1fd3904c3a3060f4b1773ac6296cc65d40dba3a02c8058f1df1e3f1dd44c") true
    oidTells.over (fun _ h => by cases h) (by kernel_rfl) (fun _ h => by cases h) oidTells_row_tie rfl ⟨rfl, rfl⟩ (by kernel_rfl) rfl
    (fun f fn hf hfn => by
      obtain rfl : f = 3 := Option.some.inj ((show Tryd.prog.funcNamed Tryd.f3.name = some 3 by kernel_rfl).symm.trans hf) |>.symm
      obtain rfl : fn = Tryd.f3 := (Option.some.inj (Tryd.func3.symm.trans hfn)).symm
      exact ⟨by kernel_rfl, fun j t ht => by
        rw [Tryd.params3] at ht
        have hm : t ∈ [23, 24] := by simpa using Array.mem_of_getElem? ht
        have hall : ([23, 24].all fun u => !Tryd.prog.wantsStandIn u) = true := by kernel_rfl
        exact (show Tryd.prog.wantsStandIn t = false by simpa using List.all_eq_true.1 hall t hm)⟩)
    (by kernel_rfl)
end Go.Proofs.YtpmdbbmichncmaaDoor
