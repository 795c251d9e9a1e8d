/- For every two identifiers: apostillelaw02.OidUnlike returns true, and each argument reads afterwards as it read before; the library's variables are as the program's text lays them. No other condition. -/
import Derived.Test.YtpmdbbmichncmaaDoorOFrm
import Derived.WalkKit
import Derived.ProofKit
import Derived.OpenShut
import Derived.ShutString
import Derived.ChangeOld
import Derived.Below
import Derived.SizedLaws
namespace Go.Proofs.YtpmdbbmichncmaaDoor.oidUnlike
open Go.ChangeShapes Go.WideShapes Go.ChangeAt Go.RowKit
open Go.ChangeMaps (open_string shut_string)
set_option linter.unusedVariables false

set_option maxHeartbeats 2000000 in
theorem walk (a0 : Option Addr) (len0 cap0 : Nat) (z0 : List Int) (a1 : Option Addr) (len1 cap1 : Nat) (z1 : List Int) (w : World) (w0 : IsRow .u32 w a0 len0 cap0 z0) (w1 : IsRow .u32 w a1 len1 cap1 z1) (s0 : len0 ≤ 140737488351232) (s1 : len1 ≤ 140737488351232) (hV : Vars w) :
    Calls Tryd.prog 6 #[.slice a0 len0 cap0, .slice a1 len1 cap1] w fun e w' => e = .returned (.bool true) ∧ Below w.heap.size w w' := by
  obtain ⟨l, rfl, hr⟩ := w0.row wf_u32
  obtain ⟨m, rfl, hm⟩ := w1.row wf_u32
  have hul := hr.under
  have hum := hm.under
  clear w0 w1
  by_cases h1 : (100 : Int) < (l.length : Int) + (m.length : Int)
  · go_enter Tryd.func6, Tryd.ntmps6
    go_wp2_with (go_at_call 7; refine (oawake_any _ hV).mono ?_; rintro e w' ⟨rfl, hb⟩)
    go_ret
    exact ⟨rfl, by assumption⟩
  have hfl := rfit_any _ l w hr
  have hfm := rfit_any _ m w hm
  cases fl : fitB l with
  | false =>
    rw [fl] at hfl
    go_enter Tryd.func6, Tryd.ntmps6
    go_wp2_with (first
      | (go_at_call 11; refine hfl.mono ?_; rintro e w' ⟨rfl, hw⟩; obtain rfl := hw.symm)
      | (go_at_call 7; refine (oawake_any _ hV).mono ?_; rintro e w' ⟨rfl, hb⟩))
    go_ret
    exact ⟨rfl, by assumption⟩
  | true =>
  cases fm : fitB m with
  | false =>
    rw [fl] at hfl
    rw [fm] at hfm
    go_enter Tryd.func6, Tryd.ntmps6
    go_wp2_with (first
      | (go_at_call_of 11 (Value.slice a0 l.length cap0); refine hfl.mono ?_; rintro e w' ⟨rfl, hw⟩; obtain rfl := hw.symm; clear hfl)
      | (go_at_call_of 11 (Value.slice a1 m.length cap1); refine hfm.mono ?_; rintro e w' ⟨rfl, hw⟩; obtain rfl := hw.symm)
      | (go_at_call 7; refine (oawake_any _ hV).mono ?_; rintro e w' ⟨rfl, hb⟩))
    go_ret
    exact ⟨rfl, by assumption⟩
  | true =>
  rw [fl] at hfl
  rw [fm] at hfm
  have heq : decide (bytesS l = bytesS m) = decide (l = m) := by
    rw [decide_eq_decide]
    exact ⟨fun h => bytes_inj hul hum fl fm h, fun h => by rw [h]⟩
  have HEQ := hide heq
  clear heq
  go_enter Tryd.func6, Tryd.ntmps6
  go_wp2_with (first
      | (go_at_call_of 11 (Value.slice a0 l.length cap0); refine hfl.mono ?_; rintro e w' ⟨rfl, hw⟩; obtain rfl := hw.symm; clear hfl)
      | (go_at_call_of 11 (Value.slice a1 m.length cap1); refine hfm.mono ?_; rintro e w' ⟨rfl, hw⟩; obtain rfl := hw.symm)
      | fail)
  refine (bytes_any _ l _ hr).mono ?_
  rintro e w1 ⟨va, rfl, oa, b1⟩
  go_wp2_with fail
  refine (bytes_any _ m _ (hm.below b1)).mono ?_
  rintro e w2 ⟨vb, rfl, ob, b2⟩
  have ra := oa.row.below b2
  have rb := ob.row
  have b2 := keep_trans b1 b2
  clear b1 oa ob
  go_wp2_with fail
  refine (rsame_b _ _ _ _ _ ra rb).mono ?_
  rintro e w3 ⟨rfl, b3⟩
  have ra := ra.below b3
  have rb := rb.below b3
  have b3 := keep_trans b2 b3
  clear b2
  go_wp2_with fail
  refine (rosame_b _ _ l m _ (hr.below b3) (hm.below b3)).mono ?_
  rintro e w4 ⟨rfl, b4⟩
  have ra := ra.below b4
  have rb := rb.below b4
  have b4 := keep_trans b3 b4
  clear b3
  rw [HEQ.out]
  generalize decide (l = m) = d
  have hdd : (d != d) = false := by cases d <;> rfl
  have ra' := ra
  have rb' := rb
  obtain ⟨aa, ca, rfl, la1, la2, _, _⟩ := ra
  obtain ⟨ab, cb, rfl, lb1, lb2, _, _⟩ := rb
  unfold maxLen at la2 lb2
  have hrl := hr.below b4
  have hml := hm.below b4
  by_cases hle : (bytesS l).length ≤ (bytesS m).length
  · have rc := rb'.cut hle
    have s1 := rsame_b _ _ _ _ _ ra' rc
    have q0 : (0 : Int) ≤ ((bytesS l).length : Int) := by omega
    have q1 : ((bytesS l).length : Int) ≤ ((bytesS m).length : Int) := by omega
    have q2 : ((bytesS l).length : Int) ≤ (cb : Int) := by omega
    have q3 : (bytesS l).length ≤ cb := by omega
    by_cases hp : bytesS l = (bytesS m).take (bytesS l).length
    · rw [decide_eq_true hp] at s1
      have hpx := bytes_prefix hul hum fl fm ((bytesS m).drop (bytesS l).length) (by rw [← List.take_append_drop (bytesS l).length (bytesS m), ← hp]; simp)
      obtain ⟨hlm, htk⟩ := hpx
      obtain ⟨_, _, hee, hc1, hc2, _, _⟩ := id hml
      simp only [Value.slice.injEq, true_and] at hee
      obtain ⟨rfl, rfl⟩ := hee
      unfold maxLen at hc2
      have p0 : (0 : Int) ≤ (l.length : Int) := by omega
      have p1 : (l.length : Int) ≤ (m.length : Int) := by omega
      have p2 : (l.length : Int) ≤ (cap1 : Int) := by omega
      have p3 : l.length ≤ cap1 := by omega
      have HTK := hide htk
      have HP := hide hp
      clear htk hp
      generalize bytesS l = bl at *
      generalize bytesS m = bm at *
      go_wp2_with (first | (go_at_call 12; refine s1.mono ?_; rintro e w5 ⟨rfl, b5⟩) | fail)
      refine (rosame_b _ _ l (m.take l.length) _ (hrl.below b5) ((hml.below b5).cut hlm)).mono ?_
      rintro e w6 ⟨rfl, b6⟩
      rw [decide_eq_true HTK.out]
      have b6 := keep_trans (keep_trans b4 b5) b6
      go_wp2_with fail
      refine (oawake_any _ (hV.below b6)).mono ?_
      rintro e w7 ⟨rfl, b7⟩
      go_wp2
      go_ret
      exact ⟨rfl, keep_trans b6 b7⟩
    · rw [decide_eq_false hp] at s1
      have HP := hide hp
      clear hp
      generalize bytesS l = bl at *
      generalize bytesS m = bm at *
      go_wp2_with (first | (go_at_call 12; refine s1.mono ?_; rintro e w5 ⟨rfl, b5⟩) | fail)
      have b5 := keep_trans b4 b5
      refine (oawake_any _ (hV.below b5)).mono ?_
      rintro e w7 ⟨rfl, b7⟩
      go_wp2
      go_ret
      exact ⟨rfl, keep_trans b5 b7⟩
  · generalize bytesS l = bl at *
    generalize bytesS m = bm at *
    go_wp2_with fail
    refine (oawake_any _ (hV.below b4)).mono ?_
    rintro e w7 ⟨rfl, b7⟩
    go_wp2
    go_ret
    exact ⟨rfl, keep_trans b4 b7⟩

set_option maxRecDepth 100000 in
theorem lifted (os : Os) (started : os.Started) (H : Type) (enc : TypeId × Value → H) :
    ReturnsInHanded {} Tryd.checked os 6 .any (fun w args => (Rows.oidUnlikeSpec.pre enc Tryd.prog Tryd.f6 Rows.oidUnlikeRow.domain false w args ∧ laidMetH Tryd.prog Rows.oidUnlikeRow.laid w) ∧ sizedMet enc Tryd.prog Tryd.f6 (OpenSpec.ofChange Rows.oidUnlikeSpec) false w args) (Rows.oidUnlikeSpec.post enc Tryd.prog Tryd.f6 false true false false) := by
  refine change_laid_shaped (C := Tryd.checked) (X := fun w _ => laidMetH Tryd.prog Rows.oidUnlikeRow.laid w) (fun _ _ _ hh h => h.of_heap hh) own started (by kernel_rfl) Tryd.func6
    (ChangeSpec.witness_shaped (enc := enc) (C := Tryd.checked) (os := os) (X := fun w _ => laidMetH Tryd.prog Rows.oidUnlikeRow.laid w) false (World.laidAll Tryd.prog os Rows.oidUnlikeRow.laid) #[.slice none 0 0, .slice none 0 0] 8 (World.laidAll_os _ _ _)
      (World.shaped_of_ZipB (by kernel_rfl) (by kernel_rfl)) (by kernel_rfl) (by kernel_rfl) (by kernel_rfl)
      (by rw [MakeChecks.laidMetH_plain _ _ _ (by kernel_rfl)]; exact laidMet_laidAll _ (by kernel_rfl) (by kernel_rfl))) ?_
  intro W base args ds gs before hval0 hW hsz0 hL hsh
  have hsz : (DataW.weightsEach Tryd.prog (Tryd.f6.params.toList ++ Rows.oidUnlikeSpec.plain.varTypes Tryd.prog) (ds ++ gs)).all (· ≤ reachBytes) = true := hsz0
  clear hsz0
  have hVars : Vars W := vars_of_laid hL hsh
  have hval : ∀ (j : Nat) t v, Tryd.f6.params[j]? = some t → args[j]? = some v → Value.okWide Tryd.prog W .any base t v := hval0
  have hW' := hW
  obtain ⟨p, q, hA0, hV, rfl, hfz, hnd⟩ := hW
  have hA : DataW.TrodAll enc Tryd.prog W 0 (fun _ => true) true Tryd.f6.params.toList args.toList ds p := hA0
  rw [Tryd.params6] at hA hval hsz
  obtain ⟨v0, vs0, d0, ds0, p0, q0, hargs, rfl, rfl, h0, r0⟩ := trodAll_cons hA
  obtain ⟨v1, vs1, d1, ds1, p1, q1, rfl, rfl, rfl, h1, r1⟩ := trodAll_cons r0
  obtain ⟨rfl, rfl, rfl⟩ := trodAll_nil r1
  obtain rfl : args = #[v0, v1] := by cases args; simp_all
  obtain ⟨rfl, rfl⟩ := trodVars_none hV
  obtain ⟨a0, len0, cap0, rfl⟩ := okWide_slice Tryd.underlying23 (hval 0 23 v0 rfl rfl)
  have k0 := h0
  have lt0 : ∀ x ∈ p0, x.block < W.heap.size := by obtain ⟨m, hm⟩ := k0; exact DataW.trod_lt m _ _ _ hm
  obtain ⟨z0, w0, s0⟩ : ∃ zs, IsRow .u32 W a0 len0 cap0 zs ∧ len0 ≤ 140737488351232 := by
    obtain ⟨fuel, hf⟩ := h0
    rcases open_ints Tryd.underlying23 Tryd.underlying41 (by kernel_rfl) hf with ⟨hcs, _⟩ | ⟨x, l, c, zs, hcs, _, hl, hm, hz, hx, hcell, hwz⟩
    · simp [Value.cells] at hcs
      obtain ⟨rfl, rfl, rfl⟩ := hcs
      exact ⟨[], .inl ⟨rfl, rfl, rfl, rfl⟩, Nat.zero_le _⟩
    · simp [Value.cells] at hcs
      obtain ⟨rfl, rfl, rfl⟩ := hcs
      have hs := sized_slice hsz (j := 0) (t := 23) (e := 41) rfl (by rw [(Prod.mk.inj hx).1]; rfl) Tryd.underlying23
      rw [Tryd.bytes41] at hs
      simp only [lits, List.length_map, List.length_take, List.length_drop, reachBytes] at hs
      have hz' : zs.length = cap0 := by simpa using hz
      exact ⟨zs, .inr ⟨_, rfl, hl, hm, hz', hcell, hwz⟩, by omega⟩
  obtain ⟨a1, len1, cap1, rfl⟩ := okWide_slice Tryd.underlying23 (hval 1 23 v1 rfl rfl)
  have k1 := h1
  have lt1 : ∀ x ∈ p1, x.block < W.heap.size := by obtain ⟨m, hm⟩ := k1; exact DataW.trod_lt m _ _ _ hm
  obtain ⟨z1, w1, s1⟩ : ∃ zs, IsRow .u32 W a1 len1 cap1 zs ∧ len1 ≤ 140737488351232 := by
    obtain ⟨fuel, hf⟩ := h1
    rcases open_ints Tryd.underlying23 Tryd.underlying41 (by kernel_rfl) hf with ⟨hcs, _⟩ | ⟨x, l, c, zs, hcs, _, hl, hm, hz, hx, hcell, hwz⟩
    · simp [Value.cells] at hcs
      obtain ⟨rfl, rfl, rfl⟩ := hcs
      exact ⟨[], .inl ⟨rfl, rfl, rfl, rfl⟩, Nat.zero_le _⟩
    · simp [Value.cells] at hcs
      obtain ⟨rfl, rfl, rfl⟩ := hcs
      have hs := sized_slice hsz (j := 1) (t := 23) (e := 41) rfl (by rw [(Prod.mk.inj hx).1]; rfl) Tryd.underlying23
      rw [Tryd.bytes41] at hs
      simp only [lits, List.length_map, List.length_take, List.length_drop, reachBytes] at hs
      have hz' : zs.length = cap1 := by simpa using hz
      exact ⟨zs, .inr ⟨_, rfl, hl, hm, hz', hcell, hwz⟩, by omega⟩
  clear hA0 hval0
  refine (walk a0 len0 cap0 z0 a1 len1 cap1 z1 W w0 w1 s0 s1 hVars).mono fun e W' ⟨he, bel⟩ => ?_
  subst he
  exact ⟨_, rfl, _, _, _, [], _, [], hW', trodAll_mk1 (shut_bool Tryd.underlying4 _), (trodAll_cons_mk (Below.trod laidOut (by kernel_rfl) (of_decide_eq_true (by kernel_rfl)) k0 bel lt0) (trodAll_cons_mk (Below.trod laidOut (by kernel_rfl) (of_decide_eq_true (by kernel_rfl)) k1 bel lt1) trodAll_mk0)), rfl, bel.frame _, fun h => by cases h⟩

theorem over : Rows.oidUnlikeRow.holds Tryd.pinned (OpenSpec.ofChange Rows.oidUnlikeSpec) :=
  OpenClaim.holds_of_wide 6 Tryd.f6 rfl rfl rfl rfl rfl rfl rfl ⟨rfl, rfl, rfl, rfl, rfl⟩ rfl rfl rfl rfl rfl (by kernel_rfl) Tryd.func6 (by kernel_rfl)
    (of_decide_eq_true (by kernel_rfl)) (by unfold Func.isWrapper; first | (rw [if_pos (by decide +kernel)]; kernel_rfl) | (rw [if_neg (by decide +kernel)]; exact ⟨rfl, rfl⟩))
    (fun os started H enc _ => lifted os started H enc)

end Go.Proofs.YtpmdbbmichncmaaDoor.oidUnlike
namespace Go.Proofs.YtpmdbbmichncmaaDoor
theorem oidUnlike_card : Rows.OidUnlikeCardSaid :=
  Claim7.holds_tied_plain_at .later [] [.data, .data, .data, .data, .sentinel, .sentinel, .pinned] true (true, "44ad1fd3904c3a3060f4b1773ac6296cc65d40dba3a02c8058f1df1e3f1dd44c") true
    oidUnlike.over (fun _ h => by cases h) (by kernel_rfl) (fun _ h => by cases h) oidUnlike_row_tie rfl ⟨rfl, rfl⟩ (by kernel_rfl) rfl
    (fun f fn hf hfn => by
      obtain rfl : f = 6 := Option.some.inj ((show Tryd.prog.funcNamed Tryd.f6.name = some 6 by kernel_rfl).symm.trans hf) |>.symm
      obtain rfl : fn = Tryd.f6 := (Option.some.inj (Tryd.func6.symm.trans hfn)).symm
      exact ⟨by kernel_rfl, fun j t ht => by
        rw [Tryd.params6] at ht
        have hm : t ∈ [23, 23] := by simpa using Array.mem_of_getElem? ht
        have hall : ([23, 23].all fun u => !Tryd.prog.wantsStandIn u) = true := by kernel_rfl
        exact (show Tryd.prog.wantsStandIn t = false by simpa using List.all_eq_true.1 hall t hm)⟩)
    (by kernel_rfl)
end Go.Proofs.YtpmdbbmichncmaaDoor
