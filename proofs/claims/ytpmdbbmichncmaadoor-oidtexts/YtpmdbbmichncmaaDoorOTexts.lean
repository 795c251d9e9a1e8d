/- For every two identifiers and every text: apostillelaw02.OidTexts returns true, and each argument reads afterwards as it read before; the library's variables are as the program's text lays them. No other condition. -/
import Derived.Test.YtpmdbbmichncmaaDoorOFrm
import Derived.Test.YtpmdbbmichncmaaDoorORRead
import Derived.WalkKit
import Derived.ProofKit
import Derived.OpenShut
import Derived.ShutString
import Derived.ChangeOld
import Derived.Below
import Derived.SizedLaws
namespace Go.Proofs.YtpmdbbmichncmaaDoor.oidTexts
open Go.ChangeShapes Go.WideShapes Go.ChangeAt Go.RowKit
open Go.ChangeMaps (open_string shut_string)
set_option linter.unusedVariables false

set_option maxHeartbeats 2000000 in
theorem walk (a0 : Option Addr) (len0 cap0 : Nat) (z0 : List Int) (a1 : Option Addr) (len1 cap1 : Nat) (z1 : List Int) (a2 : ByteArray) (w : World) (w0 : IsRow .u32 w a0 len0 cap0 z0) (w1 : IsRow .u32 w a1 len1 cap1 z1) (w2 : a2.size ≤ maxLen) (s0 : len0 ≤ 140737488351232) (s1 : len1 ≤ 140737488351232) (hV : Vars w) :
    Calls Tryd.prog 4 #[.slice a0 len0 cap0, .slice a1 len1 cap1, .string a2] w fun e w' => e = .returned (.bool true) ∧ Below w.heap.size w w' := by
  obtain ⟨l, rfl, hr⟩ := w0.row wf_u32
  obtain ⟨m, rfl, hm⟩ := w1.row wf_u32
  obtain ⟨t, rfl⟩ : ∃ t : List UInt8, a2 = ⟨t.toArray⟩ := ⟨a2.data.toList, by simp⟩
  clear w0 w1
  by_cases h1 : (100 : Int) < (l.length : Int) + (m.length : Int)
  · go_enter Tryd.func4, Tryd.ntmps4
    go_wp2_with (go_at_call 7; refine (oawake_any _ hV).mono ?_; rintro e w' ⟨rfl, hb⟩)
    go_ret
    exact ⟨rfl, by assumption⟩
  by_cases h3 : (400 : Int) < (t.length : Int)
  · go_enter Tryd.func4, Tryd.ntmps4
    go_wp2_with (go_at_call 7; refine (oawake_any _ hV).mono ?_; rintro e w' ⟨rfl, hb⟩)
    go_ret
    exact ⟨rfl, by assumption⟩
  go_enter Tryd.func4, Tryd.ntmps4
  go_wp2_with fail
  refine (read_any t _ (by omega) hV).mono ?_
  rintro e w1 ⟨⟨u1, rfl, r1⟩, b1⟩
  generalize hc : (if (readO t).isSome = true then (0 : Int) else 1) = c
  have HC := hide hc
  clear hc
  go_wp2_with fail
  refine (rread_any t _ (by omega)).mono ?_
  rintro e w2 ⟨⟨u2, rfl, r2⟩, b2⟩
  rw [readR_eq] at r2 ⊢
  rw [HC.out]
  clear HC
  have r1 := r1.below b2
  have b2 := keep_trans b1 b2
  clear b1
  generalize (readO t).getD [] = o at *
  go_wp2_with fail
  refine (text_any _ l _ (hr.below b2) (hV.below b2)).mono ?_
  rintro e w3 ⟨rfl, b3⟩
  have r1 := r1.below b3
  have r2 := r2.below b3
  have b3 := keep_trans b2 b3
  clear b2
  go_wp2_with fail
  refine (rtext_any _ l _ (hr.below b3)).mono ?_
  rintro e w4 ⟨rfl, b4⟩
  have r1 := r1.below b4
  have r2 := r2.below b4
  have b4 := keep_trans b3 b4
  clear b3
  generalize textS l = tl at *
  go_wp2_with fail
  refine (rosame_b _ _ o o _ r1 r2).mono ?_
  rintro e w5 ⟨rfl, b5⟩
  rw [decide_eq_true rfl]
  have b5 := keep_trans b4 b5
  clear b4
  have hcc : (c == c) = true := by simp
  go_wp2_with fail
  refine (osame_any _ _ l m _ (hr.below b5) (hm.below b5)).mono ?_
  rintro e w6 ⟨rfl, b6⟩
  have b6 := keep_trans b5 b6
  clear b5
  go_wp2_with fail
  refine (rosame_b _ _ l m _ (hr.below b6) (hm.below b6)).mono ?_
  rintro e w7 ⟨rfl, b7⟩
  have b7 := keep_trans b6 b7
  clear b6
  generalize decide (l = m) = d
  have hdd : (d == d) = true := by cases d <;> rfl
  go_wp2_with fail
  refine (osame_any _ _ l l _ (hr.below b7) (hr.below b7)).mono ?_
  rintro e w8 ⟨rfl, b8⟩
  rw [decide_eq_true rfl]
  have b8 := keep_trans b7 b8
  clear b7
  go_wp2_with fail
  refine (oawake_any _ (hV.below b8)).mono ?_
  rintro e w9 ⟨rfl, b9⟩
  go_wp2
  go_ret
  exact ⟨rfl, keep_trans b8 b9⟩

set_option maxRecDepth 100000 in
theorem lifted (os : Os) (started : os.Started) (H : Type) (enc : TypeId × Value → H) :
    ReturnsInHanded {} Tryd.checked os 4 .any (fun w args => (Rows.oidTextsSpec.pre enc Tryd.prog Tryd.f4 Rows.oidTextsRow.domain false w args ∧ laidMetH Tryd.prog Rows.oidTextsRow.laid w) ∧ sizedMet enc Tryd.prog Tryd.f4 (OpenSpec.ofChange Rows.oidTextsSpec) false w args) (Rows.oidTextsSpec.post enc Tryd.prog Tryd.f4 false true false false) := by
  refine change_laid_shaped (C := Tryd.checked) (X := fun w _ => laidMetH Tryd.prog Rows.oidTextsRow.laid w) (fun _ _ _ hh h => h.of_heap hh) own started (by kernel_rfl) Tryd.func4
    (ChangeSpec.witness_shaped (enc := enc) (C := Tryd.checked) (os := os) (X := fun w _ => laidMetH Tryd.prog Rows.oidTextsRow.laid w) false (World.laidAll Tryd.prog os Rows.oidTextsRow.laid) #[.slice none 0 0, .slice none 0 0, .string ByteArray.empty] 8 (World.laidAll_os _ _ _)
      (World.shaped_of_ZipB (by kernel_rfl) (by kernel_rfl)) (by kernel_rfl) (by kernel_rfl) (by kernel_rfl)
      (by rw [MakeChecks.laidMetH_plain _ _ _ (by kernel_rfl)]; exact laidMet_laidAll _ (by kernel_rfl) (by kernel_rfl))) ?_
  intro W base args ds gs before hval0 hW hsz0 hL hsh
  have hsz : (DataW.weightsEach Tryd.prog (Tryd.f4.params.toList ++ Rows.oidTextsSpec.plain.varTypes Tryd.prog) (ds ++ gs)).all (· ≤ reachBytes) = true := hsz0
  clear hsz0
  have hVars : Vars W := vars_of_laid hL hsh
  have hval : ∀ (j : Nat) t v, Tryd.f4.params[j]? = some t → args[j]? = some v → Value.okWide Tryd.prog W .any base t v := hval0
  have hW' := hW
  obtain ⟨p, q, hA0, hV, rfl, hfz, hnd⟩ := hW
  have hA : DataW.TrodAll enc Tryd.prog W 0 (fun _ => true) true Tryd.f4.params.toList args.toList ds p := hA0
  rw [Tryd.params4] at hA hval hsz
  obtain ⟨v0, vs0, d0, ds0, p0, q0, hargs, rfl, rfl, h0, r0⟩ := trodAll_cons hA
  obtain ⟨v1, vs1, d1, ds1, p1, q1, rfl, rfl, rfl, h1, r1⟩ := trodAll_cons r0
  obtain ⟨v2, vs2, d2, ds2, p2, q2, rfl, rfl, rfl, h2, r2⟩ := trodAll_cons r1
  obtain ⟨rfl, rfl, rfl⟩ := trodAll_nil r2
  obtain rfl : args = #[v0, v1, v2] := by cases args; simp_all
  obtain ⟨rfl, rfl⟩ := trodVars_none hV
  obtain ⟨a0, len0, cap0, rfl⟩ := okWide_slice Tryd.underlying23 (hval 0 23 v0 rfl rfl)
  have k0 := h0
  have lt0 : ∀ x ∈ p0, x.block < W.heap.size := by obtain ⟨m, hm⟩ := k0; exact DataW.trod_lt m _ _ _ hm
  obtain ⟨z0, w0, s0⟩ : ∃ zs, IsRow .u32 W a0 len0 cap0 zs ∧ len0 ≤ 140737488351232 := by
    obtain ⟨fuel, hf⟩ := h0
    rcases open_ints Tryd.underlying23 Tryd.underlying41 (by kernel_rfl) hf with ⟨hcs, _⟩ | ⟨x, l, c, zs, hcs, _, hl, hm, hz, hx, hcell, hwz⟩
    · simp [Value.cells] at hcs
      obtain ⟨rfl, rfl, rfl⟩ := hcs
      exact ⟨[], .inl ⟨rfl, rfl, rfl, rfl⟩, Nat.zero_le _⟩
    · simp [Value.cells] at hcs
      obtain ⟨rfl, rfl, rfl⟩ := hcs
      have hs := sized_slice hsz (j := 0) (t := 23) (e := 41) rfl (by rw [(Prod.mk.inj hx).1]; rfl) Tryd.underlying23
      rw [Tryd.bytes41] at hs
      simp only [lits, List.length_map, List.length_take, List.length_drop, reachBytes] at hs
      have hz' : zs.length = cap0 := by simpa using hz
      exact ⟨zs, .inr ⟨_, rfl, hl, hm, hz', hcell, hwz⟩, by omega⟩
  obtain ⟨a1, len1, cap1, rfl⟩ := okWide_slice Tryd.underlying23 (hval 1 23 v1 rfl rfl)
  have k1 := h1
  have lt1 : ∀ x ∈ p1, x.block < W.heap.size := by obtain ⟨m, hm⟩ := k1; exact DataW.trod_lt m _ _ _ hm
  obtain ⟨z1, w1, s1⟩ : ∃ zs, IsRow .u32 W a1 len1 cap1 zs ∧ len1 ≤ 140737488351232 := by
    obtain ⟨fuel, hf⟩ := h1
    rcases open_ints Tryd.underlying23 Tryd.underlying41 (by kernel_rfl) hf with ⟨hcs, _⟩ | ⟨x, l, c, zs, hcs, _, hl, hm, hz, hx, hcell, hwz⟩
    · simp [Value.cells] at hcs
      obtain ⟨rfl, rfl, rfl⟩ := hcs
      exact ⟨[], .inl ⟨rfl, rfl, rfl, rfl⟩, Nat.zero_le _⟩
    · simp [Value.cells] at hcs
      obtain ⟨rfl, rfl, rfl⟩ := hcs
      have hs := sized_slice hsz (j := 1) (t := 23) (e := 41) rfl (by rw [(Prod.mk.inj hx).1]; rfl) Tryd.underlying23
      rw [Tryd.bytes41] at hs
      simp only [lits, List.length_map, List.length_take, List.length_drop, reachBytes] at hs
      have hz' : zs.length = cap1 := by simpa using hz
      exact ⟨zs, .inr ⟨_, rfl, hl, hm, hz', hcell, hwz⟩, by omega⟩
  obtain ⟨a2, rfl, rfl, rfl, w2⟩ := open_string Tryd.underlying9 (hval 2 9 v2 rfl rfl) h2
  clear hA0 hval0
  refine (walk a0 len0 cap0 z0 a1 len1 cap1 z1 a2 W w0 w1 w2 s0 s1 hVars).mono fun e W' ⟨he, bel⟩ => ?_
  subst he
  exact ⟨_, rfl, _, _, _, [], _, [], hW', trodAll_mk1 (shut_bool Tryd.underlying4 _), (trodAll_cons_mk (Below.trod laidOut (by kernel_rfl) (of_decide_eq_true (by kernel_rfl)) k0 bel lt0) (trodAll_cons_mk (Below.trod laidOut (by kernel_rfl) (of_decide_eq_true (by kernel_rfl)) k1 bel lt1) (trodAll_cons_mk (shut_string Tryd.underlying9 w2) trodAll_mk0))), rfl, bel.frame _, fun h => by cases h⟩

theorem over : Rows.oidTextsRow.holds Tryd.pinned (OpenSpec.ofChange Rows.oidTextsSpec) :=
  OpenClaim.holds_of_wide 4 Tryd.f4 rfl rfl rfl rfl rfl rfl rfl ⟨rfl, rfl, rfl, rfl, rfl⟩ rfl rfl rfl rfl rfl (by kernel_rfl) Tryd.func4 (by kernel_rfl)
    (of_decide_eq_true (by kernel_rfl)) (by unfold Func.isWrapper; first | (rw [if_pos (by decide +kernel)]; kernel_rfl) | (rw [if_neg (by decide +kernel)]; exact ⟨rfl, rfl⟩))
    (fun os started H enc _ => lifted os started H enc)

end Go.Proofs.YtpmdbbmichncmaaDoor.oidTexts
namespace Go.Proofs.YtpmdbbmichncmaaDoor
theorem oidTexts_card : Rows.OidTextsCardSaid :=
  Claim7.holds_tied_plain_at .later [] [.data, .data, .data, .data, .sentinel, .sentinel, .pinned] true (true, "44ad1fd3904c3a3060f4b1773ac6296cc65d40dba3a02c8058f1df1e3f1dd44c") true
    oidTexts.over (fun _ h => by cases h) (by kernel_rfl) (fun _ h => by cases h) oidTexts_row_tie rfl ⟨rfl, rfl⟩ (by kernel_rfl) rfl
    (fun f fn hf hfn => by
      obtain rfl : f = 4 := Option.some.inj ((show Tryd.prog.funcNamed Tryd.f4.name = some 4 by kernel_rfl).symm.trans hf) |>.symm
      obtain rfl : fn = Tryd.f4 := (Option.some.inj (Tryd.func4.symm.trans hfn)).symm
      exact ⟨by kernel_rfl, fun j t ht => by
        rw [Tryd.params4] at ht
        have hm : t ∈ [23, 23, 9] := by simpa using Array.mem_of_getElem? ht
        have hall : ([23, 23, 9].all fun u => !Tryd.prog.wantsStandIn u) = true := by kernel_rfl
        exact (show Tryd.prog.wantsStandIn t = false by simpa using List.all_eq_true.1 hall t hm)⟩)
    (by kernel_rfl)
end Go.Proofs.YtpmdbbmichncmaaDoor
