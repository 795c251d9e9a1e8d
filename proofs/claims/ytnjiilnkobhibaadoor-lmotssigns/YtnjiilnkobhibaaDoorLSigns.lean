/- For every number of bits, every id, leaf's number, seed, text and signature: apostillelaw14.LmotsSigns returns true, and each argument reads afterwards as it read before; sha's two tables of roots are as the program's text lays them. No other condition. -/
import Derived.Test.YtnjiilnkobhibaaDoorHSum
import Derived.Test.YtnjiilnkobhibaaDoorPgF
import Derived.Test.YtnjiilnkobhibaaDoorLcU
import Derived.WalkKit
import Derived.ProofKit
import Derived.OpenShut
import Derived.ShutString
import Derived.ChangeOld
import Derived.Below
namespace Go.Proofs.YtnjiilnkobhibaaDoor.lmotsSigns
open Go.ChangeShapes Go.WideShapes Go.ChangeAt Go.RowKit
open Go.ChangeMaps (open_string shut_string)
set_option linter.unusedVariables false

set_option maxRecDepth 100000 in
set_option maxHeartbeats 4000000 in
theorem walk (a0 : Int) (a1 : Option Addr) (len1 cap1 : Nat) (z1 : List Int) (a2 : Int) (a3 : Option Addr) (len3 cap3 : Nat) (z3 : List Int) (a4 : Option Addr) (len4 cap4 : Nat) (z4 : List Int) (a5 : Option Addr) (len5 cap5 : Nat) (z5 : List Int) (w : World) (w0 : (Lit.int .i64 a0).wf = true) (w1 : IsRow .u8 w a1 len1 cap1 z1) (w2 : (Lit.int .u32 a2).wf = true) (w3 : IsRow .u8 w a3 len3 cap3 z3) (w4 : IsRow .u8 w a4 len4 cap4 z4) (w5 : IsRow .u8 w a5 len5 cap5 z5) (hV : Vars w) :
    Calls Tryd.prog 3 #[.int .i64 a0, .slice a1 len1 cap1, .int .u32 a2, .slice a3 len3 cap3, .slice a4 len4 cap4, .slice a5 len5 cap5] w fun e w' => e = .returned (.bool true) ∧ Below w.heap.size w w' := by
  have ti : Tidy (.slice a1 len1 cap1) := w1.tidy
  have ts : Tidy (.slice a3 len3 cap3) := w3.tidy
  have tt : Tidy (.slice a4 len4 cap4) := w4.tidy
  have tg : Tidy (.slice a5 len5 cap5) := w5.tidy
  obtain ⟨id, rfl, ri⟩ := w1.row wf_u8
  obtain ⟨seed, rfl, rs⟩ := w3.row wf_u8
  obtain ⟨text, rfl, rt⟩ := w4.row wf_u8
  obtain ⟨sig, rfl, rg⟩ := w5.row wf_u8
  have hq2 := wf_u32 a2 w2
  obtain ⟨q, rfl⟩ : ∃ q : Nat, a2 = (q : Int) := ⟨a2.toNat, by omega⟩
  have hq : q < 4294967296 := by omega
  have hT : Roots w := hV
  clear w1 w3 w4 w5 hq2
  by_cases h8 : a0 = 8
  · subst h8
    clear ri rs rt rg ti ts tt tg hT
    go_enter Tryd.func3, Tryd.ntmps3
    go_wp2_with (first
      | (go_at_call 6; refine (awakeL_any _).mono ?_; rintro e x2 ⟨rfl, g2⟩)
      | fail)
    go_ret
    exact ⟨rfl, g2⟩
  have h8b : (a0 == 8) = false := by simp [h8]
  by_cases hf : id.length ≤ 300 ∧ seed.length ≤ 300 ∧ text.length ≤ 300
  · have hfe := fun y => few3L a1 a3 a4 id.length seed.length text.length cap1 cap3 cap4 y
    rw [decide_eq_true hf] at hfe
    by_cases h9 : 9000 < sig.length
    · have h9i : (9000 : Int) < (sig.length : Int) := by omega
      have h9g : (sig.length : Int) > 9000 := by omega
      clear ri rs rt rg ti ts tt tg hT hf h9
      go_enter Tryd.func3, Tryd.ntmps3
      go_wp2_with (first
        | (go_at_call 5; refine (hfe _).mono ?_; rintro e x1 ⟨rfl, g1⟩)
        | (go_at_call 6; refine (awakeL_any _).mono ?_; rintro e x2 ⟨rfl, g2⟩)
        | fail)
      go_ret
      exact ⟨rfl, keep_trans g1 g2⟩
    have h9i : ¬ (9000 : Int) < (sig.length : Int) := by omega
    have h9g : ¬ (sig.length : Int) > 9000 := by omega
    obtain ⟨c1, X1, hp1, hp2⟩ := both_pub a0 h8 q hq hT ri ti rs ts
    obtain ⟨c2, X2, hs1, hs2⟩ := both_sgn a0 h8 q hq hT ri ti rs ts rt tt hf.2.2
    obtain ⟨c3, X3, hc1, hc2⟩ := both_cnd a0 h8 q hq hT ri ti rt tt rg tg hf.2.2
    clear ri rs rt rg ti ts tt tg hT hf h9
    go_enter Tryd.func3, Tryd.ntmps3
    go_wp2_with (first
      | (go_at_call 5; refine (hfe _).mono ?_; rintro e x0 ⟨rfl, g0⟩)
      | (go_at_call 7; refine (hp1 _ g0).mono ?_; rintro e x1 ⟨v1, rfl, r1, _, _, g1⟩; have k1 := keep_trans g0 g1)
      | (go_at_call 8; refine (hp2 _ k1).mono ?_; rintro e x2 ⟨v2, rfl, r2, _, _, g2⟩; have k2 := keep_trans k1 g2)
      | (go_at_call 9; refine (hs1 _ k2).mono ?_; rintro e x3 ⟨v3, rfl, r3, _, _, g3⟩; have k3 := keep_trans k2 g3)
      | (go_at_call 10; refine (hs2 _ k3).mono ?_; rintro e x4 ⟨v4, rfl, r4, _, _, g4⟩; have k4 := keep_trans k3 g4)
      | (go_at_call 11; refine (hc1 _ k4).mono ?_; rintro e x5 ⟨v5, rfl, r5, _, _, g5⟩; have k5 := keep_trans k4 g5)
      | (go_at_call 12; refine (hc2 _ k5).mono ?_; rintro e x6 ⟨v6, rfl, r6, _, _, g6⟩; have k6 := keep_trans k5 g6; have g46 := keep_trans g5 g6; have g36 := keep_trans g4 g46; have g26 := keep_trans g3 g36; have g16 := keep_trans g2 g26)
      | (go_at_call_of 13 (#[v1, v2]); refine (rsame_true v1 v2 X1 _ (r1.below g16) (r2.below g26)).mono ?_; rintro e x7 ⟨rfl, g7⟩)
      | (go_at_call_of 13 (#[v3, v4]); refine (rsame_true v3 v4 X2 _ (r3.below (keep_trans g36 g7)) (r4.below (keep_trans g46 g7))).mono ?_; rintro e x8 ⟨rfl, g8⟩; have g78 := keep_trans g7 g8)
      | (go_at_call_of 13 (#[v5, v6]); refine (rsame_true v5 v6 X3 _ (r5.below (keep_trans g6 g78)) (r6.below g78)).mono ?_; rintro e x9 ⟨rfl, g9⟩)
      | (go_at_call 6; refine (awakeL_any _).mono ?_; rintro e xa ⟨rfl, ga⟩)
      | fail)
    go_ret
    exact ⟨rfl, keep_trans k6 (keep_trans g78 (keep_trans g9 ga))⟩
  · have hfe := fun y => few3L a1 a3 a4 id.length seed.length text.length cap1 cap3 cap4 y
    rw [decide_eq_false hf] at hfe
    clear ri rs rt rg ti ts tt tg hT hf
    go_enter Tryd.func3, Tryd.ntmps3
    go_wp2_with (first
      | (go_at_call 5; refine (hfe _).mono ?_; rintro e x1 ⟨rfl, g1⟩)
      | (go_at_call 6; refine (awakeL_any _).mono ?_; rintro e x2 ⟨rfl, g2⟩)
      | fail)
    go_ret
    exact ⟨rfl, keep_trans g1 g2⟩

set_option maxRecDepth 100000 in
theorem lifted (os : Os) (started : os.Started) (H : Type) (enc : TypeId × Value → H) :
    ReturnsInHanded {} Tryd.checked os 3 .any (fun w args => (Rows.lmotsSignsSpec.pre enc Tryd.prog Tryd.f3 Rows.lmotsSignsRow.domain false w args ∧ laidMetH Tryd.prog Rows.lmotsSignsRow.laid w) ∧ sizedMet enc Tryd.prog Tryd.f3 (OpenSpec.ofChange Rows.lmotsSignsSpec) false w args) (Rows.lmotsSignsSpec.post enc Tryd.prog Tryd.f3 false true false false) := by
  refine change_laid_shaped (C := Tryd.checked) (X := fun w _ => laidMetH Tryd.prog Rows.lmotsSignsRow.laid w) (fun _ _ _ hh h => h.of_heap hh) own started (by kernel_rfl) Tryd.func3
    (ChangeSpec.witness_shaped (enc := enc) (C := Tryd.checked) (os := os) (X := fun w _ => laidMetH Tryd.prog Rows.lmotsSignsRow.laid w) false (World.laidAll Tryd.prog os Rows.lmotsSignsRow.laid) #[.int .i64 0, .slice none 0 0, .int .u32 0, .slice none 0 0, .slice none 0 0, .slice none 0 0] 8 (World.laidAll_os _ _ _)
      (World.shaped_of_ZipB (by kernel_rfl) (by kernel_rfl)) (by kernel_rfl) (by kernel_rfl) (by kernel_rfl)
      (by rw [MakeChecks.laidMetH_plain _ _ _ (by kernel_rfl)]; exact laidMet_laidAll _ (by kernel_rfl) (by kernel_rfl))) ?_
  intro W base args ds gs before hval0 hW hsz0 hL hsh
  have hVars : Vars W := vars_of_laid hL hsh
  have hval : ∀ (j : Nat) t v, Tryd.f3.params[j]? = some t → args[j]? = some v → Value.okWide Tryd.prog W .any base t v := hval0
  have hW' := hW
  obtain ⟨p, q, hA0, hV, rfl, hfz, hnd⟩ := hW
  have hA : DataW.TrodAll enc Tryd.prog W 0 (fun _ => true) true Tryd.f3.params.toList args.toList ds p := hA0
  rw [Tryd.params3] at hA hval
  obtain ⟨v0, vs0, d0, ds0, p0, q0, hargs, rfl, rfl, h0, r0⟩ := trodAll_cons hA
  obtain ⟨v1, vs1, d1, ds1, p1, q1, rfl, rfl, rfl, h1, r1⟩ := trodAll_cons r0
  obtain ⟨v2, vs2, d2, ds2, p2, q2, rfl, rfl, rfl, h2, r2⟩ := trodAll_cons r1
  obtain ⟨v3, vs3, d3, ds3, p3, q3, rfl, rfl, rfl, h3, r3⟩ := trodAll_cons r2
  obtain ⟨v4, vs4, d4, ds4, p4, q4, rfl, rfl, rfl, h4, r4⟩ := trodAll_cons r3
  obtain ⟨v5, vs5, d5, ds5, p5, q5, rfl, rfl, rfl, h5, r5⟩ := trodAll_cons r4
  obtain ⟨rfl, rfl, rfl⟩ := trodAll_nil r5
  obtain rfl : args = #[v0, v1, v2, v3, v4, v5] := by cases args; simp_all
  obtain ⟨rfl, rfl⟩ := trodVars_none hV
  obtain ⟨a0, rfl, rfl, rfl, w0⟩ := open_int Tryd.underlying3 (hval 0 3 v0 rfl rfl) h0
  obtain ⟨a1, len1, cap1, rfl⟩ := okWide_slice Tryd.underlying22 (hval 1 22 v1 rfl rfl)
  have k1 := h1
  have lt1 : ∀ x ∈ p1, x.block < W.heap.size := by obtain ⟨m, hm⟩ := k1; exact DataW.trod_lt m _ _ _ hm
  obtain ⟨z1, w1⟩ : ∃ zs, IsRow .u8 W a1 len1 cap1 zs := by
    obtain ⟨fuel, hf⟩ := h1
    rcases open_ints Tryd.underlying22 Tryd.underlying5 (by kernel_rfl) hf with ⟨hcs, _⟩ | ⟨x, l, c, zs, hcs, _, hl, hm, hz, _, hcell, hwz⟩
    · simp [Value.cells] at hcs
      obtain ⟨rfl, rfl, rfl⟩ := hcs
      exact ⟨[], .inl ⟨rfl, rfl, rfl, rfl⟩⟩
    · simp [Value.cells] at hcs
      obtain ⟨rfl, rfl, rfl⟩ := hcs
      exact ⟨zs, .inr ⟨_, rfl, hl, hm, by simpa using hz, hcell, hwz⟩⟩
  obtain ⟨a2, rfl, rfl, rfl, w2⟩ := open_int Tryd.underlying23 (hval 2 23 v2 rfl rfl) h2
  obtain ⟨a3, len3, cap3, rfl⟩ := okWide_slice Tryd.underlying22 (hval 3 22 v3 rfl rfl)
  have k3 := h3
  have lt3 : ∀ x ∈ p3, x.block < W.heap.size := by obtain ⟨m, hm⟩ := k3; exact DataW.trod_lt m _ _ _ hm
  obtain ⟨z3, w3⟩ : ∃ zs, IsRow .u8 W a3 len3 cap3 zs := by
    obtain ⟨fuel, hf⟩ := h3
    rcases open_ints Tryd.underlying22 Tryd.underlying5 (by kernel_rfl) hf with ⟨hcs, _⟩ | ⟨x, l, c, zs, hcs, _, hl, hm, hz, _, hcell, hwz⟩
    · simp [Value.cells] at hcs
      obtain ⟨rfl, rfl, rfl⟩ := hcs
      exact ⟨[], .inl ⟨rfl, rfl, rfl, rfl⟩⟩
    · simp [Value.cells] at hcs
      obtain ⟨rfl, rfl, rfl⟩ := hcs
      exact ⟨zs, .inr ⟨_, rfl, hl, hm, by simpa using hz, hcell, hwz⟩⟩
  obtain ⟨a4, len4, cap4, rfl⟩ := okWide_slice Tryd.underlying22 (hval 4 22 v4 rfl rfl)
  have k4 := h4
  have lt4 : ∀ x ∈ p4, x.block < W.heap.size := by obtain ⟨m, hm⟩ := k4; exact DataW.trod_lt m _ _ _ hm
  obtain ⟨z4, w4⟩ : ∃ zs, IsRow .u8 W a4 len4 cap4 zs := by
    obtain ⟨fuel, hf⟩ := h4
    rcases open_ints Tryd.underlying22 Tryd.underlying5 (by kernel_rfl) hf with ⟨hcs, _⟩ | ⟨x, l, c, zs, hcs, _, hl, hm, hz, _, hcell, hwz⟩
    · simp [Value.cells] at hcs
      obtain ⟨rfl, rfl, rfl⟩ := hcs
      exact ⟨[], .inl ⟨rfl, rfl, rfl, rfl⟩⟩
    · simp [Value.cells] at hcs
      obtain ⟨rfl, rfl, rfl⟩ := hcs
      exact ⟨zs, .inr ⟨_, rfl, hl, hm, by simpa using hz, hcell, hwz⟩⟩
  obtain ⟨a5, len5, cap5, rfl⟩ := okWide_slice Tryd.underlying22 (hval 5 22 v5 rfl rfl)
  have k5 := h5
  have lt5 : ∀ x ∈ p5, x.block < W.heap.size := by obtain ⟨m, hm⟩ := k5; exact DataW.trod_lt m _ _ _ hm
  obtain ⟨z5, w5⟩ : ∃ zs, IsRow .u8 W a5 len5 cap5 zs := by
    obtain ⟨fuel, hf⟩ := h5
    rcases open_ints Tryd.underlying22 Tryd.underlying5 (by kernel_rfl) hf with ⟨hcs, _⟩ | ⟨x, l, c, zs, hcs, _, hl, hm, hz, _, hcell, hwz⟩
    · simp [Value.cells] at hcs
      obtain ⟨rfl, rfl, rfl⟩ := hcs
      exact ⟨[], .inl ⟨rfl, rfl, rfl, rfl⟩⟩
    · simp [Value.cells] at hcs
      obtain ⟨rfl, rfl, rfl⟩ := hcs
      exact ⟨zs, .inr ⟨_, rfl, hl, hm, by simpa using hz, hcell, hwz⟩⟩
  clear hA0 hval0
  refine (walk a0 a1 len1 cap1 z1 a2 a3 len3 cap3 z3 a4 len4 cap4 z4 a5 len5 cap5 z5 W w0 w1 w2 w3 w4 w5 hVars).mono fun e W' ⟨he, bel⟩ => ?_
  subst he
  exact ⟨_, rfl, _, _, _, [], _, [], hW', trodAll_mk1 (shut_bool Tryd.underlying4 _), (trodAll_cons_mk (shut_int Tryd.underlying3 w0) (trodAll_cons_mk (Below.trod laidOut (by kernel_rfl) (of_decide_eq_true (by kernel_rfl)) k1 bel lt1) (trodAll_cons_mk (shut_int Tryd.underlying23 w2) (trodAll_cons_mk (Below.trod laidOut (by kernel_rfl) (of_decide_eq_true (by kernel_rfl)) k3 bel lt3) (trodAll_cons_mk (Below.trod laidOut (by kernel_rfl) (of_decide_eq_true (by kernel_rfl)) k4 bel lt4) (trodAll_cons_mk (Below.trod laidOut (by kernel_rfl) (of_decide_eq_true (by kernel_rfl)) k5 bel lt5) trodAll_mk0)))))), rfl, bel.frame _, fun h => by cases h⟩

theorem over : Rows.lmotsSignsRow.holds Tryd.pinned (OpenSpec.ofChange Rows.lmotsSignsSpec) :=
  OpenClaim.holds_of_wide 3 Tryd.f3 rfl rfl rfl rfl rfl rfl rfl ⟨rfl, rfl, rfl, rfl, rfl⟩ rfl rfl rfl rfl rfl (by kernel_rfl) Tryd.func3 (by kernel_rfl)
    (of_decide_eq_true (by kernel_rfl)) (by unfold Func.isWrapper; first | (rw [if_pos (by decide +kernel)]; kernel_rfl) | (rw [if_neg (by decide +kernel)]; exact ⟨rfl, rfl⟩))
    (fun os started H enc _ => lifted os started H enc)

end Go.Proofs.YtnjiilnkobhibaaDoor.lmotsSigns
namespace Go.Proofs.YtnjiilnkobhibaaDoor
theorem lmotsSigns_card : Rows.LmotsSignsCardSaid :=
  Claim7.holds_tied_plain_at .later [] [.data, .data] true (true, "ffd791d5c8a7bf44ba355bbdd09fd3c96195c4c7920e1a79f12342f1184901fb") false
    lmotsSigns.over (fun _ h => by cases h) (by kernel_rfl) (fun _ h => by cases h) lmotsSigns_row_tie rfl ⟨rfl, rfl⟩ (by kernel_rfl) rfl
    (fun f fn hf hfn => by
      obtain rfl : f = 3 := Option.some.inj ((show Tryd.prog.funcNamed Tryd.f3.name = some 3 by kernel_rfl).symm.trans hf) |>.symm
      obtain rfl : fn = Tryd.f3 := (Option.some.inj (Tryd.func3.symm.trans hfn)).symm
      exact ⟨by kernel_rfl, fun j t ht => by
        rw [Tryd.params3] at ht
        have hm : t ∈ [3, 22, 23, 22, 22, 22] := by simpa using Array.mem_of_getElem? ht
        have hall : ([3, 22, 23, 22, 22, 22].all fun u => !Tryd.prog.wantsStandIn u) = true := by kernel_rfl
        exact (show Tryd.prog.wantsStandIn t = false by simpa using List.all_eq_true.1 hall t hm)⟩)
    (by kernel_rfl)
end Go.Proofs.YtnjiilnkobhibaaDoor
