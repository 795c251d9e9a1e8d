/- For every kind of tree, every id, seed, leaf's number and text: apostillelaw15.LmsGrows returns true, and each argument reads afterwards as it read before; sha's two tables of roots are as the program's text lays them. No other condition. -/
import Derived.Test.YtefndnbaifiboaaGreatDoorHEnd
import Derived.Test.YtefndnbaifiboaaGreatDoorPgF
import Derived.Test.YtefndnbaifiboaaGreatDoorLsS
import Derived.WalkKit
import Derived.ProofKit
import Derived.OpenShut
import Derived.ShutString
import Derived.ChangeOld
import Derived.Below
namespace Go.Proofs.YtefndnbaifiboaaGreatDoor.lmsGrows
open Go.ChangeShapes Go.WideShapes Go.ChangeAt Go.RowKit
open Go.ChangeMaps (open_string shut_string)
set_option linter.unusedVariables false

set_option maxRecDepth 100000 in
set_option maxHeartbeats 4000000 in
theorem walk (cs0 : Array Value) (th0 : Int) (tw0 : Int) (a1 : Option Addr) (len1 cap1 : Nat) (z1 : List Int) (a2 : Option Addr) (len2 cap2 : Nat) (z2 : List Int) (a3 : Int) (a4 : Option Addr) (len4 cap4 : Nat) (z4 : List Int) (w : World) (w0 : TrIs cs0 th0 tw0) (w1 : IsRow .u8 w a1 len1 cap1 z1) (w2 : IsRow .u8 w a2 len2 cap2 z2) (w3 : (Lit.int .u32 a3).wf = true) (w4 : IsRow .u8 w a4 len4 cap4 z4) (hV : Vars w) :
    Calls Tryz.prog 3 #[.agg cs0, .slice a1 len1 cap1, .slice a2 len2 cap2, .int .u32 a3, .slice a4 len4 cap4] w fun e w' => e = .returned (.bool true) ∧ Below w.heap.size w w' := by
  obtain ⟨rfl⟩ := w0
  have ti : Tidy (.slice a1 len1 cap1) := w1.tidy
  have ts : Tidy (.slice a2 len2 cap2) := w2.tidy
  have tt : Tidy (.slice a4 len4 cap4) := w4.tidy
  obtain ⟨id, rfl, ri⟩ := w1.row wf_u8
  obtain ⟨seed, rfl, rs⟩ := w2.row wf_u8
  obtain ⟨text, rfl, rt⟩ := w4.row wf_u8
  have hq2 := wf_u32 a3 w3
  obtain ⟨q, rfl⟩ : ∃ q : Nat, a3 = (q : Int) := ⟨a3.toNat, by omega⟩
  have hq : q < 4294967296 := by omega
  have hT : Roots w := hV
  clear w1 w2 w3 w4 hq2
  generalize th0 = h at *
  generalize tw0 = x at *
  have hli := fun y => clight h x y
  have bT := Bx2T.new w (.int .i64 h) (.int .i64 x)
  have k0 := keep_alloc w (.cells #[.int .i64 h, .int .i64 x] 23)
  by_cases hl : h ≤ 2 ∧ ¬ x = 8 ∨ 10 < h ∨ ¬ FitL h x
  · rw [decide_eq_true hl] at hli
    by_cases hf : id.length ≤ 300 ∧ seed.length ≤ 300 ∧ text.length ≤ 300
    · have hfe := fun y => few3M a1 a2 a4 id.length seed.length text.length cap1 cap2 cap4 y
      rw [decide_eq_true hf] at hfe
      obtain ⟨c1, X1, hp1, hp2⟩ := both_pubT h x hl hT ri ti rs ts
      obtain ⟨c2, X2, hs1, hs2⟩ := both_sgnT h x q hq hl hT ri ti rs ts rt tt hf.2.2
      clear ri rs rt ti ts tt hT hf hl
      go_enter Tryz.func3, Tryz.ntmps3
      go_wp2_with (first
        | (go_at_call 5; refine (hli _).mono ?_; rintro e y0 ⟨rfl, g0⟩)
        | (go_at_call 6; refine (hfe _).mono ?_; rintro e y1 ⟨rfl, g1⟩; have k1 := keep_trans k0 (keep_trans g0 g1); have b1 := bT.below (keep_trans g0 g1))
        | (refine wpList_load_row rfl 23 _ (by rfl) w.heap.size (by rfl) _ _ _ _ b1.here Tryz.underlying23 rfl (by kernel_rfl) ?_)
        | (go_at_call 8; refine (hp1 _ k1).mono ?_; rintro e y2 ⟨v1, rfl, r1, _, _, g2⟩; have k2 := keep_trans k1 g2; have b2 := b1.below g2; clear b1)
        | (refine wpList_load_row rfl 23 _ (by rfl) w.heap.size (by rfl) _ _ _ _ b2.here Tryz.underlying23 rfl (by kernel_rfl) ?_)
        | (go_at_call 9; refine (hp2 _ k2).mono ?_; rintro e y3 ⟨v2, rfl, r2, _, _, g3⟩; have k3 := keep_trans k2 g3; have b3 := b2.below g3; clear b2)
        | (refine wpList_load_row rfl 23 _ (by rfl) w.heap.size (by rfl) _ _ _ _ b3.here Tryz.underlying23 rfl (by kernel_rfl) ?_)
        | (go_at_call 10; refine (hs1 _ k3).mono ?_; rintro e y4 ⟨v3, rfl, r3, _, _, g4⟩; have k4 := keep_trans k3 g4; have b4 := b3.below g4; clear b3)
        | (refine wpList_load_row rfl 23 _ (by rfl) w.heap.size (by rfl) _ _ _ _ b4.here Tryz.underlying23 rfl (by kernel_rfl) ?_)
        | (go_at_call 11; refine (hs2 _ k4).mono ?_; rintro e y5 ⟨v4, rfl, r4, _, _, g5⟩; have k5 := keep_trans k4 g5; have b5 := b4.below g5)
        | fail)
      have g45 := keep_trans g4 g5
      have g35 := keep_trans g3 g45
      refine grows_reg ⟨rfl, rfl⟩ rfl rfl rfl rfl rfl rfl rfl rfl rfl b5 (r1.below g35) (r2.below g45) (r3.below g5) r4 ?_
      intro a' y F' s10 hb
      go_wp2
      exact F'.ret1 rfl s10 ⟨rfl, keep_trans k5 hb⟩
    · have hfe := fun y => few3M a1 a2 a4 id.length seed.length text.length cap1 cap2 cap4 y
      rw [decide_eq_false hf] at hfe
      clear ri rs rt ti ts tt hT hf hl
      go_enter Tryz.func3, Tryz.ntmps3
      go_wp2_with (first
        | (go_at_call 5; refine (hli _).mono ?_; rintro e y0 ⟨rfl, g0⟩)
        | (go_at_call 6; refine (hfe _).mono ?_; rintro e y1 ⟨rfl, g1⟩; have k1 := keep_trans k0 (keep_trans g0 g1))
        | (go_at_call 7; refine (awakeM_any _).mono ?_; rintro e y2 ⟨rfl, g2⟩)
        | fail)
      go_ret
      exact ⟨rfl, keep_trans k1 g2⟩
  · rw [decide_eq_false hl] at hli
    clear ri rs rt ti ts tt hT hl
    go_enter Tryz.func3, Tryz.ntmps3
    go_wp2_with (first
      | (go_at_call 5; refine (hli _).mono ?_; rintro e y0 ⟨rfl, g0⟩)
      | (go_at_call 7; refine (awakeM_any _).mono ?_; rintro e y2 ⟨rfl, g2⟩)
      | fail)
    go_ret
    exact ⟨rfl, keep_trans (keep_trans k0 g0) g2⟩

set_option maxRecDepth 100000 in
theorem lifted (os : Os) (started : os.Started) (H : Type) (enc : TypeId × Value → H) :
    ReturnsInHanded {} Tryz.checked os 3 .any (fun w args => (Rows.lmsGrowsSpec.pre enc Tryz.prog Tryz.f3 Rows.lmsGrowsRow.domain false w args ∧ laidMetH Tryz.prog Rows.lmsGrowsRow.laid w) ∧ sizedMet enc Tryz.prog Tryz.f3 (OpenSpec.ofChange Rows.lmsGrowsSpec) false w args) (Rows.lmsGrowsSpec.post enc Tryz.prog Tryz.f3 false true false false) := by
  refine change_laid_shaped (C := Tryz.checked) (X := fun w _ => laidMetH Tryz.prog Rows.lmsGrowsRow.laid w) (fun _ _ _ hh h => h.of_heap hh) own started (by kernel_rfl) Tryz.func3
    (ChangeSpec.witness_shaped (enc := enc) (C := Tryz.checked) (os := os) (X := fun w _ => laidMetH Tryz.prog Rows.lmsGrowsRow.laid w) false (World.laidAll Tryz.prog os Rows.lmsGrowsRow.laid) #[.agg #[.int .i64 0, .int .i64 0], .slice none 0 0, .slice none 0 0, .int .u32 0, .slice none 0 0] 8 (World.laidAll_os _ _ _)
      (World.shaped_of_ZipB (by kernel_rfl) (by kernel_rfl)) (by kernel_rfl) (by kernel_rfl) (by kernel_rfl)
      (by rw [MakeChecks.laidMetH_plain _ _ _ (by kernel_rfl)]; exact laidMet_laidAll _ (by kernel_rfl) (by kernel_rfl))) ?_
  intro W base args ds gs before hval0 hW hsz0 hL hsh
  have hVars : Vars W := vars_of_laid hL hsh
  have hval : ∀ (j : Nat) t v, Tryz.f3.params[j]? = some t → args[j]? = some v → Value.okWide Tryz.prog W .any base t v := hval0
  have hW' := hW
  obtain ⟨p, q, hA0, hV, rfl, hfz, hnd⟩ := hW
  have hA : DataW.TrodAll enc Tryz.prog W 0 (fun _ => true) true Tryz.f3.params.toList args.toList ds p := hA0
  rw [Tryz.params3] at hA hval
  obtain ⟨v0, vs0, d0, ds0, p0, q0, hargs, rfl, rfl, h0, r0⟩ := trodAll_cons hA
  obtain ⟨v1, vs1, d1, ds1, p1, q1, rfl, rfl, rfl, h1, r1⟩ := trodAll_cons r0
  obtain ⟨v2, vs2, d2, ds2, p2, q2, rfl, rfl, rfl, h2, r2⟩ := trodAll_cons r1
  obtain ⟨v3, vs3, d3, ds3, p3, q3, rfl, rfl, rfl, h3, r3⟩ := trodAll_cons r2
  obtain ⟨v4, vs4, d4, ds4, p4, q4, rfl, rfl, rfl, h4, r4⟩ := trodAll_cons r3
  obtain ⟨rfl, rfl, rfl⟩ := trodAll_nil r4
  obtain rfl : args = #[v0, v1, v2, v3, v4] := by cases args; simp_all
  obtain ⟨rfl, rfl⟩ := trodVars_none hV
  obtain ⟨cs0, rfl, hcz0⟩ := okWide_struct Tryz.underlying23 (hval 0 23 v0 rfl rfl)
  have k0 := h0
  have lt0 : ∀ x ∈ p0, x.block < W.heap.size := by obtain ⟨m, hm⟩ := k0; exact DataW.trod_lt m _ _ _ hm
  obtain ⟨th0, tw0, w0⟩ : ∃ th tw, TrIs cs0 th tw := by
    obtain ⟨fuel, hf⟩ := h0
    exact read_treeS (by simpa [Value.cells] using hf)
  obtain ⟨a1, len1, cap1, rfl⟩ := okWide_slice Tryz.underlying24 (hval 1 24 v1 rfl rfl)
  have k1 := h1
  have lt1 : ∀ x ∈ p1, x.block < W.heap.size := by obtain ⟨m, hm⟩ := k1; exact DataW.trod_lt m _ _ _ hm
  obtain ⟨z1, w1⟩ : ∃ zs, IsRow .u8 W a1 len1 cap1 zs := by
    obtain ⟨fuel, hf⟩ := h1
    rcases open_ints Tryz.underlying24 Tryz.underlying5 (by kernel_rfl) hf with ⟨hcs, _⟩ | ⟨x, l, c, zs, hcs, _, hl, hm, hz, _, hcell, hwz⟩
    · simp [Value.cells] at hcs
      obtain ⟨rfl, rfl, rfl⟩ := hcs
      exact ⟨[], .inl ⟨rfl, rfl, rfl, rfl⟩⟩
    · simp [Value.cells] at hcs
      obtain ⟨rfl, rfl, rfl⟩ := hcs
      exact ⟨zs, .inr ⟨_, rfl, hl, hm, by simpa using hz, hcell, hwz⟩⟩
  obtain ⟨a2, len2, cap2, rfl⟩ := okWide_slice Tryz.underlying24 (hval 2 24 v2 rfl rfl)
  have k2 := h2
  have lt2 : ∀ x ∈ p2, x.block < W.heap.size := by obtain ⟨m, hm⟩ := k2; exact DataW.trod_lt m _ _ _ hm
  obtain ⟨z2, w2⟩ : ∃ zs, IsRow .u8 W a2 len2 cap2 zs := by
    obtain ⟨fuel, hf⟩ := h2
    rcases open_ints Tryz.underlying24 Tryz.underlying5 (by kernel_rfl) hf with ⟨hcs, _⟩ | ⟨x, l, c, zs, hcs, _, hl, hm, hz, _, hcell, hwz⟩
    · simp [Value.cells] at hcs
      obtain ⟨rfl, rfl, rfl⟩ := hcs
      exact ⟨[], .inl ⟨rfl, rfl, rfl, rfl⟩⟩
    · simp [Value.cells] at hcs
      obtain ⟨rfl, rfl, rfl⟩ := hcs
      exact ⟨zs, .inr ⟨_, rfl, hl, hm, by simpa using hz, hcell, hwz⟩⟩
  obtain ⟨a3, rfl, rfl, rfl, w3⟩ := open_int Tryz.underlying25 (hval 3 25 v3 rfl rfl) h3
  obtain ⟨a4, len4, cap4, rfl⟩ := okWide_slice Tryz.underlying24 (hval 4 24 v4 rfl rfl)
  have k4 := h4
  have lt4 : ∀ x ∈ p4, x.block < W.heap.size := by obtain ⟨m, hm⟩ := k4; exact DataW.trod_lt m _ _ _ hm
  obtain ⟨z4, w4⟩ : ∃ zs, IsRow .u8 W a4 len4 cap4 zs := by
    obtain ⟨fuel, hf⟩ := h4
    rcases open_ints Tryz.underlying24 Tryz.underlying5 (by kernel_rfl) hf with ⟨hcs, _⟩ | ⟨x, l, c, zs, hcs, _, hl, hm, hz, _, hcell, hwz⟩
    · simp [Value.cells] at hcs
      obtain ⟨rfl, rfl, rfl⟩ := hcs
      exact ⟨[], .inl ⟨rfl, rfl, rfl, rfl⟩⟩
    · simp [Value.cells] at hcs
      obtain ⟨rfl, rfl, rfl⟩ := hcs
      exact ⟨zs, .inr ⟨_, rfl, hl, hm, by simpa using hz, hcell, hwz⟩⟩
  clear hA0 hval0
  refine (walk cs0 th0 tw0 a1 len1 cap1 z1 a2 len2 cap2 z2 a3 a4 len4 cap4 z4 W w0 w1 w2 w3 w4 hVars).mono fun e W' ⟨he, bel⟩ => ?_
  subst he
  exact ⟨_, rfl, _, _, _, [], _, [], hW', trodAll_mk1 (shut_bool Tryz.underlying4 _), (trodAll_cons_mk (Below.trod laidOut (by kernel_rfl) (of_decide_eq_true (by kernel_rfl)) k0 bel lt0) (trodAll_cons_mk (Below.trod laidOut (by kernel_rfl) (of_decide_eq_true (by kernel_rfl)) k1 bel lt1) (trodAll_cons_mk (Below.trod laidOut (by kernel_rfl) (of_decide_eq_true (by kernel_rfl)) k2 bel lt2) (trodAll_cons_mk (shut_int Tryz.underlying25 w3) (trodAll_cons_mk (Below.trod laidOut (by kernel_rfl) (of_decide_eq_true (by kernel_rfl)) k4 bel lt4) trodAll_mk0))))), rfl, bel.frame _, fun h => by cases h⟩

theorem over : Rows.lmsGrowsRow.holds Tryz.pinned (OpenSpec.ofChange Rows.lmsGrowsSpec) :=
  OpenClaim.holds_of_wide 3 Tryz.f3 rfl rfl rfl rfl rfl rfl rfl ⟨rfl, rfl, rfl, rfl, rfl⟩ rfl rfl rfl rfl rfl (by kernel_rfl) Tryz.func3 (by kernel_rfl)
    (of_decide_eq_true (by kernel_rfl)) (by unfold Func.isWrapper; first | (rw [if_pos (by decide +kernel)]; kernel_rfl) | (rw [if_neg (by decide +kernel)]; exact ⟨rfl, rfl⟩))
    (fun os started H enc _ => lifted os started H enc)

end Go.Proofs.YtefndnbaifiboaaGreatDoor.lmsGrows
namespace Go.Proofs.YtefndnbaifiboaaGreatDoor
theorem lmsGrows_card : Rows.LmsGrowsCardSaid :=
  Claim7.holds_tied_plain_at .later [] [.data, .data] true (true, "d4ae9a4c4a557deed798ecd8fedef0ab47b5574378c0119d0e7c04ff46572e36") false
    lmsGrows.over (fun _ h => by cases h) (by kernel_rfl) (fun _ h => by cases h) lmsGrows_row_tie rfl ⟨rfl, rfl⟩ (by kernel_rfl) rfl
    (fun f fn hf hfn => by
      obtain rfl : f = 3 := Option.some.inj ((show Tryz.prog.funcNamed Tryz.f3.name = some 3 by kernel_rfl).symm.trans hf) |>.symm
      obtain rfl : fn = Tryz.f3 := (Option.some.inj (Tryz.func3.symm.trans hfn)).symm
      exact ⟨by kernel_rfl, fun j t ht => by
        rw [Tryz.params3] at ht
        have hm : t ∈ [23, 24, 24, 25, 24] := by simpa using Array.mem_of_getElem? ht
        have hall : ([23, 24, 24, 25, 24].all fun u => !Tryz.prog.wantsStandIn u) = true := by kernel_rfl
        exact (show Tryz.prog.wantsStandIn t = false by simpa using List.all_eq_true.1 hall t hm)⟩)
    (by kernel_rfl)
end Go.Proofs.YtefndnbaifiboaaGreatDoor
