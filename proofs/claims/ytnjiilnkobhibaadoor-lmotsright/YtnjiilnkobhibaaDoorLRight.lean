/- For every number of a kind, every id of 16 bytes, every leaf's number, every seed of 32 bytes and every text: apostillelaw14.LmotsRight returns true, and each argument reads afterwards as it read before; sha's two tables of roots are as the program's text lays them. No other condition. -/
import Derived.Test.YtnjiilnkobhibaaDoorHSum
import Derived.Test.YtnjiilnkobhibaaDoorPgF
import Derived.Test.YtnjiilnkobhibaaDoorLcU
import Derived.Test.YtnjiilnkobhibaaDoorLcR
import Derived.WalkKit
import Derived.ProofKit
import Derived.OpenShut
import Derived.ShutString
import Derived.ChangeOld
import Derived.Below
namespace Go.Proofs.YtnjiilnkobhibaaDoor.lmotsRight
open Go.ChangeShapes Go.WideShapes Go.ChangeAt Go.RowKit
open Go.ChangeMaps (open_string shut_string)
set_option linter.unusedVariables false

set_option maxRecDepth 100000 in
set_option maxHeartbeats 4000000 in
theorem walk (a0 : Int) (cs1 : Array Value) (bk1 : List Nat) (a2 : Int) (cs3 : Array Value) (bk3 : List Nat) (a4 : Option Addr) (len4 cap4 : Nat) (z4 : List Int) (w : World) (w0 : (Lit.int .u8 a0).wf = true) (w1 : IBIs cs1 bk1) (w2 : (Lit.int .u32 a2).wf = true) (w3 : HBIs cs3 bk3) (w4 : IsRow .u8 w a4 len4 cap4 z4) (hV : Vars w) :
    Calls Tryd.prog 4 #[.int .u8 a0, .agg cs1, .int .u32 a2, .agg cs3, .slice a4 len4 cap4] w fun e w' => e = .returned (.bool true) ∧ Below w.heap.size w w' := by
  have tt : Tidy (.slice a4 len4 cap4) := w4.tidy
  obtain ⟨text, rfl, rt⟩ := w4.row wf_u8
  obtain ⟨rfl, li, ui⟩ := w1
  obtain ⟨rfl, ls, us⟩ := w3
  have hk := wf_u8 a0 w0
  have hq2 := wf_u32 a2 w2
  obtain ⟨kd, rfl⟩ : ∃ kd : Nat, a0 = (kd : Int) := ⟨a0.toNat, by omega⟩
  obtain ⟨q, rfl⟩ : ∃ q : Nat, a2 = (q : Int) := ⟨a2.toNat, by omega⟩
  have hT : Roots w := hV
  by_cases htl : text.length ≤ 300
  · have h3 : kd % 3 = 0 ∨ kd % 3 = 1 ∨ kd % 3 = 2 := by omega
    rcases h3 with h | h | h
    · exact rgt_1 kd q _ _ text _ w hT (by omega) h (by omega) li ls ui us rt tt htl
    · exact rgt_2 kd q _ _ text _ w hT (by omega) h (by omega) li ls ui us rt tt htl
    · exact rgt_4 kd q _ _ text _ w hT (by omega) h (by omega) li ls ui us rt tt htl
  · obtain ⟨_, _, hW, hWs⟩ := boxR_all w li ls ui us
    have hfe := few1G a4 text.length cap4 (boxR w bk1 bk3) _ hWs
    rw [decide_eq_false htl] at hfe
    have HW := hide hW
    clear htl rt tt hT li ls ui us hk hq2 hW
    go_enter Tryd.func4, Tryd.ntmps4
    go_wp2_with (first
      | (go_at_call 5; refine hfe.mono ?_; rintro e x1 ⟨rfl, g1⟩)
      | (go_at_call 6; refine (awakeL_any _).mono ?_; rintro e x2 ⟨rfl, g2⟩)
      | fail)
    go_ret
    exact ⟨rfl, keep_trans HW.out (keep_trans g1 g2)⟩

set_option maxRecDepth 100000 in
theorem lifted (os : Os) (started : os.Started) (H : Type) (enc : TypeId × Value → H) :
    ReturnsInHanded {} Tryd.checked os 4 .any (fun w args => (Rows.lmotsRightSpec.pre enc Tryd.prog Tryd.f4 Rows.lmotsRightRow.domain false w args ∧ laidMetH Tryd.prog Rows.lmotsRightRow.laid w) ∧ sizedMet enc Tryd.prog Tryd.f4 (OpenSpec.ofChange Rows.lmotsRightSpec) false w args) (Rows.lmotsRightSpec.post enc Tryd.prog Tryd.f4 false true false false) := by
  refine change_laid_shaped (C := Tryd.checked) (X := fun w _ => laidMetH Tryd.prog Rows.lmotsRightRow.laid w) (fun _ _ _ hh h => h.of_heap hh) own started (by kernel_rfl) Tryd.func4
    (ChangeSpec.witness_shaped (enc := enc) (C := Tryd.checked) (os := os) (X := fun w _ => laidMetH Tryd.prog Rows.lmotsRightRow.laid w) false (World.laidAll Tryd.prog os Rows.lmotsRightRow.laid) #[.int .u8 0, .agg #[.int .u8 0, .int .u8 0, .int .u8 0, .int .u8 0, .int .u8 0, .int .u8 0, .int .u8 0, .int .u8 0, .int .u8 0, .int .u8 0, .int .u8 0, .int .u8 0, .int .u8 0, .int .u8 0, .int .u8 0, .int .u8 0], .int .u32 0, .agg #[.int .u8 0, .int .u8 0, .int .u8 0, .int .u8 0, .int .u8 0, .int .u8 0, .int .u8 0, .int .u8 0, .int .u8 0, .int .u8 0, .int .u8 0, .int .u8 0, .int .u8 0, .int .u8 0, .int .u8 0, .int .u8 0, .int .u8 0, .int .u8 0, .int .u8 0, .int .u8 0, .int .u8 0, .int .u8 0, .int .u8 0, .int .u8 0, .int .u8 0, .int .u8 0, .int .u8 0, .int .u8 0, .int .u8 0, .int .u8 0, .int .u8 0, .int .u8 0], .slice none 0 0] 8 (World.laidAll_os _ _ _)
      (World.shaped_of_ZipB (by kernel_rfl) (by kernel_rfl)) (by kernel_rfl) (by kernel_rfl) (by kernel_rfl)
      (by rw [MakeChecks.laidMetH_plain _ _ _ (by kernel_rfl)]; exact laidMet_laidAll _ (by kernel_rfl) (by kernel_rfl))) ?_
  intro W base args ds gs before hval0 hW hsz0 hL hsh
  have hVars : Vars W := vars_of_laid hL hsh
  have hval : ∀ (j : Nat) t v, Tryd.f4.params[j]? = some t → args[j]? = some v → Value.okWide Tryd.prog W .any base t v := hval0
  have hW' := hW
  obtain ⟨p, q, hA0, hV, rfl, hfz, hnd⟩ := hW
  have hA : DataW.TrodAll enc Tryd.prog W 0 (fun _ => true) true Tryd.f4.params.toList args.toList ds p := hA0
  rw [Tryd.params4] at hA hval
  obtain ⟨v0, vs0, d0, ds0, p0, q0, hargs, rfl, rfl, h0, r0⟩ := trodAll_cons hA
  obtain ⟨v1, vs1, d1, ds1, p1, q1, rfl, rfl, rfl, h1, r1⟩ := trodAll_cons r0
  obtain ⟨v2, vs2, d2, ds2, p2, q2, rfl, rfl, rfl, h2, r2⟩ := trodAll_cons r1
  obtain ⟨v3, vs3, d3, ds3, p3, q3, rfl, rfl, rfl, h3, r3⟩ := trodAll_cons r2
  obtain ⟨v4, vs4, d4, ds4, p4, q4, rfl, rfl, rfl, h4, r4⟩ := trodAll_cons r3
  obtain ⟨rfl, rfl, rfl⟩ := trodAll_nil r4
  obtain rfl : args = #[v0, v1, v2, v3, v4] := by cases args; simp_all
  obtain ⟨rfl, rfl⟩ := trodVars_none hV
  obtain ⟨a0, rfl, rfl, rfl, w0⟩ := open_int Tryd.underlying5 (hval 0 5 v0 rfl rfl) h0
  obtain ⟨cs1, rfl, hcz1⟩ := okWide_array Tryd.underlying35 (hval 1 35 v1 rfl rfl)
  have k1 := h1
  have lt1 : ∀ x ∈ p1, x.block < W.heap.size := by obtain ⟨m, hm⟩ := k1; exact DataW.trod_lt m _ _ _ hm
  obtain ⟨bk1, w1⟩ : ∃ bk, IBIs cs1 bk := by
    obtain ⟨fuel, hf⟩ := h1
    exact read_ids (by simpa [Value.cells] using hf)
  obtain ⟨a2, rfl, rfl, rfl, w2⟩ := open_int Tryd.underlying23 (hval 2 23 v2 rfl rfl) h2
  obtain ⟨cs3, rfl, hcz3⟩ := okWide_array Tryd.underlying36 (hval 3 36 v3 rfl rfl)
  have k3 := h3
  have lt3 : ∀ x ∈ p3, x.block < W.heap.size := by obtain ⟨m, hm⟩ := k3; exact DataW.trod_lt m _ _ _ hm
  obtain ⟨bk3, w3⟩ : ∃ bk, HBIs cs3 bk := by
    obtain ⟨fuel, hf⟩ := h3
    exact read_halves (by simpa [Value.cells] using hf)
  obtain ⟨a4, len4, cap4, rfl⟩ := okWide_slice Tryd.underlying22 (hval 4 22 v4 rfl rfl)
  have k4 := h4
  have lt4 : ∀ x ∈ p4, x.block < W.heap.size := by obtain ⟨m, hm⟩ := k4; exact DataW.trod_lt m _ _ _ hm
  obtain ⟨z4, w4⟩ : ∃ zs, IsRow .u8 W a4 len4 cap4 zs := by
    obtain ⟨fuel, hf⟩ := h4
    rcases open_ints Tryd.underlying22 Tryd.underlying5 (by kernel_rfl) hf with ⟨hcs, _⟩ | ⟨x, l, c, zs, hcs, _, hl, hm, hz, _, hcell, hwz⟩
    · simp [Value.cells] at hcs
      obtain ⟨rfl, rfl, rfl⟩ := hcs
      exact ⟨[], .inl ⟨rfl, rfl, rfl, rfl⟩⟩
    · simp [Value.cells] at hcs
      obtain ⟨rfl, rfl, rfl⟩ := hcs
      exact ⟨zs, .inr ⟨_, rfl, hl, hm, by simpa using hz, hcell, hwz⟩⟩
  clear hA0 hval0
  refine (walk a0 cs1 bk1 a2 cs3 bk3 a4 len4 cap4 z4 W w0 w1 w2 w3 w4 hVars).mono fun e W' ⟨he, bel⟩ => ?_
  subst he
  exact ⟨_, rfl, _, _, _, [], _, [], hW', trodAll_mk1 (shut_bool Tryd.underlying4 _), (trodAll_cons_mk (shut_int Tryd.underlying5 w0) (trodAll_cons_mk (Below.trod laidOut (by kernel_rfl) (of_decide_eq_true (by kernel_rfl)) k1 bel lt1) (trodAll_cons_mk (shut_int Tryd.underlying23 w2) (trodAll_cons_mk (Below.trod laidOut (by kernel_rfl) (of_decide_eq_true (by kernel_rfl)) k3 bel lt3) (trodAll_cons_mk (Below.trod laidOut (by kernel_rfl) (of_decide_eq_true (by kernel_rfl)) k4 bel lt4) trodAll_mk0))))), rfl, bel.frame _, fun h => by cases h⟩

theorem over : Rows.lmotsRightRow.holds Tryd.pinned (OpenSpec.ofChange Rows.lmotsRightSpec) :=
  OpenClaim.holds_of_wide 4 Tryd.f4 rfl rfl rfl rfl rfl rfl rfl ⟨rfl, rfl, rfl, rfl, rfl⟩ rfl rfl rfl rfl rfl (by kernel_rfl) Tryd.func4 (by kernel_rfl)
    (of_decide_eq_true (by kernel_rfl)) (by unfold Func.isWrapper; first | (rw [if_pos (by decide +kernel)]; kernel_rfl) | (rw [if_neg (by decide +kernel)]; exact ⟨rfl, rfl⟩))
    (fun os started H enc _ => lifted os started H enc)

end Go.Proofs.YtnjiilnkobhibaaDoor.lmotsRight
namespace Go.Proofs.YtnjiilnkobhibaaDoor
theorem lmotsRight_card : Rows.LmotsRightCardSaid :=
  Claim7.holds_tied_plain_at .later [] [.data, .data] true (true, "ffd791d5c8a7bf44ba355bbdd09fd3c96195c4c7920e1a79f12342f1184901fb") false
    lmotsRight.over (fun _ h => by cases h) (by kernel_rfl) (fun _ h => by cases h) lmotsRight_row_tie rfl ⟨rfl, rfl⟩ (by kernel_rfl) rfl
    (fun f fn hf hfn => by
      obtain rfl : f = 4 := Option.some.inj ((show Tryd.prog.funcNamed Tryd.f4.name = some 4 by kernel_rfl).symm.trans hf) |>.symm
      obtain rfl : fn = Tryd.f4 := (Option.some.inj (Tryd.func4.symm.trans hfn)).symm
      exact ⟨by kernel_rfl, fun j t ht => by
        rw [Tryd.params4] at ht
        have hm : t ∈ [5, 35, 23, 36, 22] := by simpa using Array.mem_of_getElem? ht
        have hall : ([5, 35, 23, 36, 22].all fun u => !Tryd.prog.wantsStandIn u) = true := by kernel_rfl
        exact (show Tryd.prog.wantsStandIn t = false by simpa using List.all_eq_true.1 hall t hm)⟩)
    (by kernel_rfl)
end Go.Proofs.YtnjiilnkobhibaaDoor
