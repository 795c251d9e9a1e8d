/- For every two numbers of a kind, every id of 16 bytes, every seed of 32 bytes, every number and every text: apostillelaw16.HssRight returns true, and each argument reads afterwards as it read before; sha's two tables of roots are as the program's text lays them. No other condition. -/
import Derived.Test.YtogiballdmgcpaaGreatDoorHEnd
import Derived.Test.YtogiballdmgcpaaGreatDoorPlan3
import Derived.Test.YtogiballdmgcpaaGreatDoorLhU
import Derived.WalkKit
import Derived.ProofKit
import Derived.OpenShut
import Derived.ShutString
import Derived.ChangeOld
import Derived.Below
namespace Go.Proofs.YtogiballdmgcpaaGreatDoor.hssRight
open Go.ChangeShapes Go.WideShapes Go.ChangeAt Go.RowKit
open Go.ChangeMaps (open_string shut_string)
set_option linter.unusedVariables false

set_option maxRecDepth 100000 in
set_option maxHeartbeats 4000000 in
theorem walk (a0 : Int) (a1 : Int) (cs2 : Array Value) (bk2 : List Nat) (cs3 : Array Value) (bk3 : List Nat) (a4 : Int) (a5 : Option Addr) (len5 cap5 : Nat) (z5 : List Int) (w : World) (w0 : (Lit.int .u8 a0).wf = true) (w1 : (Lit.int .u8 a1).wf = true) (w2 : IBIs cs2 bk2) (w3 : HBIs cs3 bk3) (w4 : (Lit.int .u8 a4).wf = true) (w5 : IsRow .u8 w a5 len5 cap5 z5) (hV : Vars w) :
    Calls Tryz.prog 5 #[.int .u8 a0, .int .u8 a1, .agg cs2, .agg cs3, .int .u8 a4, .slice a5 len5 cap5] w fun e w' => e = .returned (.bool true) ∧ Below w.heap.size w w' := by
  have tt : Tidy (.slice a5 len5 cap5) := w5.tidy
  obtain ⟨text, rfl, rt⟩ := w5.row wf_u8
  obtain ⟨rfl, li, ui⟩ := w2
  obtain ⟨rfl, ls, us⟩ := w3
  have hh8 := wf_u8 a0 w0
  have hw8 := wf_u8 a1 w1
  have hn8 := wf_u8 a4 w4
  obtain ⟨h8, rfl⟩ : ∃ x : Nat, a0 = (x : Int) := ⟨a0.toNat, by omega⟩
  obtain ⟨w8, rfl⟩ : ∃ x : Nat, a1 = (x : Int) := ⟨a1.toNat, by omega⟩
  obtain ⟨n8, rfl⟩ : ∃ x : Nat, a4 = (x : Int) := ⟨a4.toNat, by omega⟩
  have hT : Roots w := hV
  by_cases hf : text.length ≤ 300
  · have hK : FitK [(1, 1), (((1 + h8 % 2 : Nat) : Int), ((1 + w8 % 2 : Nat) : Int))] 16 32 := by
      have hh : h8 % 2 = 0 ∨ h8 % 2 = 1 := by omega
      have hw : w8 % 2 = 0 ∨ w8 % 2 = 1 := by omega
      rcases hh with eh | eh <;> rcases hw with ew | ew <;> rw [eh, ew] <;> decide
    exact rt_rightH h8 w8 n8 _ _ _ _ text _ w hT (by omega) (by omega) (by omega) rfl rfl li ls ui us hK rt tt hf
  · obtain ⟨_, _, hW, hWs⟩ := boxM_all w li ls ui us
    have hfe := few1G a5 text.length cap5 (boxM w bk2 bk3) _ hWs
    rw [decide_eq_false hf] at hfe
    have haw := fun y (k : Below w.heap.size w y) => awakeH_any y (hT.below k)
    have HW := hide hW
    clear hf rt tt hT li ls ui us hh8 hw8 hn8 hW
    go_enter Tryz.func5, Tryz.ntmps5
    go_wp2_with (first
      | (go_at_call 7; refine hfe.mono ?_; rintro e x1 ⟨rfl, g1⟩; have k1 := keep_trans HW.out g1)
      | (go_at_call 8; refine (haw _ k1).mono ?_; rintro e x2 ⟨rfl, g2⟩)
      | fail)
    go_ret
    exact ⟨rfl, keep_trans k1 g2⟩

set_option maxRecDepth 100000 in
theorem lifted (os : Os) (started : os.Started) (H : Type) (enc : TypeId × Value → H) :
    ReturnsInHanded {} Tryz.checked os 5 .any (fun w args => (Rows.hssRightSpec.pre enc Tryz.prog Tryz.f5 Rows.hssRightRow.domain false w args ∧ laidMetH Tryz.prog Rows.hssRightRow.laid w) ∧ sizedMet enc Tryz.prog Tryz.f5 (OpenSpec.ofChange Rows.hssRightSpec) false w args) (Rows.hssRightSpec.post enc Tryz.prog Tryz.f5 false true false false) := by
  refine change_laid_shaped (C := Tryz.checked) (X := fun w _ => laidMetH Tryz.prog Rows.hssRightRow.laid w) (fun _ _ _ hh h => h.of_heap hh) own started (by kernel_rfl) Tryz.func5
    (ChangeSpec.witness_shaped (enc := enc) (C := Tryz.checked) (os := os) (X := fun w _ => laidMetH Tryz.prog Rows.hssRightRow.laid w) false (World.laidAll Tryz.prog os Rows.hssRightRow.laid) #[.int .u8 0, .int .u8 0, .agg #[.int .u8 0, .int .u8 0, .int .u8 0, .int .u8 0, .int .u8 0, .int .u8 0, .int .u8 0, .int .u8 0, .int .u8 0, .int .u8 0, .int .u8 0, .int .u8 0, .int .u8 0, .int .u8 0, .int .u8 0, .int .u8 0], .agg #[.int .u8 0, .int .u8 0, .int .u8 0, .int .u8 0, .int .u8 0, .int .u8 0, .int .u8 0, .int .u8 0, .int .u8 0, .int .u8 0, .int .u8 0, .int .u8 0, .int .u8 0, .int .u8 0, .int .u8 0, .int .u8 0, .int .u8 0, .int .u8 0, .int .u8 0, .int .u8 0, .int .u8 0, .int .u8 0, .int .u8 0, .int .u8 0, .int .u8 0, .int .u8 0, .int .u8 0, .int .u8 0, .int .u8 0, .int .u8 0, .int .u8 0, .int .u8 0], .int .u8 0, .slice none 0 0] 8 (World.laidAll_os _ _ _)
      (World.shaped_of_ZipB (by kernel_rfl) (by kernel_rfl)) (by kernel_rfl) (by kernel_rfl) (by kernel_rfl)
      (by rw [MakeChecks.laidMetH_plain _ _ _ (by kernel_rfl)]; exact laidMet_laidAll _ (by kernel_rfl) (by kernel_rfl))) ?_
  intro W base args ds gs before hval0 hW hsz0 hL hsh
  have hVars : Vars W := vars_of_laid hL hsh
  have hval : ∀ (j : Nat) t v, Tryz.f5.params[j]? = some t → args[j]? = some v → Value.okWide Tryz.prog W .any base t v := hval0
  have hW' := hW
  obtain ⟨p, q, hA0, hV, rfl, hfz, hnd⟩ := hW
  have hA : DataW.TrodAll enc Tryz.prog W 0 (fun _ => true) true Tryz.f5.params.toList args.toList ds p := hA0
  rw [Tryz.params5] at hA hval
  obtain ⟨v0, vs0, d0, ds0, p0, q0, hargs, rfl, rfl, h0, r0⟩ := trodAll_cons hA
  obtain ⟨v1, vs1, d1, ds1, p1, q1, rfl, rfl, rfl, h1, r1⟩ := trodAll_cons r0
  obtain ⟨v2, vs2, d2, ds2, p2, q2, rfl, rfl, rfl, h2, r2⟩ := trodAll_cons r1
  obtain ⟨v3, vs3, d3, ds3, p3, q3, rfl, rfl, rfl, h3, r3⟩ := trodAll_cons r2
  obtain ⟨v4, vs4, d4, ds4, p4, q4, rfl, rfl, rfl, h4, r4⟩ := trodAll_cons r3
  obtain ⟨v5, vs5, d5, ds5, p5, q5, rfl, rfl, rfl, h5, r5⟩ := trodAll_cons r4
  obtain ⟨rfl, rfl, rfl⟩ := trodAll_nil r5
  obtain rfl : args = #[v0, v1, v2, v3, v4, v5] := by cases args; simp_all
  obtain ⟨rfl, rfl⟩ := trodVars_none hV
  obtain ⟨a0, rfl, rfl, rfl, w0⟩ := open_int Tryz.underlying5 (hval 0 5 v0 rfl rfl) h0
  obtain ⟨a1, rfl, rfl, rfl, w1⟩ := open_int Tryz.underlying5 (hval 1 5 v1 rfl rfl) h1
  obtain ⟨cs2, rfl, hcz2⟩ := okWide_array Tryz.underlying42 (hval 2 42 v2 rfl rfl)
  have k2 := h2
  have lt2 : ∀ x ∈ p2, x.block < W.heap.size := by obtain ⟨m, hm⟩ := k2; exact DataW.trod_lt m _ _ _ hm
  obtain ⟨bk2, w2⟩ : ∃ bk, IBIs cs2 bk := by
    obtain ⟨fuel, hf⟩ := h2
    exact read_ids (by simpa [Value.cells] using hf)
  obtain ⟨cs3, rfl, hcz3⟩ := okWide_array Tryz.underlying43 (hval 3 43 v3 rfl rfl)
  have k3 := h3
  have lt3 : ∀ x ∈ p3, x.block < W.heap.size := by obtain ⟨m, hm⟩ := k3; exact DataW.trod_lt m _ _ _ hm
  obtain ⟨bk3, w3⟩ : ∃ bk, HBIs cs3 bk := by
    obtain ⟨fuel, hf⟩ := h3
    exact read_halves (by simpa [Value.cells] using hf)
  obtain ⟨a4, rfl, rfl, rfl, w4⟩ := open_int Tryz.underlying5 (hval 4 5 v4 rfl rfl) h4
  obtain ⟨a5, len5, cap5, rfl⟩ := okWide_slice Tryz.underlying23 (hval 5 23 v5 rfl rfl)
  have k5 := h5
  have lt5 : ∀ x ∈ p5, x.block < W.heap.size := by obtain ⟨m, hm⟩ := k5; exact DataW.trod_lt m _ _ _ hm
  obtain ⟨z5, w5⟩ : ∃ zs, IsRow .u8 W a5 len5 cap5 zs := by
    obtain ⟨fuel, hf⟩ := h5
    rcases open_ints Tryz.underlying23 Tryz.underlying5 (by kernel_rfl) hf with ⟨hcs, _⟩ | ⟨x, l, c, zs, hcs, _, hl, hm, hz, _, hcell, hwz⟩
    · simp [Value.cells] at hcs
      obtain ⟨rfl, rfl, rfl⟩ := hcs
      exact ⟨[], .inl ⟨rfl, rfl, rfl, rfl⟩⟩
    · simp [Value.cells] at hcs
      obtain ⟨rfl, rfl, rfl⟩ := hcs
      exact ⟨zs, .inr ⟨_, rfl, hl, hm, by simpa using hz, hcell, hwz⟩⟩
  clear hA0 hval0
  refine (walk a0 a1 cs2 bk2 cs3 bk3 a4 a5 len5 cap5 z5 W w0 w1 w2 w3 w4 w5 hVars).mono fun e W' ⟨he, bel⟩ => ?_
  subst he
  exact ⟨_, rfl, _, _, _, [], _, [], hW', trodAll_mk1 (shut_bool Tryz.underlying4 _), (trodAll_cons_mk (shut_int Tryz.underlying5 w0) (trodAll_cons_mk (shut_int Tryz.underlying5 w1) (trodAll_cons_mk (Below.trod laidOut (by kernel_rfl) (of_decide_eq_true (by kernel_rfl)) k2 bel lt2) (trodAll_cons_mk (Below.trod laidOut (by kernel_rfl) (of_decide_eq_true (by kernel_rfl)) k3 bel lt3) (trodAll_cons_mk (shut_int Tryz.underlying5 w4) (trodAll_cons_mk (Below.trod laidOut (by kernel_rfl) (of_decide_eq_true (by kernel_rfl)) k5 bel lt5) trodAll_mk0)))))), rfl, bel.frame _, fun h => by cases h⟩

theorem over : Rows.hssRightRow.holds Tryz.pinned (OpenSpec.ofChange Rows.hssRightSpec) :=
  OpenClaim.holds_of_wide 5 Tryz.f5 rfl rfl rfl rfl rfl rfl rfl ⟨rfl, rfl, rfl, rfl, rfl⟩ rfl rfl rfl rfl rfl (by kernel_rfl) Tryz.func5 (by kernel_rfl)
    (of_decide_eq_true (by kernel_rfl)) (by unfold Func.isWrapper; first | (rw [if_pos (by decide +kernel)]; kernel_rfl) | (rw [if_neg (by decide +kernel)]; exact ⟨rfl, rfl⟩))
    (fun os started H enc _ => lifted os started H enc)

end Go.Proofs.YtogiballdmgcpaaGreatDoor.hssRight
namespace Go.Proofs.YtogiballdmgcpaaGreatDoor
theorem hssRight_card : Rows.HssRightCardSaid :=
  Claim7.holds_tied_plain_at .later [] [.data, .data] true (true, "0a640b7e697f3855e2ed015271d37461dde8d8faf02f84231c67d8fbae9741b5") false
    hssRight.over (fun _ h => by cases h) (by kernel_rfl) (fun _ h => by cases h) hssRight_row_tie rfl ⟨rfl, rfl⟩ (by kernel_rfl) rfl
    (fun f fn hf hfn => by
      obtain rfl : f = 5 := Option.some.inj ((show Tryz.prog.funcNamed Tryz.f5.name = some 5 by kernel_rfl).symm.trans hf) |>.symm
      obtain rfl : fn = Tryz.f5 := (Option.some.inj (Tryz.func5.symm.trans hfn)).symm
      exact ⟨by kernel_rfl, fun j t ht => by
        rw [Tryz.params5] at ht
        have hm : t ∈ [5, 5, 42, 43, 5, 23] := by simpa using Array.mem_of_getElem? ht
        have hall : ([5, 5, 42, 43, 5, 23].all fun u => !Tryz.prog.wantsStandIn u) = true := by kernel_rfl
        exact (show Tryz.prog.wantsStandIn t = false by simpa using List.all_eq_true.1 hall t hm)⟩)
    (by kernel_rfl)
end Go.Proofs.YtogiballdmgcpaaGreatDoor
