/- For every byte, every text and every two bytes: apostillelaw08.KeccakSums returns true, and each argument reads afterwards as it read before; keccak's table of constants is as the program's text lays it. No other condition. -/
import Derived.Test.YtnbohjoakngkeaaDoorKVar
import Derived.Test.YtnbohjoakngkeaaDoorKLaw
import Derived.WalkKit
import Derived.ProofKit
import Derived.OpenShut
import Derived.ShutString
import Derived.ChangeOld
import Derived.Below
namespace Go.Proofs.YtnbohjoakngkeaaDoor.keccakSums
open Go.ChangeShapes Go.WideShapes Go.ChangeAt Go.RowKit
open Go.ChangeMaps (open_string shut_string)
set_option linter.unusedVariables false

set_option maxRecDepth 100000 in
set_option maxHeartbeats 4000000 in
theorem walk (a0 : Int) (a1 : Option Addr) (len1 cap1 : Nat) (z1 : List Int) (a2 : Int) (a3 : Int) (w : World) (w0 : (Lit.int .u8 a0).wf = true) (w1 : IsRow .u8 w a1 len1 cap1 z1) (w2 : (Lit.int .u8 a2).wf = true) (w3 : (Lit.int .u8 a3).wf = true) (hV : Vars w) :
    Calls Tryd.prog 6 #[.int .u8 a0, .slice a1 len1 cap1, .int .u8 a2, .int .u8 a3] w fun e w' => e = .returned (.bool true) ∧ Below w.heap.size w w' := by
  have hT : Csts w := hV
  obtain ⟨l, rfl, hr⟩ := w1.row wf_u8
  clear w1
  obtain ⟨kd, rfl⟩ := Int.eq_ofNat_of_zero_le (wf_u8 a0 w0).1
  obtain ⟨n, rfl⟩ := Int.eq_ofNat_of_zero_le (wf_u8 a2 w2).1
  obtain ⟨m, rfl⟩ := Int.eq_ofNat_of_zero_le (wf_u8 a3 w3).1
  have b0 := (wf_u8 _ w0).2
  have b2 := (wf_u8 _ w2).2
  have b3 := (wf_u8 _ w3).2
  clear w0 w2 w3 hV
  by_cases h1 : 900 < l.length
  · have h1i : (900 : Int) < (l.length : Int) := by omega
    go_enter Tryd.func6, Tryd.ntmps6
    go_wp2_with fail
    refine (awake_any _ hT).mono ?_
    rintro e w1 ⟨rfl, hb⟩
    go_wp2_with fail
    go_ret
    exact ⟨rfl, hb⟩
  · have h1i : ¬ (900 : Int) < (l.length : Int) := by omega
    obtain ⟨r, hrr⟩ : ∃ x : Nat, x = kd % 4 := ⟨_, rfl⟩
    obtain ⟨K, hK⟩ : ∃ x : Nat, x = 4 + r := ⟨_, rfl⟩
    obtain ⟨N, hN⟩ : ∃ x : Nat, x = n + m := ⟨_, rfl⟩
    have e_r : (kd : Int) % 4 = (r : Int) := by omega
    have t_r : (kd : Int).tmod 4 = (r : Int) := by rw [Int.tmod_eq_emod_of_nonneg (by omega)]; exact e_r
    have r_r : IntKind.u8.wrap (r : Int) = (r : Int) := by rw [IntKind.wrap_u8]; omega
    have s_r : IntKind.i64.wrap (r : Int) = (r : Int) := by rw [IntKind.wrap_i64]; omega
    have s_n : IntKind.i64.wrap (n : Int) = (n : Int) := by rw [IntKind.wrap_i64]; omega
    have s_m : IntKind.i64.wrap (m : Int) = (m : Int) := by rw [IntKind.wrap_i64]; omega
    have e_K : (4 : Int) + (r : Int) = (K : Int) := by omega
    have s_K : IntKind.i64.wrap (K : Int) = (K : Int) := by rw [IntKind.wrap_i64]; omega
    have e_N : (n : Int) + (m : Int) = (N : Int) := by omega
    have s_N : IntKind.i64.wrap (N : Int) = (N : Int) := by rw [IntKind.wrap_i64]; omega
    have hrt : 0 < rateK (K : Int) := by
      have h4 : r = 0 ∨ r = 1 ∨ r = 2 ∨ r = 3 := by omega
      rcases h4 with h | h | h | h <;> subst h <;> subst hK <;> decide
    have hS1 := csum_ok (K : Int) (.slice a1 l.length cap1) l n w hT hrt (by omega) hr (by omega)
    have hS2 := fun x (hb : Below w.heap.size w x) => csum_ok (K : Int) (.slice a1 l.length cap1) l N x (hT.below hb) hrt (by omega) (hr.below hb) (by omega)
    have hnw := fun x => cnew_ok (K : Int) x hrt
    have haw : W25 (absK (rateK (K : Int)) (zs 25, 0) l).1 := absK_w l _ zs_w
    have haa : (absK (rateK (K : Int)) (zs 25, 0) l).2 < rateK (K : Int) := absK_at l _ hrt
    have hab := fun x (hb : Below w.heap.size w x) => cabs_any (K : Int) (zs 25) 0 (.slice a1 l.length cap1) l x (hT.below hb) zs_w hrt (hr.below hb) (by omega)
    have hsq := fun x (hb : Below w.heap.size w x) => csqz_any (K : Int) (absK (rateK (K : Int)) (zs 25, 0) l).1 (absK (rateK (K : Int)) (zs 25, 0) l).2 false n x (hT.below hb) haw hrt (by omega) (fun _ => haa) (by omega)
    have hsum : sqzB (rateK (K : Int)) (begK (K : Int) (absK (rateK (K : Int)) (zs 25, 0) l).1 (absK (rateK (K : Int)) (zs 25, 0) l).2 false) n = sumK (K : Int) l n := by unfold sumK; with_reducible rfl
    have hln : (sumK (K : Int) l N).length = N := by unfold sumK; exact sqzB_length _ _ _
    have hcut : (sumK (K : Int) l N).take n = sumK (K : Int) l n := by
      unfold sumK
      rw [hN, sqzB_parts]
      rw [List.take_append_of_le_length (by rw [sqzB_length]; exact Nat.le_refl _), List.take_of_length_le (by rw [sqzB_length]; exact Nat.le_refl _)]
    rw [hsum] at hsq
    have hzl := (sqzS_w (rate := rateK (K : Int)) (begK_w (kind := (K : Int)) (p := (absK (rateK (K : Int)) (zs 25, 0) l).2) (o := false) haw) n).1
    have hnN : n ≤ N := by omega
    clear hsum hN hK hrr haa haw
    generalize sumK (K : Int) l n = O at *
    generalize sumK (K : Int) l N = O2 at *
    generalize sqzS (rateK (K : Int)) (begK (K : Int) (absK (rateK (K : Int)) (zs 25, 0) l).1 (absK (rateK (K : Int)) (zs 25, 0) l).2 false) n = sN at *
    generalize absK (rateK (K : Int)) (zs 25, 0) l = sA at *
    have hsz0 : (sl 0 (zs 25) 0 false).toArray.size = 28 := by simp [sl_len (zs_len 25)]
    have hszK : (sl (K : Int) (zs 25) 0 false).toArray.size = 28 := by simp [sl_len (zs_len 25)]
    have hszN : (sl (K : Int) sN.1 (sN.2 : Nat) true).toArray.size = 28 := by simp [sl_len hzl]
    have hz := zero28
    have HLN := hide hln
    have HCUT := hide hcut
    clear hln hcut hzl
    go_enter Tryd.func6, Tryd.ntmps6
    go_wp2_with fail
    refine hS1.mono ?_
    rintro e x1 ⟨v1, rfl, hr1, hb1⟩
    clear hS1
    go_wp2_with fail
    refine (hS2 _ hb1).mono ?_
    rintro e x2 ⟨v2, rfl, hr2, hb2⟩
    clear hS2
    have hB2 := keep_trans hb1 hb2
    go_wp2_with (first
      | (go_at_call 10; refine (hnw _).mono ?_; rintro e x3 ⟨rfl, hb3⟩; have hR3 : (x3.alloc (.cells (sl 0 (zs 25) 0 false).toArray 26)).heap[x3.heap.size]? = some (.cells (sl 0 (zs 25) 0 false).toArray 26 (0, 0)) := heap_alloc_last x3 _)
      | (refine wpList_store_row rfl 26 _ _ (by rfl) x3.heap.size (sl (K : Int) (zs 25) 0 false).toArray (by rfl) (by rfl) _ _ hR3 (by rw [hszK]; kernel_rfl) (by rw [hszK, hsz0]) (all_oneCell_toArray (sl_one _ _ _ _)) ?_; have hfu := setRow_heap (x3.alloc (.cells (sl 0 (zs 25) 0 false).toArray 26)) x3.heap.size _ (sl (K : Int) (zs 25) 0 false).toArray 26 _ hR3; have hB4 : Below x3.heap.size x3 ((x3.alloc (.cells (sl 0 (zs 25) 0 false).toArray 26)).setRow x3.heap.size (sl (K : Int) (zs 25) 0 false).toArray) := (keep_alloc x3 _).trans ((But.setRow (But.refl x3.heap.size _) _).below (Nat.le_refl _) (by simp)); have hBw := keep_trans (keep_trans hB2 hb3) hB4; generalize (x3.alloc (.cells (sl 0 (zs 25) 0 false).toArray 26)).setRow x3.heap.size (sl (K : Int) (zs 25) 0 false).toArray = x4 at *)
      | (refine wpList_load_row rfl 26 _ (by rfl) x3.heap.size (by rfl) _ _ _ _ hfu Tryd.underlying26 rfl (by rw [hszK]; kernel_rfl) ?_)
      | (go_at_call 17; refine (hab _ hBw).mono ?_; rintro e x5 ⟨rfl, hb5⟩; have hB5 := keep_trans hBw hb5)
      | (go_at_call 19; refine (hsq _ hB5).mono ?_; rintro e x6 ⟨v6, rfl, hO6, hb6⟩; have hR6 : (x6.alloc (.cells (sl 0 (zs 25) 0 false).toArray 26)).heap[x6.heap.size]? = some (.cells (sl 0 (zs 25) 0 false).toArray 26 (0, 0)) := heap_alloc_last x6 _; have r1 := hr1.below (keep_trans (keep_trans (keep_trans (keep_trans hb2 hb3) hB4) hb5) hb6); have r2 := hr2.below (keep_trans (keep_trans (keep_trans hb3 hB4) hb5) hb6); have r6 := hO6.row; have hB6 := keep_trans hB5 hb6; obtain ⟨ya, yc, rfl⟩ := r1.form; obtain ⟨yb, yd, rfl⟩ := r2.form; obtain ⟨ye, yf, rfl⟩ := r6.form)
      | (refine wpList_store_row rfl 26 _ _ (by rfl) x6.heap.size (sl (K : Int) sN.1 (sN.2 : Nat) true).toArray (by rfl) (by rfl) _ _ hR6 (by rw [hszN]; kernel_rfl) (by rw [hszN, hsz0]) (all_oneCell_toArray (sl_one _ _ _ _)) ?_; have hB7 : Below x6.heap.size x6 ((x6.alloc (.cells (sl 0 (zs 25) 0 false).toArray 26)).setRow x6.heap.size (sl (K : Int) sN.1 (sN.2 : Nat) true).toArray) := (keep_alloc x6 _).trans ((But.setRow (But.refl x6.heap.size _) _).below (Nat.le_refl _) (by simp)); have q1 := r1.below hB7; have q2 := r2.below hB7; have q6 := r6.below hB7; have hB8 := keep_trans hB6 hB7; generalize (x6.alloc (.cells (sl 0 (zs 25) 0 false).toArray 26)).setRow x6.heap.size (sl (K : Int) sN.1 (sN.2 : Nat) true).toArray = x7 at *; clear hR6 hB7 r1 r2 r6 hO6 hb6 hb5 hB4 hb3 hb2 hb1 hr1 hr2 hfu hR3 hab hsq hnw; have hyd : O2.length ≤ yd := (by obtain ⟨_, _, he, hh, _⟩ := q2; simp at he; omega); have hle2 := HLN.out; rw [hle2] at q2 hyd; have q2c : Row .u8 256 x7 (.slice yb n yd) O := (by have := q2.cut (M := n) (by rw [HLN.out]; exact hnN); rw [HCUT.out] at this; exact this); have hsl := slice_to yb N yd n (by omega); simp only [hle2]; clear hle2)
      | (go_at_call_of 14 (#[Value.slice ya O.length yc, Value.slice yb n yd]); refine (rsame_true _ _ O _ q1 q2c).mono ?_; rintro e x8 ⟨rfl, hb8⟩; have z1 := q1.below hb8; have z6 := q6.below hb8; have hB9 := keep_trans hB8 hb8)
      | (go_at_call_of 14 (#[Value.slice ya O.length yc, Value.slice ye O.length yf]); refine (rsame_true _ _ O _ z1 z6).mono ?_; rintro e x9 ⟨rfl, hb9⟩; have hB10 := keep_trans hB9 hb9)
      | (go_at_call 7; refine (awake_any _ (hT.below hB10)).mono ?_; rintro e x10 ⟨rfl, hb10⟩)
      | fail)
    go_ret
    exact ⟨rfl, keep_trans hB10 hb10⟩

set_option maxRecDepth 100000 in
theorem lifted (os : Os) (started : os.Started) (H : Type) (enc : TypeId × Value → H) :
    ReturnsInHanded {} Tryd.checked os 6 .any (fun w args => (Rows.keccakSumsSpec.pre enc Tryd.prog Tryd.f6 Rows.keccakSumsRow.domain false w args ∧ laidMetH Tryd.prog Rows.keccakSumsRow.laid w) ∧ sizedMet enc Tryd.prog Tryd.f6 (OpenSpec.ofChange Rows.keccakSumsSpec) false w args) (Rows.keccakSumsSpec.post enc Tryd.prog Tryd.f6 false true false false) := by
  refine change_laid_shaped (C := Tryd.checked) (X := fun w _ => laidMetH Tryd.prog Rows.keccakSumsRow.laid w) (fun _ _ _ hh h => h.of_heap hh) own started (by kernel_rfl) Tryd.func6
    (ChangeSpec.witness_shaped (enc := enc) (C := Tryd.checked) (os := os) (X := fun w _ => laidMetH Tryd.prog Rows.keccakSumsRow.laid w) false (World.laidAll Tryd.prog os Rows.keccakSumsRow.laid) #[.int .u8 0, .slice none 0 0, .int .u8 0, .int .u8 0] 8 (World.laidAll_os _ _ _)
      (World.shaped_of_ZipB (by kernel_rfl) (by kernel_rfl)) (by kernel_rfl) (by kernel_rfl) (by kernel_rfl)
      (by rw [MakeChecks.laidMetH_plain _ _ _ (by kernel_rfl)]; exact laidMet_laidAll _ (by kernel_rfl) (by kernel_rfl))) ?_
  intro W base args ds gs before hval0 hW hsz0 hL hsh
  have hVars : Vars W := vars_of_laid hL hsh
  have hval : ∀ (j : Nat) t v, Tryd.f6.params[j]? = some t → args[j]? = some v → Value.okWide Tryd.prog W .any base t v := hval0
  have hW' := hW
  obtain ⟨p, q, hA0, hV, rfl, hfz, hnd⟩ := hW
  have hA : DataW.TrodAll enc Tryd.prog W 0 (fun _ => true) true Tryd.f6.params.toList args.toList ds p := hA0
  rw [Tryd.params6] at hA hval
  obtain ⟨v0, vs0, d0, ds0, p0, q0, hargs, rfl, rfl, h0, r0⟩ := trodAll_cons hA
  obtain ⟨v1, vs1, d1, ds1, p1, q1, rfl, rfl, rfl, h1, r1⟩ := trodAll_cons r0
  obtain ⟨v2, vs2, d2, ds2, p2, q2, rfl, rfl, rfl, h2, r2⟩ := trodAll_cons r1
  obtain ⟨v3, vs3, d3, ds3, p3, q3, rfl, rfl, rfl, h3, r3⟩ := trodAll_cons r2
  obtain ⟨rfl, rfl, rfl⟩ := trodAll_nil r3
  obtain rfl : args = #[v0, v1, v2, v3] := by cases args; simp_all
  obtain ⟨rfl, rfl⟩ := trodVars_none hV
  obtain ⟨a0, rfl, rfl, rfl, w0⟩ := open_int Tryd.underlying5 (hval 0 5 v0 rfl rfl) h0
  obtain ⟨a1, len1, cap1, rfl⟩ := okWide_slice Tryd.underlying24 (hval 1 24 v1 rfl rfl)
  have k1 := h1
  have lt1 : ∀ x ∈ p1, x.block < W.heap.size := by obtain ⟨m, hm⟩ := k1; exact DataW.trod_lt m _ _ _ hm
  obtain ⟨z1, w1⟩ : ∃ zs, IsRow .u8 W a1 len1 cap1 zs := by
    obtain ⟨fuel, hf⟩ := h1
    rcases open_ints Tryd.underlying24 Tryd.underlying5 (by kernel_rfl) hf with ⟨hcs, _⟩ | ⟨x, l, c, zs, hcs, _, hl, hm, hz, _, hcell, hwz⟩
    · simp [Value.cells] at hcs
      obtain ⟨rfl, rfl, rfl⟩ := hcs
      exact ⟨[], .inl ⟨rfl, rfl, rfl, rfl⟩⟩
    · simp [Value.cells] at hcs
      obtain ⟨rfl, rfl, rfl⟩ := hcs
      exact ⟨zs, .inr ⟨_, rfl, hl, hm, by simpa using hz, hcell, hwz⟩⟩
  obtain ⟨a2, rfl, rfl, rfl, w2⟩ := open_int Tryd.underlying5 (hval 2 5 v2 rfl rfl) h2
  obtain ⟨a3, rfl, rfl, rfl, w3⟩ := open_int Tryd.underlying5 (hval 3 5 v3 rfl rfl) h3
  clear hA0 hval0
  refine (walk a0 a1 len1 cap1 z1 a2 a3 W w0 w1 w2 w3 hVars).mono fun e W' ⟨he, bel⟩ => ?_
  subst he
  exact ⟨_, rfl, _, _, _, [], _, [], hW', trodAll_mk1 (shut_bool Tryd.underlying4 _), (trodAll_cons_mk (shut_int Tryd.underlying5 w0) (trodAll_cons_mk (Below.trod laidOut (by kernel_rfl) (of_decide_eq_true (by kernel_rfl)) k1 bel lt1) (trodAll_cons_mk (shut_int Tryd.underlying5 w2) (trodAll_cons_mk (shut_int Tryd.underlying5 w3) trodAll_mk0)))), rfl, bel.frame _, fun h => by cases h⟩

theorem over : Rows.keccakSumsRow.holds Tryd.pinned (OpenSpec.ofChange Rows.keccakSumsSpec) :=
  OpenClaim.holds_of_wide 6 Tryd.f6 rfl rfl rfl rfl rfl rfl rfl ⟨rfl, rfl, rfl, rfl, rfl⟩ rfl rfl rfl rfl rfl (by kernel_rfl) Tryd.func6 (by kernel_rfl)
    (of_decide_eq_true (by kernel_rfl)) (by unfold Func.isWrapper; first | (rw [if_pos (by decide +kernel)]; kernel_rfl) | (rw [if_neg (by decide +kernel)]; exact ⟨rfl, rfl⟩))
    (fun os started H enc _ => lifted os started H enc)

end Go.Proofs.YtnbohjoakngkeaaDoor.keccakSums
namespace Go.Proofs.YtnbohjoakngkeaaDoor
theorem keccakSums_card : Rows.KeccakSumsCardSaid :=
  Claim7.holds_tied_plain_at .later [] [.data] true (true, "65e1b20b851afa4a5164a7ae36cec46e7a6cca0244bca5644d7614fd41e2e818") false
    keccakSums.over (fun _ h => by cases h) (by kernel_rfl) (fun _ h => by cases h) keccakSums_row_tie rfl ⟨rfl, rfl⟩ (by kernel_rfl) rfl
    (fun f fn hf hfn => by
      obtain rfl : f = 6 := Option.some.inj ((show Tryd.prog.funcNamed Tryd.f6.name = some 6 by kernel_rfl).symm.trans hf) |>.symm
      obtain rfl : fn = Tryd.f6 := (Option.some.inj (Tryd.func6.symm.trans hfn)).symm
      exact ⟨by kernel_rfl, fun j t ht => by
        rw [Tryd.params6] at ht
        have hm : t ∈ [5, 24, 5, 5] := by simpa using Array.mem_of_getElem? ht
        have hall : ([5, 24, 5, 5].all fun u => !Tryd.prog.wantsStandIn u) = true := by kernel_rfl
        exact (show Tryd.prog.wantsStandIn t = false by simpa using List.all_eq_true.1 hall t hm)⟩)
    (by kernel_rfl)
end Go.Proofs.YtnbohjoakngkeaaDoor
