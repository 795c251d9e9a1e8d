/- For every 25 words, every two numbers, every text and every sponge: apostillelaw08.KeccakTells returns true, and each argument reads afterwards as it read before; keccak's table of constants is as the program's text lays it. No other condition. -/
import Derived.Test.YtnbohjoakngkeaaDoorKVar
import Derived.Test.YtnbohjoakngkeaaDoorKLaw
import Derived.Test.YtnbohjoakngkeaaDoorKTel
import Derived.WalkKit
import Derived.ProofKit
import Derived.OpenShut
import Derived.ShutString
import Derived.ChangeOld
import Derived.Below
namespace Go.Proofs.YtnbohjoakngkeaaDoor.keccakTells
open Go.ChangeShapes Go.WideShapes Go.ChangeAt Go.RowKit
open Go.ChangeMaps (open_string shut_string)
set_option linter.unusedVariables false

set_option maxRecDepth 100000 in
set_option maxHeartbeats 4000000 in
theorem walk (cs0 : Array Value) (wd0 : List Nat) (a1 : Int) (a2 : Option Addr) (len2 cap2 : Nat) (z2 : List Int) (a3 : Int) (cs4 : Array Value) (kd4 : Int) (ws4 : List Nat) (pt4 : Int) (ot4 : Bool) (w : World) (w0 : WIs cs0 wd0) (w1 : (Lit.int .i64 a1).wf = true) (w2 : IsRow .u8 w a2 len2 cap2 z2) (w3 : (Lit.int .i64 a3).wf = true) (w4 : SIs cs4 kd4 ws4 pt4 ot4) (hV : Vars w) :
    Calls Tryd.prog 3 #[.agg cs0, .int .i64 a1, .slice a2 len2 cap2, .int .i64 a3, .agg cs4] w fun e w' => e = .returned (.bool true) ∧ Below w.heap.size w w' := by
  have hT : Csts w := hV
  obtain ⟨l, rfl, hr⟩ := w2.row wf_u8
  obtain ⟨rfl, hwa⟩ := w0
  obtain ⟨rfl, k1, k2, hw, q1, q2⟩ := w4
  clear w2 hV
  have hl := hw.1
  have hA : Lies .u64 23 ((w.alloc (.cells (arr .u64 wd0) 23)).alloc (.cells (sl kd4 ws4 pt4 ot4).toArray 26)) w.heap.size wd0 := (Lies.new .u64 23 w wd0).alloc _
  have hS : Sg ((w.alloc (.cells (arr .u64 wd0) 23)).alloc (.cells (sl kd4 ws4 pt4 ot4).toArray 26)) (w.heap.size + 1) kd4 ws4 pt4 ot4 := by
    have := Sg.new (w.alloc (.cells (arr .u64 wd0) 23)) 26 kd4 ws4 pt4 ot4 hl
    rw [World.size_alloc] at this
    exact this
  have hb := keep_trans (keep_alloc w (.cells (arr .u64 wd0) 23)) (keep_alloc _ (.cells (sl kd4 ws4 pt4 ot4).toArray 26))
  by_cases h1 : 500 < l.length
  · have h1i : (500 : Int) < (l.length : Int) := by omega
    go_enter Tryd.func3, Tryd.ntmps3
    go_wp2_with (first
      | (go_at_call 7; refine (awake_any _ (hT.below hb)).mono ?_; rintro e x2 ⟨rfl, hb2⟩)
      | fail)
    go_ret
    exact ⟨rfl, keep_trans hb hb2⟩
  have h1i : ¬ (500 : Int) < (l.length : Int) := by omega
  by_cases h2 : 500 < a3
  · by_cases h3 : a3 ≤ 16777216
    · go_enter Tryd.func3, Tryd.ntmps3
      go_wp2_with (first
        | (go_at_call 7; refine (awake_any _ (hT.below hb)).mono ?_; rintro e x2 ⟨rfl, hb2⟩)
        | fail)
      go_ret
      exact ⟨rfl, keep_trans hb hb2⟩
    · obtain ⟨c, B, hC, hD⟩ := both_sum a1 (.slice a2 l.length cap2) l a3 w hT hr (by omega)
      obtain ⟨nk, d, hN, hM⟩ := both_new a1
      have hsN : (sl nk (zs 25) 0 false).toArray.size = 28 := by simp [sl_len (zs_len 25)]
      have hs0 : (sl 0 (zs 25) 0 false).toArray.size = 28 := by simp [sl_len (zs_len 25)]
      have hz := zero28
      have HHT := hide hT
      clear hr h1
      go_enter Tryd.func3, Tryd.ntmps3
      go_wp2_with (first
        | (go_at_call 8; refine (hC _ hb).mono ?_; rintro e x1 ⟨v1, rfl, r1, hb1⟩; have hB1 := keep_trans hb hb1; have hA1 := hA.below hb1; have hS1 := hS.below hb1; clear hb hA hS)
        | (go_at_call 9; refine (hD _ hB1).mono ?_; rintro e x2 ⟨v2, rfl, r2, hb2⟩; have hB2 := keep_trans hB1 hb2; have hA2 := hA1.below hb2; have hS2 := hS1.below hb2; have s1 := r1.below hb2; clear hB1 hA1 hS1 hb1 r1)
        | (go_at_call 10; refine (hN _).mono ?_; rintro e x3 ⟨rfl, hb3⟩; have hR3 : (x3.alloc (.cells (sl 0 (zs 25) 0 false).toArray 26)).heap[x3.heap.size]? = some (.cells (sl 0 (zs 25) 0 false).toArray 26 (0, 0)) := heap_alloc_last x3 _)
        | (refine wpList_store_row rfl 26 _ _ (by rfl) x3.heap.size (sl nk (zs 25) 0 false).toArray (by rfl) (by rfl) _ _ hR3 (by rw [hsN]; kernel_rfl) (by rw [hsN, hs0]) (all_oneCell_toArray (sl_one _ _ _ _)) ?_; have k3 := setRow_heap (x3.alloc (.cells (sl 0 (zs 25) 0 false).toArray 26)) x3.heap.size _ (sl nk (zs 25) 0 false).toArray 26 _ hR3; have hb4 : Below x3.heap.size x3 ((x3.alloc (.cells (sl 0 (zs 25) 0 false).toArray 26)).setRow x3.heap.size (sl nk (zs 25) 0 false).toArray) := (keep_alloc x3 _).trans ((But.setRow (But.refl x3.heap.size _) _).below (Nat.le_refl _) (by simp)); have hb5 := keep_trans hb3 hb4; have hB5 := keep_trans hB2 hb5; have hA5 := hA2.below hb5; have hS5 := hS2.below hb5; have s5 := s1.below hb5; have t5 := r2.below hb5; clear hR3 hB2 hA2 hS2 s1 r2 hb3 hb4 hb5; generalize (x3.alloc (.cells (sl 0 (zs 25) 0 false).toArray 26)).setRow x3.heap.size (sl nk (zs 25) 0 false).toArray = x5 at *)
        | (go_at_call 11; refine (hM _).mono ?_; rintro e x6 ⟨rfl, hb6⟩; have hR6 : (x6.alloc (.cells (sl 0 (zs 25) 0 false).toArray 26)).heap[x6.heap.size]? = some (.cells (sl 0 (zs 25) 0 false).toArray 26 (0, 0)) := heap_alloc_last x6 _)
        | (refine wpList_store_row rfl 26 _ _ (by rfl) x6.heap.size (sl nk (zs 25) 0 false).toArray (by rfl) (by rfl) _ _ hR6 (by rw [hsN]; kernel_rfl) (by rw [hsN, hs0]) (all_oneCell_toArray (sl_one _ _ _ _)) ?_; have k6 := setRow_heap (x6.alloc (.cells (sl 0 (zs 25) 0 false).toArray 26)) x6.heap.size _ (sl nk (zs 25) 0 false).toArray 26 _ hR6; have hb7 : Below x6.heap.size x6 ((x6.alloc (.cells (sl 0 (zs 25) 0 false).toArray 26)).setRow x6.heap.size (sl nk (zs 25) 0 false).toArray) := (keep_alloc x6 _).trans ((But.setRow (But.refl x6.heap.size _) _).below (Nat.le_refl _) (by simp)); have hb8 := keep_trans hb6 hb7; have hB8 := keep_trans hB5 hb8; have hA8 := hA5.below hb8; have hS8 := hS5.below hb8; have s8 := s5.below hb8; have t8 := t5.below hb8; have k8 := (hb8.block _ (heap_lt k3)).trans k3; clear hR6 hB5 hA5 hS5 s5 t5 hb6 hb7 hb8 k3; generalize (x6.alloc (.cells (sl 0 (zs 25) 0 false).toArray 26)).setRow x6.heap.size (sl nk (zs 25) 0 false).toArray = x8 at *)
        | fail)
      refine tel_7 (w := w) (wa := wd0) (kind := kd4) (ws := ws4) (p := pt4) (ot := ot4) (gp := x3.heap.size) (gq := x6.heap.size) (nk := nk) (v1 := v1) (v2 := v2) (B := B) (c := c) (d := d) HHT.out hwa hl ?_ ⟨⟨rfl, rfl⟩, rfl, rfl, rfl, rfl, rfl, rfl, rfl, rfl, rfl, rfl⟩ ⟨hA8, hS8, k8, k6, s8, t8, hB8⟩
      rename_i Q' K hK
      intro a x F t10 hbx
      refine hK _ _ ?_
      refine wp_ret ?_
      exact bodyPost_ret (results_is Tryd.results3 t10 x) F.2 ⟨rfl, hbx⟩
  · obtain ⟨c, B, hC, hD⟩ := both_sum a1 (.slice a2 l.length cap2) l a3 w hT hr (by omega)
    obtain ⟨nk, d, hN, hM⟩ := both_new a1
    have hsN : (sl nk (zs 25) 0 false).toArray.size = 28 := by simp [sl_len (zs_len 25)]
    have hs0 : (sl 0 (zs 25) 0 false).toArray.size = 28 := by simp [sl_len (zs_len 25)]
    have hz := zero28
    have HHT := hide hT
    clear hr h1
    go_enter Tryd.func3, Tryd.ntmps3
    go_wp2_with (first
      | (go_at_call 8; refine (hC _ hb).mono ?_; rintro e x1 ⟨v1, rfl, r1, hb1⟩; have hB1 := keep_trans hb hb1; have hA1 := hA.below hb1; have hS1 := hS.below hb1; clear hb hA hS)
      | (go_at_call 9; refine (hD _ hB1).mono ?_; rintro e x2 ⟨v2, rfl, r2, hb2⟩; have hB2 := keep_trans hB1 hb2; have hA2 := hA1.below hb2; have hS2 := hS1.below hb2; have s1 := r1.below hb2; clear hB1 hA1 hS1 hb1 r1)
      | (go_at_call 10; refine (hN _).mono ?_; rintro e x3 ⟨rfl, hb3⟩; have hR3 : (x3.alloc (.cells (sl 0 (zs 25) 0 false).toArray 26)).heap[x3.heap.size]? = some (.cells (sl 0 (zs 25) 0 false).toArray 26 (0, 0)) := heap_alloc_last x3 _)
      | (refine wpList_store_row rfl 26 _ _ (by rfl) x3.heap.size (sl nk (zs 25) 0 false).toArray (by rfl) (by rfl) _ _ hR3 (by rw [hsN]; kernel_rfl) (by rw [hsN, hs0]) (all_oneCell_toArray (sl_one _ _ _ _)) ?_; have k3 := setRow_heap (x3.alloc (.cells (sl 0 (zs 25) 0 false).toArray 26)) x3.heap.size _ (sl nk (zs 25) 0 false).toArray 26 _ hR3; have hb4 : Below x3.heap.size x3 ((x3.alloc (.cells (sl 0 (zs 25) 0 false).toArray 26)).setRow x3.heap.size (sl nk (zs 25) 0 false).toArray) := (keep_alloc x3 _).trans ((But.setRow (But.refl x3.heap.size _) _).below (Nat.le_refl _) (by simp)); have hb5 := keep_trans hb3 hb4; have hB5 := keep_trans hB2 hb5; have hA5 := hA2.below hb5; have hS5 := hS2.below hb5; have s5 := s1.below hb5; have t5 := r2.below hb5; clear hR3 hB2 hA2 hS2 s1 r2 hb3 hb4 hb5; generalize (x3.alloc (.cells (sl 0 (zs 25) 0 false).toArray 26)).setRow x3.heap.size (sl nk (zs 25) 0 false).toArray = x5 at *)
      | (go_at_call 11; refine (hM _).mono ?_; rintro e x6 ⟨rfl, hb6⟩; have hR6 : (x6.alloc (.cells (sl 0 (zs 25) 0 false).toArray 26)).heap[x6.heap.size]? = some (.cells (sl 0 (zs 25) 0 false).toArray 26 (0, 0)) := heap_alloc_last x6 _)
      | (refine wpList_store_row rfl 26 _ _ (by rfl) x6.heap.size (sl nk (zs 25) 0 false).toArray (by rfl) (by rfl) _ _ hR6 (by rw [hsN]; kernel_rfl) (by rw [hsN, hs0]) (all_oneCell_toArray (sl_one _ _ _ _)) ?_; have k6 := setRow_heap (x6.alloc (.cells (sl 0 (zs 25) 0 false).toArray 26)) x6.heap.size _ (sl nk (zs 25) 0 false).toArray 26 _ hR6; have hb7 : Below x6.heap.size x6 ((x6.alloc (.cells (sl 0 (zs 25) 0 false).toArray 26)).setRow x6.heap.size (sl nk (zs 25) 0 false).toArray) := (keep_alloc x6 _).trans ((But.setRow (But.refl x6.heap.size _) _).below (Nat.le_refl _) (by simp)); have hb8 := keep_trans hb6 hb7; have hB8 := keep_trans hB5 hb8; have hA8 := hA5.below hb8; have hS8 := hS5.below hb8; have s8 := s5.below hb8; have t8 := t5.below hb8; have k8 := (hb8.block _ (heap_lt k3)).trans k3; clear hR6 hB5 hA5 hS5 s5 t5 hb6 hb7 hb8 k3; generalize (x6.alloc (.cells (sl 0 (zs 25) 0 false).toArray 26)).setRow x6.heap.size (sl nk (zs 25) 0 false).toArray = x8 at *)
      | fail)
    refine tel_7 (w := w) (wa := wd0) (kind := kd4) (ws := ws4) (p := pt4) (ot := ot4) (gp := x3.heap.size) (gq := x6.heap.size) (nk := nk) (v1 := v1) (v2 := v2) (B := B) (c := c) (d := d) HHT.out hwa hl ?_ ⟨⟨rfl, rfl⟩, rfl, rfl, rfl, rfl, rfl, rfl, rfl, rfl, rfl, rfl⟩ ⟨hA8, hS8, k8, k6, s8, t8, hB8⟩
    rename_i Q' K hK
    intro a x F t10 hbx
    refine hK _ _ ?_
    refine wp_ret ?_
    exact bodyPost_ret (results_is Tryd.results3 t10 x) F.2 ⟨rfl, hbx⟩

set_option maxRecDepth 100000 in
theorem lifted (os : Os) (started : os.Started) (H : Type) (enc : TypeId × Value → H) :
    ReturnsInHanded {} Tryd.checked os 3 .any (fun w args => (Rows.keccakTellsSpec.pre enc Tryd.prog Tryd.f3 Rows.keccakTellsRow.domain false w args ∧ laidMetH Tryd.prog Rows.keccakTellsRow.laid w) ∧ sizedMet enc Tryd.prog Tryd.f3 (OpenSpec.ofChange Rows.keccakTellsSpec) false w args) (Rows.keccakTellsSpec.post enc Tryd.prog Tryd.f3 false true false false) := by
  refine change_laid_shaped (C := Tryd.checked) (X := fun w _ => laidMetH Tryd.prog Rows.keccakTellsRow.laid w) (fun _ _ _ hh h => h.of_heap hh) own started (by kernel_rfl) Tryd.func3
    (ChangeSpec.witness_shaped (enc := enc) (C := Tryd.checked) (os := os) (X := fun w _ => laidMetH Tryd.prog Rows.keccakTellsRow.laid w) false (World.laidAll Tryd.prog os Rows.keccakTellsRow.laid) #[.agg #[.int .u64 0, .int .u64 0, .int .u64 0, .int .u64 0, .int .u64 0, .int .u64 0, .int .u64 0, .int .u64 0, .int .u64 0, .int .u64 0, .int .u64 0, .int .u64 0, .int .u64 0, .int .u64 0, .int .u64 0, .int .u64 0, .int .u64 0, .int .u64 0, .int .u64 0, .int .u64 0, .int .u64 0, .int .u64 0, .int .u64 0, .int .u64 0, .int .u64 0], .int .i64 0, .slice none 0 0, .int .i64 0, .agg #[.int .i64 0, .int .u64 0, .int .u64 0, .int .u64 0, .int .u64 0, .int .u64 0, .int .u64 0, .int .u64 0, .int .u64 0, .int .u64 0, .int .u64 0, .int .u64 0, .int .u64 0, .int .u64 0, .int .u64 0, .int .u64 0, .int .u64 0, .int .u64 0, .int .u64 0, .int .u64 0, .int .u64 0, .int .u64 0, .int .u64 0, .int .u64 0, .int .u64 0, .int .u64 0, .int .i64 0, .bool false]] 8 (World.laidAll_os _ _ _)
      (World.shaped_of_ZipB (by kernel_rfl) (by kernel_rfl)) (by kernel_rfl) (by kernel_rfl) (by kernel_rfl)
      (by rw [MakeChecks.laidMetH_plain _ _ _ (by kernel_rfl)]; exact laidMet_laidAll _ (by kernel_rfl) (by kernel_rfl))) ?_
  intro W base args ds gs before hval0 hW hsz0 hL hsh
  have hVars : Vars W := vars_of_laid hL hsh
  have hval : ∀ (j : Nat) t v, Tryd.f3.params[j]? = some t → args[j]? = some v → Value.okWide Tryd.prog W .any base t v := hval0
  have hW' := hW
  obtain ⟨p, q, hA0, hV, rfl, hfz, hnd⟩ := hW
  have hA : DataW.TrodAll enc Tryd.prog W 0 (fun _ => true) true Tryd.f3.params.toList args.toList ds p := hA0
  rw [Tryd.params3] at hA hval
  obtain ⟨v0, vs0, d0, ds0, p0, q0, hargs, rfl, rfl, h0, r0⟩ := trodAll_cons hA
  obtain ⟨v1, vs1, d1, ds1, p1, q1, rfl, rfl, rfl, h1, r1⟩ := trodAll_cons r0
  obtain ⟨v2, vs2, d2, ds2, p2, q2, rfl, rfl, rfl, h2, r2⟩ := trodAll_cons r1
  obtain ⟨v3, vs3, d3, ds3, p3, q3, rfl, rfl, rfl, h3, r3⟩ := trodAll_cons r2
  obtain ⟨v4, vs4, d4, ds4, p4, q4, rfl, rfl, rfl, h4, r4⟩ := trodAll_cons r3
  obtain ⟨rfl, rfl, rfl⟩ := trodAll_nil r4
  obtain rfl : args = #[v0, v1, v2, v3, v4] := by cases args; simp_all
  obtain ⟨rfl, rfl⟩ := trodVars_none hV
  obtain ⟨cs0, rfl, hcz0⟩ := okWide_array Tryd.underlying23 (hval 0 23 v0 rfl rfl)
  have k0 := h0
  have lt0 : ∀ x ∈ p0, x.block < W.heap.size := by obtain ⟨m, hm⟩ := k0; exact DataW.trod_lt m _ _ _ hm
  obtain ⟨wd0, w0⟩ : ∃ wd, WIs cs0 wd := by
    obtain ⟨fuel, hf⟩ := h0
    exact read_words (by simpa [Value.cells] using hf)
  obtain ⟨a1, rfl, rfl, rfl, w1⟩ := open_int Tryd.underlying3 (hval 1 3 v1 rfl rfl) h1
  obtain ⟨a2, len2, cap2, rfl⟩ := okWide_slice Tryd.underlying24 (hval 2 24 v2 rfl rfl)
  have k2 := h2
  have lt2 : ∀ x ∈ p2, x.block < W.heap.size := by obtain ⟨m, hm⟩ := k2; exact DataW.trod_lt m _ _ _ hm
  obtain ⟨z2, w2⟩ : ∃ zs, IsRow .u8 W a2 len2 cap2 zs := by
    obtain ⟨fuel, hf⟩ := h2
    rcases open_ints Tryd.underlying24 Tryd.underlying5 (by kernel_rfl) hf with ⟨hcs, _⟩ | ⟨x, l, c, zs, hcs, _, hl, hm, hz, _, hcell, hwz⟩
    · simp [Value.cells] at hcs
      obtain ⟨rfl, rfl, rfl⟩ := hcs
      exact ⟨[], .inl ⟨rfl, rfl, rfl, rfl⟩⟩
    · simp [Value.cells] at hcs
      obtain ⟨rfl, rfl, rfl⟩ := hcs
      exact ⟨zs, .inr ⟨_, rfl, hl, hm, by simpa using hz, hcell, hwz⟩⟩
  obtain ⟨a3, rfl, rfl, rfl, w3⟩ := open_int Tryd.underlying3 (hval 3 3 v3 rfl rfl) h3
  obtain ⟨cs4, rfl, hcz4⟩ := okWide_struct Tryd.underlying26 (hval 4 26 v4 rfl rfl)
  have k4 := h4
  have lt4 : ∀ x ∈ p4, x.block < W.heap.size := by obtain ⟨m, hm⟩ := k4; exact DataW.trod_lt m _ _ _ hm
  obtain ⟨kd4, ws4, pt4, ot4, w4⟩ : ∃ kd ws pt ot, SIs cs4 kd ws pt ot := by
    obtain ⟨fuel, hf⟩ := h4
    exact read_sponge (by simpa [Value.cells] using hf)
  clear hA0 hval0
  refine (walk cs0 wd0 a1 a2 len2 cap2 z2 a3 cs4 kd4 ws4 pt4 ot4 W w0 w1 w2 w3 w4 hVars).mono fun e W' ⟨he, bel⟩ => ?_
  subst he
  exact ⟨_, rfl, _, _, _, [], _, [], hW', trodAll_mk1 (shut_bool Tryd.underlying4 _), (trodAll_cons_mk (Below.trod laidOut (by kernel_rfl) (of_decide_eq_true (by kernel_rfl)) k0 bel lt0) (trodAll_cons_mk (shut_int Tryd.underlying3 w1) (trodAll_cons_mk (Below.trod laidOut (by kernel_rfl) (of_decide_eq_true (by kernel_rfl)) k2 bel lt2) (trodAll_cons_mk (shut_int Tryd.underlying3 w3) (trodAll_cons_mk (Below.trod laidOut (by kernel_rfl) (of_decide_eq_true (by kernel_rfl)) k4 bel lt4) trodAll_mk0))))), rfl, bel.frame _, fun h => by cases h⟩

theorem over : Rows.keccakTellsRow.holds Tryd.pinned (OpenSpec.ofChange Rows.keccakTellsSpec) :=
  OpenClaim.holds_of_wide 3 Tryd.f3 rfl rfl rfl rfl rfl rfl rfl ⟨rfl, rfl, rfl, rfl, rfl⟩ rfl rfl rfl rfl rfl (by kernel_rfl) Tryd.func3 (by kernel_rfl)
    (of_decide_eq_true (by kernel_rfl)) (by unfold Func.isWrapper; first | (rw [if_pos (by decide +kernel)]; kernel_rfl) | (rw [if_neg (by decide +kernel)]; exact ⟨rfl, rfl⟩))
    (fun os started H enc _ => lifted os started H enc)

end Go.Proofs.YtnbohjoakngkeaaDoor.keccakTells
namespace Go.Proofs.YtnbohjoakngkeaaDoor
theorem keccakTells_card : Rows.KeccakTellsCardSaid :=
  Claim7.holds_tied_plain_at .later [] [.data] true (true, "65e1b20b851afa4a5164a7ae36cec46e7a6cca0244bca5644d7614fd41e2e818") false
    keccakTells.over (fun _ h => by cases h) (by kernel_rfl) (fun _ h => by cases h) keccakTells_row_tie rfl ⟨rfl, rfl⟩ (by kernel_rfl) rfl
    (fun f fn hf hfn => by
      obtain rfl : f = 3 := Option.some.inj ((show Tryd.prog.funcNamed Tryd.f3.name = some 3 by kernel_rfl).symm.trans hf) |>.symm
      obtain rfl : fn = Tryd.f3 := (Option.some.inj (Tryd.func3.symm.trans hfn)).symm
      exact ⟨by kernel_rfl, fun j t ht => by
        rw [Tryd.params3] at ht
        have hm : t ∈ [23, 3, 24, 3, 26] := by simpa using Array.mem_of_getElem? ht
        have hall : ([23, 3, 24, 3, 26].all fun u => !Tryd.prog.wantsStandIn u) = true := by kernel_rfl
        exact (show Tryd.prog.wantsStandIn t = false by simpa using List.all_eq_true.1 hall t hm)⟩)
    (by kernel_rfl)
end Go.Proofs.YtnbohjoakngkeaaDoor
