/- For every five texts: apostillelaw12.GcmBack returns true, and each argument reads afterwards as it read before. No condition. -/
import Derived.Test.YtjeofkemfpdieaaBase
import Derived.Test.YtjeofkemfpdieaaQcQ
import Derived.WalkKit
import Derived.ProofKit
import Derived.OpenShut
import Derived.ShutString
import Derived.ChangeOld
import Derived.Below
namespace Go.Proofs.Ytjeofkemfpdieaa.gcmBack
open Go.ChangeShapes Go.WideShapes Go.ChangeAt Go.RowKit
open Go.ChangeMaps (open_string shut_string)
set_option linter.unusedVariables false

set_option maxRecDepth 100000 in
set_option maxHeartbeats 4000000 in
theorem walk (a0 : Option Addr) (len0 cap0 : Nat) (z0 : List Int) (a1 : Option Addr) (len1 cap1 : Nat) (z1 : List Int) (a2 : Option Addr) (len2 cap2 : Nat) (z2 : List Int) (a3 : Option Addr) (len3 cap3 : Nat) (z3 : List Int) (a4 : Option Addr) (len4 cap4 : Nat) (z4 : List Int) (w : World) (w0 : IsRow .u8 w a0 len0 cap0 z0) (w1 : IsRow .u8 w a1 len1 cap1 z1) (w2 : IsRow .u8 w a2 len2 cap2 z2) (w3 : IsRow .u8 w a3 len3 cap3 z3) (w4 : IsRow .u8 w a4 len4 cap4 z4) :
    Calls Try.prog 5 #[.slice a0 len0 cap0, .slice a1 len1 cap1, .slice a2 len2 cap2, .slice a3 len3 cap3, .slice a4 len4 cap4] w fun e w' => e = .returned (.bool true) ∧ Below w.heap.size w w' := by
  obtain ⟨key, rfl, rk⟩ := w0.row wf_u8
  obtain ⟨nonce, rfl, rn⟩ := w1.row wf_u8
  obtain ⟨bs, rfl, rs⟩ := w2.row wf_u8
  obtain ⟨p, rfl, rp⟩ := w3.row wf_u8
  obtain ⟨b, rfl, rb⟩ := w4.row wf_u8
  clear w0 w1 w2 w3 w4
  by_cases hf : ¬ (key.length ≤ 100 ∧ nonce.length ≤ 100 ∧ bs.length ≤ 100 ∧ p.length ≤ 100 ∧ b.length ≤ 100)
  · go_enter Try.func5, Try.ntmps5
    go_wp2_with (first
      | (go_at_call 7; refine (few5_f a0 a1 a2 a3 a4 key.length nonce.length bs.length p.length b.length cap0 cap1 cap2 cap3 cap4 w hf).mono ?_; rintro e x1 ⟨rfl, g1⟩)
      | (go_at_call 8; refine (awakeQ_any _).mono ?_; rintro e x2 ⟨rfl, g2⟩)
      | fail)
    go_ret
    exact ⟨rfl, keep_trans g1 g2⟩
  have hf' := Decidable.not_not.1 hf
  have hfe := few5_t a0 a1 a2 a3 a4 key.length nonce.length bs.length p.length b.length cap0 cap1 cap2 cap3 cap4 w hf'
  have hgk := gk_back rk rn rs rp rb (by omega) (by omega) (by omega)
  have HR := hide (And.intro rp (And.intro rb hf'))
  clear hf hf' rk rn rs rp rb
  rcases hgk with ⟨k1, k2, h1, h2, hA, hB⟩ | ⟨X, hX, hA, hO, hT, hB⟩
  · have c1 : (k1 == 0) = false := by simp [h1]
    have c2 : (k2 != 0) = true := by simp [h2]
    go_enter Try.func5, Try.ntmps5
    go_wp2_with (first
      | (go_at_call 7; refine hfe.mono ?_; rintro e x0 ⟨rfl, g0⟩)
      | (go_at_call 14; refine (hA _ g0).mono ?_; rintro e x1 ⟨v1, rfl, r1, _, g1⟩; have k1' := keep_trans g0 g1; obtain ⟨b1, d1, rfl, _⟩ := r1.opens (N := 0) rfl)
      | (go_at_call 16; refine (hB _ k1').mono ?_; rintro e x4 ⟨v4, rfl, r4, _, g4⟩; have k4 := keep_trans k1' g4; obtain ⟨b4, d4, rfl, _⟩ := r4.opens (N := 0) rfl)
      | (go_at_call 8; refine (awakeQ_any _).mono ?_; rintro e xz ⟨rfl, gz⟩)
      | fail)
    go_ret
    exact ⟨rfl, keep_trans k4 gz⟩
  · obtain ⟨Z, hZ⟩ : ∃ x : Nat, x = p.length + 16 := ⟨_, rfl⟩
    have hXZ : X.length = Z := hX.trans hZ.symm
    have hp := HR.out.2.2.2.2.2.1
    have e_Z : (p.length : Int) + 16 = (Z : Int) := by omega
    have w_Z : IntKind.i64.wrap (Z : Int) = (Z : Int) := by rw [IntKind.wrap_i64]; omega
    obtain ⟨M, hM⟩ : ∃ x : Nat, x = Z - 1 := ⟨_, rfl⟩
    have e_M : (Z : Int) - 1 = (M : Int) := by omega
    have w_M : IntKind.i64.wrap (M : Int) = (M : Int) := by rw [IntKind.wrap_i64]; omega
    have l_M : (M : Int) < (Z : Int) := by omega
    have z_M : (0 : Int) ≤ (M : Int) := Int.natCast_nonneg _
    have hMZ : M < Z := by omega
    have hZ6 : Z ≤ 1000 := by omega
    have hZ0 : 0 < Z := by omega
    have htr : X.set M (el X M ^^^ 1) = trnL X := by unfold trnL; rw [hXZ, ← hM]
    have HX := hide (And.intro hXZ (And.intro hMZ (And.intro htr (And.intro hZ6 hZ0))))
    clear hX hZ hp hM hMZ htr hZ6 hZ0
    rcases hB with ⟨k, hk0, hB⟩ | ⟨Y, hB, hB2⟩
    · have hkb : (k != 0) = true := by simp [hk0]
      go_enter Try.func5, Try.ntmps5
      go_wp2_with (first
        | (go_at_call 7; refine hfe.mono ?_; rintro e x0 ⟨rfl, g0⟩)
        | (go_at_call_of 14 (Value.slice a3 p.length cap3); refine (hA _ g0).mono ?_; rintro e x1 ⟨v1, rfl, r1, _, g1⟩; have k1 := keep_trans g0 g1; obtain ⟨b1, d1, rfl, _⟩ := r1.opens HX.out.1)
        | (go_at_call_of 16 (Value.slice b1 Z d1); refine (hO _ _ k1 r1).mono ?_; rintro e x2 ⟨v2, rfl, r2, _, g2⟩; have k2 := keep_trans k1 g2)
        | (go_at_call_of 9 v2; refine (rsame_true v2 _ p _ r2 (HR.out.1.below k2)).mono ?_; rintro e x3 ⟨rfl, g3⟩; have k3 := keep_trans k2 g3; have r13 := (r1.below (keep_trans g2 g3)).below (keep_alloc x3 (.cells #[] 5)))
        | (at_builtin; refine wpList_appA rfl _ _ rfl x3.heap.size _ _ 0 [] X rfl (own_empty x3) rfl r13 (row_tidyQ r13 (by rw [HX.out.1]; exact HX.out.2.2.2.2)) (by decide) (by have := HX.out; omega) (by simp) ?_; intro v4 x4 o4 gr4; rw [Nat.zero_add, HX.out.1, List.nil_append] at o4; obtain ⟨q4, d4, rfl, hb4, hq4, hn4, hm4, hc4⟩ := own_at o4 HX.out.2.2.2.2 HX.out.1; have cM := hc4 M HX.out.2.1; have fM := owns_frozen o4 M; have g4 := below_emp gr4; have hex := xor1Q (el X M) (el_lt r13.under (by decide) M); have os := own_setQ o4 M (el X M ^^^ 1); rw [HX.out.2.2.1] at os; have gs := g4.setCell (p := ⟨q4, M, none⟩) hb4 (.int .u8 ((el X M ^^^ 1 : Nat) : Int)); have k5 := keep_trans k3 gs)
        | (go_at_call_of 16 (Value.slice (some ⟨q4, 0, none⟩) Z d4); refine (hT _ _ k5 (Own.row (e := 5) (B := x3.heap.size) ⟨by rw [trn_len, HX.out.1]; exact os, under_trn r13.under⟩)).mono ?_; rintro e x6 ⟨v6, rfl, r6, _, g6⟩; have k6 := keep_trans k5 g6; obtain ⟨b6, d6, rfl, _⟩ := r6.opens (N := 0) rfl)
        | (go_at_call_of 16 (Value.slice a4 b.length cap4); refine (hB _ k6).mono ?_; rintro e x7 ⟨v7, rfl, r7, _, g7⟩; have k7 := keep_trans k6 g7; obtain ⟨b7, d7, rfl, _⟩ := r7.opens (N := 0) rfl)
        | (go_at_call 8; refine (awakeQ_any _).mono ?_; rintro e xz ⟨rfl, gz⟩)
        | fail)
      go_ret
      exact ⟨rfl, keep_trans k7 gz⟩
    · skip
      go_enter Try.func5, Try.ntmps5
      go_wp2_with (first
        | (go_at_call 7; refine hfe.mono ?_; rintro e x0 ⟨rfl, g0⟩)
        | (go_at_call_of 14 (Value.slice a3 p.length cap3); refine (hA _ g0).mono ?_; rintro e x1 ⟨v1, rfl, r1, _, g1⟩; have k1 := keep_trans g0 g1; obtain ⟨b1, d1, rfl, _⟩ := r1.opens HX.out.1)
        | (go_at_call_of 16 (Value.slice b1 Z d1); refine (hO _ _ k1 r1).mono ?_; rintro e x2 ⟨v2, rfl, r2, _, g2⟩; have k2 := keep_trans k1 g2)
        | (go_at_call_of 9 v2; refine (rsame_true v2 _ p _ r2 (HR.out.1.below k2)).mono ?_; rintro e x3 ⟨rfl, g3⟩; have k3 := keep_trans k2 g3; have r13 := (r1.below (keep_trans g2 g3)).below (keep_alloc x3 (.cells #[] 5)))
        | (at_builtin; refine wpList_appA rfl _ _ rfl x3.heap.size _ _ 0 [] X rfl (own_empty x3) rfl r13 (row_tidyQ r13 (by rw [HX.out.1]; exact HX.out.2.2.2.2)) (by decide) (by have := HX.out; omega) (by simp) ?_; intro v4 x4 o4 gr4; rw [Nat.zero_add, HX.out.1, List.nil_append] at o4; obtain ⟨q4, d4, rfl, hb4, hq4, hn4, hm4, hc4⟩ := own_at o4 HX.out.2.2.2.2 HX.out.1; have cM := hc4 M HX.out.2.1; have fM := owns_frozen o4 M; have g4 := below_emp gr4; have hex := xor1Q (el X M) (el_lt r13.under (by decide) M); have os := own_setQ o4 M (el X M ^^^ 1); rw [HX.out.2.2.1] at os; have gs := g4.setCell (p := ⟨q4, M, none⟩) hb4 (.int .u8 ((el X M ^^^ 1 : Nat) : Int)); have k5 := keep_trans k3 gs)
        | (go_at_call_of 16 (Value.slice (some ⟨q4, 0, none⟩) Z d4); refine (hT _ _ k5 (Own.row (e := 5) (B := x3.heap.size) ⟨by rw [trn_len, HX.out.1]; exact os, under_trn r13.under⟩)).mono ?_; rintro e x6 ⟨v6, rfl, r6, _, g6⟩; have k6 := keep_trans k5 g6; obtain ⟨b6, d6, rfl, _⟩ := r6.opens (N := 0) rfl)
        | (go_at_call_of 16 (Value.slice a4 b.length cap4); refine (hB _ k6).mono ?_; rintro e x7 ⟨v7, rfl, r7, _, g7⟩; have k7 := keep_trans k6 g7)
        | (go_at_call_of 14 v7; refine (hB2 _ v7 k7 r7).mono ?_; rintro e x8 ⟨v8, rfl, r8, _, g8⟩; have k8 := keep_trans k7 g8)
        | (go_at_call_of 9 v8; refine (rsame_true v8 _ b _ r8 (HR.out.2.1.below k8)).mono ?_; rintro e x9 ⟨rfl, g9⟩; have k9 := keep_trans k8 g9)
        | (go_at_call 8; refine (awakeQ_any _).mono ?_; rintro e xz ⟨rfl, gz⟩)
        | fail)
      go_ret
      exact ⟨rfl, keep_trans k9 gz⟩

set_option maxRecDepth 100000 in
theorem lifted (os : Os) (started : os.Started) (H : Type) (enc : TypeId × Value → H) :
    ReturnsInHanded {} Try.checked os 5 .any (Rows.gcmBackSpec.pre6 enc Try.prog Try.f5 Rows.gcmBackRow.domain false) (Rows.gcmBackSpec.post enc Try.prog Try.f5 false true false false) := by
  refine returnsInHanded_of_change (C := Try.checked) own started (by kernel_rfl) Try.func5
    (ChangeSpec.witness6 (enc := enc) (C := Try.checked) false ⟨#[], #[.slice none 0 0, .slice none 0 0, .slice none 0 0, .slice none 0 0, .slice none 0 0], []⟩ 8 (by kernel_rfl) (by kernel_rfl) (by kernel_rfl) (by kernel_rfl)) ?_
  intro W base args ds gs before hval0 hW hcnd _
  have hval : ∀ (j : Nat) t v, Try.f5.params[j]? = some t → args[j]? = some v → Value.okWide Try.prog W .any base t v := hval0
  have hW' := hW
  obtain ⟨p, q, hA0, hV, rfl, hfz, hnd⟩ := hW
  have hA : DataW.TrodAll enc Try.prog W 0 (fun _ => true) true Try.f5.params.toList args.toList ds p := hA0
  rw [Try.params5] at hA hval
  obtain ⟨v0, vs0, d0, ds0, p0, q0, hargs, rfl, rfl, h0, r0⟩ := trodAll_cons hA
  obtain ⟨v1, vs1, d1, ds1, p1, q1, rfl, rfl, rfl, h1, r1⟩ := trodAll_cons r0
  obtain ⟨v2, vs2, d2, ds2, p2, q2, rfl, rfl, rfl, h2, r2⟩ := trodAll_cons r1
  obtain ⟨v3, vs3, d3, ds3, p3, q3, rfl, rfl, rfl, h3, r3⟩ := trodAll_cons r2
  obtain ⟨v4, vs4, d4, ds4, p4, q4, rfl, rfl, rfl, h4, r4⟩ := trodAll_cons r3
  obtain ⟨rfl, rfl, rfl⟩ := trodAll_nil r4
  obtain rfl : args = #[v0, v1, v2, v3, v4] := by cases args; simp_all
  obtain ⟨rfl, rfl⟩ := trodVars_none hV
  obtain ⟨a0, len0, cap0, rfl⟩ := okWide_slice Try.underlying22 (hval 0 22 v0 rfl rfl)
  have k0 := h0
  have lt0 : ∀ x ∈ p0, x.block < W.heap.size := by obtain ⟨m, hm⟩ := k0; exact DataW.trod_lt m _ _ _ hm
  obtain ⟨z0, w0⟩ : ∃ zs, IsRow .u8 W a0 len0 cap0 zs := by
    obtain ⟨fuel, hf⟩ := h0
    rcases open_ints Try.underlying22 Try.underlying5 (by kernel_rfl) hf with ⟨hcs, _⟩ | ⟨x, l, c, zs, hcs, _, hl, hm, hz, _, hcell, hwz⟩
    · simp [Value.cells] at hcs
      obtain ⟨rfl, rfl, rfl⟩ := hcs
      exact ⟨[], .inl ⟨rfl, rfl, rfl, rfl⟩⟩
    · simp [Value.cells] at hcs
      obtain ⟨rfl, rfl, rfl⟩ := hcs
      exact ⟨zs, .inr ⟨_, rfl, hl, hm, by simpa using hz, hcell, hwz⟩⟩
  obtain ⟨a1, len1, cap1, rfl⟩ := okWide_slice Try.underlying22 (hval 1 22 v1 rfl rfl)
  have k1 := h1
  have lt1 : ∀ x ∈ p1, x.block < W.heap.size := by obtain ⟨m, hm⟩ := k1; exact DataW.trod_lt m _ _ _ hm
  obtain ⟨z1, w1⟩ : ∃ zs, IsRow .u8 W a1 len1 cap1 zs := by
    obtain ⟨fuel, hf⟩ := h1
    rcases open_ints Try.underlying22 Try.underlying5 (by kernel_rfl) hf with ⟨hcs, _⟩ | ⟨x, l, c, zs, hcs, _, hl, hm, hz, _, hcell, hwz⟩
    · simp [Value.cells] at hcs
      obtain ⟨rfl, rfl, rfl⟩ := hcs
      exact ⟨[], .inl ⟨rfl, rfl, rfl, rfl⟩⟩
    · simp [Value.cells] at hcs
      obtain ⟨rfl, rfl, rfl⟩ := hcs
      exact ⟨zs, .inr ⟨_, rfl, hl, hm, by simpa using hz, hcell, hwz⟩⟩
  obtain ⟨a2, len2, cap2, rfl⟩ := okWide_slice Try.underlying22 (hval 2 22 v2 rfl rfl)
  have k2 := h2
  have lt2 : ∀ x ∈ p2, x.block < W.heap.size := by obtain ⟨m, hm⟩ := k2; exact DataW.trod_lt m _ _ _ hm
  obtain ⟨z2, w2⟩ : ∃ zs, IsRow .u8 W a2 len2 cap2 zs := by
    obtain ⟨fuel, hf⟩ := h2
    rcases open_ints Try.underlying22 Try.underlying5 (by kernel_rfl) hf with ⟨hcs, _⟩ | ⟨x, l, c, zs, hcs, _, hl, hm, hz, _, hcell, hwz⟩
    · simp [Value.cells] at hcs
      obtain ⟨rfl, rfl, rfl⟩ := hcs
      exact ⟨[], .inl ⟨rfl, rfl, rfl, rfl⟩⟩
    · simp [Value.cells] at hcs
      obtain ⟨rfl, rfl, rfl⟩ := hcs
      exact ⟨zs, .inr ⟨_, rfl, hl, hm, by simpa using hz, hcell, hwz⟩⟩
  obtain ⟨a3, len3, cap3, rfl⟩ := okWide_slice Try.underlying22 (hval 3 22 v3 rfl rfl)
  have k3 := h3
  have lt3 : ∀ x ∈ p3, x.block < W.heap.size := by obtain ⟨m, hm⟩ := k3; exact DataW.trod_lt m _ _ _ hm
  obtain ⟨z3, w3⟩ : ∃ zs, IsRow .u8 W a3 len3 cap3 zs := by
    obtain ⟨fuel, hf⟩ := h3
    rcases open_ints Try.underlying22 Try.underlying5 (by kernel_rfl) hf with ⟨hcs, _⟩ | ⟨x, l, c, zs, hcs, _, hl, hm, hz, _, hcell, hwz⟩
    · simp [Value.cells] at hcs
      obtain ⟨rfl, rfl, rfl⟩ := hcs
      exact ⟨[], .inl ⟨rfl, rfl, rfl, rfl⟩⟩
    · simp [Value.cells] at hcs
      obtain ⟨rfl, rfl, rfl⟩ := hcs
      exact ⟨zs, .inr ⟨_, rfl, hl, hm, by simpa using hz, hcell, hwz⟩⟩
  obtain ⟨a4, len4, cap4, rfl⟩ := okWide_slice Try.underlying22 (hval 4 22 v4 rfl rfl)
  have k4 := h4
  have lt4 : ∀ x ∈ p4, x.block < W.heap.size := by obtain ⟨m, hm⟩ := k4; exact DataW.trod_lt m _ _ _ hm
  obtain ⟨z4, w4⟩ : ∃ zs, IsRow .u8 W a4 len4 cap4 zs := by
    obtain ⟨fuel, hf⟩ := h4
    rcases open_ints Try.underlying22 Try.underlying5 (by kernel_rfl) hf with ⟨hcs, _⟩ | ⟨x, l, c, zs, hcs, _, hl, hm, hz, _, hcell, hwz⟩
    · simp [Value.cells] at hcs
      obtain ⟨rfl, rfl, rfl⟩ := hcs
      exact ⟨[], .inl ⟨rfl, rfl, rfl, rfl⟩⟩
    · simp [Value.cells] at hcs
      obtain ⟨rfl, rfl, rfl⟩ := hcs
      exact ⟨zs, .inr ⟨_, rfl, hl, hm, by simpa using hz, hcell, hwz⟩⟩
  clear hA0 hval0
  refine (walk a0 len0 cap0 z0 a1 len1 cap1 z1 a2 len2 cap2 z2 a3 len3 cap3 z3 a4 len4 cap4 z4 W w0 w1 w2 w3 w4).mono fun e W' ⟨he, bel⟩ => ?_
  subst he
  exact ⟨_, rfl, _, _, _, [], _, [], hW', trodAll_mk1 (shut_bool Try.underlying4 _), (trodAll_cons_mk (Below.trod laidOut (by kernel_rfl) (of_decide_eq_true (by kernel_rfl)) k0 bel lt0) (trodAll_cons_mk (Below.trod laidOut (by kernel_rfl) (of_decide_eq_true (by kernel_rfl)) k1 bel lt1) (trodAll_cons_mk (Below.trod laidOut (by kernel_rfl) (of_decide_eq_true (by kernel_rfl)) k2 bel lt2) (trodAll_cons_mk (Below.trod laidOut (by kernel_rfl) (of_decide_eq_true (by kernel_rfl)) k3 bel lt3) (trodAll_cons_mk (Below.trod laidOut (by kernel_rfl) (of_decide_eq_true (by kernel_rfl)) k4 bel lt4) trodAll_mk0))))), rfl, bel.frame _, fun h => by cases h⟩

theorem over : Rows.gcmBackRow.holds Try.pinned (OpenSpec.ofChange Rows.gcmBackSpec) :=
  OpenClaim.holds_of_wide 5 Try.f5 rfl rfl rfl rfl rfl rfl rfl ⟨rfl, rfl, rfl, rfl, rfl⟩ rfl rfl rfl rfl rfl (by kernel_rfl) Try.func5 (by kernel_rfl)
    (of_decide_eq_true (by kernel_rfl)) (by unfold Func.isWrapper; first | (rw [if_pos (by decide +kernel)]; kernel_rfl) | (rw [if_neg (by decide +kernel)]; exact ⟨rfl, rfl⟩))
    (fun os started H enc _ => lifted os started H enc)

end Go.Proofs.Ytjeofkemfpdieaa.gcmBack
namespace Go.Proofs.Ytjeofkemfpdieaa
theorem gcmBack_holds : Rows.GcmBackSaid := gcmBack.over
end Go.Proofs.Ytjeofkemfpdieaa
