/- For every three texts and every byte: apostillelaw04.OrderOne returns true, and each argument reads afterwards as it read before. No condition. -/
import Derived.Test.YtcddoognlhpaaaaFrame
import Derived.Test.YtcddoognlhpaaaaPLaw
import Derived.WalkKit
import Derived.ProofKit
import Derived.OpenShut
import Derived.ShutString
import Derived.ChangeOld
import Derived.Below
import Derived.SizedLaws
namespace Go.Proofs.Ytcddoognlhpaaaa.orderOne
open Go.ChangeShapes Go.WideShapes Go.ChangeAt Go.RowKit
open Go.ChangeMaps (open_string shut_string)
set_option linter.unusedVariables false

set_option maxHeartbeats 2000000 in
theorem walk (a0 : Option Addr) (len0 cap0 : Nat) (z0 : List Int) (a1 : Option Addr) (len1 cap1 : Nat) (z1 : List Int) (a2 : Option Addr) (len2 cap2 : Nat) (z2 : List Int) (a3 : Int) (w : World) (w0 : IsRow .u8 w a0 len0 cap0 z0) (w1 : IsRow .u8 w a1 len1 cap1 z1) (w2 : IsRow .u8 w a2 len2 cap2 z2) (w3 : (Lit.int .u8 a3).wf = true) (s0 : len0 ≤ 140737488351232) (s1 : len1 ≤ 140737488351232) (s2 : len2 ≤ 140737488351232) :
    Calls Try.prog 5 #[.slice a0 len0 cap0, .slice a1 len1 cap1, .slice a2 len2 cap2, .int .u8 a3] w fun e w' => e = .returned (.bool true) ∧ Below w.heap.size w w' := by
  obtain ⟨l, rfl, hr⟩ := w0.row wf_u8
  obtain ⟨m, rfl, hm⟩ := w1.row wf_u8
  obtain ⟨n, rfl, hn⟩ := w2.row wf_u8
  obtain ⟨x, rfl⟩ := Int.eq_ofNat_of_zero_le (wf_u8 _ w3).1
  have hx : x < 256 := by have := (wf_u8 _ w3).2; omega
  clear w0 w1 w2 w3
  by_cases h1 : (3000 : Int) < (l.length : Int) + (m.length : Int) + (n.length : Int)
  · go_enter Try.func5, Try.ntmps5
    go_wp2_with fail
    refine (awake_any _).mono ?_
    rintro e w' ⟨rfl, hb⟩
    go_wp2
    go_ret
    exact ⟨rfl, hb⟩
  have hsum : l.length + m.length + n.length ≤ 3000 := by omega
  obtain ⟨i0, hi, hz0, hz1, hz2⟩ := info_byte
  obtain ⟨_, hnews⟩ := row_news hr
  have HU := hide hr.under
  have v1 : (convert 25 9 (.slice a0 l.length cap0)).run Try.prog w = .ok (.string (stg l)) w := conv_row hr
  have v2 : (convert 25 9 (.slice a1 m.length cap1)).run Try.prog w = .ok (.string (stg m)) w := conv_row hm
  have hlm := less_any _ _ l m w hr hm
  have hml := less_any _ _ m l w hm hr
  have hmn := less_any _ _ m n w hm hn
  have hln := less_any _ _ l n w hr hn
  have HR := hide hr
  by_cases he : l = m
  · have e2 : stg l = stg m := by rw [he]
    rw [show lessL l m = false from by rw [he]; exact less_self _] at hlm
    rw [show lessL m l = false from by rw [he]; exact less_self _] at hml
    clear he
    go_enter Try.func5, Try.ntmps5
    go_wp2_with fail
    refine hlm.mono ?_
    rintro e y1 ⟨rfl, rfl⟩
    go_wp2_with fail
    refine hml.mono ?_
    rintro e y2 ⟨rfl, rfl⟩
    clear hlm hml
    go_wp2_with (first
      | (at_builtin; refine wpList_append_rows _ rfl _ _ 25 25 5 rfl Try.underlying25 y2.heap.size 5 i0 (.int .u8 0) 1 Try.underlying25 hi hz0 hz1 hz2 rfl _ _ _ rfl (own_empty y2 5) a0 l.length cap0 (vals .u8 l) rfl (vals_length _ _) (news_below hnews (keep_alloc _ _)) (vals_one _ _) (by unfold maxLen; omega) (by omega) (by simp) ?_; intro t1 x1 how1 hg1; rw [Nat.zero_add, List.nil_append] at how1; have bel1 := below_empty hg1; have hx1 := bel1.size)
      | (at_builtin; refine wpList_append_rows _ rfl _ _ 25 25 5 rfl Try.underlying25 y2.heap.size 5 i0 (.int .u8 0) 1 Try.underlying25 hi hz0 hz1 hz2 rfl _ _ _ rfl (how1.alloc _) (some ⟨x1.heap.size, 0, none⟩) 1 1 (vals .u8 [x]) rfl rfl (fun _ => ⟨_, _, rfl, cells_new1 x1 _ _⟩) (vals_one _ _) (by unfold maxLen; omega) (by omega) (by simp; omega) ?_; intro t2 x2 how2 hg2; have bel2 := below_append bel1 hx1 how1 _ hg2)
      | fail)
    have ho2 : Own 5 .u8 256 x2 y2.heap.size t2 (l ++ [x]) := ⟨by rw [vals_append, List.length_append]; exact how2, HU.out.append (Under.one hx)⟩
    refine (less_any _ _ l (l ++ [x]) x2 (HR.out.below bel2) ho2.row).mono ?_
    rintro e x3 ⟨rfl, rfl⟩
    clear hnews how1 how2 hg1 hg2
    rw [less_behind]
    go_wp2_with fail
    refine (less_any _ _ l l _ (HR.out.below bel2) (HR.out.below bel2)).mono ?_
    rintro e x4 ⟨rfl, rfl⟩
    rw [less_self]
    go_wp2_with fail
    refine (awake_any _).mono ?_
    rintro e x5 ⟨rfl, bel5⟩
    go_wp2
    go_ret
    exact ⟨rfl, keep_trans bel2 bel5⟩
  · have hne : ¬ (stg l).toList = (stg m).toList := fun h => he (stg_inj hr.under hm.under (toList_inj h))
    have hne2 : ((stg l).toList == (stg m).toList) = false := beq_eq_false_iff_ne.2 hne
    cases hd : lessL l m with
    | true =>
      rw [hd] at hlm
      rw [less_asymm _ _ hd] at hml
      cases hd2 : lessL m n with
      | true =>
        rw [hd2] at hmn
        rw [less_trans _ _ _ hd hd2] at hln
        clear hd hd2 he
        go_enter Try.func5, Try.ntmps5
        go_wp2_with fail
        refine hlm.mono ?_
        rintro e y1 ⟨rfl, rfl⟩
        go_wp2_with fail
        refine hml.mono ?_
        rintro e y2 ⟨rfl, rfl⟩
        clear hlm hml
        go_wp2_with fail
        refine hmn.mono ?_
        rintro e y3 ⟨rfl, rfl⟩
        go_wp2_with fail
        refine hln.mono ?_
        rintro e y4 ⟨rfl, rfl⟩
        clear hmn hln
        go_wp2_with (first
          | (at_builtin; refine wpList_append_rows _ rfl _ _ 25 25 5 rfl Try.underlying25 y4.heap.size 5 i0 (.int .u8 0) 1 Try.underlying25 hi hz0 hz1 hz2 rfl _ _ _ rfl (own_empty y4 5) a0 l.length cap0 (vals .u8 l) rfl (vals_length _ _) (news_below hnews (keep_alloc _ _)) (vals_one _ _) (by unfold maxLen; omega) (by omega) (by simp) ?_; intro t1 x1 how1 hg1; rw [Nat.zero_add, List.nil_append] at how1; have bel1 := below_empty hg1; have hx1 := bel1.size)
          | (at_builtin; refine wpList_append_rows _ rfl _ _ 25 25 5 rfl Try.underlying25 y4.heap.size 5 i0 (.int .u8 0) 1 Try.underlying25 hi hz0 hz1 hz2 rfl _ _ _ rfl (how1.alloc _) (some ⟨x1.heap.size, 0, none⟩) 1 1 (vals .u8 [x]) rfl rfl (fun _ => ⟨_, _, rfl, cells_new1 x1 _ _⟩) (vals_one _ _) (by unfold maxLen; omega) (by omega) (by simp; omega) ?_; intro t2 x2 how2 hg2; have bel2 := below_append bel1 hx1 how1 _ hg2)
          | fail)
        have ho2 : Own 5 .u8 256 x2 y4.heap.size t2 (l ++ [x]) := ⟨by rw [vals_append, List.length_append]; exact how2, HU.out.append (Under.one hx)⟩
        refine (less_any _ _ l (l ++ [x]) x2 (HR.out.below bel2) ho2.row).mono ?_
        rintro e x3 ⟨rfl, rfl⟩
        clear hnews how1 how2 hg1 hg2
        rw [less_behind]
        go_wp2_with fail
        refine (less_any _ _ l l _ (HR.out.below bel2) (HR.out.below bel2)).mono ?_
        rintro e x4 ⟨rfl, rfl⟩
        rw [less_self]
        go_wp2_with fail
        refine (awake_any _).mono ?_
        rintro e x5 ⟨rfl, bel5⟩
        go_wp2
        go_ret
        exact ⟨rfl, keep_trans bel2 bel5⟩
      | false =>
        rw [hd2] at hmn
        clear hd hd2 he
        go_enter Try.func5, Try.ntmps5
        go_wp2_with fail
        refine hlm.mono ?_
        rintro e y1 ⟨rfl, rfl⟩
        go_wp2_with fail
        refine hml.mono ?_
        rintro e y2 ⟨rfl, rfl⟩
        clear hlm hml
        go_wp2_with fail
        refine hmn.mono ?_
        rintro e y3 ⟨rfl, rfl⟩
        clear hmn hln
        go_wp2_with (first
          | (at_builtin; refine wpList_append_rows _ rfl _ _ 25 25 5 rfl Try.underlying25 y3.heap.size 5 i0 (.int .u8 0) 1 Try.underlying25 hi hz0 hz1 hz2 rfl _ _ _ rfl (own_empty y3 5) a0 l.length cap0 (vals .u8 l) rfl (vals_length _ _) (news_below hnews (keep_alloc _ _)) (vals_one _ _) (by unfold maxLen; omega) (by omega) (by simp) ?_; intro t1 x1 how1 hg1; rw [Nat.zero_add, List.nil_append] at how1; have bel1 := below_empty hg1; have hx1 := bel1.size)
          | (at_builtin; refine wpList_append_rows _ rfl _ _ 25 25 5 rfl Try.underlying25 y3.heap.size 5 i0 (.int .u8 0) 1 Try.underlying25 hi hz0 hz1 hz2 rfl _ _ _ rfl (how1.alloc _) (some ⟨x1.heap.size, 0, none⟩) 1 1 (vals .u8 [x]) rfl rfl (fun _ => ⟨_, _, rfl, cells_new1 x1 _ _⟩) (vals_one _ _) (by unfold maxLen; omega) (by omega) (by simp; omega) ?_; intro t2 x2 how2 hg2; have bel2 := below_append bel1 hx1 how1 _ hg2)
          | fail)
        have ho2 : Own 5 .u8 256 x2 y3.heap.size t2 (l ++ [x]) := ⟨by rw [vals_append, List.length_append]; exact how2, HU.out.append (Under.one hx)⟩
        refine (less_any _ _ l (l ++ [x]) x2 (HR.out.below bel2) ho2.row).mono ?_
        rintro e x3 ⟨rfl, rfl⟩
        clear hnews how1 how2 hg1 hg2
        rw [less_behind]
        go_wp2_with fail
        refine (less_any _ _ l l _ (HR.out.below bel2) (HR.out.below bel2)).mono ?_
        rintro e x4 ⟨rfl, rfl⟩
        rw [less_self]
        go_wp2_with fail
        refine (awake_any _).mono ?_
        rintro e x5 ⟨rfl, bel5⟩
        go_wp2
        go_ret
        exact ⟨rfl, keep_trans bel2 bel5⟩
    | false =>
      have hd2 : lessL m l = true := by
        cases h : lessL m l with
        | true => rfl
        | false => exact absurd (less_total _ _ hd h) he
      rw [hd] at hlm
      rw [hd2] at hml
      clear hd hd2 he
      go_enter Try.func5, Try.ntmps5
      go_wp2_with fail
      refine hlm.mono ?_
      rintro e y1 ⟨rfl, rfl⟩
      go_wp2_with fail
      refine hml.mono ?_
      rintro e y2 ⟨rfl, rfl⟩
      clear hlm hml
      go_wp2_with (first
        | (at_builtin; refine wpList_append_rows _ rfl _ _ 25 25 5 rfl Try.underlying25 y2.heap.size 5 i0 (.int .u8 0) 1 Try.underlying25 hi hz0 hz1 hz2 rfl _ _ _ rfl (own_empty y2 5) a0 l.length cap0 (vals .u8 l) rfl (vals_length _ _) (news_below hnews (keep_alloc _ _)) (vals_one _ _) (by unfold maxLen; omega) (by omega) (by simp) ?_; intro t1 x1 how1 hg1; rw [Nat.zero_add, List.nil_append] at how1; have bel1 := below_empty hg1; have hx1 := bel1.size)
        | (at_builtin; refine wpList_append_rows _ rfl _ _ 25 25 5 rfl Try.underlying25 y2.heap.size 5 i0 (.int .u8 0) 1 Try.underlying25 hi hz0 hz1 hz2 rfl _ _ _ rfl (how1.alloc _) (some ⟨x1.heap.size, 0, none⟩) 1 1 (vals .u8 [x]) rfl rfl (fun _ => ⟨_, _, rfl, cells_new1 x1 _ _⟩) (vals_one _ _) (by unfold maxLen; omega) (by omega) (by simp; omega) ?_; intro t2 x2 how2 hg2; have bel2 := below_append bel1 hx1 how1 _ hg2)
        | fail)
      have ho2 : Own 5 .u8 256 x2 y2.heap.size t2 (l ++ [x]) := ⟨by rw [vals_append, List.length_append]; exact how2, HU.out.append (Under.one hx)⟩
      refine (less_any _ _ l (l ++ [x]) x2 (HR.out.below bel2) ho2.row).mono ?_
      rintro e x3 ⟨rfl, rfl⟩
      clear hnews how1 how2 hg1 hg2
      rw [less_behind]
      go_wp2_with fail
      refine (less_any _ _ l l _ (HR.out.below bel2) (HR.out.below bel2)).mono ?_
      rintro e x4 ⟨rfl, rfl⟩
      rw [less_self]
      go_wp2_with fail
      refine (awake_any _).mono ?_
      rintro e x5 ⟨rfl, bel5⟩
      go_wp2
      go_ret
      exact ⟨rfl, keep_trans bel2 bel5⟩

set_option maxRecDepth 100000 in
theorem lifted (os : Os) (started : os.Started) (H : Type) (enc : TypeId × Value → H) :
    ReturnsInHanded {} Try.checked os 5 .any (Rows.orderOneSpec.pre6 enc Try.prog Try.f5 Rows.orderOneRow.domain false) (Rows.orderOneSpec.post enc Try.prog Try.f5 false true false false) := by
  refine returnsInHanded_of_change_sized (C := Try.checked) own started (by kernel_rfl) Try.func5
    (ChangeSpec.witness6 (enc := enc) (C := Try.checked) false ⟨#[], #[.slice none 0 0, .slice none 0 0, .slice none 0 0, .int .u8 0], []⟩ 8 (by kernel_rfl) (by kernel_rfl) (by kernel_rfl) (by kernel_rfl)) ?_
  intro W base args ds gs before hval0 hW hcnd hsz0 _
  have hsz : (DataW.weightsEach Try.prog (Try.f5.params.toList ++ Rows.orderOneSpec.plain.varTypes Try.prog) (ds ++ gs)).all (· ≤ reachBytes) = true := hsz0
  clear hsz0
  have hval : ∀ (j : Nat) t v, Try.f5.params[j]? = some t → args[j]? = some v → Value.okWide Try.prog W .any base t v := hval0
  have hW' := hW
  obtain ⟨p, q, hA0, hV, rfl, hfz, hnd⟩ := hW
  have hA : DataW.TrodAll enc Try.prog W 0 (fun _ => true) true Try.f5.params.toList args.toList ds p := hA0
  rw [Try.params5] at hA hval hsz
  obtain ⟨v0, vs0, d0, ds0, p0, q0, hargs, rfl, rfl, h0, r0⟩ := trodAll_cons hA
  obtain ⟨v1, vs1, d1, ds1, p1, q1, rfl, rfl, rfl, h1, r1⟩ := trodAll_cons r0
  obtain ⟨v2, vs2, d2, ds2, p2, q2, rfl, rfl, rfl, h2, r2⟩ := trodAll_cons r1
  obtain ⟨v3, vs3, d3, ds3, p3, q3, rfl, rfl, rfl, h3, r3⟩ := trodAll_cons r2
  obtain ⟨rfl, rfl, rfl⟩ := trodAll_nil r3
  obtain rfl : args = #[v0, v1, v2, v3] := by cases args; simp_all
  obtain ⟨rfl, rfl⟩ := trodVars_none hV
  obtain ⟨a0, len0, cap0, rfl⟩ := okWide_slice Try.underlying25 (hval 0 25 v0 rfl rfl)
  have k0 := h0
  have lt0 : ∀ x ∈ p0, x.block < W.heap.size := by obtain ⟨m, hm⟩ := k0; exact DataW.trod_lt m _ _ _ hm
  obtain ⟨z0, w0, s0⟩ : ∃ zs, IsRow .u8 W a0 len0 cap0 zs ∧ len0 ≤ 140737488351232 := by
    obtain ⟨fuel, hf⟩ := h0
    rcases open_ints Try.underlying25 Try.underlying5 (by kernel_rfl) hf with ⟨hcs, _⟩ | ⟨x, l, c, zs, hcs, _, hl, hm, hz, hx, hcell, hwz⟩
    · simp [Value.cells] at hcs
      obtain ⟨rfl, rfl, rfl⟩ := hcs
      exact ⟨[], .inl ⟨rfl, rfl, rfl, rfl⟩, Nat.zero_le _⟩
    · simp [Value.cells] at hcs
      obtain ⟨rfl, rfl, rfl⟩ := hcs
      have hs := sized_slice hsz (j := 0) (t := 25) (e := 5) rfl (by rw [(Prod.mk.inj hx).1]; rfl) Try.underlying25
      rw [Try.bytes5] at hs
      simp only [lits, List.length_map, List.length_take, List.length_drop, reachBytes] at hs
      have hz' : zs.length = cap0 := by simpa using hz
      exact ⟨zs, .inr ⟨_, rfl, hl, hm, hz', hcell, hwz⟩, by omega⟩
  obtain ⟨a1, len1, cap1, rfl⟩ := okWide_slice Try.underlying25 (hval 1 25 v1 rfl rfl)
  have k1 := h1
  have lt1 : ∀ x ∈ p1, x.block < W.heap.size := by obtain ⟨m, hm⟩ := k1; exact DataW.trod_lt m _ _ _ hm
  obtain ⟨z1, w1, s1⟩ : ∃ zs, IsRow .u8 W a1 len1 cap1 zs ∧ len1 ≤ 140737488351232 := by
    obtain ⟨fuel, hf⟩ := h1
    rcases open_ints Try.underlying25 Try.underlying5 (by kernel_rfl) hf with ⟨hcs, _⟩ | ⟨x, l, c, zs, hcs, _, hl, hm, hz, hx, hcell, hwz⟩
    · simp [Value.cells] at hcs
      obtain ⟨rfl, rfl, rfl⟩ := hcs
      exact ⟨[], .inl ⟨rfl, rfl, rfl, rfl⟩, Nat.zero_le _⟩
    · simp [Value.cells] at hcs
      obtain ⟨rfl, rfl, rfl⟩ := hcs
      have hs := sized_slice hsz (j := 1) (t := 25) (e := 5) rfl (by rw [(Prod.mk.inj hx).1]; rfl) Try.underlying25
      rw [Try.bytes5] at hs
      simp only [lits, List.length_map, List.length_take, List.length_drop, reachBytes] at hs
      have hz' : zs.length = cap1 := by simpa using hz
      exact ⟨zs, .inr ⟨_, rfl, hl, hm, hz', hcell, hwz⟩, by omega⟩
  obtain ⟨a2, len2, cap2, rfl⟩ := okWide_slice Try.underlying25 (hval 2 25 v2 rfl rfl)
  have k2 := h2
  have lt2 : ∀ x ∈ p2, x.block < W.heap.size := by obtain ⟨m, hm⟩ := k2; exact DataW.trod_lt m _ _ _ hm
  obtain ⟨z2, w2, s2⟩ : ∃ zs, IsRow .u8 W a2 len2 cap2 zs ∧ len2 ≤ 140737488351232 := by
    obtain ⟨fuel, hf⟩ := h2
    rcases open_ints Try.underlying25 Try.underlying5 (by kernel_rfl) hf with ⟨hcs, _⟩ | ⟨x, l, c, zs, hcs, _, hl, hm, hz, hx, hcell, hwz⟩
    · simp [Value.cells] at hcs
      obtain ⟨rfl, rfl, rfl⟩ := hcs
      exact ⟨[], .inl ⟨rfl, rfl, rfl, rfl⟩, Nat.zero_le _⟩
    · simp [Value.cells] at hcs
      obtain ⟨rfl, rfl, rfl⟩ := hcs
      have hs := sized_slice hsz (j := 2) (t := 25) (e := 5) rfl (by rw [(Prod.mk.inj hx).1]; rfl) Try.underlying25
      rw [Try.bytes5] at hs
      simp only [lits, List.length_map, List.length_take, List.length_drop, reachBytes] at hs
      have hz' : zs.length = cap2 := by simpa using hz
      exact ⟨zs, .inr ⟨_, rfl, hl, hm, hz', hcell, hwz⟩, by omega⟩
  obtain ⟨a3, rfl, rfl, rfl, w3⟩ := open_int Try.underlying5 (hval 3 5 v3 rfl rfl) h3
  clear hA0 hval0
  refine (walk a0 len0 cap0 z0 a1 len1 cap1 z1 a2 len2 cap2 z2 a3 W w0 w1 w2 w3 s0 s1 s2).mono fun e W' ⟨he, bel⟩ => ?_
  subst he
  exact ⟨_, rfl, _, _, _, [], _, [], hW', trodAll_mk1 (shut_bool Try.underlying4 _), (trodAll_cons_mk (Below.trod laidOut (by kernel_rfl) (of_decide_eq_true (by kernel_rfl)) k0 bel lt0) (trodAll_cons_mk (Below.trod laidOut (by kernel_rfl) (of_decide_eq_true (by kernel_rfl)) k1 bel lt1) (trodAll_cons_mk (Below.trod laidOut (by kernel_rfl) (of_decide_eq_true (by kernel_rfl)) k2 bel lt2) (trodAll_cons_mk (shut_int Try.underlying5 w3) trodAll_mk0)))), rfl, bel.frame _, fun h => by cases h⟩

theorem over : Rows.orderOneRow.holds Try.pinned (OpenSpec.ofChange Rows.orderOneSpec) :=
  OpenClaim.holds_of_wide 5 Try.f5 rfl rfl rfl rfl rfl rfl rfl ⟨rfl, rfl, rfl, rfl, rfl⟩ rfl rfl rfl rfl rfl (by kernel_rfl) Try.func5 (by kernel_rfl)
    (of_decide_eq_true (by kernel_rfl)) (by unfold Func.isWrapper; first | (rw [if_pos (by decide +kernel)]; kernel_rfl) | (rw [if_neg (by decide +kernel)]; exact ⟨rfl, rfl⟩))
    (fun os started H enc _ => lifted os started H enc)

end Go.Proofs.Ytcddoognlhpaaaa.orderOne
namespace Go.Proofs.Ytcddoognlhpaaaa
theorem orderOne_holds : Rows.OrderOneSaid := orderOne.over
end Go.Proofs.Ytcddoognlhpaaaa
