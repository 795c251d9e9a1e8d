/- slices.insertionSortCmpFunc over members. -/
import Derived.Test.YtlddpjcacnahmaaGreatDoorVKid
import Derived.Deep.RegionHeld3
import Derived.BigRegion
namespace Go.Proofs.YtlddpjcacnahmaaGreatDoor
open Go.RowKit Go.Deep
set_option linter.unusedVariables false
set_option linter.unusedSimpArgs false

/-- up to a place the texts are in order -/
def InsO (ts : List (List Nat)) (i : Nat) : Prop := ∀ k, 0 < k → k < i → lessL (tx ts k) (tx ts (k - 1)) = false
/-- up to a place they are, but for one text, which may go ahead -/
def InsI (ts : List (List Nat)) (i j : Nat) : Prop := (∀ k, 0 < k → k ≤ i → k ≠ j → lessL (tx ts k) (tx ts (k - 1)) = false) ∧ (0 < j → j < i → lessL (tx ts (j + 1)) (tx ts (j - 1)) = false)
theorem InsO.start {ts : List (List Nat)} {i : Nat} (h : InsO ts i) : InsI ts i i := ⟨fun k h1 h2 h3 => h k h1 (by omega), fun _ h => by omega⟩
theorem InsI.stop {ts : List (List Nat)} {i j : Nat} (h : InsI ts i j) (hj : j = 0 ∨ lessL (tx ts j) (tx ts (j - 1)) = false) : InsO ts (i + 1) := by
  intro k h1 h2
  by_cases hk : k = j
  · subst hk
    rcases hj with h0 | h0
    · omega
    · exact h0
  · exact h.1 k h1 (by omega) hk
theorem InsI.step {ts : List (List Nat)} {i j : Nat} (h : InsI ts i (j + 1)) (hi : i < ts.length) (hji : j + 1 ≤ i) (hl : lessL (tx ts (j + 1)) (tx ts j) = true) : InsI (swp ts (j + 1) j) i j := by
  have h1 : j + 1 < ts.length := by omega
  have h0 : j < ts.length := by omega
  refine ⟨fun k k1 k2 k3 => ?_, fun k1 k2 => ?_⟩
  · rw [swp_tx h1 h0, swp_tx h1 h0]
    by_cases e1 : k = j + 1
    · subst e1
      rw [if_neg (by omega), if_pos rfl, if_pos (by omega)]
      exact less_asymm _ _ hl
    · by_cases e2 : k = j + 2
      · subst e2
        rw [if_neg (by omega), if_neg (by omega), if_neg (by omega), if_pos (by omega)]
        have := h.2 (by omega) (by omega)
        rw [show j + 1 + 1 = j + 2 by omega, show j + 1 - 1 = j by omega] at this
        exact this
      · rw [if_neg k3, if_neg e1]
        have e3 : k - 1 ≠ j := by omega
        have e4 : k - 1 ≠ j + 1 := by omega
        rw [if_neg e3, if_neg e4]
        exact h.1 k k1 k2 e1
  · rw [swp_tx h1 h0, swp_tx h1 h0, if_neg (by omega), if_pos rfl, if_neg (by omega), if_neg (by omega)]
    exact h.1 j k1 (by omega) (by omega)
theorem InsO.sorted {ts : List (List Nat)} {i : Nat} (h : InsO ts i) (hi : ts.length ≤ i) : SortedL ts := (sorted_next ts).2 (fun k h1 h2 => h k h1 (by omega))

theorem below_drewNs {B : Nat} {a w : World} (h : Below B a w) : ∀ q, Below B a (w.drewN q)
  | 0 => h
  | q + 1 => (below_drewNs h q).drew
theorem wrap_i64 (n : Int) : IntKind.i64.wrap n = wrap64 n := by
  unfold IntKind.wrap wrap64
  simp [IntKind.bits, IntKind.signed]
  split <;> omega
theorem mb_ext {m : Mb} {t c0 c1 c2 : Value} (h0 : m.t = t) (h1 : m.c0 = c0) (h2 : m.c1 = c1) (h3 : m.c2 = c2) : m = ⟨t, c0, c1, c2⟩ := by cases m; simp at *; exact ⟨h0, h1, h2, h3⟩

set_option maxRecDepth 100000 in
set_option maxHeartbeats 8000000 in
theorem insort_any (g N d cap : Nat) (w0 : World) (ps0 : List Pm) (w : World) (hN : ps0.length = N) (hok : ∀ p ∈ ps0, MbOk g w0 d p) (hm : Mrow w g ps0) (ha : Alt g g w0 w) (h12 : N ≤ 12) (hcap : N ≤ cap) (hcm : cap ≤ 9223372036854775807) :
    Calls Tryz.prog 124 #[.slice (some ⟨g, 0, none⟩) N cap, .int .i64 0, .int .i64 N, .func (.func 76) #[] #[]] w fun e w' =>
      e = .returned (.tuple #[]) ∧ ∃ ps, ps.Perm ps0 ∧ SortedL (keys ps) ∧ Mrow w' g ps ∧ Alt g g w0 w' := by
  have HN := hide hN
  have HOK := hide hok
  clear hN hok
  go_enter Tryz.func124, Tryz.ntmps124
  go_wp2_with fail
  go_loopw [8] (fun v wr => ∃ (i : Nat) (ps : List Pm), v = .int .i64 i ∧ 1 ≤ i ∧ (i ≤ N ∨ i = 1) ∧ Hid (ps.Perm ps0) ∧ Hid (InsO (keys ps) i) ∧ Mrow wr g ps ∧ Alt g g w0 wr) (fun v _ => 20 - (intOf v).toNat)
  case atStart => exact ⟨1, ps0, rfl, Nat.le_refl _, .inr rfl, hide (List.Perm.refl _), hide (fun k h1 h2 => by omega), hm, ha⟩
  case round =>
    obtain ⟨i, ps, rfl, hi1, hiN, HP, HO, hmr, har⟩ := hrel
    by_cases hlt : i < N
    · go_wp2_with fail
      go_loopw [9] (fun v wr => ∃ (j : Nat) (ps : List Pm), v = .int .i64 j ∧ j ≤ i ∧ Hid (ps.Perm ps0) ∧ Hid (InsI (keys ps) i j) ∧ Mrow wr g ps ∧ Alt g g w0 wr) (fun v _ => (intOf v).toNat)
      case atStart => exact ⟨i, ps, rfl, Nat.le_refl _, HP, hide HO.out.start, hmr, har⟩
      case round =>
        clear HP HO hmr har ps hm ha
        obtain ⟨j, ps, rfl, hji, HP, HI, hmr, har⟩ := hrel
        have hpl : ps.length = N := by rw [HP.out.length_eq]; exact HN.out
        by_cases hj0 : 0 < j
        · obtain ⟨J, HJ⟩ : ∃ J, Hid (j = J + 1) := ⟨j - 1, hide (by omega)⟩
          have hsub : (j : Int) - 1 = (J : Int) := by have := HJ.out; omega
          have hJ : J < ps.length := by have := HJ.out; omega
          have hJ1 : j < ps.length := by omega
          obtain ⟨q0, q1, q2, q3⟩ := hmr.cell hJ
          obtain ⟨r0, r1, r2, r3⟩ := hmr.cell hJ1
          have hokJ := HOK.out _ (HP.out.subset (px_mem hJ))
          have hokJ1 := HOK.out _ (HP.out.subset (px_mem hJ1))
          have hkl := hokJ1.1.alt hokJ1.2.2.1 har
          have hkm := hokJ.1.alt hokJ.2.2.1 har
          have HLL : Hid (lessL (px ps j).2.1 (px ps J).2.1 = lessL (tx (keys ps) j) (tx (keys ps) J)) := hide (by rw [tx_keys hJ1, tx_keys hJ])
          obtain ⟨ta, tn, tc, t, a1, n1, p1, a2, n2, p2, f0, f1, f2, f3⟩ := hokJ.forms
          obtain ⟨ua, un, uc, u, b1, m1, o1, b2, m2, o2, g0, g1, g2, g3⟩ := hokJ1.forms
          rw [f0] at q0 hkm
          rw [f1] at q1
          rw [f2] at q2
          rw [f3] at q3
          rw [g0] at r0 hkl
          rw [g1] at r1
          rw [g2] at r2
          rw [g3] at r3
          have hcmp := mcompare_any ua ta un uc tn tc (.int .i64 u) (.slice b1 m1 o1) (.slice b2 m2 o2) (.int .i64 t) (.slice a1 n1 p1) (.slice a2 n2 p2) ⟨_, rfl⟩ ⟨_, _, _, rfl⟩ ⟨_, _, _, rfl⟩ ⟨_, rfl⟩ ⟨_, _, _, rfl⟩ ⟨_, _, _, rfl⟩ _ _ wr.drew (hkl.drewN 1) (hkm.drewN 1)
          have hgt : (0 : Int) < (j : Int) := by omega
          have hgd : decide ((0 : Int) < (j : Int)) = true := decide_eq_true hgt
          have hge : decide (0 < j) = true := decide_eq_true hj0
          have HF : Hid ((px ps J).1 = ⟨.slice ta tn tc, .int .i64 t, .slice a1 n1 p1, .slice a2 n2 p2⟩ ∧ (px ps j).1 = ⟨.slice ua un uc, .int .i64 u, .slice b1 m1 o1, .slice b2 m2 o2⟩) := hide ⟨mb_ext f0 f1 f2 f3, mb_ext g0 g1 g2 g3⟩
          clear f0 f1 f2 f3 g0 g1 g2 g3 hokJ hokJ1 hkl hkm
          generalize lessL (px ps j).2.1 (px ps J).2.1 = LL at *
          have hJN : j < N := by omega
          have hJM : J < N := by omega
          have hji2 : (j : Int) < (N : Int) := by omega
          have hji3 : (J : Int) < (N : Int) := by omega
          have h0J : (0 : Int) ≤ (J : Int) := by omega
          have hw1 : IntKind.i64.wrap (J : Int) = (J : Int) := by rw [wrap_i64]; unfold wrap64; omega
          have HPL := hide hpl
          clear hpl
          go_wp2_with fail
          go_region_held3 (fun w' => w'.cell? ⟨g, J * 4, none⟩ = some (.slice ta tn tc) ∧ w'.cell? ⟨g, J * 4 + 1, none⟩ = some (.int .i64 t) ∧ w'.cell? ⟨g, J * 4 + 2, none⟩ = some (.slice a1 n1 p1) ∧ w'.cell? ⟨g, J * 4 + 3, none⟩ = some (.slice a2 n2 p2) ∧ w'.cell? ⟨g, j * 4, none⟩ = some (.slice ua un uc) ∧ w'.cell? ⟨g, j * 4 + 1, none⟩ = some (.int .i64 u) ∧ w'.cell? ⟨g, j * 4 + 2, none⟩ = some (.slice b1 m1 o1) ∧ w'.cell? ⟨g, j * 4 + 3, none⟩ = some (.slice b2 m2 o2))
            (first
              | exact ⟨q0, q1, q2, q3, r0, r1, r2, r3⟩
              | exact ⟨Below.cells (w := wr.drew) hb2 q0, Below.cells (w := wr.drew) hb2 q1, Below.cells (w := wr.drew) hb2 q2, Below.cells (w := wr.drew) hb2 q3, Below.cells (w := wr.drew) hb2 r0, Below.cells (w := wr.drew) hb2 r1, Below.cells (w := wr.drew) hb2 r2, Below.cells (w := wr.drew) hb2 r3⟩)
            (first
              | (go_at_call 76; refine hcmp.mono ?_; rintro e w2 ⟨⟨z, rfl, hz⟩, hb2⟩; have HZ := hide hz; clear hz)
              | fail)
          have hbw2 : Below wr.heap.size wr w2 := keep_trans (Below.refl _ _).drew hb2
          have hm2 := hmr.below hbw2
          have ha2 : Alt g g w0 w2 := har.trans (Alt.of_below hbw2)
          have q0 := Below.cells (w := wr.drew) hb2 q0
          have q1 := Below.cells (w := wr.drew) hb2 q1
          have q2 := Below.cells (w := wr.drew) hb2 q2
          have q3 := Below.cells (w := wr.drew) hb2 q3
          have r0 := Below.cells (w := wr.drew) hb2 r0
          have r1 := Below.cells (w := wr.drew) hb2 r1
          have r2 := Below.cells (w := wr.drew) hb2 r2
          have r3 := Below.cells (w := wr.drew) hb2 r3
          clear hcmp hb2 hbw2 hmr har
          cases LL with
          | true =>
            have hzd : decide (z < 0) = true := HZ.out
            have hzl : z < 0 := by simpa using hzd
            have HM2 := hide hm2
            have HA2 := hide ha2
            have fJ0 : w2.frozen? ⟨g, J * 4, none⟩ = false := hm2.frozen _
            have fj0 : w2.frozen? ⟨g, j * 4, none⟩ = false := hm2.frozen _
            have fJ1 : w2.frozen? ⟨g, J * 4 + 1, none⟩ = false := hm2.frozen _
            have fj1 : w2.frozen? ⟨g, j * 4 + 1, none⟩ = false := hm2.frozen _
            have fJ2 : w2.frozen? ⟨g, J * 4 + 2, none⟩ = false := hm2.frozen _
            have fj2 : w2.frozen? ⟨g, j * 4 + 2, none⟩ = false := hm2.frozen _
            have fJ3 : w2.frozen? ⟨g, J * 4 + 3, none⟩ = false := hm2.frozen _
            have fj3 : w2.frozen? ⟨g, j * 4 + 3, none⟩ = false := hm2.frozen _
            have n00 : ¬ J * 4 = j * 4 := by have := HJ.out; omega
            have m00 : ¬ j * 4 = J * 4 := by have := HJ.out; omega
            have n01 : ¬ J * 4 = j * 4 + 1 := by have := HJ.out; omega
            have m01 : ¬ j * 4 + 1 = J * 4 := by have := HJ.out; omega
            have n02 : ¬ J * 4 = j * 4 + 2 := by have := HJ.out; omega
            have m02 : ¬ j * 4 + 2 = J * 4 := by have := HJ.out; omega
            have n03 : ¬ J * 4 = j * 4 + 3 := by have := HJ.out; omega
            have m03 : ¬ j * 4 + 3 = J * 4 := by have := HJ.out; omega
            have n10 : ¬ J * 4 + 1 = j * 4 := by have := HJ.out; omega
            have m10 : ¬ j * 4 = J * 4 + 1 := by have := HJ.out; omega
            have n11 : ¬ J * 4 + 1 = j * 4 + 1 := by have := HJ.out; omega
            have m11 : ¬ j * 4 + 1 = J * 4 + 1 := by have := HJ.out; omega
            have n12 : ¬ J * 4 + 1 = j * 4 + 2 := by have := HJ.out; omega
            have m12 : ¬ j * 4 + 2 = J * 4 + 1 := by have := HJ.out; omega
            have n13 : ¬ J * 4 + 1 = j * 4 + 3 := by have := HJ.out; omega
            have m13 : ¬ j * 4 + 3 = J * 4 + 1 := by have := HJ.out; omega
            have n20 : ¬ J * 4 + 2 = j * 4 := by have := HJ.out; omega
            have m20 : ¬ j * 4 = J * 4 + 2 := by have := HJ.out; omega
            have n21 : ¬ J * 4 + 2 = j * 4 + 1 := by have := HJ.out; omega
            have m21 : ¬ j * 4 + 1 = J * 4 + 2 := by have := HJ.out; omega
            have n22 : ¬ J * 4 + 2 = j * 4 + 2 := by have := HJ.out; omega
            have m22 : ¬ j * 4 + 2 = J * 4 + 2 := by have := HJ.out; omega
            have n23 : ¬ J * 4 + 2 = j * 4 + 3 := by have := HJ.out; omega
            have m23 : ¬ j * 4 + 3 = J * 4 + 2 := by have := HJ.out; omega
            have n30 : ¬ J * 4 + 3 = j * 4 := by have := HJ.out; omega
            have m30 : ¬ j * 4 = J * 4 + 3 := by have := HJ.out; omega
            have n31 : ¬ J * 4 + 3 = j * 4 + 1 := by have := HJ.out; omega
            have m31 : ¬ j * 4 + 1 = J * 4 + 3 := by have := HJ.out; omega
            have n32 : ¬ J * 4 + 3 = j * 4 + 2 := by have := HJ.out; omega
            have m32 : ¬ j * 4 + 2 = J * 4 + 3 := by have := HJ.out; omega
            have n33 : ¬ J * 4 + 3 = j * 4 + 3 := by have := HJ.out; omega
            have m33 : ¬ j * 4 + 3 = J * 4 + 3 := by have := HJ.out; omega
            have HM3 : Hid (Mrow (put4 (put4 w2 g (j * 4) ⟨.slice ta tn tc, .int .i64 t, .slice a1 n1 p1, .slice a2 n2 p2⟩) g (J * 4) ⟨.slice ua un uc, .int .i64 u, .slice b1 m1 o1, .slice b2 m2 o2⟩) g (swapP ps j J)) := hide (by
              have h3 := (hm2.put hJ1 (px ps J)).put (j := J) (by rw [List.length_set]; exact hJ) (px ps j)
              rw [HF.out.1, HF.out.2] at h3
              exact h3)
            have HA3 : Hid (Alt g g w0 (put4 (put4 w2 g (j * 4) ⟨.slice ta tn tc, .int .i64 t, .slice a1 n1 p1, .slice a2 n2 p2⟩) g (J * 4) ⟨.slice ua un uc, .int .i64 u, .slice b1 m1 o1, .slice b2 m2 o2⟩)) := hide ((ha2.put _ _).put _ _)
            have HP3 : Hid ((swapP ps j J).Perm ps0) := hide ((set_perm hJ1 hJ).trans HP.out)
            have HI3 : Hid (InsI (keys (swapP ps j J)) i J) := hide (by
              have hI := HI.out
              have hL := HLL.out
              rw [swapP_keys hJ1 hJ, HJ.out]
              rw [HJ.out] at hI hL
              refine hI.step (by rw [keys_len, HPL.out]; exact hlt) (by have := HJ.out; omega) hL.symm)
            clear hm2 ha2 HM2 HA2
            go_wp2_with fail
            go_region
            go_wp2_with fail
            go_roundw
            case rel => exact ⟨J, swapP ps j J, rfl, by have := HJ.out; omega, HP3, HI3, HM3.out.below (Below.refl _ _).drew, HA3.out.drew⟩
            case measure => simp [intOf]; have := HJ.out; omega
          | false =>
            have hzd : decide (z < 0) = false := HZ.out
            have hzl : ¬ z < 0 := by simpa using hzd
            have HO3 : Hid (InsO (keys ps) (i + 1)) := hide (HI.out.stop (.inr (by rw [show j - 1 = J by have := HJ.out; omega]; exact HLL.out.symm)))
            clear q0 q1 q2 q3 r0 r1 r2 r3
            go_wp2_with fail
            go_roundw
            case rel => exact ⟨i + 1, ps, by go_num, by omega, .inl (by omega), HP, HO3, hm2, ha2⟩
            case measure => simp [intOf]; omega
        · have hj : j = 0 := by omega
          subst hj
          have HO3 : Hid (InsO (keys ps) (i + 1)) := hide (HI.out.stop (.inl rfl))
          have HM2 := hide hmr
          have HA2 := hide har
          clear hmr har
          go_wp2_with fail
          go_quiet (fail)
          go_wp2_with fail
          go_roundw
          case rel => exact ⟨i + 1, ps, by go_num, by omega, .inl (by omega), HP, HO3, HM2.out.below (below_drewNs (Below.refl _ _) _), HA2.out.trans (Alt.of_below (below_drewNs (Below.refl _ _) _))⟩
          case measure => simp [intOf]; omega
    · have HS : Hid (SortedL (keys ps)) := hide (HO.out.sorted (by rw [keys_len, HP.out.length_eq, HN.out]; omega))
      go_wp2_with fail
      go_end0
      exact ⟨rfl, ps, HP.out, HS.out, hmr, har⟩
end Go.Proofs.YtlddpjcacnahmaaGreatDoor

/- slices.SortFunc over at most twelve members. -/
namespace Go.Proofs.YtlddpjcacnahmaaGreatDoor
open Go.RowKit Go.Deep
set_option linter.unusedVariables false
set_option linter.unusedSimpArgs false

/-- the members are sorted, nothing else has turned -/
def SrtE (g : Nat) (w0 : World) (ps0 : List Pm) (e : Ending) (w' : World) : Prop := e = .returned (.tuple #[]) ∧ ∃ ps, ps.Perm ps0 ∧ SortedL (keys ps) ∧ Mrow w' g ps ∧ Alt g g w0 w'

set_option maxRecDepth 100000 in
set_option maxHeartbeats 4000000 in
theorem len64_any (n : Nat) (w : World) (h : n ≤ 12) : Calls Tryz.prog 133 #[.int .u64 n] w fun e w' => (∃ l : Int, e = .returned (.int .i64 l)) ∧ w' = w := by
  rcases (by omega : n = 0 ∨ n = 1 ∨ n = 2 ∨ n = 3 ∨ n = 4 ∨ n = 5 ∨ n = 6 ∨ n = 7 ∨ n = 8 ∨ n = 9 ∨ n = 10 ∨ n = 11 ∨ n = 12) with rfl | rfl | rfl | rfl | rfl | rfl | rfl | rfl | rfl | rfl | rfl | rfl | rfl
  all_goals
    go_enter Tryz.func133, Tryz.ntmps133
    go_wp2
    go_ret
    exact ⟨⟨_, rfl⟩, rfl⟩
set_option maxRecDepth 100000 in
set_option maxHeartbeats 4000000 in
theorem len_any (n : Nat) (w : World) (h : n ≤ 12) : Calls Tryz.prog 110 #[.int .u64 n] w fun e w' => (∃ l : Int, e = .returned (.int .i64 l)) ∧ w' = w := by
  have hl := len64_any n w h
  go_enter Tryz.func110, Tryz.ntmps110
  go_wp2_with fail
  refine hl.mono ?_
  rintro e w' ⟨⟨l, rfl⟩, rfl⟩
  go_wp2_with fail
  go_ret
  exact ⟨⟨l, rfl⟩, rfl⟩

set_option maxRecDepth 100000 in
set_option maxHeartbeats 8000000 in
theorem pdq_any (g N d cap : Nat) (lim : Int) (w0 : World) (ps0 : List Pm) (w : World) (hN : ps0.length = N) (hok : ∀ p ∈ ps0, MbOk g w0 d p) (hm : Mrow w g ps0) (ha : Alt g g w0 w) (h12 : N ≤ 12) (hcap : N ≤ cap) (hcm : cap ≤ 9223372036854775807) :
    Calls Tryz.prog 109 #[.slice (some ⟨g, 0, none⟩) N cap, .int .i64 0, .int .i64 N, .int .i64 lim, .func (.func 76) #[] #[]] w fun e w' => SrtE g w0 ps0 e w' := by
  have hi := insort_any g N d cap w0 ps0 w hN hok hm ha h12 hcap hcm
  have h12i : (N : Int) ≤ 12 := by omega
  clear hN hok hm ha
  go_enter Tryz.func109, Tryz.ntmps109
  go_wp2_with fail
  refine wp_loop_rounds 1 ?_
  rw [rounds_succ]
  go_wp2_with fail
  refine hi.mono ?_
  rintro e w1 ⟨rfl, hps⟩
  have HPS := hide hps
  clear hi hps
  go_wp2_with fail
  go_end0
  exact ⟨rfl, HPS.out⟩

set_option maxRecDepth 100000 in
set_option maxHeartbeats 8000000 in
theorem sort_any (g N d cap : Nat) (w0 : World) (ps0 : List Pm) (w : World) (hN : ps0.length = N) (hok : ∀ p ∈ ps0, MbOk g w0 d p) (hm : Mrow w g ps0) (ha : Alt g g w0 w) (h12 : N ≤ 12) (hcap : N ≤ cap) (hcm : cap ≤ 9223372036854775807) :
    Calls Tryz.prog 75 #[.slice (some ⟨g, 0, none⟩) N cap, .func (.func 76) #[] #[]] w fun e w' => SrtE g w0 ps0 e w' := by
  have hp := fun lim => pdq_any g N d cap lim w0 ps0 w hN hok hm ha h12 hcap hcm
  have hl := len_any N w h12
  clear hN hok hm ha
  go_enter Tryz.func75, Tryz.ntmps75
  go_wp2_with fail
  refine hl.mono ?_
  rintro e w1 ⟨⟨l, rfl⟩, rfl⟩
  clear hl
  go_wp2_with fail
  refine (hp l).mono ?_
  rintro e w1 ⟨rfl, hps⟩
  have HPS := hide hps
  clear hp hps
  go_wp2_with fail
  go_end0
  exact ⟨rfl, HPS.out⟩
end Go.Proofs.YtlddpjcacnahmaaGreatDoor
