/- Contract of the document's Permute. -/
import Derived.Test.YtejlmgbmfeacdaaGreatDoorKMv
import Derived.Test.YtejlmgbmfeacdaaGreatDoorGSum
import Derived.StillTailTactics
namespace Go.Proofs.YtejlmgbmfeacdaaGreatDoor
open Go.RowKit
set_option linter.unusedVariables false
set_option linter.unusedSimpArgs false

theorem chi_is (p q r : Nat) (hp : p < 18446744073709551616) (hq : q < 18446744073709551616) (hr : r < 18446744073709551616) :
    bits .xor .u64 (p : Int) (bits .and .u64 (bits .xor .u64 (q : Int) 18446744073709551615) (r : Int)) = ((p ^^^ ((18446744073709551615 - q) &&& r) : Nat) : Int) := by
  have e1 : bits .xor .u64 (q : Int) 18446744073709551615 = ((18446744073709551615 - q : Nat) : Int) := by
    rw [show (18446744073709551615 : Int) = ((18446744073709551615 : Nat) : Int) from rfl, xor_k q _ hq (by decide)]
    congr 1
    rw [Nat.xor_comm]
    exact ones_xor 64 q hq
  rw [e1, u64_and_nat _ _ (by omega) hr, xor_k p _ hp (and_w (by omega))]
theorem chiN_next (a b : List Nat) (n : Nat) : chiN a b (n + 1) = (chiN a b n).set n (el b n ^^^ ((18446744073709551615 - el b (n / 5 * 5 + (n + 1) % 5)) &&& el b (n / 5 * 5 + (n + 2) % 5))) := rfl
theorem rdsK_next (a : List Nat) (r : Nat) : rdsK a (r + 1) = (chiN (rdsK a r) (moveK (spreadK (rdsK a r))) 25).set 0 (el (chiN (rdsK a r) (moveK (spreadK (rdsK a r))) 25) 0 ^^^ el csts r) := rfl
/-- where the loop of rounds stands -/
def KPer (w : World) (q : Nat) (a : List Nat) (i : Value) (wr : World) : Prop := ∃ r : Nat, r ≤ 24 ∧ i = .int .i64 r ∧ Lies .u64 57 wr w.heap.size (rdsK a r) ∧ Lies .u64 105 wr q csts ∧ Lies .u64 57 wr (w.heap.size + 1) (zs 25) ∧ Below w.heap.size w wr
/-- where the loop of words stands -/
def KChi (w wx : World) (A B : List Nat) (i : Value) (wz : World) : Prop := ∃ n : Nat, n ≤ 25 ∧ i = .int .i64 n ∧ Lies .u64 57 wz w.heap.size (chiN A B n) ∧ But w.heap.size wx wz

set_option maxHeartbeats 8000000 in
set_option maxRecDepth 100000 in
theorem kperm_any (a : List Nat) (w : World) (hw : W25 a) :
    Calls Tryz.prog 65 #[.agg (arr .u64 a)] w fun e w' => e = .returned (.agg (arr .u64 (perm a))) ∧ Below w.heap.size w w' := by
  have hz := zero25
  have hz4 := zero24
  have hA0 : Lies .u64 57 ((w.alloc (.cells (arr .u64 a) 57)).alloc (.cells (arr .u64 (zs 25)) 57)) w.heap.size a := (Lies.new .u64 57 w a).alloc _
  have hR0 : Lies .u64 57 ((w.alloc (.cells (arr .u64 a) 57)).alloc (.cells (arr .u64 (zs 25)) 57)) (w.heap.size + 1) (zs 25) := by
    have := Lies.new .u64 57 (w.alloc (.cells (arr .u64 a) 57)) (zs 25)
    rw [World.size_alloc] at this
    exact this
  have hb0 := keep_trans (keep_alloc w (.cells (arr .u64 a) 57)) (keep_alloc _ (.cells (arr .u64 (zs 25)) 57))
  have hsl := csts_length
  go_enter Tryz.func65, Tryz.ntmps65
  go_wp2_with fail
  refine (kconst_any _).mono ?_
  rintro e w1 ⟨rfl, hb1⟩
  have hK1 : Lies .u64 105 (w1.alloc (.cells (arr .u64 (zs 24)) 105)) w1.heap.size (zs 24) := Lies.new _ _ w1 _
  have hK2 := hK1.row (l' := csts)
  have hB1 : Below w1.heap.size w1 ((w1.alloc (.cells (arr .u64 (zs 24)) 105)).setRow w1.heap.size (arr .u64 csts)) := (keep_alloc w1 _).trans ((But.setRow (But.refl w1.heap.size _) (arr .u64 csts)).below (Nat.le_refl _) (by simp))
  have hA1 := (hA0.below hb1).below hB1
  have hR1 := (hR0.below hb1).below hB1
  have hbx := keep_trans (keep_trans hb0 hb1) hB1
  have hq1 : w.heap.size + 2 ≤ w1.heap.size := by have := hb1.size; simp at this; omega
  go_wp2_with (first
    | (refine wpList_store_row rfl 105 _ _ (by rfl) w1.heap.size (arr .u64 csts) (by rfl) (by rfl) _ _ hK1 (by rw [arr_size, hsl]; kernel_rfl) (by rw [arr_size, arr_size, hsl, zs_len]) (arr_one _ _) ?_)
    | fail)
  clear hK1 hB1 hb1 hA0 hR0 hb0 hz4
  generalize (w1.alloc (.cells (arr .u64 (zs 24)) 105)).setRow w1.heap.size (arr .u64 csts) = x1 at *
  generalize w1.heap.size = q at *
  go_loopw [4] (fun i wr => KPer w q a i wr) (fun i _ => 24 - (intOf i).toNat)
  case atStart => exact ⟨0, Nat.zero_le _, rfl, hA1, hK2, hR1, hbx⟩
  case round =>
    clear hA1 hK2 hR1 hbx
    obtain ⟨r, hr, rfl, hA, hK, hR, hbr⟩ := hrel
    have hAw := rdsK_w hw r
    by_cases hlt : r < 24
    · have hnx := rdsK_next a r
      have HNX := hide hnx
      clear hnx
      generalize rdsK a r = A at *
      have hAl := hAw.1
      have hSw := spreadK_w hAw
      have hMw := moveK_w hSw
      have hcs := fun w' => kspread_any A w' hAw
      have hcm := fun w' => kmove_any (spreadK A) w' hSw
      generalize hM : moveK (spreadK A) = M at *
      have hMl := hMw.1
      have i_r : (0 : Int) ≤ (r : Int) := Int.natCast_nonneg _
      have i_r2 : (r : Int) < 24 := by omega
      go_wp2_with (first
        | (refine wpList_load_row rfl 57 _ (by rfl) w.heap.size (by rfl) _ _ _ (.array 25 45) hA (by kernel_rfl) rfl (by rw [arr_size, hAl]; kernel_rfl) ?_)
        | (go_at_call 87; refine (hcs _).mono ?_; rintro e w3 ⟨rfl, hb3⟩)
        | (go_at_call 86; refine (hcm _).mono ?_; rintro e w4 ⟨rfl, hb4⟩)
        | (refine wpList_store_row rfl 57 _ _ (by rfl) w4.heap.size (arr .u64 M) (by rfl) (by rfl) _ _ (Lies.new .u64 57 w4 (zs 25)) (by rw [arr_size, hMl]; kernel_rfl) (by rw [arr_size, arr_size, hMl, zs_len]) (arr_one _ _) ?_)
        | fail)
      have hbB : Below w4.heap.size w4 ((w4.alloc (.cells (arr .u64 (zs 25)) 57)).setRow w4.heap.size (arr .u64 M)) := (keep_alloc w4 _).trans ((But.setRow (But.refl w4.heap.size _) (arr .u64 M)).below (Nat.le_refl _) (by simp))
      have hB5 : Lies .u64 57 ((w4.alloc (.cells (arr .u64 (zs 25)) 57)).setRow w4.heap.size (arr .u64 M)) w4.heap.size M := (Lies.new .u64 57 w4 (zs 25)).row
      have hb5 := keep_trans (keep_trans hb3 hb4) hbB
      have hA5 := hA.below hb5
      have hK5 := hK.below hb5
      have hR5 := hR.below hb5
      have hw5 := keep_trans hbr hb5
      have hq4 : w.heap.size + 2 ≤ w4.heap.size := by have := hR.lt; have := hb3.size; have := hb4.size; omega
      clear hA hK hR hbr hb3 hb4 hbB hb5
      generalize (w4.alloc (.cells (arr .u64 (zs 25)) 57)).setRow w4.heap.size (arr .u64 M) = wx at *
      generalize w4.heap.size = g at *
      go_loopw [6] (fun i wz => KChi w wx A M i wz) (fun i _ => 25 - (intOf i).toNat)
      case atStart => exact ⟨0, Nat.zero_le _, rfl, hA5, But.refl _ _⟩
      case round =>
        obtain ⟨n, hn, rfl, hC, hB⟩ := hrel
        have hcw := chiN_w hAw hMw n
        by_cases hln : n < 25
        · have hMz := hB5.but hB (by omega)
          have hnx := chiN_next A M n
          obtain ⟨n1, hn1⟩ : ∃ x : Nat, x = n + 1 := ⟨_, rfl⟩
          have e_n1 : (n : Int) + 1 = (n1 : Int) := by omega
          have r_n1 : IntKind.i64.wrap (n1 : Int) = (n1 : Int) := by rw [IntKind.wrap_i64]; omega
          obtain ⟨n2, hn2⟩ : ∃ x : Nat, x = n + 2 := ⟨_, rfl⟩
          have e_n2 : (n : Int) + 2 = (n2 : Int) := by omega
          have r_n2 : IntKind.i64.wrap (n2 : Int) = (n2 : Int) := by rw [IntKind.wrap_i64]; omega
          obtain ⟨m1, hm1⟩ : ∃ x : Nat, x = n1 % 5 := ⟨_, rfl⟩
          have e_m1 : (n1 : Int) % 5 = (m1 : Int) := by omega
          have r_m1 : IntKind.i64.wrap (m1 : Int) = (m1 : Int) := by rw [IntKind.wrap_i64]; omega
          obtain ⟨m2, hm2⟩ : ∃ x : Nat, x = n2 % 5 := ⟨_, rfl⟩
          have e_m2 : (n2 : Int) % 5 = (m2 : Int) := by omega
          have r_m2 : IntKind.i64.wrap (m2 : Int) = (m2 : Int) := by rw [IntKind.wrap_i64]; omega
          obtain ⟨nq, hnq⟩ : ∃ x : Nat, x = n / 5 := ⟨_, rfl⟩
          have e_nq : (n : Int) / 5 = (nq : Int) := by omega
          have r_nq : IntKind.i64.wrap (nq : Int) = (nq : Int) := by rw [IntKind.wrap_i64]; omega
          obtain ⟨row, hrow⟩ : ∃ x : Nat, x = nq * 5 := ⟨_, rfl⟩
          have e_row : (nq : Int) * 5 = (row : Int) := by omega
          have r_row : IntKind.i64.wrap (row : Int) = (row : Int) := by rw [IntKind.wrap_i64]; omega
          obtain ⟨k1, hk1⟩ : ∃ x : Nat, x = row + m1 := ⟨_, rfl⟩
          have e_k1 : (row : Int) + (m1 : Int) = (k1 : Int) := by omega
          have r_k1 : IntKind.i64.wrap (k1 : Int) = (k1 : Int) := by rw [IntKind.wrap_i64]; omega
          obtain ⟨k2, hk2⟩ : ∃ x : Nat, x = row + m2 := ⟨_, rfl⟩
          have e_k2 : (row : Int) + (m2 : Int) = (k2 : Int) := by omega
          have r_k2 : IntKind.i64.wrap (k2 : Int) = (k2 : Int) := by rw [IntKind.wrap_i64]; omega
          have t_m1 : (n1 : Int).tmod 5 = (m1 : Int) := by rw [Int.tmod_eq_emod_of_nonneg (by omega)]; exact e_m1
          have t_m2 : (n2 : Int).tmod 5 = (m2 : Int) := by rw [Int.tmod_eq_emod_of_nonneg (by omega)]; exact e_m2
          have t_nq : (n : Int).tdiv 5 = (nq : Int) := by rw [Int.tdiv_eq_ediv_of_nonneg (by omega)]; exact e_nq
          have hx1 : n / 5 * 5 + (n + 1) % 5 = k1 := by omega
          have hx2 : n / 5 * 5 + (n + 2) % 5 = k2 := by omega
          rw [hx1, hx2, ← hn1] at hnx
          have hv := chi_is _ _ _ (hMw.el n) (hMw.el k1) (hMw.el k2)
          have hst := fun q => (hC.drewN q).set n (el M n ^^^ ((18446744073709551615 - el M k1) &&& el M k2))
          rw [← hnx] at hst
          have HST := hide hst
          have HV := hide hv
          have HN1 := hide hn1
          have c0 := hMz.cell (i := n) (by omega)
          have c1 := hMz.cell (i := k1) (by omega)
          have c2 := hMz.cell (i := k2) (by omega)
          have c3 := hC.cell (i := n) (by rw [hcw.1]; omega)
          have f3 := hC.frozen n
          have i0 : (0 : Int) ≤ (n : Int) := Int.natCast_nonneg _
          have i1 : (n : Int) < 25 := by omega
          have i2 : (0 : Int) ≤ (k1 : Int) := Int.natCast_nonneg _
          have i3 : (k1 : Int) < 25 := by omega
          have i4 : (0 : Int) ≤ (k2 : Int) := Int.natCast_nonneg _
          have i5 : (k2 : Int) < 25 := by omega
          clear hnx hst hv hx1 hx2 hn1 hn2 hm1 hm2 hnq hrow hk1 hk2 hMz
          generalize ((el M n ^^^ ((18446744073709551615 - el M k1) &&& el M k2) : Nat)) = vv at *
          generalize el M n = u0 at *
          generalize el M k1 = u1 at *
          generalize el M k2 = u2 at *
          go_wp2
          go_region
          all_goals (
            go_wp2
            rw [HV.out]
            first
              | exact ⟨⟨n1, by have := HN1.out; omega, rfl, HST.out 1, (hB.drewN 1).setCell n _⟩, by have := HN1.out; simp [intOf]; omega⟩
              | (go_roundw
                 case rel =>
                   (repeat apply Exists.intro)
                   exact ⟨⟨n1, by have := HN1.out; omega, rfl, HST.out 1, (hB.drewN 1).setCell n _⟩, rfl⟩
                 case measure => have := HN1.out; simp [intOf]; omega))
        · obtain rfl : n = 25 := by omega
          have hKz := hK5.but hB (by omega)
          have hRz := hR5.but hB (by omega)
          have hbz := hw5.trans (hB.below (Nat.le_refl _) hw5.size)
          obtain ⟨r1, hr1⟩ : ∃ x : Nat, x = r + 1 := ⟨_, rfl⟩
          have e_r : (r : Int) + 1 = (r1 : Int) := by omega
          have r_r : IntKind.i64.wrap (r1 : Int) = (r1 : Int) := by rw [IntKind.wrap_i64]; omega
          have hnx := HNX.out
          rw [← hr1] at hnx
          have h0 := hcw.el 0
          have h1 : el csts r < 18446744073709551616 := el_lt csts_under (by decide) r
          have hv := xor_k _ _ h0 h1
          have hst := fun q => (hC.drewN q).set 0 (el (chiN A M 25) 0 ^^^ el csts r)
          have c0 := hC.cell (i := 0) (by rw [hcw.1]; decide)
          have f0 := hC.frozen 0
          have c1 := hKz.cell (i := r) (by rw [hsl]; exact hlt)
          have hBb := fun (q : Nat) (v : Value) => (But.refl w.heap.size wr).drewN q |>.setCell 0 v
          have HST := hide hst
          have HV := hide hv
          have HR1 := hide hr1
          have HNY := hide hnx
          clear hst hv hr1 hnx
          generalize ((el (chiN A M 25) 0 ^^^ el csts r : Nat)) = vv at *
          generalize el (chiN A M 25) 0 = u0 at *
          generalize el csts r = u1 at *
          go_wp2
          go_region
          all_goals (
            go_wp2
            rw [HV.out]
            have hBq := hBb 1 (.int .u64 (vv : Int))
            first
              | exact ⟨⟨r1, by have := HR1.out; omega, rfl, by rw [HNY.out]; exact HST.out 1, hKz.but hBq (by omega), hRz.but hBq (by omega), hbz.trans (hBq.below (Nat.le_refl _) hbz.size)⟩, by have := HR1.out; simp [intOf]; omega⟩
              | (go_roundw
                 case rel =>
                   (repeat apply Exists.intro)
                   exact ⟨⟨r1, by have := HR1.out; omega, rfl, by rw [HNY.out]; exact HST.out 1, hKz.but hBq (by omega), hRz.but hBq (by omega), hbz.trans (hBq.below (Nat.le_refl _) hbz.size)⟩, rfl⟩
                 case measure => have := HR1.out; simp [intOf]; omega))
    · obtain rfl : r = 24 := by omega
      have hpk : rdsK a 24 = perm a := rfl
      rw [hpk] at hA hAw
      have hOf : Lies .u64 57 (wr.setRow (w.heap.size + 1) (arr .u64 (perm a))) (w.heap.size + 1) (perm a) := hR.row
      have hbf := hbr.trans ((But.setRow (But.refl (w.heap.size + 1) _) (arr .u64 (perm a))).below (by omega) hbr.size)
      have hpl := hAw.1
      clear hpk
      go_wp2_with (first
        | (refine wpList_load_row rfl 57 _ (by rfl) w.heap.size (by rfl) _ _ _ (.array 25 45) hA (by kernel_rfl) rfl (by rw [arr_size, hpl]; kernel_rfl) ?_)
        | (refine wpList_store_row rfl 57 _ _ (by rfl) (w.heap.size + 1) (arr .u64 (perm a)) (by rfl) (by rfl) _ _ hR (by rw [arr_size, hpl]; kernel_rfl) (by rw [arr_size, arr_size, hpl, zs_len]) (arr_one _ _) ?_)
        | fail)
      refine bodyPost_ret (v := .agg (arr .u64 (perm a))) ?_ rfl ⟨rfl, hbf⟩
      exact results_cell_row Tryz.results65 _ _ (w.heap.size + 1) _ _ _ (.array 25 45) (by rfl) hOf (by kernel_rfl) rfl (by rw [arr_size, hpl]; kernel_rfl)
end Go.Proofs.YtejlmgbmfeacdaaGreatDoor

/- Contracts of the document's Rate and put. -/
namespace Go.Proofs.YtejlmgbmfeacdaaGreatDoor
open Go.RowKit
set_option linter.unusedVariables false
set_option linter.unusedSimpArgs false

theorem krate_any (kind : Int) (w : World) : Calls Tryz.prog 49 #[.int .i64 kind] w fun e w' => e = .returned (.int .i64 (rateK kind : Nat)) ∧ w' = w := by
  by_cases h4 : kind = 4
  · subst h4
    go_enter Tryz.func49, Tryz.ntmps49
    go_wp2
    go_ret
    exact ⟨rfl, rfl⟩
  by_cases h7 : kind = 7
  · subst h7
    go_enter Tryz.func49, Tryz.ntmps49
    go_wp2
    go_ret
    exact ⟨rfl, rfl⟩
  by_cases h5 : kind = 5
  · subst h5
    go_enter Tryz.func49, Tryz.ntmps49
    go_wp2
    go_ret
    exact ⟨rfl, rfl⟩
  by_cases h6 : kind = 6
  · subst h6
    go_enter Tryz.func49, Tryz.ntmps49
    go_wp2
    go_ret
    exact ⟨rfl, rfl⟩
  have hr : rateK kind = 0 := by simp [rateK, h4, h5, h6, h7]
  rw [hr]
  go_enter Tryz.func49, Tryz.ntmps49
  go_wp2
  go_ret
  exact ⟨rfl, rfl⟩

set_option maxHeartbeats 4000000 in
set_option maxRecDepth 100000 in
theorem kput_any (a : List Nat) (p c : Nat) (w : World) (hw : W25 a) (hp : p < 200) (hc : c < 256) :
    Calls Tryz.prog 66 #[.agg (arr .u64 a), .int .i64 p, .int .u8 c] w fun e w' => e = .returned (.agg (arr .u64 (putK a p c))) ∧ Below w.heap.size w w' := by
  have hz := zero25
  have hA0 : Lies .u64 57 ((w.alloc (.cells (arr .u64 a) 57)).alloc (.cells (arr .u64 (zs 25)) 57)) w.heap.size a := (Lies.new .u64 57 w a).alloc _
  have hR0 : Lies .u64 57 ((w.alloc (.cells (arr .u64 a) 57)).alloc (.cells (arr .u64 (zs 25)) 57)) (w.heap.size + 1) (zs 25) := by
    have := Lies.new .u64 57 (w.alloc (.cells (arr .u64 a) 57)) (zs 25)
    rw [World.size_alloc] at this
    exact this
  have hb0 := keep_trans (keep_alloc w (.cells (arr .u64 a) 57)) (keep_alloc _ (.cells (arr .u64 (zs 25)) 57))
  obtain ⟨j, hj⟩ : ∃ x : Nat, x = p / 8 := ⟨_, rfl⟩
  obtain ⟨m, hm⟩ : ∃ x : Nat, x = p % 8 := ⟨_, rfl⟩
  obtain ⟨m8, hm8⟩ : ∃ x : Nat, x = 8 * m := ⟨_, rfl⟩
  have e_j : (p : Int) / 8 = (j : Int) := by omega
  have t_j : (p : Int).tdiv 8 = (j : Int) := by rw [Int.tdiv_eq_ediv_of_nonneg (by omega)]; exact e_j
  have e_m : (p : Int) % 8 = (m : Int) := by omega
  have t_m : (p : Int).tmod 8 = (m : Int) := by rw [Int.tmod_eq_emod_of_nonneg (by omega)]; exact e_m
  have e_8 : 8 * (m : Int) = (m8 : Int) := by omega
  have r_8 : IntKind.i64.wrap (m8 : Int) = (m8 : Int) := by rw [IntKind.wrap_i64]; omega
  have mn : min m8 64 = m8 := by omega
  have r_c : IntKind.u64.wrap (c : Int) = (c : Int) := by rw [IntKind.wrap_u64]; omega
  have i0 : (0 : Int) ≤ (j : Int) := Int.natCast_nonneg _
  have i1 : (j : Int) < 25 := by omega
  have i2 : (0 : Int) ≤ (m8 : Int) := Int.natCast_nonneg _
  have hpk : putK a p c = a.set j (el a j ^^^ c * 2 ^ m8 % 18446744073709551616) := by unfold putK; rw [← hj, ← hm, ← hm8]
  have hpw := (putK_w hw p c).1
  have c0 := hA0.cell (i := j) (by rw [hw.1]; omega)
  have f0 := hA0.frozen j
  have h1 := hw.el j
  have e_s : IntKind.u64.wrap ((c : Int) * 2 ^ m8) = ((c * 2 ^ m8 % 18446744073709551616 : Nat) : Int) := by rw [IntKind.wrap_u64]; simp
  have hv := xor_k (el a j) (c * 2 ^ m8 % 18446744073709551616) h1 (Nat.mod_lt _ (by decide))
  clear hj hm hm8
  have HPK := hide hpk
  clear hpk
  go_enter Tryz.func66, Tryz.ntmps66
  go_wp2
  generalize (w.alloc (.cells (arr .u64 a) 57)).alloc (.cells (arr .u64 (zs 25)) 57) = x1 at *
  have hv2 : bits .xor .u64 (el a j : Int) ((c : Int) * 2 ^ m8 % 18446744073709551616) = ((el a j ^^^ c * 2 ^ m8 % 18446744073709551616 : Nat) : Int) := by
    rw [show (c : Int) * 2 ^ m8 % 18446744073709551616 = ((c * 2 ^ m8 % 18446744073709551616 : Nat) : Int) by simp]; exact hv
  have hst : Lies .u64 57 (x1.setCell ⟨w.heap.size, j, none⟩ (.int .u64 (bits .xor .u64 (el a j : Int) ((c : Int) * 2 ^ m8 % 18446744073709551616)))).drew w.heap.size (putK a p c) := by
    rw [hv2, HPK.out]
    exact hA0.set j _
  have hBq : But w.heap.size x1 (x1.setCell ⟨w.heap.size, j, none⟩ (.int .u64 (bits .xor .u64 (el a j : Int) ((c : Int) * 2 ^ m8 % 18446744073709551616)))).drew := ((But.refl _ _).setCell j _).drew
  have hRz := hR0.but hBq (by omega)
  have hbz := hb0.trans (hBq.below (Nat.le_refl _) hb0.size)
  clear hv hv2 HPK
  go_region
  clear hBq c0 f0
  generalize (x1.setCell ⟨w.heap.size, j, none⟩ (.int .u64 (bits .xor .u64 (el a j : Int) ((c : Int) * 2 ^ m8 % 18446744073709551616)))).drew = x2 at *
  have hOf : Lies .u64 57 (x2.setRow (w.heap.size + 1) (arr .u64 (putK a p c))) (w.heap.size + 1) (putK a p c) := hRz.row
  have hbf := hbz.trans ((But.setRow (But.refl (w.heap.size + 1) _) (arr .u64 (putK a p c))).below (by omega) hbz.size)
  go_wp2_with (first
    | (refine wpList_load_row rfl 57 _ (by rfl) w.heap.size (by rfl) _ _ _ (.array 25 45) hst (by kernel_rfl) rfl (by rw [arr_size, hpw]; kernel_rfl) ?_)
    | (refine wpList_store_row rfl 57 _ _ (by rfl) (w.heap.size + 1) (arr .u64 (putK a p c)) (by rfl) (by rfl) _ _ hRz (by rw [arr_size, hpw]; kernel_rfl) (by rw [arr_size, arr_size, hpw, zs_len]) (arr_one _ _) ?_)
    | fail)
  refine bodyPost_ret (v := .agg (arr .u64 (putK a p c))) ?_ rfl ⟨rfl, hbf⟩
  exact results_cell_row Tryz.results66 _ _ (w.heap.size + 1) _ _ _ (.array 25 45) (by rfl) hOf (by kernel_rfl) rfl (by rw [arr_size, hpw]; kernel_rfl)
end Go.Proofs.YtejlmgbmfeacdaaGreatDoor

/- A sponge that lies in memory: its cells. -/
namespace Go.Proofs.YtejlmgbmfeacdaaGreatDoor
open Go.RowKit
set_option linter.unusedVariables false
set_option linter.unusedSimpArgs false

/-- its cells, as one list -/
def sl (kind : Int) (ws : List Nat) (p : Int) (o : Bool) : List Value := .int .i64 kind :: (vals .u64 ws ++ [.int .i64 p, .bool o])
theorem sl_len {kind : Int} {ws : List Nat} {p : Int} {o : Bool} (h : ws.length = 25) : (sl kind ws p o).length = 28 := by simp [sl, vals_length, h]
theorem sl_one (kind : Int) (ws : List Nat) (p : Int) (o : Bool) : ∀ v ∈ sl kind ws p o, v.oneCell' = true := by
  intro v hv
  simp only [sl, List.mem_cons, List.mem_append, List.not_mem_nil, or_false] at hv
  rcases hv with rfl | hv | rfl | rfl
  · rfl
  · exact vals_one _ _ _ hv
  · rfl
  · rfl
/-- it lies in block q -/
structure Sg (w : World) (q : Nat) (kind : Int) (ws : List Nat) (p : Int) (o : Bool) : Prop where
  all : w.rangeAt q 0 (sl kind ws p o)
  th : w.there q 0 28
  len : ws.length = 25
theorem Sg.kind {w : World} {q : Nat} {kind : Int} {ws : List Nat} {p : Int} {o : Bool} (h : Sg w q kind ws p o) : w.cell? ⟨q, 0, none⟩ = some (.int .i64 kind) := h.all 0 _ rfl
theorem Sg.words {w : World} {q : Nat} {kind : Int} {ws : List Nat} {p : Int} {o : Bool} (h : Sg w q kind ws p o) : w.rangeAt q 1 (vals .u64 ws) := fun j v hv => by
  have hj : j < (vals .u64 ws).length := (List.getElem?_eq_some_iff.1 hv).1
  have := h.all (1 + j) v (by
    show (sl kind ws p o)[1 + j]? = some v
    rw [Nat.add_comm, sl, List.getElem?_cons_succ, List.getElem?_append_left hj]; exact hv)
  rw [Nat.zero_add] at this
  exact this
theorem Sg.at {w : World} {q : Nat} {kind : Int} {ws : List Nat} {p : Int} {o : Bool} (h : Sg w q kind ws p o) : w.cell? ⟨q, 26, none⟩ = some (.int .i64 p) := by
  have hl := h.len
  exact h.all 26 _ (by
    show (sl kind ws p o)[26]? = _
    rw [sl, show 26 = 25 + 1 from rfl, List.getElem?_cons_succ, List.getElem?_append_right (by rw [vals_length]; omega), vals_length, hl]; rfl)
theorem Sg.out {w : World} {q : Nat} {kind : Int} {ws : List Nat} {p : Int} {o : Bool} (h : Sg w q kind ws p o) : w.cell? ⟨q, 27, none⟩ = some (.bool o) := by
  have hl := h.len
  exact h.all 27 _ (by
    show (sl kind ws p o)[27]? = _
    rw [sl, show 27 = 26 + 1 from rfl, List.getElem?_cons_succ, List.getElem?_append_right (by rw [vals_length]; omega), vals_length, hl]; rfl)
theorem Sg.frozen {w : World} {q : Nat} {kind : Int} {ws : List Nat} {p : Int} {o : Bool} (h : Sg w q kind ws p o) (i : Nat) (hi : i < 28) : w.frozen? ⟨q, i, none⟩ = false := by
  have := (h.th i hi).2
  rw [Nat.zero_add] at this
  exact this
/-- out of its three parts -/
theorem Sg.mk' {w : World} {q : Nat} {kind : Int} {ws : List Nat} {p : Int} {o : Bool} (h0 : w.cell? ⟨q, 0, none⟩ = some (.int .i64 kind)) (h1 : w.rangeAt q 1 (vals .u64 ws)) (h2 : w.cell? ⟨q, 26, none⟩ = some (.int .i64 p)) (h3 : w.cell? ⟨q, 27, none⟩ = some (.bool o)) (th : w.there q 0 28) (hl : ws.length = 25) : Sg w q kind ws p o := by
  refine ⟨fun j v hv => ?_, th, hl⟩
  rw [Nat.zero_add]
  match j, hv with
  | 0, hv => have e : some (.int .i64 kind) = some v := hv; rw [h0, e]
  | j + 1, hv =>
    rw [sl, List.getElem?_cons_succ] at hv
    by_cases hj : j < (vals .u64 ws).length
    · rw [List.getElem?_append_left hj] at hv
      have := h1 j v hv
      rw [Nat.add_comm] at this
      exact this
    · rw [List.getElem?_append_right (by omega), vals_length, hl] at hv
      rw [vals_length, hl] at hj
      have hk : j - 25 < 2 := by
        have := (List.getElem?_eq_some_iff.1 hv).1
        simpa using this
      have : j = 25 ∨ j = 26 := by omega
      rcases this with rfl | rfl
      · have e : some (.int .i64 p) = some v := hv; rw [h2, e]
      · have e : some (.bool o) = some v := hv; rw [h3, e]
theorem Sg.lt {w : World} {q : Nat} {kind : Int} {ws : List Nat} {p : Int} {o : Bool} (h : Sg w q kind ws p o) : q < w.heap.size := World.block_lt_of_cell? w _ h.kind
theorem there_below {w w' : World} {q o n : Nat} (h : w.there q o n) (hq : q < w.heap.size) (hb : Below w.heap.size w w') : w'.there q o n := fun j hj => by
  have hbk := hb.block q hq
  exact ⟨by rw [World.cell?_of_block (a := ⟨q, o + j, none⟩) hbk]; exact (h j hj).1, by rw [World.frozen?_of_block (a := ⟨q, o + j, none⟩) hbk]; exact (h j hj).2⟩
theorem range_bel {w w' : World} {b o : Nat} {cs : List Value} (h : w.rangeAt b o cs) (hb : Below w.heap.size w w') : w'.rangeAt b o cs := fun j v hv => keep_cell (h j v hv) hb
theorem Sg.below {w w' : World} {q : Nat} {kind : Int} {ws : List Nat} {p : Int} {o : Bool} (h : Sg w q kind ws p o) (hb : Below w.heap.size w w') : Sg w' q kind ws p o := ⟨range_bel h.all hb, there_below h.th h.lt hb, h.len⟩
theorem frozen_row {w : World} {b i : Nat} {cs : Array Value} {t : TypeId} (h : w.heap[b]? = some (.cells cs t (0, 0))) : w.frozen? ⟨b, i, none⟩ = false := by simp [World.frozen?, h]
theorem Sg.new (w : World) (t : TypeId) (kind : Int) (ws : List Nat) (p : Int) (o : Bool) (hl : ws.length = 25) : Sg (w.alloc (.cells (sl kind ws p o).toArray t)) w.heap.size kind ws p o := by
  have hb : (w.alloc (.cells (sl kind ws p o).toArray t)).heap[w.heap.size]? = some (.cells (sl kind ws p o).toArray t (0, 0)) := heap_alloc_last w _
  refine ⟨fun j v hv => ?_, fun j hj => ?_, hl⟩
  · rw [Nat.zero_add, cell_of_row _ _ j _ _ _ hb]; simpa using hv
  · rw [Nat.zero_add]
    refine ⟨?_, frozen_row hb⟩
    rw [cell_of_row _ _ j _ _ _ hb]
    simp [sl_len hl, hj]
theorem Sg.setWords {w : World} {q : Nat} {kind : Int} {ws : List Nat} {p : Int} {o : Bool} (h : Sg w q kind ws p o) (l : List Nat) (hl : l.length = 25) : Sg (w.setCells q 1 (vals .u64 l)) q kind l p o := by
  have ht : w.there q 1 (vals .u64 l).length := fun j hj => by
    rw [vals_length, hl] at hj
    have := h.th (1 + j) (by omega)
    rw [Nat.zero_add] at this
    exact this
  have away : ∀ i, i < 1 ∨ 26 ≤ i → (w.setCells q 1 (vals .u64 l)).cell? ⟨q, i, none⟩ = w.cell? ⟨q, i, none⟩ := fun i hi =>
    World.cell?_setCells_out q _ _ w ⟨q, i, none⟩ (fun _ _ => by show i < 1 ∨ 1 + (vals .u64 l).length ≤ i; rw [vals_length, hl]; omega)
  exact Sg.mk' ((away 0 (by omega)).trans h.kind) (World.rangeAt_setCells_same w q 1 _ ht) ((away 26 (by omega)).trans h.at) ((away 27 (by omega)).trans h.out) (World.there_setCells h.th _ _ _) hl
theorem Sg.setAt {w : World} {q : Nat} {kind : Int} {ws : List Nat} {p : Int} {o : Bool} (h : Sg w q kind ws p o) (x : Int) : Sg (w.setCell ⟨q, 26, none⟩ (.int .i64 x)) q kind ws x o := by
  have hl := h.len
  have e : w.setCell ⟨q, 26, none⟩ (.int .i64 x) = w.setCells q 26 [.int .i64 x] := rfl
  rw [e]
  have ht : w.there q 26 [Value.int .i64 x].length := fun j hj => by
    have hj' : j = 0 := by simpa using hj
    subst hj'
    have := h.th 26 (by decide)
    rw [Nat.zero_add] at this
    exact this
  have away : ∀ i, i < 26 ∨ 27 ≤ i → (w.setCells q 26 [.int .i64 x]).cell? ⟨q, i, none⟩ = w.cell? ⟨q, i, none⟩ := fun i hi =>
    World.cell?_setCells_out q _ _ w ⟨q, i, none⟩ (fun _ _ => by show i < 26 ∨ 26 + 1 ≤ i; omega)
  refine Sg.mk' ((away 0 (by omega)).trans h.kind) (World.rangeAt_setCells_apart h.words q 26 _ (.inr (.inl (by rw [vals_length, hl]; decide)))) ?_ ((away 27 (by omega)).trans h.out) (World.there_setCells h.th _ _ _) hl
  have := World.rangeAt_setCells_same w q 26 _ ht 0 _ rfl
  exact this
theorem Sg.setOut {w : World} {q : Nat} {kind : Int} {ws : List Nat} {p : Int} {o : Bool} (h : Sg w q kind ws p o) (x : Bool) : Sg (w.setCell ⟨q, 27, none⟩ (.bool x)) q kind ws p x := by
  have hl := h.len
  have e : w.setCell ⟨q, 27, none⟩ (.bool x) = w.setCells q 27 [.bool x] := rfl
  rw [e]
  have ht : w.there q 27 [Value.bool x].length := fun j hj => by
    have hj' : j = 0 := by simpa using hj
    subst hj'
    have := h.th 27 (by decide)
    rw [Nat.zero_add] at this
    exact this
  have away : ∀ i, i < 27 ∨ 28 ≤ i → (w.setCells q 27 [.bool x]).cell? ⟨q, i, none⟩ = w.cell? ⟨q, i, none⟩ := fun i hi =>
    World.cell?_setCells_out q _ _ w ⟨q, i, none⟩ (fun _ _ => by show i < 27 ∨ 27 + 1 ≤ i; omega)
  refine Sg.mk' ((away 0 (by omega)).trans h.kind) (World.rangeAt_setCells_apart h.words q 27 _ (.inr (.inl (by rw [vals_length, hl]; decide)))) ((away 26 (by omega)).trans h.at) ?_ (World.there_setCells h.th _ _ _) hl
  have := World.rangeAt_setCells_same w q 27 _ ht 0 _ rfl
  exact this
theorem But.setCells {g : Nat} {a w : World} (h : But g a w) : ∀ (vs : List Value) (o : Nat), But g a (w.setCells g o vs) := by
  intro vs
  induction vs generalizing w with
  | nil => intro o; exact h
  | cons v vs ih => intro o; exact ih (h.setCell o v) (o + 1)
theorem infoS : (Tryz.prog.info? 59).map (fun i => (i.zero, i.size)) = some (some (.agg (sl 0 (zs 25) 0 false).toArray), 28) := by kernel_rfl
theorem zero28 : ∀ w, (zeroValue 59).run Tryz.prog w = .ok (.agg (sl 0 (zs 25) 0 false).toArray) w := (zero_of_info infoS).1
theorem sizeS : (Tryz.prog.info? 59).map (·.size) = some 28 := by kernel_rfl
theorem sizeW : (Tryz.prog.info? 57).map (·.size) = some 25 := by kernel_rfl
/-- a load of many cells, at a step of a region's head -/
theorem still_load_mid {P : Program} {ops : Array Oper} {op : Oper} {a : Act} {w : World} {K : Act → Prop} (hgd : op.guard = none) (ty : TypeId) (x : Operand) (ho : op.op = .load ty x)
    (b o : Nat) (hx : a.eval x = .pointer (some ⟨b, o, none⟩)) (cs : List Value) (d : TypeDesc) (hc : w.rangeAt b o cs)
    (hu : P.underlying ty = some d) (hd : d.isRow = true) (hi : (P.info? ty).map (·.size) = some cs.length)
    (h : K (a.put op.dst (.agg cs.toArray))) : if Region.wanted op (yielded ops a.tmps) = true then op.still P a w K else K (a.put op.dst undef) := by
  have hw : Region.wanted op (yielded ops a.tmps) = true := by simp [Region.wanted, hgd]
  rw [if_pos hw]
  unfold Oper.still execOp
  simp only [ho, hx, Instr.loadAt, Instr.sureAddr, Sem.run_bind, Sem.run_pure, Result.andThen_ok, run_loadVar_mid w b o ty cs d hc hu hd hi]
  exact ⟨rfl, h⟩
end Go.Proofs.YtejlmgbmfeacdaaGreatDoor
