import Derived.Test.YtpmobjfhhkglbaaGreatDoorKSp
set_option maxHeartbeats 8000000
set_option maxRecDepth 100000
namespace Go.Proofs.YtpmobjfhhkglbaaGreatDoor
open Go.RowKit
set_option linter.unusedVariables false
set_option linter.unusedSimpArgs false
theorem zero24 : ∀ w, (zeroValue 109).run Tryz.prog w = .ok (.agg (arr .u64 (zs 24))) w := zero_arr (by kernel_rfl)
theorem reg_next (n : Nat) : reg (n + 1) = if 256 ≤ reg n * 2 then (reg n * 2 % 256) ^^^ 113 else reg n * 2 := rfl
theorem cstN_next (n : Nat) : cstN (n + 1) = if reg n % 2 = 1 then (cstN n).set (n / 7) (el (cstN n) (n / 7) ||| 2 ^ (2 ^ (n % 7) - 1)) else cstN n := rfl
theorem and_one (x : Nat) (hx : x < 18446744073709551616) : bits .and .u64 (x : Int) 1 = ((x % 2 : Nat) : Int) := by
  rw [show (1 : Int) = ((1 : Nat) : Int) from rfl, u64_and_nat x _ hx (by decide)]
  congr 1
  exact Nat.and_two_pow_sub_one_eq_mod x 1
theorem and_255 (x : Nat) (hx : x < 18446744073709551616) : bits .and .u64 (x : Int) 255 = ((x % 256 : Nat) : Int) := by
  rw [show (255 : Int) = ((255 : Nat) : Int) from rfl, u64_and_nat x _ hx (by decide)]
  congr 1
  exact Nat.and_two_pow_sub_one_eq_mod x 8
def KCst (w x1 : World) (r i : Value) (wr : World) : Prop := ∃ n : Nat, n ≤ 168 ∧ i = .int .i64 n ∧ r = .int .u64 (reg n : Nat) ∧ Lies .u64 109 wr (w.heap.size + 1) (cstN n) ∧ But (w.heap.size + 1) x1 wr
theorem kconst_any (w : World) :
    Calls Tryz.prog 88 #[] w fun e w' => e = .returned (.agg (arr .u64 csts)) ∧ Below w.heap.size w w' := by
  have hz := zero24
  have hR1 : Lies .u64 109 ((w.alloc (.cells (arr .u64 (zs 24)) 109)).alloc (.cells (arr .u64 (zs 24)) 109)) w.heap.size (zs 24) := (Lies.new .u64 109 w (zs 24)).alloc _
  have hC1 : Lies .u64 109 ((w.alloc (.cells (arr .u64 (zs 24)) 109)).alloc (.cells (arr .u64 (zs 24)) 109)) (w.heap.size + 1) (zs 24) := by
    have := Lies.new .u64 109 (w.alloc (.cells (arr .u64 (zs 24)) 109)) (zs 24)
    rw [World.size_alloc] at this
    exact this
  have hb1 := keep_trans (keep_alloc w (.cells (arr .u64 (zs 24)) 109)) (keep_alloc _ (.cells (arr .u64 (zs 24)) 109))
  go_enter Tryz.func88, Tryz.ntmps88
  go_wp2
  clear hz
  generalize (w.alloc (.cells (arr .u64 (zs 24)) 109)).alloc (.cells (arr .u64 (zs 24)) 109) = x1 at *
  go_loopw [2, 3] (fun r i wr => KCst w x1 r i wr) (fun _ i _ => 168 - (intOf i).toNat)
  case atStart => exact ⟨0, Nat.zero_le _, rfl, rfl, hC1, But.refl _ _⟩
  case round =>
    obtain ⟨n, hn, rfl, rfl, hC, hB⟩ := hrel
    by_cases hlt : n < 168
    · have hrl := reg_lt n
      have hrn := reg_next n
      have hcn := cstN_next n
      have hcu := cstN_under n
      have hcl := cstN_length n
      generalize reg n = R at *
      obtain ⟨n1, hn1⟩ : ∃ x : Nat, x = n + 1 := ⟨_, rfl⟩
      have e_n : (n : Int) + 1 = (n1 : Int) := by omega
      have r_n : IntKind.i64.wrap (n1 : Int) = (n1 : Int) := by rw [IntKind.wrap_i64]; omega
      obtain ⟨R2, hR2⟩ : ∃ x : Nat, x = R * 2 := ⟨_, rfl⟩
      have e_R : (R : Int) * 2 = (R2 : Int) := by omega
      have r_R : IntKind.u64.wrap (R2 : Int) = (R2 : Int) := by rw [IntKind.wrap_u64]; omega
      have ha5 := and_255 R2 (by omega)
      have hx5 := xor_k (R2 % 256) 113 (by omega) (by decide)
      obtain ⟨R3, hR3⟩ : ∃ x : Nat, x = R2 % 256 := ⟨_, rfl⟩
      obtain ⟨R4, hR4⟩ : ∃ x : Nat, x = R3 ^^^ 113 := ⟨_, rfl⟩
      rw [← hR3] at ha5 hx5
      rw [← hR4] at hx5
      have ha1 := and_one R (by omega)
      obtain ⟨Rn, hRn, hge⟩ : ∃ x : Nat, reg n1 = x ∧ (decide ((256 : Int) ≤ (R2 : Int)) = true ∧ x = R4 ∨ decide ((256 : Int) ≤ (R2 : Int)) = false ∧ x = R2) := by
        refine ⟨_, rfl, ?_⟩
        rw [hn1, hrn]
        by_cases h : 256 ≤ R * 2
        · left; rw [if_pos h]; exact ⟨decide_eq_true (by omega), by rw [hR4, hR3, hR2]⟩
        · right; rw [if_neg h]; exact ⟨decide_eq_false (by omega), hR2.symm⟩
      have HRN := hide hRn
      have HN1 := hide hn1
      by_cases hodd : R % 2 = 1
      · rw [hodd] at ha1
        rw [if_pos hodd, ← hn1] at hcn
        obtain ⟨j, hj⟩ : ∃ x : Nat, x = n / 7 := ⟨_, rfl⟩
        have e_j : (n : Int) / 7 = (j : Int) := by omega
        have e_jt : (n : Int).tdiv 7 = (j : Int) := by rw [Int.tdiv_eq_ediv_of_nonneg (by omega)]; exact e_j
        rw [← hj] at hcn
        have c1 := hC.cell (i := j) (by omega)
        have f1 := hC.frozen j
        have i0 : (0 : Int) ≤ (j : Int) := Int.natCast_nonneg _
        have i1 : (j : Int) < 24 := by omega
        have h1 : el (cstN n) j < 18446744073709551616 := el_lt hcu (by decide) j
        have hst := fun v => hC.set j v
        generalize hp : el (cstN n) j = p at *
        clear hj
        have hm7 : n % 7 = 0 ∨ n % 7 = 1 ∨ n % 7 = 2 ∨ n % 7 = 3 ∨ n % 7 = 4 ∨ n % 7 = 5 ∨ n % 7 = 6 := by omega
        rcases hm7 with hm | hm | hm | hm | hm | hm | hm
        · have e_m : (n : Int) % 7 = 0 := by omega
          have e_mt : (n : Int).tmod 7 = 0 := by rw [Int.tmod_eq_emod_of_nonneg (by omega)]; exact e_m
          rw [hm] at hcn
          have hq : (2 : Nat) ^ (2 ^ 0 - 1) = 1 := by decide
          rw [hq] at hcn
          have ho : bits .or .u64 (p : Int) 1 = ((p ||| 1 : Nat) : Int) := u64_or_nat p 1 h1 (by decide)
          have hst1 := hst (p ||| 1)
          rw [← hcn] at hst1
          have HST := hide hst1
          obtain ⟨po, hpo⟩ : ∃ x : Nat, x = p ||| 1 := ⟨_, rfl⟩
          rw [← hpo] at ho
          rw [← hpo] at HST
          clear hcn hst hst1 hq hm hpo hR2 hR3 hR4 hrn hn1 hRn hodd hp hcu hcl hrl
          rcases hge with ⟨hge, hx⟩ | ⟨hge, hx⟩
          all_goals (
            have HX := hide hx
            clear hx
            go_wp2
            go_region
            go_wp2
            first
              | exact ⟨⟨n1, by have := HN1.out; omega, rfl, by first | (rw [HRN.out, HX.out]; done) | (rw [HRN.out, HX.out]; exact vint hx5), HST.out, (hB.setCell j _).drew⟩, by have := HN1.out; simp [intOf]; omega⟩
              | (go_roundw
                 case rel =>
                   (repeat apply Exists.intro)
                   exact ⟨⟨n1, by have := HN1.out; omega, rfl, by first | (rw [HRN.out, HX.out]; done) | (rw [HRN.out, HX.out]; exact vint hx5), HST.out, (hB.setCell j _).drew⟩, rfl⟩
                 case measure => have := HN1.out; simp [intOf]; omega))
        · have e_m : (n : Int) % 7 = 1 := by omega
          have e_mt : (n : Int).tmod 7 = 1 := by rw [Int.tmod_eq_emod_of_nonneg (by omega)]; exact e_m
          rw [hm] at hcn
          have hq : (2 : Nat) ^ (2 ^ 1 - 1) = 2 := by decide
          rw [hq] at hcn
          have ho : bits .or .u64 (p : Int) 2 = ((p ||| 2 : Nat) : Int) := u64_or_nat p 2 h1 (by decide)
          have hst1 := hst (p ||| 2)
          rw [← hcn] at hst1
          have HST := hide hst1
          obtain ⟨po, hpo⟩ : ∃ x : Nat, x = p ||| 2 := ⟨_, rfl⟩
          rw [← hpo] at ho
          rw [← hpo] at HST
          clear hcn hst hst1 hq hm hpo hR2 hR3 hR4 hrn hn1 hRn hodd hp hcu hcl hrl
          rcases hge with ⟨hge, hx⟩ | ⟨hge, hx⟩
          all_goals (
            have HX := hide hx
            clear hx
            go_wp2
            go_region
            go_wp2
            first
              | exact ⟨⟨n1, by have := HN1.out; omega, rfl, by first | (rw [HRN.out, HX.out]; done) | (rw [HRN.out, HX.out]; exact vint hx5), HST.out, (hB.setCell j _).drew⟩, by have := HN1.out; simp [intOf]; omega⟩
              | (go_roundw
                 case rel =>
                   (repeat apply Exists.intro)
                   exact ⟨⟨n1, by have := HN1.out; omega, rfl, by first | (rw [HRN.out, HX.out]; done) | (rw [HRN.out, HX.out]; exact vint hx5), HST.out, (hB.setCell j _).drew⟩, rfl⟩
                 case measure => have := HN1.out; simp [intOf]; omega))
        · have e_m : (n : Int) % 7 = 2 := by omega
          have e_mt : (n : Int).tmod 7 = 2 := by rw [Int.tmod_eq_emod_of_nonneg (by omega)]; exact e_m
          rw [hm] at hcn
          have hq : (2 : Nat) ^ (2 ^ 2 - 1) = 8 := by decide
          rw [hq] at hcn
          have ho : bits .or .u64 (p : Int) 8 = ((p ||| 8 : Nat) : Int) := u64_or_nat p 8 h1 (by decide)
          have hst1 := hst (p ||| 8)
          rw [← hcn] at hst1
          have HST := hide hst1
          obtain ⟨po, hpo⟩ : ∃ x : Nat, x = p ||| 8 := ⟨_, rfl⟩
          rw [← hpo] at ho
          rw [← hpo] at HST
          clear hcn hst hst1 hq hm hpo hR2 hR3 hR4 hrn hn1 hRn hodd hp hcu hcl hrl
          rcases hge with ⟨hge, hx⟩ | ⟨hge, hx⟩
          all_goals (
            have HX := hide hx
            clear hx
            go_wp2
            go_region
            go_wp2
            first
              | exact ⟨⟨n1, by have := HN1.out; omega, rfl, by first | (rw [HRN.out, HX.out]; done) | (rw [HRN.out, HX.out]; exact vint hx5), HST.out, (hB.setCell j _).drew⟩, by have := HN1.out; simp [intOf]; omega⟩
              | (go_roundw
                 case rel =>
                   (repeat apply Exists.intro)
                   exact ⟨⟨n1, by have := HN1.out; omega, rfl, by first | (rw [HRN.out, HX.out]; done) | (rw [HRN.out, HX.out]; exact vint hx5), HST.out, (hB.setCell j _).drew⟩, rfl⟩
                 case measure => have := HN1.out; simp [intOf]; omega))
        · have e_m : (n : Int) % 7 = 3 := by omega
          have e_mt : (n : Int).tmod 7 = 3 := by rw [Int.tmod_eq_emod_of_nonneg (by omega)]; exact e_m
          rw [hm] at hcn
          have hq : (2 : Nat) ^ (2 ^ 3 - 1) = 128 := by decide
          rw [hq] at hcn
          have ho : bits .or .u64 (p : Int) 128 = ((p ||| 128 : Nat) : Int) := u64_or_nat p 128 h1 (by decide)
          have hst1 := hst (p ||| 128)
          rw [← hcn] at hst1
          have HST := hide hst1
          obtain ⟨po, hpo⟩ : ∃ x : Nat, x = p ||| 128 := ⟨_, rfl⟩
          rw [← hpo] at ho
          rw [← hpo] at HST
          clear hcn hst hst1 hq hm hpo hR2 hR3 hR4 hrn hn1 hRn hodd hp hcu hcl hrl
          rcases hge with ⟨hge, hx⟩ | ⟨hge, hx⟩
          all_goals (
            have HX := hide hx
            clear hx
            go_wp2
            go_region
            go_wp2
            first
              | exact ⟨⟨n1, by have := HN1.out; omega, rfl, by first | (rw [HRN.out, HX.out]; done) | (rw [HRN.out, HX.out]; exact vint hx5), HST.out, (hB.setCell j _).drew⟩, by have := HN1.out; simp [intOf]; omega⟩
              | (go_roundw
                 case rel =>
                   (repeat apply Exists.intro)
                   exact ⟨⟨n1, by have := HN1.out; omega, rfl, by first | (rw [HRN.out, HX.out]; done) | (rw [HRN.out, HX.out]; exact vint hx5), HST.out, (hB.setCell j _).drew⟩, rfl⟩
                 case measure => have := HN1.out; simp [intOf]; omega))
        · have e_m : (n : Int) % 7 = 4 := by omega
          have e_mt : (n : Int).tmod 7 = 4 := by rw [Int.tmod_eq_emod_of_nonneg (by omega)]; exact e_m
          rw [hm] at hcn
          have hq : (2 : Nat) ^ (2 ^ 4 - 1) = 32768 := by decide
          rw [hq] at hcn
          have ho : bits .or .u64 (p : Int) 32768 = ((p ||| 32768 : Nat) : Int) := u64_or_nat p 32768 h1 (by decide)
          have hst1 := hst (p ||| 32768)
          rw [← hcn] at hst1
          have HST := hide hst1
          obtain ⟨po, hpo⟩ : ∃ x : Nat, x = p ||| 32768 := ⟨_, rfl⟩
          rw [← hpo] at ho
          rw [← hpo] at HST
          clear hcn hst hst1 hq hm hpo hR2 hR3 hR4 hrn hn1 hRn hodd hp hcu hcl hrl
          rcases hge with ⟨hge, hx⟩ | ⟨hge, hx⟩
          all_goals (
            have HX := hide hx
            clear hx
            go_wp2
            go_region
            go_wp2
            first
              | exact ⟨⟨n1, by have := HN1.out; omega, rfl, by first | (rw [HRN.out, HX.out]; done) | (rw [HRN.out, HX.out]; exact vint hx5), HST.out, (hB.setCell j _).drew⟩, by have := HN1.out; simp [intOf]; omega⟩
              | (go_roundw
                 case rel =>
                   (repeat apply Exists.intro)
                   exact ⟨⟨n1, by have := HN1.out; omega, rfl, by first | (rw [HRN.out, HX.out]; done) | (rw [HRN.out, HX.out]; exact vint hx5), HST.out, (hB.setCell j _).drew⟩, rfl⟩
                 case measure => have := HN1.out; simp [intOf]; omega))
        · have e_m : (n : Int) % 7 = 5 := by omega
          have e_mt : (n : Int).tmod 7 = 5 := by rw [Int.tmod_eq_emod_of_nonneg (by omega)]; exact e_m
          rw [hm] at hcn
          have hq : (2 : Nat) ^ (2 ^ 5 - 1) = 2147483648 := by decide
          rw [hq] at hcn
          have ho : bits .or .u64 (p : Int) 2147483648 = ((p ||| 2147483648 : Nat) : Int) := u64_or_nat p 2147483648 h1 (by decide)
          have hst1 := hst (p ||| 2147483648)
          rw [← hcn] at hst1
          have HST := hide hst1
          obtain ⟨po, hpo⟩ : ∃ x : Nat, x = p ||| 2147483648 := ⟨_, rfl⟩
          rw [← hpo] at ho
          rw [← hpo] at HST
          clear hcn hst hst1 hq hm hpo hR2 hR3 hR4 hrn hn1 hRn hodd hp hcu hcl hrl
          rcases hge with ⟨hge, hx⟩ | ⟨hge, hx⟩
          all_goals (
            have HX := hide hx
            clear hx
            go_wp2
            go_region
            go_wp2
            first
              | exact ⟨⟨n1, by have := HN1.out; omega, rfl, by first | (rw [HRN.out, HX.out]; done) | (rw [HRN.out, HX.out]; exact vint hx5), HST.out, (hB.setCell j _).drew⟩, by have := HN1.out; simp [intOf]; omega⟩
              | (go_roundw
                 case rel =>
                   (repeat apply Exists.intro)
                   exact ⟨⟨n1, by have := HN1.out; omega, rfl, by first | (rw [HRN.out, HX.out]; done) | (rw [HRN.out, HX.out]; exact vint hx5), HST.out, (hB.setCell j _).drew⟩, rfl⟩
                 case measure => have := HN1.out; simp [intOf]; omega))
        · have e_m : (n : Int) % 7 = 6 := by omega
          have e_mt : (n : Int).tmod 7 = 6 := by rw [Int.tmod_eq_emod_of_nonneg (by omega)]; exact e_m
          rw [hm] at hcn
          have hq : (2 : Nat) ^ (2 ^ 6 - 1) = 9223372036854775808 := by decide
          rw [hq] at hcn
          have ho : bits .or .u64 (p : Int) 9223372036854775808 = ((p ||| 9223372036854775808 : Nat) : Int) := u64_or_nat p 9223372036854775808 h1 (by decide)
          have hst1 := hst (p ||| 9223372036854775808)
          rw [← hcn] at hst1
          have HST := hide hst1
          obtain ⟨po, hpo⟩ : ∃ x : Nat, x = p ||| 9223372036854775808 := ⟨_, rfl⟩
          rw [← hpo] at ho
          rw [← hpo] at HST
          clear hcn hst hst1 hq hm hpo hR2 hR3 hR4 hrn hn1 hRn hodd hp hcu hcl hrl
          rcases hge with ⟨hge, hx⟩ | ⟨hge, hx⟩
          all_goals (
            have HX := hide hx
            clear hx
            go_wp2
            go_region
            go_wp2
            first
              | exact ⟨⟨n1, by have := HN1.out; omega, rfl, by first | (rw [HRN.out, HX.out]; done) | (rw [HRN.out, HX.out]; exact vint hx5), HST.out, (hB.setCell j _).drew⟩, by have := HN1.out; simp [intOf]; omega⟩
              | (go_roundw
                 case rel =>
                   (repeat apply Exists.intro)
                   exact ⟨⟨n1, by have := HN1.out; omega, rfl, by first | (rw [HRN.out, HX.out]; done) | (rw [HRN.out, HX.out]; exact vint hx5), HST.out, (hB.setCell j _).drew⟩, rfl⟩
                 case measure => have := HN1.out; simp [intOf]; omega))
      · have ha0 : bits .and .u64 (R : Int) 1 = 0 := by rw [ha1]; omega
        rw [if_neg hodd, ← hn1] at hcn
        have HCN := hide hcn
        clear ha1 hcn hR2 hR3 hR4 hrn hn1 hRn hodd hcu hcl hrl
        rcases hge with ⟨hge, hx⟩ | ⟨hge, hx⟩
        all_goals (
          have HX := hide hx
          clear hx
          go_wp2
          first
            | exact ⟨⟨n1, by have := HN1.out; omega, rfl, by first | (rw [HRN.out, HX.out]; done) | (rw [HRN.out, HX.out]; exact vint hx5), by rw [HCN.out]; exact hC, hB⟩, by have := HN1.out; simp [intOf]; omega⟩
            | (go_roundw
               case rel =>
                 (repeat apply Exists.intro)
                 exact ⟨⟨n1, by have := HN1.out; omega, rfl, by first | (rw [HRN.out, HX.out]; done) | (rw [HRN.out, HX.out]; exact vint hx5), by rw [HCN.out]; exact hC, hB⟩, rfl⟩
               case measure => have := HN1.out; simp [intOf]; omega))
    · obtain rfl : n = 168 := by omega
      have hck : cstN 168 = csts := rfl
      rw [hck] at hC
      have hRz := hR1.but hB (by omega)
      have hbx := hb1.trans (hB.below (by omega) hb1.size)
      have hOf : Lies .u64 109 (wr.setRow w.heap.size (arr .u64 csts)) w.heap.size csts := hRz.row
      have hbf := hbx.trans ((But.setRow (But.refl w.heap.size _) (arr .u64 csts)).below (by omega) hbx.size)
      have hsl := csts_length
      clear hck
      go_wp2_with (first
        | (refine wpList_load_row rfl 109 _ (by rfl) (w.heap.size + 1) (by rfl) _ _ _ (.array 24 26) hC (by kernel_rfl) rfl (by rw [arr_size, hsl]; kernel_rfl) ?_)
        | (refine wpList_store_row rfl 109 _ _ (by rfl) w.heap.size (arr .u64 csts) (by rfl) (by rfl) _ _ hRz (by rw [arr_size, hsl]; kernel_rfl) (by rw [arr_size, arr_size, hsl, zs_len]) (arr_one _ _) ?_)
        | fail)
      refine bodyPost_ret (v := .agg (arr .u64 csts)) ?_ rfl ⟨rfl, hbf⟩
      exact results_cell_row Tryz.results88 _ _ w.heap.size _ _ _ (.array 24 26) (by rfl) hOf (by kernel_rfl) rfl (by rw [arr_size, hsl]; kernel_rfl)
theorem chi_is (p q r : Nat) (hp : p < 18446744073709551616) (hq : q < 18446744073709551616) (hr : r < 18446744073709551616) :
    bits .xor .u64 (p : Int) (bits .and .u64 (bits .xor .u64 (q : Int) 18446744073709551615) (r : Int)) = ((p ^^^ ((18446744073709551615 - q) &&& r) : Nat) : Int) := by
  have e1 : bits .xor .u64 (q : Int) 18446744073709551615 = ((18446744073709551615 - q : Nat) : Int) := by
    rw [show (18446744073709551615 : Int) = ((18446744073709551615 : Nat) : Int) from rfl, xor_k q _ hq (by decide)]
    congr 1
    rw [Nat.xor_comm]
    exact ones_xor 64 q hq
  rw [e1, u64_and_nat _ _ (by omega) hr, xor_k p _ hp (and_w (by omega))]
theorem chiN_next (a b : List Nat) (n : Nat) : chiN a b (n + 1) = (chiN a b n).set n (el b n ^^^ ((18446744073709551615 - el b (n / 5 * 5 + (n + 1) % 5)) &&& el b (n / 5 * 5 + (n + 2) % 5))) := rfl
theorem rdsK_next (a : List Nat) (r : Nat) : rdsK a (r + 1) = (chiN (rdsK a r) (moveK (spreadK (rdsK a r))) 25).set 0 (el (chiN (rdsK a r) (moveK (spreadK (rdsK a r))) 25) 0 ^^^ el csts r) := rfl
def KPer (w : World) (q : Nat) (a : List Nat) (i : Value) (wr : World) : Prop := ∃ r : Nat, r ≤ 24 ∧ i = .int .i64 r ∧ Lies .u64 79 wr w.heap.size (rdsK a r) ∧ Lies .u64 109 wr q csts ∧ Lies .u64 79 wr (w.heap.size + 1) (zs 25) ∧ Below w.heap.size w wr
def KChi (w wx : World) (A B : List Nat) (i : Value) (wz : World) : Prop := ∃ n : Nat, n ≤ 25 ∧ i = .int .i64 n ∧ Lies .u64 79 wz w.heap.size (chiN A B n) ∧ But w.heap.size wx wz
theorem kperm_any (a : List Nat) (w : World) (hw : W25 a) :
    Calls Tryz.prog 70 #[.agg (arr .u64 a)] w fun e w' => e = .returned (.agg (arr .u64 (perm a))) ∧ Below w.heap.size w w' := by
  have hz := zero25
  have hz4 := zero24
  have hA0 : Lies .u64 79 ((w.alloc (.cells (arr .u64 a) 79)).alloc (.cells (arr .u64 (zs 25)) 79)) w.heap.size a := (Lies.new .u64 79 w a).alloc _
  have hR0 : Lies .u64 79 ((w.alloc (.cells (arr .u64 a) 79)).alloc (.cells (arr .u64 (zs 25)) 79)) (w.heap.size + 1) (zs 25) := by
    have := Lies.new .u64 79 (w.alloc (.cells (arr .u64 a) 79)) (zs 25)
    rw [World.size_alloc] at this
    exact this
  have hb0 := keep_trans (keep_alloc w (.cells (arr .u64 a) 79)) (keep_alloc _ (.cells (arr .u64 (zs 25)) 79))
  have hsl := csts_length
  go_enter Tryz.func70, Tryz.ntmps70
  go_wp2_with fail
  refine (kconst_any _).mono ?_
  rintro e w1 ⟨rfl, hb1⟩
  have hK1 : Lies .u64 109 (w1.alloc (.cells (arr .u64 (zs 24)) 109)) w1.heap.size (zs 24) := Lies.new _ _ w1 _
  have hK2 := hK1.row (l' := csts)
  have hB1 : Below w1.heap.size w1 ((w1.alloc (.cells (arr .u64 (zs 24)) 109)).setRow w1.heap.size (arr .u64 csts)) := (keep_alloc w1 _).trans ((But.setRow (But.refl w1.heap.size _) (arr .u64 csts)).below (Nat.le_refl _) (by simp))
  have hA1 := (hA0.below hb1).below hB1
  have hR1 := (hR0.below hb1).below hB1
  have hbx := keep_trans (keep_trans hb0 hb1) hB1
  have hq1 : w.heap.size + 2 ≤ w1.heap.size := by have := hb1.size; simp at this; omega
  go_wp2_with (first
    | (refine wpList_store_row rfl 109 _ _ (by rfl) w1.heap.size (arr .u64 csts) (by rfl) (by rfl) _ _ hK1 (by rw [arr_size, hsl]; kernel_rfl) (by rw [arr_size, arr_size, hsl, zs_len]) (arr_one _ _) ?_)
    | fail)
  clear hK1 hB1 hb1 hA0 hR0 hb0 hz4
  generalize (w1.alloc (.cells (arr .u64 (zs 24)) 109)).setRow w1.heap.size (arr .u64 csts) = x1 at *
  generalize w1.heap.size = q at *
  go_loopw [4] (fun i wr => KPer w q a i wr) (fun i _ => 24 - (intOf i).toNat)
  case atStart => exact ⟨0, Nat.zero_le _, rfl, hA1, hK2, hR1, hbx⟩
  case round =>
    clear hA1 hK2 hR1 hbx
    obtain ⟨r, hr, rfl, hA, hK, hR, hbr⟩ := hrel
    have hAw := rdsK_w hw r
    by_cases hlt : r < 24
    · have hnx := rdsK_next a r
      have HNX := hide hnx
      clear hnx
      generalize rdsK a r = A at *
      have hAl := hAw.1
      have hSw := spreadK_w hAw
      have hMw := moveK_w hSw
      have hcs := fun w' => kspread_any A w' hAw
      have hcm := fun w' => kmove_any (spreadK A) w' hSw
      generalize hM : moveK (spreadK A) = M at *
      have hMl := hMw.1
      have i_r : (0 : Int) ≤ (r : Int) := Int.natCast_nonneg _
      have i_r2 : (r : Int) < 24 := by omega
      go_wp2_with (first
        | (refine wpList_load_row rfl 79 _ (by rfl) w.heap.size (by rfl) _ _ _ (.array 25 26) hA (by kernel_rfl) rfl (by rw [arr_size, hAl]; kernel_rfl) ?_)
        | (go_at_call 90; refine (hcs _).mono ?_; rintro e w3 ⟨rfl, hb3⟩)
        | (go_at_call 89; refine (hcm _).mono ?_; rintro e w4 ⟨rfl, hb4⟩)
        | (refine wpList_store_row rfl 79 _ _ (by rfl) w4.heap.size (arr .u64 M) (by rfl) (by rfl) _ _ (Lies.new .u64 79 w4 (zs 25)) (by rw [arr_size, hMl]; kernel_rfl) (by rw [arr_size, arr_size, hMl, zs_len]) (arr_one _ _) ?_)
        | fail)
      have hbB : Below w4.heap.size w4 ((w4.alloc (.cells (arr .u64 (zs 25)) 79)).setRow w4.heap.size (arr .u64 M)) := (keep_alloc w4 _).trans ((But.setRow (But.refl w4.heap.size _) (arr .u64 M)).below (Nat.le_refl _) (by simp))
      have hB5 : Lies .u64 79 ((w4.alloc (.cells (arr .u64 (zs 25)) 79)).setRow w4.heap.size (arr .u64 M)) w4.heap.size M := (Lies.new .u64 79 w4 (zs 25)).row
      have hb5 := keep_trans (keep_trans hb3 hb4) hbB
      have hA5 := hA.below hb5
      have hK5 := hK.below hb5
      have hR5 := hR.below hb5
      have hw5 := keep_trans hbr hb5
      have hq4 : w.heap.size + 2 ≤ w4.heap.size := by have := hR.lt; have := hb3.size; have := hb4.size; omega
      clear hA hK hR hbr hb3 hb4 hbB hb5
      generalize (w4.alloc (.cells (arr .u64 (zs 25)) 79)).setRow w4.heap.size (arr .u64 M) = wx at *
      generalize w4.heap.size = g at *
      go_loopw [6] (fun i wz => KChi w wx A M i wz) (fun i _ => 25 - (intOf i).toNat)
      case atStart => exact ⟨0, Nat.zero_le _, rfl, hA5, But.refl _ _⟩
      case round =>
        obtain ⟨n, hn, rfl, hC, hB⟩ := hrel
        have hcw := chiN_w hAw hMw n
        by_cases hln : n < 25
        · have hMz := hB5.but hB (by omega)
          have hnx := chiN_next A M n
          obtain ⟨n1, hn1⟩ : ∃ x : Nat, x = n + 1 := ⟨_, rfl⟩
          have e_n1 : (n : Int) + 1 = (n1 : Int) := by omega
          have r_n1 : IntKind.i64.wrap (n1 : Int) = (n1 : Int) := by rw [IntKind.wrap_i64]; omega
          obtain ⟨n2, hn2⟩ : ∃ x : Nat, x = n + 2 := ⟨_, rfl⟩
          have e_n2 : (n : Int) + 2 = (n2 : Int) := by omega
          have r_n2 : IntKind.i64.wrap (n2 : Int) = (n2 : Int) := by rw [IntKind.wrap_i64]; omega
          obtain ⟨m1, hm1⟩ : ∃ x : Nat, x = n1 % 5 := ⟨_, rfl⟩
          have e_m1 : (n1 : Int) % 5 = (m1 : Int) := by omega
          have r_m1 : IntKind.i64.wrap (m1 : Int) = (m1 : Int) := by rw [IntKind.wrap_i64]; omega
          obtain ⟨m2, hm2⟩ : ∃ x : Nat, x = n2 % 5 := ⟨_, rfl⟩
          have e_m2 : (n2 : Int) % 5 = (m2 : Int) := by omega
          have r_m2 : IntKind.i64.wrap (m2 : Int) = (m2 : Int) := by rw [IntKind.wrap_i64]; omega
          obtain ⟨nq, hnq⟩ : ∃ x : Nat, x = n / 5 := ⟨_, rfl⟩
          have e_nq : (n : Int) / 5 = (nq : Int) := by omega
          have r_nq : IntKind.i64.wrap (nq : Int) = (nq : Int) := by rw [IntKind.wrap_i64]; omega
          obtain ⟨row, hrow⟩ : ∃ x : Nat, x = nq * 5 := ⟨_, rfl⟩
          have e_row : (nq : Int) * 5 = (row : Int) := by omega
          have r_row : IntKind.i64.wrap (row : Int) = (row : Int) := by rw [IntKind.wrap_i64]; omega
          obtain ⟨k1, hk1⟩ : ∃ x : Nat, x = row + m1 := ⟨_, rfl⟩
          have e_k1 : (row : Int) + (m1 : Int) = (k1 : Int) := by omega
          have r_k1 : IntKind.i64.wrap (k1 : Int) = (k1 : Int) := by rw [IntKind.wrap_i64]; omega
          obtain ⟨k2, hk2⟩ : ∃ x : Nat, x = row + m2 := ⟨_, rfl⟩
          have e_k2 : (row : Int) + (m2 : Int) = (k2 : Int) := by omega
          have r_k2 : IntKind.i64.wrap (k2 : Int) = (k2 : Int) := by rw [IntKind.wrap_i64]; omega
          have t_m1 : (n1 : Int).tmod 5 = (m1 : Int) := by rw [Int.tmod_eq_emod_of_nonneg (by omega)]; exact e_m1
          have t_m2 : (n2 : Int).tmod 5 = (m2 : Int) := by rw [Int.tmod_eq_emod_of_nonneg (by omega)]; exact e_m2
          have t_nq : (n : Int).tdiv 5 = (nq : Int) := by rw [Int.tdiv_eq_ediv_of_nonneg (by omega)]; exact e_nq
          have hx1 : n / 5 * 5 + (n + 1) % 5 = k1 := by omega
          have hx2 : n / 5 * 5 + (n + 2) % 5 = k2 := by omega
          rw [hx1, hx2, ← hn1] at hnx
          have hv := chi_is _ _ _ (hMw.el n) (hMw.el k1) (hMw.el k2)
          have hst := fun q => (hC.drewN q).set n (el M n ^^^ ((18446744073709551615 - el M k1) &&& el M k2))
          rw [← hnx] at hst
          have HST := hide hst
          have HV := hide hv
          have HN1 := hide hn1
          have c0 := hMz.cell (i := n) (by omega)
          have c1 := hMz.cell (i := k1) (by omega)
          have c2 := hMz.cell (i := k2) (by omega)
          have c3 := hC.cell (i := n) (by rw [hcw.1]; omega)
          have f3 := hC.frozen n
          have i0 : (0 : Int) ≤ (n : Int) := Int.natCast_nonneg _
          have i1 : (n : Int) < 25 := by omega
          have i2 : (0 : Int) ≤ (k1 : Int) := Int.natCast_nonneg _
          have i3 : (k1 : Int) < 25 := by omega
          have i4 : (0 : Int) ≤ (k2 : Int) := Int.natCast_nonneg _
          have i5 : (k2 : Int) < 25 := by omega
          clear hnx hst hv hx1 hx2 hn1 hn2 hm1 hm2 hnq hrow hk1 hk2 hMz
          generalize ((el M n ^^^ ((18446744073709551615 - el M k1) &&& el M k2) : Nat)) = vv at *
          generalize el M n = u0 at *
          generalize el M k1 = u1 at *
          generalize el M k2 = u2 at *
          go_wp2
          go_region
          all_goals (
            go_wp2
            rw [HV.out]
            first
              | exact ⟨⟨n1, by have := HN1.out; omega, rfl, HST.out 1, (hB.drewN 1).setCell n _⟩, by have := HN1.out; simp [intOf]; omega⟩
              | (go_roundw
                 case rel =>
                   (repeat apply Exists.intro)
                   exact ⟨⟨n1, by have := HN1.out; omega, rfl, HST.out 1, (hB.drewN 1).setCell n _⟩, rfl⟩
                 case measure => have := HN1.out; simp [intOf]; omega))
        · obtain rfl : n = 25 := by omega
          have hKz := hK5.but hB (by omega)
          have hRz := hR5.but hB (by omega)
          have hbz := hw5.trans (hB.below (Nat.le_refl _) hw5.size)
          obtain ⟨r1, hr1⟩ : ∃ x : Nat, x = r + 1 := ⟨_, rfl⟩
          have e_r : (r : Int) + 1 = (r1 : Int) := by omega
          have r_r : IntKind.i64.wrap (r1 : Int) = (r1 : Int) := by rw [IntKind.wrap_i64]; omega
          have hnx := HNX.out
          rw [← hr1] at hnx
          have h0 := hcw.el 0
          have h1 : el csts r < 18446744073709551616 := el_lt csts_under (by decide) r
          have hv := xor_k _ _ h0 h1
          have hst := fun q => (hC.drewN q).set 0 (el (chiN A M 25) 0 ^^^ el csts r)
          have c0 := hC.cell (i := 0) (by rw [hcw.1]; decide)
          have f0 := hC.frozen 0
          have c1 := hKz.cell (i := r) (by rw [hsl]; exact hlt)
          have hBb := fun (q : Nat) (v : Value) => (But.refl w.heap.size wr).drewN q |>.setCell 0 v
          have HST := hide hst
          have HV := hide hv
          have HR1 := hide hr1
          have HNY := hide hnx
          clear hst hv hr1 hnx
          generalize ((el (chiN A M 25) 0 ^^^ el csts r : Nat)) = vv at *
          generalize el (chiN A M 25) 0 = u0 at *
          generalize el csts r = u1 at *
          go_wp2
          go_region
          all_goals (
            go_wp2
            rw [HV.out]
            have hBq := hBb 1 (.int .u64 (vv : Int))
            first
              | exact ⟨⟨r1, by have := HR1.out; omega, rfl, by rw [HNY.out]; exact HST.out 1, hKz.but hBq (by omega), hRz.but hBq (by omega), hbz.trans (hBq.below (Nat.le_refl _) hbz.size)⟩, by have := HR1.out; simp [intOf]; omega⟩
              | (go_roundw
                 case rel =>
                   (repeat apply Exists.intro)
                   exact ⟨⟨r1, by have := HR1.out; omega, rfl, by rw [HNY.out]; exact HST.out 1, hKz.but hBq (by omega), hRz.but hBq (by omega), hbz.trans (hBq.below (Nat.le_refl _) hbz.size)⟩, rfl⟩
                 case measure => have := HR1.out; simp [intOf]; omega))
    · obtain rfl : r = 24 := by omega
      have hpk : rdsK a 24 = perm a := rfl
      rw [hpk] at hA hAw
      have hOf : Lies .u64 79 (wr.setRow (w.heap.size + 1) (arr .u64 (perm a))) (w.heap.size + 1) (perm a) := hR.row
      have hbf := hbr.trans ((But.setRow (But.refl (w.heap.size + 1) _) (arr .u64 (perm a))).below (by omega) hbr.size)
      have hpl := hAw.1
      clear hpk
      go_wp2_with (first
        | (refine wpList_load_row rfl 79 _ (by rfl) w.heap.size (by rfl) _ _ _ (.array 25 26) hA (by kernel_rfl) rfl (by rw [arr_size, hpl]; kernel_rfl) ?_)
        | (refine wpList_store_row rfl 79 _ _ (by rfl) (w.heap.size + 1) (arr .u64 (perm a)) (by rfl) (by rfl) _ _ hR (by rw [arr_size, hpl]; kernel_rfl) (by rw [arr_size, arr_size, hpl, zs_len]) (arr_one _ _) ?_)
        | fail)
      refine bodyPost_ret (v := .agg (arr .u64 (perm a))) ?_ rfl ⟨rfl, hbf⟩
      exact results_cell_row Tryz.results70 _ _ (w.heap.size + 1) _ _ _ (.array 25 26) (by rfl) hOf (by kernel_rfl) rfl (by rw [arr_size, hpl]; kernel_rfl)
end Go.Proofs.YtpmobjfhhkglbaaGreatDoor
