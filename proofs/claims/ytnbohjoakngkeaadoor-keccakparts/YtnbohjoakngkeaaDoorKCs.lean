/- Contract of the document's constants. -/
import Derived.Test.YtnbohjoakngkeaaDoorHKi2
namespace Go.Proofs.YtnbohjoakngkeaaDoor
open Go.RowKit
set_option linter.unusedVariables false
set_option linter.unusedSimpArgs false

theorem zero24 : ∀ w, (zeroValue 50).run Tryd.prog w = .ok (.agg (arr .u64 (zs 24))) w := zero_arr (by kernel_rfl)
theorem reg_next (n : Nat) : reg (n + 1) = if 256 ≤ reg n * 2 then (reg n * 2 % 256) ^^^ 113 else reg n * 2 := rfl
theorem cstN_next (n : Nat) : cstN (n + 1) = if reg n % 2 = 1 then (cstN n).set (n / 7) (el (cstN n) (n / 7) ||| 2 ^ (2 ^ (n % 7) - 1)) else cstN n := rfl
theorem and_one (x : Nat) (hx : x < 18446744073709551616) : bits .and .u64 (x : Int) 1 = ((x % 2 : Nat) : Int) := by
  rw [show (1 : Int) = ((1 : Nat) : Int) from rfl, u64_and_nat x _ hx (by decide)]
  congr 1
  exact Nat.and_two_pow_sub_one_eq_mod x 1
theorem and_255 (x : Nat) (hx : x < 18446744073709551616) : bits .and .u64 (x : Int) 255 = ((x % 256 : Nat) : Int) := by
  rw [show (255 : Int) = ((255 : Nat) : Int) from rfl, u64_and_nat x _ hx (by decide)]
  congr 1
  exact Nat.and_two_pow_sub_one_eq_mod x 8
/-- where the loop stands -/
def KCst (w x1 : World) (r i : Value) (wr : World) : Prop := ∃ n : Nat, n ≤ 168 ∧ i = .int .i64 n ∧ r = .int .u64 (reg n : Nat) ∧ Lies .u64 50 wr (w.heap.size + 1) (cstN n) ∧ But (w.heap.size + 1) x1 wr

set_option maxHeartbeats 4000000 in
set_option maxRecDepth 100000 in
theorem kconst_any (w : World) :
    Calls Tryd.prog 25 #[] w fun e w' => e = .returned (.agg (arr .u64 csts)) ∧ Below w.heap.size w w' := by
  have hz := zero24
  have hR1 : Lies .u64 50 ((w.alloc (.cells (arr .u64 (zs 24)) 50)).alloc (.cells (arr .u64 (zs 24)) 50)) w.heap.size (zs 24) := (Lies.new .u64 50 w (zs 24)).alloc _
  have hC1 : Lies .u64 50 ((w.alloc (.cells (arr .u64 (zs 24)) 50)).alloc (.cells (arr .u64 (zs 24)) 50)) (w.heap.size + 1) (zs 24) := by
    have := Lies.new .u64 50 (w.alloc (.cells (arr .u64 (zs 24)) 50)) (zs 24)
    rw [World.size_alloc] at this
    exact this
  have hb1 := keep_trans (keep_alloc w (.cells (arr .u64 (zs 24)) 50)) (keep_alloc _ (.cells (arr .u64 (zs 24)) 50))
  go_enter Tryd.func25, Tryd.ntmps25
  go_wp2
  clear hz
  generalize (w.alloc (.cells (arr .u64 (zs 24)) 50)).alloc (.cells (arr .u64 (zs 24)) 50) = x1 at *
  go_loopw [2, 3] (fun r i wr => KCst w x1 r i wr) (fun _ i _ => 168 - (intOf i).toNat)
  case atStart => exact ⟨0, Nat.zero_le _, rfl, rfl, hC1, But.refl _ _⟩
  case round =>
    obtain ⟨n, hn, rfl, rfl, hC, hB⟩ := hrel
    by_cases hlt : n < 168
    · have hrl := reg_lt n
      have hrn := reg_next n
      have hcn := cstN_next n
      have hcu := cstN_under n
      have hcl := cstN_length n
      generalize reg n = R at *
      obtain ⟨n1, hn1⟩ : ∃ x : Nat, x = n + 1 := ⟨_, rfl⟩
      have e_n : (n : Int) + 1 = (n1 : Int) := by omega
      have r_n : IntKind.i64.wrap (n1 : Int) = (n1 : Int) := by rw [IntKind.wrap_i64]; omega
      obtain ⟨R2, hR2⟩ : ∃ x : Nat, x = R * 2 := ⟨_, rfl⟩
      have e_R : (R : Int) * 2 = (R2 : Int) := by omega
      have r_R : IntKind.u64.wrap (R2 : Int) = (R2 : Int) := by rw [IntKind.wrap_u64]; omega
      have ha5 := and_255 R2 (by omega)
      have hx5 := xor_k (R2 % 256) 113 (by omega) (by decide)
      obtain ⟨R3, hR3⟩ : ∃ x : Nat, x = R2 % 256 := ⟨_, rfl⟩
      obtain ⟨R4, hR4⟩ : ∃ x : Nat, x = R3 ^^^ 113 := ⟨_, rfl⟩
      rw [← hR3] at ha5 hx5
      rw [← hR4] at hx5
      have ha1 := and_one R (by omega)
      obtain ⟨Rn, hRn, hge⟩ : ∃ x : Nat, reg n1 = x ∧ (decide ((256 : Int) ≤ (R2 : Int)) = true ∧ x = R4 ∨ decide ((256 : Int) ≤ (R2 : Int)) = false ∧ x = R2) := by
        refine ⟨_, rfl, ?_⟩
        rw [hn1, hrn]
        by_cases h : 256 ≤ R * 2
        · left; rw [if_pos h]; exact ⟨decide_eq_true (by omega), by rw [hR4, hR3, hR2]⟩
        · right; rw [if_neg h]; exact ⟨decide_eq_false (by omega), hR2.symm⟩
      have HRN := hide hRn
      have HN1 := hide hn1
      by_cases hodd : R % 2 = 1
      · rw [hodd] at ha1
        rw [if_pos hodd, ← hn1] at hcn
        obtain ⟨j, hj⟩ : ∃ x : Nat, x = n / 7 := ⟨_, rfl⟩
        have e_j : (n : Int) / 7 = (j : Int) := by omega
        have e_jt : (n : Int).tdiv 7 = (j : Int) := by rw [Int.tdiv_eq_ediv_of_nonneg (by omega)]; exact e_j
        rw [← hj] at hcn
        have c1 := hC.cell (i := j) (by omega)
        have f1 := hC.frozen j
        have i0 : (0 : Int) ≤ (j : Int) := Int.natCast_nonneg _
        have i1 : (j : Int) < 24 := by omega
        have h1 : el (cstN n) j < 18446744073709551616 := el_lt hcu (by decide) j
        have hst := fun v => hC.set j v
        generalize hp : el (cstN n) j = p at *
        clear hj
        have hm7 : n % 7 = 0 ∨ n % 7 = 1 ∨ n % 7 = 2 ∨ n % 7 = 3 ∨ n % 7 = 4 ∨ n % 7 = 5 ∨ n % 7 = 6 := by omega
        rcases hm7 with hm | hm | hm | hm | hm | hm | hm
        · have e_m : (n : Int) % 7 = 0 := by omega
          have e_mt : (n : Int).tmod 7 = 0 := by rw [Int.tmod_eq_emod_of_nonneg (by omega)]; exact e_m
          rw [hm] at hcn
          have hq : (2 : Nat) ^ (2 ^ 0 - 1) = 1 := by decide
          rw [hq] at hcn
          have ho : bits .or .u64 (p : Int) 1 = ((p ||| 1 : Nat) : Int) := u64_or_nat p 1 h1 (by decide)
          have hst1 := hst (p ||| 1)
          rw [← hcn] at hst1
          have HST := hide hst1
          obtain ⟨po, hpo⟩ : ∃ x : Nat, x = p ||| 1 := ⟨_, rfl⟩
          rw [← hpo] at ho
          rw [← hpo] at HST
          clear hcn hst hst1 hq hm hpo hR2 hR3 hR4 hrn hn1 hRn hodd hp hcu hcl hrl
          rcases hge with ⟨hge, hx⟩ | ⟨hge, hx⟩
          all_goals (
            have HX := hide hx
            clear hx
            go_wp2
            go_region
            go_wp2
            first
              | exact ⟨⟨n1, by have := HN1.out; omega, rfl, by first | (rw [HRN.out, HX.out]; done) | (rw [HRN.out, HX.out]; exact vint hx5), HST.out, (hB.setCell j _).drew⟩, by have := HN1.out; simp [intOf]; omega⟩
              | (go_roundw
                 case rel =>
                   (repeat apply Exists.intro)
                   exact ⟨⟨n1, by have := HN1.out; omega, rfl, by first | (rw [HRN.out, HX.out]; done) | (rw [HRN.out, HX.out]; exact vint hx5), HST.out, (hB.setCell j _).drew⟩, rfl⟩
                 case measure => have := HN1.out; simp [intOf]; omega))
        · have e_m : (n : Int) % 7 = 1 := by omega
          have e_mt : (n : Int).tmod 7 = 1 := by rw [Int.tmod_eq_emod_of_nonneg (by omega)]; exact e_m
          rw [hm] at hcn
          have hq : (2 : Nat) ^ (2 ^ 1 - 1) = 2 := by decide
          rw [hq] at hcn
          have ho : bits .or .u64 (p : Int) 2 = ((p ||| 2 : Nat) : Int) := u64_or_nat p 2 h1 (by decide)
          have hst1 := hst (p ||| 2)
          rw [← hcn] at hst1
          have HST := hide hst1
          obtain ⟨po, hpo⟩ : ∃ x : Nat, x = p ||| 2 := ⟨_, rfl⟩
          rw [← hpo] at ho
          rw [← hpo] at HST
          clear hcn hst hst1 hq hm hpo hR2 hR3 hR4 hrn hn1 hRn hodd hp hcu hcl hrl
          rcases hge with ⟨hge, hx⟩ | ⟨hge, hx⟩
          all_goals (
            have HX := hide hx
            clear hx
            go_wp2
            go_region
            go_wp2
            first
              | exact ⟨⟨n1, by have := HN1.out; omega, rfl, by first | (rw [HRN.out, HX.out]; done) | (rw [HRN.out, HX.out]; exact vint hx5), HST.out, (hB.setCell j _).drew⟩, by have := HN1.out; simp [intOf]; omega⟩
              | (go_roundw
                 case rel =>
                   (repeat apply Exists.intro)
                   exact ⟨⟨n1, by have := HN1.out; omega, rfl, by first | (rw [HRN.out, HX.out]; done) | (rw [HRN.out, HX.out]; exact vint hx5), HST.out, (hB.setCell j _).drew⟩, rfl⟩
                 case measure => have := HN1.out; simp [intOf]; omega))
        · have e_m : (n : Int) % 7 = 2 := by omega
          have e_mt : (n : Int).tmod 7 = 2 := by rw [Int.tmod_eq_emod_of_nonneg (by omega)]; exact e_m
          rw [hm] at hcn
          have hq : (2 : Nat) ^ (2 ^ 2 - 1) = 8 := by decide
          rw [hq] at hcn
          have ho : bits .or .u64 (p : Int) 8 = ((p ||| 8 : Nat) : Int) := u64_or_nat p 8 h1 (by decide)
          have hst1 := hst (p ||| 8)
          rw [← hcn] at hst1
          have HST := hide hst1
          obtain ⟨po, hpo⟩ : ∃ x : Nat, x = p ||| 8 := ⟨_, rfl⟩
          rw [← hpo] at ho
          rw [← hpo] at HST
          clear hcn hst hst1 hq hm hpo hR2 hR3 hR4 hrn hn1 hRn hodd hp hcu hcl hrl
          rcases hge with ⟨hge, hx⟩ | ⟨hge, hx⟩
          all_goals (
            have HX := hide hx
            clear hx
            go_wp2
            go_region
            go_wp2
            first
              | exact ⟨⟨n1, by have := HN1.out; omega, rfl, by first | (rw [HRN.out, HX.out]; done) | (rw [HRN.out, HX.out]; exact vint hx5), HST.out, (hB.setCell j _).drew⟩, by have := HN1.out; simp [intOf]; omega⟩
              | (go_roundw
                 case rel =>
                   (repeat apply Exists.intro)
                   exact ⟨⟨n1, by have := HN1.out; omega, rfl, by first | (rw [HRN.out, HX.out]; done) | (rw [HRN.out, HX.out]; exact vint hx5), HST.out, (hB.setCell j _).drew⟩, rfl⟩
                 case measure => have := HN1.out; simp [intOf]; omega))
        · have e_m : (n : Int) % 7 = 3 := by omega
          have e_mt : (n : Int).tmod 7 = 3 := by rw [Int.tmod_eq_emod_of_nonneg (by omega)]; exact e_m
          rw [hm] at hcn
          have hq : (2 : Nat) ^ (2 ^ 3 - 1) = 128 := by decide
          rw [hq] at hcn
          have ho : bits .or .u64 (p : Int) 128 = ((p ||| 128 : Nat) : Int) := u64_or_nat p 128 h1 (by decide)
          have hst1 := hst (p ||| 128)
          rw [← hcn] at hst1
          have HST := hide hst1
          obtain ⟨po, hpo⟩ : ∃ x : Nat, x = p ||| 128 := ⟨_, rfl⟩
          rw [← hpo] at ho
          rw [← hpo] at HST
          clear hcn hst hst1 hq hm hpo hR2 hR3 hR4 hrn hn1 hRn hodd hp hcu hcl hrl
          rcases hge with ⟨hge, hx⟩ | ⟨hge, hx⟩
          all_goals (
            have HX := hide hx
            clear hx
            go_wp2
            go_region
            go_wp2
            first
              | exact ⟨⟨n1, by have := HN1.out; omega, rfl, by first | (rw [HRN.out, HX.out]; done) | (rw [HRN.out, HX.out]; exact vint hx5), HST.out, (hB.setCell j _).drew⟩, by have := HN1.out; simp [intOf]; omega⟩
              | (go_roundw
                 case rel =>
                   (repeat apply Exists.intro)
                   exact ⟨⟨n1, by have := HN1.out; omega, rfl, by first | (rw [HRN.out, HX.out]; done) | (rw [HRN.out, HX.out]; exact vint hx5), HST.out, (hB.setCell j _).drew⟩, rfl⟩
                 case measure => have := HN1.out; simp [intOf]; omega))
        · have e_m : (n : Int) % 7 = 4 := by omega
          have e_mt : (n : Int).tmod 7 = 4 := by rw [Int.tmod_eq_emod_of_nonneg (by omega)]; exact e_m
          rw [hm] at hcn
          have hq : (2 : Nat) ^ (2 ^ 4 - 1) = 32768 := by decide
          rw [hq] at hcn
          have ho : bits .or .u64 (p : Int) 32768 = ((p ||| 32768 : Nat) : Int) := u64_or_nat p 32768 h1 (by decide)
          have hst1 := hst (p ||| 32768)
          rw [← hcn] at hst1
          have HST := hide hst1
          obtain ⟨po, hpo⟩ : ∃ x : Nat, x = p ||| 32768 := ⟨_, rfl⟩
          rw [← hpo] at ho
          rw [← hpo] at HST
          clear hcn hst hst1 hq hm hpo hR2 hR3 hR4 hrn hn1 hRn hodd hp hcu hcl hrl
          rcases hge with ⟨hge, hx⟩ | ⟨hge, hx⟩
          all_goals (
            have HX := hide hx
            clear hx
            go_wp2
            go_region
            go_wp2
            first
              | exact ⟨⟨n1, by have := HN1.out; omega, rfl, by first | (rw [HRN.out, HX.out]; done) | (rw [HRN.out, HX.out]; exact vint hx5), HST.out, (hB.setCell j _).drew⟩, by have := HN1.out; simp [intOf]; omega⟩
              | (go_roundw
                 case rel =>
                   (repeat apply Exists.intro)
                   exact ⟨⟨n1, by have := HN1.out; omega, rfl, by first | (rw [HRN.out, HX.out]; done) | (rw [HRN.out, HX.out]; exact vint hx5), HST.out, (hB.setCell j _).drew⟩, rfl⟩
                 case measure => have := HN1.out; simp [intOf]; omega))
        · have e_m : (n : Int) % 7 = 5 := by omega
          have e_mt : (n : Int).tmod 7 = 5 := by rw [Int.tmod_eq_emod_of_nonneg (by omega)]; exact e_m
          rw [hm] at hcn
          have hq : (2 : Nat) ^ (2 ^ 5 - 1) = 2147483648 := by decide
          rw [hq] at hcn
          have ho : bits .or .u64 (p : Int) 2147483648 = ((p ||| 2147483648 : Nat) : Int) := u64_or_nat p 2147483648 h1 (by decide)
          have hst1 := hst (p ||| 2147483648)
          rw [← hcn] at hst1
          have HST := hide hst1
          obtain ⟨po, hpo⟩ : ∃ x : Nat, x = p ||| 2147483648 := ⟨_, rfl⟩
          rw [← hpo] at ho
          rw [← hpo] at HST
          clear hcn hst hst1 hq hm hpo hR2 hR3 hR4 hrn hn1 hRn hodd hp hcu hcl hrl
          rcases hge with ⟨hge, hx⟩ | ⟨hge, hx⟩
          all_goals (
            have HX := hide hx
            clear hx
            go_wp2
            go_region
            go_wp2
            first
              | exact ⟨⟨n1, by have := HN1.out; omega, rfl, by first | (rw [HRN.out, HX.out]; done) | (rw [HRN.out, HX.out]; exact vint hx5), HST.out, (hB.setCell j _).drew⟩, by have := HN1.out; simp [intOf]; omega⟩
              | (go_roundw
                 case rel =>
                   (repeat apply Exists.intro)
                   exact ⟨⟨n1, by have := HN1.out; omega, rfl, by first | (rw [HRN.out, HX.out]; done) | (rw [HRN.out, HX.out]; exact vint hx5), HST.out, (hB.setCell j _).drew⟩, rfl⟩
                 case measure => have := HN1.out; simp [intOf]; omega))
        · have e_m : (n : Int) % 7 = 6 := by omega
          have e_mt : (n : Int).tmod 7 = 6 := by rw [Int.tmod_eq_emod_of_nonneg (by omega)]; exact e_m
          rw [hm] at hcn
          have hq : (2 : Nat) ^ (2 ^ 6 - 1) = 9223372036854775808 := by decide
          rw [hq] at hcn
          have ho : bits .or .u64 (p : Int) 9223372036854775808 = ((p ||| 9223372036854775808 : Nat) : Int) := u64_or_nat p 9223372036854775808 h1 (by decide)
          have hst1 := hst (p ||| 9223372036854775808)
          rw [← hcn] at hst1
          have HST := hide hst1
          obtain ⟨po, hpo⟩ : ∃ x : Nat, x = p ||| 9223372036854775808 := ⟨_, rfl⟩
          rw [← hpo] at ho
          rw [← hpo] at HST
          clear hcn hst hst1 hq hm hpo hR2 hR3 hR4 hrn hn1 hRn hodd hp hcu hcl hrl
          rcases hge with ⟨hge, hx⟩ | ⟨hge, hx⟩
          all_goals (
            have HX := hide hx
            clear hx
            go_wp2
            go_region
            go_wp2
            first
              | exact ⟨⟨n1, by have := HN1.out; omega, rfl, by first | (rw [HRN.out, HX.out]; done) | (rw [HRN.out, HX.out]; exact vint hx5), HST.out, (hB.setCell j _).drew⟩, by have := HN1.out; simp [intOf]; omega⟩
              | (go_roundw
                 case rel =>
                   (repeat apply Exists.intro)
                   exact ⟨⟨n1, by have := HN1.out; omega, rfl, by first | (rw [HRN.out, HX.out]; done) | (rw [HRN.out, HX.out]; exact vint hx5), HST.out, (hB.setCell j _).drew⟩, rfl⟩
                 case measure => have := HN1.out; simp [intOf]; omega))
      · have ha0 : bits .and .u64 (R : Int) 1 = 0 := by rw [ha1]; omega
        rw [if_neg hodd, ← hn1] at hcn
        have HCN := hide hcn
        clear ha1 hcn hR2 hR3 hR4 hrn hn1 hRn hodd hcu hcl hrl
        rcases hge with ⟨hge, hx⟩ | ⟨hge, hx⟩
        all_goals (
          have HX := hide hx
          clear hx
          go_wp2
          first
            | exact ⟨⟨n1, by have := HN1.out; omega, rfl, by first | (rw [HRN.out, HX.out]; done) | (rw [HRN.out, HX.out]; exact vint hx5), by rw [HCN.out]; exact hC, hB⟩, by have := HN1.out; simp [intOf]; omega⟩
            | (go_roundw
               case rel =>
                 (repeat apply Exists.intro)
                 exact ⟨⟨n1, by have := HN1.out; omega, rfl, by first | (rw [HRN.out, HX.out]; done) | (rw [HRN.out, HX.out]; exact vint hx5), by rw [HCN.out]; exact hC, hB⟩, rfl⟩
               case measure => have := HN1.out; simp [intOf]; omega))
    · obtain rfl : n = 168 := by omega
      have hck : cstN 168 = csts := rfl
      rw [hck] at hC
      have hRz := hR1.but hB (by omega)
      have hbx := hb1.trans (hB.below (by omega) hb1.size)
      have hOf : Lies .u64 50 (wr.setRow w.heap.size (arr .u64 csts)) w.heap.size csts := hRz.row
      have hbf := hbx.trans ((But.setRow (But.refl w.heap.size _) (arr .u64 csts)).below (by omega) hbx.size)
      have hsl := csts_length
      clear hck
      go_wp2_with (first
        | (refine wpList_load_row rfl 50 _ (by rfl) (w.heap.size + 1) (by rfl) _ _ _ (.array 24 22) hC (by kernel_rfl) rfl (by rw [arr_size, hsl]; kernel_rfl) ?_)
        | (refine wpList_store_row rfl 50 _ _ (by rfl) w.heap.size (arr .u64 csts) (by rfl) (by rfl) _ _ hRz (by rw [arr_size, hsl]; kernel_rfl) (by rw [arr_size, arr_size, hsl, zs_len]) (arr_one _ _) ?_)
        | fail)
      refine bodyPost_ret (v := .agg (arr .u64 csts)) ?_ rfl ⟨rfl, hbf⟩
      exact results_cell_row Tryd.results25 _ _ w.heap.size _ _ _ (.array 24 22) (by rfl) hOf (by kernel_rfl) rfl (by rw [arr_size, hsl]; kernel_rfl)
end Go.Proofs.YtnbohjoakngkeaaDoor
