/- Contract of the document's move. -/
import Derived.Test.YtejlmgbmfeacdaaGreatDoorGSum
namespace Go.Proofs.YtejlmgbmfeacdaaGreatDoor
open Go.RowKit
set_option linter.unusedVariables false
set_option linter.unusedSimpArgs false

theorem movN_next (a : List Nat) (t : Nat) : movN a (t + 1) = (movN a t).set ((plc t).2 + 5 * ((2 * (plc t).1 + 3 * (plc t).2) % 5)) (rotl (el a ((plc t).1 + 5 * (plc t).2)) ((t + 1) * (t + 2) / 2)) := rfl
theorem plc_next (t : Nat) : plc (t + 1) = ((plc t).2, (2 * (plc t).1 + 3 * (plc t).2) % 5) := rfl
/-- where the loop stands -/
def KMov (w x1 : World) (a : List Nat) (x y i : Value) (wr : World) : Prop := ∃ t : Nat, t ≤ 24 ∧ i = .int .i64 t ∧ x = .int .i64 ((plc t).1 : Nat) ∧ y = .int .i64 ((plc t).2 : Nat) ∧ Lies .u64 57 wr (w.heap.size + 1 + 1) (movN a t) ∧ But (w.heap.size + 1 + 1) x1 wr

set_option maxHeartbeats 4000000 in
set_option maxRecDepth 100000 in
theorem kmove_any (a : List Nat) (w : World) (hw : W25 a) :
    Calls Tryz.prog 86 #[.agg (arr .u64 a)] w fun e w' => e = .returned (.agg (arr .u64 (moveK a))) ∧ Below w.heap.size w w' := by
  have hz := zero25
  have hA1 : Lies .u64 57 (((w.alloc (.cells (arr .u64 a) 57)).alloc (.cells (arr .u64 (zs 25)) 57)).alloc (.cells ((arr .u64 (zs 25)).setIfInBounds 0 (.int .u64 (el a 0))) 57)) w.heap.size a := ((Lies.new .u64 57 w a).alloc _).alloc _
  have hR1 : Lies .u64 57 (((w.alloc (.cells (arr .u64 a) 57)).alloc (.cells (arr .u64 (zs 25)) 57)).alloc (.cells ((arr .u64 (zs 25)).setIfInBounds 0 (.int .u64 (el a 0))) 57)) (w.heap.size + 1) (zs 25) := by
    have := (Lies.new .u64 57 (w.alloc (.cells (arr .u64 a) 57)) (zs 25)).alloc (.cells ((arr .u64 (zs 25)).setIfInBounds 0 (.int .u64 (el a 0))) 57)
    rw [World.size_alloc] at this
    exact this
  have hC1 : Lies .u64 57 (((w.alloc (.cells (arr .u64 a) 57)).alloc (.cells (arr .u64 (zs 25)) 57)).alloc (.cells ((arr .u64 (zs 25)).setIfInBounds 0 (.int .u64 (el a 0))) 57)) (w.heap.size + 1 + 1) (movN a 0) := by
    have := Lies.new .u64 57 ((w.alloc (.cells (arr .u64 a) 57)).alloc (.cells (arr .u64 (zs 25)) 57)) ((zs 25).set 0 (el a 0))
    rw [World.size_alloc, World.size_alloc, ← arr_set] at this
    exact this
  have hb1 := keep_trans (keep_trans (keep_alloc w (.cells (arr .u64 a) 57)) (keep_alloc _ (.cells (arr .u64 (zs 25)) 57))) (keep_alloc _ (.cells ((arr .u64 (zs 25)).setIfInBounds 0 (.int .u64 (el a 0))) 57))
  have c0 := (((Lies.new .u64 57 w a).alloc (.cells (arr .u64 (zs 25)) 57)).alloc (.cells (arr .u64 (zs 25)) 57)).cell (i := 0) (by rw [hw.1]; decide)
  go_enter Tryz.func86, Tryz.ntmps86
  go_wp2
  clear hz c0
  generalize (((w.alloc (.cells (arr .u64 a) 57)).alloc (.cells (arr .u64 (zs 25)) 57)).alloc (.cells ((arr .u64 (zs 25)).setIfInBounds 0 (.int .u64 (el a 0))) 57)) = x1 at *
  go_loopw [4, 5, 6] (fun x y i wr => KMov w x1 a x y i wr) (fun _ _ i _ => 24 - (intOf i).toNat)
  case atStart => exact ⟨0, Nat.zero_le _, rfl, rfl, rfl, hC1, But.refl _ _⟩
  case round =>
    obtain ⟨t, ht, rfl, rfl, rfl, hC, hB⟩ := hrel
    have hA := hA1.but hB (by omega)
    have hmw := movN_w hw t
    by_cases hlt : t < 24
    · have hpl := plc_lt t
      have hnx := movN_next a t
      have hpn := plc_next t
      generalize (plc t).1 = X at *
      generalize (plc t).2 = Y at *
      obtain ⟨x2, hx2⟩ : ∃ x : Nat, x = 2 * X := ⟨_, rfl⟩
      have e_x2 : 2 * (X : Int) = (x2 : Int) := by omega
      have r_x2 : IntKind.i64.wrap (x2 : Int) = (x2 : Int) := by rw [IntKind.wrap_i64]; omega
      obtain ⟨y3, hy3⟩ : ∃ x : Nat, x = 3 * Y := ⟨_, rfl⟩
      have e_y3 : 3 * (Y : Int) = (y3 : Int) := by omega
      have r_y3 : IntKind.i64.wrap (y3 : Int) = (y3 : Int) := by rw [IntKind.wrap_i64]; omega
      obtain ⟨s5, hs5⟩ : ∃ x : Nat, x = x2 + y3 := ⟨_, rfl⟩
      have e_s5 : (x2 : Int) + (y3 : Int) = (s5 : Int) := by omega
      have r_s5 : IntKind.i64.wrap (s5 : Int) = (s5 : Int) := by rw [IntKind.wrap_i64]; omega
      obtain ⟨Z, hZ⟩ : ∃ x : Nat, x = s5 % 5 := ⟨_, rfl⟩
      have e_Z : (s5 : Int) % 5 = (Z : Int) := by omega
      have r_Z : IntKind.i64.wrap (Z : Int) = (Z : Int) := by rw [IntKind.wrap_i64]; omega
      obtain ⟨z5, hz5⟩ : ∃ x : Nat, x = 5 * Z := ⟨_, rfl⟩
      have e_z5 : 5 * (Z : Int) = (z5 : Int) := by omega
      have r_z5 : IntKind.i64.wrap (z5 : Int) = (z5 : Int) := by rw [IntKind.wrap_i64]; omega
      obtain ⟨d, hd⟩ : ∃ x : Nat, x = Y + z5 := ⟨_, rfl⟩
      have e_d : (Y : Int) + (z5 : Int) = (d : Int) := by omega
      have r_d : IntKind.i64.wrap (d : Int) = (d : Int) := by rw [IntKind.wrap_i64]; omega
      obtain ⟨y5, hy5⟩ : ∃ x : Nat, x = 5 * Y := ⟨_, rfl⟩
      have e_y5 : 5 * (Y : Int) = (y5 : Int) := by omega
      have r_y5 : IntKind.i64.wrap (y5 : Int) = (y5 : Int) := by rw [IntKind.wrap_i64]; omega
      obtain ⟨o, ho⟩ : ∃ x : Nat, x = X + y5 := ⟨_, rfl⟩
      have e_o : (X : Int) + (y5 : Int) = (o : Int) := by omega
      have r_o : IntKind.i64.wrap (o : Int) = (o : Int) := by rw [IntKind.wrap_i64]; omega
      obtain ⟨t1, ht1⟩ : ∃ x : Nat, x = t + 1 := ⟨_, rfl⟩
      have e_t1 : (t : Int) + 1 = (t1 : Int) := by omega
      have r_t1 : IntKind.i64.wrap (t1 : Int) = (t1 : Int) := by rw [IntKind.wrap_i64]; omega
      obtain ⟨t2, ht2⟩ : ∃ x : Nat, x = t + 2 := ⟨_, rfl⟩
      have e_t2 : (t : Int) + 2 = (t2 : Int) := by omega
      have r_t2 : IntKind.i64.wrap (t2 : Int) = (t2 : Int) := by rw [IntKind.wrap_i64]; omega
      have eZt : (s5 : Int).tmod 5 = (Z : Int) := by rw [Int.tmod_eq_emod_of_nonneg (by omega)]; exact e_Z
      obtain ⟨tt, htt⟩ : ∃ x : Nat, x = t1 * t2 := ⟨_, rfl⟩
      have hle : tt ≤ 24 * 25 := by rw [htt]; exact Nat.mul_le_mul (by omega) (by omega)
      have e_tt : (t1 : Int) * (t2 : Int) = (tt : Int) := by rw [htt]; simp
      have r_tt : IntKind.i64.wrap (tt : Int) = (tt : Int) := by rw [IntKind.wrap_i64]; omega
      obtain ⟨hh, hhh⟩ : ∃ x : Nat, x = tt / 2 := ⟨_, rfl⟩
      have e_hh : (tt : Int) / 2 = (hh : Int) := by omega
      have e_ht : (tt : Int).tdiv 2 = (hh : Int) := by rw [Int.tdiv_eq_ediv_of_nonneg (by omega)]; exact e_hh
      have hxd : Y + 5 * ((2 * X + 3 * Y) % 5) = d := by omega
      have hxo : X + 5 * Y = o := by omega
      have hxh : (t + 1) * (t + 2) / 2 = hh := by rw [hhh, htt, ht1, ht2]
      have hxz : (2 * X + 3 * Y) % 5 = Z := by omega
      rw [hxd, hxo, hxh, ← ht1] at hnx
      rw [hxz, ← ht1] at hpn
      have h3 := hw.el o
      have hst := fun q => (hC.drewN q).set d (rotl (el a o) hh)
      rw [← hnx] at hst
      have HST := hide hst
      have HPN := hide hpn
      have c1 := hA.cell (i := o) (by rw [hw.1]; omega)
      have c2 := hC.cell (i := d) (by rw [hmw.1]; omega)
      have f2 := hC.frozen d
      have i0 : (0 : Int) ≤ (d : Int) := Int.natCast_nonneg _
      have i1 : (d : Int) < 25 := by omega
      have i2 : (0 : Int) ≤ (o : Int) := Int.natCast_nonneg _
      have i3 : (o : Int) < 25 := by omega
      have hlf := fun w' => kleft_any (el a o) hh w' h3 (by omega)
      have HT1 := hide ht1
      clear hx2 hy3 hs5 hZ hz5 hd hy5 ho ht1 ht2 htt hhh hnx hpn hst hxd hxo hxh hxz hpl
      generalize rotl (el a o) hh = r at *
      generalize el a o = p at *
      generalize el (movN a t) d = q at *
      go_wp2_with (first
        | (go_at_call 103; refine (hlf _).mono ?_; rintro e w5 ⟨rfl, mm, rfl⟩)
        | fail)
      exact ⟨⟨t1, by have := HT1.out; omega, rfl, by rw [HPN.out], by rw [HPN.out], HST.out _, (hB.drewN _).setCell d _⟩, by have := HT1.out; simp [intOf]; omega⟩
    · obtain rfl : t = 24 := by omega
      have hmk : movN a 24 = moveK a := rfl
      rw [hmk] at hC hmw
      have hRz := hR1.but hB (by omega)
      have hbx := hb1.trans (hB.below (by omega) hb1.size)
      have hOf : Lies .u64 57 (wr.setRow (w.heap.size + 1) (arr .u64 (moveK a))) (w.heap.size + 1) (moveK a) := hRz.row
      have hbf := hbx.trans ((But.setRow (But.refl (w.heap.size + 1) _) (arr .u64 (moveK a))).below (by omega) hbx.size)
      have hsl := hmw.1
      clear hmk
      go_wp2_with (first
        | (refine wpList_load_row rfl 57 _ (by rfl) (w.heap.size + 1 + 1) (by rfl) _ _ _ (.array 25 45) hC (by kernel_rfl) rfl (by rw [arr_size, hsl]; kernel_rfl) ?_)
        | (refine wpList_store_row rfl 57 _ _ (by rfl) (w.heap.size + 1) (arr .u64 (moveK a)) (by rfl) (by rfl) _ _ hRz (by rw [arr_size, hsl]; kernel_rfl) (by rw [arr_size, arr_size, hsl, zs_len]) (arr_one _ _) ?_)
        | fail)
      refine bodyPost_ret (v := .agg (arr .u64 (moveK a))) ?_ rfl ⟨rfl, hbf⟩
      exact results_cell_row Tryz.results86 _ _ (w.heap.size + 1) _ _ _ (.array 25 45) (by rfl) hOf (by kernel_rfl) rfl (by rw [arr_size, hsl]; kernel_rfl)
end Go.Proofs.YtejlmgbmfeacdaaGreatDoor

/- Contract of the document's constants. -/
namespace Go.Proofs.YtejlmgbmfeacdaaGreatDoor
open Go.RowKit
set_option linter.unusedVariables false
set_option linter.unusedSimpArgs false

theorem zero24 : ∀ w, (zeroValue 105).run Tryz.prog w = .ok (.agg (arr .u64 (zs 24))) w := zero_arr (by kernel_rfl)
theorem reg_next (n : Nat) : reg (n + 1) = if 256 ≤ reg n * 2 then (reg n * 2 % 256) ^^^ 113 else reg n * 2 := rfl
theorem cstN_next (n : Nat) : cstN (n + 1) = if reg n % 2 = 1 then (cstN n).set (n / 7) (el (cstN n) (n / 7) ||| 2 ^ (2 ^ (n % 7) - 1)) else cstN n := rfl
theorem and_one (x : Nat) (hx : x < 18446744073709551616) : bits .and .u64 (x : Int) 1 = ((x % 2 : Nat) : Int) := by
  rw [show (1 : Int) = ((1 : Nat) : Int) from rfl, u64_and_nat x _ hx (by decide)]
  congr 1
  exact Nat.and_two_pow_sub_one_eq_mod x 1
theorem and_255 (x : Nat) (hx : x < 18446744073709551616) : bits .and .u64 (x : Int) 255 = ((x % 256 : Nat) : Int) := by
  rw [show (255 : Int) = ((255 : Nat) : Int) from rfl, u64_and_nat x _ hx (by decide)]
  congr 1
  exact Nat.and_two_pow_sub_one_eq_mod x 8
/-- where the loop stands -/
def KCst (w x1 : World) (r i : Value) (wr : World) : Prop := ∃ n : Nat, n ≤ 168 ∧ i = .int .i64 n ∧ r = .int .u64 (reg n : Nat) ∧ Lies .u64 105 wr (w.heap.size + 1) (cstN n) ∧ But (w.heap.size + 1) x1 wr

set_option maxHeartbeats 4000000 in
set_option maxRecDepth 100000 in
theorem kconst_any (w : World) :
    Calls Tryz.prog 85 #[] w fun e w' => e = .returned (.agg (arr .u64 csts)) ∧ Below w.heap.size w w' := by
  have hz := zero24
  have hR1 : Lies .u64 105 ((w.alloc (.cells (arr .u64 (zs 24)) 105)).alloc (.cells (arr .u64 (zs 24)) 105)) w.heap.size (zs 24) := (Lies.new .u64 105 w (zs 24)).alloc _
  have hC1 : Lies .u64 105 ((w.alloc (.cells (arr .u64 (zs 24)) 105)).alloc (.cells (arr .u64 (zs 24)) 105)) (w.heap.size + 1) (zs 24) := by
    have := Lies.new .u64 105 (w.alloc (.cells (arr .u64 (zs 24)) 105)) (zs 24)
    rw [World.size_alloc] at this
    exact this
  have hb1 := keep_trans (keep_alloc w (.cells (arr .u64 (zs 24)) 105)) (keep_alloc _ (.cells (arr .u64 (zs 24)) 105))
  go_enter Tryz.func85, Tryz.ntmps85
  go_wp2
  clear hz
  generalize (w.alloc (.cells (arr .u64 (zs 24)) 105)).alloc (.cells (arr .u64 (zs 24)) 105) = x1 at *
  go_loopw [2, 3] (fun r i wr => KCst w x1 r i wr) (fun _ i _ => 168 - (intOf i).toNat)
  case atStart => exact ⟨0, Nat.zero_le _, rfl, rfl, hC1, But.refl _ _⟩
  case round =>
    obtain ⟨n, hn, rfl, rfl, hC, hB⟩ := hrel
    by_cases hlt : n < 168
    · have hrl := reg_lt n
      have hrn := reg_next n
      have hcn := cstN_next n
      have hcu := cstN_under n
      have hcl := cstN_length n
      generalize reg n = R at *
      obtain ⟨n1, hn1⟩ : ∃ x : Nat, x = n + 1 := ⟨_, rfl⟩
      have e_n : (n : Int) + 1 = (n1 : Int) := by omega
      have r_n : IntKind.i64.wrap (n1 : Int) = (n1 : Int) := by rw [IntKind.wrap_i64]; omega
      obtain ⟨R2, hR2⟩ : ∃ x : Nat, x = R * 2 := ⟨_, rfl⟩
      have e_R : (R : Int) * 2 = (R2 : Int) := by omega
      have r_R : IntKind.u64.wrap (R2 : Int) = (R2 : Int) := by rw [IntKind.wrap_u64]; omega
      have ha5 := and_255 R2 (by omega)
      have hx5 := xor_k (R2 % 256) 113 (by omega) (by decide)
      obtain ⟨R3, hR3⟩ : ∃ x : Nat, x = R2 % 256 := ⟨_, rfl⟩
      obtain ⟨R4, hR4⟩ : ∃ x : Nat, x = R3 ^^^ 113 := ⟨_, rfl⟩
      rw [← hR3] at ha5 hx5
      rw [← hR4] at hx5
      have ha1 := and_one R (by omega)
      obtain ⟨Rn, hRn, hge⟩ : ∃ x : Nat, reg n1 = x ∧ (decide ((256 : Int) ≤ (R2 : Int)) = true ∧ x = R4 ∨ decide ((256 : Int) ≤ (R2 : Int)) = false ∧ x = R2) := by
        refine ⟨_, rfl, ?_⟩
        rw [hn1, hrn]
        by_cases h : 256 ≤ R * 2
        · left; rw [if_pos h]; exact ⟨decide_eq_true (by omega), by rw [hR4, hR3, hR2]⟩
        · right; rw [if_neg h]; exact ⟨decide_eq_false (by omega), hR2.symm⟩
      have HRN := hide hRn
      have HN1 := hide hn1
      by_cases hodd : R % 2 = 1
      · rw [hodd] at ha1
        rw [if_pos hodd, ← hn1] at hcn
        obtain ⟨j, hj⟩ : ∃ x : Nat, x = n / 7 := ⟨_, rfl⟩
        have e_j : (n : Int) / 7 = (j : Int) := by omega
        have e_jt : (n : Int).tdiv 7 = (j : Int) := by rw [Int.tdiv_eq_ediv_of_nonneg (by omega)]; exact e_j
        rw [← hj] at hcn
        have c1 := hC.cell (i := j) (by omega)
        have f1 := hC.frozen j
        have i0 : (0 : Int) ≤ (j : Int) := Int.natCast_nonneg _
        have i1 : (j : Int) < 24 := by omega
        have h1 : el (cstN n) j < 18446744073709551616 := el_lt hcu (by decide) j
        have hst := fun v => hC.set j v
        generalize hp : el (cstN n) j = p at *
        clear hj
        have hm7 : n % 7 = 0 ∨ n % 7 = 1 ∨ n % 7 = 2 ∨ n % 7 = 3 ∨ n % 7 = 4 ∨ n % 7 = 5 ∨ n % 7 = 6 := by omega
        rcases hm7 with hm | hm | hm | hm | hm | hm | hm
        · have e_m : (n : Int) % 7 = 0 := by omega
          have e_mt : (n : Int).tmod 7 = 0 := by rw [Int.tmod_eq_emod_of_nonneg (by omega)]; exact e_m
          rw [hm] at hcn
          have hq : (2 : Nat) ^ (2 ^ 0 - 1) = 1 := by decide
          rw [hq] at hcn
          have ho : bits .or .u64 (p : Int) 1 = ((p ||| 1 : Nat) : Int) := u64_or_nat p 1 h1 (by decide)
          have hst1 := hst (p ||| 1)
          rw [← hcn] at hst1
          have HST := hide hst1
          obtain ⟨po, hpo⟩ : ∃ x : Nat, x = p ||| 1 := ⟨_, rfl⟩
          rw [← hpo] at ho
          rw [← hpo] at HST
          clear hcn hst hst1 hq hm hpo hR2 hR3 hR4 hrn hn1 hRn hodd hp hcu hcl hrl
          rcases hge with ⟨hge, hx⟩ | ⟨hge, hx⟩
          all_goals (
            have HX := hide hx
            clear hx
            go_wp2
            go_region
            go_wp2
            first
              | exact ⟨⟨n1, by have := HN1.out; omega, rfl, by first | (rw [HRN.out, HX.out]; done) | (rw [HRN.out, HX.out]; exact vint hx5), HST.out, (hB.setCell j _).drew⟩, by have := HN1.out; simp [intOf]; omega⟩
              | (go_roundw
                 case rel =>
                   (repeat apply Exists.intro)
                   exact ⟨⟨n1, by have := HN1.out; omega, rfl, by first | (rw [HRN.out, HX.out]; done) | (rw [HRN.out, HX.out]; exact vint hx5), HST.out, (hB.setCell j _).drew⟩, rfl⟩
                 case measure => have := HN1.out; simp [intOf]; omega))
        · have e_m : (n : Int) % 7 = 1 := by omega
          have e_mt : (n : Int).tmod 7 = 1 := by rw [Int.tmod_eq_emod_of_nonneg (by omega)]; exact e_m
          rw [hm] at hcn
          have hq : (2 : Nat) ^ (2 ^ 1 - 1) = 2 := by decide
          rw [hq] at hcn
          have ho : bits .or .u64 (p : Int) 2 = ((p ||| 2 : Nat) : Int) := u64_or_nat p 2 h1 (by decide)
          have hst1 := hst (p ||| 2)
          rw [← hcn] at hst1
          have HST := hide hst1
          obtain ⟨po, hpo⟩ : ∃ x : Nat, x = p ||| 2 := ⟨_, rfl⟩
          rw [← hpo] at ho
          rw [← hpo] at HST
          clear hcn hst hst1 hq hm hpo hR2 hR3 hR4 hrn hn1 hRn hodd hp hcu hcl hrl
          rcases hge with ⟨hge, hx⟩ | ⟨hge, hx⟩
          all_goals (
            have HX := hide hx
            clear hx
            go_wp2
            go_region
            go_wp2
            first
              | exact ⟨⟨n1, by have := HN1.out; omega, rfl, by first | (rw [HRN.out, HX.out]; done) | (rw [HRN.out, HX.out]; exact vint hx5), HST.out, (hB.setCell j _).drew⟩, by have := HN1.out; simp [intOf]; omega⟩
              | (go_roundw
                 case rel =>
                   (repeat apply Exists.intro)
                   exact ⟨⟨n1, by have := HN1.out; omega, rfl, by first | (rw [HRN.out, HX.out]; done) | (rw [HRN.out, HX.out]; exact vint hx5), HST.out, (hB.setCell j _).drew⟩, rfl⟩
                 case measure => have := HN1.out; simp [intOf]; omega))
        · have e_m : (n : Int) % 7 = 2 := by omega
          have e_mt : (n : Int).tmod 7 = 2 := by rw [Int.tmod_eq_emod_of_nonneg (by omega)]; exact e_m
          rw [hm] at hcn
          have hq : (2 : Nat) ^ (2 ^ 2 - 1) = 8 := by decide
          rw [hq] at hcn
          have ho : bits .or .u64 (p : Int) 8 = ((p ||| 8 : Nat) : Int) := u64_or_nat p 8 h1 (by decide)
          have hst1 := hst (p ||| 8)
          rw [← hcn] at hst1
          have HST := hide hst1
          obtain ⟨po, hpo⟩ : ∃ x : Nat, x = p ||| 8 := ⟨_, rfl⟩
          rw [← hpo] at ho
          rw [← hpo] at HST
          clear hcn hst hst1 hq hm hpo hR2 hR3 hR4 hrn hn1 hRn hodd hp hcu hcl hrl
          rcases hge with ⟨hge, hx⟩ | ⟨hge, hx⟩
          all_goals (
            have HX := hide hx
            clear hx
            go_wp2
            go_region
            go_wp2
            first
              | exact ⟨⟨n1, by have := HN1.out; omega, rfl, by first | (rw [HRN.out, HX.out]; done) | (rw [HRN.out, HX.out]; exact vint hx5), HST.out, (hB.setCell j _).drew⟩, by have := HN1.out; simp [intOf]; omega⟩
              | (go_roundw
                 case rel =>
                   (repeat apply Exists.intro)
                   exact ⟨⟨n1, by have := HN1.out; omega, rfl, by first | (rw [HRN.out, HX.out]; done) | (rw [HRN.out, HX.out]; exact vint hx5), HST.out, (hB.setCell j _).drew⟩, rfl⟩
                 case measure => have := HN1.out; simp [intOf]; omega))
        · have e_m : (n : Int) % 7 = 3 := by omega
          have e_mt : (n : Int).tmod 7 = 3 := by rw [Int.tmod_eq_emod_of_nonneg (by omega)]; exact e_m
          rw [hm] at hcn
          have hq : (2 : Nat) ^ (2 ^ 3 - 1) = 128 := by decide
          rw [hq] at hcn
          have ho : bits .or .u64 (p : Int) 128 = ((p ||| 128 : Nat) : Int) := u64_or_nat p 128 h1 (by decide)
          have hst1 := hst (p ||| 128)
          rw [← hcn] at hst1
          have HST := hide hst1
          obtain ⟨po, hpo⟩ : ∃ x : Nat, x = p ||| 128 := ⟨_, rfl⟩
          rw [← hpo] at ho
          rw [← hpo] at HST
          clear hcn hst hst1 hq hm hpo hR2 hR3 hR4 hrn hn1 hRn hodd hp hcu hcl hrl
          rcases hge with ⟨hge, hx⟩ | ⟨hge, hx⟩
          all_goals (
            have HX := hide hx
            clear hx
            go_wp2
            go_region
            go_wp2
            first
              | exact ⟨⟨n1, by have := HN1.out; omega, rfl, by first | (rw [HRN.out, HX.out]; done) | (rw [HRN.out, HX.out]; exact vint hx5), HST.out, (hB.setCell j _).drew⟩, by have := HN1.out; simp [intOf]; omega⟩
              | (go_roundw
                 case rel =>
                   (repeat apply Exists.intro)
                   exact ⟨⟨n1, by have := HN1.out; omega, rfl, by first | (rw [HRN.out, HX.out]; done) | (rw [HRN.out, HX.out]; exact vint hx5), HST.out, (hB.setCell j _).drew⟩, rfl⟩
                 case measure => have := HN1.out; simp [intOf]; omega))
        · have e_m : (n : Int) % 7 = 4 := by omega
          have e_mt : (n : Int).tmod 7 = 4 := by rw [Int.tmod_eq_emod_of_nonneg (by omega)]; exact e_m
          rw [hm] at hcn
          have hq : (2 : Nat) ^ (2 ^ 4 - 1) = 32768 := by decide
          rw [hq] at hcn
          have ho : bits .or .u64 (p : Int) 32768 = ((p ||| 32768 : Nat) : Int) := u64_or_nat p 32768 h1 (by decide)
          have hst1 := hst (p ||| 32768)
          rw [← hcn] at hst1
          have HST := hide hst1
          obtain ⟨po, hpo⟩ : ∃ x : Nat, x = p ||| 32768 := ⟨_, rfl⟩
          rw [← hpo] at ho
          rw [← hpo] at HST
          clear hcn hst hst1 hq hm hpo hR2 hR3 hR4 hrn hn1 hRn hodd hp hcu hcl hrl
          rcases hge with ⟨hge, hx⟩ | ⟨hge, hx⟩
          all_goals (
            have HX := hide hx
            clear hx
            go_wp2
            go_region
            go_wp2
            first
              | exact ⟨⟨n1, by have := HN1.out; omega, rfl, by first | (rw [HRN.out, HX.out]; done) | (rw [HRN.out, HX.out]; exact vint hx5), HST.out, (hB.setCell j _).drew⟩, by have := HN1.out; simp [intOf]; omega⟩
              | (go_roundw
                 case rel =>
                   (repeat apply Exists.intro)
                   exact ⟨⟨n1, by have := HN1.out; omega, rfl, by first | (rw [HRN.out, HX.out]; done) | (rw [HRN.out, HX.out]; exact vint hx5), HST.out, (hB.setCell j _).drew⟩, rfl⟩
                 case measure => have := HN1.out; simp [intOf]; omega))
        · have e_m : (n : Int) % 7 = 5 := by omega
          have e_mt : (n : Int).tmod 7 = 5 := by rw [Int.tmod_eq_emod_of_nonneg (by omega)]; exact e_m
          rw [hm] at hcn
          have hq : (2 : Nat) ^ (2 ^ 5 - 1) = 2147483648 := by decide
          rw [hq] at hcn
          have ho : bits .or .u64 (p : Int) 2147483648 = ((p ||| 2147483648 : Nat) : Int) := u64_or_nat p 2147483648 h1 (by decide)
          have hst1 := hst (p ||| 2147483648)
          rw [← hcn] at hst1
          have HST := hide hst1
          obtain ⟨po, hpo⟩ : ∃ x : Nat, x = p ||| 2147483648 := ⟨_, rfl⟩
          rw [← hpo] at ho
          rw [← hpo] at HST
          clear hcn hst hst1 hq hm hpo hR2 hR3 hR4 hrn hn1 hRn hodd hp hcu hcl hrl
          rcases hge with ⟨hge, hx⟩ | ⟨hge, hx⟩
          all_goals (
            have HX := hide hx
            clear hx
            go_wp2
            go_region
            go_wp2
            first
              | exact ⟨⟨n1, by have := HN1.out; omega, rfl, by first | (rw [HRN.out, HX.out]; done) | (rw [HRN.out, HX.out]; exact vint hx5), HST.out, (hB.setCell j _).drew⟩, by have := HN1.out; simp [intOf]; omega⟩
              | (go_roundw
                 case rel =>
                   (repeat apply Exists.intro)
                   exact ⟨⟨n1, by have := HN1.out; omega, rfl, by first | (rw [HRN.out, HX.out]; done) | (rw [HRN.out, HX.out]; exact vint hx5), HST.out, (hB.setCell j _).drew⟩, rfl⟩
                 case measure => have := HN1.out; simp [intOf]; omega))
        · have e_m : (n : Int) % 7 = 6 := by omega
          have e_mt : (n : Int).tmod 7 = 6 := by rw [Int.tmod_eq_emod_of_nonneg (by omega)]; exact e_m
          rw [hm] at hcn
          have hq : (2 : Nat) ^ (2 ^ 6 - 1) = 9223372036854775808 := by decide
          rw [hq] at hcn
          have ho : bits .or .u64 (p : Int) 9223372036854775808 = ((p ||| 9223372036854775808 : Nat) : Int) := u64_or_nat p 9223372036854775808 h1 (by decide)
          have hst1 := hst (p ||| 9223372036854775808)
          rw [← hcn] at hst1
          have HST := hide hst1
          obtain ⟨po, hpo⟩ : ∃ x : Nat, x = p ||| 9223372036854775808 := ⟨_, rfl⟩
          rw [← hpo] at ho
          rw [← hpo] at HST
          clear hcn hst hst1 hq hm hpo hR2 hR3 hR4 hrn hn1 hRn hodd hp hcu hcl hrl
          rcases hge with ⟨hge, hx⟩ | ⟨hge, hx⟩
          all_goals (
            have HX := hide hx
            clear hx
            go_wp2
            go_region
            go_wp2
            first
              | exact ⟨⟨n1, by have := HN1.out; omega, rfl, by first | (rw [HRN.out, HX.out]; done) | (rw [HRN.out, HX.out]; exact vint hx5), HST.out, (hB.setCell j _).drew⟩, by have := HN1.out; simp [intOf]; omega⟩
              | (go_roundw
                 case rel =>
                   (repeat apply Exists.intro)
                   exact ⟨⟨n1, by have := HN1.out; omega, rfl, by first | (rw [HRN.out, HX.out]; done) | (rw [HRN.out, HX.out]; exact vint hx5), HST.out, (hB.setCell j _).drew⟩, rfl⟩
                 case measure => have := HN1.out; simp [intOf]; omega))
      · have ha0 : bits .and .u64 (R : Int) 1 = 0 := by rw [ha1]; omega
        rw [if_neg hodd, ← hn1] at hcn
        have HCN := hide hcn
        clear ha1 hcn hR2 hR3 hR4 hrn hn1 hRn hodd hcu hcl hrl
        rcases hge with ⟨hge, hx⟩ | ⟨hge, hx⟩
        all_goals (
          have HX := hide hx
          clear hx
          go_wp2
          first
            | exact ⟨⟨n1, by have := HN1.out; omega, rfl, by first | (rw [HRN.out, HX.out]; done) | (rw [HRN.out, HX.out]; exact vint hx5), by rw [HCN.out]; exact hC, hB⟩, by have := HN1.out; simp [intOf]; omega⟩
            | (go_roundw
               case rel =>
                 (repeat apply Exists.intro)
                 exact ⟨⟨n1, by have := HN1.out; omega, rfl, by first | (rw [HRN.out, HX.out]; done) | (rw [HRN.out, HX.out]; exact vint hx5), by rw [HCN.out]; exact hC, hB⟩, rfl⟩
               case measure => have := HN1.out; simp [intOf]; omega))
    · obtain rfl : n = 168 := by omega
      have hck : cstN 168 = csts := rfl
      rw [hck] at hC
      have hRz := hR1.but hB (by omega)
      have hbx := hb1.trans (hB.below (by omega) hb1.size)
      have hOf : Lies .u64 105 (wr.setRow w.heap.size (arr .u64 csts)) w.heap.size csts := hRz.row
      have hbf := hbx.trans ((But.setRow (But.refl w.heap.size _) (arr .u64 csts)).below (by omega) hbx.size)
      have hsl := csts_length
      clear hck
      go_wp2_with (first
        | (refine wpList_load_row rfl 105 _ (by rfl) (w.heap.size + 1) (by rfl) _ _ _ (.array 24 45) hC (by kernel_rfl) rfl (by rw [arr_size, hsl]; kernel_rfl) ?_)
        | (refine wpList_store_row rfl 105 _ _ (by rfl) w.heap.size (arr .u64 csts) (by rfl) (by rfl) _ _ hRz (by rw [arr_size, hsl]; kernel_rfl) (by rw [arr_size, arr_size, hsl, zs_len]) (arr_one _ _) ?_)
        | fail)
      refine bodyPost_ret (v := .agg (arr .u64 csts)) ?_ rfl ⟨rfl, hbf⟩
      exact results_cell_row Tryz.results85 _ _ w.heap.size _ _ _ (.array 24 45) (by rfl) hOf (by kernel_rfl) rfl (by rw [arr_size, hsl]; kernel_rfl)
end Go.Proofs.YtejlmgbmfeacdaaGreatDoor
