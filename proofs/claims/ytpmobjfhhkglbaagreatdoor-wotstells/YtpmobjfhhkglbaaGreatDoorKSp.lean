/- Contract of the document's spread. -/
import Derived.Test.YtpmobjfhhkglbaaGreatDoorWtF
namespace Go.Proofs.YtpmobjfhhkglbaaGreatDoor
open Go.RowKit
set_option linter.unusedVariables false
set_option linter.unusedSimpArgs false

/-- so many zeros, under a name of their own -/
def zs (n : Nat) : List Nat := List.replicate n 0
theorem zs_len (n : Nat) : (zs n).length = n := List.length_replicate
theorem zero25 : ∀ w, (zeroValue 79).run Tryz.prog w = .ok (.agg (arr .u64 (zs 25))) w := zero_arr (by kernel_rfl)
theorem zero5 : ∀ w, (zeroValue 130).run Tryz.prog w = .ok (.agg (arr .u64 (zs 5))) w := zero_arr (by kernel_rfl)
theorem xor_k (x y : Nat) (hx : x < 18446744073709551616) (hy : y < 18446744073709551616) : bits .xor .u64 (x : Int) (y : Int) = ((x ^^^ y : Nat) : Int) := u64_xor_nat x y hx hy
theorem colN_next (a : List Nat) (n : Nat) : colN a (n + 1) = (colN a n).set (n % 5) (el (colN a n) (n % 5) ^^^ el a n) := rfl
theorem sprN_next (a c : List Nat) (n : Nat) : sprN a c (n + 1) = (sprN a c n).set n (el (sprN a c n) n ^^^ el c ((n + 4) % 5) ^^^ rotl (el c ((n + 1) % 5)) 1) := rfl

set_option maxHeartbeats 4000000 in
set_option maxRecDepth 100000 in
theorem kspread_any (a : List Nat) (w : World) (hw : W25 a) :
    Calls Tryz.prog 90 #[.agg (arr .u64 a)] w fun e w' => e = .returned (.agg (arr .u64 (spreadK a))) ∧ Below w.heap.size w w' := by
  have hz := zero25
  have hz5 := zero5
  have hA1 : Lies .u64 79 (((w.alloc (.cells (arr .u64 a) 79)).alloc (.cells (arr .u64 (zs 25)) 79)).alloc (.cells (arr .u64 (zs 5)) 130)) w.heap.size a := ((Lies.new .u64 79 w a).alloc _).alloc _
  have hR1 : Lies .u64 79 (((w.alloc (.cells (arr .u64 a) 79)).alloc (.cells (arr .u64 (zs 25)) 79)).alloc (.cells (arr .u64 (zs 5)) 130)) (w.heap.size + 1) (zs 25) := by
    have := (Lies.new .u64 79 (w.alloc (.cells (arr .u64 a) 79)) (zs 25)).alloc (.cells (arr .u64 (zs 5)) 130)
    rw [World.size_alloc] at this
    exact this
  have hC1 : Lies .u64 130 (((w.alloc (.cells (arr .u64 a) 79)).alloc (.cells (arr .u64 (zs 25)) 79)).alloc (.cells (arr .u64 (zs 5)) 130)) (w.heap.size + 1 + 1) (zs 5) := by
    have := Lies.new .u64 130 ((w.alloc (.cells (arr .u64 a) 79)).alloc (.cells (arr .u64 (zs 25)) 79)) (zs 5)
    rw [World.size_alloc, World.size_alloc] at this
    exact this
  have hb1 := keep_trans (keep_trans (keep_alloc w (.cells (arr .u64 a) 79)) (keep_alloc _ (.cells (arr .u64 (zs 25)) 79))) (keep_alloc _ (.cells (arr .u64 (zs 5)) 130))
  go_enter Tryz.func90, Tryz.ntmps90
  go_wp2
  clear hz hz5
  generalize ((w.alloc (.cells (arr .u64 a) 79)).alloc (.cells (arr .u64 (zs 25)) 79)).alloc (.cells (arr .u64 (zs 5)) 130) = x1 at *
  go_loopw [4] (fun i wr => ∃ n : Nat, n ≤ 25 ∧ i = .int .i64 n ∧ Lies .u64 130 wr (w.heap.size + 1 + 1) (colN a n) ∧ But (w.heap.size + 1 + 1) x1 wr) (fun i _ => 25 - (intOf i).toNat)
  case atStart => exact ⟨0, Nat.zero_le _, rfl, hC1, But.refl _ _⟩
  case round =>
    obtain ⟨n, hn, rfl, hC, hB⟩ := hrel
    have hA := hA1.but hB (by omega)
    by_cases hlt : n < 25
    · obtain ⟨m, hm⟩ : ∃ m, m = n % 5 := ⟨_, rfl⟩
      have hmi : (n : Int) % 5 = (m : Int) := by omega
      have hm5 : m < 5 := by omega
      have hnx := colN_next a n
      rw [← hm] at hnx
      have h1 : el (colN a n) m < 18446744073709551616 := el_lt (colN_under hw n) (by decide) m
      have h2 := hw.el n
      have hst := hC.set m (el (colN a n) m ^^^ el a n)
      rw [← hnx] at hst
      have HST := hide hst
      have c1 := hC.cell (i := m) (by rw [colN_length]; omega)
      have f1 := hC.frozen m
      have c2 := hA.cell (i := n) (by rw [hw.1]; omega)
      have i0 : (0 : Int) ≤ (n : Int) := Int.natCast_nonneg _
      have i1 : (n : Int) < 25 := by omega
      have i2 : (0 : Int) ≤ (m : Int) := Int.natCast_nonneg _
      have i3 : (m : Int) < 5 := by omega
      clear hm hnx hst
      generalize el (colN a n) m = p at *
      generalize el a n = q at *
      go_wp2
      go_region
      go_wp2
      rw [xor_k p q h1 h2]
      exact ⟨⟨n + 1, by omega, by go_num, HST.out, (hB.setCell m _).drew⟩, by simp [intOf]; omega⟩
    · obtain rfl : n = 25 := by omega
      have hcu := colN_under hw 25
      have hcl := colN_length a 25
      have hsp : spreadK a = sprN a (colN a 25) 25 := rfl
      have HSP := hide hsp
      clear hsp
      generalize colN a 25 = c at *
      have hR := hR1.but hB (by omega)
      have hbx := hb1.trans (hB.below (by omega) hb1.size)
      clear hA1 hR1 hC1 hb1 hB
      go_wp2
      go_loopw [5] (fun i wz => ∃ n : Nat, n ≤ 25 ∧ i = .int .i64 n ∧ Lies .u64 79 wz w.heap.size (sprN a c n) ∧ But w.heap.size wr wz) (fun i _ => 25 - (intOf i).toNat)
      case atStart => exact ⟨0, Nat.zero_le _, rfl, hA, But.refl _ _⟩
      case round =>
        clear hA
        obtain ⟨n, hn, rfl, hA, hB⟩ := hrel
        have hsw := sprN_w hw hcu n
        by_cases hlt : n < 25
        · obtain ⟨m, hm⟩ : ∃ m, m = (n + 4) % 5 := ⟨_, rfl⟩
          obtain ⟨k, hk⟩ : ∃ k, k = (n + 1) % 5 := ⟨_, rfl⟩
          obtain ⟨n4, hn4⟩ : ∃ n4, n4 = n + 4 := ⟨_, rfl⟩
          obtain ⟨n1, hn1⟩ : ∃ n1, n1 = n + 1 := ⟨_, rfl⟩
          have e4 : (n : Int) + 4 = (n4 : Int) := by omega
          have e1 : (n : Int) + 1 = (n1 : Int) := by omega
          have r4 : IntKind.i64.wrap (n4 : Int) = (n4 : Int) := by rw [IntKind.wrap_i64]; omega
          have r1 : IntKind.i64.wrap (n1 : Int) = (n1 : Int) := by rw [IntKind.wrap_i64]; omega
          have hmi : (n4 : Int) % 5 = (m : Int) := by omega
          have hki : (n1 : Int) % 5 = (k : Int) := by omega
          have hmt : (n4 : Int).tmod 5 = (m : Int) := by rw [Int.tmod_eq_emod_of_nonneg (by omega)]; exact hmi
          have hkt : (n1 : Int).tmod 5 = (k : Int) := by rw [Int.tmod_eq_emod_of_nonneg (by omega)]; exact hki
          have HN1 := hide hn1
          have hCz := hC.but hB (by omega)
          have hnx := sprN_next a c n
          rw [← hm, ← hk] at hnx
          have h1 := hsw.el n
          have h2 : el c m < 18446744073709551616 := el_lt hcu (by decide) m
          have h3 : el c k < 18446744073709551616 := el_lt hcu (by decide) k
          have h4 := rotl_lt h3 1
          have hst := fun q => (hA.drewN q).set n (el (sprN a c n) n ^^^ el c m ^^^ rotl (el c k) 1)
          rw [← hnx, ← hn1] at hst
          have HST := hide hst
          have c1 := hA.cell (i := n) (by rw [hsw.1]; omega)
          have f1 := hA.frozen n
          have c2 := hCz.cell (i := m) (by omega)
          have c3 := hCz.cell (i := k) (by omega)
          have i0 : (0 : Int) ≤ (n : Int) := Int.natCast_nonneg _
          have i1 : (n : Int) < 25 := by omega
          have i2 : (0 : Int) ≤ (m : Int) := Int.natCast_nonneg _
          have i3 : (m : Int) < 5 := by omega
          have i4 : (0 : Int) ≤ (k : Int) := Int.natCast_nonneg _
          have i5 : (k : Int) < 5 := by omega
          have hlf := fun w' => kleft_any (el c k) 1 w' h3 (by decide)
          clear hm hk hnx hst hn4 hn1
          generalize el (sprN a c n) n = p at *
          generalize el c m = q at *
          generalize rotl (el c k) 1 = r at *
          generalize el c k = t at *
          go_wp2
          go_region_with (go_at_call 109; refine (hlf _).mono ?_; rintro e w5 ⟨rfl, mm, rfl⟩)
          all_goals (
            go_wp2
            rw [xor_k p q h1 h2, xor_k _ r (xor_w h1 h2) h4]
            first
              | exact ⟨⟨n1, by have := HN1.out; omega, rfl, HST.out _, (hB.drewN _).setCell n _⟩, by have := HN1.out; simp [intOf]; omega⟩
              | (go_roundw
                 case rel =>
                   (repeat apply Exists.intro)
                   exact ⟨⟨n1, by have := HN1.out; omega, rfl, HST.out _, (hB.drewN _).setCell n _⟩, rfl⟩
                 case measure => have := HN1.out; simp [intOf]; omega))
        · obtain rfl : n = 25 := by omega
          rw [← HSP.out] at hA hsw
          have hRz := hR.but hB (by omega)
          have hOf : Lies .u64 79 (wr.setRow (w.heap.size + 1) (arr .u64 (spreadK a))) (w.heap.size + 1) (spreadK a) := hRz.row
          have hbf := (hbx.trans (hB.below (Nat.le_refl _) hbx.size)).trans ((But.setRow (But.refl (w.heap.size + 1) _) (arr .u64 (spreadK a))).below (by omega) (by have := hbx.size; have := hB.size; omega))
          have hsl := hsw.1
          go_wp2_with (first
            | (refine wpList_load_row rfl 79 _ (by rfl) w.heap.size (by rfl) _ _ _ (.array 25 26) hA (by kernel_rfl) rfl (by rw [arr_size, hsl]; kernel_rfl) ?_)
            | (refine wpList_store_row rfl 79 _ _ (by rfl) (w.heap.size + 1) (arr .u64 (spreadK a)) (by rfl) (by rfl) _ _ hRz (by rw [arr_size, hsl]; kernel_rfl) (by rw [arr_size, arr_size, hsl, zs_len]) (arr_one _ _) ?_)
            | fail)
          refine bodyPost_ret (v := .agg (arr .u64 (spreadK a))) ?_ rfl ⟨rfl, hbf⟩
          exact results_cell_row Tryz.results90 _ _ (w.heap.size + 1) _ _ _ (.array 25 26) (by rfl) hOf (by kernel_rfl) rfl (by rw [arr_size, hsl]; kernel_rfl)
end Go.Proofs.YtpmobjfhhkglbaaGreatDoor

/- Contract of the document's move. -/
namespace Go.Proofs.YtpmobjfhhkglbaaGreatDoor
open Go.RowKit
set_option linter.unusedVariables false
set_option linter.unusedSimpArgs false

theorem movN_next (a : List Nat) (t : Nat) : movN a (t + 1) = (movN a t).set ((plc t).2 + 5 * ((2 * (plc t).1 + 3 * (plc t).2) % 5)) (rotl (el a ((plc t).1 + 5 * (plc t).2)) ((t + 1) * (t + 2) / 2)) := rfl
theorem plc_next (t : Nat) : plc (t + 1) = ((plc t).2, (2 * (plc t).1 + 3 * (plc t).2) % 5) := rfl
/-- where the loop stands -/
def KMov (w x1 : World) (a : List Nat) (x y i : Value) (wr : World) : Prop := ∃ t : Nat, t ≤ 24 ∧ i = .int .i64 t ∧ x = .int .i64 ((plc t).1 : Nat) ∧ y = .int .i64 ((plc t).2 : Nat) ∧ Lies .u64 79 wr (w.heap.size + 1 + 1) (movN a t) ∧ But (w.heap.size + 1 + 1) x1 wr

set_option maxHeartbeats 4000000 in
set_option maxRecDepth 100000 in
theorem kmove_any (a : List Nat) (w : World) (hw : W25 a) :
    Calls Tryz.prog 89 #[.agg (arr .u64 a)] w fun e w' => e = .returned (.agg (arr .u64 (moveK a))) ∧ Below w.heap.size w w' := by
  have hz := zero25
  have hA1 : Lies .u64 79 (((w.alloc (.cells (arr .u64 a) 79)).alloc (.cells (arr .u64 (zs 25)) 79)).alloc (.cells ((arr .u64 (zs 25)).setIfInBounds 0 (.int .u64 (el a 0))) 79)) w.heap.size a := ((Lies.new .u64 79 w a).alloc _).alloc _
  have hR1 : Lies .u64 79 (((w.alloc (.cells (arr .u64 a) 79)).alloc (.cells (arr .u64 (zs 25)) 79)).alloc (.cells ((arr .u64 (zs 25)).setIfInBounds 0 (.int .u64 (el a 0))) 79)) (w.heap.size + 1) (zs 25) := by
    have := (Lies.new .u64 79 (w.alloc (.cells (arr .u64 a) 79)) (zs 25)).alloc (.cells ((arr .u64 (zs 25)).setIfInBounds 0 (.int .u64 (el a 0))) 79)
    rw [World.size_alloc] at this
    exact this
  have hC1 : Lies .u64 79 (((w.alloc (.cells (arr .u64 a) 79)).alloc (.cells (arr .u64 (zs 25)) 79)).alloc (.cells ((arr .u64 (zs 25)).setIfInBounds 0 (.int .u64 (el a 0))) 79)) (w.heap.size + 1 + 1) (movN a 0) := by
    have := Lies.new .u64 79 ((w.alloc (.cells (arr .u64 a) 79)).alloc (.cells (arr .u64 (zs 25)) 79)) ((zs 25).set 0 (el a 0))
    rw [World.size_alloc, World.size_alloc, ← arr_set] at this
    exact this
  have hb1 := keep_trans (keep_trans (keep_alloc w (.cells (arr .u64 a) 79)) (keep_alloc _ (.cells (arr .u64 (zs 25)) 79))) (keep_alloc _ (.cells ((arr .u64 (zs 25)).setIfInBounds 0 (.int .u64 (el a 0))) 79))
  have c0 := (((Lies.new .u64 79 w a).alloc (.cells (arr .u64 (zs 25)) 79)).alloc (.cells (arr .u64 (zs 25)) 79)).cell (i := 0) (by rw [hw.1]; decide)
  go_enter Tryz.func89, Tryz.ntmps89
  go_wp2
  clear hz c0
  generalize (((w.alloc (.cells (arr .u64 a) 79)).alloc (.cells (arr .u64 (zs 25)) 79)).alloc (.cells ((arr .u64 (zs 25)).setIfInBounds 0 (.int .u64 (el a 0))) 79)) = x1 at *
  go_loopw [4, 5, 6] (fun x y i wr => KMov w x1 a x y i wr) (fun _ _ i _ => 24 - (intOf i).toNat)
  case atStart => exact ⟨0, Nat.zero_le _, rfl, rfl, rfl, hC1, But.refl _ _⟩
  case round =>
    obtain ⟨t, ht, rfl, rfl, rfl, hC, hB⟩ := hrel
    have hA := hA1.but hB (by omega)
    have hmw := movN_w hw t
    by_cases hlt : t < 24
    · have hpl := plc_lt t
      have hnx := movN_next a t
      have hpn := plc_next t
      generalize (plc t).1 = X at *
      generalize (plc t).2 = Y at *
      obtain ⟨x2, hx2⟩ : ∃ x : Nat, x = 2 * X := ⟨_, rfl⟩
      have e_x2 : 2 * (X : Int) = (x2 : Int) := by omega
      have r_x2 : IntKind.i64.wrap (x2 : Int) = (x2 : Int) := by rw [IntKind.wrap_i64]; omega
      obtain ⟨y3, hy3⟩ : ∃ x : Nat, x = 3 * Y := ⟨_, rfl⟩
      have e_y3 : 3 * (Y : Int) = (y3 : Int) := by omega
      have r_y3 : IntKind.i64.wrap (y3 : Int) = (y3 : Int) := by rw [IntKind.wrap_i64]; omega
      obtain ⟨s5, hs5⟩ : ∃ x : Nat, x = x2 + y3 := ⟨_, rfl⟩
      have e_s5 : (x2 : Int) + (y3 : Int) = (s5 : Int) := by omega
      have r_s5 : IntKind.i64.wrap (s5 : Int) = (s5 : Int) := by rw [IntKind.wrap_i64]; omega
      obtain ⟨Z, hZ⟩ : ∃ x : Nat, x = s5 % 5 := ⟨_, rfl⟩
      have e_Z : (s5 : Int) % 5 = (Z : Int) := by omega
      have r_Z : IntKind.i64.wrap (Z : Int) = (Z : Int) := by rw [IntKind.wrap_i64]; omega
      obtain ⟨z5, hz5⟩ : ∃ x : Nat, x = 5 * Z := ⟨_, rfl⟩
      have e_z5 : 5 * (Z : Int) = (z5 : Int) := by omega
      have r_z5 : IntKind.i64.wrap (z5 : Int) = (z5 : Int) := by rw [IntKind.wrap_i64]; omega
      obtain ⟨d, hd⟩ : ∃ x : Nat, x = Y + z5 := ⟨_, rfl⟩
      have e_d : (Y : Int) + (z5 : Int) = (d : Int) := by omega
      have r_d : IntKind.i64.wrap (d : Int) = (d : Int) := by rw [IntKind.wrap_i64]; omega
      obtain ⟨y5, hy5⟩ : ∃ x : Nat, x = 5 * Y := ⟨_, rfl⟩
      have e_y5 : 5 * (Y : Int) = (y5 : Int) := by omega
      have r_y5 : IntKind.i64.wrap (y5 : Int) = (y5 : Int) := by rw [IntKind.wrap_i64]; omega
      obtain ⟨o, ho⟩ : ∃ x : Nat, x = X + y5 := ⟨_, rfl⟩
      have e_o : (X : Int) + (y5 : Int) = (o : Int) := by omega
      have r_o : IntKind.i64.wrap (o : Int) = (o : Int) := by rw [IntKind.wrap_i64]; omega
      obtain ⟨t1, ht1⟩ : ∃ x : Nat, x = t + 1 := ⟨_, rfl⟩
      have e_t1 : (t : Int) + 1 = (t1 : Int) := by omega
      have r_t1 : IntKind.i64.wrap (t1 : Int) = (t1 : Int) := by rw [IntKind.wrap_i64]; omega
      obtain ⟨t2, ht2⟩ : ∃ x : Nat, x = t + 2 := ⟨_, rfl⟩
      have e_t2 : (t : Int) + 2 = (t2 : Int) := by omega
      have r_t2 : IntKind.i64.wrap (t2 : Int) = (t2 : Int) := by rw [IntKind.wrap_i64]; omega
      have eZt : (s5 : Int).tmod 5 = (Z : Int) := by rw [Int.tmod_eq_emod_of_nonneg (by omega)]; exact e_Z
      obtain ⟨tt, htt⟩ : ∃ x : Nat, x = t1 * t2 := ⟨_, rfl⟩
      have hle : tt ≤ 24 * 25 := by rw [htt]; exact Nat.mul_le_mul (by omega) (by omega)
      have e_tt : (t1 : Int) * (t2 : Int) = (tt : Int) := by rw [htt]; simp
      have r_tt : IntKind.i64.wrap (tt : Int) = (tt : Int) := by rw [IntKind.wrap_i64]; omega
      obtain ⟨hh, hhh⟩ : ∃ x : Nat, x = tt / 2 := ⟨_, rfl⟩
      have e_hh : (tt : Int) / 2 = (hh : Int) := by omega
      have e_ht : (tt : Int).tdiv 2 = (hh : Int) := by rw [Int.tdiv_eq_ediv_of_nonneg (by omega)]; exact e_hh
      have hxd : Y + 5 * ((2 * X + 3 * Y) % 5) = d := by omega
      have hxo : X + 5 * Y = o := by omega
      have hxh : (t + 1) * (t + 2) / 2 = hh := by rw [hhh, htt, ht1, ht2]
      have hxz : (2 * X + 3 * Y) % 5 = Z := by omega
      rw [hxd, hxo, hxh, ← ht1] at hnx
      rw [hxz, ← ht1] at hpn
      have h3 := hw.el o
      have hst := fun q => (hC.drewN q).set d (rotl (el a o) hh)
      rw [← hnx] at hst
      have HST := hide hst
      have HPN := hide hpn
      have c1 := hA.cell (i := o) (by rw [hw.1]; omega)
      have c2 := hC.cell (i := d) (by rw [hmw.1]; omega)
      have f2 := hC.frozen d
      have i0 : (0 : Int) ≤ (d : Int) := Int.natCast_nonneg _
      have i1 : (d : Int) < 25 := by omega
      have i2 : (0 : Int) ≤ (o : Int) := Int.natCast_nonneg _
      have i3 : (o : Int) < 25 := by omega
      have hlf := fun w' => kleft_any (el a o) hh w' h3 (by omega)
      have HT1 := hide ht1
      clear hx2 hy3 hs5 hZ hz5 hd hy5 ho ht1 ht2 htt hhh hnx hpn hst hxd hxo hxh hxz hpl
      generalize rotl (el a o) hh = r at *
      generalize el a o = p at *
      generalize el (movN a t) d = q at *
      go_wp2_with (first
        | (go_at_call 109; refine (hlf _).mono ?_; rintro e w5 ⟨rfl, mm, rfl⟩)
        | fail)
      exact ⟨⟨t1, by have := HT1.out; omega, rfl, by rw [HPN.out], by rw [HPN.out], HST.out _, (hB.drewN _).setCell d _⟩, by have := HT1.out; simp [intOf]; omega⟩
    · obtain rfl : t = 24 := by omega
      have hmk : movN a 24 = moveK a := rfl
      rw [hmk] at hC hmw
      have hRz := hR1.but hB (by omega)
      have hbx := hb1.trans (hB.below (by omega) hb1.size)
      have hOf : Lies .u64 79 (wr.setRow (w.heap.size + 1) (arr .u64 (moveK a))) (w.heap.size + 1) (moveK a) := hRz.row
      have hbf := hbx.trans ((But.setRow (But.refl (w.heap.size + 1) _) (arr .u64 (moveK a))).below (by omega) hbx.size)
      have hsl := hmw.1
      clear hmk
      go_wp2_with (first
        | (refine wpList_load_row rfl 79 _ (by rfl) (w.heap.size + 1 + 1) (by rfl) _ _ _ (.array 25 26) hC (by kernel_rfl) rfl (by rw [arr_size, hsl]; kernel_rfl) ?_)
        | (refine wpList_store_row rfl 79 _ _ (by rfl) (w.heap.size + 1) (arr .u64 (moveK a)) (by rfl) (by rfl) _ _ hRz (by rw [arr_size, hsl]; kernel_rfl) (by rw [arr_size, arr_size, hsl, zs_len]) (arr_one _ _) ?_)
        | fail)
      refine bodyPost_ret (v := .agg (arr .u64 (moveK a))) ?_ rfl ⟨rfl, hbf⟩
      exact results_cell_row Tryz.results89 _ _ (w.heap.size + 1) _ _ _ (.array 25 26) (by rfl) hOf (by kernel_rfl) rfl (by rw [arr_size, hsl]; kernel_rfl)
end Go.Proofs.YtpmobjfhhkglbaaGreatDoor
