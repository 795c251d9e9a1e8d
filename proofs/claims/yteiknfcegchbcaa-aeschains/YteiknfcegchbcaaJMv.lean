/- The code's moved. -/
import Derived.Test.YteiknfcegchbcaaJGa
import Derived.Test.YteiknfcegchbcaaAEch
import Derived.Test.YteiknfcegchbcaaBase
import Derived.Test.YteiknfcegchbcaaJDb
namespace Go.Proofs.Yteiknfcegchbcaa
open Go.RowKit
set_option linter.unusedVariables false
set_option linter.unusedSimpArgs false

/-- a column of bytes taken from four -/
def mvF (T s : List Nat) (B n : Nat) : Nat := wd (el T (el s (4 * n))) (el T (el s (4 * ((n + B) % 4) + 1))) (el T (el s (4 * ((n + 2 * B) % 4) + 2))) (el T (el s (4 * ((n + 3 * B) % 4) + 3)))
theorem mv_left {T s : List Nat} : upd (mvF T s 1) (zA 4) 4 = sw (rowsL (eachL T s)) := upd_sw (zA_len 4) fun i hi => by rw [col_left hi]; rfl
theorem mv_right {T s : List Nat} : upd (mvF T s 3) (zA 4) 4 = sw (eachL T (rowsR s)) := upd_sw (zA_len 4) fun i hi => by rw [col_right hi]; rfl
/-- what holds while a column is made -/
def MvS (H : Nat) (U : List Nat) (n : Nat) (wr y : World) : Prop := LiesX .u32 40 y (H + 1) U n ∧ But (H + 1) wr y
set_option maxHeartbeats 4000000 in
set_option maxRecDepth 100000 in
theorem moved_any (g o : Nat) (T s : List Nat) (B : Nat) (w : World) (hB3z : B ≤ 3) (hs : B16 s) (hT : Under 256 T) (hw : Tab w g o T) (hgw : g < w.heap.size) :
    Calls Try.prog 46 #[.agg (arr .u32 (sw s)), .pointer (some ⟨g, o, none⟩), .int .i64 (B : Int)] w fun e w' => e = .returned (.agg (arr .u32 (upd (mvF T s B) (zA 4) 4))) ∧ Below w.heap.size w w' := by
  have hz := zero4
  have L0 := (Lies.new .u32 40 w (sw s)).alloc (.cells (arr .u32 (zA 4)) 40)
  have L2 := Lies.new .u32 40 (w.alloc (.cells (arr .u32 (sw s)) 40)) (zA 4)
  have hb0 := keep_trans (keep_alloc w (.cells (arr .u32 (sw s)) 40)) (keep_alloc _ (.cells (arr .u32 (zA 4)) 40))
  simp only [World.size_alloc, Nat.add_assoc, Nat.reduceAdd] at L2
  have T0 := hw.below hb0
  have lA := sw_len s
  have eA := fun k => sw_el s (c := k)
  have uA := col_lt hs.2
  have HE := hide (And.intro eA (And.intro uA lA))
  clear eA uA lA hw
  generalize sw s = A at *
  go_enter Try.func46, Try.ntmps46
  go_wp2
  clear hz
  generalize (w.alloc (.cells (arr .u32 A) 40)).alloc (.cells (arr .u32 (zA 4)) 40) = x1 at *
  go_loopw [8] (fun i wr => ∃ n : Nat, n ≤ 4 ∧ i = .int .i64 n ∧ Lies .u32 40 wr (w.heap.size + 1) (upd (mvF T s B) (zA 4) n) ∧ But (w.heap.size + 1) x1 wr) (fun i _ => 4 - (intOf i).toNat)
  case atStart => exact ⟨0, Nat.zero_le _, rfl, L2, But.refl _ _⟩
  case round =>
    obtain ⟨n, hn, rfl, hU, hB⟩ := hrel
    by_cases hlt : n < 4
    · obtain ⟨eA, uA, lA⟩ := HE.out
      have h0 := L0.but hB (by omega)
      have T1 : Tab wr.drew g o T := fun c hc => But.cell (T0 c hc) hB.drew (by show g ≠ _; omega)
      obtain ⟨B1, hB1⟩ : ∃ x : Nat, x = B := ⟨_, rfl⟩
      obtain ⟨q1, hq1⟩ : ∃ x : Nat, x = n + B1 := ⟨_, rfl⟩
      have eq1 : (n : Int) + (B : Int) = (q1 : Int) := by omega
      have sq1 : IntKind.i64.wrap (q1 : Int) = (q1 : Int) := by rw [IntKind.wrap_i64]; omega
      obtain ⟨n1, hn1⟩ : ∃ x : Nat, x = q1 % 4 := ⟨_, rfl⟩
      have en1 : (q1 : Int) % 4 = (n1 : Int) := by omega
      have tn1 : (q1 : Int).tmod 4 = (n1 : Int) := by rw [Int.tmod_eq_emod_of_nonneg (by omega)]; exact en1
      have ln1 : n1 < 4 := by omega
      have lz1 : (0 : Int) ≤ (n1 : Int) := Int.natCast_nonneg _
      have li1 : (n1 : Int) < 4 := by omega
      have c1 := h0.cell (i := n1) (by rw [lA]; exact ln1)
      rw [eA n1 ln1] at c1
      obtain ⟨B2, hB2⟩ : ∃ x : Nat, x = 2 * B := ⟨_, rfl⟩
      have eB2 : 2 * (B : Int) = (B2 : Int) := by omega
      have sB2 : IntKind.i64.wrap (B2 : Int) = (B2 : Int) := by rw [IntKind.wrap_i64]; omega
      obtain ⟨q2, hq2⟩ : ∃ x : Nat, x = n + B2 := ⟨_, rfl⟩
      have eq2 : (n : Int) + (B2 : Int) = (q2 : Int) := by omega
      have sq2 : IntKind.i64.wrap (q2 : Int) = (q2 : Int) := by rw [IntKind.wrap_i64]; omega
      obtain ⟨n2, hn2⟩ : ∃ x : Nat, x = q2 % 4 := ⟨_, rfl⟩
      have en2 : (q2 : Int) % 4 = (n2 : Int) := by omega
      have tn2 : (q2 : Int).tmod 4 = (n2 : Int) := by rw [Int.tmod_eq_emod_of_nonneg (by omega)]; exact en2
      have ln2 : n2 < 4 := by omega
      have lz2 : (0 : Int) ≤ (n2 : Int) := Int.natCast_nonneg _
      have li2 : (n2 : Int) < 4 := by omega
      have c2 := h0.cell (i := n2) (by rw [lA]; exact ln2)
      rw [eA n2 ln2] at c2
      obtain ⟨B3, hB3'⟩ : ∃ x : Nat, x = 3 * B := ⟨_, rfl⟩
      have eB3 : 3 * (B : Int) = (B3 : Int) := by omega
      have sB3 : IntKind.i64.wrap (B3 : Int) = (B3 : Int) := by rw [IntKind.wrap_i64]; omega
      obtain ⟨q3, hq3⟩ : ∃ x : Nat, x = n + B3 := ⟨_, rfl⟩
      have eq3 : (n : Int) + (B3 : Int) = (q3 : Int) := by omega
      have sq3 : IntKind.i64.wrap (q3 : Int) = (q3 : Int) := by rw [IntKind.wrap_i64]; omega
      obtain ⟨n3, hn3⟩ : ∃ x : Nat, x = q3 % 4 := ⟨_, rfl⟩
      have en3 : (q3 : Int) % 4 = (n3 : Int) := by omega
      have tn3 : (q3 : Int).tmod 4 = (n3 : Int) := by rw [Int.tmod_eq_emod_of_nonneg (by omega)]; exact en3
      have ln3 : n3 < 4 := by omega
      have lz3 : (0 : Int) ≤ (n3 : Int) := Int.natCast_nonneg _
      have li3 : (n3 : Int) < 4 := by omega
      have c3 := h0.cell (i := n3) (by rw [lA]; exact ln3)
      rw [eA n3 ln3] at c3
      have c0 := h0.cell (i := n) (by rw [lA]; exact hlt)
      rw [eA n hlt] at c0
      have hV : mvF T s B n = wd (el T (el s (4 * n))) (el T (el s (4 * n1 + 1))) (el T (el s (4 * n2 + 2))) (el T (el s (4 * n3 + 3))) := by
        rw [hn1, hn2, hn3, hq1, hq2, hq3, hB1, hB2, hB3']; rfl
      have e := fun i => hs.el i
      have hcall := gath_any g o T (col s n) (col s n1) (col s n2) (col s n3) (el s (4 * n)) (el s (4 * n1 + 1)) (el s (4 * n2 + 2)) (el s (4 * n3 + 3)) hT (uA _) (uA _) (uA _) (uA _) (wd_0 (e _) (e _) (e _) (e _)) (wd_1 (e _) (e _) (e _) (e _)) (wd_2 (e _) (e _) (e _) (e _)) (wd_3 (e _) (e _) (e _) (e _)) wr.drew T1
      rw [← hV] at hcall
      have hlu : (upd (mvF T s B) (zA 4) n).length = 4 := by rw [upd_len, zA_len]
      have hst : ∀ y, Lies .u32 40 y (w.heap.size + 1) (upd (mvF T s B) (zA 4) n) → Lies .u32 40 (y.setCell ⟨w.heap.size + 1, n, none⟩ (.int .u32 (mvF T s B n : Nat))) (w.heap.size + 1) (upd (mvF T s B) (zA 4) (n + 1)) := fun y hy => hy.set n _
      have HST := hide hst
      clear hst hV e eA uA lA hq1 hq2 hq3 hn1 hn2 hn3 hB1 hB2 hB3'
      have i0 : (0 : Int) ≤ (n : Int) := Int.natCast_nonneg _
      have i1 : (n : Int) < 4 := by omega
      generalize upd (mvF T s B) (zA 4) n = U at *
      generalize mvF T s B n = V at *
      generalize col s n = W0 at *
      generalize col s n1 = W1 at *
      generalize col s n2 = W2 at *
      generalize col s n3 = W3 at *
      have HX := hide (hU.toX (T := n) (by rw [hlu]; exact hlt))
      have hmk : ∀ y, MvS w.heap.size U n wr y → y.cell? ⟨w.heap.size, n, none⟩ = some (.int .u32 (W0 : Int)) ∧ y.cell? ⟨w.heap.size, n1, none⟩ = some (.int .u32 (W1 : Int)) ∧ y.cell? ⟨w.heap.size, n2, none⟩ = some (.int .u32 (W2 : Int)) ∧ y.cell? ⟨w.heap.size, n3, none⟩ = some (.int .u32 (W3 : Int)) ∧ y.cell? ⟨w.heap.size + 1, n, none⟩ = some (rdc y ⟨w.heap.size + 1, n, none⟩) ∧ y.frozen? ⟨w.heap.size + 1, n, none⟩ = false ∧ MvS w.heap.size U n wr y := fun y hy =>
        ⟨But.cell c0 hy.2 (by show w.heap.size ≠ _; omega), But.cell c1 hy.2 (by show w.heap.size ≠ _; omega), But.cell c2 hy.2 (by show w.heap.size ≠ _; omega), But.cell c3 hy.2 (by show w.heap.size ≠ _; omega), hy.1.here (by rw [hlu]; exact hlt), hy.1.frozen n, hy⟩
      have HMK := hide hmk
      have HU := hide (And.intro hU hB)
      clear hmk hU hlu c0 c1 c2 c3 T1 h0
      go_wp2
      go_region_held3 (fun y => y.cell? ⟨w.heap.size, n, none⟩ = some (.int .u32 (W0 : Int)) ∧ y.cell? ⟨w.heap.size, n1, none⟩ = some (.int .u32 (W1 : Int)) ∧ y.cell? ⟨w.heap.size, n2, none⟩ = some (.int .u32 (W2 : Int)) ∧ y.cell? ⟨w.heap.size, n3, none⟩ = some (.int .u32 (W3 : Int)) ∧ y.cell? ⟨w.heap.size + 1, n, none⟩ = some (rdc y ⟨w.heap.size + 1, n, none⟩) ∧ y.frozen? ⟨w.heap.size + 1, n, none⟩ = false ∧ MvS w.heap.size U n wr y)
        (first
          | exact HMK.out _ ⟨HX.out, But.refl _ _⟩
          | exact HMK.out _ ⟨HX.out, (But.refl _ _).drew⟩
          | (exact HMK.out _ ⟨LiesX.below (w := wr.drew) HX.out hb7, But.trans (But.refl _ _).drew (But.of_below hb7)⟩)
          | (exact HMK.out _ ⟨LiesX.set (LiesX.below (w := wr.drew) HX.out hb7) _, But.setCell (But.trans (But.refl _ _).drew (But.of_below hb7)) _ _⟩))
        (first
          | (go_at_call 60; refine hcall.mono ?_; rintro e w7 ⟨rfl, hb7⟩))
      go_wp2_with fail
      obtain ⟨hU, hB⟩ := HU.out
      have hU7 : Lies .u32 40 w7 (w.heap.size + 1) U := Lies.below (w := wr.drew) hU hb7
      exact ⟨⟨n + 1, by omega, by go_num, HST.out _ hU7, (hB.trans (But.trans (But.refl _ _).drew (But.of_below hb7))).setCell n _⟩, by simp [intOf]; omega⟩
    · obtain rfl : n = 4 := by omega
      have hsl : (upd (mvF T s B) (zA 4) 4).length = 4 := by rw [upd_len, zA_len]
      have hbr := hb0.trans (hB.below (by omega) hb0.size)
      generalize hX : upd (mvF T s B) (zA 4) 4 = X at hU hsl
      have HX := hide hX
      clear hX
      have hOf : Lies .u32 40 (wr.setRow (w.heap.size + 1) (arr .u32 X)) (w.heap.size + 1) X := hU.row
      have hbf := hbr.trans ((But.setRow (But.refl (w.heap.size + 1) _) (arr .u32 X)).below (by omega) hbr.size)
      go_wp2_with (first
        | (refine wpList_load_row rfl 40 _ (by rfl) (w.heap.size + 1) (by rfl) _ _ _ (.array 4 38) hU (by kernel_rfl) rfl (by rw [arr_size, hsl]; kernel_rfl) ?_)
        | (refine wpList_store_row rfl 40 _ _ (by rfl) (w.heap.size + 1) (arr .u32 X) (by rfl) (by rfl) _ _ hU (by rw [arr_size, hsl]; kernel_rfl) rfl (arr_one _ _) ?_)
        | fail)
      refine bodyPost_ret (v := .agg (arr .u32 X)) ?_ rfl ⟨by rw [HX.out], hbf⟩
      exact results_cell_row Try.results46 _ _ (w.heap.size + 1) _ _ _ (.array 4 38) (by rfl) hOf (by kernel_rfl) rfl (by rw [arr_size, hsl]; kernel_rfl)
end Go.Proofs.Yteiknfcegchbcaa

/- The document's rows. -/
namespace Go.Proofs.Yteiknfcegchbcaa
open Go.RowKit
set_option linter.unusedVariables false
set_option linter.unusedSimpArgs false

/-- whence the byte at a place comes -/
def ixW (W : Int) (c r : Nat) : Nat := 4 * (((c : Int) + W * (r : Int) + 4) % 4).toNat + r
theorem rowsL_w (s : List Nat) : rowsL s = of16 fun i => el s (ixW 1 (i / 4) (i % 4)) := ext16 (of16_len _) (of16_len _) fun i hi => by
  unfold rowsL
  rw [of16_el _ hi, of16_el _ hi]
  congr 1
  exact (by decide : ∀ i, i < 16 → 4 * ((i / 4 + i % 4) % 4) + i % 4 = ixW 1 (i / 4) (i % 4)) i hi
theorem rowsR_w (s : List Nat) : rowsR s = of16 fun i => el s (ixW (-1) (i / 4) (i % 4)) := ext16 (of16_len _) (of16_len _) fun i hi => by
  unfold rowsR
  rw [of16_el _ hi, of16_el _ hi]
  congr 1
  exact (by decide : ∀ i, i < 16 → 4 * ((i / 4 + 4 - i % 4) % 4) + i % 4 = ixW (-1) (i / 4) (i % 4)) i hi
/-- where the outer loop stands -/
def RoL (w1 : World) (H : Nat) (f : Nat → Nat) (vi : Value) (wr : World) : Prop := ∃ k : Nat, k ≤ 4 ∧ vi = .int .i64 (k : Int) ∧ Lies .u8 5 wr H (fill16 f (4 * k)) ∧ But H w1 wr
/-- where the inner loop stands -/
def RiL (w1 : World) (H c : Nat) (f : Nat → Nat) (vi : Value) (wr : World) : Prop := ∃ k : Nat, k ≤ 4 ∧ vi = .int .i64 (k : Int) ∧ Lies .u8 5 wr H (fill16 f (4 * c + k)) ∧ But H w1 wr

set_option maxHeartbeats 4000000 in
set_option maxRecDepth 100000 in
theorem rrows_any (W : Int) (hW : W = 1 ∨ W = -1) (s : List Nat) (sv : Value) (w : World) (hs : B16 s) (rs : Row .u8 256 w sv s) :
    Calls Try.prog 48 #[sv, .int .i64 W] w fun e w' => ∃ v, e = .returned v ∧ Own 5 .u8 256 w' w.heap.size v (of16 fun i => el s (ixW W (i / 4) (i % 4))) ∧ Below w.heap.size w w' := by
  obtain ⟨i0, hi, hz0, hz1, hz2⟩ := info_parts Try.info5
  obtain ⟨sa, sc, rfl, g1, g2, g3⟩ := rs.opens hs.1
  obtain ⟨sb, so, rfl, hc⟩ := g3 (by decide)
  have hsb : sb < w.heap.size := World.block_lt_of_cell? _ _ (hc 0 (by decide))
  go_enter Try.func48, Try.ntmps48
  go_wp2_with (first | (at_make; refine wpList_make_full _ rfl _ _ 22 rfl w.heap.size 5 i0 (.int .u8 0) 1 Try.underlying22 hi hz0 hz1 _ _ _ _ 16 rfl rfl rfl rfl (by rw [hz2]; decide) (by unfold maxLen; decide) (Nat.le_refl _) ?_; intro w1 hown hgrow) | fail)
  rw [made_u8, ← fill16_zero (fun i => el s (ixW W (i / 4) (i % 4)))] at hown
  have hL1 := lies_own hown (fill16_len _ _)
  have hb1 := (Below.refl w.heap.size w).grown hgrow (Nat.le_refl _) (fun k h => by cases h)
  have hc1 : ∀ i, i < 16 → w1.cell? ⟨sb, so + i, none⟩ = some (.int .u8 (el s i)) := fun i hi => keep_cell (hc i hi) hb1
  clear hown hgrow g3 rs hc
  have HC1 := hide hc1
  clear hc1
  go_loopw [6] (fun vi wr => RoL w1 w.heap.size (fun i => el s (ixW W (i / 4) (i % 4))) vi wr) (fun vi _ => 4 - (intOf vi).toNat)
  case atStart => exact ⟨0, by decide, rfl, hL1, But.refl _ _⟩
  case round =>
    obtain ⟨c, hk, rfl, hL, hB⟩ := hrel
    by_cases hlt : c < 4
    · have hli : (c : Int) < 4 := by omega
      rename World => wo
      have H0 : Hid (RiL w1 w.heap.size c (fun i => el s (ixW W (i / 4) (i % 4))) (.int .i64 0) wo) := hide ⟨0, by decide, rfl, hL, hB⟩
      clear hL1 hL hB
      go_wp2
      go_loopw [7] (fun vi wr => RiL w1 w.heap.size c (fun i => el s (ixW W (i / 4) (i % 4))) vi wr) (fun vi _ => 4 - (intOf vi).toNat)
      case atStart => exact H0.out
      case round =>
        obtain ⟨r, hr, rfl, hL, hB⟩ := hrel
        clear H0
        by_cases hr4 : r < 4
        · have hri : (r : Int) < 4 := by omega
          obtain ⟨q, hq⟩ : ∃ z : Int, z = W * (r : Int) := ⟨_, rfl⟩
          have hq2 : q = (r : Int) ∨ q = - (r : Int) := by rcases hW with h | h <;> subst h <;> omega
          obtain ⟨m, hm⟩ := Int.eq_ofNat_of_zero_le (show 0 ≤ (c : Int) + q + 4 by omega)
          obtain ⟨p2, hp2⟩ : ∃ z : Int, z = (c : Int) + q := ⟨_, rfl⟩
          obtain ⟨z, hz⟩ : ∃ z : Nat, z = m % 4 := ⟨_, rfl⟩
          obtain ⟨y, hy⟩ : ∃ x : Nat, x = 4 * z := ⟨_, rfl⟩
          obtain ⟨ix, hix⟩ : ∃ x : Nat, x = y + r := ⟨_, rfl⟩
          obtain ⟨d, hd⟩ : ∃ x : Nat, x = 4 * c := ⟨_, rfl⟩
          obtain ⟨o, ho⟩ : ∃ x : Nat, x = d + r := ⟨_, rfl⟩
          have hfo : (fun i => el s (ixW W (i / 4) (i % 4))) o = el s ix := by
            show el s (ixW W (o / 4) (o % 4)) = el s ix
            congr 1
            unfold ixW
            rw [show o / 4 = c by omega, show o % 4 = r by omega, ← hq, hm]
            omega
          have lix : ix < 16 := by omega
          have lo : o < 16 := by omega
          have eo : 4 * c + r = o := by omega
          have eo1 : 4 * c + (r + 1) = o + 1 := by omega
          rw [eo] at hL
          have hst := hL.set o ((fun i => el s (ixW W (i / 4) (i % 4))) o)
          rw [fill16_set _ lo, hfo] at hst
          have c1 := But.cell (HC1.out ix lix) hB (by show sb ≠ w.heap.size; omega)
          have c3 := hL.cell (i := o) (by rw [fill16_len]; exact lo)
          have c4 := hL.frozen o
          have e_q : W * (r : Int) = q := hq.symm
          have s_q : IntKind.i64.wrap q = q := by rw [IntKind.wrap_i64]; omega
          have e_p : (c : Int) + q = p2 := hp2.symm
          have s_p : IntKind.i64.wrap p2 = p2 := by rw [IntKind.wrap_i64]; omega
          have e_m : p2 + 4 = (m : Int) := by omega
          have s_m : IntKind.i64.wrap (m : Int) = (m : Int) := by rw [IntKind.wrap_i64]; omega
          have e_z : (m : Int) % 4 = (z : Int) := by omega
          have t_z : (m : Int).tmod 4 = (z : Int) := by rw [Int.tmod_eq_emod_of_nonneg (by omega)]; exact e_z
          have s_z : IntKind.i64.wrap (z : Int) = (z : Int) := by rw [IntKind.wrap_i64]; omega
          have e_y : 4 * (z : Int) = (y : Int) := by omega
          have s_y : IntKind.i64.wrap (y : Int) = (y : Int) := by rw [IntKind.wrap_i64]; omega
          have e_ix : (y : Int) + (r : Int) = (ix : Int) := by omega
          have s_ix : IntKind.i64.wrap (ix : Int) = (ix : Int) := by rw [IntKind.wrap_i64]; omega
          have e_d : 4 * (c : Int) = (d : Int) := by omega
          have s_d : IntKind.i64.wrap (d : Int) = (d : Int) := by rw [IntKind.wrap_i64]; omega
          have e_o : (d : Int) + (r : Int) = (o : Int) := by omega
          have s_o : IntKind.i64.wrap (o : Int) = (o : Int) := by rw [IntKind.wrap_i64]; omega
          have lixi : (ix : Int) < 16 := by omega
          have loi : (o : Int) < 16 := by omega
          have HST := hide hst
          have HEO := hide eo1
          clear hq hq2 hm hp2 hz hy hix hd ho hfo eo eo1 hst hL
          generalize el s ix = u at *
          go_wp2
          exact ⟨⟨r + 1, by omega, by go_num, by rw [HEO.out]; exact HST.out, hB.setCell o _⟩, by simp [intOf]; omega⟩
        · obtain rfl : r = 4 := by omega
          go_wp2
          exact ⟨⟨c + 1, by omega, by go_num, by rw [show 4 * (c + 1) = 4 * c + 4 by omega]; exact hL, hB⟩, by simp [intOf]; omega⟩
    · obtain rfl : c = 4 := by omega
      rw [show 4 * 4 = 16 from rfl, fill16_all] at hL
      go_wp2
      go_ret
      have hbx : B16 (of16 fun i => el s (ixW W (i / 4) (i % 4))) := of16_b fun i _ => hs.el _
      exact ⟨_, rfl, ⟨by rw [of16_len]; exact own_lies hL (Nat.le_refl _) (of16_len _) (by unfold maxLen; decide), hbx.2⟩, hb1.trans (hB.below (Nat.le_refl _) hb1.size)⟩
end Go.Proofs.Yteiknfcegchbcaa

/- The document's columns. -/
namespace Go.Proofs.Yteiknfcegchbcaa
open Go.RowKit
set_option linter.unusedVariables false
set_option linter.unusedSimpArgs false

def accC (m s : List Nat) (c r : Nat) : Nat → Nat
  | 0 => 0
  | j + 1 => accC m s c r j ^^^ mulB (el m j) (el s (4 * c + (r + j) % 4))
def colsW (m s : List Nat) : List Nat := of16 fun i => accC m s (i / 4) (i % 4) 4
theorem accC_lt {m s : List Nat} (hm : Under 256 m) (c r : Nat) : ∀ j, accC m s c r j < 256
  | 0 => by show 0 < 256; decide
  | j + 1 => xor_8 (accC_lt hm c r j) (mulB_lt (el_lt hm (by decide) j))
theorem colsL_w (a b c d : Nat) (s : List Nat) : colsW [a, b, c, d] s = colsL a b c d s := ext16 (of16_len _) (of16_len _) fun i hi => by
  unfold colsW colsL
  rw [of16_el _ hi, of16_el _ hi]
  have e0 : el [a, b, c, d] 0 = a := rfl
  have e1 : el [a, b, c, d] 1 = b := rfl
  have e2 : el [a, b, c, d] 2 = c := rfl
  have e3 : el [a, b, c, d] 3 = d := rfl
  simp only [accC, e0, e1, e2, e3, Nat.zero_xor, Nat.add_zero, Nat.mod_mod]
/-- where the innermost loop stands -/
def CjL (wi : World) (m s : List Nat) (c r : Nat) (vx vj : Value) (wr : World) : Prop := ∃ j q : Nat, j ≤ 4 ∧ vx = .int .u8 (accC m s c r j : Nat) ∧ vj = .int .i64 (j : Int) ∧ wr = wi.drewN q

set_option maxHeartbeats 4000000 in
set_option maxRecDepth 100000 in
theorem rcols_any (m s : List Nat) (sv : Value) (w : World) (hm : m.length = 4) (hmu : Under 256 m) (hs : B16 s) (rs : Row .u8 256 w sv s) :
    Calls Try.prog 50 #[sv, .agg (arr .u8 m)] w fun e w' => ∃ v, e = .returned v ∧ Own 5 .u8 256 w' w.heap.size v (colsW m s) ∧ Below w.heap.size w w' := by
  obtain ⟨i0, hi, hz0, hz1, hz2⟩ := info_parts Try.info5
  have hA := Lies.new .u8 76 w m
  have hb0 := keep_alloc w (.cells (arr .u8 m) 76)
  obtain ⟨sa, sc, rfl, g1, g2, g3⟩ := rs.opens hs.1
  obtain ⟨sb, so, rfl, hc⟩ := g3 (by decide)
  have hsb : sb < w.heap.size := World.block_lt_of_cell? _ _ (hc 0 (by decide))
  go_enter Try.func50, Try.ntmps50
  go_wp2_with (first | (at_make; refine wpList_make_full _ rfl _ _ 22 rfl (w.heap.size + 1) 5 i0 (.int .u8 0) 1 Try.underlying22 hi hz0 hz1 _ _ _ _ 16 rfl rfl rfl rfl (by rw [hz2]; decide) (by unfold maxLen; decide) (by simp) ?_; intro w1 hown hgrow) | fail)
  rw [made_u8, ← fill16_zero (fun i => accC m s (i / 4) (i % 4) 4)] at hown
  have hL1 := lies_own hown (fill16_len _ _)
  have hb1 := (Below.refl (w.alloc (.cells (arr .u8 m) 76)).heap.size (w.alloc (.cells (arr .u8 m) 76))).grown hgrow (Nat.le_refl _) (fun k h => by cases h)
  have hA1 := hA.below hb1
  have hbw := keep_trans hb0 hb1
  rw [World.size_alloc] at hL1
  have hc1 : ∀ i, i < 16 → w1.cell? ⟨sb, so + i, none⟩ = some (.int .u8 (el s i)) := fun i hi => keep_cell (hc i hi) hbw
  clear hown hgrow g3 rs hc hA
  have HC1 := hide hc1
  have HA1 := hide hA1
  clear hc1 hA1
  go_loopw [6] (fun vi wr => RoL w1 (w.heap.size + 1) (fun i => accC m s (i / 4) (i % 4) 4) vi wr) (fun vi _ => 4 - (intOf vi).toNat)
  case atStart => exact ⟨0, by decide, rfl, hL1, But.refl _ _⟩
  case round =>
    obtain ⟨c, hk, rfl, hL, hB⟩ := hrel
    by_cases hlt : c < 4
    · have hli : (c : Int) < 4 := by omega
      rename World => wo
      have H0 : Hid (RiL w1 (w.heap.size + 1) c (fun i => accC m s (i / 4) (i % 4) 4) (.int .i64 0) wo) := hide ⟨0, by decide, rfl, hL, hB⟩
      clear hL1 hL hB
      go_wp2
      go_loopw [7] (fun vi wr => RiL w1 (w.heap.size + 1) c (fun i => accC m s (i / 4) (i % 4) 4) vi wr) (fun vi _ => 4 - (intOf vi).toNat)
      case atStart => exact H0.out
      case round =>
        obtain ⟨r, hr, rfl, hL, hB⟩ := hrel
        clear H0
        by_cases hr4 : r < 4
        · have hri : (r : Int) < 4 := by omega
          rename World => wi
          have J0 : Hid (CjL wi m s c r (.int .u8 0) (.int .i64 0) wi) := hide ⟨0, 0, by decide, rfl, rfl, rfl⟩
          have HL := hide hL
          have HB := hide hB
          clear hL hB
          go_wp2
          go_loopw [8, 9] (fun vx vj wr => CjL wi m s c r vx vj wr) (fun _ vj _ => 4 - (intOf vj).toNat)
          case atStart => exact J0.out
          case round =>
            obtain ⟨j, q, hj, rfl, rfl, rfl⟩ := hrel
            clear J0
            by_cases hj4 : j < 4
            · have hji : (j : Int) < 4 := by omega
              obtain ⟨d, hd⟩ : ∃ x : Nat, x = 4 * c := ⟨_, rfl⟩
              obtain ⟨a, ha⟩ : ∃ x : Nat, x = r + j := ⟨_, rfl⟩
              obtain ⟨b, hb⟩ : ∃ x : Nat, x = a % 4 := ⟨_, rfl⟩
              obtain ⟨ix, hix⟩ : ∃ x : Nat, x = d + b := ⟨_, rfl⟩
              have lix : ix < 16 := by omega
              have hacc : accC m s c r (j + 1) = accC m s c r j ^^^ mulB (el m j) (el s ix) := by
                show accC m s c r j ^^^ mulB (el m j) (el s (4 * c + (r + j) % 4)) = _
                rw [show 4 * c + (r + j) % 4 = ix by omega]
              have c1 := But.cell (HC1.out ix lix) HB.out (by show sb ≠ w.heap.size + 1; omega)
              have c2 := (HA1.out.but HB.out (by omega)).cell (i := j) (by omega)
              have la := accC_lt (s := s) hmu c r j
              have lm := el_lt hmu (by decide) j
              have ls := hs.el ix
              have hmul := fun y => rmul_any (el m j) (el s ix) lm ls y
              have lp := mulB_lt (b := el s ix) lm
              have fx := u8_xor_nat (accC m s c r j) (mulB (el m j) (el s ix)) la lp
              have HACC := hide hacc
              have e_d : 4 * (c : Int) = (d : Int) := by omega
              have s_d : IntKind.i64.wrap (d : Int) = (d : Int) := by rw [IntKind.wrap_i64]; omega
              have e_a : (r : Int) + (j : Int) = (a : Int) := by omega
              have s_a : IntKind.i64.wrap (a : Int) = (a : Int) := by rw [IntKind.wrap_i64]; omega
              have e_b : (a : Int) % 4 = (b : Int) := by omega
              have t_b : (a : Int).tmod 4 = (b : Int) := by rw [Int.tmod_eq_emod_of_nonneg (by omega)]; exact e_b
              have s_b : IntKind.i64.wrap (b : Int) = (b : Int) := by rw [IntKind.wrap_i64]; omega
              have e_ix : (d : Int) + (b : Int) = (ix : Int) := by omega
              have s_ix : IntKind.i64.wrap (ix : Int) = (ix : Int) := by rw [IntKind.wrap_i64]; omega
              have lixi : (ix : Int) < 16 := by omega
              clear hacc hd ha hb hix la lp
              generalize hAJ : accC m s c r j = AJ at *
              generalize hPM : mulB (el m j) (el s ix) = PM at *
              have HAJ := hide hAJ
              clear hAJ hPM
              generalize el m j = mj at *
              generalize el s ix = sx at *
              go_wp2
              go_quiet (first | (go_at_call 20; exact (hmul _).mono (by rintro e w' ⟨rfl, rfl⟩; exact ⟨rfl, _, rfl⟩)) | fail)
              go_wp2
              exact ⟨⟨j + 1, q + nq, by omega, by rw [HACC.out], by go_num, rfl⟩, by simp [intOf]; omega⟩
            · obtain rfl : j = 4 := by omega
              obtain ⟨d, hd⟩ : ∃ x : Nat, x = 4 * c := ⟨_, rfl⟩
              obtain ⟨o, ho⟩ : ∃ x : Nat, x = d + r := ⟨_, rfl⟩
              have lo : o < 16 := by omega
              have eo : 4 * c + r = o := by omega
              have eo1 : 4 * c + (r + 1) = o + 1 := by omega
              have hL : Lies .u8 5 (wi.drewN q) (w.heap.size + 1) (fill16 (fun i => accC m s (i / 4) (i % 4) 4) o) := by rw [← eo]; exact HL.out.drewN q
              have hB : But (w.heap.size + 1) w1 (wi.drewN q) := HB.out.drewN q
              have hfo : (fun i => accC m s (i / 4) (i % 4) 4) o = accC m s c r 4 := by
                show accC m s (o / 4) (o % 4) 4 = _
                rw [show o / 4 = c by omega, show o % 4 = r by omega]
              have hst := hL.set o ((fun i => accC m s (i / 4) (i % 4) 4) o)
              rw [fill16_set _ lo, hfo] at hst
              have c3 := HL.out.cell (i := o) (by rw [fill16_len]; exact lo)
              have c4 := HL.out.frozen o
              have e_d : 4 * (c : Int) = (d : Int) := by omega
              have s_d : IntKind.i64.wrap (d : Int) = (d : Int) := by rw [IntKind.wrap_i64]; omega
              have e_o : (d : Int) + (r : Int) = (o : Int) := by omega
              have s_o : IntKind.i64.wrap (o : Int) = (o : Int) := by rw [IntKind.wrap_i64]; omega
              have loi : (o : Int) < 16 := by omega
              have HST := hide hst
              have HEO := hide eo1
              have HBB := hide hB
              clear hd ho eo eo1 hst hL hB hfo
              generalize accC m s c r 4 = x4 at *
              go_wp2
              exact ⟨⟨r + 1, by omega, by go_num, by rw [HEO.out]; exact HST.out, HBB.out.setCell o _⟩, by simp [intOf]; omega⟩
        · obtain rfl : r = 4 := by omega
          go_wp2
          exact ⟨⟨c + 1, by omega, by go_num, by rw [show 4 * (c + 1) = 4 * c + 4 by omega]; exact hL, hB⟩, by simp [intOf]; omega⟩
    · obtain rfl : c = 4 := by omega
      rw [show 4 * 4 = 16 from rfl, fill16_all] at hL
      go_wp2
      go_ret
      have hbx : B16 (colsW m s) := of16_b fun i _ => accC_lt hmu _ _ _
      exact ⟨_, rfl, ⟨by rw [hbx.1]; exact own_lies hL (by omega) (of16_len _) (by unfold maxLen; decide), hbx.2⟩, hbw.trans (hB.below (by omega) hbw.size)⟩
end Go.Proofs.Yteiknfcegchbcaa

/- Contract of apostilleref01.Back. -/
namespace Go.Proofs.Yteiknfcegchbcaa
open Go.RowKit
set_option linter.unusedVariables false

/-- the last k elements, the last one first -/
theorem rev_take_succ (l : List Nat) (k j : Nat) (h : j + 1 + k = l.length) : l.reverse.take (k + 1) = l.reverse.take k ++ [el l j] := by
  have hk : k < l.reverse.length := by simp; omega
  rw [List.take_succ_eq_append_getElem hk]
  congr 2
  rw [List.getElem_reverse, el_at (by omega)]
  congr 1
  omega

theorem Under.rev {m : Nat} {l : List Nat} (h : Under m l) : Under m l.reverse := fun x hx => h x (List.mem_reverse.1 hx)
theorem Under.take' {m : Nat} {l : List Nat} (h : Under m l) (k : Nat) : Under m (l.take k) := fun x hx => h x (List.mem_of_mem_take hx)

end Go.Proofs.Yteiknfcegchbcaa

/- Contracts of bits.NumLe. -/
namespace Go.Proofs.Yteiknfcegchbcaa
open Go.RowKit
set_option linter.unusedVariables false

/-- the number of bytes, the lowest first (unbounded) -/
def valLe : List Nat → Nat
  | [] => 0
  | x :: r => x + 256 * valLe r

theorem valLe_append (a b : List Nat) : valLe (a ++ b) = valLe a + 256 ^ a.length * valLe b := by
  induction a with
  | nil => simp [valLe]
  | cons x r ih => simp only [List.cons_append, valLe, ih, List.length_cons, Nat.pow_succ]; rw [Nat.mul_add]; rw [show 256 ^ r.length * 256 * valLe b = 256 * (256 ^ r.length * valLe b) from by rw [Nat.mul_comm (256 ^ r.length) 256, Nat.mul_assoc]]; omega

theorem valLe_lt (a : List Nat) (h : Under 256 a) : valLe a < 256 ^ a.length := by
  induction a with
  | nil => simp [valLe]
  | cons x r ih =>
    have hx := h x (by simp)
    have := ih (fun y hy => h y (by simp [hy]))
    simp only [valLe, List.length_cons, Nat.pow_succ]
    omega

theorem numL_rev (l : List Nat) : numL l.reverse = valLe l % 18446744073709551616 := by
  induction l with
  | nil => rfl
  | cons x r ih => rw [List.reverse_cons, numL_snoc, ih]; simp only [valLe]; omega


/-- a number's lowest eight bytes tell it modulo 2^64 -/
theorem valLe_min (l : List Nat) : valLe (l.take (min l.length 8)) % 18446744073709551616 = valLe l % 18446744073709551616 := by
  by_cases h : l.length ≤ 8
  · rw [List.take_of_length_le (by omega)]
  · have e := valLe_append (l.take 8) (l.drop 8)
    rw [List.take_append_drop] at e
    have hl : (l.take 8).length = 8 := by simp; omega
    rw [hl] at e
    rw [show min l.length 8 = 8 by omega, e]
    omega

theorem step_numLe (N x k : Nat) (hk : k < 8) (hN : N < 256 ^ k) (hx : x < 256) :
    bits .or .u64 (N : Int) (IntKind.u64.wrap ((x : Int) * 2 ^ (8 * k))) = ((N + 256 ^ k * x : Nat) : Int) := by
  have e2 : (256 : Nat) ^ k = 2 ^ (8 * k) := by rw [Nat.pow_mul]
  have hb : 256 ^ k * x < 18446744073709551616 := by
    have h1 : 256 ^ k * x < 256 ^ k * 256 := Nat.mul_lt_mul_of_pos_left hx (Nat.pow_pos (by decide))
    have h2 : 256 ^ k * 256 = 256 ^ (k + 1) := by rw [Nat.pow_succ]
    have h3 : 256 ^ (k + 1) ≤ 256 ^ 8 := Nat.pow_le_pow_right (by decide) (by omega)
    have h4 : (256 : Nat) ^ 8 = 18446744073709551616 := by decide
    omega
  have hN' : N < 18446744073709551616 := by
    have h3 : 256 ^ k ≤ 256 ^ 8 := Nat.pow_le_pow_right (by decide) (by omega)
    have h4 : (256 : Nat) ^ 8 = 18446744073709551616 := by decide
    omega
  have e : IntKind.u64.wrap ((x : Int) * 2 ^ (8 * k)) = ((256 ^ k * x : Nat) : Int) := by
    have e3 : ((x : Int) * 2 ^ (8 * k)) = ((256 ^ k * x : Nat) : Int) := by
      rw [e2, Int.natCast_mul, Int.mul_comm, Int.natCast_pow]; rfl
    rw [e3, IntKind.wrap_u64]; omega
  rw [e, u64_or_nat _ _ hN' hb, Nat.or_comm, nat_join (8 * k) _ _ (by rw [← e2]; exact Nat.mul_mod_right _ _) (by rw [← e2]; exact hN), Nat.add_comm]

theorem valLe_lt8 (a : List Nat) (h : Under 256 a) (h8 : a.length ≤ 8) : valLe a < 18446744073709551616 := by
  have h1 := valLe_lt a h
  have h3 : 256 ^ a.length ≤ 256 ^ 8 := Nat.pow_le_pow_right (by decide) h8
  have h4 : (256 : Nat) ^ 8 = 18446744073709551616 := by decide
  omega

end Go.Proofs.Yteiknfcegchbcaa

/- Contracts of apostilleref01.Le, apostilleref01.NumLe. -/
namespace Go.Proofs.Yteiknfcegchbcaa
open Go.RowKit
set_option linter.unusedVariables false

theorem leS_length (n : Nat) (size : Int) : (leS n size).length ≤ 65536 := by
  unfold leS; split
  · simp
  · rw [leL_length]; omega

end Go.Proofs.Yteiknfcegchbcaa
