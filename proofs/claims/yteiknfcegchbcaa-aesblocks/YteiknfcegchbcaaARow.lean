/- The document's rows. -/
import Derived.Test.YteiknfcegchbcaaAEch
import Derived.Test.YteiknfcegchbcaaBase
import Derived.Test.YteiknfcegchbcaaJDb
namespace Go.Proofs.Yteiknfcegchbcaa
open Go.RowKit
set_option linter.unusedVariables false
set_option linter.unusedSimpArgs false

/-- whence the byte at a place comes -/
def ixW (W : Int) (c r : Nat) : Nat := 4 * (((c : Int) + W * (r : Int) + 4) % 4).toNat + r
theorem rowsL_w (s : List Nat) : rowsL s = of16 fun i => el s (ixW 1 (i / 4) (i % 4)) := ext16 (of16_len _) (of16_len _) fun i hi => by
  unfold rowsL
  rw [of16_el _ hi, of16_el _ hi]
  congr 1
  exact (by decide : ∀ i, i < 16 → 4 * ((i / 4 + i % 4) % 4) + i % 4 = ixW 1 (i / 4) (i % 4)) i hi
theorem rowsR_w (s : List Nat) : rowsR s = of16 fun i => el s (ixW (-1) (i / 4) (i % 4)) := ext16 (of16_len _) (of16_len _) fun i hi => by
  unfold rowsR
  rw [of16_el _ hi, of16_el _ hi]
  congr 1
  exact (by decide : ∀ i, i < 16 → 4 * ((i / 4 + 4 - i % 4) % 4) + i % 4 = ixW (-1) (i / 4) (i % 4)) i hi
/-- where the outer loop stands -/
def RoL (w1 : World) (H : Nat) (f : Nat → Nat) (vi : Value) (wr : World) : Prop := ∃ k : Nat, k ≤ 4 ∧ vi = .int .i64 (k : Int) ∧ Lies .u8 5 wr H (fill16 f (4 * k)) ∧ But H w1 wr
/-- where the inner loop stands -/
def RiL (w1 : World) (H c : Nat) (f : Nat → Nat) (vi : Value) (wr : World) : Prop := ∃ k : Nat, k ≤ 4 ∧ vi = .int .i64 (k : Int) ∧ Lies .u8 5 wr H (fill16 f (4 * c + k)) ∧ But H w1 wr

set_option maxHeartbeats 4000000 in
set_option maxRecDepth 100000 in
theorem rrows_any (W : Int) (hW : W = 1 ∨ W = -1) (s : List Nat) (sv : Value) (w : World) (hs : B16 s) (rs : Row .u8 256 w sv s) :
    Calls Try.prog 48 #[sv, .int .i64 W] w fun e w' => ∃ v, e = .returned v ∧ Own 5 .u8 256 w' w.heap.size v (of16 fun i => el s (ixW W (i / 4) (i % 4))) ∧ Below w.heap.size w w' := by
  obtain ⟨i0, hi, hz0, hz1, hz2⟩ := info_parts Try.info5
  obtain ⟨sa, sc, rfl, g1, g2, g3⟩ := rs.opens hs.1
  obtain ⟨sb, so, rfl, hc⟩ := g3 (by decide)
  have hsb : sb < w.heap.size := World.block_lt_of_cell? _ _ (hc 0 (by decide))
  go_enter Try.func48, Try.ntmps48
  go_wp2_with (first | (at_make; refine wpList_make_full _ rfl _ _ 22 rfl w.heap.size 5 i0 (.int .u8 0) 1 Try.underlying22 hi hz0 hz1 _ _ _ _ 16 rfl rfl rfl rfl (by rw [hz2]; decide) (by unfold maxLen; decide) (Nat.le_refl _) ?_; intro w1 hown hgrow) | fail)
  rw [made_u8, ← fill16_zero (fun i => el s (ixW W (i / 4) (i % 4)))] at hown
  have hL1 := lies_own hown (fill16_len _ _)
  have hb1 := (Below.refl w.heap.size w).grown hgrow (Nat.le_refl _) (fun k h => by cases h)
  have hc1 : ∀ i, i < 16 → w1.cell? ⟨sb, so + i, none⟩ = some (.int .u8 (el s i)) := fun i hi => keep_cell (hc i hi) hb1
  clear hown hgrow g3 rs hc
  have HC1 := hide hc1
  clear hc1
  go_loopw [6] (fun vi wr => RoL w1 w.heap.size (fun i => el s (ixW W (i / 4) (i % 4))) vi wr) (fun vi _ => 4 - (intOf vi).toNat)
  case atStart => exact ⟨0, by decide, rfl, hL1, But.refl _ _⟩
  case round =>
    obtain ⟨c, hk, rfl, hL, hB⟩ := hrel
    by_cases hlt : c < 4
    · have hli : (c : Int) < 4 := by omega
      rename World => wo
      have H0 : Hid (RiL w1 w.heap.size c (fun i => el s (ixW W (i / 4) (i % 4))) (.int .i64 0) wo) := hide ⟨0, by decide, rfl, hL, hB⟩
      clear hL1 hL hB
      go_wp2
      go_loopw [7] (fun vi wr => RiL w1 w.heap.size c (fun i => el s (ixW W (i / 4) (i % 4))) vi wr) (fun vi _ => 4 - (intOf vi).toNat)
      case atStart => exact H0.out
      case round =>
        obtain ⟨r, hr, rfl, hL, hB⟩ := hrel
        clear H0
        by_cases hr4 : r < 4
        · have hri : (r : Int) < 4 := by omega
          obtain ⟨q, hq⟩ : ∃ z : Int, z = W * (r : Int) := ⟨_, rfl⟩
          have hq2 : q = (r : Int) ∨ q = - (r : Int) := by rcases hW with h | h <;> subst h <;> omega
          obtain ⟨m, hm⟩ := Int.eq_ofNat_of_zero_le (show 0 ≤ (c : Int) + q + 4 by omega)
          obtain ⟨p2, hp2⟩ : ∃ z : Int, z = (c : Int) + q := ⟨_, rfl⟩
          obtain ⟨z, hz⟩ : ∃ z : Nat, z = m % 4 := ⟨_, rfl⟩
          obtain ⟨y, hy⟩ : ∃ x : Nat, x = 4 * z := ⟨_, rfl⟩
          obtain ⟨ix, hix⟩ : ∃ x : Nat, x = y + r := ⟨_, rfl⟩
          obtain ⟨d, hd⟩ : ∃ x : Nat, x = 4 * c := ⟨_, rfl⟩
          obtain ⟨o, ho⟩ : ∃ x : Nat, x = d + r := ⟨_, rfl⟩
          have hfo : (fun i => el s (ixW W (i / 4) (i % 4))) o = el s ix := by
            show el s (ixW W (o / 4) (o % 4)) = el s ix
            congr 1
            unfold ixW
            rw [show o / 4 = c by omega, show o % 4 = r by omega, ← hq, hm]
            omega
          have lix : ix < 16 := by omega
          have lo : o < 16 := by omega
          have eo : 4 * c + r = o := by omega
          have eo1 : 4 * c + (r + 1) = o + 1 := by omega
          rw [eo] at hL
          have hst := hL.set o ((fun i => el s (ixW W (i / 4) (i % 4))) o)
          rw [fill16_set _ lo, hfo] at hst
          have c1 := But.cell (HC1.out ix lix) hB (by show sb ≠ w.heap.size; omega)
          have c3 := hL.cell (i := o) (by rw [fill16_len]; exact lo)
          have c4 := hL.frozen o
          have e_q : W * (r : Int) = q := hq.symm
          have s_q : IntKind.i64.wrap q = q := by rw [IntKind.wrap_i64]; omega
          have e_p : (c : Int) + q = p2 := hp2.symm
          have s_p : IntKind.i64.wrap p2 = p2 := by rw [IntKind.wrap_i64]; omega
          have e_m : p2 + 4 = (m : Int) := by omega
          have s_m : IntKind.i64.wrap (m : Int) = (m : Int) := by rw [IntKind.wrap_i64]; omega
          have e_z : (m : Int) % 4 = (z : Int) := by omega
          have t_z : (m : Int).tmod 4 = (z : Int) := by rw [Int.tmod_eq_emod_of_nonneg (by omega)]; exact e_z
          have s_z : IntKind.i64.wrap (z : Int) = (z : Int) := by rw [IntKind.wrap_i64]; omega
          have e_y : 4 * (z : Int) = (y : Int) := by omega
          have s_y : IntKind.i64.wrap (y : Int) = (y : Int) := by rw [IntKind.wrap_i64]; omega
          have e_ix : (y : Int) + (r : Int) = (ix : Int) := by omega
          have s_ix : IntKind.i64.wrap (ix : Int) = (ix : Int) := by rw [IntKind.wrap_i64]; omega
          have e_d : 4 * (c : Int) = (d : Int) := by omega
          have s_d : IntKind.i64.wrap (d : Int) = (d : Int) := by rw [IntKind.wrap_i64]; omega
          have e_o : (d : Int) + (r : Int) = (o : Int) := by omega
          have s_o : IntKind.i64.wrap (o : Int) = (o : Int) := by rw [IntKind.wrap_i64]; omega
          have lixi : (ix : Int) < 16 := by omega
          have loi : (o : Int) < 16 := by omega
          have HST := hide hst
          have HEO := hide eo1
          clear hq hq2 hm hp2 hz hy hix hd ho hfo eo eo1 hst hL
          generalize el s ix = u at *
          go_wp2
          exact ⟨⟨r + 1, by omega, by go_num, by rw [HEO.out]; exact HST.out, hB.setCell o _⟩, by simp [intOf]; omega⟩
        · obtain rfl : r = 4 := by omega
          go_wp2
          exact ⟨⟨c + 1, by omega, by go_num, by rw [show 4 * (c + 1) = 4 * c + 4 by omega]; exact hL, hB⟩, by simp [intOf]; omega⟩
    · obtain rfl : c = 4 := by omega
      rw [show 4 * 4 = 16 from rfl, fill16_all] at hL
      go_wp2
      go_ret
      have hbx : B16 (of16 fun i => el s (ixW W (i / 4) (i % 4))) := of16_b fun i _ => hs.el _
      exact ⟨_, rfl, ⟨by rw [of16_len]; exact own_lies hL (Nat.le_refl _) (of16_len _) (by unfold maxLen; decide), hbx.2⟩, hb1.trans (hB.below (Nat.le_refl _) hb1.size)⟩
end Go.Proofs.Yteiknfcegchbcaa

/- The document's columns. -/
namespace Go.Proofs.Yteiknfcegchbcaa
open Go.RowKit
set_option linter.unusedVariables false
set_option linter.unusedSimpArgs false

def accC (m s : List Nat) (c r : Nat) : Nat → Nat
  | 0 => 0
  | j + 1 => accC m s c r j ^^^ mulB (el m j) (el s (4 * c + (r + j) % 4))
def colsW (m s : List Nat) : List Nat := of16 fun i => accC m s (i / 4) (i % 4) 4
theorem accC_lt {m s : List Nat} (hm : Under 256 m) (c r : Nat) : ∀ j, accC m s c r j < 256
  | 0 => by show 0 < 256; decide
  | j + 1 => xor_8 (accC_lt hm c r j) (mulB_lt (el_lt hm (by decide) j))
theorem colsL_w (a b c d : Nat) (s : List Nat) : colsW [a, b, c, d] s = colsL a b c d s := ext16 (of16_len _) (of16_len _) fun i hi => by
  unfold colsW colsL
  rw [of16_el _ hi, of16_el _ hi]
  have e0 : el [a, b, c, d] 0 = a := rfl
  have e1 : el [a, b, c, d] 1 = b := rfl
  have e2 : el [a, b, c, d] 2 = c := rfl
  have e3 : el [a, b, c, d] 3 = d := rfl
  simp only [accC, e0, e1, e2, e3, Nat.zero_xor, Nat.add_zero, Nat.mod_mod]
/-- where the innermost loop stands -/
def CjL (wi : World) (m s : List Nat) (c r : Nat) (vx vj : Value) (wr : World) : Prop := ∃ j q : Nat, j ≤ 4 ∧ vx = .int .u8 (accC m s c r j : Nat) ∧ vj = .int .i64 (j : Int) ∧ wr = wi.drewN q

set_option maxHeartbeats 4000000 in
set_option maxRecDepth 100000 in
theorem rcols_any (m s : List Nat) (sv : Value) (w : World) (hm : m.length = 4) (hmu : Under 256 m) (hs : B16 s) (rs : Row .u8 256 w sv s) :
    Calls Try.prog 50 #[sv, .agg (arr .u8 m)] w fun e w' => ∃ v, e = .returned v ∧ Own 5 .u8 256 w' w.heap.size v (colsW m s) ∧ Below w.heap.size w w' := by
  obtain ⟨i0, hi, hz0, hz1, hz2⟩ := info_parts Try.info5
  have hA := Lies.new .u8 76 w m
  have hb0 := keep_alloc w (.cells (arr .u8 m) 76)
  obtain ⟨sa, sc, rfl, g1, g2, g3⟩ := rs.opens hs.1
  obtain ⟨sb, so, rfl, hc⟩ := g3 (by decide)
  have hsb : sb < w.heap.size := World.block_lt_of_cell? _ _ (hc 0 (by decide))
  go_enter Try.func50, Try.ntmps50
  go_wp2_with (first | (at_make; refine wpList_make_full _ rfl _ _ 22 rfl (w.heap.size + 1) 5 i0 (.int .u8 0) 1 Try.underlying22 hi hz0 hz1 _ _ _ _ 16 rfl rfl rfl rfl (by rw [hz2]; decide) (by unfold maxLen; decide) (by simp) ?_; intro w1 hown hgrow) | fail)
  rw [made_u8, ← fill16_zero (fun i => accC m s (i / 4) (i % 4) 4)] at hown
  have hL1 := lies_own hown (fill16_len _ _)
  have hb1 := (Below.refl (w.alloc (.cells (arr .u8 m) 76)).heap.size (w.alloc (.cells (arr .u8 m) 76))).grown hgrow (Nat.le_refl _) (fun k h => by cases h)
  have hA1 := hA.below hb1
  have hbw := keep_trans hb0 hb1
  rw [World.size_alloc] at hL1
  have hc1 : ∀ i, i < 16 → w1.cell? ⟨sb, so + i, none⟩ = some (.int .u8 (el s i)) := fun i hi => keep_cell (hc i hi) hbw
  clear hown hgrow g3 rs hc hA
  have HC1 := hide hc1
  have HA1 := hide hA1
  clear hc1 hA1
  go_loopw [6] (fun vi wr => RoL w1 (w.heap.size + 1) (fun i => accC m s (i / 4) (i % 4) 4) vi wr) (fun vi _ => 4 - (intOf vi).toNat)
  case atStart => exact ⟨0, by decide, rfl, hL1, But.refl _ _⟩
  case round =>
    obtain ⟨c, hk, rfl, hL, hB⟩ := hrel
    by_cases hlt : c < 4
    · have hli : (c : Int) < 4 := by omega
      rename World => wo
      have H0 : Hid (RiL w1 (w.heap.size + 1) c (fun i => accC m s (i / 4) (i % 4) 4) (.int .i64 0) wo) := hide ⟨0, by decide, rfl, hL, hB⟩
      clear hL1 hL hB
      go_wp2
      go_loopw [7] (fun vi wr => RiL w1 (w.heap.size + 1) c (fun i => accC m s (i / 4) (i % 4) 4) vi wr) (fun vi _ => 4 - (intOf vi).toNat)
      case atStart => exact H0.out
      case round =>
        obtain ⟨r, hr, rfl, hL, hB⟩ := hrel
        clear H0
        by_cases hr4 : r < 4
        · have hri : (r : Int) < 4 := by omega
          rename World => wi
          have J0 : Hid (CjL wi m s c r (.int .u8 0) (.int .i64 0) wi) := hide ⟨0, 0, by decide, rfl, rfl, rfl⟩
          have HL := hide hL
          have HB := hide hB
          clear hL hB
          go_wp2
          go_loopw [8, 9] (fun vx vj wr => CjL wi m s c r vx vj wr) (fun _ vj _ => 4 - (intOf vj).toNat)
          case atStart => exact J0.out
          case round =>
            obtain ⟨j, q, hj, rfl, rfl, rfl⟩ := hrel
            clear J0
            by_cases hj4 : j < 4
            · have hji : (j : Int) < 4 := by omega
              obtain ⟨d, hd⟩ : ∃ x : Nat, x = 4 * c := ⟨_, rfl⟩
              obtain ⟨a, ha⟩ : ∃ x : Nat, x = r + j := ⟨_, rfl⟩
              obtain ⟨b, hb⟩ : ∃ x : Nat, x = a % 4 := ⟨_, rfl⟩
              obtain ⟨ix, hix⟩ : ∃ x : Nat, x = d + b := ⟨_, rfl⟩
              have lix : ix < 16 := by omega
              have hacc : accC m s c r (j + 1) = accC m s c r j ^^^ mulB (el m j) (el s ix) := by
                show accC m s c r j ^^^ mulB (el m j) (el s (4 * c + (r + j) % 4)) = _
                rw [show 4 * c + (r + j) % 4 = ix by omega]
              have c1 := But.cell (HC1.out ix lix) HB.out (by show sb ≠ w.heap.size + 1; omega)
              have c2 := (HA1.out.but HB.out (by omega)).cell (i := j) (by omega)
              have la := accC_lt (s := s) hmu c r j
              have lm := el_lt hmu (by decide) j
              have ls := hs.el ix
              have hmul := fun y => rmul_any (el m j) (el s ix) lm ls y
              have lp := mulB_lt (b := el s ix) lm
              have fx := u8_xor_nat (accC m s c r j) (mulB (el m j) (el s ix)) la lp
              have HACC := hide hacc
              have e_d : 4 * (c : Int) = (d : Int) := by omega
              have s_d : IntKind.i64.wrap (d : Int) = (d : Int) := by rw [IntKind.wrap_i64]; omega
              have e_a : (r : Int) + (j : Int) = (a : Int) := by omega
              have s_a : IntKind.i64.wrap (a : Int) = (a : Int) := by rw [IntKind.wrap_i64]; omega
              have e_b : (a : Int) % 4 = (b : Int) := by omega
              have t_b : (a : Int).tmod 4 = (b : Int) := by rw [Int.tmod_eq_emod_of_nonneg (by omega)]; exact e_b
              have s_b : IntKind.i64.wrap (b : Int) = (b : Int) := by rw [IntKind.wrap_i64]; omega
              have e_ix : (d : Int) + (b : Int) = (ix : Int) := by omega
              have s_ix : IntKind.i64.wrap (ix : Int) = (ix : Int) := by rw [IntKind.wrap_i64]; omega
              have lixi : (ix : Int) < 16 := by omega
              clear hacc hd ha hb hix la lp
              generalize hAJ : accC m s c r j = AJ at *
              generalize hPM : mulB (el m j) (el s ix) = PM at *
              have HAJ := hide hAJ
              clear hAJ hPM
              generalize el m j = mj at *
              generalize el s ix = sx at *
              go_wp2
              go_quiet (first | (go_at_call 20; exact (hmul _).mono (by rintro e w' ⟨rfl, rfl⟩; exact ⟨rfl, _, rfl⟩)) | fail)
              go_wp2
              exact ⟨⟨j + 1, q + nq, by omega, by rw [HACC.out], by go_num, rfl⟩, by simp [intOf]; omega⟩
            · obtain rfl : j = 4 := by omega
              obtain ⟨d, hd⟩ : ∃ x : Nat, x = 4 * c := ⟨_, rfl⟩
              obtain ⟨o, ho⟩ : ∃ x : Nat, x = d + r := ⟨_, rfl⟩
              have lo : o < 16 := by omega
              have eo : 4 * c + r = o := by omega
              have eo1 : 4 * c + (r + 1) = o + 1 := by omega
              have hL : Lies .u8 5 (wi.drewN q) (w.heap.size + 1) (fill16 (fun i => accC m s (i / 4) (i % 4) 4) o) := by rw [← eo]; exact HL.out.drewN q
              have hB : But (w.heap.size + 1) w1 (wi.drewN q) := HB.out.drewN q
              have hfo : (fun i => accC m s (i / 4) (i % 4) 4) o = accC m s c r 4 := by
                show accC m s (o / 4) (o % 4) 4 = _
                rw [show o / 4 = c by omega, show o % 4 = r by omega]
              have hst := hL.set o ((fun i => accC m s (i / 4) (i % 4) 4) o)
              rw [fill16_set _ lo, hfo] at hst
              have c3 := HL.out.cell (i := o) (by rw [fill16_len]; exact lo)
              have c4 := HL.out.frozen o
              have e_d : 4 * (c : Int) = (d : Int) := by omega
              have s_d : IntKind.i64.wrap (d : Int) = (d : Int) := by rw [IntKind.wrap_i64]; omega
              have e_o : (d : Int) + (r : Int) = (o : Int) := by omega
              have s_o : IntKind.i64.wrap (o : Int) = (o : Int) := by rw [IntKind.wrap_i64]; omega
              have loi : (o : Int) < 16 := by omega
              have HST := hide hst
              have HEO := hide eo1
              have HBB := hide hB
              clear hd ho eo eo1 hst hL hB hfo
              generalize accC m s c r 4 = x4 at *
              go_wp2
              exact ⟨⟨r + 1, by omega, by go_num, by rw [HEO.out]; exact HST.out, HBB.out.setCell o _⟩, by simp [intOf]; omega⟩
        · obtain rfl : r = 4 := by omega
          go_wp2
          exact ⟨⟨c + 1, by omega, by go_num, by rw [show 4 * (c + 1) = 4 * c + 4 by omega]; exact hL, hB⟩, by simp [intOf]; omega⟩
    · obtain rfl : c = 4 := by omega
      rw [show 4 * 4 = 16 from rfl, fill16_all] at hL
      go_wp2
      go_ret
      have hbx : B16 (colsW m s) := of16_b fun i _ => accC_lt hmu _ _ _
      exact ⟨_, rfl, ⟨by rw [hbx.1]; exact own_lies hL (by omega) (of16_len _) (by unfold maxLen; decide), hbx.2⟩, hbw.trans (hB.below (by omega) hbw.size)⟩
end Go.Proofs.Yteiknfcegchbcaa

/- Contract of apostilleref01.Back. -/
namespace Go.Proofs.Yteiknfcegchbcaa
open Go.RowKit
set_option linter.unusedVariables false

/-- the last k elements, the last one first -/
theorem rev_take_succ (l : List Nat) (k j : Nat) (h : j + 1 + k = l.length) : l.reverse.take (k + 1) = l.reverse.take k ++ [el l j] := by
  have hk : k < l.reverse.length := by simp; omega
  rw [List.take_succ_eq_append_getElem hk]
  congr 2
  rw [List.getElem_reverse, el_at (by omega)]
  congr 1
  omega

theorem Under.rev {m : Nat} {l : List Nat} (h : Under m l) : Under m l.reverse := fun x hx => h x (List.mem_reverse.1 hx)
theorem Under.take' {m : Nat} {l : List Nat} (h : Under m l) (k : Nat) : Under m (l.take k) := fun x hx => h x (List.mem_of_mem_take hx)

end Go.Proofs.Yteiknfcegchbcaa

/- Contracts of bits.NumLe. -/
namespace Go.Proofs.Yteiknfcegchbcaa
open Go.RowKit
set_option linter.unusedVariables false

/-- the number of bytes, the lowest first (unbounded) -/
def valLe : List Nat → Nat
  | [] => 0
  | x :: r => x + 256 * valLe r

theorem valLe_append (a b : List Nat) : valLe (a ++ b) = valLe a + 256 ^ a.length * valLe b := by
  induction a with
  | nil => simp [valLe]
  | cons x r ih => simp only [List.cons_append, valLe, ih, List.length_cons, Nat.pow_succ]; rw [Nat.mul_add]; rw [show 256 ^ r.length * 256 * valLe b = 256 * (256 ^ r.length * valLe b) from by rw [Nat.mul_comm (256 ^ r.length) 256, Nat.mul_assoc]]; omega

theorem valLe_lt (a : List Nat) (h : Under 256 a) : valLe a < 256 ^ a.length := by
  induction a with
  | nil => simp [valLe]
  | cons x r ih =>
    have hx := h x (by simp)
    have := ih (fun y hy => h y (by simp [hy]))
    simp only [valLe, List.length_cons, Nat.pow_succ]
    omega

theorem numL_rev (l : List Nat) : numL l.reverse = valLe l % 18446744073709551616 := by
  induction l with
  | nil => rfl
  | cons x r ih => rw [List.reverse_cons, numL_snoc, ih]; simp only [valLe]; omega


/-- a number's lowest eight bytes tell it modulo 2^64 -/
theorem valLe_min (l : List Nat) : valLe (l.take (min l.length 8)) % 18446744073709551616 = valLe l % 18446744073709551616 := by
  by_cases h : l.length ≤ 8
  · rw [List.take_of_length_le (by omega)]
  · have e := valLe_append (l.take 8) (l.drop 8)
    rw [List.take_append_drop] at e
    have hl : (l.take 8).length = 8 := by simp; omega
    rw [hl] at e
    rw [show min l.length 8 = 8 by omega, e]
    omega

theorem step_numLe (N x k : Nat) (hk : k < 8) (hN : N < 256 ^ k) (hx : x < 256) :
    bits .or .u64 (N : Int) (IntKind.u64.wrap ((x : Int) * 2 ^ (8 * k))) = ((N + 256 ^ k * x : Nat) : Int) := by
  have e2 : (256 : Nat) ^ k = 2 ^ (8 * k) := by rw [Nat.pow_mul]
  have hb : 256 ^ k * x < 18446744073709551616 := by
    have h1 : 256 ^ k * x < 256 ^ k * 256 := Nat.mul_lt_mul_of_pos_left hx (Nat.pow_pos (by decide))
    have h2 : 256 ^ k * 256 = 256 ^ (k + 1) := by rw [Nat.pow_succ]
    have h3 : 256 ^ (k + 1) ≤ 256 ^ 8 := Nat.pow_le_pow_right (by decide) (by omega)
    have h4 : (256 : Nat) ^ 8 = 18446744073709551616 := by decide
    omega
  have hN' : N < 18446744073709551616 := by
    have h3 : 256 ^ k ≤ 256 ^ 8 := Nat.pow_le_pow_right (by decide) (by omega)
    have h4 : (256 : Nat) ^ 8 = 18446744073709551616 := by decide
    omega
  have e : IntKind.u64.wrap ((x : Int) * 2 ^ (8 * k)) = ((256 ^ k * x : Nat) : Int) := by
    have e3 : ((x : Int) * 2 ^ (8 * k)) = ((256 ^ k * x : Nat) : Int) := by
      rw [e2, Int.natCast_mul, Int.mul_comm, Int.natCast_pow]; rfl
    rw [e3, IntKind.wrap_u64]; omega
  rw [e, u64_or_nat _ _ hN' hb, Nat.or_comm, nat_join (8 * k) _ _ (by rw [← e2]; exact Nat.mul_mod_right _ _) (by rw [← e2]; exact hN), Nat.add_comm]

theorem valLe_lt8 (a : List Nat) (h : Under 256 a) (h8 : a.length ≤ 8) : valLe a < 18446744073709551616 := by
  have h1 := valLe_lt a h
  have h3 : 256 ^ a.length ≤ 256 ^ 8 := Nat.pow_le_pow_right (by decide) h8
  have h4 : (256 : Nat) ^ 8 = 18446744073709551616 := by decide
  omega

end Go.Proofs.Yteiknfcegchbcaa

/- Contracts of apostilleref01.Le, apostilleref01.NumLe. -/
namespace Go.Proofs.Yteiknfcegchbcaa
open Go.RowKit
set_option linter.unusedVariables false

theorem leS_length (n : Nat) (size : Int) : (leS n size).length ≤ 65536 := by
  unfold leS; split
  · simp
  · rw [leL_length]; omega

end Go.Proofs.Yteiknfcegchbcaa

/- Plain facts on bits, bytes and groups of bits: no program in sight. -/
namespace Go.Proofs.Yteiknfcegchbcaa
open Go.RowKit
set_option linter.unusedVariables false

theorem p256 (k : Nat) : (256 : Nat) ^ k = 2 ^ (8 * k) := by rw [Nat.pow_mul]
theorem pp (k : Nat) : 0 < (2 : Nat) ^ k := Nat.pow_pos (by decide)

/-- a part of the bits of a remainder -/
theorem mod_div_mod (V a h w : Nat) (hh : h + w ≤ a) : V % 2 ^ a / 2 ^ h % 2 ^ w = V / 2 ^ h % 2 ^ w := by
  obtain ⟨d, rfl⟩ : ∃ d, a = h + (w + d) := ⟨a - h - w, by omega⟩
  rw [Nat.pow_add, Nat.mod_mul_right_div_self, Nat.pow_add]
  exact Nat.mod_mod_of_dvd _ (Nat.dvd_mul_right _ _)
theorem div_div_pow (V a b : Nat) : V / 2 ^ a / 2 ^ b = V / 2 ^ (a + b) := by
  rw [Nat.div_div_eq_div_mul, Nat.pow_add]
theorem mod_succ (X k : Nat) : X / 2 % 2 ^ k * 2 + X % 2 = X % 2 ^ (k + 1) := by
  rw [Nat.pow_succ, Nat.mul_comm (2 ^ k) 2, Nat.mod_mul, Nat.mul_comm 2 (X / 2 % 2 ^ k)]
  omega
theorem mod_top (X k : Nat) : X % 2 ^ (k + 1) = X % 2 ^ k + 2 ^ k * (X / 2 ^ k % 2) := by
  rw [Nat.pow_succ, Nat.mod_mul]
theorem add_high_div (A X a b : Nat) (h : b ≤ a) : (A + 2 ^ a * X) / 2 ^ b = A / 2 ^ b + 2 ^ (a - b) * X := by
  obtain ⟨d, rfl⟩ : ∃ d, a = b + d := ⟨a - b, by omega⟩
  rw [Nat.pow_add, Nat.mul_assoc, Nat.add_mul_div_left _ _ (pp b), show b + d - b = d by omega]
/-- what is added above a group of bits does not turn it -/
theorem add_high_mod (A X a h w : Nat) (hh : h + w ≤ a) : (A + 2 ^ a * X) / 2 ^ h % 2 ^ w = A / 2 ^ h % 2 ^ w := by
  rw [add_high_div A X a h (by omega)]
  obtain ⟨d, hd⟩ : ∃ d, a - h = w + d := ⟨a - h - w, by omega⟩
  rw [hd, Nat.pow_add, Nat.mul_assoc, Nat.add_mul_mod_self_left]
theorem div_lt_pow (V a b : Nat) (h : V < 2 ^ (a + b)) : V / 2 ^ a < 2 ^ b := by
  rw [Nat.div_lt_iff_lt_mul (pp a), ← Nat.pow_add, Nat.add_comm b a]; exact h

/-! ### bytes as one number, the highest first -/
def valBe (l : List Nat) : Nat := l.foldl (fun n x => n * 256 + x) 0
theorem valBe_snoc (l : List Nat) (x : Nat) : valBe (l ++ [x]) = valBe l * 256 + x := by
  unfold valBe; rw [List.foldl_append]; rfl
theorem valBe_le (l : List Nat) : valBe l.reverse = valLe l := by
  induction l with
  | nil => rfl
  | cons x r ih => rw [List.reverse_cons, valBe_snoc, ih]; simp only [valLe]; omega
theorem valBe_eq (l : List Nat) : valBe l = valLe l.reverse := by rw [← valBe_le, List.reverse_reverse]
theorem valBe_take (l : List Nat) (hu : Under 256 l) (a : Nat) (ha : a ≤ l.length) : valBe (l.take a) = valBe l / 2 ^ (8 * (l.length - a)) := by
  have e : l.reverse = (l.drop a).reverse ++ (l.take a).reverse := by rw [← List.reverse_append, List.take_append_drop]
  rw [valBe_eq l, e, valLe_append, valBe_eq, List.length_reverse, List.length_drop, p256]
  have hlt := valLe_lt (l.drop a).reverse (fun x hx => hu x (List.mem_of_mem_drop (List.mem_reverse.1 hx)))
  rw [List.length_reverse, List.length_drop, p256] at hlt
  rw [Nat.add_mul_div_left _ _ (pp _), Nat.div_eq_of_lt hlt, Nat.zero_add]
theorem valBe_lt (l : List Nat) (hu : Under 256 l) : valBe l < 2 ^ (8 * l.length) := by
  rw [valBe_eq]
  have := valLe_lt l.reverse (fun x hx => hu x (List.mem_reverse.1 hx))
  rw [List.length_reverse, p256] at this
  exact this
theorem valBe_el (l : List Nat) (hu : Under 256 l) (j : Nat) (hj : j < l.length) : el l j = valBe l / 2 ^ (8 * (l.length - 1 - j)) % 256 := by
  have h1 := valBe_take l hu (j + 1) (by omega)
  rw [take_snoc hj, valBe_snoc] at h1
  have hx := el_lt hu (by decide) j
  rw [show l.length - 1 - j = l.length - (j + 1) by omega, ← h1]
  omega

/-- the i-th group of w bits, the highest first -/
def dig (l : List Nat) (w i : Nat) : Nat := valBe l / 2 ^ (8 * l.length - (i + 1) * w) % 2 ^ w
def digL (l : List Nat) (w c : Nat) : List Nat := (List.range c).map (dig l w)

theorem digL_length (l : List Nat) (w c : Nat) : (digL l w c).length = c := by simp [digL]
theorem digL_succ (l : List Nat) (w c : Nat) : digL l w (c + 1) = digL l w c ++ [dig l w c] := by simp [digL, List.range_succ]
theorem digL_under (l : List Nat) (w c : Nat) (hw : w ≤ 24) : Under 4294967296 (digL l w c) := by
  intro x hx
  obtain ⟨i, _, rfl⟩ := List.mem_map.1 hx
  have h1 : dig l w i < 2 ^ w := Nat.mod_lt _ (pp w)
  have h2 : 2 ^ w ≤ 2 ^ 24 := Nat.pow_le_pow_right (by decide) hw
  have h3 : (2 : Nat) ^ 24 = 16777216 := by decide
  omega

/-- what the program tells: the bits of what was read so far -/
theorem dig_read (l : List Nat) (hu : Under 256 l) (w i a : Nat) (ha : a ≤ l.length) (hi : (i + 1) * w ≤ 8 * a) (h32 : 8 * a - (i + 1) * w + w ≤ 32) :
    valBe (l.take a) % 2 ^ 32 / 2 ^ (8 * a - (i + 1) * w) % 2 ^ w = dig l w i := by
  rw [mod_div_mod _ _ _ _ h32, valBe_take l hu a ha, div_div_pow]
  unfold dig
  congr 3
  omega

/-- a bit -/
theorem bit_be (l : List Nat) (hu : Under 256 l) (p : Nat) (hp : p < 8 * l.length) :
    el l (p / 8) / 2 ^ (7 - p % 8) % 2 = valBe l / 2 ^ (8 * l.length - 1 - p) % 2 := by
  rw [valBe_el l hu (p / 8) (by omega)]
  have h := mod_div_mod (valBe l / 2 ^ (8 * (l.length - 1 - p / 8))) 8 (7 - p % 8) 1 (by omega)
  rw [show (256 : Nat) = 2 ^ 8 from rfl]
  rw [show (2 : Nat) ^ 1 = 2 from rfl] at h
  rw [h, div_div_pow]
  congr 3
  omega

/-- the first k bits of the i-th group -/
def digTo (l : List Nat) (w i k : Nat) : Nat := valBe l / 2 ^ (8 * l.length - (i * w + k)) % 2 ^ k
theorem digTo_zero (l : List Nat) (w i : Nat) : digTo l w i 0 = 0 := by unfold digTo; exact Nat.mod_one _
theorem digTo_full (l : List Nat) (w i : Nat) : digTo l w i w = dig l w i := by unfold digTo dig; rw [Nat.add_mul, Nat.one_mul]
theorem digTo_succ (l : List Nat) (hu : Under 256 l) (w i k : Nat) (hp : i * w + k < 8 * l.length) :
    digTo l w i k * 2 + el l ((i * w + k) / 8) / 2 ^ (7 - (i * w + k) % 8) % 2 = digTo l w i (k + 1) := by
  rw [bit_be l hu _ hp]
  unfold digTo
  have e : valBe l / 2 ^ (8 * l.length - (i * w + k)) = valBe l / 2 ^ (8 * l.length - 1 - (i * w + k)) / 2 := by
    rw [show (2 : Nat) = 2 ^ 1 from rfl, ← Nat.pow_mul, ← Nat.pow_mul, Nat.one_mul, Nat.one_mul, div_div_pow]
    congr 2
    omega
  rw [e, mod_succ]
  congr 3
  omega
theorem digTo_lt (l : List Nat) (w i k : Nat) : digTo l w i k < 2 ^ k := Nat.mod_lt _ (pp k)
end Go.Proofs.Yteiknfcegchbcaa

/- Contracts of the small helpers: room, isWidth, holds, such, lowest, packedSize. -/
namespace Go.Proofs.Yteiknfcegchbcaa
open Go.RowKit
set_option linter.unusedVariables false

/-- may so many numbers of so many bits be in a text of so many bytes? -/
def okB (len : Nat) (w c : Int) : Bool := decide (1 ≤ w ∧ w ≤ 24 ∧ 0 ≤ c ∧ c ≤ (len : Int) * 8 / w)

theorem okB_of {len : Nat} {w c : Int} (h : okB len w c = true) : ∃ W C : Nat, w = W ∧ c = C ∧ 1 ≤ W ∧ W ≤ 24 ∧ C * W ≤ 8 * len := by
  unfold okB at h
  have h := of_decide_eq_true h
  obtain ⟨W, rfl⟩ := Int.eq_ofNat_of_zero_le (show 0 ≤ w by omega)
  obtain ⟨C, rfl⟩ := Int.eq_ofNat_of_zero_le h.2.2.1
  refine ⟨W, C, rfl, rfl, by omega, by omega, ?_⟩
  have h4 := h.2.2.2
  have h5 : C ≤ len * 8 / W := by
    have : ((len : Int) * 8 / (W : Int)) = ((len * 8 / W : Nat) : Int) := by simp
    omega
  have h6 : C * W ≤ len * 8 / W * W := Nat.mul_le_mul_right W h5
  have h7 : len * 8 / W * W ≤ len * 8 := Nat.div_mul_le_self _ _
  omega
theorem okB_mk {len W C : Nat} (h1 : 1 ≤ W) (h2 : W ≤ 24) (h : C * W ≤ 8 * len) : okB len (W : Int) (C : Int) = true := by
  unfold okB
  refine decide_eq_true ⟨by omega, by omega, by omega, ?_⟩
  have : ((len : Int) * 8 / (W : Int)) = ((len * 8 / W : Nat) : Int) := by simp
  rw [this]
  have h3 : C ≤ len * 8 / W := (Nat.le_div_iff_mul_le (by omega)).2 (by omega)
  omega

theorem mask_and (n W : Nat) (hn : n < 4294967296) (hW : W ≤ 24) : bits BinOp.and IntKind.u32 (n : Int) ((2 ^ W - 1) % 4294967296) = ((n % 2 ^ W : Nat) : Int) := by
  have h2 : 2 ^ W ≤ 2 ^ 24 := Nat.pow_le_pow_right (by decide) hW
  have h3 : (2 : Nat) ^ 24 = 16777216 := by decide
  have h4 := pp W
  have e : (((2 : Int) ^ W - 1) % 4294967296) = ((2 ^ W - 1 : Nat) : Int) := by
    have e1 : ((2 : Int) ^ W) = ((2 ^ W : Nat) : Int) := by simp
    rw [e1]
    omega
  rw [e, u32_and_nat n _ hn (by omega), Nat.and_two_pow_sub_one_eq_mod]

set_option maxHeartbeats 400000 in
theorem room8_any (c : Nat) (w : World) (hc : c ≤ 140737488355328) :
    Calls Try.prog 53 #[.int .i64 c] w fun e w' => ∃ v, e = .returned v ∧ Own 5 .u8 256 w' w.heap.size v [] ∧ Below w.heap.size w w' := by
  obtain ⟨i0, hi, hz0, hz1, hz2⟩ := info_parts Try.info5
  by_cases h0 : c = 0
  · subst h0
    go_enter Try.func53, Try.ntmps53
    go_wp2
    go_ret
    exact ⟨_, rfl, ⟨World.ownsRow_nil _ _ _ _, fun x hx => by simp at hx⟩, Below.refl _ _⟩
  · have hne : ((c : Int) == 0) = false := by simp; omega
    go_enter Try.func53, Try.ntmps53
    go_wp2_with (first | (at_make; refine wpList_make_own _ rfl _ _ 22 rfl w.heap.size 5 i0 (.int .u8 0) 1 Try.underlying22 hi hz0 hz1 _ _ _ c rfl rfl rfl (by rw [hz2]; omega) (by unfold maxLen; omega) (Nat.le_refl _) ?_; intro w1 hown hgrow) | go_in)
    go_ret
    exact ⟨_, rfl, ⟨hown, fun x hx => by simp at hx⟩, (Below.refl w.heap.size w).grown hgrow (Nat.le_refl _) (fun k h => by cases h)⟩

end Go.Proofs.Yteiknfcegchbcaa

/- Contract of bits.Digits. -/
namespace Go.Proofs.Yteiknfcegchbcaa
open Go.RowKit
set_option linter.unusedVariables false

/-- what Digits tells -/
def digS (l : List Nat) (x c : Int) : List Nat := if okB l.length x c = true then digL l x.toNat c.toNat else []

theorem dig_nil (e : TypeId) (k : IntKind) (m : Nat) (w : World) (B : Nat) : Own e k m w B (.slice none 0 0) [] := ⟨World.ownsRow_nil _ _ _ _, fun x hx => by simp at hx⟩

theorem step_left (V x : Nat) (hx : x < 256) : bits .or .u32 (IntKind.u32.wrap ((V % 2 ^ 32 : Nat) * 256 : Int)) (x : Int) = (((V * 256 + x) % 2 ^ 32 : Nat) : Int) := by
  have e : IntKind.u32.wrap (((V % 2 ^ 32 : Nat) : Int) * 256) = ((V % 2 ^ 32 * 256 % 4294967296 : Nat) : Int) := by
    rw [IntKind.wrap_u32']; omega
  rw [e, u32_or_nat _ _ (Nat.mod_lt _ (by decide)) (by omega), nat_join 8 _ _ (by omega) (by omega)]
  congr 1
  omega

end Go.Proofs.Yteiknfcegchbcaa
