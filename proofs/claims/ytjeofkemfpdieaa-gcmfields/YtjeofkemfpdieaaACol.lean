/- The document's columns. -/
import Derived.Test.YtjeofkemfpdieaaJMv
import Derived.Test.YtjeofkemfpdieaaYXor
import Derived.Test.YtjeofkemfpdieaaJGa
namespace Go.Proofs.Ytjeofkemfpdieaa
open Go.RowKit
set_option linter.unusedVariables false
set_option linter.unusedSimpArgs false

def accC (m s : List Nat) (c r : Nat) : Nat → Nat
  | 0 => 0
  | j + 1 => accC m s c r j ^^^ mulB (el m j) (el s (4 * c + (r + j) % 4))
def colsW (m s : List Nat) : List Nat := of16 fun i => accC m s (i / 4) (i % 4) 4
theorem accC_lt {m s : List Nat} (hm : Under 256 m) (c r : Nat) : ∀ j, accC m s c r j < 256
  | 0 => by show 0 < 256; decide
  | j + 1 => xor_8 (accC_lt hm c r j) (mulB_lt (el_lt hm (by decide) j))
theorem colsL_w (a b c d : Nat) (s : List Nat) : colsW [a, b, c, d] s = colsL a b c d s := ext16 (of16_len _) (of16_len _) fun i hi => by
  unfold colsW colsL
  rw [of16_el _ hi, of16_el _ hi]
  have e0 : el [a, b, c, d] 0 = a := rfl
  have e1 : el [a, b, c, d] 1 = b := rfl
  have e2 : el [a, b, c, d] 2 = c := rfl
  have e3 : el [a, b, c, d] 3 = d := rfl
  simp only [accC, e0, e1, e2, e3, Nat.zero_xor, Nat.add_zero, Nat.mod_mod]
/-- where the innermost loop stands -/
def CjL (wi : World) (m s : List Nat) (c r : Nat) (vx vj : Value) (wr : World) : Prop := ∃ j q : Nat, j ≤ 4 ∧ vx = .int .u8 (accC m s c r j : Nat) ∧ vj = .int .i64 (j : Int) ∧ wr = wi.drewN q

set_option maxHeartbeats 4000000 in
set_option maxRecDepth 100000 in
theorem rcols_any (m s : List Nat) (sv : Value) (w : World) (hm : m.length = 4) (hmu : Under 256 m) (hs : B16 s) (rs : Row .u8 256 w sv s) :
    Calls Try.prog 67 #[sv, .agg (arr .u8 m)] w fun e w' => ∃ v, e = .returned v ∧ Own 5 .u8 256 w' w.heap.size v (colsW m s) ∧ Below w.heap.size w w' := by
  obtain ⟨i0, hi, hz0, hz1, hz2⟩ := info_parts Try.info5
  have hA := Lies.new .u8 89 w m
  have hb0 := keep_alloc w (.cells (arr .u8 m) 89)
  obtain ⟨sa, sc, rfl, g1, g2, g3⟩ := rs.opens hs.1
  obtain ⟨sb, so, rfl, hc⟩ := g3 (by decide)
  have hsb : sb < w.heap.size := World.block_lt_of_cell? _ _ (hc 0 (by decide))
  go_enter Try.func67, Try.ntmps67
  go_wp2_with (first | (at_make; refine wpList_make_full _ rfl _ _ 22 rfl (w.heap.size + 1) 5 i0 (.int .u8 0) 1 Try.underlying22 hi hz0 hz1 _ _ _ _ 16 rfl rfl rfl rfl (by rw [hz2]; decide) (by unfold maxLen; decide) (by simp) ?_; intro w1 hown hgrow) | fail)
  rw [made_u8, ← fill16_zero (fun i => accC m s (i / 4) (i % 4) 4)] at hown
  have hL1 := lies_own hown (fill16_len _ _)
  have hb1 := (Below.refl (w.alloc (.cells (arr .u8 m) 89)).heap.size (w.alloc (.cells (arr .u8 m) 89))).grown hgrow (Nat.le_refl _) (fun k h => by cases h)
  have hA1 := hA.below hb1
  have hbw := keep_trans hb0 hb1
  rw [World.size_alloc] at hL1
  have hc1 : ∀ i, i < 16 → w1.cell? ⟨sb, so + i, none⟩ = some (.int .u8 (el s i)) := fun i hi => keep_cell (hc i hi) hbw
  clear hown hgrow g3 rs hc hA
  have HC1 := hide hc1
  have HA1 := hide hA1
  clear hc1 hA1
  go_loopw [6] (fun vi wr => RoL w1 (w.heap.size + 1) (fun i => accC m s (i / 4) (i % 4) 4) vi wr) (fun vi _ => 4 - (intOf vi).toNat)
  case atStart => exact ⟨0, by decide, rfl, hL1, But.refl _ _⟩
  case round =>
    obtain ⟨c, hk, rfl, hL, hB⟩ := hrel
    by_cases hlt : c < 4
    · have hli : (c : Int) < 4 := by omega
      rename World => wo
      have H0 : Hid (RiL w1 (w.heap.size + 1) c (fun i => accC m s (i / 4) (i % 4) 4) (.int .i64 0) wo) := hide ⟨0, by decide, rfl, hL, hB⟩
      clear hL1 hL hB
      go_wp2
      go_loopw [7] (fun vi wr => RiL w1 (w.heap.size + 1) c (fun i => accC m s (i / 4) (i % 4) 4) vi wr) (fun vi _ => 4 - (intOf vi).toNat)
      case atStart => exact H0.out
      case round =>
        obtain ⟨r, hr, rfl, hL, hB⟩ := hrel
        clear H0
        by_cases hr4 : r < 4
        · have hri : (r : Int) < 4 := by omega
          rename World => wi
          have J0 : Hid (CjL wi m s c r (.int .u8 0) (.int .i64 0) wi) := hide ⟨0, 0, by decide, rfl, rfl, rfl⟩
          have HL := hide hL
          have HB := hide hB
          clear hL hB
          go_wp2
          go_loopw [8, 9] (fun vx vj wr => CjL wi m s c r vx vj wr) (fun _ vj _ => 4 - (intOf vj).toNat)
          case atStart => exact J0.out
          case round =>
            obtain ⟨j, q, hj, rfl, rfl, rfl⟩ := hrel
            clear J0
            by_cases hj4 : j < 4
            · have hji : (j : Int) < 4 := by omega
              obtain ⟨d, hd⟩ : ∃ x : Nat, x = 4 * c := ⟨_, rfl⟩
              obtain ⟨a, ha⟩ : ∃ x : Nat, x = r + j := ⟨_, rfl⟩
              obtain ⟨b, hb⟩ : ∃ x : Nat, x = a % 4 := ⟨_, rfl⟩
              obtain ⟨ix, hix⟩ : ∃ x : Nat, x = d + b := ⟨_, rfl⟩
              have lix : ix < 16 := by omega
              have hacc : accC m s c r (j + 1) = accC m s c r j ^^^ mulB (el m j) (el s ix) := by
                show accC m s c r j ^^^ mulB (el m j) (el s (4 * c + (r + j) % 4)) = _
                rw [show 4 * c + (r + j) % 4 = ix by omega]
              have c1 := But.cell (HC1.out ix lix) HB.out (by show sb ≠ w.heap.size + 1; omega)
              have c2 := (HA1.out.but HB.out (by omega)).cell (i := j) (by omega)
              have la := accC_lt (s := s) hmu c r j
              have lm := el_lt hmu (by decide) j
              have ls := hs.el ix
              have hmul := fun y => rmul_any (el m j) (el s ix) lm ls y
              have lp := mulB_lt (b := el s ix) lm
              have fx := u8_xor_nat (accC m s c r j) (mulB (el m j) (el s ix)) la lp
              have HACC := hide hacc
              have e_d : 4 * (c : Int) = (d : Int) := by omega
              have s_d : IntKind.i64.wrap (d : Int) = (d : Int) := by rw [IntKind.wrap_i64]; omega
              have e_a : (r : Int) + (j : Int) = (a : Int) := by omega
              have s_a : IntKind.i64.wrap (a : Int) = (a : Int) := by rw [IntKind.wrap_i64]; omega
              have e_b : (a : Int) % 4 = (b : Int) := by omega
              have t_b : (a : Int).tmod 4 = (b : Int) := by rw [Int.tmod_eq_emod_of_nonneg (by omega)]; exact e_b
              have s_b : IntKind.i64.wrap (b : Int) = (b : Int) := by rw [IntKind.wrap_i64]; omega
              have e_ix : (d : Int) + (b : Int) = (ix : Int) := by omega
              have s_ix : IntKind.i64.wrap (ix : Int) = (ix : Int) := by rw [IntKind.wrap_i64]; omega
              have lixi : (ix : Int) < 16 := by omega
              clear hacc hd ha hb hix la lp
              generalize hAJ : accC m s c r j = AJ at *
              generalize hPM : mulB (el m j) (el s ix) = PM at *
              have HAJ := hide hAJ
              clear hAJ hPM
              generalize el m j = mj at *
              generalize el s ix = sx at *
              go_wp2
              go_quiet (first | (go_at_call 64; exact (hmul _).mono (by rintro e w' ⟨rfl, rfl⟩; exact ⟨rfl, _, rfl⟩)) | fail)
              go_wp2
              exact ⟨⟨j + 1, q + nq, by omega, by rw [HACC.out], by go_num, rfl⟩, by simp [intOf]; omega⟩
            · obtain rfl : j = 4 := by omega
              obtain ⟨d, hd⟩ : ∃ x : Nat, x = 4 * c := ⟨_, rfl⟩
              obtain ⟨o, ho⟩ : ∃ x : Nat, x = d + r := ⟨_, rfl⟩
              have lo : o < 16 := by omega
              have eo : 4 * c + r = o := by omega
              have eo1 : 4 * c + (r + 1) = o + 1 := by omega
              have hL : Lies .u8 5 (wi.drewN q) (w.heap.size + 1) (fill16 (fun i => accC m s (i / 4) (i % 4) 4) o) := by rw [← eo]; exact HL.out.drewN q
              have hB : But (w.heap.size + 1) w1 (wi.drewN q) := HB.out.drewN q
              have hfo : (fun i => accC m s (i / 4) (i % 4) 4) o = accC m s c r 4 := by
                show accC m s (o / 4) (o % 4) 4 = _
                rw [show o / 4 = c by omega, show o % 4 = r by omega]
              have hst := hL.set o ((fun i => accC m s (i / 4) (i % 4) 4) o)
              rw [fill16_set _ lo, hfo] at hst
              have c3 := HL.out.cell (i := o) (by rw [fill16_len]; exact lo)
              have c4 := HL.out.frozen o
              have e_d : 4 * (c : Int) = (d : Int) := by omega
              have s_d : IntKind.i64.wrap (d : Int) = (d : Int) := by rw [IntKind.wrap_i64]; omega
              have e_o : (d : Int) + (r : Int) = (o : Int) := by omega
              have s_o : IntKind.i64.wrap (o : Int) = (o : Int) := by rw [IntKind.wrap_i64]; omega
              have loi : (o : Int) < 16 := by omega
              have HST := hide hst
              have HEO := hide eo1
              have HBB := hide hB
              clear hd ho eo eo1 hst hL hB hfo
              generalize accC m s c r 4 = x4 at *
              go_wp2
              exact ⟨⟨r + 1, by omega, by go_num, by rw [HEO.out]; exact HST.out, HBB.out.setCell o _⟩, by simp [intOf]; omega⟩
        · obtain rfl : r = 4 := by omega
          go_wp2
          exact ⟨⟨c + 1, by omega, by go_num, by rw [show 4 * (c + 1) = 4 * c + 4 by omega]; exact hL, hB⟩, by simp [intOf]; omega⟩
    · obtain rfl : c = 4 := by omega
      rw [show 4 * 4 = 16 from rfl, fill16_all] at hL
      go_wp2
      go_ret
      have hbx : B16 (colsW m s) := of16_b fun i _ => accC_lt hmu _ _ _
      exact ⟨_, rfl, ⟨by rw [hbx.1]; exact own_lies hL (by omega) (of16_len _) (by unfold maxLen; decide), hbx.2⟩, hbw.trans (hB.below (by omega) hbw.size)⟩
end Go.Proofs.Ytjeofkemfpdieaa

/- The document's there. -/
namespace Go.Proofs.Ytjeofkemfpdieaa
open Go.RowKit
set_option linter.unusedVariables false
set_option linter.unusedSimpArgs false

/-- a round's key, as a part of all -/
def keyP (ws : List Nat) (r : Nat) : List Nat := (ws.drop (16 * r)).take 16
theorem xr_key {ws s : List Nat} {r n : Nat} (hs : s.length = 16) (hw : ws.length = 16 * (n + 1)) (hr : r ≤ n) : xrL s (keyP ws r) = keyAt ws r s := by
  have hk : (keyP ws r).length = 16 := by simp [keyP]; omega
  refine ext16 (by simp [xrL, hs, hk]) (of16_len _) fun i hi => ?_
  unfold keyAt
  rw [of16_el _ hi]
  unfold xrL
  rw [el_at (by simp [hs, hk]; exact hi)]
  simp only [List.getElem_map, List.getElem_range]
  congr 1
  rw [el_at (by rw [hk]; exact hi), el_at (by rw [hw]; omega)]
  unfold keyP
  rw [List.getElem_take, List.getElem_drop]
theorem keyP_row {w : World} {wv : Value} {ws : List Nat} {r n : Nat} (h : Row .u8 256 w wv ws) (hw : ws.length = 16 * (n + 1)) (hr : r ≤ n) : ∃ b o c, wv = .slice (some ⟨b, o, none⟩) (16 * (n + 1)) c ∧ 16 * (n + 1) ≤ c ∧ c ≤ 9223372036854775807 ∧ Row .u8 256 w (.slice (some ⟨b, o + 16 * r, none⟩) 16 (c - 16 * r)) (keyP ws r) := by
  obtain ⟨a, c, rfl, h1, h2, h3⟩ := h.opens hw
  obtain ⟨b, o, rfl, _⟩ := h3 (by omega)
  have hm := h.mid (i := 16 * r) (j := 16 * r + 16) (by omega) (by omega)
  rw [show 16 * r + 16 - 16 * r = 16 by omega] at hm
  exact ⟨b, o, c, rfl, h1, h2, hm⟩

theorem boxT_under : Under 256 boxT := fun x hx => by
  obtain ⟨i, hi, rfl⟩ := List.mem_map.1 hx
  exact boxB_lt (List.mem_range.1 hi)
theorem rcols_th (s : List Nat) (sv : Value) (w : World) (hs : B16 s) (rs : Row .u8 256 w sv s) :
    Calls Try.prog 67 #[sv, .agg #[.int .u8 2, .int .u8 3, .int .u8 1, .int .u8 1]] w fun e w' => ∃ v, e = .returned v ∧ Own 5 .u8 256 w' w.heap.size v (colsL 2 3 1 1 s) ∧ Below w.heap.size w w' := by
  rw [← colsL_w]
  exact rcols_any [2, 3, 1, 1] s sv w rfl (dec_under rfl) hs rs
theorem rcols_bk (s : List Nat) (sv : Value) (w : World) (hs : B16 s) (rs : Row .u8 256 w sv s) :
    Calls Try.prog 67 #[sv, .agg #[.int .u8 14, .int .u8 11, .int .u8 13, .int .u8 9]] w fun e w' => ∃ v, e = .returned v ∧ Own 5 .u8 256 w' w.heap.size v (colsL 14 11 13 9 s) ∧ Below w.heap.size w w' := by
  rw [← colsL_w]
  exact rcols_any [14, 11, 13, 9] s sv w rfl (dec_under rfl) hs rs
/-- where the loop stands: behind r - 1 rounds -/
def ThL (w w0 : World) (f : Nat → List Nat) (n : Nat) (v vr : Value) (wr : World) : Prop := ∃ k : Nat, k ≤ n ∧ vr = .int .i64 ((k + 1 : Nat) : Int) ∧ Own 5 .u8 256 wr w.heap.size v (f k) ∧ Below w0.heap.size w0 wr

set_option maxHeartbeats 4000000 in
set_option maxRecDepth 100000 in
theorem rth_any (n : Nat) (ws s : List Nat) (wv sv : Value) (w : World) (hn : n ≤ 14) (hn1 : 1 ≤ n) (hw : ws.length = 16 * (n + 1)) (hs : B16 s) (rw : Row .u8 256 w wv ws) (rs : Row .u8 256 w sv s) :
    Calls Try.prog 57 #[wv, sv, .agg (arr .u8 boxT)] w fun e w' => ∃ v, e = .returned v ∧ Own 5 .u8 256 w' w.heap.size v (thN n ws n s) ∧ Below w.heap.size w w' := by
  have hwu := rw.under
  have hA := Lies.new .u8 74 w boxT
  have hb0 := keep_alloc w (.cells (arr .u8 boxT) 74)
  have rw0 := rw.below hb0
  have rs0 := rs.below hb0
  obtain ⟨b, o, c, rfl, lc1, lc2, rk0⟩ := keyP_row (r := 0) rw0 hw (by omega)
  obtain ⟨sa, sc, rfl, g1, g2, _⟩ := rs.opens hs.1
  obtain ⟨N, hN⟩ : ∃ x : Nat, x = 16 * (n + 1) := ⟨_, rfl⟩
  have hNl : N ≤ c := by omega
  have hx0 := fun y (r1 : Row .u8 256 y (.slice sa 16 sc) s) (r2 : Row .u8 256 y (.slice (some ⟨b, o + 16 * 0, none⟩) 16 (c - 16 * 0)) (keyP ws 0)) => rxr_any _ _ _ _ y r1 r2 (by rw [hs.1]; decide)
  rw [xr_key hs.1 hw (by omega), Nat.mul_zero, Nat.add_zero, Nat.sub_zero] at hx0
  rw [Nat.mul_zero, Nat.add_zero, Nat.sub_zero] at rk0
  have HN := hide hN
  have e_n : (N : Int) / 16 = ((n + 1 : Nat) : Int) := by omega
  have t_n : (N : Int).tdiv 16 = ((n + 1 : Nat) : Int) := by rw [Int.tdiv_eq_ediv_of_nonneg (by omega)]; exact e_n
  have e_m : ((n + 1 : Nat) : Int) - 1 = (n : Int) := by omega
  have s_n : IntKind.i64.wrap (((n + 1 : Nat) : Int)) = ((n + 1 : Nat) : Int) := by rw [IntKind.wrap_i64]; omega
  have s_m : IntKind.i64.wrap (n : Int) = (n : Int) := by rw [IntKind.wrap_i64]; omega
  have ci : (16 : Int) ≤ (c : Int) := by omega
  rw [← hN] at rw rw0 lc1 hw ⊢
  clear hN
  generalize hn1' : n + 1 = n1 at e_n t_n e_m s_n
  clear hn1'
  go_enter Try.func57, Try.ntmps57
  go_wp2_with (first | (go_at_call 18; refine (hx0 _ rs0 rk0).mono ?_; rintro e w1 ⟨v1, rfl, o1, hb1⟩) | fail)
  have H0 : Hid (ThL w (w.alloc (.cells (arr .u8 boxT) 74)) (fun k => thN n ws k s) n v1 (.int .i64 1) w1) := hide ⟨0, by omega, rfl, o1.mono hb0.size, hb1⟩
  clear hx0 rs0 rk0 o1 hb1 rs
  go_loopw [8, 9] (fun v vr wr => ThL w (w.alloc (.cells (arr .u8 boxT) 74)) (fun k => thN n ws k s) n v vr wr) (fun _ vr _ => n + 1 - (intOf vr).toNat)
  case atStart => exact H0.out
  case round =>
    obtain ⟨k, hk, rfl, ov, hbr⟩ := hrel
    clear H0
    have bk := thN_b (n := n) hwu hs k
    have hbw := keep_trans hb0 hbr
    obtain ⟨va, vc, rfl, lv1, lv2, _⟩ := ov.row.opens bk.1
    by_cases hlt : k < n
    · have hA1 := hA.below hbr
      have rw1 := rw0.below hbr
      have be := eachL_b (fun c h => boxT_lt h) bk
      have br := rowsL_b be
      have hec := reach_any boxT (thN n ws k s) _ wr boxT_len boxT_under bk ov.row
      obtain ⟨k1, hk1⟩ : ∃ x : Nat, x = k + 1 := ⟨_, rfl⟩
      obtain ⟨_, _, _, he, _, _, rk⟩ := keyP_row (r := k1) rw1 (by rw [hw]; exact HN.out) (by omega)
      simp only [Value.slice.injEq, Option.some.injEq, Addr.mk.injEq] at he
      obtain ⟨⟨rfl, rfl, _⟩, hq, rfl⟩ := he
      clear hq
      have hsp : thN n ws k1 s = keyAt ws k1 (if k1 < n then colsL 2 3 1 1 (rowsL (eachL boxT (thN n ws k s))) else rowsL (eachL boxT (thN n ws k s))) := by rw [hk1]; rfl
      have HSP := hide hsp
      clear hsp
      rw [← hk1]
      have HK1 := hide hk1
      have lk1 : (k1 : Int) ≤ (n : Int) := by omega
      have gk1 : k1 ≤ n := by omega
      clear hk1
      generalize thN n ws k s = S at *
      obtain ⟨L, hL⟩ : ∃ x : Nat, x = 16 * k1 := ⟨_, rfl⟩
      obtain ⟨U, hU⟩ : ∃ x : Nat, x = L + 16 := ⟨_, rfl⟩
      have e_L : 16 * (k1 : Int) = (L : Int) := by omega
      have s_L : IntKind.i64.wrap (L : Int) = (L : Int) := by rw [IntKind.wrap_i64]; omega
      have e_U : (L : Int) + 16 = (U : Int) := by omega
      have s_U : IntKind.i64.wrap (U : Int) = (U : Int) := by rw [IntKind.wrap_i64]; omega
      have l_LU : (L : Int) ≤ (U : Int) := by omega
      have l_Uc : (U : Int) ≤ (c : Int) := by have := HN.out; omega
      have d_UL : U - L = 16 := by omega
      rw [← hL] at rk
      by_cases hlast : k1 < n
      · have hlasti : (k1 : Int) < (n : Int) := by omega
        clear hL hU
        go_wp2_with (first
          | (refine wpList_load_row rfl 74 _ (by rfl) w.heap.size (by rfl) _ _ _ (.array 256 5) hA1 (by kernel_rfl) rfl (by rw [arr_size, boxT_len]; kernel_rfl) ?_)
          | (go_at_call 66; refine hec.mono ?_; rintro e w2 ⟨v2, rfl, o2, hb2⟩)
          | (go_at_call 65; refine (rrows_any 1 (Or.inl rfl) _ _ _ be o2.row).mono ?_; rintro e w3 ⟨v3, rfl, o3, hb3⟩; rw [← rowsL_w] at o3)
          | (go_at_call 67; refine (rcols_th _ _ _ br o3.row).mono ?_; rintro e w4 ⟨v4, rfl, o4, hb4⟩; have hb5 := keep_trans (keep_trans hb2 hb3) hb4; have bc : B16 (colsL 2 3 1 1 (rowsL (eachL boxT S))) := colsL_b (by decide) (by decide) (by decide) (by decide))
          | (go_at_call 18; refine (rxr_any _ _ _ _ _ o4.row (rk.below hb5) (by rw [bc.1]; decide)).mono ?_; rintro e w6 ⟨v6, rfl, o6, hb6⟩; rw [xr_key bc.1 (by rw [hw]; exact HN.out) gk1] at o6)
          | fail)
        have hb7 := keep_trans hb5 hb6
        refine ⟨⟨k1, gk1, by go_num, ?_, hbr.trans (hb7.mono hbr.size)⟩, by simp [intOf]; omega⟩
        show Own 5 .u8 256 w6 w.heap.size v6 (thN n ws k1 s)
        rw [HSP.out, if_pos hlast]
        exact o6.mono (Nat.le_trans hbw.size hb5.size)
      · have hlasti : ¬ ((k1 : Int) < (n : Int)) := by omega
        clear hL hU
        go_wp2_with (first
          | (refine wpList_load_row rfl 74 _ (by rfl) w.heap.size (by rfl) _ _ _ (.array 256 5) hA1 (by kernel_rfl) rfl (by rw [arr_size, boxT_len]; kernel_rfl) ?_)
          | (go_at_call 66; refine hec.mono ?_; rintro e w2 ⟨v2, rfl, o2, hb2⟩)
          | (go_at_call 65; refine (rrows_any 1 (Or.inl rfl) _ _ _ be o2.row).mono ?_; rintro e w3 ⟨v3, rfl, o3, hb3⟩; rw [← rowsL_w] at o3; have hb5 := keep_trans hb2 hb3)
          | (go_at_call 18; refine (rxr_any _ _ _ _ _ o3.row (rk.below hb5) (by rw [br.1]; decide)).mono ?_; rintro e w6 ⟨v6, rfl, o6, hb6⟩; rw [xr_key br.1 (by rw [hw]; exact HN.out) gk1] at o6)
          | fail)
        have hb7 := keep_trans hb5 hb6
        refine ⟨⟨k1, gk1, by go_num, ?_, hbr.trans (hb7.mono hbr.size)⟩, by simp [intOf]; omega⟩
        show Own 5 .u8 256 w6 w.heap.size v6 (thN n ws k1 s)
        rw [HSP.out, if_neg hlast]
        exact o6.mono (Nat.le_trans hbw.size hb5.size)
    · obtain rfl : k = n := by omega
      have lt1 : ¬ (((k + 1 : Nat) : Int) ≤ (k : Int)) := by omega
      generalize hk1 : k + 1 = k1 at lt1 ⊢
      go_wp2
      go_ret
      exact ⟨_, rfl, ov, hbw⟩
end Go.Proofs.Ytjeofkemfpdieaa

/- The round keys by words: plain; the code's boxed. -/
namespace Go.Proofs.Ytjeofkemfpdieaa
open Go.RowKit
set_option linter.unusedVariables false
set_option linter.unusedSimpArgs false

theorem kQ_4 (m : Nat) (w t : List Nat) : kQ m w t 4 = w ++ [el w (4 * m) ^^^ el t 0, el w (4 * m + 1) ^^^ el t 1, el w (4 * m + 2) ^^^ el t 2, el w (4 * m + 3) ^^^ el t 3] := by
  simp only [kQ, List.append_assoc, List.singleton_append, List.cons_append, List.nil_append, Nat.add_zero]
theorem el_right (a b : List Nat) (j : Nat) : el (a ++ b) (a.length + j) = el b j := by
  unfold el
  rw [List.getElem?_append_right (by omega), Nat.add_sub_cancel_left]
theorem col_old {m j : Nat} {w t : List Nat} (h : 4 * j + 4 ≤ w.length) : col (kQ m w t 4) j = col w j := by
  unfold col
  rw [kQ_el 4 (by omega), kQ_el 4 (by omega), kQ_el 4 (by omega), kQ_el 4 (by omega)]
theorem col_new {m i : Nat} {w t : List Nat} (h : w.length = 4 * i) (hw : Under 256 w) (ht : Under 256 t) : col (kQ m w t 4) i = col w m ^^^ wd (el t 0) (el t 1) (el t 2) (el t 3) := by
  unfold col
  rw [wd_xor (el_lt hw (by decide) _) (el_lt hw (by decide) _) (el_lt hw (by decide) _) (el_lt ht (by decide) _) (el_lt ht (by decide) _) (el_lt ht (by decide) _)]
  rw [kQ_4, ← h]
  have e := fun j => el_right w [el w (4 * m) ^^^ el t 0, el w (4 * m + 1) ^^^ el t 1, el w (4 * m + 2) ^^^ el t 2, el w (4 * m + 3) ^^^ el t 3] j
  generalize hL : [el w (4 * m) ^^^ el t 0, el w (4 * m + 1) ^^^ el t 1, el w (4 * m + 2) ^^^ el t 2, el w (4 * m + 3) ^^^ el t 3] = L at *
  have e0 : el (w ++ L) w.length = el L 0 := e 0
  rw [e0, e 1, e 2, e 3, ← hL]
  rfl
/-- words hold the bytes, so far -/
def KwI (ws W : List Nat) (i : Nat) : Prop := ∀ j, j < i → el ws j = col W j
theorem KwI.next {ws W t : List Nat} {m i : Nat} (h : KwI ws W i) (hl : W.length = 4 * i) (hW : Under 256 W) (ht : Under 256 t) (hs : i < ws.length) : KwI (ws.set i (col W m ^^^ wd (el t 0) (el t 1) (el t 2) (el t 3))) (kQ m W t 4) (i + 1) := fun j hj => by
  rw [el_set hs]
  by_cases e : j = i
  · subst e
    rw [if_pos rfl, col_new hl hW ht]
  · rw [if_neg e, col_old (by omega), h j (by omega)]
theorem kR_wd (c x y z u : Nat) : wd (el (kR c [x, y, z, u]) 0) (el (kR c [x, y, z, u]) 1) (el (kR c [x, y, z, u]) 2) (el (kR c [x, y, z, u]) 3) = wd (boxB y ^^^ c) (boxB z) (boxB u) (boxB x) := rfl
theorem kS_wd (x y z u : Nat) : wd (el (kS [x, y, z, u]) 0) (el (kS [x, y, z, u]) 1) (el (kS [x, y, z, u]) 2) (el (kS [x, y, z, u]) 3) = wd (boxB x) (boxB y) (boxB z) (boxB u) := rfl
theorem k4_col (i : Nat) (w : List Nat) (h : 1 ≤ i) : col w (i - 1) = wd (el (k4 i w) 0) (el (k4 i w) 1) (el (k4 i w) 2) (el (k4 i w) 3) := by
  show _ = wd (el w (4 * i - 4)) (el w (4 * i - 3)) (el w (4 * i - 2)) (el w (4 * i - 1))
  unfold col
  rw [show 4 * (i - 1) = 4 * i - 4 by omega, show 4 * i - 4 + 1 = 4 * i - 3 by omega, show 4 * i - 4 + 2 = 4 * i - 2 by omega, show 4 * i - 4 + 3 = 4 * i - 1 by omega]
theorem pow_int {a b c d p : Nat} (ha : a < 256) (hb : b < 256) (hc : c < 256) (hd : d < 256) (hp : p < 256) : bits .xor .u32 (wd a b c d : Int) ((p : Int) * 16777216) = ((wd (a ^^^ p) b c d : Nat) : Int) := by
  have e : (p : Int) * 16777216 = ((wd p 0 0 0 : Nat) : Int) := by unfold wd; omega
  rw [e, xor_32 _ _ (wd_lt ha hb hc hd) (wd_lt hp (by decide) (by decide) (by decide)), wd_xor hb hc hd (by decide) (by decide) (by decide), Nat.xor_zero, Nat.xor_zero, Nat.xor_zero]
set_option maxHeartbeats 4000000 in
set_option maxRecDepth 100000 in
theorem boxed_any (g n : Nat) (ws : List Nat) {a b c d : Nat} (ha : a < 256) (hb : b < 256) (hc : c < 256) (hd : d < 256) (w : World) (hC : Cph w g n ws boxT) :
    Calls Try.prog 69 #[.pointer (some ⟨g, 0, none⟩), .int .u32 (wd a b c d : Nat)] w fun e w' => e = .returned (.int .u32 (wd (boxB a) (boxB b) (boxB c) (boxB d) : Nat)) ∧ Below w.heap.size w w' := by
  have l := wd_lt ha hb hc hd
  have hcall := gath_any g 61 boxT _ _ _ _ a b c d boxT_under l l l l (wd_0 ha hb hc hd) (wd_1 ha hb hc hd) (wd_2 ha hb hc hd) (wd_3 ha hb hc hd) w hC.tab
  rw [boxT_el ha, boxT_el hb, boxT_el hc, boxT_el hd] at hcall
  generalize wd (boxB a) (boxB b) (boxB c) (boxB d) = V at *
  generalize wd a b c d = W at *
  go_enter Try.func69, Try.ntmps69
  go_wp2_with (first | (go_at_call 78; refine hcall.mono ?_; rintro e w1 ⟨rfl, hb1⟩) | fail)
  go_ret
  exact ⟨rfl, hb1⟩
/-- a new cipher's cells -/
def CLv (n : Nat) : Array Value := (ciL n (zA 60) boxT).toArray
theorem built_cipher (n : Nat) : Try.prog.built 93 [(0, .int .i64 (n : Int)), (2, .agg (arr .u8 boxT))] = some (CLv n) := by kernel_rfl
theorem run_cipher (n : Nat) (w : World) : (Instr.build 93 #[(0, .int .i64 (n : Int)), (2, .agg (arr .u8 boxT))]).run Try.prog w = .ok (.agg (CLv n)) w := run_build w 93 _ _ (built_cipher n)
theorem Cph.newV (w : World) (n : Nat) : Cph (w.alloc (.cells (CLv n) 93)) w.heap.size n (zA 60) boxT := ⟨heap_alloc_last w _, zA_len 60, boxT_len⟩
theorem Cph.new (w : World) (n : Nat) (ws T : List Nat) (h1 : ws.length = 60) (h2 : T.length = 256) : Cph (w.alloc (.cells (ciL n ws T).toArray 93)) w.heap.size n ws T := ⟨heap_alloc_last w _, h1, h2⟩
/-- a block of so many cells -/
def Blk (y : World) (g n : Nat) (t : TypeId) : Prop := ∃ cs : Array Value, cs.size = n ∧ y.heap[g]? = some (.cells cs t (0, 0))
theorem Blk.cell {y : World} {g n : Nat} {t : TypeId} (h : Blk y g n t) {i : Nat} (hi : i < n) : y.cell? ⟨g, i, none⟩ = some (rdc y ⟨g, i, none⟩) := by
  obtain ⟨cs, h1, h2⟩ := h
  unfold rdc
  rw [cell_of_row y g i _ _ (0, 0) h2, Array.getElem?_eq_getElem (by omega)]
  rfl
theorem Blk.frozen {y : World} {g n : Nat} {t : TypeId} (h : Blk y g n t) (i : Nat) : y.frozen? ⟨g, i, none⟩ = false := by
  obtain ⟨cs, h1, h2⟩ := h
  simp [World.frozen?, h2]
theorem Blk.set {y : World} {g n : Nat} {t : TypeId} (h : Blk y g n t) (i : Nat) (v : Value) : Blk (y.setCell ⟨g, i, none⟩ v) g n t := by
  obtain ⟨cs, h1, h2⟩ := h
  refine ⟨cs.setIfInBounds i v, by rw [Array.size_setIfInBounds]; exact h1, ?_⟩
  rw [setCell_eq_setRow y g i _ _ (0, 0) _ h2]
  exact setRow_heap y g _ _ _ _ h2
theorem Blk.below {y y' : World} {g n : Nat} {t : TypeId} (h : Blk y g n t) (hb : Below y.heap.size y y') : Blk y' g n t := by
  obtain ⟨cs, h1, h2⟩ := h
  refine ⟨cs, h1, (hb.block g ?_).trans h2⟩
  rcases Nat.lt_or_ge g y.heap.size with hlt | hge
  · exact hlt
  · rw [Array.getElem?_eq_none hge] at h2; cases h2
theorem Cph.blk {w : World} {g n : Nat} {ws T : List Nat} (h : Cph w g n ws T) : Blk w g 317 93 := ⟨_, by simp [ciL, vals_length, h.lw, h.lt], h.here⟩
theorem wpList_build2 {ops : Array Oper} {rest : List Oper} {o : Oper} {a : Act} {w : World} {Q : Exit → Act → World → Prop} (hgd : o.guard = none) (t : TypeId) (i j : Nat) (x y : Operand) (ho : o.op = .build t #[(i, x), (j, y)]) (u v z : Value) (hx : a.eval x = u) (hy : a.eval y = v)
    (hr : (Instr.build t #[(i, u), (j, v)]).run Try.prog w = .ok z w) (h : wpList Try.prog ops Q rest (a.put o.dst z) w) : wpList Try.prog ops Q (o :: rest) a w := by
  refine wpList_plain hgd fun K hK => ?_
  unfold Oper.wp execOp
  simp only [ho, List.map_toArray, List.map_cons, List.map_nil, hx, hy]
  simp [Sem.run_bind, hr]
  exact hK _ _ h
theorem wpList_boxA {ops : Array Oper} {rest : List Oper} {o : Oper} {a : Act} {w : World} {Q : Exit → Act → World → Prop} (hgd : o.guard = none) (t : TypeId) (x : Operand) (ho : o.op = .box t x) (cs : Array Value) (hx : a.eval x = .agg cs)
    (h : wpList Try.prog ops Q rest (a.put o.dst (.pointer (some ⟨w.heap.size, 0, none⟩))) (w.alloc (.cells cs t))) : wpList Try.prog ops Q (o :: rest) a w := by
  refine wpList_plain hgd fun K hK => ?_
  unfold Oper.wp execOp
  simp only [ho, hx]
  simp [go_sem]
  exact hK _ _ h
end Go.Proofs.Ytjeofkemfpdieaa
