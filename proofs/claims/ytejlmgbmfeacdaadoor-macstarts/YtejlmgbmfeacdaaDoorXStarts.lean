/- For every three bytes and every two texts: apostillelaw09.MacStarts returns true, and each argument reads afterwards as it read before; sha's two tables of roots and keccak's table of constants are as the program's text lays them. No other condition. -/
import Derived.Test.YtejlmgbmfeacdaaDoorYHm
import Derived.WalkKit
import Derived.ProofKit
import Derived.OpenShut
import Derived.ShutString
import Derived.ChangeOld
import Derived.Below
namespace Go.Proofs.YtejlmgbmfeacdaaDoor.macStarts
open Go.ChangeShapes Go.WideShapes Go.ChangeAt Go.RowKit
open Go.ChangeMaps (open_string shut_string)
set_option linter.unusedVariables false

set_option maxRecDepth 100000 in
set_option maxHeartbeats 4000000 in
theorem walk (a0 : Int) (a1 : Option Addr) (len1 cap1 : Nat) (z1 : List Int) (a2 : Option Addr) (len2 cap2 : Nat) (z2 : List Int) (a3 : Int) (a4 : Int) (w : World) (w0 : (Lit.int .u8 a0).wf = true) (w1 : IsRow .u8 w a1 len1 cap1 z1) (w2 : IsRow .u8 w a2 len2 cap2 z2) (w3 : (Lit.int .u8 a3).wf = true) (w4 : (Lit.int .u8 a4).wf = true) (hV : Vars w) :
    Calls Tryd.prog 3 #[.int .u8 a0, .slice a1 len1 cap1, .slice a2 len2 cap2, .int .u8 a3, .int .u8 a4] w fun e w' => e = .returned (.bool true) ∧ Below w.heap.size w w' := by
  have hR : Roots w := hV.1
  have hC : Csts w := hV.2
  have tk := isRow_tidy w1
  have tb := isRow_tidy w2
  obtain ⟨key, rfl, rk⟩ := w1.row wf_u8
  obtain ⟨b, rfl, rb⟩ := w2.row wf_u8
  obtain ⟨kd, rfl⟩ := Int.eq_ofNat_of_zero_le (wf_u8 a0 w0).1
  obtain ⟨n, rfl⟩ := Int.eq_ofNat_of_zero_le (wf_u8 a3 w3).1
  obtain ⟨m, rfl⟩ := Int.eq_ofNat_of_zero_le (wf_u8 a4 w4).1
  have b0 := (wf_u8 _ w0).2
  have b3 := (wf_u8 _ w3).2
  have b4 := (wf_u8 _ w4).2
  clear w0 w1 w2 w3 w4 hV
  by_cases h1 : 400 < key.length
  · have h1i : (400 : Int) < (key.length : Int) := by omega
    go_enter Tryd.func3, Tryd.ntmps3
    go_wp2_with fail
    refine (awake_any _ hR hC).mono ?_
    rintro e x1 ⟨rfl, hb⟩
    go_wp2_with fail
    go_ret
    exact ⟨rfl, hb⟩
  have h1i : ¬ (400 : Int) < (key.length : Int) := by omega
  by_cases h2 : 400 < b.length
  · have h2i : (400 : Int) < (b.length : Int) := by omega
    go_enter Tryd.func3, Tryd.ntmps3
    go_wp2_with fail
    refine (awake_any _ hR hC).mono ?_
    rintro e x1 ⟨rfl, hb⟩
    go_wp2_with fail
    go_ret
    exact ⟨rfl, hb⟩
  have h2i : ¬ (400 : Int) < (b.length : Int) := by omega
  obtain ⟨r, hrr⟩ : ∃ x : Nat, x = kd % 5 := ⟨_, rfl⟩
  obtain ⟨K, hK⟩ : ∃ x : Nat, x = 1 + r := ⟨_, rfl⟩
  obtain ⟨N, hN⟩ : ∃ x : Nat, x = n + m := ⟨_, rfl⟩
  have e_r : (kd : Int) % 5 = (r : Int) := by omega
  have t_r : (kd : Int).tmod 5 = (r : Int) := by rw [Int.tmod_eq_emod_of_nonneg (by omega)]; exact e_r
  have r_r : IntKind.u8.wrap (r : Int) = (r : Int) := by rw [IntKind.wrap_u8]; omega
  have s_r : IntKind.i64.wrap (r : Int) = (r : Int) := by rw [IntKind.wrap_i64]; omega
  have s_n : IntKind.i64.wrap (n : Int) = (n : Int) := by rw [IntKind.wrap_i64]; omega
  have s_m : IntKind.i64.wrap (m : Int) = (m : Int) := by rw [IntKind.wrap_i64]; omega
  have e_K : (1 : Int) + (r : Int) = (K : Int) := by omega
  have s_K : IntKind.i64.wrap (K : Int) = (K : Int) := by rw [IntKind.wrap_i64]; omega
  have e_N : (n : Int) + (m : Int) = (N : Int) := by omega
  have s_N : IntKind.i64.wrap (N : Int) = (N : Int) := by rw [IntKind.wrap_i64]; omega
  have k1 : (1 : Int) ≤ (K : Int) := by omega
  have k5 : (K : Int) ≤ 5 := by omega
  have hz : 0 < sizeD (K : Int) := sizeD_pos k1 (by omega)
  have hz2 := sizeD_le (K : Int)
  have hzm : 510 ≤ 255 * sizeD (K : Int) := by
    have hk : K = 1 ∨ K = 2 ∨ K = 3 ∨ K = 4 ∨ K = 5 := by omega
    rcases hk with h | h | h | h | h <;> subst h <;> decide
  have hDl := fun l => digD_length hz l
  have hzb := size_blk k1 k5
  have hblo : 64 ≤ blkD (K : Int) ∧ blkD (K : Int) ≤ 136 := by
    have hk : K = 1 ∨ K = 2 ∨ K = 3 ∨ K = 4 ∨ K = 5 := by omega
    rcases hk with h | h | h | h | h <;> subst h <;> decide
  have hx1 := fun x (hb : Below w.heap.size w x) => cexp_ok (K : Int) key b _ _ n x (hR.below hb) (hC.below hb) k1 k5 (rk.below hb) tk (rb.below hb) tb (by omega) (by omega) (by omega)
  have hx2 := fun x (hb : Below w.heap.size w x) => cexp_ok (K : Int) key b _ _ N x (hR.below hb) (hC.below hb) k1 k5 (rk.below hb) tk (rb.below hb) tb (by omega) (by omega) (by omega)
  have hxl : (expD (digD (K : Int)) (blkD (K : Int)) key b N).length = N := expD_length _ _ _ hDl hz key b N
  have hxt : (expD (digD (K : Int)) (blkD (K : Int)) key b N).take n = expD (digD (K : Int)) (blkD (K : Int)) key b n := by rw [hN]; exact expD_take _ _ _ hDl hz key b n m
  have hm1 := fun x (hb : Below w.heap.size w x) => chmac_ok (K : Int) key b _ _ x (hR.below hb) (hC.below hb) k1 k5 (rk.below hb) tk (rb.below hb) tb (by omega) (by omega)
  have hml : (hmacD (digD (K : Int)) (blkD (K : Int)) key b).length = sizeD (K : Int) := hDl _
  have hsz := fun x => size_any (K : Int) x
  have hnN : n ≤ N := by omega
  have hNs : N ≤ 510 := by omega
  have HR := hide hR
  have HC := hide hC
  clear hN hrr
  generalize hX : expD (digD (K : Int)) (blkD (K : Int)) key b n = X at *
  generalize hY : expD (digD (K : Int)) (blkD (K : Int)) key b N = Y at *
  clear hX hY
  have HXL := hide hxl
  have HXT := hide hxt
  clear hxl hxt
  by_cases h3 : K ≤ 3
  · have h3i : (K : Int) ≤ 3 := by omega
    have hu1 := fun x (hb : Below w.heap.size w x) => cmask_ok (K : Int) b _ n x (hR.below hb) (hC.below hb) k1 h3i (rb.below hb) tb (by omega) (by omega)
    have hu2 := fun x (hb : Below w.heap.size w x) => cmask_ok (K : Int) b _ N x (hR.below hb) (hC.below hb) k1 h3i (rb.below hb) tb (by omega) (by omega)
    have hul : (maskD (digD (K : Int)) b N).length = N := maskD_length _ _ hDl hz b N
    have hut : (maskD (digD (K : Int)) b N).take n = maskD (digD (K : Int)) b n := by rw [show N = n + m by omega]; exact maskD_take _ _ hDl hz b n m
    generalize maskD (digD (K : Int)) b n = U at *
    generalize maskD (digD (K : Int)) b N = V at *
    have HUL := hide hul
    have HUT := hide hut
    clear hul hut hR hC hK
    by_cases hshort : key.length < 64
    · have hq : hmacD (digD (K : Int)) (blkD (K : Int)) (key ++ [0]) b = hmacD (digD (K : Int)) (blkD (K : Int)) key b := hmacD_zero _ _ key b (by omega)
      have hmq := fun x v (hb : Below w.heap.size w x) (rv : Row .u8 256 x v (key ++ [0])) (tv : Tidy v) => chmac_ok (K : Int) (key ++ [0]) b v _ x (HR.out.below hb) (HC.out.below hb) k1 k5 rv tv (rb.below hb) tb (by rw [List.length_append, List.length_singleton]; omega) (by omega)
      rw [hq] at hmq
      have lk : (key.length : Int) < 64 := by omega
      have lkn : key.length < 64 := by omega
      have HRK := hide rk
      clear hq
      generalize hH : hmacD (digD (K : Int)) (blkD (K : Int)) key b = H at *
      clear hH hzm hDl hzb hblo hz hz2
      generalize sizeD (K : Int) = Z at *
      have HML := hide hml
      clear hml
      go_enter Tryd.func3, Tryd.ntmps3
      go_wp2_with fail
      refine (hx1 _ (Below.refl _ _)).mono ?_
      rintro e x1 ⟨v1, rfl, r1, hB⟩
      go_wp2_with fail
      refine (hx2 _ hB).mono ?_
      rintro e x2 ⟨v2, rfl, r2, hb2⟩
      replace r1 := r1.below hb2
      replace hB := keep_trans hB hb2
      clear hb2
      clear hx1 hx2
      obtain ⟨p2, q2, rfl, g2, g2', _⟩ := r2.opens HXL.out
      obtain ⟨p1, q1, rfl⟩ := r1.form
      replace r2 := r2.cut (M := n) (by rw [HXL.out]; exact hnN)
      rw [HXT.out] at r2
      have i2 : (n : Int) ≤ (q2 : Int) := by omega
      have nn : (n : Int) ≤ (N : Int) := by omega
      have n0 : (0 : Int) ≤ (n : Int) := by omega
      go_wp2_with fail
      refine (rsame_true _ _ _ _ r1 r2).mono ?_
      rintro e x3 ⟨rfl, hb3⟩
      replace hB := keep_trans hB hb3
      clear hb3
      clear r1 r2 g2 g2' i2
      go_wp2_with fail
      refine (hu1 _ hB).mono ?_
      rintro e x4 ⟨v4, rfl, r4, hb4⟩
      replace hB := keep_trans hB hb4
      clear hb4
      go_wp2_with fail
      refine (hu2 _ hB).mono ?_
      rintro e x5 ⟨v5, rfl, r5, hb5⟩
      replace r4 := r4.below hb5
      replace hB := keep_trans hB hb5
      clear hb5
      clear hu1 hu2
      obtain ⟨p5, q5, rfl, g5, g5', _⟩ := r5.opens HUL.out
      obtain ⟨p4, q4, rfl⟩ := r4.form
      replace r5 := r5.cut (M := n) (by rw [HUL.out]; exact hnN)
      rw [HUT.out] at r5
      have i5 : (n : Int) ≤ (q5 : Int) := by omega
      go_wp2_with fail
      refine (rsame_true _ _ _ _ r4 r5).mono ?_
      rintro e x6 ⟨rfl, hb6⟩
      replace hB := keep_trans hB hb6
      clear hb6
      clear r4 r5 g5 g5' i5
      go_wp2_with fail
      refine (hm1 _ hB).mono ?_
      rintro e x7 ⟨v7, rfl, hO7, hb7⟩
      replace hB := keep_trans hB hb7
      have r7 := hO7.row
      clear hb7 hO7 hm1
      obtain ⟨p7, q7, rfl, _⟩ := r7.opens HML.out
      have ho8 : (x7.alloc (.cells #[] 5)).ownsRow x7.heap.size 5 1 (.slice (some ⟨x7.heap.size, 0, none⟩) 0 0) 0 (vals .u8 []) := World.ownsRow_lit (base := x7.heap.size) (e := 5) (size := 1) x7 #[] 0 (Nat.le_refl _) (by decide) rfl
      have hb8 := keep_alloc x7 (.cells #[] 5)
      have rk8 := HRK.out.below (keep_trans hB hb8)
      go_wp2_with (first
        | (at_builtin; refine wpList_app rfl _ _ rfl x7.heap.size _ _ _ [] key rfl ho8 rfl rk8 tk (by decide) (by omega) (by simp) ?_; intro v9 x9 ho9 hg9; have hb9 := below_append' hb8 (by simp) ho8 hg9; rw [Nat.zero_add, List.nil_append] at ho9; have ho9a := ho9.alloc (.cells #[.int .u8 0] 5))
        | (at_builtin; refine wpList_app rfl _ _ rfl x7.heap.size _ _ _ key [0] rfl ho9a rfl (one_row x9 0 (by decide)) (tidy_at _ _ _) (by omega) (by decide) (by have := hb9.size; rw [World.size_alloc]; omega) ?_; intro v10 x10 ho10 hg10; have hb10 := below_append hb9 hb9.size ho9 _ hg10)
        | fail)
      have hO10 : Own 5 .u8 256 x10 x7.heap.size v10 (key ++ [0]) := ⟨by rw [List.length_append]; exact ho10, rk8.under.append (Under.one (by decide))⟩
      replace r7 := r7.below hb10
      replace hB := keep_trans hB hb10
      clear hb10 hb9 hb8 ho8 ho9 ho9a ho10 hg9 hg10 rk8
      refine (hmq _ _ hB hO10.row hO10.tidy).mono ?_
      rintro e x11 ⟨v11, rfl, hO11, hb11⟩
      replace r7 := r7.below hb11
      replace hB := keep_trans hB hb11
      have r11 := hO11.row
      clear hb11 hmq hO11 hO10
      obtain ⟨p11, q11, rfl⟩ := r11.form
      go_wp2_with fail
      refine (rsame_true _ _ _ _ r7 r11).mono ?_
      rintro e x12 ⟨rfl, hb12⟩
      replace hB := keep_trans hB hb12
      clear hb12 r7 r11
      go_wp2_with (first
        | (go_at_call 9; refine (hsz _).mono ?_; rintro e x20 ⟨rfl, hb20⟩; replace hB := keep_trans hB hb20; clear hb20)
        | (go_at_call 4; refine (awake_any _ (HR.out.below hB) (HC.out.below hB)).mono ?_; rintro e x21 ⟨rfl, hb21⟩)
        | fail)
      go_ret
      exact ⟨rfl, keep_trans hB hb21⟩
    by_cases hlong : 136 < key.length
    · have hq : hmacD (digD (K : Int)) (blkD (K : Int)) (digD (K : Int) key) b = hmacD (digD (K : Int)) (blkD (K : Int)) key b := hmacD_long _ _ key b (by omega) (by rw [hDl]; exact hzb)
      have hmq := fun x v (hb : Below w.heap.size w x) (rv : Row .u8 256 x v (digD (K : Int) key)) (tv : Tidy v) => chmac_ok (K : Int) (digD (K : Int) key) b v _ x (HR.out.below hb) (HC.out.below hb) k1 k5 rv tv (rb.below hb) tb (by rw [hDl]; omega) (by omega)
      rw [hq] at hmq
      have hdg := fun x (hb : Below w.heap.size w x) => cdig_ok (K : Int) _ key x (HR.out.below hb) (HC.out.below hb) k1 (by omega) (rk.below hb) tk (by omega)
      have lk : ¬ (key.length : Int) < 64 := by omega
      have lk2 : (136 : Int) < (key.length : Int) := by omega
      generalize digD (K : Int) key = DK at *
      clear hq
      generalize hH : hmacD (digD (K : Int)) (blkD (K : Int)) key b = H at *
      clear hH hzm hDl hzb hblo hz hz2
      generalize sizeD (K : Int) = Z at *
      have HML := hide hml
      clear hml
      go_enter Tryd.func3, Tryd.ntmps3
      go_wp2_with fail
      refine (hx1 _ (Below.refl _ _)).mono ?_
      rintro e x1 ⟨v1, rfl, r1, hB⟩
      go_wp2_with fail
      refine (hx2 _ hB).mono ?_
      rintro e x2 ⟨v2, rfl, r2, hb2⟩
      replace r1 := r1.below hb2
      replace hB := keep_trans hB hb2
      clear hb2
      clear hx1 hx2
      obtain ⟨p2, q2, rfl, g2, g2', _⟩ := r2.opens HXL.out
      obtain ⟨p1, q1, rfl⟩ := r1.form
      replace r2 := r2.cut (M := n) (by rw [HXL.out]; exact hnN)
      rw [HXT.out] at r2
      have i2 : (n : Int) ≤ (q2 : Int) := by omega
      have nn : (n : Int) ≤ (N : Int) := by omega
      have n0 : (0 : Int) ≤ (n : Int) := by omega
      go_wp2_with fail
      refine (rsame_true _ _ _ _ r1 r2).mono ?_
      rintro e x3 ⟨rfl, hb3⟩
      replace hB := keep_trans hB hb3
      clear hb3
      clear r1 r2 g2 g2' i2
      go_wp2_with fail
      refine (hu1 _ hB).mono ?_
      rintro e x4 ⟨v4, rfl, r4, hb4⟩
      replace hB := keep_trans hB hb4
      clear hb4
      go_wp2_with fail
      refine (hu2 _ hB).mono ?_
      rintro e x5 ⟨v5, rfl, r5, hb5⟩
      replace r4 := r4.below hb5
      replace hB := keep_trans hB hb5
      clear hb5
      clear hu1 hu2
      obtain ⟨p5, q5, rfl, g5, g5', _⟩ := r5.opens HUL.out
      obtain ⟨p4, q4, rfl⟩ := r4.form
      replace r5 := r5.cut (M := n) (by rw [HUL.out]; exact hnN)
      rw [HUT.out] at r5
      have i5 : (n : Int) ≤ (q5 : Int) := by omega
      go_wp2_with fail
      refine (rsame_true _ _ _ _ r4 r5).mono ?_
      rintro e x6 ⟨rfl, hb6⟩
      replace hB := keep_trans hB hb6
      clear hb6
      clear r4 r5 g5 g5' i5
      go_wp2_with fail
      refine (hm1 _ hB).mono ?_
      rintro e x7 ⟨v7, rfl, hO7, hb7⟩
      replace hB := keep_trans hB hb7
      have r7 := hO7.row
      clear hb7 hO7 hm1
      obtain ⟨p7, q7, rfl, _⟩ := r7.opens HML.out
      go_wp2_with fail
      refine (hdg _ hB).mono ?_
      rintro e x9 ⟨v9, rfl, hO9, hb9⟩
      replace r7 := r7.below hb9
      replace hB := keep_trans hB hb9
      clear hb9 hdg
      obtain ⟨p9, q9, rfl⟩ := hO9.row.form
      go_wp2_with fail
      refine (hmq _ _ hB hO9.row hO9.tidy).mono ?_
      rintro e x10 ⟨v10, rfl, hO10, hb10⟩
      replace r7 := r7.below hb10
      replace hB := keep_trans hB hb10
      have r10 := hO10.row
      clear hb10 hmq hO10 hO9
      obtain ⟨p10, q10, rfl⟩ := r10.form
      go_wp2_with fail
      refine (rsame_true _ _ _ _ r7 r10).mono ?_
      rintro e x11 ⟨rfl, hb11⟩
      replace hB := keep_trans hB hb11
      clear hb11 r7 r10
      go_wp2_with (first
        | (go_at_call 9; refine (hsz _).mono ?_; rintro e x20 ⟨rfl, hb20⟩; replace hB := keep_trans hB hb20; clear hb20)
        | (go_at_call 4; refine (awake_any _ (HR.out.below hB) (HC.out.below hB)).mono ?_; rintro e x21 ⟨rfl, hb21⟩)
        | fail)
      go_ret
      exact ⟨rfl, keep_trans hB hb21⟩
    have lk : ¬ (key.length : Int) < 64 := by omega
    have lk2 : ¬ (136 : Int) < (key.length : Int) := by omega
    generalize hH : hmacD (digD (K : Int)) (blkD (K : Int)) key b = H at *
    clear hH hzm hDl hzb hblo hz hz2
    generalize sizeD (K : Int) = Z at *
    have HML := hide hml
    clear hml
    go_enter Tryd.func3, Tryd.ntmps3
    go_wp2_with fail
    refine (hx1 _ (Below.refl _ _)).mono ?_
    rintro e x1 ⟨v1, rfl, r1, hB⟩
    go_wp2_with fail
    refine (hx2 _ hB).mono ?_
    rintro e x2 ⟨v2, rfl, r2, hb2⟩
    replace r1 := r1.below hb2
    replace hB := keep_trans hB hb2
    clear hb2
    clear hx1 hx2
    obtain ⟨p2, q2, rfl, g2, g2', _⟩ := r2.opens HXL.out
    obtain ⟨p1, q1, rfl⟩ := r1.form
    replace r2 := r2.cut (M := n) (by rw [HXL.out]; exact hnN)
    rw [HXT.out] at r2
    have i2 : (n : Int) ≤ (q2 : Int) := by omega
    have nn : (n : Int) ≤ (N : Int) := by omega
    have n0 : (0 : Int) ≤ (n : Int) := by omega
    go_wp2_with fail
    refine (rsame_true _ _ _ _ r1 r2).mono ?_
    rintro e x3 ⟨rfl, hb3⟩
    replace hB := keep_trans hB hb3
    clear hb3
    clear r1 r2 g2 g2' i2
    go_wp2_with fail
    refine (hu1 _ hB).mono ?_
    rintro e x4 ⟨v4, rfl, r4, hb4⟩
    replace hB := keep_trans hB hb4
    clear hb4
    go_wp2_with fail
    refine (hu2 _ hB).mono ?_
    rintro e x5 ⟨v5, rfl, r5, hb5⟩
    replace r4 := r4.below hb5
    replace hB := keep_trans hB hb5
    clear hb5
    clear hu1 hu2
    obtain ⟨p5, q5, rfl, g5, g5', _⟩ := r5.opens HUL.out
    obtain ⟨p4, q4, rfl⟩ := r4.form
    replace r5 := r5.cut (M := n) (by rw [HUL.out]; exact hnN)
    rw [HUT.out] at r5
    have i5 : (n : Int) ≤ (q5 : Int) := by omega
    go_wp2_with fail
    refine (rsame_true _ _ _ _ r4 r5).mono ?_
    rintro e x6 ⟨rfl, hb6⟩
    replace hB := keep_trans hB hb6
    clear hb6
    clear r4 r5 g5 g5' i5
    go_wp2_with fail
    refine (hm1 _ hB).mono ?_
    rintro e x7 ⟨v7, rfl, hO7, hb7⟩
    replace hB := keep_trans hB hb7
    have r7 := hO7.row
    clear hb7 hO7 hm1
    obtain ⟨p7, q7, rfl, _⟩ := r7.opens HML.out
    go_wp2_with (first
      | (go_at_call 9; refine (hsz _).mono ?_; rintro e x20 ⟨rfl, hb20⟩; replace hB := keep_trans hB hb20; clear hb20)
      | (go_at_call 4; refine (awake_any _ (HR.out.below hB) (HC.out.below hB)).mono ?_; rintro e x21 ⟨rfl, hb21⟩)
      | fail)
    go_ret
    exact ⟨rfl, keep_trans hB hb21⟩
  · have h3i : ¬ (K : Int) ≤ 3 := by omega
    clear hR hC hK
    by_cases hshort : key.length < 64
    · have hq : hmacD (digD (K : Int)) (blkD (K : Int)) (key ++ [0]) b = hmacD (digD (K : Int)) (blkD (K : Int)) key b := hmacD_zero _ _ key b (by omega)
      have hmq := fun x v (hb : Below w.heap.size w x) (rv : Row .u8 256 x v (key ++ [0])) (tv : Tidy v) => chmac_ok (K : Int) (key ++ [0]) b v _ x (HR.out.below hb) (HC.out.below hb) k1 k5 rv tv (rb.below hb) tb (by rw [List.length_append, List.length_singleton]; omega) (by omega)
      rw [hq] at hmq
      have lk : (key.length : Int) < 64 := by omega
      have lkn : key.length < 64 := by omega
      have HRK := hide rk
      clear hq
      generalize hH : hmacD (digD (K : Int)) (blkD (K : Int)) key b = H at *
      clear hH hzm hDl hzb hblo hz hz2
      generalize sizeD (K : Int) = Z at *
      have HML := hide hml
      clear hml
      go_enter Tryd.func3, Tryd.ntmps3
      go_wp2_with fail
      refine (hx1 _ (Below.refl _ _)).mono ?_
      rintro e x1 ⟨v1, rfl, r1, hB⟩
      go_wp2_with fail
      refine (hx2 _ hB).mono ?_
      rintro e x2 ⟨v2, rfl, r2, hb2⟩
      replace r1 := r1.below hb2
      replace hB := keep_trans hB hb2
      clear hb2
      clear hx1 hx2
      obtain ⟨p2, q2, rfl, g2, g2', _⟩ := r2.opens HXL.out
      obtain ⟨p1, q1, rfl⟩ := r1.form
      replace r2 := r2.cut (M := n) (by rw [HXL.out]; exact hnN)
      rw [HXT.out] at r2
      have i2 : (n : Int) ≤ (q2 : Int) := by omega
      have nn : (n : Int) ≤ (N : Int) := by omega
      have n0 : (0 : Int) ≤ (n : Int) := by omega
      go_wp2_with fail
      refine (rsame_true _ _ _ _ r1 r2).mono ?_
      rintro e x3 ⟨rfl, hb3⟩
      replace hB := keep_trans hB hb3
      clear hb3
      clear r1 r2 g2 g2' i2
      go_wp2_with fail
      refine (hm1 _ hB).mono ?_
      rintro e x7 ⟨v7, rfl, hO7, hb7⟩
      replace hB := keep_trans hB hb7
      have r7 := hO7.row
      clear hb7 hO7 hm1
      obtain ⟨p7, q7, rfl, _⟩ := r7.opens HML.out
      have ho8 : (x7.alloc (.cells #[] 5)).ownsRow x7.heap.size 5 1 (.slice (some ⟨x7.heap.size, 0, none⟩) 0 0) 0 (vals .u8 []) := World.ownsRow_lit (base := x7.heap.size) (e := 5) (size := 1) x7 #[] 0 (Nat.le_refl _) (by decide) rfl
      have hb8 := keep_alloc x7 (.cells #[] 5)
      have rk8 := HRK.out.below (keep_trans hB hb8)
      go_wp2_with (first
        | (at_builtin; refine wpList_app rfl _ _ rfl x7.heap.size _ _ _ [] key rfl ho8 rfl rk8 tk (by decide) (by omega) (by simp) ?_; intro v9 x9 ho9 hg9; have hb9 := below_append' hb8 (by simp) ho8 hg9; rw [Nat.zero_add, List.nil_append] at ho9; have ho9a := ho9.alloc (.cells #[.int .u8 0] 5))
        | (at_builtin; refine wpList_app rfl _ _ rfl x7.heap.size _ _ _ key [0] rfl ho9a rfl (one_row x9 0 (by decide)) (tidy_at _ _ _) (by omega) (by decide) (by have := hb9.size; rw [World.size_alloc]; omega) ?_; intro v10 x10 ho10 hg10; have hb10 := below_append hb9 hb9.size ho9 _ hg10)
        | fail)
      have hO10 : Own 5 .u8 256 x10 x7.heap.size v10 (key ++ [0]) := ⟨by rw [List.length_append]; exact ho10, rk8.under.append (Under.one (by decide))⟩
      replace r7 := r7.below hb10
      replace hB := keep_trans hB hb10
      clear hb10 hb9 hb8 ho8 ho9 ho9a ho10 hg9 hg10 rk8
      refine (hmq _ _ hB hO10.row hO10.tidy).mono ?_
      rintro e x11 ⟨v11, rfl, hO11, hb11⟩
      replace r7 := r7.below hb11
      replace hB := keep_trans hB hb11
      have r11 := hO11.row
      clear hb11 hmq hO11 hO10
      obtain ⟨p11, q11, rfl⟩ := r11.form
      go_wp2_with fail
      refine (rsame_true _ _ _ _ r7 r11).mono ?_
      rintro e x12 ⟨rfl, hb12⟩
      replace hB := keep_trans hB hb12
      clear hb12 r7 r11
      go_wp2_with (first
        | (go_at_call 9; refine (hsz _).mono ?_; rintro e x20 ⟨rfl, hb20⟩; replace hB := keep_trans hB hb20; clear hb20)
        | (go_at_call 4; refine (awake_any _ (HR.out.below hB) (HC.out.below hB)).mono ?_; rintro e x21 ⟨rfl, hb21⟩)
        | fail)
      go_ret
      exact ⟨rfl, keep_trans hB hb21⟩
    by_cases hlong : 136 < key.length
    · have hq : hmacD (digD (K : Int)) (blkD (K : Int)) (digD (K : Int) key) b = hmacD (digD (K : Int)) (blkD (K : Int)) key b := hmacD_long _ _ key b (by omega) (by rw [hDl]; exact hzb)
      have hmq := fun x v (hb : Below w.heap.size w x) (rv : Row .u8 256 x v (digD (K : Int) key)) (tv : Tidy v) => chmac_ok (K : Int) (digD (K : Int) key) b v _ x (HR.out.below hb) (HC.out.below hb) k1 k5 rv tv (rb.below hb) tb (by rw [hDl]; omega) (by omega)
      rw [hq] at hmq
      have hdg := fun x (hb : Below w.heap.size w x) => cdig_ok (K : Int) _ key x (HR.out.below hb) (HC.out.below hb) k1 (by omega) (rk.below hb) tk (by omega)
      have lk : ¬ (key.length : Int) < 64 := by omega
      have lk2 : (136 : Int) < (key.length : Int) := by omega
      generalize digD (K : Int) key = DK at *
      clear hq
      generalize hH : hmacD (digD (K : Int)) (blkD (K : Int)) key b = H at *
      clear hH hzm hDl hzb hblo hz hz2
      generalize sizeD (K : Int) = Z at *
      have HML := hide hml
      clear hml
      go_enter Tryd.func3, Tryd.ntmps3
      go_wp2_with fail
      refine (hx1 _ (Below.refl _ _)).mono ?_
      rintro e x1 ⟨v1, rfl, r1, hB⟩
      go_wp2_with fail
      refine (hx2 _ hB).mono ?_
      rintro e x2 ⟨v2, rfl, r2, hb2⟩
      replace r1 := r1.below hb2
      replace hB := keep_trans hB hb2
      clear hb2
      clear hx1 hx2
      obtain ⟨p2, q2, rfl, g2, g2', _⟩ := r2.opens HXL.out
      obtain ⟨p1, q1, rfl⟩ := r1.form
      replace r2 := r2.cut (M := n) (by rw [HXL.out]; exact hnN)
      rw [HXT.out] at r2
      have i2 : (n : Int) ≤ (q2 : Int) := by omega
      have nn : (n : Int) ≤ (N : Int) := by omega
      have n0 : (0 : Int) ≤ (n : Int) := by omega
      go_wp2_with fail
      refine (rsame_true _ _ _ _ r1 r2).mono ?_
      rintro e x3 ⟨rfl, hb3⟩
      replace hB := keep_trans hB hb3
      clear hb3
      clear r1 r2 g2 g2' i2
      go_wp2_with fail
      refine (hm1 _ hB).mono ?_
      rintro e x7 ⟨v7, rfl, hO7, hb7⟩
      replace hB := keep_trans hB hb7
      have r7 := hO7.row
      clear hb7 hO7 hm1
      obtain ⟨p7, q7, rfl, _⟩ := r7.opens HML.out
      go_wp2_with fail
      refine (hdg _ hB).mono ?_
      rintro e x9 ⟨v9, rfl, hO9, hb9⟩
      replace r7 := r7.below hb9
      replace hB := keep_trans hB hb9
      clear hb9 hdg
      obtain ⟨p9, q9, rfl⟩ := hO9.row.form
      go_wp2_with fail
      refine (hmq _ _ hB hO9.row hO9.tidy).mono ?_
      rintro e x10 ⟨v10, rfl, hO10, hb10⟩
      replace r7 := r7.below hb10
      replace hB := keep_trans hB hb10
      have r10 := hO10.row
      clear hb10 hmq hO10 hO9
      obtain ⟨p10, q10, rfl⟩ := r10.form
      go_wp2_with fail
      refine (rsame_true _ _ _ _ r7 r10).mono ?_
      rintro e x11 ⟨rfl, hb11⟩
      replace hB := keep_trans hB hb11
      clear hb11 r7 r10
      go_wp2_with (first
        | (go_at_call 9; refine (hsz _).mono ?_; rintro e x20 ⟨rfl, hb20⟩; replace hB := keep_trans hB hb20; clear hb20)
        | (go_at_call 4; refine (awake_any _ (HR.out.below hB) (HC.out.below hB)).mono ?_; rintro e x21 ⟨rfl, hb21⟩)
        | fail)
      go_ret
      exact ⟨rfl, keep_trans hB hb21⟩
    have lk : ¬ (key.length : Int) < 64 := by omega
    have lk2 : ¬ (136 : Int) < (key.length : Int) := by omega
    generalize hH : hmacD (digD (K : Int)) (blkD (K : Int)) key b = H at *
    clear hH hzm hDl hzb hblo hz hz2
    generalize sizeD (K : Int) = Z at *
    have HML := hide hml
    clear hml
    go_enter Tryd.func3, Tryd.ntmps3
    go_wp2_with fail
    refine (hx1 _ (Below.refl _ _)).mono ?_
    rintro e x1 ⟨v1, rfl, r1, hB⟩
    go_wp2_with fail
    refine (hx2 _ hB).mono ?_
    rintro e x2 ⟨v2, rfl, r2, hb2⟩
    replace r1 := r1.below hb2
    replace hB := keep_trans hB hb2
    clear hb2
    clear hx1 hx2
    obtain ⟨p2, q2, rfl, g2, g2', _⟩ := r2.opens HXL.out
    obtain ⟨p1, q1, rfl⟩ := r1.form
    replace r2 := r2.cut (M := n) (by rw [HXL.out]; exact hnN)
    rw [HXT.out] at r2
    have i2 : (n : Int) ≤ (q2 : Int) := by omega
    have nn : (n : Int) ≤ (N : Int) := by omega
    have n0 : (0 : Int) ≤ (n : Int) := by omega
    go_wp2_with fail
    refine (rsame_true _ _ _ _ r1 r2).mono ?_
    rintro e x3 ⟨rfl, hb3⟩
    replace hB := keep_trans hB hb3
    clear hb3
    clear r1 r2 g2 g2' i2
    go_wp2_with fail
    refine (hm1 _ hB).mono ?_
    rintro e x7 ⟨v7, rfl, hO7, hb7⟩
    replace hB := keep_trans hB hb7
    have r7 := hO7.row
    clear hb7 hO7 hm1
    obtain ⟨p7, q7, rfl, _⟩ := r7.opens HML.out
    go_wp2_with (first
      | (go_at_call 9; refine (hsz _).mono ?_; rintro e x20 ⟨rfl, hb20⟩; replace hB := keep_trans hB hb20; clear hb20)
      | (go_at_call 4; refine (awake_any _ (HR.out.below hB) (HC.out.below hB)).mono ?_; rintro e x21 ⟨rfl, hb21⟩)
      | fail)
    go_ret
    exact ⟨rfl, keep_trans hB hb21⟩

set_option maxRecDepth 100000 in
theorem lifted (os : Os) (started : os.Started) (H : Type) (enc : TypeId × Value → H) :
    ReturnsInHanded {} Tryd.checked os 3 .any (fun w args => (Rows.macStartsSpec.pre enc Tryd.prog Tryd.f3 Rows.macStartsRow.domain false w args ∧ laidMetH Tryd.prog Rows.macStartsRow.laid w) ∧ sizedMet enc Tryd.prog Tryd.f3 (OpenSpec.ofChange Rows.macStartsSpec) false w args) (Rows.macStartsSpec.post enc Tryd.prog Tryd.f3 false true false false) := by
  refine change_laid_shaped (C := Tryd.checked) (X := fun w _ => laidMetH Tryd.prog Rows.macStartsRow.laid w) (fun _ _ _ hh h => h.of_heap hh) own started (by kernel_rfl) Tryd.func3
    (ChangeSpec.witness_shaped (enc := enc) (C := Tryd.checked) (os := os) (X := fun w _ => laidMetH Tryd.prog Rows.macStartsRow.laid w) false (World.laidAll Tryd.prog os Rows.macStartsRow.laid) #[.int .u8 0, .slice none 0 0, .slice none 0 0, .int .u8 0, .int .u8 0] 8 (World.laidAll_os _ _ _)
      (World.shaped_of_ZipB (by kernel_rfl) (by kernel_rfl)) (by kernel_rfl) (by kernel_rfl) (by kernel_rfl)
      (by rw [MakeChecks.laidMetH_plain _ _ _ (by kernel_rfl)]; exact laidMet_laidAll _ (by kernel_rfl) (by kernel_rfl))) ?_
  intro W base args ds gs before hval0 hW hsz0 hL hsh
  have hVars : Vars W := vars_of_laid hL hsh
  have hval : ∀ (j : Nat) t v, Tryd.f3.params[j]? = some t → args[j]? = some v → Value.okWide Tryd.prog W .any base t v := hval0
  have hW' := hW
  obtain ⟨p, q, hA0, hV, rfl, hfz, hnd⟩ := hW
  have hA : DataW.TrodAll enc Tryd.prog W 0 (fun _ => true) true Tryd.f3.params.toList args.toList ds p := hA0
  rw [Tryd.params3] at hA hval
  obtain ⟨v0, vs0, d0, ds0, p0, q0, hargs, rfl, rfl, h0, r0⟩ := trodAll_cons hA
  obtain ⟨v1, vs1, d1, ds1, p1, q1, rfl, rfl, rfl, h1, r1⟩ := trodAll_cons r0
  obtain ⟨v2, vs2, d2, ds2, p2, q2, rfl, rfl, rfl, h2, r2⟩ := trodAll_cons r1
  obtain ⟨v3, vs3, d3, ds3, p3, q3, rfl, rfl, rfl, h3, r3⟩ := trodAll_cons r2
  obtain ⟨v4, vs4, d4, ds4, p4, q4, rfl, rfl, rfl, h4, r4⟩ := trodAll_cons r3
  obtain ⟨rfl, rfl, rfl⟩ := trodAll_nil r4
  obtain rfl : args = #[v0, v1, v2, v3, v4] := by cases args; simp_all
  obtain ⟨rfl, rfl⟩ := trodVars_none hV
  obtain ⟨a0, rfl, rfl, rfl, w0⟩ := open_int Tryd.underlying5 (hval 0 5 v0 rfl rfl) h0
  obtain ⟨a1, len1, cap1, rfl⟩ := okWide_slice Tryd.underlying22 (hval 1 22 v1 rfl rfl)
  have k1 := h1
  have lt1 : ∀ x ∈ p1, x.block < W.heap.size := by obtain ⟨m, hm⟩ := k1; exact DataW.trod_lt m _ _ _ hm
  obtain ⟨z1, w1⟩ : ∃ zs, IsRow .u8 W a1 len1 cap1 zs := by
    obtain ⟨fuel, hf⟩ := h1
    rcases open_ints Tryd.underlying22 Tryd.underlying5 (by kernel_rfl) hf with ⟨hcs, _⟩ | ⟨x, l, c, zs, hcs, _, hl, hm, hz, _, hcell, hwz⟩
    · simp [Value.cells] at hcs
      obtain ⟨rfl, rfl, rfl⟩ := hcs
      exact ⟨[], .inl ⟨rfl, rfl, rfl, rfl⟩⟩
    · simp [Value.cells] at hcs
      obtain ⟨rfl, rfl, rfl⟩ := hcs
      exact ⟨zs, .inr ⟨_, rfl, hl, hm, by simpa using hz, hcell, hwz⟩⟩
  obtain ⟨a2, len2, cap2, rfl⟩ := okWide_slice Tryd.underlying22 (hval 2 22 v2 rfl rfl)
  have k2 := h2
  have lt2 : ∀ x ∈ p2, x.block < W.heap.size := by obtain ⟨m, hm⟩ := k2; exact DataW.trod_lt m _ _ _ hm
  obtain ⟨z2, w2⟩ : ∃ zs, IsRow .u8 W a2 len2 cap2 zs := by
    obtain ⟨fuel, hf⟩ := h2
    rcases open_ints Tryd.underlying22 Tryd.underlying5 (by kernel_rfl) hf with ⟨hcs, _⟩ | ⟨x, l, c, zs, hcs, _, hl, hm, hz, _, hcell, hwz⟩
    · simp [Value.cells] at hcs
      obtain ⟨rfl, rfl, rfl⟩ := hcs
      exact ⟨[], .inl ⟨rfl, rfl, rfl, rfl⟩⟩
    · simp [Value.cells] at hcs
      obtain ⟨rfl, rfl, rfl⟩ := hcs
      exact ⟨zs, .inr ⟨_, rfl, hl, hm, by simpa using hz, hcell, hwz⟩⟩
  obtain ⟨a3, rfl, rfl, rfl, w3⟩ := open_int Tryd.underlying5 (hval 3 5 v3 rfl rfl) h3
  obtain ⟨a4, rfl, rfl, rfl, w4⟩ := open_int Tryd.underlying5 (hval 4 5 v4 rfl rfl) h4
  clear hA0 hval0
  refine (walk a0 a1 len1 cap1 z1 a2 len2 cap2 z2 a3 a4 W w0 w1 w2 w3 w4 hVars).mono fun e W' ⟨he, bel⟩ => ?_
  subst he
  exact ⟨_, rfl, _, _, _, [], _, [], hW', trodAll_mk1 (shut_bool Tryd.underlying4 _), (trodAll_cons_mk (shut_int Tryd.underlying5 w0) (trodAll_cons_mk (Below.trod laidOut (by kernel_rfl) (of_decide_eq_true (by kernel_rfl)) k1 bel lt1) (trodAll_cons_mk (Below.trod laidOut (by kernel_rfl) (of_decide_eq_true (by kernel_rfl)) k2 bel lt2) (trodAll_cons_mk (shut_int Tryd.underlying5 w3) (trodAll_cons_mk (shut_int Tryd.underlying5 w4) trodAll_mk0))))), rfl, bel.frame _, fun h => by cases h⟩

theorem over : Rows.macStartsRow.holds Tryd.pinned (OpenSpec.ofChange Rows.macStartsSpec) :=
  OpenClaim.holds_of_wide 3 Tryd.f3 rfl rfl rfl rfl rfl rfl rfl ⟨rfl, rfl, rfl, rfl, rfl⟩ rfl rfl rfl rfl rfl (by kernel_rfl) Tryd.func3 (by kernel_rfl)
    (of_decide_eq_true (by kernel_rfl)) (by unfold Func.isWrapper; first | (rw [if_pos (by decide +kernel)]; kernel_rfl) | (rw [if_neg (by decide +kernel)]; exact ⟨rfl, rfl⟩))
    (fun os started H enc _ => lifted os started H enc)

end Go.Proofs.YtejlmgbmfeacdaaDoor.macStarts
namespace Go.Proofs.YtejlmgbmfeacdaaDoor
theorem macStarts_card : Rows.MacStartsCardSaid :=
  Claim7.holds_tied_plain_at .later [] [.data, .data, .data] true (true, "2bd537503d5c81d8a3093f9b974b26323747bb7a2350a44fb18da1c195746c8a") false
    macStarts.over (fun _ h => by cases h) (by kernel_rfl) (fun _ h => by cases h) macStarts_row_tie rfl ⟨rfl, rfl⟩ (by kernel_rfl) rfl
    (fun f fn hf hfn => by
      obtain rfl : f = 3 := Option.some.inj ((show Tryd.prog.funcNamed Tryd.f3.name = some 3 by kernel_rfl).symm.trans hf) |>.symm
      obtain rfl : fn = Tryd.f3 := (Option.some.inj (Tryd.func3.symm.trans hfn)).symm
      exact ⟨by kernel_rfl, fun j t ht => by
        rw [Tryd.params3] at ht
        have hm : t ∈ [5, 22, 22, 5, 5] := by simpa using Array.mem_of_getElem? ht
        have hall : ([5, 22, 22, 5, 5].all fun u => !Tryd.prog.wantsStandIn u) = true := by kernel_rfl
        exact (show Tryd.prog.wantsStandIn t = false by simpa using List.all_eq_true.1 hall t hm)⟩)
    (by kernel_rfl)
end Go.Proofs.YtejlmgbmfeacdaaDoor
