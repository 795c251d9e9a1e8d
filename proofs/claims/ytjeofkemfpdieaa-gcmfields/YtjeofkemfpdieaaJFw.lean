/- The code's forward. -/
import Derived.Test.YtjeofkemfpdieaaACol
namespace Go.Proofs.Ytjeofkemfpdieaa
open Go.RowKit
set_option linter.unusedVariables false
set_option linter.unusedSimpArgs false

/-- where the first loop stands -/
def FwA (G k : Nat) (T key : List Nat) (x1 : World) (vi : Value) (wr : World) : Prop := ∃ n : Nat, n ≤ k ∧ vi = .int .i64 (n : Int) ∧ Cph wr G (k + 6) (upd (fun i => col key i) (zA 60) n) T ∧ But G x1 wr
/-- where the second loop stands -/
def FwB (G k : Nat) (T key : List Nat) (x1 : World) (vc vi : Value) (wr : World) : Prop := ∃ (m : Nat) (ws : List Nat), m ≤ 3 * k + 28 ∧ vi = .int .i64 ((k + m : Nat) : Int) ∧ vc = .int .u8 ((kX k key m).2 : Nat) ∧ Cph wr G (k + 6) ws T ∧ KwI ws (kX k key m).1 (k + m) ∧ But G x1 wr

set_option maxHeartbeats 40000000 in
set_option maxRecDepth 100000 in
theorem fwd_any (k : Nat) (key : List Nat) (kv : Value) (w : World) (hk : k = 4 ∨ k = 6 ∨ k = 8) (hl : key.length = 4 * k) (rk : Row .u8 256 w kv key) :
    Calls Try.prog 59 #[kv] w fun e w' => ∃ g ws, e = .returned (.pointer (some ⟨g, 0, none⟩)) ∧ Cph w' g (k + 6) ws boxT ∧ Kws (keysL key) ws ∧ w.heap.size ≤ g ∧ Below w.heap.size w w' := by
  have hku := rk.under
  have hbx := boxes_any w
  obtain ⟨ka, kc, rfl, lc1, lc2, g3⟩ := rk.opens hl
  obtain ⟨kb, ko, rfl, hc⟩ := g3 (by omega)
  have hkb : kb < w.heap.size := World.block_lt_of_cell? _ _ (hc 0 (by omega))
  obtain ⟨N, hN⟩ : ∃ x : Nat, x = 4 * k := ⟨_, rfl⟩
  have HN := hide hN
  have e_n : (N : Int) / 4 = (k : Int) := by omega
  have t_n : (N : Int).tdiv 4 = (k : Int) := by rw [Int.tdiv_eq_ediv_of_nonneg (by omega)]; exact e_n
  have s_n : IntKind.i64.wrap (k : Int) = (k : Int) := by rw [IntKind.wrap_i64]; omega
  rw [← hN] at rk lc1 hl ⊢
  obtain ⟨n6, hn6⟩ : ∃ x : Nat, x = k + 6 := ⟨_, rfl⟩
  have e_6 : (k : Int) + 6 = (n6 : Int) := by omega
  have s_6 : IntKind.i64.wrap (n6 : Int) = (n6 : Int) := by rw [IntKind.wrap_i64]; omega
  have hbd := fun y => run_cipher n6 y
  have hks : keysL key = (kX k key (3 * k + 28)).1 := by unfold keysL; rw [show key.length / 4 = k by omega]
  have HKS := hide hks
  have hkl := kX_len (k := k) (key := key) (by omega)
  have HKL := hide hkl
  clear hN g3 hc hks hkl
  have HN6 := hide hn6
  have HK := hide hk
  clear hn6 hk
  generalize arr .u8 boxT = BT at hbx hbd
  go_enter Try.func59, Try.ntmps59
  go_wp2_with fail
  refine hbx.mono ?_
  rintro e w0 ⟨rfl, hb0⟩
  rename_i hK2
  refine hK2 _ _ ?_
  refine wpList_build2 rfl 93 0 2 _ _ rfl _ _ _ (by rfl) (by rfl) (hbd _) ?_
  refine wpList_boxA rfl 93 _ rfl (CLv n6) (by rfl) ?_
  simp only [Act.put, List.setIfInBounds_toArray, List.set_cons_zero, List.set_cons_succ]
  clear hK2 hbd
  go_wp2_with fail
  have C0 : Cph (w0.alloc (.cells (CLv n6) 93)) w0.heap.size (k + 6) (upd (fun i => col key i) (zA 60) 0) boxT := by
    rw [← HN6.out]
    exact Cph.newV w0 n6
  have hb1 := keep_trans hb0 (keep_alloc w0 (.cells (CLv n6) 93))
  have hGw : w.heap.size ≤ w0.heap.size := hb0.size
  have rk1 := rk.below hb1
  clear hbx hb0 rk
  generalize hG : w0.heap.size = G at *
  generalize w0.alloc (.cells (CLv n6) 93) = x1 at *
  clear hG
  have hbxd := fun ws a b c d ha hb hc hd y h => @boxed_any G (k + 6) ws a b c d ha hb hc hd y h
  generalize hT : boxT = T at *
  have HT := hide hT
  clear hT
  have HBXD := hide hbxd
  clear hbxd
  go_loopw [18] (fun vi wr => FwA G k T key x1 vi wr) (fun vi _ => k - (intOf vi).toNat)
  case atStart => exact ⟨0, Nat.zero_le _, rfl, C0, But.refl _ _⟩
  case round =>
    obtain ⟨n, hn, rfl, hC, hB⟩ := hrel
    have k8 : k ≤ 8 := by have := HK.out; omega
    by_cases hlt : n < k
    · have rk2 := rk1.but (fun _ q hq => by simp [Value.ownBlock] at hq; omega) hB
      obtain ⟨P, hP⟩ : ∃ x : Nat, x = 4 * n := ⟨_, rfl⟩
      obtain ⟨Q, hQ⟩ : ∃ x : Nat, x = P + 4 := ⟨_, rfl⟩
      have hN := HN.out
      have rk3 : Row .u8 256 wr.drew _ key := rk2.below ((Below.refl _ _).drew)
      have hnum := num_part rk3 hP hQ (by omega)
      have e_P : 4 * (n : Int) = (P : Int) := by omega
      have s_P : IntKind.i64.wrap (P : Int) = (P : Int) := by rw [IntKind.wrap_i64]; omega
      have e_Q : (P : Int) + 4 = (Q : Int) := by omega
      have s_Q : IntKind.i64.wrap (Q : Int) = (Q : Int) := by rw [IntKind.wrap_i64]; omega
      have z_P : (0 : Int) ≤ (P : Int) := Int.natCast_nonneg _
      have l_PQ : (P : Int) ≤ (Q : Int) := by omega
      have l_Qc : (Q : Int) ≤ (kc : Int) := by omega
      have d_QP : Q - P = 4 := by omega
      have n_kP : ¬ kc = P := by omega
      have f1 := hC.frozen (1 + n)
      have c1 := hC.word (i := n) (by omega)
      have hst : ∀ y, Cph y G (k + 6) (upd (fun i => col key i) (zA 60) n) T → Cph (y.setCell ⟨G, 1 + n, none⟩ (.int .u32 (col key n : Nat))) G (k + 6) (upd (fun i => col key i) (zA 60) (n + 1)) T := fun y hy => hy.set _ (by omega)
      have HST := hide hst
      have hcl := col_lt hku n
      have s_W : IntKind.u32.wrap (col key n : Int) = (col key n : Int) := by rw [IntKind.wrap_u32]; omega
      have m_W : (col key n : Int) % 4294967296 = (col key n : Int) := by omega
      have i0 : (0 : Int) ≤ (n : Int) := Int.natCast_nonneg _
      have i1 : (n : Int) < 60 := by omega
      have i2 : (n : Int) < (k : Int) := by omega
      have HBK := hide hC.blk
      have HBD : Hid (Blk wr.drew G 317 93) := hide (hC.blk.below ((Below.refl _ _).drew))
      have hmk : ∀ y, Blk y G 317 93 → y.cell? ⟨G, 1 + n, none⟩ = some (rdc y ⟨G, 1 + n, none⟩) ∧ y.frozen? ⟨G, 1 + n, none⟩ = false ∧ Blk y G 317 93 := fun y hy => ⟨hy.cell (by omega), hy.frozen _, hy⟩
      have HMK := hide hmk
      clear hst hP hQ hN rk2 rk3 hmk f1 c1
      generalize col key n = W at *
      go_wp2
      go_region_held3 (fun y => y.cell? ⟨G, 1 + n, none⟩ = some (rdc y ⟨G, 1 + n, none⟩) ∧ y.frozen? ⟨G, 1 + n, none⟩ = false ∧ Blk y G 317 93)
        (first
          | with_reducible exact HMK.out _ HBD.out
          | with_reducible exact HMK.out _ (Blk.set HBD.out _ _)
          | with_reducible exact HMK.out _ (Blk.below (Blk.set HBK.out _ _) ((Below.refl _ _).drew))
          | with_reducible exact HMK.out _ HBK.out)
        (first
          | (go_at_call 34; refine hnum.mono ?_; rintro e y ⟨rfl, hy⟩; obtain rfl := hy.symm))
      go_wp2
      exact ⟨⟨n + 1, by omega, by go_num, (HST.out _ hC).below ((Below.refl _ _).drew), (hB.setCell (1 + n) _).drew⟩, by simp [intOf]; omega⟩
    · obtain rfl : n = k := by omega
      have hC2 := hC
      have hI : KwI (upd (fun i => col key i) (zA 60) n) key n := fun j hj => by rw [upd_el _ _ _ (by rw [zA_len]; omega), if_pos hj]
      have hbr := hb1.trans (hB.below (by omega) hb1.size)
      generalize upd (fun i => col key i) (zA 60) n = ws0 at *
      obtain ⟨k7, hk7⟩ : ∃ x : Nat, x = n6 + 1 := ⟨_, rfl⟩
      obtain ⟨M, hM⟩ : ∃ x : Nat, x = 4 * k7 := ⟨_, rfl⟩
      have e_k7 : (n6 : Int) + 1 = (k7 : Int) := by omega
      have s_k7 : IntKind.i64.wrap (k7 : Int) = (k7 : Int) := by have := HN6.out; rw [IntKind.wrap_i64]; omega
      have e_M : 4 * (k7 : Int) = (M : Int) := by omega
      have s_M : IntKind.i64.wrap (M : Int) = (M : Int) := by have := HN6.out; rw [IntKind.wrap_i64]; omega
      have HM : Hid (M = 4 * n + 28) := hide (by have := HN6.out; omega)
      have H0 : Hid (FwB G n T key wr (.int .u8 1) (.int .i64 (n : Int)) wr) := hide ⟨0, ws0, Nat.zero_le _, rfl, rfl, hC2, hI, But.refl _ _⟩
      have HBR := hide hbr
      have HGW := hide hGw
      clear hk7 hM hC hC2 hI C0 hB rk1 hbr hGw hb1 e_n t_n s_n e_6 s_6 lc1 lc2 hkb hl hlt hn k8
      rename World => x2
      by_cases h8 : n = 8
      · subst h8
        go_wp2
        go_loopw [6, 7] (fun vc vi wr => FwB G 8 T key x2 vc vi wr) (fun _ vi _ => 4 * 8 + 28 - (intOf vi).toNat)
        case atStart => exact H0.out
        case round =>
          obtain ⟨m, ws, hm, rfl, rfl, hC, hI, hB⟩ := hrel
          clear H0
          have hxl := HKL.out m
          have hxu := kX_under (k := 8) hku m
          have hxc := kX_lt (k := 8) (key := key) m
          have hx1 : kX 8 key (m + 1) = (kQ m (kX 8 key m).1 (kT 8 (8 + m) (kX 8 key m).2 (k4 (8 + m) (kX 8 key m).1)) 4, kC 8 (8 + m) (kX 8 key m).2) := rfl
          have HX1 := hide hx1
          clear hx1
          generalize hW : (kX 8 key m).1 = W at *
          have HW := hide hW
          clear hW
          generalize (kX 8 key m).2 = C at *
          have c0 := hC.rounds
          rw [← HN6.out] at c0
          obtain ⟨i, hi⟩ : ∃ x : Nat, x = 8 + m := ⟨_, rfl⟩
          have HI := hide hi
          rw [← hi] at HX1 hxl hI ⊢
          clear hi
          by_cases hlt : m < 3 * 8 + 28
          · have hlti : (i : Int) < (M : Int) := by have := HM.out; have := HI.out; omega
            have hib : 4 ≤ i ∧ i < 60 := by have := HI.out; have := HK.out; omega
            obtain ⟨i1, hi1⟩ : ∃ x : Nat, x = i - 1 := ⟨_, rfl⟩
            have e_i1 : (i : Int) - 1 = (i1 : Int) := by omega
            have s_i1 : IntKind.i64.wrap (i1 : Int) = (i1 : Int) := by rw [IntKind.wrap_i64]; omega
            have e_m : (i : Int) - (8 : Int) = (m : Int) := by have := HI.out; omega
            have s_m : IntKind.i64.wrap (m : Int) = (m : Int) := by have := HI.out; rw [IntKind.wrap_i64]; omega
            obtain ⟨ii, hii⟩ : ∃ x : Nat, x = i + 1 := ⟨_, rfl⟩
            have e_ii : (i : Int) + 1 = (ii : Int) := by omega
            have s_ii : IntKind.i64.wrap (ii : Int) = (ii : Int) := by rw [IntKind.wrap_i64]; omega
            obtain ⟨r, hr⟩ : ∃ x : Nat, x = i % 8 := ⟨_, rfl⟩
            have hn0 : ¬ ((8 : Int) = 0) := by have := HK.out; omega
            have hn0b : ((8 : Int) == 0) = false := beq_eq_false_iff_ne.2 hn0
            have e_r : (i : Int) % (8 : Int) = (r : Int) := by rw [hr]; simp
            have t_r : (i : Int).tmod (8 : Int) = (r : Int) := by rw [Int.tmod_eq_emod_of_nonneg (by omega)]; exact e_r
            have ca := hC.word (i := i1) (by omega)
            rw [hI i1 (by omega), hi1, k4_col i W (by omega), ← hi1] at ca
            have cm := hC.word (i := m) (by have := HI.out; omega)
            rw [hI m (by have := HI.out; have := HK.out; omega)] at cm
            have ci := hC.word (i := i) (by omega)
            have fi := hC.frozen (1 + i)
            have z_m : (0 : Int) ≤ (m : Int) := Int.natCast_nonneg _
            have l_m : (m : Int) < 60 := by have := HI.out; omega
            have z_1 : (0 : Int) ≤ (i1 : Int) := Int.natCast_nonneg _
            have l_1 : (i1 : Int) < 60 := by omega
            have z_i : (0 : Int) ≤ (i : Int) := Int.natCast_nonneg _
            have l_i : (i : Int) < 60 := by omega
            have uV := col_lt hxu m
            have hk4 : k4 i W = [el W (4 * i - 4), el W (4 * i - 3), el W (4 * i - 2), el W (4 * i - 1)] := rfl
            have b0 := el_lt hxu (by decide) (4 * i - 4)
            have b1 := el_lt hxu (by decide) (4 * i - 3)
            have b2 := el_lt hxu (by decide) (4 * i - 2)
            have b3 := el_lt hxu (by decide) (4 * i - 1)
            have hnx : ∀ t : List Nat, Under 256 t → ∀ y, Cph y G (8 + 6) ws T → Cph (y.setCell ⟨G, 1 + i, none⟩ (.int .u32 (bits .xor .u32 (col W m : Int) (wd (el t 0) (el t 1) (el t 2) (el t 3) : Nat)))) G (8 + 6) (ws.set i (col W m ^^^ wd (el t 0) (el t 1) (el t 2) (el t 3))) T ∧ KwI (ws.set i (col W m ^^^ wd (el t 0) (el t 1) (el t 2) (el t 3))) (kQ m W t 4) (i + 1) := fun t ht y hy => by
              rw [xor_32 _ _ (col_lt hxu m) (wd_lt (el_lt ht (by decide) _) (el_lt ht (by decide) _) (el_lt ht (by decide) _) (el_lt ht (by decide) _))]
              exact ⟨hy.set _ (by omega), hI.next hxl hxu ht (by rw [hC.lw]; omega)⟩
            rw [hk4] at ca HX1
            have HC := hide hC
            have HNX := hide hnx
            clear hnx hk4 hi1 hxl
            generalize el W (4 * i - 4) = x at *
            generalize el W (4 * i - 3) = y at *
            generalize el W (4 * i - 2) = z at *
            generalize el W (4 * i - 1) = u at *
            generalize col W m = V at *
            have ca' : wr.cell? ⟨G, 1 + i1, none⟩ = some (.int .u32 (wd x y z u : Nat)) := ca
            have uX := wd_lt b0 b1 b2 b3
            have HII := hide hii
            clear ca hii
            by_cases hr0 : r = 0
            · have kt : kT 8 i C [x, y, z, u] = kR C [x, y, z, u] := by unfold kT; rw [if_pos (by rw [← hr]; exact hr0)]
              have kc : kC 8 i C = mulB C 2 := by unfold kC; rw [if_pos (by rw [← hr]; exact hr0)]
              have HT1 := hide (And.intro kt kc)
              have htu : Under 256 (kR C [x, y, z, u]) := kR_under hxc (under4 b0 b1 b2 b3)
              have HTU := hide htu
              subst hr0
              have ht1 := fun yy => turned_1 b0 b1 b2 b3 yy
              have hbx := fun yy (h : Cph yy G (8 + 6) ws T) => HBXD.out ws _ _ _ _ b1 b2 b3 b0 yy h
              have hmu := fun yy => cmul_any C 2 hxc (by decide) yy
              have hpw := pow_int (boxB_lt b1) (boxB_lt b2) (boxB_lt b3) (boxB_lt b0) hxc
              have HKR := hide (kR_wd C x y z u)
              clear kt kc htu hr
              generalize wd (boxB y) (boxB z) (boxB u) (boxB x) = BW at *
              generalize hA : wd (boxB y ^^^ C) (boxB z) (boxB u) (boxB x) = A at *
              have HA := hide hA
              clear hA
              generalize wd x y z u = X0 at *
              generalize wd y z u x = X1 at *
              generalize mulB C 2 = C2 at *
              have s_C : IntKind.u32.wrap (C : Int) = (C : Int) := by rw [IntKind.wrap_u32]; omega
              go_wp2_with (first
                | (go_at_call 70; refine (ht1 _).mono ?_; rintro e yy ⟨rfl, hy⟩; obtain rfl := hy.symm)
                | (go_at_call 69; refine (hbx _ HC.out).mono ?_; rintro e wx ⟨rfl, hbx1⟩)
                | (go_at_call 71; refine (hmu _).mono ?_; rintro e yy ⟨rfl, hy⟩; obtain rfl := hy.symm)
                | fail)
              have HCX : Hid (Cph wx G (8 + 6) ws T) := hide (HC.out.below hbx1)
              have HBX : Hid (But G x2 wx) := hide (hB.trans (But.of_below hbx1))
              have cm2 := keep_cell cm hbx1
              have ci2 := keep_cell ci hbx1
              have fi2 := HCX.out.frozen (1 + i)
              clear cm ci fi ca' c0
              go_wp2
              go_region
              go_wp2
              obtain ⟨q1, q2⟩ := HNX.out (kR C [x, y, z, u]) HTU.out wx HCX.out
              rw [HKR.out] at q1 q2
              refine ⟨⟨m + 1, _, by have := HI.out; omega, vint (by have := HI.out; have := HII.out; omega), ?_, q1.below ((Below.refl _ _).drew), ?_, (HBX.out.setCell (1 + i) _).drew⟩, by have := HI.out; have := HII.out; simp [intOf]; omega⟩
              · rw [HX1.out]; show _ = Value.int .u8 ((kC 8 i C : Nat) : Int); rw [HT1.out.2]
              · rw [HX1.out]; show KwI _ (kQ m W (kT 8 i C [x, y, z, u]) 4) _; rw [HT1.out.1, show 8 + (m + 1) = i + 1 by have := HI.out; omega]; exact q2
            · have hr0i : ¬ ((r : Int) = 0) := by omega
              have hr0b : ((r : Int) == 0) = false := beq_eq_false_iff_ne.2 hr0i
              have kc : kC 8 i C = C := by unfold kC; rw [if_neg (by rw [← hr]; exact hr0)]
              by_cases hr4 : r = 4
              · have kt : kT 8 i C [x, y, z, u] = kS [x, y, z, u] := by unfold kT; rw [if_neg (by rw [← hr]; exact hr0), if_pos ⟨rfl, by rw [← hr]; exact hr4⟩]
                have HT1 := hide (And.intro kt kc)
                have htu : Under 256 (kS [x, y, z, u]) := kS_under (under4 b0 b1 b2 b3)
                have HTU := hide htu
                subst hr4
                have hbx := fun yy (h : Cph yy G (8 + 6) ws T) => HBXD.out ws _ _ _ _ b0 b1 b2 b3 yy h
                have HKR := hide (kS_wd x y z u)
                clear kt kc htu hr hr0
                generalize hA : wd (boxB x) (boxB y) (boxB z) (boxB u) = A at *
                have HA := hide hA
                clear hA
                generalize wd x y z u = X0 at *
                go_wp2_with (first
                  | (go_at_call 69; refine (hbx _ HC.out).mono ?_; rintro e wx ⟨rfl, hbx1⟩)
                  | fail)
                have HCX : Hid (Cph wx G (8 + 6) ws T) := hide (HC.out.below hbx1)
                have HBX : Hid (But G x2 wx) := hide (hB.trans (But.of_below hbx1))
                have cm2 := keep_cell cm hbx1
                have ci2 := keep_cell ci hbx1
                have fi2 := HCX.out.frozen (1 + i)
                clear cm ci fi ca' c0
                go_wp2
                go_region
                go_wp2
                obtain ⟨q1, q2⟩ := HNX.out (kS [x, y, z, u]) HTU.out wx HCX.out
                rw [HKR.out] at q1 q2
                refine ⟨⟨m + 1, _, by have := HI.out; omega, vint (by have := HI.out; have := HII.out; omega), ?_, q1.below ((Below.refl _ _).drew), ?_, (HBX.out.setCell (1 + i) _).drew⟩, by have := HI.out; have := HII.out; simp [intOf]; omega⟩
                · rw [HX1.out]; show _ = Value.int .u8 ((kC 8 i C : Nat) : Int); rw [HT1.out.2]
                · rw [HX1.out]; show KwI _ (kQ m W (kT 8 i C [x, y, z, u]) 4) _; rw [HT1.out.1, show 8 + (m + 1) = i + 1 by have := HI.out; omega]; exact q2
              · have hr4i : ¬ ((r : Int) = 4) := by omega
                have hr4b : ((r : Int) == 4) = false := beq_eq_false_iff_ne.2 hr4i
                have kt : kT 8 i C [x, y, z, u] = [x, y, z, u] := by unfold kT; rw [if_neg (by rw [← hr]; exact hr0), if_neg (by rintro ⟨_, h⟩; exact hr4 (by rw [hr]; exact h))]
                have HT1 := hide (And.intro kt kc)
                have htu : Under 256 [x, y, z, u] := under4 b0 b1 b2 b3
                have HTU := hide htu
                have hel : wd (el [x, y, z, u] 0) (el [x, y, z, u] 1) (el [x, y, z, u] 2) (el [x, y, z, u] 3) = wd x y z u := rfl
                have HKR := hide hel
                clear kt kc htu hr hel
                generalize hA : wd x y z u = A at *
                have HA := hide hA
                clear hA
                go_wp2
                go_region
                go_wp2
                obtain ⟨q1, q2⟩ := HNX.out [x, y, z, u] HTU.out wr HC.out
                rw [HKR.out] at q1 q2
                refine ⟨⟨m + 1, _, by have := HI.out; omega, vint (by have := HI.out; have := HII.out; omega), ?_, q1.below ((Below.refl _ _).drew), ?_, (hB.setCell (1 + i) _).drew⟩, by have := HI.out; have := HII.out; simp [intOf]; omega⟩
                · rw [HX1.out]; show _ = Value.int .u8 ((kC 8 i C : Nat) : Int); rw [HT1.out.2]
                · rw [HX1.out]; show KwI _ (kQ m W (kT 8 i C [x, y, z, u]) 4) _; rw [HT1.out.1, show 8 + (m + 1) = i + 1 by have := HI.out; omega]; exact q2
          · have hge : ¬ ((i : Int) < (M : Int)) := by have := HM.out; have := HI.out; omega
            obtain rfl : m = 3 * 8 + 28 := by omega
            have hbz := HBR.out.trans (hB.below HGW.out HBR.out.size)
            go_wp2
            go_ret
            refine ⟨G, rfl, ws, by rw [HT.out]; exact hC, ?_, HGW.out, hbz⟩
            intro j hj
            rw [HKS.out] at hj ⊢
            rw [HW.out] at hj ⊢
            rw [hxl] at hj
            exact hI j (by omega)
      · skip
        go_wp2
        go_loopw [6, 7] (fun vc vi wr => FwB G n T key x2 vc vi wr) (fun _ vi _ => 4 * n + 28 - (intOf vi).toNat)
        case atStart => exact H0.out
        case round =>
          obtain ⟨m, ws, hm, rfl, rfl, hC, hI, hB⟩ := hrel
          clear H0
          have hxl := HKL.out m
          have hxu := kX_under (k := n) hku m
          have hxc := kX_lt (k := n) (key := key) m
          have hx1 : kX n key (m + 1) = (kQ m (kX n key m).1 (kT n (n + m) (kX n key m).2 (k4 (n + m) (kX n key m).1)) 4, kC n (n + m) (kX n key m).2) := rfl
          have HX1 := hide hx1
          clear hx1
          generalize hW : (kX n key m).1 = W at *
          have HW := hide hW
          clear hW
          generalize (kX n key m).2 = C at *
          have c0 := hC.rounds
          rw [← HN6.out] at c0
          obtain ⟨i, hi⟩ : ∃ x : Nat, x = n + m := ⟨_, rfl⟩
          have HI := hide hi
          rw [← hi] at HX1 hxl hI ⊢
          clear hi
          by_cases hlt : m < 3 * n + 28
          · have hlti : (i : Int) < (M : Int) := by have := HM.out; have := HI.out; omega
            have hib : 4 ≤ i ∧ i < 60 := by have := HI.out; have := HK.out; omega
            obtain ⟨i1, hi1⟩ : ∃ x : Nat, x = i - 1 := ⟨_, rfl⟩
            have e_i1 : (i : Int) - 1 = (i1 : Int) := by omega
            have s_i1 : IntKind.i64.wrap (i1 : Int) = (i1 : Int) := by rw [IntKind.wrap_i64]; omega
            have e_m : (i : Int) - (n : Int) = (m : Int) := by have := HI.out; omega
            have s_m : IntKind.i64.wrap (m : Int) = (m : Int) := by have := HI.out; rw [IntKind.wrap_i64]; omega
            obtain ⟨ii, hii⟩ : ∃ x : Nat, x = i + 1 := ⟨_, rfl⟩
            have e_ii : (i : Int) + 1 = (ii : Int) := by omega
            have s_ii : IntKind.i64.wrap (ii : Int) = (ii : Int) := by rw [IntKind.wrap_i64]; omega
            obtain ⟨r, hr⟩ : ∃ x : Nat, x = i % n := ⟨_, rfl⟩
            have hn0 : ¬ ((n : Int) = 0) := by have := HK.out; omega
            have hn0b : ((n : Int) == 0) = false := beq_eq_false_iff_ne.2 hn0
            have e_r : (i : Int) % (n : Int) = (r : Int) := by rw [hr]; simp
            have t_r : (i : Int).tmod (n : Int) = (r : Int) := by rw [Int.tmod_eq_emod_of_nonneg (by omega)]; exact e_r
            have ca := hC.word (i := i1) (by omega)
            rw [hI i1 (by omega), hi1, k4_col i W (by omega), ← hi1] at ca
            have cm := hC.word (i := m) (by have := HI.out; omega)
            rw [hI m (by have := HI.out; have := HK.out; omega)] at cm
            have ci := hC.word (i := i) (by omega)
            have fi := hC.frozen (1 + i)
            have z_m : (0 : Int) ≤ (m : Int) := Int.natCast_nonneg _
            have l_m : (m : Int) < 60 := by have := HI.out; omega
            have z_1 : (0 : Int) ≤ (i1 : Int) := Int.natCast_nonneg _
            have l_1 : (i1 : Int) < 60 := by omega
            have z_i : (0 : Int) ≤ (i : Int) := Int.natCast_nonneg _
            have l_i : (i : Int) < 60 := by omega
            have uV := col_lt hxu m
            have hk4 : k4 i W = [el W (4 * i - 4), el W (4 * i - 3), el W (4 * i - 2), el W (4 * i - 1)] := rfl
            have b0 := el_lt hxu (by decide) (4 * i - 4)
            have b1 := el_lt hxu (by decide) (4 * i - 3)
            have b2 := el_lt hxu (by decide) (4 * i - 2)
            have b3 := el_lt hxu (by decide) (4 * i - 1)
            have hnx : ∀ t : List Nat, Under 256 t → ∀ y, Cph y G (n + 6) ws T → Cph (y.setCell ⟨G, 1 + i, none⟩ (.int .u32 (bits .xor .u32 (col W m : Int) (wd (el t 0) (el t 1) (el t 2) (el t 3) : Nat)))) G (n + 6) (ws.set i (col W m ^^^ wd (el t 0) (el t 1) (el t 2) (el t 3))) T ∧ KwI (ws.set i (col W m ^^^ wd (el t 0) (el t 1) (el t 2) (el t 3))) (kQ m W t 4) (i + 1) := fun t ht y hy => by
              rw [xor_32 _ _ (col_lt hxu m) (wd_lt (el_lt ht (by decide) _) (el_lt ht (by decide) _) (el_lt ht (by decide) _) (el_lt ht (by decide) _))]
              exact ⟨hy.set _ (by omega), hI.next hxl hxu ht (by rw [hC.lw]; omega)⟩
            rw [hk4] at ca HX1
            have HC := hide hC
            have HNX := hide hnx
            clear hnx hk4 hi1 hxl
            generalize el W (4 * i - 4) = x at *
            generalize el W (4 * i - 3) = y at *
            generalize el W (4 * i - 2) = z at *
            generalize el W (4 * i - 1) = u at *
            generalize col W m = V at *
            have ca' : wr.cell? ⟨G, 1 + i1, none⟩ = some (.int .u32 (wd x y z u : Nat)) := ca
            have uX := wd_lt b0 b1 b2 b3
            have HII := hide hii
            clear ca hii
            by_cases hr0 : r = 0
            · have kt : kT n i C [x, y, z, u] = kR C [x, y, z, u] := by unfold kT; rw [if_pos (by rw [← hr]; exact hr0)]
              have kc : kC n i C = mulB C 2 := by unfold kC; rw [if_pos (by rw [← hr]; exact hr0)]
              have HT1 := hide (And.intro kt kc)
              have htu : Under 256 (kR C [x, y, z, u]) := kR_under hxc (under4 b0 b1 b2 b3)
              have HTU := hide htu
              subst hr0
              have ht1 := fun yy => turned_1 b0 b1 b2 b3 yy
              have hbx := fun yy (h : Cph yy G (n + 6) ws T) => HBXD.out ws _ _ _ _ b1 b2 b3 b0 yy h
              have hmu := fun yy => cmul_any C 2 hxc (by decide) yy
              have hpw := pow_int (boxB_lt b1) (boxB_lt b2) (boxB_lt b3) (boxB_lt b0) hxc
              have HKR := hide (kR_wd C x y z u)
              clear kt kc htu hr
              generalize wd (boxB y) (boxB z) (boxB u) (boxB x) = BW at *
              generalize hA : wd (boxB y ^^^ C) (boxB z) (boxB u) (boxB x) = A at *
              have HA := hide hA
              clear hA
              generalize wd x y z u = X0 at *
              generalize wd y z u x = X1 at *
              generalize mulB C 2 = C2 at *
              have s_C : IntKind.u32.wrap (C : Int) = (C : Int) := by rw [IntKind.wrap_u32]; omega
              go_wp2_with (first
                | (go_at_call 70; refine (ht1 _).mono ?_; rintro e yy ⟨rfl, hy⟩; obtain rfl := hy.symm)
                | (go_at_call 69; refine (hbx _ HC.out).mono ?_; rintro e wx ⟨rfl, hbx1⟩)
                | (go_at_call 71; refine (hmu _).mono ?_; rintro e yy ⟨rfl, hy⟩; obtain rfl := hy.symm)
                | fail)
              have HCX : Hid (Cph wx G (n + 6) ws T) := hide (HC.out.below hbx1)
              have HBX : Hid (But G x2 wx) := hide (hB.trans (But.of_below hbx1))
              have cm2 := keep_cell cm hbx1
              have ci2 := keep_cell ci hbx1
              have fi2 := HCX.out.frozen (1 + i)
              clear cm ci fi ca' c0
              go_wp2
              go_region
              go_wp2
              obtain ⟨q1, q2⟩ := HNX.out (kR C [x, y, z, u]) HTU.out wx HCX.out
              rw [HKR.out] at q1 q2
              refine ⟨⟨m + 1, _, by have := HI.out; omega, vint (by have := HI.out; have := HII.out; omega), ?_, q1.below ((Below.refl _ _).drew), ?_, (HBX.out.setCell (1 + i) _).drew⟩, by have := HI.out; have := HII.out; simp [intOf]; omega⟩
              · rw [HX1.out]; show _ = Value.int .u8 ((kC n i C : Nat) : Int); rw [HT1.out.2]
              · rw [HX1.out]; show KwI _ (kQ m W (kT n i C [x, y, z, u]) 4) _; rw [HT1.out.1, show n + (m + 1) = i + 1 by have := HI.out; omega]; exact q2
            · have hr0i : ¬ ((r : Int) = 0) := by omega
              have hr0b : ((r : Int) == 0) = false := beq_eq_false_iff_ne.2 hr0i
              have kc : kC n i C = C := by unfold kC; rw [if_neg (by rw [← hr]; exact hr0)]
              have h8i : ¬ ((n : Int) = 8) := by omega
              have h8b : ((n : Int) == 8) = false := beq_eq_false_iff_ne.2 h8i
              have kt : kT n i C [x, y, z, u] = [x, y, z, u] := by unfold kT; rw [if_neg (by rw [← hr]; exact hr0), if_neg (by rintro ⟨h, _⟩; exact h8 h)]
              have HT1 := hide (And.intro kt kc)
              have htu : Under 256 [x, y, z, u] := under4 b0 b1 b2 b3
              have HTU := hide htu
              have hel : wd (el [x, y, z, u] 0) (el [x, y, z, u] 1) (el [x, y, z, u] 2) (el [x, y, z, u] 3) = wd x y z u := rfl
              have HKR := hide hel
              clear kt kc htu hr hel
              generalize hA : wd x y z u = A at *
              have HA := hide hA
              clear hA
              go_wp2
              go_region
              go_wp2
              obtain ⟨q1, q2⟩ := HNX.out [x, y, z, u] HTU.out wr HC.out
              rw [HKR.out] at q1 q2
              refine ⟨⟨m + 1, _, by have := HI.out; omega, vint (by have := HI.out; have := HII.out; omega), ?_, q1.below ((Below.refl _ _).drew), ?_, (hB.setCell (1 + i) _).drew⟩, by have := HI.out; have := HII.out; simp [intOf]; omega⟩
              · rw [HX1.out]; show _ = Value.int .u8 ((kC n i C : Nat) : Int); rw [HT1.out.2]
              · rw [HX1.out]; show KwI _ (kQ m W (kT n i C [x, y, z, u]) 4) _; rw [HT1.out.1, show n + (m + 1) = i + 1 by have := HI.out; omega]; exact q2
          · have hge : ¬ ((i : Int) < (M : Int)) := by have := HM.out; have := HI.out; omega
            obtain rfl : m = 3 * n + 28 := by omega
            have hbz := HBR.out.trans (hB.below HGW.out HBR.out.size)
            go_wp2
            go_ret
            refine ⟨G, rfl, ws, by rw [HT.out]; exact hC, ?_, HGW.out, hbz⟩
            intro j hj
            rw [HKS.out] at hj ⊢
            rw [HW.out] at hj ⊢
            rw [hxl] at hj
            exact hI j (by omega)
end Go.Proofs.Ytjeofkemfpdieaa
