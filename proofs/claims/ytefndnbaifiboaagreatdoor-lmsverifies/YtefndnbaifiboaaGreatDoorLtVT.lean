/- Trees of leaves that sign once: the document's Verify, from the leaf's sum up. -/
import Derived.Test.YtefndnbaifiboaaGreatDoorLmK8
namespace Go.Proofs.YtefndnbaifiboaaGreatDoor
open Go.RowKit
set_option linter.unusedVariables false
set_option linter.unusedSimpArgs false

set_option maxHeartbeats 8000000 in
set_option maxRecDepth 100000 in
theorem v_tail {w z : World} {bb bo pc sb so L sc BT q Z kc H W M : Nat} {ka : Option Addr} {pub sig CN TOP : List Nat} {R : Int} (hR : Hid (R = if TOP = pub.drop 24 then 0 else 11)) (y1 y3 y4 y5 y6 y7 y9 y10 y15 y16 y17 y18 y19 y20 y21 y22 y23 y24 y25 y26 y27 y28 y29 y30 y31 y32 y33 y34 y35 y36 y37 y38 y39 y40 y41 y42 y43 y44 y45 y46 y47 y48 y49 y50 y51 y52 y53 y54 y55 y56 y57 y58 y59 y60 y61 y62 y63 y64 y65 y66 y67 y68 y69 y70 y71 y72 y73 y74 y75 y76 y77 y78 y79 y80 y81 y82 y83 y84 y85 y86 y87 y88 y89 y90 y91 y92 y93 y94 y95 y96 y97 y98 y99 y100 y101 y102 y103 y104 y105 y106 y107 y108 y109 y110 y111 y112 y113 y114 y115 y116 y117 y118 y119 y120 y121 y122 y123 y124 : Value)
    (hrow : Row .u8 256 z (.slice (some ⟨bb, bo, none⟩) 56 pc) pub) (h56 : pub.length = 56) (hs : Row .u8 256 z (.slice (some ⟨sb, so, none⟩) L sc) sig) (hL : sig.length = L) (hLn : L = 8 + Z + 32 * H) (hZ0 : Z ≤ 10000) (bt : Bx2T z BT (.int .i64 (H : Int)) (.int .i64 (W : Int))) (rk : Row .u8 256 z (.slice ka 32 kc) CN)
    (hM : M = 2 ^ H) (hMb : M ≤ 33554432) (hH : H ≤ 25) (hq : q < M) (hkw : Below w.heap.size w z) (hpc : pc ≤ 9223372036854775807)
    (hTOP : climb (ovL ((pub.drop 8).take 16)) (vChk (sig.drop (8 + Z)) H) (2 ^ H + q) (lfS ((pub.drop 8).take 16) (2 ^ H + q) CN) = TOP) :
    Code.wp Tryz.prog ((cRA (cRA (cRA (cRA (cRA (cRA (cRA (cRA (cRA (cRA (Tryz.f20.body.getD .skip)))))))))))) (bodyPost Tryz.prog Tryz.f20 fun e w' => e = .returned (.int .i64 R) ∧ Below w.heap.size w w') { tmps := #[.slice (some ⟨bb, bo, none⟩) 56 pc, y1, .slice (some ⟨sb, so, none⟩) L sc, y3, y4, y5, y6, y7, .pointer (some ⟨BT, 0, none⟩), y9, y10, .int .u64 (q : Int), .slice (some ⟨bb, bo + 8, none⟩) 16 (pc - 8), .int .i64 (Z : Int), .slice ka 32 kc, y15, y16, y17, y18, y19, y20, y21, y22, y23, y24, y25, y26, y27, y28, y29, y30, y31, y32, y33, y34, y35, y36, y37, y38, y39, y40, y41, y42, y43, y44, y45, y46, y47, y48, y49, y50, y51, y52, y53, y54, y55, y56, y57, y58, y59, y60, y61, y62, y63, y64, y65, y66, y67, y68, y69, y70, y71, y72, y73, y74, y75, y76, y77, y78, y79, y80, y81, y82, y83, y84, y85, y86, y87, y88, y89, y90, y91, y92, y93, y94, y95, y96, y97, y98, y99, y100, y101, y102, y103, y104, y105, y106, y107, y108, y109, y110, y111, y112, y113, y114, y115, y116, y117, y118, y119, y120, y121, y122, y123, y124], defers := [] } z := by
  simp only [Tryz.f20, Option.getD_some, cRA]
  have cH := bt.c0
  have e_M : (2 : Int) ^ H = (M : Int) := by rw [hM]; norm_cast
  have s_M : IntKind.u64.wrap (M : Int) = (M : Int) := by rw [IntKind.wrap_u64]; omega
  obtain ⟨n, hn⟩ : ∃ n, M + q = n := ⟨_, rfl⟩
  have e_n : (M : Int) + (q : Int) = (n : Int) := by omega
  have s_n : IntKind.u64.wrap (n : Int) = (n : Int) := by rw [IntKind.wrap_u64]; omega
  obtain ⟨E, hE⟩ : ∃ E, 8 + Z = E := ⟨_, rfl⟩
  have e_E : (8 : Int) + (Z : Int) = (E : Int) := by omega
  have s_E : IntKind.i64.wrap (E : Int) = (E : Int) := by rw [IntKind.wrap_i64]; omega
  have hls : L ≤ sc := by
    obtain ⟨_, _, he, h1, _⟩ := id hs
    simp at he
    omega
  obtain ⟨AP, hsl, hAP⟩ := slice_from (some ⟨sb, so, none⟩) L sc E (by omega) hls
  have rp := hs.behind (F := E) (by omega) hAP
  have rid : Row .u8 256 z (.slice (some ⟨bb, bo + 8, none⟩) 16 (pc - 8)) ((pub.drop 8).take 16) := hrow.mid (i := 8) (j := 24) (by decide) (by omega)
  rw [hE, ← hM, hn] at hTOP
  have hid : ((pub.drop 8).take 16).length = 16 := by rw [List.length_take, List.length_drop, h56]; decide
  have r24 := hrow
  generalize (pub.drop 8).take 16 = id at *
  have cn32 : CN.length = 32 := by
    obtain ⟨_, _, he, _⟩ := _root_.id rk
    simp only [Value.slice.injEq] at he
    exact he.2.1.symm
  have hlf := rleaf_any id CN n (.slice (some ⟨bb, bo + 8, none⟩) 16 (pc - 8)) (.slice ka 32 kc) z rid (tidy_atA _ _ _) rk (row_tidyA rk (by omega)) (by omega) (by omega)
  have hlf32 : (lfS id n CN).length = 32 := shaL_len _
  generalize lfS id n CN = LF at *
  have HF := hide (And.intro hrow (And.intro hs (And.intro rp (And.intro rid (And.intro hTOP (And.intro hlf32 (And.intro hn (And.intro hM (And.intro hE (And.intro hLn (And.intro h56 hid)))))))))))
  clear hrow hs rp rid hTOP hlf32 hn hM hE hLn bt rk h56 hid r24
  go_wp2_with (first
    | (go_at_call 51; refine hlf.mono ?_; rintro e w1 ⟨v1, rfl, r1, n1, g1⟩; obtain ⟨a1, c1, rfl, _⟩ := r1.opens HF.out.2.2.2.2.2.1)
    | fail)
  obtain ⟨hrow, hs, rp, rid, hTOP, hlf32, hn, hM, hE, hLn, h56, hid⟩ := HF.out
  have hpl : (sig.drop E).length = 32 * H := by rw [List.length_drop]; omega
  have h0 : VcI id TOP w (.int .u64 (n : Int)) (.slice a1 32 c1) (.slice AP (L - E) (sc - E)) w1 := by
    refine ⟨vChk (sig.drop E) H, n, LF, rfl, r1, hlf32, ?_, vChk_32 H _ hpl, ?_, by omega, hTOP, keep_trans hkw g1⟩
    · rw [vChk_flat H _ hpl]; exact rp.below g1
    · rw [vChk_len, ← hn, hM]; exact lev_leaf (by rw [← hM]; exact hq)
  have HG := hide (And.intro h0 (And.intro (rid.below g1) (And.intro (hrow.below g1) (And.intro h56 (And.intro hid g1)))))
  have h24 : (24 : Int) ≤ (pc : Int) := by
    obtain ⟨_, _, he, h1, _⟩ := _root_.id hrow
    simp only [Value.slice.injEq] at he
    omega
  clear h0 hrow hs rp rid hTOP hlf32 hn hM hE hLn h56 hid HF hsl hAP hlf r1 n1 g1 hpl cH e_M s_M e_n s_n e_E s_E
  have hpc56 : 56 ≤ pc := by
    obtain ⟨_, _, he, h1, _⟩ := _root_.id HG.out.2.2.1
    simp only [Value.slice.injEq] at he
    omega
  obtain ⟨A24, hsl24, hA24⟩ := slice_from (some ⟨bb, bo, none⟩) 56 pc 24 (by decide) hpc56
  go_loopw [16, 17, 18] (fun vn vs vp wr => Below w1.heap.size w1 wr ∧ VcI id TOP w vn vs vp wr) (fun vn _ _ _ => (intOf vn).toNat)
  case atStart => exact ⟨Below.refl _ _, HG.out.1⟩
  case round =>
    obtain ⟨hb1, ps, k, s, rfl, rs, hs32, rp, hp32, hlev, hk26, hcl, hbr⟩ := hrel
    obtain ⟨_, rid1, hrow1, h56, hid, _⟩ := HG.out
    have rid := rid1.below hb1
    have hrow := hrow1.below hb1
    obtain ⟨sa, sc', rfl, _⟩ := rs.opens hs32
    by_cases h1 : 1 < k
    · have h1' : (1 : Int) < (k : Int) := by omega
      match ps, hp32, hlev, hcl, rp with
      | [], _, hlev, _, _ => exact absurd hlev.2 (by simp; omega)
      | p :: ps, hp32, hlev, hcl, rp =>
        have hp0 : p.length = 32 := hp32 p (by simp)
        obtain ⟨Lp, hLp⟩ : ∃ x, (p :: ps).flatten.length = x := ⟨_, rfl⟩
        have hLp32 : 32 ≤ Lp := by rw [← hLp, List.flatten_cons, List.length_append]; omega
        have rp' := rp
        obtain ⟨qa, qc, rfl, hq1, hq2, hqo⟩ := rp'.opens hLp
        obtain ⟨qb, qo, rfl, _⟩ := hqo (by omega)
        clear hqo
        have rp32 : Row .u8 256 wr (.slice (some ⟨qb, qo, none⟩) 32 qc) p := by
          have := rp.cut (M := 32) (by omega)
          rwa [List.flatten_cons, List.take_append_of_le_length (by omega), List.take_of_length_le (by omega)] at this
        have rpn : Row .u8 256 wr (.slice (if qc = 32 then some ⟨qb, qo, none⟩ else some ⟨qb, qo + 32, none⟩) (Lp - 32) (qc - 32)) ps.flatten := by
          have := fun A hA => rp.behind (F := 32) (A := A) hLp32 hA
          rw [List.flatten_cons, List.drop_append_of_le_length (by omega), List.drop_of_length_le (by omega), List.nil_append] at this
          split
          · rename_i e; exact this _ (.inl ⟨rfl, e⟩)
          · exact this _ (.inr rfl)
        have h32q : (32 : Int) ≤ (qc : Int) := by omega
        obtain ⟨m, hm⟩ : ∃ m, k / 2 = m := ⟨_, rfl⟩
        have e_m : (k : Int) / 2 = (m : Int) := by omega
        have s_m : IntKind.u64.wrap (m : Int) = (m : Int) := by rw [IntKind.wrap_u64]; omega
        have lev' : Lev ps.length m := by rw [← hm]; exact Lev.up hlev
        have ts : Tidy (.slice sa 32 sc') := row_tidyA rs (by omega)
        have tp : Tidy (.slice (some ⟨qb, qo, none⟩) 32 qc) := row_tidyA rp32 (by omega)
        by_cases h2 : k % 2 = 0
        · have e_r : (k : Int) % 2 = 0 := by omega
          have hov := rover_any id s p m (.slice (some ⟨bb, bo + 8, none⟩) 16 (pc - 8)) (.slice sa 32 sc') (.slice (some ⟨qb, qo, none⟩) 32 qc) wr rid (tidy_atA _ _ _) rs ts rp32 tp (by omega) (by omega)
          have ho32 : (ovL id m s p).length = 32 := shaL_len _
          have hcl' : climb (ovL id) ps m (ovL id m s p) = TOP := by rw [← hcl, ← hm]; show _ = climb (ovL id) ps (k / 2) (if k % 2 = 0 then _ else _); rw [if_pos h2]
          have HR := hide (And.intro rpn (And.intro lev' (And.intro hcl' (And.intro ho32 (And.intro hbr (And.intro hb1 (And.intro hp32 (And.intro hm hk26))))))))
          generalize ovL id m s p = OV at *
          clear rs hs32 rp hp32 hlev hcl hbr rid hrow rid1 hrow1 rp' rp32 rpn lev' ts tp ho32 hcl' hb1 hLp hp0
          go_wp2_with (first
            | (go_at_call 52; refine hov.mono ?_; rintro e w2 ⟨v2, rfl, r2, n2, g2⟩; obtain ⟨a2, c2, rfl, _⟩ := r2.opens HR.out.2.2.2.1)
            | fail)
          obtain ⟨rpn, lev', hcl', ho32, hbr, hb1, hp32, hm, hk26⟩ := HR.out
          refine ⟨⟨keep_trans hb1 g2, ps, m, OV, rfl, r2, ho32, rpn.below g2, fun p' hp' => hp32 p' (List.mem_cons_of_mem _ hp'), lev', by omega, hcl', keep_trans hbr g2⟩, ?_⟩
          simp [intOf]
          omega
        · have e_r : (k : Int) % 2 = 1 := by omega
          have hov := rover_any id p s m (.slice (some ⟨bb, bo + 8, none⟩) 16 (pc - 8)) (.slice (some ⟨qb, qo, none⟩) 32 qc) (.slice sa 32 sc') wr rid (tidy_atA _ _ _) rp32 tp rs ts (by omega) (by omega)
          have ho32 : (ovL id m p s).length = 32 := shaL_len _
          have hcl' : climb (ovL id) ps m (ovL id m p s) = TOP := by rw [← hcl, ← hm]; show _ = climb (ovL id) ps (k / 2) (if k % 2 = 0 then _ else _); rw [if_neg h2]
          have HR := hide (And.intro rpn (And.intro lev' (And.intro hcl' (And.intro ho32 (And.intro hbr (And.intro hb1 (And.intro hp32 (And.intro hm hk26))))))))
          generalize ovL id m p s = OV at *
          clear rs hs32 rp hp32 hlev hcl hbr rid hrow rid1 hrow1 rp' rp32 rpn lev' ts tp ho32 hcl' hb1 hLp hp0
          go_wp2_with (first
            | (go_at_call 52; refine hov.mono ?_; rintro e w2 ⟨v2, rfl, r2, n2, g2⟩; obtain ⟨a2, c2, rfl, _⟩ := r2.opens HR.out.2.2.2.1)
            | fail)
          obtain ⟨rpn, lev', hcl', ho32, hbr, hb1, hp32, hm, hk26⟩ := HR.out
          refine ⟨⟨keep_trans hb1 g2, ps, m, OV, rfl, r2, ho32, rpn.below g2, fun p' hp' => hp32 p' (List.mem_cons_of_mem _ hp'), lev', by omega, hcl', keep_trans hbr g2⟩, ?_⟩
          simp [intOf]
          omega
    · have h1' : ¬ ((1 : Int) < (k : Int)) := by omega
      have hps : ps = [] := by
        cases ps with
        | nil => rfl
        | cons p ps =>
          have := hlev.1
          rw [List.length_cons, Nat.pow_succ] at this
          have := Nat.pow_pos (n := ps.length) (show 0 < 2 by decide)
          omega
      subst hps
      have hTs : s = TOP := hcl
      subst hTs
      have hne24 : ¬ pc = 24 := by omega
      have r24 : Row .u8 256 wr (.slice (some ⟨bb, bo + 24, none⟩) 32 (pc - 24)) (pub.drop 24) := hrow.behind (F := 24) (by decide) (.inr rfl)
      have hsm := rsame_b (.slice sa 32 sc') (.slice (some ⟨bb, bo + 24, none⟩) 32 (pc - 24)) s (pub.drop 24) wr rs r24
      have HR := hide hbr
      clear rs hs32 rp hp32 hlev hcl hbr rid hrow rid1 hrow1 hb1 r24
      by_cases hd : s = pub.drop 24
      · rw [decide_eq_true hd] at hsm
        have HD := hide hd
        clear hd
        go_wp2_with (first
          | (go_at_call 16; refine hsm.mono ?_; rintro e w2 ⟨rfl, g2⟩)
          | fail)
        go_ret
        exact ⟨by rw [hR.out, if_pos HD.out]; rfl, keep_trans HR.out g2⟩
      · rw [decide_eq_false hd] at hsm
        have HD := hide hd
        clear hd
        go_wp2_with (first
          | (go_at_call 16; refine hsm.mono ?_; rintro e w2 ⟨rfl, g2⟩)
          | fail)
        go_ret
        exact ⟨by rw [hR.out, if_neg HD.out]; rfl, keep_trans HR.out g2⟩
end Go.Proofs.YtefndnbaifiboaaGreatDoor

/- Trees of leaves that sign once: the document's Verify, from the leaf up. -/
namespace Go.Proofs.YtefndnbaifiboaaGreatDoor
open Go.RowKit
set_option linter.unusedVariables false
set_option linter.unusedSimpArgs false

def v13lt : List Lt := [(0, some 71, [8]), (1, some 72, [71]), (0, some 73, [12]), (0, some 74, [11]), (8, some 75, [74]), (0, some 76, [1]), (0, some 77, [2]), (0, some 78, [13]), (128, some 79, [78]), (320, some 80, [77, 79]), (566, some 81, [72, 73, 75, 76, 80]), (1024, some 70, [81]), (2048, some 82, [70]), (2048, some 83, [70]), (8191, some 14, [82]), (32767, some 15, [83])]
theorem v13reg : Reg (opsA (cLA (cRA (cRA (cRA (cRA (cRA (cRA (cRA (cRA (cRA (Tryz.f20.body.getD .skip)))))))))))) v13lt := ⟨by kernel_rfl, by kernel_rfl⟩
set_option maxHeartbeats 8000000 in
set_option maxRecDepth 100000 in
theorem rver_sums {k n m s c : Nat} (pub text sig : List Nat) (pv tv sv : Value) (w : World) (hp : Row .u8 256 w pv pub) (ht : Row .u8 256 w tv text) (tt : Tidy tv) (htl : text.length ≤ 10000) (hs : Row .u8 256 w sv sig) (h : vKey pub) (hc : ctE sig = 0) (hm : sig.length = ctN sig) (hdd : hdT sig = pub.take 8) (hq : numL (sig.take 4) < 2 ^ ctH sig) (hkd : Kd k n m s (numL ((sig.drop 4).take 4))) :
    Calls Tryz.prog 20 #[pv, tv, sv] w fun e w' => e = .returned (.int .i64 (if vTopK k n m s pub text sig = pub.drop 24 then 0 else 11)) ∧ Below w.heap.size w w' := by
  obtain rfl : ctW sig = k := dgtL_code hkd
  have hsz := hkd.size
  have hz9 : szW (ctW sig : Int) ≤ 8516 := by have := ctA_le sig; unfold ctA at this; omega
  have hN0 : ctN sig = 8 + szW (ctW sig : Int) + 32 * ctH sig := by unfold ctN ctA; omega
  have hcn0 : ∀ (q : Nat) (idv sv2 : Value) (y : World), Row .u8 256 y idv ((pub.drop 8).take 16) → Tidy idv → Row .u8 256 y tv text → Row .u8 256 y sv2 ((sig.drop 4).take (szW (ctW sig : Int))) → q < 4294967296 → _ := fun q idv sv2 y r1 r2 r3 r4 h5 => rcndK hkd ((pub.drop 8).take 16) text ((sig.drop 4).take (szW (ctW sig : Int))) q idv sv2 tv y r1 r2 r3 tt r4 h5 (by rw [List.length_take, List.length_drop, h.1]; decide) htl (by rw [List.length_take, List.length_drop]; omega) (by rw [List.take_take, Nat.min_eq_left (by omega)])
  obtain ⟨TOP, hTOP⟩ : ∃ T, vTopK (ctW sig) n m s pub text sig = T := ⟨_, rfl⟩
  rw [hTOP]
  unfold vTopK at hTOP
  obtain ⟨h56, h0, h1⟩ := h
  have hrow := hp
  have hct := rcut_ok sig sv w hs hc
  obtain ⟨g8, gw0, gL1, gH0, gL2⟩ := ctE_zero hc
  have hbz : ∀ (w1 : World) (u v : Value), Bx2T (w1.alloc (.cells #[u, v] 23)) w1.heap.size u v := fun w1 u v => Bx2T.new w1 u v
  obtain ⟨pa, pc, rfl, lc1, lc2, ho⟩ := hp.opens h56
  obtain ⟨bb, bo, rfl, _⟩ := ho (by decide)
  have r4 : Row .u8 256 w (.slice (some ⟨bb, bo, none⟩) 4 pc) (pub.take 4) := hrow.cut (by omega)
  have r8 : Row .u8 256 w (.slice (some ⟨bb, bo + 4, none⟩) 4 (pc - 4)) ((pub.drop 4).take 4) := hrow.mid (i := 4) (j := 8) (by decide) (by omega)
  have rp8 : Row .u8 256 w (.slice (some ⟨bb, bo, none⟩) 8 pc) (pub.take 8) := hrow.cut (by omega)
  have hn4 := rnum_any _ _ _ r4
  have hn8 := rnum_any _ _ _ r8
  have hht := fun y => rheight_any (numL (pub.take 4)) y (numL_lt _)
  have hdg := fun y => rdigit_any (numL ((pub.drop 4).take 4)) y (numL_lt _)
  have hHb : ((hgtL (numL (pub.take 4)) : Int) == 0) = false := by simp; exact h0
  have hHi : ¬ (hgtL (numL (pub.take 4)) : Int) = 0 := by omega
  have hDb : ((dgtL (numL ((pub.drop 4).take 4)) : Int) == 0) = false := by simp; exact h1
  have hDi : ¬ (dgtL (numL ((pub.drop 4).take 4)) : Int) = 0 := by omega
  generalize hgtL (numL (pub.take 4)) = HH at *
  generalize dgtL (numL ((pub.drop 4).take 4)) = DD at *
  generalize numL (pub.take 4) = X at *
  generalize numL ((pub.drop 4).take 4) = Y at *
  have h4c : (4 : Int) ≤ (pc : Int) := by omega
  have h8c : (8 : Int) ≤ (pc : Int) := by omega
  have hz := zeroTr
  obtain ⟨R, hRl⟩ : ∃ R, (sig.drop (ctN sig)).length = R := ⟨_, rfl⟩
  obtain rfl : R = 0 := by rw [List.length_drop] at hRl; omega
  have hk := hkd
  have hhd := fun y => rhead_any (ctH sig : Int) y hk
  obtain ⟨hd, hhe⟩ : ∃ hd, hd = be4 (lmCode (ctH sig : Int)) ++ be4 (numL ((sig.drop 4).take 4)) := ⟨_, rfl⟩
  unfold hdT at hdd
  rw [← hhe] at hhd hdd
  have h8p : 8 ≤ pc := by omega
  have HD := hide (decide_eq_true hdd)
  have hHl := ctH_le sig
  obtain ⟨L, hL⟩ : ∃ L, sig.length = L := ⟨_, rfl⟩
  obtain ⟨sa, sc, rfl, ls1, ls2, hso⟩ := hs.opens hL
  obtain ⟨sb, so, rfl, _⟩ := hso (by omega)
  have rs4 : Row .u8 256 w (.slice (some ⟨sb, so, none⟩) 4 sc) (sig.take 4) := hs.cut (by omega)
  have hnq := fun y (hy : Below w.heap.size w y) => rnum_any _ _ _ (rs4.below hy)
  have hql := numL_lt (sig.take 4)
  generalize numL (sig.take 4) = q at *
  have h4s : (4 : Int) ≤ (sc : Int) := by omega
  generalize pub.take 8 = p8 at *
  obtain ⟨M, hM⟩ : ∃ M, M = 2 ^ ctH sig := ⟨_, rfl⟩
  have hMb : M ≤ 33554432 := by rw [hM]; exact Nat.le_trans (Nat.pow_le_pow_right (by decide) hHl) (by decide)
  have e_M : (2 : Int) ^ ctH sig = (M : Int) := by rw [hM]; norm_cast
  rw [← hM] at hq
  have s_M : IntKind.u64.wrap (M : Int) = (M : Int) := by rw [IntKind.wrap_u64]; omega
  have h_q : ¬ ((M : Int) ≤ (q : Int)) := by omega
  have g_q : ¬ ((q : Int) ≥ (M : Int)) := by omega
  have HF := hide (And.intro hz9 (And.intro hs (And.intro ht (And.intro tt (And.intro hrow (And.intro hcn0 (And.intro hTOP (And.intro hsz (And.intro hN0 (And.intro hm (And.intro lc1 (And.intro ls1 (And.intro ls2 (And.intro hq (And.intro hL (And.intro h56 (And.intro lc2 (And.intro hMb (And.intro hql hM)))))))))))))))))))
  clear hz9 hcn0 hTOP hsz hN0 hkd ht tt htl
  clear hp hrow r4 r8 ho h0 h1 hc hm lc1 lc2 g8 gw0 gL1 gH0 gL2 hdd hhe hk hM hq hql hL hso ls1 ls2 hs rs4
  generalize ctH sig = H at *
  generalize ctW sig = W at *
  go_enter Tryz.func20, Tryz.ntmps20
  go_wp2_with (first
    | (go_at_call 42; have hu := hn4; clear hn4; refine hu.mono ?_; rintro e yy ⟨rfl, hy⟩; obtain rfl := hy.symm; clear hu)
    | (go_at_call 42; have hu := hn8; clear hn8; refine hu.mono ?_; rintro e yy ⟨rfl, hy⟩; obtain rfl := hy.symm; clear hu)
    | (go_at_call 43; refine (hht _).mono ?_; rintro e yy ⟨rfl, hy⟩; obtain rfl := hy.symm)
    | (go_at_call 41; refine (hdg _).mono ?_; rintro e yy ⟨rfl, hy⟩; obtain rfl := hy.symm)
    | (go_at_call 18; refine hct.mono ?_; rintro e w1 ⟨v1, v2, rfl, r1, r2, hb1⟩; obtain ⟨a2, c2, rfl, _⟩ := r2.opens hRl)
    | fail)
  have hB := hbz w1 (.int .i64 (H : Int)) (.int .i64 (W : Int))
  have kA := keep_trans hb1 (keep_alloc w1 (.cells #[.int .i64 (H : Int), .int .i64 (W : Int)] 23))
  have rq8 := rp8.below kA
  clear hbz hct r1 r2 hht hdg
  refine v6_reg _ _ _ _ _ _ _ _ _ _ _ _ _ _ _ _ _ _ _ _ _ _ _ _ _ _ _ _ _ _ _ _ _ _ _ _ _ _ _ _ _ _ _ _ _ _ _ _ _ _ _ _ _ _ _ _ _ _ _ _ _ _ _ _ _ _ _ _ _ _ _ _ _ _ _ _ _ _ _ _ _ _ _ _ _ _ _ _ _ _ _ _ _ _ _ _ _ _ _ _ _ _ _ _ _ _ _ _ _ _ _ _ _ _ _ _ _ _ _ _ _ _ _ w1.heap.size H W bb bo pc c2 a2 hd p8 _ hB rq8 h8p hhd ?_
  intro y51 z hbz2
  rw [HD.out]

  have hBz := hB.below hbz2
  have cH := hBz.c0
  have cW := hBz.c1
  have kZ := keep_trans kA hbz2
  have hnz := hnq z kZ
  obtain ⟨hz9, hs, ht, tt, hrow, hcn0, hTOP, hsz, hN0, hm, lc1, ls1, ls2, hq, hL, h56, lc2, hMb, hql, hM⟩ := HF.out
  have hsw := fun y => rsizeW (W : Int) y
  obtain ⟨Z, hZ⟩ : ∃ Z, szW (W : Int) = Z := ⟨_, rfl⟩
  rw [hZ] at hsw
  have h24 : (24 : Int) ≤ (pc : Int) := by omega
  have hne8 : ¬ pc = 8 := by omega
  clear hz9 hs ht tt hrow hcn0 hTOP hsz hN0 hm lc1 ls1 ls2 hq hL h56 lc2 hMb hql hM
  clear hB kA rq8 hbz2 hhd hnq HD
  have HZ := hide (And.intro kZ hZ)
  clear kZ hZ
  go_wp2_with (first
    | (go_at_call 42; refine hnz.mono ?_; rintro e yy ⟨rfl, hy⟩; obtain rfl := hy.symm)
    | (go_at_call 38; refine (hsw _).mono ?_; rintro e yy ⟨rfl, hy⟩; obtain rfl := hy.symm)
    | fail)
  rename_i K hK
  have hS0 : z.drew.cell? ⟨w1.heap.size, 1, none⟩ = some (.int .i64 (W : Int)) := cW
  have hSf : ∀ y, Below z.heap.size z y → y.cell? ⟨w1.heap.size, 1, none⟩ = some (.int .i64 (W : Int)) := fun y h => (hBz.below h).c1
  have hbd : Below z.heap.size z z.drew := (Below.refl _ _).drew
  obtain ⟨hz9, hs, ht, tt, hrow, hcn0, hTOP, hsz, hN0, hm, lc1, ls1, ls2, hq, hL, h56, lc2, hMb, hql, hM⟩ := HF.out
  obtain ⟨kZ, hZ⟩ := HZ.out
  rw [hZ] at hsz hN0 hz9
  obtain ⟨AS, hslS, hAS⟩ := slice_mid (some ⟨sb, so, none⟩) L sc 4 (4 + Z) (by omega) (by omega)
  have hq32 : q < 4294967296 := by omega
  have hZ4 : IntKind.i64.wrap ((4 : Int) + (Z : Int)) = ((4 + Z : Nat) : Int) := by rw [IntKind.wrap_i64]; omega
  have rid : Row .u8 256 w (.slice (some ⟨bb, bo + 8, none⟩) 16 (pc - 8)) ((pub.drop 8).take 16) := hrow.mid (i := 8) (j := 24) (by decide) (by omega)
  have rsg : Row .u8 256 w (.slice AS (4 + Z - 4) (sc - 4)) ((sig.drop 4).take Z) := by
    rw [Nat.add_sub_cancel_left]
    exact (hs.behind (F := 4) (by omega) hAS).cut (M := Z) (by rw [List.length_drop]; omega)
  have hcn := fun y (h : Below z.heap.size z y) => hcn0 q (.slice (some ⟨bb, bo + 8, none⟩) 16 (pc - 8)) (.slice AS (4 + Z - 4) (sc - 4)) y (rid.below (keep_trans kZ h)) (tidy_atA _ _ _) (ht.below (keep_trans kZ h)) (by rw [hZ]; exact rsg.below (keep_trans kZ h)) hq32
  have hk32 := cndT_len W n m s ((pub.drop 8).take 16) text ((sig.drop 4).take Z) q
  rw [hZ] at hcn
  rw [hZ] at hTOP
  generalize cndT W n m s ((pub.drop 8).take 16) text ((sig.drop 4).take Z) q = CN at *
  clear hcn0
  refine at_begin (ops := opsA (cLA (cRA (cRA (cRA (cRA (cRA (cRA (cRA (cRA (cRA (Tryz.f20.body.getD .skip)))))))))))) (n := 16) (fun y => y.cell? ⟨w1.heap.size, 1, none⟩ = some (.int .i64 (W : Int))) (by kernel_rfl) (by kernel_rfl) ?_
  refine at_takeD (i := 0) (m' := 1) (d := some 71) (v := .pointer (some ⟨w1.heap.size, 1, none⟩)) v13reg rfl (by decide) rfl rfl (y_fieldX rfl rfl rfl (fTr1 _)) hS0 ?_
  simp only [Act.put, List.setIfInBounds_toArray, List.set_cons_zero, List.set_cons_succ]
  refine at_takeD (i := 1) (m' := 3) (d := some 72) (v := .int .i64 (W : Int)) v13reg rfl (by decide) rfl rfl (y_load rfl rfl rfl Tryz.underlying3 (fun _ h => h)) hS0 ?_
  simp only [Act.put, List.setIfInBounds_toArray, List.set_cons_zero, List.set_cons_succ]
  refine at_takeD (i := 2) (m' := 7) (d := some 73) (v := .slice (some ⟨bb, bo + 8, none⟩) 16 (pc - 8)) v13reg rfl (by decide) rfl rfl (y_move rfl rfl rfl) hS0 ?_
  simp only [Act.put, List.setIfInBounds_toArray, List.set_cons_zero, List.set_cons_succ]
  refine at_takeD (i := 3) (m' := 15) (d := some 74) (v := .int .u64 (q : Int)) v13reg rfl (by decide) rfl rfl (y_move rfl rfl rfl) hS0 ?_
  simp only [Act.put, List.setIfInBounds_toArray, List.set_cons_zero, List.set_cons_succ]
  refine at_takeD (i := 4) (m' := 31) (d := some 75) (v := .int .u32 (q : Int)) v13reg rfl (by decide) rfl rfl (y_convI (wanted_free rfl) rfl rfl (conv_u64u32 q hq32)) hS0 ?_
  simp only [Act.put, List.setIfInBounds_toArray, List.set_cons_zero, List.set_cons_succ]
  refine at_takeD (i := 5) (m' := 63) (d := some 76) (v := tv) v13reg rfl (by decide) rfl rfl (y_move rfl rfl rfl) hS0 ?_
  simp only [Act.put, List.setIfInBounds_toArray, List.set_cons_zero, List.set_cons_succ]
  refine at_takeD (i := 6) (m' := 127) (d := some 77) (v := .slice (some ⟨sb, so, none⟩) L sc) v13reg rfl (by decide) rfl rfl (y_move rfl rfl rfl) hS0 ?_
  simp only [Act.put, List.setIfInBounds_toArray, List.set_cons_zero, List.set_cons_succ]
  refine at_takeD (i := 7) (m' := 255) (d := some 78) (v := .int .i64 (Z : Int)) v13reg rfl (by decide) rfl rfl (y_move rfl rfl rfl) hS0 ?_
  simp only [Act.put, List.setIfInBounds_toArray, List.set_cons_zero, List.set_cons_succ]
  refine at_takeD (i := 8) (m' := 511) (d := some 79) (v := .int .i64 ((4 + Z : Nat) : Int)) v13reg rfl (by decide) rfl rfl (y_addI (wanted_free rfl) rfl rfl rfl Tryz.underlying3 hZ4) hS0 ?_
  simp only [Act.put, List.setIfInBounds_toArray, List.set_cons_zero, List.set_cons_succ]
  refine at_takeD (i := 9) (m' := 1023) (d := some 80) (v := .slice AS (4 + Z - 4) (sc - 4)) v13reg rfl (by decide) rfl rfl (y_sliceX (F := 4) (G := 4 + Z) rfl rfl rfl rfl rfl hslS) hS0 ?_
  simp only [Act.put, List.setIfInBounds_toArray, List.set_cons_zero, List.set_cons_succ]
  refine at_one (i := 10) (m' := 2047) v13reg (by decide) rfl ?_
  refine p_callD (args := #[.int .i64 (W : Int), .slice (some ⟨bb, bo + 8, none⟩) 16 (pc - 8), .int .u32 (q : Int), tv, .slice AS (4 + Z - 4) (sc - 4)]) (d := some 81) rfl rfl rfl (by simp only [List.map_toArray, List.map_cons, List.map_nil]; rfl) rfl Tryz.call50 ((hcn _ hbd).mono ?_)
  rintro e z1 ⟨kv, rfl, rk, nk, hb1⟩
  obtain ⟨ka, kc, rfl, _⟩ := rk.opens hk32
  have hbz1 := keep_trans hbd hb1
  refine ⟨_, rfl, hSf _ hbz1, ?_⟩
  simp only [Act.put, List.setIfInBounds_toArray, List.set_cons_zero, List.set_cons_succ]
  refine at_takeD (i := 11) (m' := 4095) (d := some 70) (v := .tuple #[.slice ka 32 kc, .int .i64 0]) v13reg rfl (by decide) rfl rfl (y_move rfl rfl rfl) (hSf _ hbz1) ?_
  simp only [Act.put, List.setIfInBounds_toArray, List.set_cons_zero, List.set_cons_succ]
  refine at_takeD (i := 12) (m' := 8191) (d := some 82) (v := .slice ka 32 kc) v13reg rfl (by decide) rfl rfl (y_extract rfl rfl rfl rfl) (hSf _ hbz1) ?_
  simp only [Act.put, List.setIfInBounds_toArray, List.set_cons_zero, List.set_cons_succ]
  refine at_takeD (i := 13) (m' := 16383) (d := some 83) (v := .int .i64 0) v13reg rfl (by decide) rfl rfl (y_extract rfl rfl rfl rfl) (hSf _ hbz1) ?_
  simp only [Act.put, List.setIfInBounds_toArray, List.set_cons_zero, List.set_cons_succ]
  refine at_takeD (i := 14) (m' := 32767) (d := some 14) (v := .slice ka 32 kc) v13reg rfl (by decide) rfl rfl (y_assignA rfl rfl rfl) (hSf _ hbz1) ?_
  simp only [Act.put, List.setIfInBounds_toArray, List.set_cons_zero, List.set_cons_succ]
  refine at_takeD (i := 15) (m' := 65535) (d := some 15) (v := .int .i64 0) v13reg rfl (by decide) rfl rfl (y_assignA rfl rfl rfl) (hSf _ hbz1) ?_
  simp only [Act.put, List.setIfInBounds_toArray, List.set_cons_zero, List.set_cons_succ]
  refine at_done v13reg (by decide) ?_
  refine hK _ _ ?_
  exact v_tail (hide rfl) _ _ _ _ _ _ _ _ _ _ _ _ _ _ _ _ _ _ _ _ _ _ _ _ _ _ _ _ _ _ _ _ _ _ _ _ _ _ _ _ _ _ _ _ _ _ _ _ _ _ _ _ _ _ _ _ _ _ _ _ _ _ _ _ _ _ _ _ _ _ _ _ _ _ _ _ _ _ _ _ _ _ _ _ _ _ _ _ _ _ _ _ _ _ _ _ _ _ _ _ _ _ _ _ _ _ _ _ _ _ _ _ _ _ _ _ _ _ (hrow.below (keep_trans kZ hbz1)) h56 (hs.below (keep_trans kZ hbz1)) hL (by omega) (by omega) (hBz.below hbz1) rk hM hMb hHl hq (keep_trans kZ hbz1) lc2 hTOP
end Go.Proofs.YtefndnbaifiboaaGreatDoor

/- Trees of leaves that sign once: the document's Verify, whatever comes. -/
namespace Go.Proofs.YtefndnbaifiboaaGreatDoor
open Go.RowKit
set_option linter.unusedVariables false
set_option linter.unusedSimpArgs false

instance (pub : List Nat) : Decidable (vKey pub) := by unfold vKey; infer_instance
/-- the document's answer: is a tree's signature right? -/
def vfT (pub text sig : List Nat) : Int :=
  if ¬ vKey pub then 10 else if ctE sig ≠ 0 then (ctE sig : Int) else if ctN sig < sig.length then 1 else if ¬ hdT sig = pub.take 8 then 1 else if 2 ^ ctH sig ≤ numL (sig.take 4) then 13 else
  if vTopK (ctW sig) (nK (ctW sig)) (mK (ctW sig)) (sK (ctW sig)) pub text sig = pub.drop 24 then 0 else 11
theorem rvfT_any (pub text sig : List Nat) (pv tv sv : Value) (w : World) (hp : Row .u8 256 w pv pub) (ht : Row .u8 256 w tv text) (tt : Tidy tv) (htl : text.length ≤ 10000) (hs : Row .u8 256 w sv sig) :
    Calls Tryz.prog 20 #[pv, tv, sv] w fun e w' => e = .returned (.int .i64 (vfT pub text sig)) ∧ Below w.heap.size w w' := by
  unfold vfT
  by_cases h1 : vKey pub
  · rw [if_neg (by simp [h1])]
    by_cases h2 : ctE sig = 0
    · rw [if_neg (by simp [h2])]
      by_cases h3 : ctN sig < sig.length
      · rw [if_pos h3]
        exact rver_more pub sig pv tv sv w hp hs h1 h2 h3
      · rw [if_neg h3]
        have hm : sig.length = ctN sig := by have := (ctE_zero h2).2.2.2.2; omega
        by_cases h4 : hdT sig = pub.take 8
        · rw [if_neg (by simp [h4])]
          by_cases h5 : 2 ^ ctH sig ≤ numL (sig.take 4)
          · rw [if_pos h5]
            exact rver_spent pub sig pv tv sv w hp hs h1 h2 hm h4 h5
          · rw [if_neg h5]
            obtain ⟨n, m, s, hk⟩ : ∃ n m s, Kd (ctW sig) n m s (numL ((sig.drop 4).take 4)) := by
              rcases dgtL_or (numL ((sig.drop 4).take 4)) with hz | hz
              · exact absurd hz (ctE_zero h2).2.1
              · exact hz
            obtain ⟨e1, e2, e3, _⟩ := hk.is
            rw [← e1, ← e2, ← e3]
            exact rver_sums (c := 0) pub text sig pv tv sv w hp ht tt htl hs h1 h2 hm h4 (by omega) hk
        · rw [if_pos h4]
          exact rver_head pub sig pv tv sv w hp hs h1 h2 hm h4
    · rw [if_pos h2]
      exact rver_cut pub sig pv tv sv w hp hs h1 h2
  · rw [if_pos h1]
    refine (rver_key pub pv tv sv w hp h1).mono ?_
    rintro e w' ⟨rfl, rfl⟩
    exact ⟨rfl, Below.refl _ _⟩
end Go.Proofs.YtefndnbaifiboaaGreatDoor
