/- Trees of leaves that sign once: the document's Verify, from the leaf up. -/
import Derived.Test.YtogiballdmgcpaaGreatDoorLmK8
import Derived.Test.YtogiballdmgcpaaGreatDoorLtR3
namespace Go.Proofs.YtogiballdmgcpaaGreatDoor
open Go.RowKit
set_option linter.unusedVariables false
set_option linter.unusedSimpArgs false

def v13lt : List Lt := [(0, some 71, [8]), (1, some 72, [71]), (0, some 73, [12]), (0, some 74, [11]), (8, some 75, [74]), (0, some 76, [1]), (0, some 77, [2]), (0, some 78, [13]), (128, some 79, [78]), (320, some 80, [77, 79]), (566, some 81, [72, 73, 75, 76, 80]), (1024, some 70, [81]), (2048, some 82, [70]), (2048, some 83, [70]), (8191, some 14, [82]), (32767, some 15, [83])]
theorem v13reg : Reg (opsA (cLA (cRA (cRA (cRA (cRA (cRA (cRA (cRA (cRA (cRA (Tryz.f38.body.getD .skip)))))))))))) v13lt := ⟨by kernel_rfl, by kernel_rfl⟩
set_option maxHeartbeats 8000000 in
set_option maxRecDepth 100000 in
theorem rver_sums {k n m s c : Nat} (pub text sig : List Nat) (pv tv sv : Value) (w : World) (hp : Row .u8 256 w pv pub) (ht : Row .u8 256 w tv text) (tt : Tidy tv) (htl : text.length ≤ 10000) (hs : Row .u8 256 w sv sig) (h : vKey pub) (hc : ctE sig = 0) (hm : sig.length = ctN sig) (hdd : hdT sig = pub.take 8) (hq : numL (sig.take 4) < 2 ^ ctH sig) (hkd : Kd k n m s (numL ((sig.drop 4).take 4))) :
    Calls Tryz.prog 38 #[pv, tv, sv] w fun e w' => e = .returned (.int .i64 (if vTopK k n m s pub text sig = pub.drop 24 then 0 else 11)) ∧ Below w.heap.size w w' := by
  obtain rfl : ctW sig = k := dgtL_code hkd
  have hsz := hkd.size
  have hz9 : szW (ctW sig : Int) ≤ 8516 := by have := ctA_le sig; unfold ctA at this; omega
  have hN0 : ctN sig = 8 + szW (ctW sig : Int) + 32 * ctH sig := by unfold ctN ctA; omega
  have hcn0 : ∀ (q : Nat) (idv sv2 : Value) (y : World), Row .u8 256 y idv ((pub.drop 8).take 16) → Tidy idv → Row .u8 256 y tv text → Row .u8 256 y sv2 ((sig.drop 4).take (szW (ctW sig : Int))) → q < 4294967296 → _ := fun q idv sv2 y r1 r2 r3 r4 h5 => rcndK hkd ((pub.drop 8).take 16) text ((sig.drop 4).take (szW (ctW sig : Int))) q idv sv2 tv y r1 r2 r3 tt r4 h5 (by rw [List.length_take, List.length_drop, h.1]; decide) htl (by rw [List.length_take, List.length_drop]; omega) (by rw [List.take_take, Nat.min_eq_left (by omega)])
  obtain ⟨TOP, hTOP⟩ : ∃ T, vTopK (ctW sig) n m s pub text sig = T := ⟨_, rfl⟩
  rw [hTOP]
  unfold vTopK at hTOP
  obtain ⟨h56, h0, h1⟩ := h
  have hrow := hp
  have hct := rcut_ok sig sv w hs hc
  obtain ⟨g8, gw0, gL1, gH0, gL2⟩ := ctE_zero hc
  have hbz : ∀ (w1 : World) (u v : Value), Bx2T (w1.alloc (.cells #[u, v] 45)) w1.heap.size u v := fun w1 u v => Bx2T.new w1 u v
  obtain ⟨pa, pc, rfl, lc1, lc2, ho⟩ := hp.opens h56
  obtain ⟨bb, bo, rfl, _⟩ := ho (by decide)
  have r4 : Row .u8 256 w (.slice (some ⟨bb, bo, none⟩) 4 pc) (pub.take 4) := hrow.cut (by omega)
  have r8 : Row .u8 256 w (.slice (some ⟨bb, bo + 4, none⟩) 4 (pc - 4)) ((pub.drop 4).take 4) := hrow.mid (i := 4) (j := 8) (by decide) (by omega)
  have rp8 : Row .u8 256 w (.slice (some ⟨bb, bo, none⟩) 8 pc) (pub.take 8) := hrow.cut (by omega)
  have hn4 := rnum_any _ _ _ r4
  have hn8 := rnum_any _ _ _ r8
  have hht := fun y => rheight_any (numL (pub.take 4)) y (numL_lt _)
  have hdg := fun y => rdigit_any (numL ((pub.drop 4).take 4)) y (numL_lt _)
  have hHb : ((hgtL (numL (pub.take 4)) : Int) == 0) = false := by simp; exact h0
  have hHi : ¬ (hgtL (numL (pub.take 4)) : Int) = 0 := by omega
  have hDb : ((dgtL (numL ((pub.drop 4).take 4)) : Int) == 0) = false := by simp; exact h1
  have hDi : ¬ (dgtL (numL ((pub.drop 4).take 4)) : Int) = 0 := by omega
  generalize hgtL (numL (pub.take 4)) = HH at *
  generalize dgtL (numL ((pub.drop 4).take 4)) = DD at *
  generalize numL (pub.take 4) = X at *
  generalize numL ((pub.drop 4).take 4) = Y at *
  have h4c : (4 : Int) ≤ (pc : Int) := by omega
  have h8c : (8 : Int) ≤ (pc : Int) := by omega
  have hz := zeroTr
  obtain ⟨R, hRl⟩ : ∃ R, (sig.drop (ctN sig)).length = R := ⟨_, rfl⟩
  obtain rfl : R = 0 := by rw [List.length_drop] at hRl; omega
  have hk := hkd
  have hhd := fun y => rhead_any (ctH sig : Int) y hk
  obtain ⟨hd, hhe⟩ : ∃ hd, hd = be4 (lmCode (ctH sig : Int)) ++ be4 (numL ((sig.drop 4).take 4)) := ⟨_, rfl⟩
  unfold hdT at hdd
  rw [← hhe] at hhd hdd
  have h8p : 8 ≤ pc := by omega
  have HD := hide (decide_eq_true hdd)
  have hHl := ctH_le sig
  obtain ⟨L, hL⟩ : ∃ L, sig.length = L := ⟨_, rfl⟩
  obtain ⟨sa, sc, rfl, ls1, ls2, hso⟩ := hs.opens hL
  obtain ⟨sb, so, rfl, _⟩ := hso (by omega)
  have rs4 : Row .u8 256 w (.slice (some ⟨sb, so, none⟩) 4 sc) (sig.take 4) := hs.cut (by omega)
  have hnq := fun y (hy : Below w.heap.size w y) => rnum_any _ _ _ (rs4.below hy)
  have hql := numL_lt (sig.take 4)
  generalize numL (sig.take 4) = q at *
  have h4s : (4 : Int) ≤ (sc : Int) := by omega
  generalize pub.take 8 = p8 at *
  obtain ⟨M, hM⟩ : ∃ M, M = 2 ^ ctH sig := ⟨_, rfl⟩
  have hMb : M ≤ 33554432 := by rw [hM]; exact Nat.le_trans (Nat.pow_le_pow_right (by decide) hHl) (by decide)
  have e_M : (2 : Int) ^ ctH sig = (M : Int) := by rw [hM]; norm_cast
  rw [← hM] at hq
  have s_M : IntKind.u64.wrap (M : Int) = (M : Int) := by rw [IntKind.wrap_u64]; omega
  have h_q : ¬ ((M : Int) ≤ (q : Int)) := by omega
  have g_q : ¬ ((q : Int) ≥ (M : Int)) := by omega
  have HF := hide (And.intro hz9 (And.intro hs (And.intro ht (And.intro tt (And.intro hrow (And.intro hcn0 (And.intro hTOP (And.intro hsz (And.intro hN0 (And.intro hm (And.intro lc1 (And.intro ls1 (And.intro ls2 (And.intro hq (And.intro hL (And.intro h56 (And.intro lc2 (And.intro hMb (And.intro hql hM)))))))))))))))))))
  clear hz9 hcn0 hTOP hsz hN0 hkd ht tt htl
  clear hp hrow r4 r8 ho h0 h1 hc hm lc1 lc2 g8 gw0 gL1 gH0 gL2 hdd hhe hk hM hq hql hL hso ls1 ls2 hs rs4
  generalize ctH sig = H at *
  generalize ctW sig = W at *
  go_enter Tryz.func38, Tryz.ntmps38
  go_wp2_with (first
    | (go_at_call 36; have hu := hn4; clear hn4; refine hu.mono ?_; rintro e yy ⟨rfl, hy⟩; obtain rfl := hy.symm; clear hu)
    | (go_at_call 36; have hu := hn8; clear hn8; refine hu.mono ?_; rintro e yy ⟨rfl, hy⟩; obtain rfl := hy.symm; clear hu)
    | (go_at_call 68; refine (hht _).mono ?_; rintro e yy ⟨rfl, hy⟩; obtain rfl := hy.symm)
    | (go_at_call 66; refine (hdg _).mono ?_; rintro e yy ⟨rfl, hy⟩; obtain rfl := hy.symm)
    | (go_at_call 37; refine hct.mono ?_; rintro e w1 ⟨v1, v2, rfl, r1, r2, hb1⟩; obtain ⟨a2, c2, rfl, _⟩ := r2.opens hRl)
    | fail)
  have hB := hbz w1 (.int .i64 (H : Int)) (.int .i64 (W : Int))
  have kA := keep_trans hb1 (keep_alloc w1 (.cells #[.int .i64 (H : Int), .int .i64 (W : Int)] 45))
  have rq8 := rp8.below kA
  clear hbz hct r1 r2 hht hdg
  refine v6_reg _ _ _ _ _ _ _ _ _ _ _ _ _ _ _ _ _ _ _ _ _ _ _ _ _ _ _ _ _ _ _ _ _ _ _ _ _ _ _ _ _ _ _ _ _ _ _ _ _ _ _ _ _ _ _ _ _ _ _ _ _ _ _ _ _ _ _ _ _ _ _ _ _ _ _ _ _ _ _ _ _ _ _ _ _ _ _ _ _ _ _ _ _ _ _ _ _ _ _ _ _ _ _ _ _ _ _ _ _ _ _ _ _ _ _ _ _ _ _ _ _ _ _ w1.heap.size H W bb bo pc c2 a2 hd p8 _ hB rq8 h8p hhd ?_
  intro y51 z hbz2
  rw [HD.out]

  have hBz := hB.below hbz2
  have cH := hBz.c0
  have cW := hBz.c1
  have kZ := keep_trans kA hbz2
  have hnz := hnq z kZ
  obtain ⟨hz9, hs, ht, tt, hrow, hcn0, hTOP, hsz, hN0, hm, lc1, ls1, ls2, hq, hL, h56, lc2, hMb, hql, hM⟩ := HF.out
  have hsw := fun y => rsizeW (W : Int) y
  obtain ⟨Z, hZ⟩ : ∃ Z, szW (W : Int) = Z := ⟨_, rfl⟩
  rw [hZ] at hsw
  have h24 : (24 : Int) ≤ (pc : Int) := by omega
  have hne8 : ¬ pc = 8 := by omega
  clear hz9 hs ht tt hrow hcn0 hTOP hsz hN0 hm lc1 ls1 ls2 hq hL h56 lc2 hMb hql hM
  clear hB kA rq8 hbz2 hhd hnq HD
  have HZ := hide (And.intro kZ hZ)
  clear kZ hZ
  go_wp2_with (first
    | (go_at_call 36; refine hnz.mono ?_; rintro e yy ⟨rfl, hy⟩; obtain rfl := hy.symm)
    | (go_at_call 67; refine (hsw _).mono ?_; rintro e yy ⟨rfl, hy⟩; obtain rfl := hy.symm)
    | fail)
  rename_i K hK
  have hS0 : z.drew.cell? ⟨w1.heap.size, 1, none⟩ = some (.int .i64 (W : Int)) := cW
  have hSf : ∀ y, Below z.heap.size z y → y.cell? ⟨w1.heap.size, 1, none⟩ = some (.int .i64 (W : Int)) := fun y h => (hBz.below h).c1
  have hbd : Below z.heap.size z z.drew := (Below.refl _ _).drew
  obtain ⟨hz9, hs, ht, tt, hrow, hcn0, hTOP, hsz, hN0, hm, lc1, ls1, ls2, hq, hL, h56, lc2, hMb, hql, hM⟩ := HF.out
  obtain ⟨kZ, hZ⟩ := HZ.out
  rw [hZ] at hsz hN0 hz9
  obtain ⟨AS, hslS, hAS⟩ := slice_mid (some ⟨sb, so, none⟩) L sc 4 (4 + Z) (by omega) (by omega)
  have hq32 : q < 4294967296 := by omega
  have hZ4 : IntKind.i64.wrap ((4 : Int) + (Z : Int)) = ((4 + Z : Nat) : Int) := by rw [IntKind.wrap_i64]; omega
  have rid : Row .u8 256 w (.slice (some ⟨bb, bo + 8, none⟩) 16 (pc - 8)) ((pub.drop 8).take 16) := hrow.mid (i := 8) (j := 24) (by decide) (by omega)
  have rsg : Row .u8 256 w (.slice AS (4 + Z - 4) (sc - 4)) ((sig.drop 4).take Z) := by
    rw [Nat.add_sub_cancel_left]
    exact (hs.behind (F := 4) (by omega) hAS).cut (M := Z) (by rw [List.length_drop]; omega)
  have hcn := fun y (h : Below z.heap.size z y) => hcn0 q (.slice (some ⟨bb, bo + 8, none⟩) 16 (pc - 8)) (.slice AS (4 + Z - 4) (sc - 4)) y (rid.below (keep_trans kZ h)) (tidy_atA _ _ _) (ht.below (keep_trans kZ h)) (by rw [hZ]; exact rsg.below (keep_trans kZ h)) hq32
  have hk32 := cndT_len W n m s ((pub.drop 8).take 16) text ((sig.drop 4).take Z) q
  rw [hZ] at hcn
  rw [hZ] at hTOP
  generalize cndT W n m s ((pub.drop 8).take 16) text ((sig.drop 4).take Z) q = CN at *
  clear hcn0
  refine at_begin (ops := opsA (cLA (cRA (cRA (cRA (cRA (cRA (cRA (cRA (cRA (cRA (Tryz.f38.body.getD .skip)))))))))))) (n := 16) (fun y => y.cell? ⟨w1.heap.size, 1, none⟩ = some (.int .i64 (W : Int))) (by kernel_rfl) (by kernel_rfl) ?_
  refine at_takeD (i := 0) (m' := 1) (d := some 71) (v := .pointer (some ⟨w1.heap.size, 1, none⟩)) v13reg rfl (by decide) rfl rfl (y_fieldX rfl rfl rfl (fTr1 _)) hS0 ?_
  simp only [Act.put, List.setIfInBounds_toArray, List.set_cons_zero, List.set_cons_succ]
  refine at_takeD (i := 1) (m' := 3) (d := some 72) (v := .int .i64 (W : Int)) v13reg rfl (by decide) rfl rfl (y_load rfl rfl rfl Tryz.underlying3 (fun _ h => h)) hS0 ?_
  simp only [Act.put, List.setIfInBounds_toArray, List.set_cons_zero, List.set_cons_succ]
  refine at_takeD (i := 2) (m' := 7) (d := some 73) (v := .slice (some ⟨bb, bo + 8, none⟩) 16 (pc - 8)) v13reg rfl (by decide) rfl rfl (y_move rfl rfl rfl) hS0 ?_
  simp only [Act.put, List.setIfInBounds_toArray, List.set_cons_zero, List.set_cons_succ]
  refine at_takeD (i := 3) (m' := 15) (d := some 74) (v := .int .u64 (q : Int)) v13reg rfl (by decide) rfl rfl (y_move rfl rfl rfl) hS0 ?_
  simp only [Act.put, List.setIfInBounds_toArray, List.set_cons_zero, List.set_cons_succ]
  refine at_takeD (i := 4) (m' := 31) (d := some 75) (v := .int .u32 (q : Int)) v13reg rfl (by decide) rfl rfl (y_convI (wanted_free rfl) rfl rfl (conv_u64u32 q hq32)) hS0 ?_
  simp only [Act.put, List.setIfInBounds_toArray, List.set_cons_zero, List.set_cons_succ]
  refine at_takeD (i := 5) (m' := 63) (d := some 76) (v := tv) v13reg rfl (by decide) rfl rfl (y_move rfl rfl rfl) hS0 ?_
  simp only [Act.put, List.setIfInBounds_toArray, List.set_cons_zero, List.set_cons_succ]
  refine at_takeD (i := 6) (m' := 127) (d := some 77) (v := .slice (some ⟨sb, so, none⟩) L sc) v13reg rfl (by decide) rfl rfl (y_move rfl rfl rfl) hS0 ?_
  simp only [Act.put, List.setIfInBounds_toArray, List.set_cons_zero, List.set_cons_succ]
  refine at_takeD (i := 7) (m' := 255) (d := some 78) (v := .int .i64 (Z : Int)) v13reg rfl (by decide) rfl rfl (y_move rfl rfl rfl) hS0 ?_
  simp only [Act.put, List.setIfInBounds_toArray, List.set_cons_zero, List.set_cons_succ]
  refine at_takeD (i := 8) (m' := 511) (d := some 79) (v := .int .i64 ((4 + Z : Nat) : Int)) v13reg rfl (by decide) rfl rfl (y_addI (wanted_free rfl) rfl rfl rfl Tryz.underlying3 hZ4) hS0 ?_
  simp only [Act.put, List.setIfInBounds_toArray, List.set_cons_zero, List.set_cons_succ]
  refine at_takeD (i := 9) (m' := 1023) (d := some 80) (v := .slice AS (4 + Z - 4) (sc - 4)) v13reg rfl (by decide) rfl rfl (y_sliceX (F := 4) (G := 4 + Z) rfl rfl rfl rfl rfl hslS) hS0 ?_
  simp only [Act.put, List.setIfInBounds_toArray, List.set_cons_zero, List.set_cons_succ]
  refine at_one (i := 10) (m' := 2047) v13reg (by decide) rfl ?_
  refine p_callD (args := #[.int .i64 (W : Int), .slice (some ⟨bb, bo + 8, none⟩) 16 (pc - 8), .int .u32 (q : Int), tv, .slice AS (4 + Z - 4) (sc - 4)]) (d := some 81) rfl rfl rfl (by simp only [List.map_toArray, List.map_cons, List.map_nil]; rfl) rfl Tryz.call69 ((hcn _ hbd).mono ?_)
  rintro e z1 ⟨kv, rfl, rk, nk, hb1⟩
  obtain ⟨ka, kc, rfl, _⟩ := rk.opens hk32
  have hbz1 := keep_trans hbd hb1
  refine ⟨_, rfl, hSf _ hbz1, ?_⟩
  simp only [Act.put, List.setIfInBounds_toArray, List.set_cons_zero, List.set_cons_succ]
  refine at_takeD (i := 11) (m' := 4095) (d := some 70) (v := .tuple #[.slice ka 32 kc, .int .i64 0]) v13reg rfl (by decide) rfl rfl (y_move rfl rfl rfl) (hSf _ hbz1) ?_
  simp only [Act.put, List.setIfInBounds_toArray, List.set_cons_zero, List.set_cons_succ]
  refine at_takeD (i := 12) (m' := 8191) (d := some 82) (v := .slice ka 32 kc) v13reg rfl (by decide) rfl rfl (y_extract rfl rfl rfl rfl) (hSf _ hbz1) ?_
  simp only [Act.put, List.setIfInBounds_toArray, List.set_cons_zero, List.set_cons_succ]
  refine at_takeD (i := 13) (m' := 16383) (d := some 83) (v := .int .i64 0) v13reg rfl (by decide) rfl rfl (y_extract rfl rfl rfl rfl) (hSf _ hbz1) ?_
  simp only [Act.put, List.setIfInBounds_toArray, List.set_cons_zero, List.set_cons_succ]
  refine at_takeD (i := 14) (m' := 32767) (d := some 14) (v := .slice ka 32 kc) v13reg rfl (by decide) rfl rfl (y_assignA rfl rfl rfl) (hSf _ hbz1) ?_
  simp only [Act.put, List.setIfInBounds_toArray, List.set_cons_zero, List.set_cons_succ]
  refine at_takeD (i := 15) (m' := 65535) (d := some 15) (v := .int .i64 0) v13reg rfl (by decide) rfl rfl (y_assignA rfl rfl rfl) (hSf _ hbz1) ?_
  simp only [Act.put, List.setIfInBounds_toArray, List.set_cons_zero, List.set_cons_succ]
  refine at_done v13reg (by decide) ?_
  refine hK _ _ ?_
  exact v_tail (hide rfl) _ _ _ _ _ _ _ _ _ _ _ _ _ _ _ _ _ _ _ _ _ _ _ _ _ _ _ _ _ _ _ _ _ _ _ _ _ _ _ _ _ _ _ _ _ _ _ _ _ _ _ _ _ _ _ _ _ _ _ _ _ _ _ _ _ _ _ _ _ _ _ _ _ _ _ _ _ _ _ _ _ _ _ _ _ _ _ _ _ _ _ _ _ _ _ _ _ _ _ _ _ _ _ _ _ _ _ _ _ _ _ _ _ _ _ _ _ _ (hrow.below (keep_trans kZ hbz1)) h56 (hs.below (keep_trans kZ hbz1)) hL (by omega) (by omega) (hBz.below hbz1) rk hM hMb hHl hq (keep_trans kZ hbz1) lc2 hTOP
end Go.Proofs.YtogiballdmgcpaaGreatDoor

/- Trees of leaves that sign once: the document's Verify, whatever comes. -/
namespace Go.Proofs.YtogiballdmgcpaaGreatDoor
open Go.RowKit
set_option linter.unusedVariables false
set_option linter.unusedSimpArgs false

instance (pub : List Nat) : Decidable (vKey pub) := by unfold vKey; infer_instance
/-- the document's answer: is a tree's signature right? -/
def vfT (pub text sig : List Nat) : Int :=
  if ¬ vKey pub then 10 else if ctE sig ≠ 0 then (ctE sig : Int) else if ctN sig < sig.length then 1 else if ¬ hdT sig = pub.take 8 then 1 else if 2 ^ ctH sig ≤ numL (sig.take 4) then 13 else
  if vTopK (ctW sig) (nK (ctW sig)) (mK (ctW sig)) (sK (ctW sig)) pub text sig = pub.drop 24 then 0 else 11
theorem rvfT_any (pub text sig : List Nat) (pv tv sv : Value) (w : World) (hp : Row .u8 256 w pv pub) (ht : Row .u8 256 w tv text) (tt : Tidy tv) (htl : text.length ≤ 10000) (hs : Row .u8 256 w sv sig) :
    Calls Tryz.prog 38 #[pv, tv, sv] w fun e w' => e = .returned (.int .i64 (vfT pub text sig)) ∧ Below w.heap.size w w' := by
  unfold vfT
  by_cases h1 : vKey pub
  · rw [if_neg (by simp [h1])]
    by_cases h2 : ctE sig = 0
    · rw [if_neg (by simp [h2])]
      by_cases h3 : ctN sig < sig.length
      · rw [if_pos h3]
        exact rver_more pub sig pv tv sv w hp hs h1 h2 h3
      · rw [if_neg h3]
        have hm : sig.length = ctN sig := by have := (ctE_zero h2).2.2.2.2; omega
        by_cases h4 : hdT sig = pub.take 8
        · rw [if_neg (by simp [h4])]
          by_cases h5 : 2 ^ ctH sig ≤ numL (sig.take 4)
          · rw [if_pos h5]
            exact rver_spent pub sig pv tv sv w hp hs h1 h2 hm h4 h5
          · rw [if_neg h5]
            obtain ⟨n, m, s, hk⟩ : ∃ n m s, Kd (ctW sig) n m s (numL ((sig.drop 4).take 4)) := by
              rcases dgtL_or (numL ((sig.drop 4).take 4)) with hz | hz
              · exact absurd hz (ctE_zero h2).2.1
              · exact hz
            obtain ⟨e1, e2, e3, _⟩ := hk.is
            rw [← e1, ← e2, ← e3]
            exact rver_sums (c := 0) pub text sig pv tv sv w hp ht tt htl hs h1 h2 hm h4 (by omega) hk
        · rw [if_pos h4]
          exact rver_head pub sig pv tv sv w hp hs h1 h2 hm h4
    · rw [if_pos h2]
      exact rver_cut pub sig pv tv sv w hp hs h1 h2
  · rw [if_pos h1]
    refine (rver_key pub pv tv sv w hp h1).mono ?_
    rintro e w' ⟨rfl, rfl⟩
    exact ⟨rfl, Below.refl _ _⟩
end Go.Proofs.YtogiballdmgcpaaGreatDoor

/- Trees of trees: the document's Verify. -/
namespace Go.Proofs.YtogiballdmgcpaaGreatDoor
open Go.RowKit
set_option linter.unusedVariables false
set_option linter.unusedSimpArgs false

/-- r signatures, one behind the other, each by the key that the one ahead signs -/
def hvL (text : List Nat) : Nat → List Nat → List Nat → Int
  | 0, _, _ => 1
  | r + 1, key, rest => if ctE rest ≠ 0 then (ctE rest : Int) else
    if r = 0 then (if ctN rest < rest.length then 1 else vfT key text (rest.take (ctN rest))) else
    if (rest.drop (ctN rest)).length < 56 then 1 else
    if vfT key ((rest.drop (ctN rest)).take 56) (rest.take (ctN rest)) ≠ 0 then vfT key ((rest.drop (ctN rest)).take 56) (rest.take (ctN rest)) else
    hvL text r ((rest.drop (ctN rest)).take 56) ((rest.drop (ctN rest)).drop 56)
/-- the document's answer: is a signature of trees in trees right? -/
def vfH (pub text sig : List Nat) : Int :=
  if ¬ (pub.length = 60 ∧ 1 ≤ numL (pub.take 4) ∧ numL (pub.take 4) ≤ 8) then 10 else
  if ¬ (4 ≤ sig.length ∧ numL (sig.take 4) + 1 = numL (pub.take 4)) then 1 else hvL text (numL (pub.take 4)) (pub.drop 4) (sig.drop 4)
theorem vfT_i64 (pub text sig : List Nat) : 0 ≤ vfT pub text sig ∧ vfT pub text sig ≤ 100 := by
  unfold vfT ctE
  repeat' split
  all_goals omega
theorem num4_ltH {l : List Nat} (h : Under 256 l) (hl : l.length = 4) : numL l < 4294967296 := by
  match l, hl with
  | [a, b, c, d], _ =>
    have h1 := h a (by simp)
    have h2 := h b (by simp)
    have h3 := h c (by simp)
    have h4 := h d (by simp)
    show ((((0 * 256 + a) % 18446744073709551616 * 256 + b) % 18446744073709551616 * 256 + c) % 18446744073709551616 * 256 + d) % 18446744073709551616 < 4294967296
    omega
/-- where Verify stands -/
def HvL (w : World) (text : List Nat) (n : Nat) (R : Int) (vk vr vi : Value) (wr : World) : Prop := ∃ (i : Nat) (key rest : List Nat), vi = .int .u64 (i : Int) ∧ 1 ≤ i ∧ i ≤ n ∧ Row .u8 256 wr vk key ∧ Row .u8 256 wr vr rest ∧ hvL text (n + 1 - i) key rest = R ∧ Below w.heap.size w wr
set_option maxHeartbeats 8000000 in
set_option maxRecDepth 100000 in
theorem rvfH_any (pub text sig : List Nat) (pv tv sv : Value) (w : World) (hp : Row .u8 256 w pv pub) (ht : Row .u8 256 w tv text) (tt : Tidy tv) (htl : text.length ≤ 10000) (hs : Row .u8 256 w sv sig) :
    Calls Tryz.prog 15 #[pv, tv, sv] w fun e w' => e = .returned (.int .i64 (vfH pub text sig)) ∧ Below w.heap.size w w' := by
  by_cases h60 : ¬ (pub.length = 60)
  · have he : vfH pub text sig = 10 := by unfold vfH; rw [if_pos (fun h => h60 h.1)]
    rw [he]
    obtain ⟨pa, pc, rfl, _⟩ := hp.opens rfl
    generalize pub.length = L at *
    have hi : ¬ (L : Int) = 60 := by omega
    have hb : ((L : Int) == 60) = false := beq_eq_false_iff_ne.2 hi
    have hn : ((L : Int) != 60) = true := by simp [bne, hb]
    clear hp he h60
    go_enter Tryz.func15, Tryz.ntmps15
    go_wp2
    go_ret
    exact ⟨rfl, Below.refl _ _⟩
  replace h60 := Decidable.not_not.1 h60
  have hp' := hp
  obtain ⟨pa, pc, rfl, lc1, lc2, ho⟩ := hp'.opens h60
  obtain ⟨bb, bo, rfl, _⟩ := ho (by decide)
  clear hp' ho
  have r4 : Row .u8 256 w (.slice (some ⟨bb, bo, none⟩) 4 pc) (pub.take 4) := hp.cut (by omega)
  have hn4 := rnum_any _ _ _ r4
  have h4c : (4 : Int) ≤ (pc : Int) := by omega
  have hnl := numL_lt (pub.take 4)
  obtain ⟨n, hne⟩ : ∃ n, numL (pub.take 4) = n := ⟨_, rfl⟩
  rw [hne] at hn4 hnl
  by_cases h18 : ¬ (1 ≤ n ∧ n ≤ 8)
  · have he : vfH pub text sig = 10 := by unfold vfH; rw [if_pos (fun h => h18 (by rw [← hne]; exact h.2))]
    rw [he]
    clear hp he r4 lc1 lc2
    by_cases h1 : n < 1
    · have h1' : (n : Int) < 1 := by omega
      clear h18 hne
      go_enter Tryz.func15, Tryz.ntmps15
      go_wp2_with (first
        | (go_at_call 36; refine hn4.mono ?_; rintro e yy ⟨rfl, hy⟩; obtain rfl := hy.symm)
        | fail)
      go_ret
      exact ⟨rfl, Below.refl _ _⟩
    · have h1' : ¬ ((n : Int) < 1) := by omega
      have h2' : (8 : Int) < (n : Int) := by omega
      clear h18 hne
      go_enter Tryz.func15, Tryz.ntmps15
      go_wp2_with (first
        | (go_at_call 36; refine hn4.mono ?_; rintro e yy ⟨rfl, hy⟩; obtain rfl := hy.symm)
        | fail)
      go_ret
      exact ⟨rfl, Below.refl _ _⟩
  replace h18 := Decidable.not_not.1 h18
  have h1' : ¬ ((n : Int) < 1) := by omega
  have h2' : ¬ ((8 : Int) < (n : Int)) := by omega
  obtain ⟨L, hL⟩ : ∃ L, sig.length = L := ⟨_, rfl⟩
  have hs' := hs
  obtain ⟨sa, sc, rfl, ls1, ls2, hso⟩ := hs'.opens hL
  clear hs'
  by_cases h4 : ¬ (4 ≤ L)
  · have he : vfH pub text sig = 1 := by unfold vfH; rw [if_neg (by rw [hne]; simp [h60, h18]), if_pos (fun h => by have := h.1; omega)]
    rw [he]
    have h4' : (L : Int) < 4 := by omega
    clear hp he r4 lc1 lc2 hs hso hL
    go_enter Tryz.func15, Tryz.ntmps15
    go_wp2_with (first
      | (go_at_call 36; refine hn4.mono ?_; rintro e yy ⟨rfl, hy⟩; obtain rfl := hy.symm)
      | fail)
    go_ret
    exact ⟨rfl, Below.refl _ _⟩
  replace h4 := Decidable.not_not.1 h4
  have h4' : ¬ ((L : Int) < 4) := by omega
  obtain ⟨sb, so, rfl, _⟩ := hso (by omega)
  clear hso
  have s4 : Row .u8 256 w (.slice (some ⟨sb, so, none⟩) 4 sc) (sig.take 4) := hs.cut (by omega)
  have hm4 := rnum_any _ _ _ s4
  have h4s : (4 : Int) ≤ (sc : Int) := by omega
  have hml : numL (sig.take 4) < 4294967296 := num4_ltH s4.under (by rw [List.length_take]; omega)
  obtain ⟨m, hme⟩ : ∃ m, numL (sig.take 4) = m := ⟨_, rfl⟩
  rw [hme] at hm4 hml
  obtain ⟨m1, hm1⟩ : ∃ x, m + 1 = x := ⟨_, rfl⟩
  have e_m : (m : Int) + 1 = (m1 : Int) := by omega
  have s_m : IntKind.u64.wrap (m1 : Int) = (m1 : Int) := by rw [IntKind.wrap_u64]; omega
  have hne4p : ¬ pc = 4 := by omega
  by_cases hmn : ¬ (m1 = n)
  · have he : vfH pub text sig = 1 := by unfold vfH; rw [if_neg (by rw [hne]; simp [h60, h18]), if_pos (fun h => hmn (by have := h.2; rw [hme, hne] at this; omega))]
    rw [he]
    have hi : ¬ (m1 : Int) = (n : Int) := by omega
    have hb : ((m1 : Int) == (n : Int)) = false := beq_eq_false_iff_ne.2 hi
    have hn' : ((m1 : Int) != (n : Int)) = true := by simp [bne, hb]
    clear hp he r4 lc1 lc2 hs hL s4 hm1 hmn
    go_enter Tryz.func15, Tryz.ntmps15
    go_wp2_with (first
    | (go_at_call_of 36 (#[Value.slice (some ⟨bb, bo, none⟩) 4 pc]); refine hn4.mono ?_; rintro e yy ⟨rfl, hy⟩; obtain rfl := hy.symm)
    | (go_at_call_of 36 (#[Value.slice (some ⟨sb, so, none⟩) 4 sc]); refine hm4.mono ?_; rintro e yy ⟨rfl, hy⟩; obtain rfl := hy.symm)
    | fail)
    go_ret
    exact ⟨rfl, Below.refl _ _⟩
  replace hmn := Decidable.not_not.1 hmn
  subst hmn
  have he : vfH pub text sig = hvL text m1 (pub.drop 4) (sig.drop 4) := by unfold vfH; rw [if_neg (by rw [hne]; simp [h60, h18]), if_neg (by rw [hme, hne, hL]; simp [h4, hm1]), hne]
  rw [he]
  obtain ⟨R, hR⟩ : ∃ R, hvL text m1 (pub.drop 4) (sig.drop 4) = R := ⟨_, rfl⟩
  rw [hR]
  have rk : Row .u8 256 w (.slice (some ⟨bb, bo + 4, none⟩) 56 (pc - 4)) (pub.drop 4) := hp.behind (F := 4) (by omega) (.inr rfl)
  obtain ⟨AS, hslS, hAS⟩ := slice_from (some ⟨sb, so, none⟩) L sc 4 h4 ls1
  have hsl4 : ∀ w, (Instr.slice 23 (.slice (some ⟨sb, so, none⟩) L sc) (some (.int .i64 4)) none none).run Tryz.prog w = .ok (.slice AS (L - 4) (sc - 4)) w := hslS
  have rr := hs.behind (F := 4) h4 hAS
  clear hslS hAS
  have h0 : HvL w text m1 R (.slice (some ⟨bb, bo + 4, none⟩) 56 (pc - 4)) (.slice AS (L - 4) (sc - 4)) (.int .u64 1) w := ⟨1, _, _, rfl, Nat.le_refl _, by omega, rk, rr, by rw [Nat.add_sub_cancel]; exact hR, Below.refl _ _⟩
  have H0 := hide h0
  have HT := hide (And.intro ht (And.intro tt htl))
  have h4L : (4 : Int) ≤ (L : Int) := by omega
  clear h0 rk rr hR he hp hs r4 s4 hm1 hL lc1 lc2 ls1 ls2 hne hme ht tt htl h60
  go_enter Tryz.func15, Tryz.ntmps15
  go_wp2_with (first
    | (go_at_call_of 36 (#[Value.slice (some ⟨bb, bo, none⟩) 4 pc]); refine hn4.mono ?_; rintro e yy ⟨rfl, hy⟩; obtain rfl := hy.symm)
    | (go_at_call_of 36 (#[Value.slice (some ⟨sb, so, none⟩) 4 sc]); refine hm4.mono ?_; rintro e yy ⟨rfl, hy⟩; obtain rfl := hy.symm)
    | fail)
  go_loopw [8, 9, 10] (fun vk vr vi wr => HvL w text m1 R vk vr vi wr) (fun _ _ vi _ => m1 + 1 - (intOf vi).toNat)
  case atStart => exact H0.out
  case round =>
    obtain ⟨i, key, rest, rfl, hi1, hi2, rk, rr, hR, hbr⟩ := hrel
    obtain ⟨ht, tt, htl⟩ := HT.out
    clear H0
    have hle : (i : Int) ≤ (m1 : Int) := by omega
    obtain ⟨r, hr⟩ : ∃ r, m1 + 1 - i = r + 1 := ⟨m1 - i, by omega⟩
    rw [hr] at hR
    by_cases hE : ¬ (ctE rest = 0)
    · have hR' : R = (ctE rest : Int) := by rw [← hR]; exact if_pos hE
      have hct := rcut_no rest u9 wr rr hE
      have hEi : ¬ ((ctE rest : Nat) : Int) = 0 := by omega
      have hEb : (((ctE rest : Nat) : Int) == 0) = false := by simp; exact hE
      have hEn : (((ctE rest : Nat) : Int) != 0) = true := by simp [bne, hEb]
      have HR := hide (And.intro hR' hbr)
      clear hR hR' hbr rk rr hE
      generalize ctE rest = EE at *
      go_wp2_with (first
        | (go_at_call 37; refine hct.mono ?_; rintro e w1 ⟨rfl, g1⟩)
        | fail)
      go_ret
      exact ⟨by rw [HR.out.1]; rfl, keep_trans (keep_trans HR.out.2 g1) (keep_alloc _ _)⟩
    · replace hE := Decidable.not_not.1 hE
      have hct := rcut_ok rest u9 wr rr hE
      have hR0 : R = if r = 0 then (if ctN rest < rest.length then 1 else vfT key text (rest.take (ctN rest))) else if (rest.drop (ctN rest)).length < 56 then 1 else if vfT key ((rest.drop (ctN rest)).take 56) (rest.take (ctN rest)) ≠ 0 then vfT key ((rest.drop (ctN rest)).take 56) (rest.take (ctN rest)) else hvL text r ((rest.drop (ctN rest)).take 56) ((rest.drop (ctN rest)).drop 56) := by
        rw [← hR]
        exact if_neg (by simp [hE])
      obtain ⟨A, hA⟩ : ∃ A, (rest.take (ctN rest)).length = A := ⟨_, rfl⟩
      obtain ⟨D, hD⟩ : ∃ D, (rest.drop (ctN rest)).length = D := ⟨_, rfl⟩
      have hDl : ctN rest < rest.length ↔ 0 < D := by rw [← hD, List.length_drop]; omega
      rw [hD] at hR0
      have hz := zeroTr
      generalize ctH rest = H at *
      generalize ctW rest = W at *
      generalize rest.take (ctN rest) = S1 at *
      generalize rest.drop (ctN rest) = S2 at *
      have HL := hide (And.intro hA hD)
      have HB := hide hbr
      clear hR rr hE hA hD hbr
      by_cases h0 : r = 0
      · rw [if_pos h0] at hR0
        obtain rfl : i = m1 := by omega
        by_cases hd : ctN rest < rest.length
        · rw [if_pos hd] at hR0
          have hD0 : (0 : Int) < (D : Int) := by have := hDl.1 hd; omega
          have HR := hide hR0
          clear hR0 hd hDl rk
          go_wp2_with (first
            | (go_at_call 37; refine hct.mono ?_; rintro e w1 ⟨v1, v2, rfl, r1, r2, g1⟩; obtain ⟨a1, c1, rfl, _⟩ := r1.opens HL.out.1; obtain ⟨a2, c2, rfl, l21, _, _⟩ := r2.opens HL.out.2; have k1 := keep_trans g1 (keep_alloc w1 (.cells #[.int .i64 (H : Int), .int .i64 (W : Int)] 45)))
            | fail)
          go_ret
          exact ⟨by rw [HR.out]; rfl, keep_trans HB.out k1⟩
        · rw [if_neg hd] at hR0
          obtain rfl : D = 0 := by
            rcases Nat.eq_zero_or_pos D with h | h
            · exact h
            · exact absurd (hDl.2 h) hd
          have HR := hide hR0
          have HK := hide rk
          clear hR0 hd hDl rk
          go_wp2_with (first
            | (go_at_call 37; refine hct.mono ?_; rintro e w1 ⟨v1, v2, rfl, r1, r2, g1⟩; obtain ⟨a1, c1, rfl, _⟩ := r1.opens HL.out.1; obtain ⟨a2, c2, rfl, l21, _, _⟩ := r2.opens HL.out.2; have k1 := keep_trans g1 (keep_alloc w1 (.cells #[.int .i64 (H : Int), .int .i64 (W : Int)] 45)))
            | (go_at_call 38; refine (rvfT_any key text S1 u8 tv (.slice a1 A c1) (w1.alloc (.cells #[.int .i64 (H : Int), .int .i64 (W : Int)] 45)) (HK.out.below k1) (ht.below (keep_trans HB.out k1)) tt htl (r1.below (keep_alloc _ _))).mono ?_; rintro e w3 ⟨rfl, g3⟩)
            | fail)
          go_ret
          exact ⟨by rw [HR.out]; rfl, keep_trans (keep_trans HB.out k1) g3⟩
      · rw [if_neg h0] at hR0
        have hii : ¬ (i : Int) = (m1 : Int) := by omega
        have hib : ((i : Int) == (m1 : Int)) = false := beq_eq_false_iff_ne.2 hii
        by_cases hd : D < 56
        · rw [if_pos hd] at hR0
          have hD0 : (D : Int) < 56 := by omega
          have HR := hide hR0
          clear hR0 hd hDl rk
          go_wp2_with (first
            | (go_at_call 37; refine hct.mono ?_; rintro e w1 ⟨v1, v2, rfl, r1, r2, g1⟩; obtain ⟨a1, c1, rfl, _⟩ := r1.opens HL.out.1; obtain ⟨a2, c2, rfl, l21, _, _⟩ := r2.opens HL.out.2; have k1 := keep_trans g1 (keep_alloc w1 (.cells #[.int .i64 (H : Int), .int .i64 (W : Int)] 45)))
            | fail)
          go_ret
          exact ⟨by rw [HR.out]; rfl, keep_trans HB.out k1⟩
        · rw [if_neg hd] at hR0
          have hD0 : ¬ ((D : Int) < 56) := by omega
          have hv := vfT_i64 key (S2.take 56) S1
          obtain ⟨V, hV⟩ : ∃ V, vfT key (S2.take 56) S1 = V := ⟨_, rfl⟩
          rw [hV] at hR0 hv
          by_cases hv0 : V = 0
          · rw [if_neg (by simp [hv0])] at hR0
            subst hv0
            obtain ⟨Q, hQ⟩ : ∃ Q : Nat, i + 1 = Q := ⟨_, rfl⟩
            have e_Q : (i : Int) + 1 = (Q : Int) := by omega
            have s_Q : IntKind.u64.wrap (Q : Int) = (Q : Int) := by rw [IntKind.wrap_u64]; omega
            have HR := hide (And.intro hR0 (And.intro hV (And.intro hQ hd)))
            have HK := hide rk
            clear hR0 hd hDl rk hV hQ
            go_wp2_with (first
              | (go_at_call 37; refine hct.mono ?_; rintro e w1 ⟨v1, v2, rfl, r1, r2, g1⟩; obtain ⟨a1, c1, rfl, _⟩ := r1.opens HL.out.1; obtain ⟨a2, c2, rfl, l21, _, _⟩ := r2.opens HL.out.2; have k1 := keep_trans g1 (keep_alloc w1 (.cells #[.int .i64 (H : Int), .int .i64 (W : Int)] 45)); have h56c : (56 : Int) ≤ (c2 : Int) := by omega)
              | (go_at_call 38; refine (rvfT_any key (S2.take 56) S1 u8 (.slice a2 56 c2) (.slice a1 A c1) (w1.alloc (.cells #[.int .i64 (H : Int), .int .i64 (W : Int)] 45)) (HK.out.below k1) ((r2.below (keep_alloc _ _)).cut (M := 56) (by have := HL.out.2; omega)) (row_tidyA (r2.cut (M := 56) (by have := HL.out.2; omega)) (by rw [List.length_take]; have := HL.out.2; omega)) (by rw [List.length_take]; omega) (r1.below (keep_alloc _ _))).mono ?_; rw [HR.out.2.1]; rintro e w3 ⟨rfl, g3⟩; obtain ⟨A6, hsl6, hA6⟩ := slice_from a2 D c2 56 (by omega) l21; have hsl56 : ∀ w, (Instr.slice 23 (.slice a2 D c2) (some (.int .i64 56)) none none).run Tryz.prog w = .ok (.slice A6 (D - 56) (c2 - 56)) w := hsl6; clear hsl6)
              | fail)
            obtain ⟨hR0, _, hQ, hd⟩ := HR.out
            have k3 := keep_trans (keep_alloc w1 (.cells #[.int .i64 (H : Int), .int .i64 (W : Int)] 45)) g3
            have r23 := r2.below k3
            refine ⟨⟨Q, S2.take 56, S2.drop 56, rfl, by omega, by omega, r23.cut (M := 56) (by have := HL.out.2; omega), r23.behind (F := 56) (by omega) hA6, ?_, keep_trans (keep_trans HB.out k1) g3⟩, by simp [intOf]; omega⟩
            rw [show m1 + 1 - Q = r by omega, hR0]
          · rw [if_pos hv0] at hR0
            have hvb : (V == 0) = false := beq_eq_false_iff_ne.2 hv0
            have hvn : (V != 0) = true := by simp [bne, hvb]
            have HR := hide (And.intro hR0 (And.intro hV hd))
            have HK := hide rk
            clear hR0 hd hDl rk hV
            go_wp2_with (first
              | (go_at_call 37; refine hct.mono ?_; rintro e w1 ⟨v1, v2, rfl, r1, r2, g1⟩; obtain ⟨a1, c1, rfl, _⟩ := r1.opens HL.out.1; obtain ⟨a2, c2, rfl, l21, _, _⟩ := r2.opens HL.out.2; have k1 := keep_trans g1 (keep_alloc w1 (.cells #[.int .i64 (H : Int), .int .i64 (W : Int)] 45)); have h56c : (56 : Int) ≤ (c2 : Int) := by omega)
              | (go_at_call 38; refine (rvfT_any key (S2.take 56) S1 u8 (.slice a2 56 c2) (.slice a1 A c1) (w1.alloc (.cells #[.int .i64 (H : Int), .int .i64 (W : Int)] 45)) (HK.out.below k1) ((r2.below (keep_alloc _ _)).cut (M := 56) (by have := HL.out.2; omega)) (row_tidyA (r2.cut (M := 56) (by have := HL.out.2; omega)) (by rw [List.length_take]; have := HL.out.2; omega)) (by rw [List.length_take]; omega) (r1.below (keep_alloc _ _))).mono ?_; rw [HR.out.2.1]; rintro e w3 ⟨rfl, g3⟩)
              | fail)
            go_ret
            exact ⟨by rw [HR.out.1]; rfl, keep_trans (keep_trans HB.out k1) g3⟩
end Go.Proofs.YtogiballdmgcpaaGreatDoor
