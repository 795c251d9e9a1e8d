/- Trees of leaves that sign once: the document's Verify, from the leaf up. -/
import Derived.Test.YtefndnbaifiboaaGreatDoorLmK8
import Derived.Test.YtefndnbaifiboaaGreatDoorLsH
import Derived.Laws.StructEq
import Derived.Test.YtefndnbaifiboaaGreatDoorLcD
import Derived.Test.YtefndnbaifiboaaGreatDoorLcC
import Derived.Test.YtefndnbaifiboaaGreatDoorLmK
namespace Go.Proofs.YtefndnbaifiboaaGreatDoor
open Go.RowKit
set_option linter.unusedVariables false
set_option linter.unusedSimpArgs false

def v13lt : List Lt := [(0, some 71, [8]), (1, some 72, [71]), (0, some 73, [12]), (0, some 74, [11]), (8, some 75, [74]), (0, some 76, [1]), (0, some 77, [2]), (0, some 78, [13]), (128, some 79, [78]), (320, some 80, [77, 79]), (566, some 81, [72, 73, 75, 76, 80]), (1024, some 70, [81]), (2048, some 82, [70]), (2048, some 83, [70]), (8191, some 14, [82]), (32767, some 15, [83])]
theorem v13reg : Reg (opsA (cLA (cRA (cRA (cRA (cRA (cRA (cRA (cRA (cRA (cRA (Tryz.f20.body.getD .skip)))))))))))) v13lt := ⟨by kernel_rfl, by kernel_rfl⟩
set_option maxHeartbeats 8000000 in
set_option maxRecDepth 100000 in
theorem rver_sums {k n m s c : Nat} (pub text sig : List Nat) (pv tv sv : Value) (w : World) (hp : Row .u8 256 w pv pub) (ht : Row .u8 256 w tv text) (tt : Tidy tv) (htl : text.length ≤ 10000) (hs : Row .u8 256 w sv sig) (h : vKey pub) (hc : ctE sig = 0) (hm : sig.length = ctN sig) (hdd : hdT sig = pub.take 8) (hq : numL (sig.take 4) < 2 ^ ctH sig) (hkd : Kd k n m s (numL ((sig.drop 4).take 4))) :
    Calls Tryz.prog 20 #[pv, tv, sv] w fun e w' => e = .returned (.int .i64 (if vTopK k n m s pub text sig = pub.drop 24 then 0 else 11)) ∧ Below w.heap.size w w' := by
  obtain rfl : ctW sig = k := dgtL_code hkd
  have hsz := hkd.size
  have hz9 : szW (ctW sig : Int) ≤ 8516 := by have := ctA_le sig; unfold ctA at this; omega
  have hN0 : ctN sig = 8 + szW (ctW sig : Int) + 32 * ctH sig := by unfold ctN ctA; omega
  have hcn0 : ∀ (q : Nat) (idv sv2 : Value) (y : World), Row .u8 256 y idv ((pub.drop 8).take 16) → Tidy idv → Row .u8 256 y tv text → Row .u8 256 y sv2 ((sig.drop 4).take (szW (ctW sig : Int))) → q < 4294967296 → _ := fun q idv sv2 y r1 r2 r3 r4 h5 => rcndK hkd ((pub.drop 8).take 16) text ((sig.drop 4).take (szW (ctW sig : Int))) q idv sv2 tv y r1 r2 r3 tt r4 h5 (by rw [List.length_take, List.length_drop, h.1]; decide) htl (by rw [List.length_take, List.length_drop]; omega) (by rw [List.take_take, Nat.min_eq_left (by omega)])
  obtain ⟨TOP, hTOP⟩ : ∃ T, vTopK (ctW sig) n m s pub text sig = T := ⟨_, rfl⟩
  rw [hTOP]
  unfold vTopK at hTOP
  obtain ⟨h56, h0, h1⟩ := h
  have hrow := hp
  have hct := rcut_ok sig sv w hs hc
  obtain ⟨g8, gw0, gL1, gH0, gL2⟩ := ctE_zero hc
  have hbz : ∀ (w1 : World) (u v : Value), Bx2T (w1.alloc (.cells #[u, v] 23)) w1.heap.size u v := fun w1 u v => Bx2T.new w1 u v
  obtain ⟨pa, pc, rfl, lc1, lc2, ho⟩ := hp.opens h56
  obtain ⟨bb, bo, rfl, _⟩ := ho (by decide)
  have r4 : Row .u8 256 w (.slice (some ⟨bb, bo, none⟩) 4 pc) (pub.take 4) := hrow.cut (by omega)
  have r8 : Row .u8 256 w (.slice (some ⟨bb, bo + 4, none⟩) 4 (pc - 4)) ((pub.drop 4).take 4) := hrow.mid (i := 4) (j := 8) (by decide) (by omega)
  have rp8 : Row .u8 256 w (.slice (some ⟨bb, bo, none⟩) 8 pc) (pub.take 8) := hrow.cut (by omega)
  have hn4 := rnum_any _ _ _ r4
  have hn8 := rnum_any _ _ _ r8
  have hht := fun y => rheight_any (numL (pub.take 4)) y (numL_lt _)
  have hdg := fun y => rdigit_any (numL ((pub.drop 4).take 4)) y (numL_lt _)
  have hHb : ((hgtL (numL (pub.take 4)) : Int) == 0) = false := by simp; exact h0
  have hHi : ¬ (hgtL (numL (pub.take 4)) : Int) = 0 := by omega
  have hDb : ((dgtL (numL ((pub.drop 4).take 4)) : Int) == 0) = false := by simp; exact h1
  have hDi : ¬ (dgtL (numL ((pub.drop 4).take 4)) : Int) = 0 := by omega
  generalize hgtL (numL (pub.take 4)) = HH at *
  generalize dgtL (numL ((pub.drop 4).take 4)) = DD at *
  generalize numL (pub.take 4) = X at *
  generalize numL ((pub.drop 4).take 4) = Y at *
  have h4c : (4 : Int) ≤ (pc : Int) := by omega
  have h8c : (8 : Int) ≤ (pc : Int) := by omega
  have hz := zeroTr
  obtain ⟨R, hRl⟩ : ∃ R, (sig.drop (ctN sig)).length = R := ⟨_, rfl⟩
  obtain rfl : R = 0 := by rw [List.length_drop] at hRl; omega
  have hk := hkd
  have hhd := fun y => rhead_any (ctH sig : Int) y hk
  obtain ⟨hd, hhe⟩ : ∃ hd, hd = be4 (lmCode (ctH sig : Int)) ++ be4 (numL ((sig.drop 4).take 4)) := ⟨_, rfl⟩
  unfold hdT at hdd
  rw [← hhe] at hhd hdd
  have h8p : 8 ≤ pc := by omega
  have HD := hide (decide_eq_true hdd)
  have hHl := ctH_le sig
  obtain ⟨L, hL⟩ : ∃ L, sig.length = L := ⟨_, rfl⟩
  obtain ⟨sa, sc, rfl, ls1, ls2, hso⟩ := hs.opens hL
  obtain ⟨sb, so, rfl, _⟩ := hso (by omega)
  have rs4 : Row .u8 256 w (.slice (some ⟨sb, so, none⟩) 4 sc) (sig.take 4) := hs.cut (by omega)
  have hnq := fun y (hy : Below w.heap.size w y) => rnum_any _ _ _ (rs4.below hy)
  have hql := numL_lt (sig.take 4)
  generalize numL (sig.take 4) = q at *
  have h4s : (4 : Int) ≤ (sc : Int) := by omega
  generalize pub.take 8 = p8 at *
  obtain ⟨M, hM⟩ : ∃ M, M = 2 ^ ctH sig := ⟨_, rfl⟩
  have hMb : M ≤ 33554432 := by rw [hM]; exact Nat.le_trans (Nat.pow_le_pow_right (by decide) hHl) (by decide)
  have e_M : (2 : Int) ^ ctH sig = (M : Int) := by rw [hM]; norm_cast
  rw [← hM] at hq
  have s_M : IntKind.u64.wrap (M : Int) = (M : Int) := by rw [IntKind.wrap_u64]; omega
  have h_q : ¬ ((M : Int) ≤ (q : Int)) := by omega
  have g_q : ¬ ((q : Int) ≥ (M : Int)) := by omega
  have HF := hide (And.intro hz9 (And.intro hs (And.intro ht (And.intro tt (And.intro hrow (And.intro hcn0 (And.intro hTOP (And.intro hsz (And.intro hN0 (And.intro hm (And.intro lc1 (And.intro ls1 (And.intro ls2 (And.intro hq (And.intro hL (And.intro h56 (And.intro lc2 (And.intro hMb (And.intro hql hM)))))))))))))))))))
  clear hz9 hcn0 hTOP hsz hN0 hkd ht tt htl
  clear hp hrow r4 r8 ho h0 h1 hc hm lc1 lc2 g8 gw0 gL1 gH0 gL2 hdd hhe hk hM hq hql hL hso ls1 ls2 hs rs4
  generalize ctH sig = H at *
  generalize ctW sig = W at *
  go_enter Tryz.func20, Tryz.ntmps20
  go_wp2_with (first
    | (go_at_call 42; have hu := hn4; clear hn4; refine hu.mono ?_; rintro e yy ⟨rfl, hy⟩; obtain rfl := hy.symm; clear hu)
    | (go_at_call 42; have hu := hn8; clear hn8; refine hu.mono ?_; rintro e yy ⟨rfl, hy⟩; obtain rfl := hy.symm; clear hu)
    | (go_at_call 43; refine (hht _).mono ?_; rintro e yy ⟨rfl, hy⟩; obtain rfl := hy.symm)
    | (go_at_call 41; refine (hdg _).mono ?_; rintro e yy ⟨rfl, hy⟩; obtain rfl := hy.symm)
    | (go_at_call 18; refine hct.mono ?_; rintro e w1 ⟨v1, v2, rfl, r1, r2, hb1⟩; obtain ⟨a2, c2, rfl, _⟩ := r2.opens hRl)
    | fail)
  have hB := hbz w1 (.int .i64 (H : Int)) (.int .i64 (W : Int))
  have kA := keep_trans hb1 (keep_alloc w1 (.cells #[.int .i64 (H : Int), .int .i64 (W : Int)] 23))
  have rq8 := rp8.below kA
  clear hbz hct r1 r2 hht hdg
  refine v6_reg _ _ _ _ _ _ _ _ _ _ _ _ _ _ _ _ _ _ _ _ _ _ _ _ _ _ _ _ _ _ _ _ _ _ _ _ _ _ _ _ _ _ _ _ _ _ _ _ _ _ _ _ _ _ _ _ _ _ _ _ _ _ _ _ _ _ _ _ _ _ _ _ _ _ _ _ _ _ _ _ _ _ _ _ _ _ _ _ _ _ _ _ _ _ _ _ _ _ _ _ _ _ _ _ _ _ _ _ _ _ _ _ _ _ _ _ _ _ _ _ _ _ _ w1.heap.size H W bb bo pc c2 a2 hd p8 _ hB rq8 h8p hhd ?_
  intro y51 z hbz2
  rw [HD.out]

  have hBz := hB.below hbz2
  have cH := hBz.c0
  have cW := hBz.c1
  have kZ := keep_trans kA hbz2
  have hnz := hnq z kZ
  obtain ⟨hz9, hs, ht, tt, hrow, hcn0, hTOP, hsz, hN0, hm, lc1, ls1, ls2, hq, hL, h56, lc2, hMb, hql, hM⟩ := HF.out
  have hsw := fun y => rsizeW (W : Int) y
  obtain ⟨Z, hZ⟩ : ∃ Z, szW (W : Int) = Z := ⟨_, rfl⟩
  rw [hZ] at hsw
  have h24 : (24 : Int) ≤ (pc : Int) := by omega
  have hne8 : ¬ pc = 8 := by omega
  clear hz9 hs ht tt hrow hcn0 hTOP hsz hN0 hm lc1 ls1 ls2 hq hL h56 lc2 hMb hql hM
  clear hB kA rq8 hbz2 hhd hnq HD
  have HZ := hide (And.intro kZ hZ)
  clear kZ hZ
  go_wp2_with (first
    | (go_at_call 42; refine hnz.mono ?_; rintro e yy ⟨rfl, hy⟩; obtain rfl := hy.symm)
    | (go_at_call 38; refine (hsw _).mono ?_; rintro e yy ⟨rfl, hy⟩; obtain rfl := hy.symm)
    | fail)
  rename_i K hK
  have hS0 : z.drew.cell? ⟨w1.heap.size, 1, none⟩ = some (.int .i64 (W : Int)) := cW
  have hSf : ∀ y, Below z.heap.size z y → y.cell? ⟨w1.heap.size, 1, none⟩ = some (.int .i64 (W : Int)) := fun y h => (hBz.below h).c1
  have hbd : Below z.heap.size z z.drew := (Below.refl _ _).drew
  obtain ⟨hz9, hs, ht, tt, hrow, hcn0, hTOP, hsz, hN0, hm, lc1, ls1, ls2, hq, hL, h56, lc2, hMb, hql, hM⟩ := HF.out
  obtain ⟨kZ, hZ⟩ := HZ.out
  rw [hZ] at hsz hN0 hz9
  obtain ⟨AS, hslS, hAS⟩ := slice_mid (some ⟨sb, so, none⟩) L sc 4 (4 + Z) (by omega) (by omega)
  have hq32 : q < 4294967296 := by omega
  have hZ4 : IntKind.i64.wrap ((4 : Int) + (Z : Int)) = ((4 + Z : Nat) : Int) := by rw [IntKind.wrap_i64]; omega
  have rid : Row .u8 256 w (.slice (some ⟨bb, bo + 8, none⟩) 16 (pc - 8)) ((pub.drop 8).take 16) := hrow.mid (i := 8) (j := 24) (by decide) (by omega)
  have rsg : Row .u8 256 w (.slice AS (4 + Z - 4) (sc - 4)) ((sig.drop 4).take Z) := by
    rw [Nat.add_sub_cancel_left]
    exact (hs.behind (F := 4) (by omega) hAS).cut (M := Z) (by rw [List.length_drop]; omega)
  have hcn := fun y (h : Below z.heap.size z y) => hcn0 q (.slice (some ⟨bb, bo + 8, none⟩) 16 (pc - 8)) (.slice AS (4 + Z - 4) (sc - 4)) y (rid.below (keep_trans kZ h)) (tidy_atA _ _ _) (ht.below (keep_trans kZ h)) (by rw [hZ]; exact rsg.below (keep_trans kZ h)) hq32
  have hk32 := cndT_len W n m s ((pub.drop 8).take 16) text ((sig.drop 4).take Z) q
  rw [hZ] at hcn
  rw [hZ] at hTOP
  generalize cndT W n m s ((pub.drop 8).take 16) text ((sig.drop 4).take Z) q = CN at *
  clear hcn0
  refine at_begin (ops := opsA (cLA (cRA (cRA (cRA (cRA (cRA (cRA (cRA (cRA (cRA (Tryz.f20.body.getD .skip)))))))))))) (n := 16) (fun y => y.cell? ⟨w1.heap.size, 1, none⟩ = some (.int .i64 (W : Int))) (by kernel_rfl) (by kernel_rfl) ?_
  refine at_takeD (i := 0) (m' := 1) (d := some 71) (v := .pointer (some ⟨w1.heap.size, 1, none⟩)) v13reg rfl (by decide) rfl rfl (y_fieldX rfl rfl rfl (fTr1 _)) hS0 ?_
  simp only [Act.put, List.setIfInBounds_toArray, List.set_cons_zero, List.set_cons_succ]
  refine at_takeD (i := 1) (m' := 3) (d := some 72) (v := .int .i64 (W : Int)) v13reg rfl (by decide) rfl rfl (y_load rfl rfl rfl Tryz.underlying3 (fun _ h => h)) hS0 ?_
  simp only [Act.put, List.setIfInBounds_toArray, List.set_cons_zero, List.set_cons_succ]
  refine at_takeD (i := 2) (m' := 7) (d := some 73) (v := .slice (some ⟨bb, bo + 8, none⟩) 16 (pc - 8)) v13reg rfl (by decide) rfl rfl (y_move rfl rfl rfl) hS0 ?_
  simp only [Act.put, List.setIfInBounds_toArray, List.set_cons_zero, List.set_cons_succ]
  refine at_takeD (i := 3) (m' := 15) (d := some 74) (v := .int .u64 (q : Int)) v13reg rfl (by decide) rfl rfl (y_move rfl rfl rfl) hS0 ?_
  simp only [Act.put, List.setIfInBounds_toArray, List.set_cons_zero, List.set_cons_succ]
  refine at_takeD (i := 4) (m' := 31) (d := some 75) (v := .int .u32 (q : Int)) v13reg rfl (by decide) rfl rfl (y_convI (wanted_free rfl) rfl rfl (conv_u64u32 q hq32)) hS0 ?_
  simp only [Act.put, List.setIfInBounds_toArray, List.set_cons_zero, List.set_cons_succ]
  refine at_takeD (i := 5) (m' := 63) (d := some 76) (v := tv) v13reg rfl (by decide) rfl rfl (y_move rfl rfl rfl) hS0 ?_
  simp only [Act.put, List.setIfInBounds_toArray, List.set_cons_zero, List.set_cons_succ]
  refine at_takeD (i := 6) (m' := 127) (d := some 77) (v := .slice (some ⟨sb, so, none⟩) L sc) v13reg rfl (by decide) rfl rfl (y_move rfl rfl rfl) hS0 ?_
  simp only [Act.put, List.setIfInBounds_toArray, List.set_cons_zero, List.set_cons_succ]
  refine at_takeD (i := 7) (m' := 255) (d := some 78) (v := .int .i64 (Z : Int)) v13reg rfl (by decide) rfl rfl (y_move rfl rfl rfl) hS0 ?_
  simp only [Act.put, List.setIfInBounds_toArray, List.set_cons_zero, List.set_cons_succ]
  refine at_takeD (i := 8) (m' := 511) (d := some 79) (v := .int .i64 ((4 + Z : Nat) : Int)) v13reg rfl (by decide) rfl rfl (y_addI (wanted_free rfl) rfl rfl rfl Tryz.underlying3 hZ4) hS0 ?_
  simp only [Act.put, List.setIfInBounds_toArray, List.set_cons_zero, List.set_cons_succ]
  refine at_takeD (i := 9) (m' := 1023) (d := some 80) (v := .slice AS (4 + Z - 4) (sc - 4)) v13reg rfl (by decide) rfl rfl (y_sliceX (F := 4) (G := 4 + Z) rfl rfl rfl rfl rfl hslS) hS0 ?_
  simp only [Act.put, List.setIfInBounds_toArray, List.set_cons_zero, List.set_cons_succ]
  refine at_one (i := 10) (m' := 2047) v13reg (by decide) rfl ?_
  refine p_callD (args := #[.int .i64 (W : Int), .slice (some ⟨bb, bo + 8, none⟩) 16 (pc - 8), .int .u32 (q : Int), tv, .slice AS (4 + Z - 4) (sc - 4)]) (d := some 81) rfl rfl rfl (by simp only [List.map_toArray, List.map_cons, List.map_nil]; rfl) rfl Tryz.call50 ((hcn _ hbd).mono ?_)
  rintro e z1 ⟨kv, rfl, rk, nk, hb1⟩
  obtain ⟨ka, kc, rfl, _⟩ := rk.opens hk32
  have hbz1 := keep_trans hbd hb1
  refine ⟨_, rfl, hSf _ hbz1, ?_⟩
  simp only [Act.put, List.setIfInBounds_toArray, List.set_cons_zero, List.set_cons_succ]
  refine at_takeD (i := 11) (m' := 4095) (d := some 70) (v := .tuple #[.slice ka 32 kc, .int .i64 0]) v13reg rfl (by decide) rfl rfl (y_move rfl rfl rfl) (hSf _ hbz1) ?_
  simp only [Act.put, List.setIfInBounds_toArray, List.set_cons_zero, List.set_cons_succ]
  refine at_takeD (i := 12) (m' := 8191) (d := some 82) (v := .slice ka 32 kc) v13reg rfl (by decide) rfl rfl (y_extract rfl rfl rfl rfl) (hSf _ hbz1) ?_
  simp only [Act.put, List.setIfInBounds_toArray, List.set_cons_zero, List.set_cons_succ]
  refine at_takeD (i := 13) (m' := 16383) (d := some 83) (v := .int .i64 0) v13reg rfl (by decide) rfl rfl (y_extract rfl rfl rfl rfl) (hSf _ hbz1) ?_
  simp only [Act.put, List.setIfInBounds_toArray, List.set_cons_zero, List.set_cons_succ]
  refine at_takeD (i := 14) (m' := 32767) (d := some 14) (v := .slice ka 32 kc) v13reg rfl (by decide) rfl rfl (y_assignA rfl rfl rfl) (hSf _ hbz1) ?_
  simp only [Act.put, List.setIfInBounds_toArray, List.set_cons_zero, List.set_cons_succ]
  refine at_takeD (i := 15) (m' := 65535) (d := some 15) (v := .int .i64 0) v13reg rfl (by decide) rfl rfl (y_assignA rfl rfl rfl) (hSf _ hbz1) ?_
  simp only [Act.put, List.setIfInBounds_toArray, List.set_cons_zero, List.set_cons_succ]
  refine at_done v13reg (by decide) ?_
  refine hK _ _ ?_
  exact v_tail (hide rfl) _ _ _ _ _ _ _ _ _ _ _ _ _ _ _ _ _ _ _ _ _ _ _ _ _ _ _ _ _ _ _ _ _ _ _ _ _ _ _ _ _ _ _ _ _ _ _ _ _ _ _ _ _ _ _ _ _ _ _ _ _ _ _ _ _ _ _ _ _ _ _ _ _ _ _ _ _ _ _ _ _ _ _ _ _ _ _ _ _ _ _ _ _ _ _ _ _ _ _ _ _ _ _ _ _ _ _ _ _ _ _ _ _ _ _ _ _ _ (hrow.below (keep_trans kZ hbz1)) h56 (hs.below (keep_trans kZ hbz1)) hL (by omega) (by omega) (hBz.below hbz1) rk hM hMb hHl hq (keep_trans kZ hbz1) lc2 hTOP
end Go.Proofs.YtefndnbaifiboaaGreatDoor

/- Trees of leaves that sign once: the document's Verify, whatever comes. -/
namespace Go.Proofs.YtefndnbaifiboaaGreatDoor
open Go.RowKit
set_option linter.unusedVariables false
set_option linter.unusedSimpArgs false

instance (pub : List Nat) : Decidable (vKey pub) := by unfold vKey; infer_instance
/-- the document's answer: is a tree's signature right? -/
def vfT (pub text sig : List Nat) : Int :=
  if ¬ vKey pub then 10 else if ctE sig ≠ 0 then (ctE sig : Int) else if ctN sig < sig.length then 1 else if ¬ hdT sig = pub.take 8 then 1 else if 2 ^ ctH sig ≤ numL (sig.take 4) then 13 else
  if vTopK (ctW sig) (nK (ctW sig)) (mK (ctW sig)) (sK (ctW sig)) pub text sig = pub.drop 24 then 0 else 11
theorem rvfT_any (pub text sig : List Nat) (pv tv sv : Value) (w : World) (hp : Row .u8 256 w pv pub) (ht : Row .u8 256 w tv text) (tt : Tidy tv) (htl : text.length ≤ 10000) (hs : Row .u8 256 w sv sig) :
    Calls Tryz.prog 20 #[pv, tv, sv] w fun e w' => e = .returned (.int .i64 (vfT pub text sig)) ∧ Below w.heap.size w w' := by
  unfold vfT
  by_cases h1 : vKey pub
  · rw [if_neg (by simp [h1])]
    by_cases h2 : ctE sig = 0
    · rw [if_neg (by simp [h2])]
      by_cases h3 : ctN sig < sig.length
      · rw [if_pos h3]
        exact rver_more pub sig pv tv sv w hp hs h1 h2 h3
      · rw [if_neg h3]
        have hm : sig.length = ctN sig := by have := (ctE_zero h2).2.2.2.2; omega
        by_cases h4 : hdT sig = pub.take 8
        · rw [if_neg (by simp [h4])]
          by_cases h5 : 2 ^ ctH sig ≤ numL (sig.take 4)
          · rw [if_pos h5]
            exact rver_spent pub sig pv tv sv w hp hs h1 h2 hm h4 h5
          · rw [if_neg h5]
            obtain ⟨n, m, s, hk⟩ : ∃ n m s, Kd (ctW sig) n m s (numL ((sig.drop 4).take 4)) := by
              rcases dgtL_or (numL ((sig.drop 4).take 4)) with hz | hz
              · exact absurd hz (ctE_zero h2).2.1
              · exact hz
            obtain ⟨e1, e2, e3, _⟩ := hk.is
            rw [← e1, ← e2, ← e3]
            exact rver_sums (c := 0) pub text sig pv tv sv w hp ht tt htl hs h1 h2 hm h4 (by omega) hk
        · rw [if_pos h4]
          exact rver_head pub sig pv tv sv w hp hs h1 h2 hm h4
    · rw [if_pos h2]
      exact rver_cut pub sig pv tv sv w hp hs h1 h2
  · rw [if_pos h1]
    refine (rver_key pub pv tv sv w hp h1).mono ?_
    rintro e w' ⟨rfl, rfl⟩
    exact ⟨rfl, Below.refl _ _⟩
end Go.Proofs.YtefndnbaifiboaaGreatDoor

/- Trees of leaves that sign once, the program's own: Verify, where it refuses. -/
namespace Go.Proofs.YtefndnbaifiboaaGreatDoor
open Go.RowKit Go.Shelf
set_option linter.unusedVariables false
set_option linter.unusedSimpArgs false

theorem fields2 : (Tryz.prog.fieldsOf 23).toList.map (fun f => (f.type, f.offset, f.name == "_")) = [(3, 0, false), (3, 1, false)] := by kernel_rfl
theorem two_fields {l : List Field} {a0 a1 : Nat × Nat × Bool} (h : l.map (fun f => (f.type, f.offset, f.name == "_")) = [a0, a1]) : ∃ f0 f1 : Field, l = [f0, f1] ∧ (f0.type, f0.offset, f0.name == "_") = a0 ∧ (f1.type, f1.offset, f1.name == "_") = a1 := by
  match l, h with
  | [f0, f1], h =>
    simp only [List.map_cons, List.map_nil, List.cons.injEq, and_true] at h
    exact ⟨f0, f1, rfl, h.1, h.2⟩
theorem eqTr (a b c d : Int) (w : World) : (Op.equalIn 10000 23 (.agg #[.int .i64 a, .int .i64 b]) (.agg #[.int .i64 c, .int .i64 d])).run Tryz.prog w = .ok (decide (a = c ∧ b = d)) w := by
  have hst := run_equalIn_struct (P := Tryz.prog) w 9999 23 #[.int .i64 a, .int .i64 b] #[.int .i64 c, .int .i64 d] (by kernel_rfl) (by kernel_rfl)
  have hgi : (isAgg 3).run Tryz.prog w = .ok false w := by unfold isAgg; rw [Sem.run_bind, run_underlying Tryz.underlying3 w]; rfl
  have p0 : ∀ x y : Int, (part 3 #[.int .i64 x, .int .i64 y] 0).run Tryz.prog w = .ok (.int .i64 x) w := fun x y => by simp [part, hgi]
  have p1 : ∀ x y : Int, (part 3 #[.int .i64 x, .int .i64 y] 1).run Tryz.prog w = .ok (.int .i64 y) w := fun x y => by simp [part, hgi]
  have ei : ∀ x y : Int, (Op.equalIn 9999 3 (.int .i64 x) (.int .i64 y)).run Tryz.prog w = .ok (x == y) w := fun x y => run_equalIn_int (P := Tryz.prog) w 9998 3 .i64 .i64 x y Tryz.underlying3
  obtain ⟨f0, f1, hf, h0, h1⟩ := two_fields fields2
  simp only [Prod.mk.injEq] at h0 h1
  obtain ⟨t0, o0, n0⟩ := h0
  obtain ⟨t1, o1, n1⟩ := h1
  rw [beq_eq_false_iff_ne] at n0 n1
  rw [hst, hf]
  simp only [Op.eqFields, if_pos n0, if_pos n1, t0, t1, o0, o1, Sem.run_bind, p0, p1, ei, Result.andThen_ok]
  by_cases q1 : a = c
  · by_cases q2 : b = d
    · simp [q1, q2, p0, p1, ei]
    · simp [q1, q2, p0, p1, ei]
  · simp [q1, p0, p1, ei]
set_option maxHeartbeats 4000000 in
set_option maxRecDepth 100000 in
theorem cver_key (pub : List Nat) (pv tv sv : Value) (w : World) (hp : Row .u8 256 w pv pub) (h : ¬ vKey pub) :
    Calls Tryz.prog 19 #[pv, tv, sv] w fun e w' => e = .returned (.int .i64 10) ∧ Below w.heap.size w w' := by
  have hto : ∀ y, Below w.heap.size w y → Calls Tryz.prog 44 #[pv] y fun e w' => e = .returned (.tuple #[.agg #[.int .i64 0, .int .i64 0, .slice none 0 0], .int .i64 10]) ∧ Below y.heap.size y w' := fun y k => (ctree_any pub pv y (hp.below k)).mono fun e w' q => by
    rcases q.1 with ⟨_, _, _, hv, _⟩ | ⟨_, he⟩
    · exact absurd hv h
    · exact ⟨he, q.2⟩
  obtain ⟨pa, pc, rfl, _⟩ := hp.opens rfl
  clear hp h
  generalize pub.length = L at *
  go_enter Tryz.func19, Tryz.ntmps19
  go_wp2_with (first
    | (go_at_call 44; refine (hto _ (Below.refl _ _)).mono ?_; rintro e w1 ⟨rfl, g1⟩)
    | fail)
  go_ret
  exact ⟨rfl, keep_trans g1 (keep_alloc _ _)⟩
set_option maxHeartbeats 4000000 in
set_option maxRecDepth 100000 in
theorem cver_cut (pub sig : List Nat) (pv tv sv : Value) (w : World) (hp : Row .u8 256 w pv pub) (hs : Row .u8 256 w sv sig) (h : vKey pub) (hc : ctE sig ≠ 0) :
    Calls Tryz.prog 19 #[pv, tv, sv] w fun e w' => e = .returned (.int .i64 (ctE sig : Nat)) ∧ Below w.heap.size w w' := by
  have hct := fun y (k : Below w.heap.size w y) => ccut_no sig sv y (hs.below k) hc
  obtain ⟨pa, pc, rfl, lc1, lc2, ho⟩ := hp.opens h.1
  obtain ⟨pb, po, rfl, _⟩ := ho (by decide)
  have hto := fun y (k : Below w.heap.size w y) => ctree_56 pub pb po pc y (hp.below k) h.1 lc1
  unfold TrOf at hto
  rw [if_pos ((fit_hd _ _).2 ⟨h.2.1, h.2.2⟩)] at hto
  have hEi : ¬ ((ctE sig : Nat) : Int) = 0 := by omega
  have hEb : (((ctE sig : Nat) : Int) != 0) = true := by simp [hc]
  generalize hgtL (numL (pub.take 4)) = H at *
  generalize dgtL (numL ((pub.drop 4).take 4)) = D at *
  generalize ctE sig = E at *
  obtain ⟨sa, sc, rfl, _⟩ := hs.opens rfl
  generalize sig.length = SL at *
  clear hp h hc hs ho
  go_enter Tryz.func19, Tryz.ntmps19
  go_wp2_with (first
    | (go_at_call 44; refine (hto _ (Below.refl _ _)).mono ?_; rintro e w1 ⟨rfl, g1⟩)
    | (go_at_call 17; refine (hct _ (keep_trans g1 (keep_alloc _ _))).mono ?_; rintro e w2 ⟨rfl, g2⟩)
    | fail)
  go_ret
  exact ⟨rfl, keep_trans (keep_trans (keep_trans g1 (keep_alloc _ _)) g2) (keep_alloc _ _)⟩
set_option maxHeartbeats 4000000 in
set_option maxRecDepth 100000 in
theorem cver_more (pub sig : List Nat) (pv tv sv : Value) (w : World) (hp : Row .u8 256 w pv pub) (hs : Row .u8 256 w sv sig) (hsl : sig.length ≤ 100000) (h : vKey pub) (hc : ctE sig = 0) (hm : ctN sig < sig.length) :
    Calls Tryz.prog 19 #[pv, tv, sv] w fun e w' => e = .returned (.int .i64 1) ∧ Below w.heap.size w w' := by
  have hct := fun y (k : Below w.heap.size w y) => ccut_ok sig sv y (hs.below k) hc hsl
  obtain ⟨pa, pc, rfl, lc1, lc2, ho⟩ := hp.opens h.1
  obtain ⟨pb, po, rfl, _⟩ := ho (by decide)
  have hto := fun y (k : Below w.heap.size w y) => ctree_56 pub pb po pc y (hp.below k) h.1 lc1
  unfold TrOf at hto
  rw [if_pos ((fit_hd _ _).2 ⟨h.2.1, h.2.2⟩)] at hto
  have hdl : (sig.drop (ctN sig)).length = sig.length - ctN sig := List.length_drop
  obtain ⟨R, hR⟩ : ∃ R, R = sig.length - ctN sig := ⟨_, rfl⟩
  rw [← hR] at hdl
  have hRp : (0 : Int) < (R : Int) := by omega
  generalize hgtL (numL (pub.take 4)) = H at *
  generalize dgtL (numL ((pub.drop 4).take 4)) = D at *
  generalize ctH sig = H2 at *
  generalize ctW sig = D2 at *
  generalize sig.drop (ctN sig) = bd at *
  generalize sig.take (ctN sig) = bt at *
  obtain ⟨sa, sc, rfl, _⟩ := hs.opens rfl
  generalize sig.length = SL at *
  clear hp h hc hs ho hm hR hsl
  go_enter Tryz.func19, Tryz.ntmps19
  go_wp2_with (first
    | (go_at_call 44; refine (hto _ (Below.refl _ _)).mono ?_; rintro e w1 ⟨rfl, g1⟩)
    | (go_at_call 17; refine (hct _ (keep_trans g1 (keep_alloc _ _))).mono ?_; rintro e w2 ⟨v1, v2, rfl, o1, o2, g2⟩; obtain ⟨b1, c1, rfl, _⟩ := o1.row.opens rfl; obtain ⟨b2, c2, rfl, _⟩ := o2.row.opens hdl)
    | fail)
  go_ret
  exact ⟨rfl, keep_trans (keep_trans (keep_trans g1 (keep_alloc _ _)) g2) (keep_alloc _ _)⟩
set_option maxHeartbeats 4000000 in
set_option maxRecDepth 100000 in
theorem cver_kind (pub sig : List Nat) (pv tv sv : Value) (w : World) (hp : Row .u8 256 w pv pub) (hs : Row .u8 256 w sv sig) (hsl : sig.length ≤ 100000) (h : vKey pub) (hc : ctE sig = 0) (hm : sig.length = ctN sig) (hk : ¬ (ctH sig = hgtL (numL (pub.take 4)) ∧ ctW sig = dgtL (numL ((pub.drop 4).take 4)))) :
    Calls Tryz.prog 19 #[pv, tv, sv] w fun e w' => e = .returned (.int .i64 1) ∧ Below w.heap.size w w' := by
  have hct := fun y (k : Below w.heap.size w y) => ccut_ok sig sv y (hs.below k) hc hsl
  obtain ⟨pa, pc, rfl, lc1, lc2, ho⟩ := hp.opens h.1
  obtain ⟨pb, po, rfl, _⟩ := ho (by decide)
  have hto := fun y (k : Below w.heap.size w y) => ctree_56 pub pb po pc y (hp.below k) h.1 lc1
  unfold TrOf at hto
  rw [if_pos ((fit_hd _ _).2 ⟨h.2.1, h.2.2⟩)] at hto
  have hdl : (sig.drop (ctN sig)).length = 0 := by rw [List.length_drop]; omega
  generalize hgtL (numL (pub.take 4)) = H at *
  generalize dgtL (numL ((pub.drop 4).take 4)) = D at *
  generalize ctH sig = H2 at *
  generalize ctW sig = D2 at *
  have heq := fun w => eqTr (H2 : Int) (D2 : Int) (H : Int) (D : Int) w
  have hdf : decide ((H2 : Int) = (H : Int) ∧ (D2 : Int) = (D : Int)) = false := by simp only [decide_eq_false_iff_not]; omega
  simp only [hdf] at heq
  generalize sig.drop (ctN sig) = bd at *
  generalize sig.take (ctN sig) = bt at *
  obtain ⟨sa, sc, rfl, _⟩ := hs.opens rfl
  generalize sig.length = SL at *
  clear hp h hc hs ho hm hsl hdf hk
  go_enter Tryz.func19, Tryz.ntmps19
  go_wp2_with (first
    | (go_at_call 44; refine (hto _ (Below.refl _ _)).mono ?_; rintro e w1 ⟨rfl, g1⟩; have bx := BxD.new w1 (.int .i64 (H : Int)) (.int .i64 (D : Int)) (.slice (some ⟨pb, po + 8, none⟩) 16 (pc - 8)))
    | (go_at_call 17; refine (hct _ (keep_trans g1 (keep_alloc _ _))).mono ?_; rintro e w2 ⟨v1, v2, rfl, o1, o2, g2⟩; obtain ⟨b1, c1, rfl, _⟩ := o1.row.opens rfl; obtain ⟨b2, c2, rfl, _⟩ := o2.row.opens hdl; have bx2 := bx.below g2; have bx3 := bx2.below (keep_alloc w2 (.cells #[.int .i64 (H2 : Int), .int .i64 (D2 : Int)] 23)); have cx0 := bx3.c0; have cx1 := bx3.c1)
    | fail)
  go_ret
  exact ⟨rfl, keep_trans (keep_trans (keep_trans g1 (keep_alloc _ _)) g2) (keep_alloc _ _)⟩
end Go.Proofs.YtefndnbaifiboaaGreatDoor

/- Leaves that sign once: both sides of Digits and Size. -/
namespace Go.Proofs.YtefndnbaifiboaaGreatDoor
open Go.RowKit
set_option linter.unusedVariables false
set_option linter.unusedSimpArgs false

def TellsD (y : World) (X : List Nat) (c : Int) (e : Ending) (y' : World) : Prop := ∃ v, e = .returned (.tuple #[v, .int .i64 c]) ∧ Row .u32 4294967296 y' v X ∧ Below y.heap.size y y'
theorem tellsD_own {y y' : World} {X : List Nat} {c : Int} {e : Ending} (h : ∃ v, e = .returned (.tuple #[v, .int .i64 c]) ∧ Own 25 .u32 4294967296 y' y.heap.size v X ∧ Below y.heap.size y y') : TellsD y X c e y' := by
  obtain ⟨v, h1, h2, h3⟩ := h
  exact ⟨v, h1, h2.row, h3⟩
theorem tellsD_nil {y y' : World} {c : Int} {e : Ending} (h : e = .returned (.tuple #[.slice none 0 0, .int .i64 c]) ∧ Below y.heap.size y y') : TellsD y [] c e y' := ⟨_, h.1, Row.nil _ _ _, h.2⟩
theorem tellsD_nilw {y y' : World} {c : Int} {e : Ending} (h : e = .returned (.tuple #[.slice none 0 0, .int .i64 c]) ∧ y' = y) : TellsD y [] c e y' := tellsD_nil ⟨h.1, by rw [h.2]; exact Below.refl _ _⟩
theorem both_size (x : Int) : ∃ z : Int, (∀ y, Calls Tryz.prog 79 #[.int .i64 x] y fun e y' => e = .returned (.int .i64 z) ∧ Below y.heap.size y y') ∧ (∀ y, Calls Tryz.prog 38 #[.int .i64 x] y fun e y' => e = .returned (.int .i64 z) ∧ y' = y) := by
  rcases kd_or x with h | ⟨k, n, m, s, c, rfl, h⟩
  · exact ⟨0, fun y => csize_no x y h, fun y => rsize_no x y h⟩
  · exact ⟨_, fun y => csize_ok h rfl y, fun y => rsize_ok y h⟩
end Go.Proofs.YtefndnbaifiboaaGreatDoor

/- Leaves that sign once: both sides of Public, Sign, Candidate. -/
namespace Go.Proofs.YtefndnbaifiboaaGreatDoor
open Go.RowKit
set_option linter.unusedVariables false
set_option linter.unusedSimpArgs false

def TellsL (y : World) (X : List Nat) (c : Int) (e : Ending) (y' : World) : Prop := ∃ v, e = .returned (.tuple #[v, .int .i64 c]) ∧ Row .u8 256 y' v X ∧ Tidy v ∧ New y.heap.size v ∧ Below y.heap.size y y'
theorem tellsL_own {y y' : World} {X : List Nat} {c : Int} {e : Ending} (h : ∃ v, e = .returned (.tuple #[v, .int .i64 c]) ∧ Own 5 .u8 256 y' y.heap.size v X ∧ Below y.heap.size y y') : TellsL y X c e y' := by
  obtain ⟨v, h1, h2, h3⟩ := h
  exact ⟨v, h1, h2.row, h2.tidy, h2.new, h3⟩
theorem tellsL_new {y y' : World} {X : List Nat} {c : Int} {e : Ending} (hl : 0 < X.length) (h : ∃ v, e = .returned (.tuple #[v, .int .i64 c]) ∧ Row .u8 256 y' v X ∧ New y.heap.size v ∧ Below y.heap.size y y') : TellsL y X c e y' := by
  obtain ⟨v, h1, h2, h3, h4⟩ := h
  exact ⟨v, h1, h2, new_ntidy h2 hl, h3, h4⟩
theorem tellsL_nil {y y' : World} {c : Int} {e : Ending} (h : e = .returned (.tuple #[.slice none 0 0, .int .i64 c]) ∧ Below y.heap.size y y') : TellsL y [] c e y' := ⟨_, h.1, Row.nil _ _ _, (fun n c e => by cases e; exact ⟨rfl, rfl⟩), (fun q hq => by simp [Value.ownBlock] at hq), h.2⟩
theorem tellsL_nilw {y y' : World} {c : Int} {e : Ending} (h : e = .returned (.tuple #[.slice none 0 0, .int .i64 c]) ∧ y' = y) : TellsL y [] c e y' := tellsL_nil ⟨h.1, by rw [h.2]; exact Below.refl _ _⟩
theorem num4_is (p q r s : Nat) (hp : p < 256) (hq : q < 256) (hr : r < 256) (hs : s < 256) : numL [p, q, r, s] = p * 16777216 + q * 65536 + r * 256 + s := by
  simp [numL]
  omega
theorem be4_is {c : Nat} (hc : c < 256) {l : List Nat} (hl : l.length = 4) (hu : Under 256 l) : l = be4 c ↔ numL l = c := by
  have hb : numL (be4 c) = c := num_be4 c (by omega)
  have hl2 := be4_len c
  have hu2 := be4_under c
  generalize be4 c = m at *
  match l, hl, m, hl2 with
  | [p, q, r, s], _, [p', q', r', s'], _ =>
    have e1 := num4_is p q r s (hu p (by simp)) (hu q (by simp)) (hu r (by simp)) (hu s (by simp))
    have e2 := num4_is p' q' r' s' (hu2 p' (by simp)) (hu2 q' (by simp)) (hu2 r' (by simp)) (hu2 s' (by simp))
    have b1 := hu p (by simp)
    have b2 := hu q (by simp)
    have b3 := hu r (by simp)
    have b4 := hu s (by simp)
    have c1 := hu2 p' (by simp)
    have c2 := hu2 q' (by simp)
    have c3 := hu2 r' (by simp)
    have c4 := hu2 s' (by simp)
    rw [e1]
    rw [e2] at hb
    simp only [List.cons.injEq, and_true]
    omega
section
variable {w : World} {id seed text sig : List Nat} {ia sa ta ga : Option Addr} {il ic sl sc tl tc gl gc : Nat}
theorem both_pub (x : Int) (hx : ¬ x = 8) (q : Nat) (hq : q < 4294967296) (hT : Roots w) (ri : Row .u8 256 w (.slice ia il ic) id) (ti : Tidy (.slice ia il ic)) (rs : Row .u8 256 w (.slice sa sl sc) seed) (ts : Tidy (.slice sa sl sc)) :
    ∃ (c : Int) (X : List Nat), (∀ y, Below w.heap.size w y → Calls Tryz.prog 85 #[.int .i64 x, .slice ia il ic, .int .u32 (q : Int), .slice sa sl sc] y (TellsL y X c)) ∧ (∀ y, Below w.heap.size w y → Calls Tryz.prog 59 #[.int .i64 x, .slice ia il ic, .int .u32 (q : Int), .slice sa sl sc] y (TellsL y X c)) := by
  have hil : id.length = il := by obtain ⟨a, c, e, _⟩ := ri; simp only [Value.slice.injEq] at e; exact e.2.1.symm
  have hsl : seed.length = sl := by obtain ⟨a, c, e, _⟩ := rs; simp only [Value.slice.injEq] at e; exact e.2.1.symm
  rcases kd_or x with h | ⟨k, n, m, s, c, rfl, h⟩
  · have hw := wrg_no h id.length seed.length
    exact ⟨9, [], fun y hb => (cpub_no x q ia sa il ic sl sc y h).mono fun e y' h => tellsL_nil h, fun y hb => (rpub_no x id seed q _ _ y (ri.below hb) (rs.below hb) (by rw [hw]; decide)).mono fun e y' h => by rw [hw] at h; exact tellsL_nilw h⟩
  · have hw := wrg_kd h id.length seed.length
    by_cases hl : id.length = 16 ∧ seed.length = 32
    · have hpl : 0 < (pubH shaL (preL id q) (2 ^ k - 1) (n + m) seed).length := by unfold pubH keyH; rw [shaL_len]; decide
      refine ⟨0, pubH shaL (preL id q) (2 ^ k - 1) (n + m) seed, fun y hb => (cpub_ok h rfl q id seed _ _ y (hT.below hb) (ri.below hb) ti (rs.below hb) ts hl.1 hl.2 hq).mono fun e y' h => tellsL_own h, fun y hb => ?_⟩
      cases h
      · exact (rpub_1 id seed q _ _ y (ri.below hb) ti (rs.below hb) ts hq hl.1 hl.2).mono fun e y' h => tellsL_new hpl h
      · exact (rpub_2 id seed q _ _ y (ri.below hb) ti (rs.below hb) ts hq hl.1 hl.2).mono fun e y' h => tellsL_new hpl h
      · exact (rpub_4 id seed q _ _ y (ri.below hb) ti (rs.below hb) ts hq hl.1 hl.2).mono fun e y' h => tellsL_new hpl h
      · exact absurd rfl hx
    · rw [if_neg hl] at hw
      exact ⟨14, [], fun y hb => (cpub_size h rfl q id _ sa sl sc y (ri.below hb) ti hq (by rw [← hsl]; exact hl)).mono fun e y' h => tellsL_nil h, fun y hb => (rpub_no _ id seed q _ _ y (ri.below hb) (rs.below hb) (by rw [hw]; decide)).mono fun e y' h => by rw [hw] at h; exact tellsL_nilw h⟩
theorem both_sgn (x : Int) (hx : ¬ x = 8) (q : Nat) (hq : q < 4294967296) (hT : Roots w) (ri : Row .u8 256 w (.slice ia il ic) id) (ti : Tidy (.slice ia il ic)) (rs : Row .u8 256 w (.slice sa sl sc) seed) (ts : Tidy (.slice sa sl sc)) (rt : Row .u8 256 w (.slice ta tl tc) text) (tt : Tidy (.slice ta tl tc)) (htl : text.length ≤ 300) :
    ∃ (c : Int) (X : List Nat), (∀ y, Below w.heap.size w y → Calls Tryz.prog 30 #[.int .i64 x, .slice ia il ic, .int .u32 (q : Int), .slice sa sl sc, .slice ta tl tc] y (TellsL y X c)) ∧ (∀ y, Below w.heap.size w y → Calls Tryz.prog 34 #[.int .i64 x, .slice ia il ic, .int .u32 (q : Int), .slice sa sl sc, .slice ta tl tc] y (TellsL y X c)) := by
  have hil : id.length = il := by obtain ⟨a, c, e, _⟩ := ri; simp only [Value.slice.injEq] at e; exact e.2.1.symm
  have hsl : seed.length = sl := by obtain ⟨a, c, e, _⟩ := rs; simp only [Value.slice.injEq] at e; exact e.2.1.symm
  rcases kd_or x with h | ⟨k, n, m, s, c, rfl, h⟩
  · have hw := wrg_no h id.length seed.length
    exact ⟨9, [], fun y hb => (csgn_no x q ia sa ta il ic sl sc tl tc y h).mono fun e y' h => tellsL_nil h, fun y hb => (rsgn_no x id seed q _ _ _ y (ri.below hb) (rs.below hb) (by rw [hw]; decide) ta tl tc rfl).mono fun e y' h => by rw [hw] at h; exact tellsL_nilw h⟩
  · have hw := wrg_kd h id.length seed.length
    by_cases hl : id.length = 16 ∧ seed.length = 32
    · have hpl : 0 < (sgnH shaL (preL id q) c (digsL k n m s (digH shaL (preL id q) (lmCn shaL (preL id q) seed) text)) seed).length := by rw [sgnH_len shaL_len]; omega
      refine ⟨0, _, fun y hb => (csgn_ok h rfl q id seed text _ _ _ y (hT.below hb) (ri.below hb) ti (rs.below hb) ts (rt.below hb) tt hl.1 hl.2 (by omega) hq).mono fun e y' h => tellsL_own h, fun y hb => ?_⟩
      cases h
      · exact (rsgn_1 id seed text q _ _ _ y (ri.below hb) ti (rs.below hb) ts (rt.below hb) tt hq hl.1 hl.2 (by omega)).mono fun e y' h => tellsL_new hpl h
      · exact (rsgn_2 id seed text q _ _ _ y (ri.below hb) ti (rs.below hb) ts (rt.below hb) tt hq hl.1 hl.2 (by omega)).mono fun e y' h => tellsL_new hpl h
      · exact (rsgn_4 id seed text q _ _ _ y (ri.below hb) ti (rs.below hb) ts (rt.below hb) tt hq hl.1 hl.2 (by omega)).mono fun e y' h => tellsL_new hpl h
      · exact absurd rfl hx
    · rw [if_neg hl] at hw
      exact ⟨14, [], fun y hb => (csgn_size h rfl q id _ sa ta sl sc tl tc y (ri.below hb) ti hq (by rw [← hsl]; exact hl)).mono fun e y' h => tellsL_nil h, fun y hb => (rsgn_no _ id seed q _ _ _ y (ri.below hb) (rs.below hb) (by rw [hw]; decide) ta tl tc rfl).mono fun e y' h => by rw [hw] at h; exact tellsL_nilw h⟩
theorem both_cnd (x : Int) (hx : ¬ x = 8) (q : Nat) (hq : q < 4294967296) (hT : Roots w) (ri : Row .u8 256 w (.slice ia il ic) id) (ti : Tidy (.slice ia il ic)) (rt : Row .u8 256 w (.slice ta tl tc) text) (tt : Tidy (.slice ta tl tc)) (rg : Row .u8 256 w (.slice ga gl gc) sig) (tg : Tidy (.slice ga gl gc)) (htl : text.length ≤ 300) :
    ∃ (c : Int) (X : List Nat), (∀ y, Below w.heap.size w y → Calls Tryz.prog 46 #[.int .i64 x, .slice ia il ic, .int .u32 (q : Int), .slice ta tl tc, .slice ga gl gc] y (TellsL y X c)) ∧ (∀ y, Below w.heap.size w y → Calls Tryz.prog 50 #[.int .i64 x, .slice ia il ic, .int .u32 (q : Int), .slice ta tl tc, .slice ga gl gc] y (TellsL y X c)) := by
  have hil : id.length = il := by obtain ⟨a, c, e, _⟩ := ri; simp only [Value.slice.injEq] at e; exact e.2.1.symm
  have hgl : sig.length = gl := by obtain ⟨a, c, e, _⟩ := rg; simp only [Value.slice.injEq] at e; exact e.2.1.symm
  rcases kd_or x with h | ⟨k, n, m, s, c, rfl, h⟩
  · exact ⟨9, [], fun y hb => (ccnd_no x q ia ta ga il ic tl tc gl gc y h).mono fun e y' h => tellsL_nil h, fun y hb => (rcnd_no x q ia ta ga il ic tl tc gl gc y h).mono fun e y' h => tellsL_nilw h⟩
  by_cases hl : id.length = 16
  · obtain rfl : il = 16 := by omega
    by_cases hf : sig.length = 36 + 32 * (n + m)
    · have h4l : (sig.take 4).length = 4 := by rw [List.length_take]; omega
      have h4u : Under 256 (sig.take 4) := fun x hx => rg.under x (List.mem_of_mem_take hx)
      have hcc : c < 256 := by have := h.pos; omega
      have hiff := be4_is hcc h4l h4u
      by_cases hc : sig.take 4 = be4 c
      · have hn := hiff.1 hc
        have hpl : 0 < (keyH shaL (preL id q) (endsC shaL (preL id q) (2 ^ k - 1) (digsL k n m s (digH shaL (preL id q) ((sig.drop 4).take 32) text)) sig)).length := by unfold keyH; rw [shaL_len]; decide
        refine ⟨0, _, fun y hb => (ccnd_ok h rfl q id text sig _ _ _ y (hT.below hb) (ri.below hb) ti (rt.below hb) tt (rg.below hb) hl (by omega) hq hf hc).mono fun e y' h => tellsL_own h, fun y hb => ?_⟩
        cases h
        · exact (rcnd_1 id text sig q _ _ _ y (ri.below hb) ti (rt.below hb) tt (rg.below hb) hq hl (by omega) hf hn).mono fun e y' h => tellsL_new hpl h
        · exact (rcnd_2 id text sig q _ _ _ y (ri.below hb) ti (rt.below hb) tt (rg.below hb) hq hl (by omega) hf hn).mono fun e y' h => tellsL_new hpl h
        · exact (rcnd_4 id text sig q _ _ _ y (ri.below hb) ti (rt.below hb) tt (rg.below hb) hq hl (by omega) hf hn).mono fun e y' h => tellsL_new hpl h
        · exact absurd rfl hx
      · exact ⟨1, [], fun y hb => (ccnd_code h rfl q id sig _ _ ta tl tc y (ri.below hb) ti (rg.below hb) hl hq hf hc).mono fun e y' h => tellsL_nil h, fun y hb => (rcnd_code sig q ia ta ic tl tc _ y h (rg.below hb) hf (fun e => hc (hiff.2 e))).mono fun e y' h => tellsL_nilw h⟩
    · exact ⟨1, [], fun y hb => (ccnd_form h rfl q id _ ta ga tl tc gl gc y (ri.below hb) ti hl hq (by omega)).mono fun e y' h => tellsL_nil h, fun y hb => (rcnd_form q ia ta ga ic tl tc gl gc y h (by omega)).mono fun e y' h => tellsL_nilw h⟩
  · exact ⟨14, [], fun y hb => (ccnd_size h rfl q ia ta ga il ic tl tc gl gc y (by omega)).mono fun e y' h => tellsL_nil h, fun y hb => (rcnd_size q ia ta ga il ic tl tc gl gc y h (by omega)).mono fun e y' h => tellsL_nilw h⟩
end
end Go.Proofs.YtefndnbaifiboaaGreatDoor
