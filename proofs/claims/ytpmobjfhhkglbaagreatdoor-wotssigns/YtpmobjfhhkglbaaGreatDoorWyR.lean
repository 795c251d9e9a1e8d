import Derived.Test.YtpmobjfhhkglbaaGreatDoorWyK
namespace Go.Proofs.YtpmobjfhhkglbaaGreatDoor
open Go.RowKit
set_option linter.unusedVariables false
set_option linter.unusedSimpArgs false
theorem boxY (w : World) (M H D A K : Int) (sh : Bool) {a : List Nat} : BxSW ((w.alloc (.cells #[.int .i64 M, .int .i64 H, .int .i64 D, .int .i64 A, .int .i64 K, .bool sh] 23)).alloc (.cells (arr .u8 a) 25)) w.heap.size M H D A K sh ∧ Lies .u8 25 ((w.alloc (.cells #[.int .i64 M, .int .i64 H, .int .i64 D, .int .i64 A, .int .i64 K, .bool sh] 23)).alloc (.cells (arr .u8 a) 25)) (w.heap.size + 1) a ∧ Below w.heap.size w ((w.alloc (.cells #[.int .i64 M, .int .i64 H, .int .i64 D, .int .i64 A, .int .i64 K, .bool sh] 23)).alloc (.cells (arr .u8 a) 25)) := by
  have L0 := Lies.new .u8 25 (w.alloc (.cells #[.int .i64 M, .int .i64 H, .int .i64 D, .int .i64 A, .int .i64 K, .bool sh] 23)) a
  rw [World.size_alloc] at L0
  exact ⟨(BxSW.new w M H D A K sh).below (keep_alloc _ _), L0, keep_trans (keep_alloc _ _) (keep_alloc _ _)⟩
def lsilt : List Lt := [(0, some 30, [6]), (0, some 31, [2]), (0, some 32, [3]), (0, some 33, [7]), (15, some 34, [30, 31, 32, 33]), (0, some 35, [6]), (0, some 36, [2]), (0, some 37, [3]), (0, some 38, [7]), (496, some 39, [35, 36, 37, 38]), (528, some 40, [34, 39]), (1024, some 41, [40]), (2048, some 42, [6, 41]), (2048, some 43, [4, 41]), (2048, some 44, [2, 41]), (2048, some 45, [3, 41]), (2048, some 46, [7, 41]), (129024, some 47, [42, 43, 44, 45, 46, 41]), (2048, some 48, [6, 41]), (2048, some 49, [4, 41]), (2048, some 50, [2, 41]), (2048, some 51, [3, 41]), (2048, some 52, [7, 41]), (8259584, some 53, [48, 49, 50, 51, 52, 41]), (8521728, some 54, [47, 53, 41]), (16779264, some 55, [41, 54]), (50331648, some 56, [55]), (67108864, some 57, [6, 56]), (67108864, some 58, [5, 56]), (67108864, some 59, [4, 56]), (67108864, some 60, [3, 56]), (67108864, some 61, [7, 56]), (4227858432, some 62, [57, 58, 59, 60, 61, 56]), (67108864, some 63, [6, 56]), (67108864, some 64, [5, 56]), (67108864, some 65, [4, 56]), (67108864, some 66, [3, 56]), (67108864, some 67, [7, 56]), (270650048512, some 68, [63, 64, 65, 66, 67, 56]), (279239983104, some 69, [62, 68, 56]), (549822922752, some 70, [56, 69]), (1649267441664, some 71, [70]), (2199023255552, some 72, [71]), (6597069766656, some 73, [71, 72]), (17592186044415, some 12, [73])]
theorem lsireg : Reg (opsA (cLA (cRA (cRA (Tryz.f4.body.getD .skip))))) lsilt := ⟨by kernel_rfl, by kernel_rfl⟩
set_option maxHeartbeats 8000000 in
set_option maxRecDepth 100000 in
theorem signsY (M H D A K : Int) (sh : Bool) (a secret pub text sig : List Nat) (sv pv tv gv : Value) (w : World) (hC : Csts w) (hT : Roots w) (ha : Pl a) (hs : Row .u8 256 w sv secret) (ts : Tidy sv) (hp : Row .u8 256 w pv pub) (tp : Tidy pv) (ht : Row .u8 256 w tv text) (tt : Tidy tv) (hg : Row .u8 256 w gv sig) :
    Calls Tryz.prog 4 #[slV M H D A K sh, .agg (arr .u8 a), sv, pv, tv, gv] w fun e w' => e = .returned (.bool true) ∧ Below w.heap.size w w' := by
  have hf := fun y => rfitX_any M H D A K sh y
  obtain ⟨bx, La, k0⟩ := boxY w M H D A K sh (a := a)
  have bx0 := bx.here
  obtain ⟨sa, sc, rfl, _⟩ := hs.opens rfl
  obtain ⟨pa, pc, rfl, _⟩ := hp.opens rfl
  obtain ⟨ta, tc, rfl, _⟩ := ht.opens rfl
  obtain ⟨ga, gc, rfl, _⟩ := hg.opens rfl
  by_cases hF : FitX M H D A K
  · rw [decide_eq_true hF] at hf
    have hfe := fun y => few3Y sa pa ta secret.length pub.length text.length sc pc tc y
    by_cases hfw : secret.length ≤ 300 ∧ pub.length ≤ 300 ∧ text.length ≤ 300
    · rw [decide_eq_true hfw] at hfe
      by_cases hsg : sig.length ≤ 3000
      · have hsi : ¬ (3000 : Int) < (sig.length : Int) := by omega
        have hsi2 : ¬ (sig.length : Int) > 3000 := by omega
        obtain ⟨N, hN⟩ : ∃ N : Nat, M = (N : Int) := ⟨M.toNat, by have := hF.1; omega⟩
        subst hN
        obtain ⟨X1, hp1, hp2⟩ := both_pubY sh pub a secret _ _ w hC hT hF ha hp tp hs ts
        obtain ⟨X2, hs1, hs2⟩ := both_sgnY sh pub a secret text _ _ _ w hC hT hF ha hp tp hs ts ht tt
        obtain ⟨X3, hc1, hc2⟩ := both_cndY sh pub a text sig _ _ _ w hC hT hF ha hp tp ht tt hg
        unfold TellsY slV at hp1 hp2 hs1 hs2 hc1 hc2
        unfold slV at hf ⊢
        obtain ⟨M, hM⟩ : ∃ M : Int, M = (N : Int) := ⟨_, rfl⟩
        rw [← hM] at hf bx La bx0 k0 hp1 hp2 hs1 hs2 hc1 hc2 ⊢
        clear hM hs hp ht hg hF hC hT hfw hsg
        go_enter Tryz.func4, Tryz.ntmps4
        go_wp2_with (first
          | (refine wpList_load_rowS (by rfl) 23 _ (by rfl) w.heap.size (by rfl) _ _ _ _ bx0 Tryz.underlying23 (by kernel_rfl) ?_)
          | (go_at_call 8; refine (hf _).mono ?_; rintro e y0 ⟨rfl, g0⟩)
          | (go_at_call 5; refine (hfe _).mono ?_; rintro e W1 ⟨rfl, g1⟩)
          | fail)
        have bx1 := (bx.below g0).below g1
        have La1 := (La.below g0).below g1
        have k1 := keep_trans k0 (keep_trans g0 g1)
        have hbd : Below W1.heap.size W1 W1.drew := (Below.refl _ _).drew
        clear bx La bx0 k0 g0 g1
        refine at_begin (ops := opsA (cLA (cRA (cRA (Tryz.f4.body.getD .skip))))) (n := 45) (fun y => Below W1.heap.size W1 y) (by kernel_rfl) (by kernel_rfl) ?_
        refine tkP 0 1 30 (.agg #[.int .i64 M, .int .i64 H, .int .i64 D, .int .i64 A, .int .i64 K, .bool sh]) lsireg rfl (by decide) rfl rfl (y_rowG (cs := [.int .i64 M, .int .i64 H, .int .i64 D, .int .i64 A, .int .i64 K, .bool sh]) (wF rfl) rfl rfl Tryz.underlying23 rfl (by kernel_rfl) (fun _ h => (bx1.below h).range)) hbd ?_
        simp only [Act.put, plI, plZ, plS]
        refine tkP 1 3 31 (.slice sa secret.length sc) lsireg rfl (by decide) rfl rfl (y_moveG (wF rfl) rfl rfl) hbd ?_
        simp only [Act.put, plI, plZ, plS]
        refine tkP 2 7 32 (.slice pa pub.length pc) lsireg rfl (by decide) rfl rfl (y_moveG (wF rfl) rfl rfl) hbd ?_
        simp only [Act.put, plI, plZ, plS]
        refine tkP 3 15 33 (.agg (arr .u8 a)) lsireg rfl (by decide) rfl rfl (y_rowG (cs := vals .u8 a) (wF rfl) rfl rfl Tryz.underlying25 rfl (by rw [vals_length, ha.1]; kernel_rfl) (fun _ h => lies_rangeW (La1.below h))) hbd ?_
        simp only [Act.put, plI, plZ, plS]
        refine tkP 5 47 35 (.agg #[.int .i64 M, .int .i64 H, .int .i64 D, .int .i64 A, .int .i64 K, .bool sh]) lsireg rfl (by decide) rfl rfl (y_rowG (cs := [.int .i64 M, .int .i64 H, .int .i64 D, .int .i64 A, .int .i64 K, .bool sh]) (wF rfl) rfl rfl Tryz.underlying23 rfl (by kernel_rfl) (fun _ h => (bx1.below h).range)) hbd ?_
        simp only [Act.put, plI, plZ, plS]
        refine tkP 6 111 36 (.slice sa secret.length sc) lsireg rfl (by decide) rfl rfl (y_moveG (wF rfl) rfl rfl) hbd ?_
        simp only [Act.put, plI, plZ, plS]
        refine tkP 7 239 37 (.slice pa pub.length pc) lsireg rfl (by decide) rfl rfl (y_moveG (wF rfl) rfl rfl) hbd ?_
        simp only [Act.put, plI, plZ, plS]
        refine tkP 8 495 38 (.agg (arr .u8 a)) lsireg rfl (by decide) rfl rfl (y_rowG (cs := vals .u8 a) (wF rfl) rfl rfl Tryz.underlying25 rfl (by rw [vals_length, ha.1]; kernel_rfl) (fun _ h => lies_rangeW (La1.below h))) hbd ?_
        simp only [Act.put, plI, plZ, plS]
        refine at_one (i := 4) (m' := 511) lsireg (by decide) rfl ?_
        refine p_callG (args := #[.agg #[.int .i64 M, .int .i64 H, .int .i64 D, .int .i64 A, .int .i64 K, .bool sh], .slice sa secret.length sc, .slice pa pub.length pc, .agg (arr .u8 a)]) (d := some 34) rfl (wF rfl) rfl (by simp only [List.map_toArray, List.map_cons, List.map_nil]; rfl) rfl Tryz.call19 ((hp1 W1.drew (keep_trans k1 hbd)).mono ?_)
        rintro e y9 ⟨v1, rfl, r1, g9⟩
        obtain ⟨j1, d1, rfl, _⟩ := r1.opens rfl
        have hb9 := keep_trans hbd g9
        refine ⟨_, rfl, hb9, ?_⟩
        simp only [Act.put, plI, plZ, plS]
        refine at_one (i := 9) (m' := 1023) lsireg (by decide) rfl ?_
        refine p_callG (args := #[.agg #[.int .i64 M, .int .i64 H, .int .i64 D, .int .i64 A, .int .i64 K, .bool sh], .slice sa secret.length sc, .slice pa pub.length pc, .agg (arr .u8 a)]) (d := some 39) rfl (wF rfl) rfl (by simp only [List.map_toArray, List.map_cons, List.map_nil]; rfl) rfl Tryz.call20 ((hp2 y9 (keep_trans k1 hb9)).mono ?_)
        rintro e y10 ⟨v2, rfl, r2, g10⟩
        obtain ⟨j2, d2, rfl, _⟩ := r2.opens rfl
        replace r1 := r1.below g10
        have hb10 := keep_trans hb9 g10
        refine ⟨_, rfl, hb10, ?_⟩
        simp only [Act.put, plI, plZ, plS]
        refine at_one (i := 10) (m' := 2047) lsireg (by decide) rfl ?_
        refine p_callG (args := #[.slice j1 X1.length d1, .slice j2 X1.length d2]) (d := some 40) rfl (wF rfl) rfl (by simp only [List.map_toArray, List.map_cons, List.map_nil]; rfl) rfl Tryz.call14 ((rsame_true _ _ _ y10 r1 r2).mono ?_)
        rintro e y11 ⟨rfl, g11⟩
        have hb11 := keep_trans hb10 g11
        refine ⟨_, rfl, hb11, ?_⟩
        simp only [Act.put, plI, plZ, plS]
        refine tkP 11 4095 41 (.bool true) lsireg rfl (by decide) rfl rfl (y_moveG (wF rfl) rfl rfl) hb11 ?_
        simp only [Act.put, plI, plZ, plS]
        refine tkP 12 8191 42 (.agg #[.int .i64 M, .int .i64 H, .int .i64 D, .int .i64 A, .int .i64 K, .bool sh]) lsireg rfl (by decide) rfl rfl (y_rowG (cs := [.int .i64 M, .int .i64 H, .int .i64 D, .int .i64 A, .int .i64 K, .bool sh]) (wanted_gG (j := 11) (d := 41) (b := true) rfl rfl rfl rfl) rfl rfl Tryz.underlying23 rfl (by kernel_rfl) (fun _ h => (bx1.below h).range)) hb11 ?_
        simp only [Act.put, plI, plZ, plS]
        refine tkP 13 16383 43 (.slice ta text.length tc) lsireg rfl (by decide) rfl rfl (y_moveG (wanted_gG (j := 11) (d := 41) (b := true) rfl rfl rfl rfl) rfl rfl) hb11 ?_
        simp only [Act.put, plI, plZ, plS]
        refine tkP 14 32767 44 (.slice sa secret.length sc) lsireg rfl (by decide) rfl rfl (y_moveG (wanted_gG (j := 11) (d := 41) (b := true) rfl rfl rfl rfl) rfl rfl) hb11 ?_
        simp only [Act.put, plI, plZ, plS]
        refine tkP 15 65535 45 (.slice pa pub.length pc) lsireg rfl (by decide) rfl rfl (y_moveG (wanted_gG (j := 11) (d := 41) (b := true) rfl rfl rfl rfl) rfl rfl) hb11 ?_
        simp only [Act.put, plI, plZ, plS]
        refine tkP 16 131071 46 (.agg (arr .u8 a)) lsireg rfl (by decide) rfl rfl (y_rowG (cs := vals .u8 a) (wanted_gG (j := 11) (d := 41) (b := true) rfl rfl rfl rfl) rfl rfl Tryz.underlying25 rfl (by rw [vals_length, ha.1]; kernel_rfl) (fun _ h => lies_rangeW (La1.below h))) hb11 ?_
        simp only [Act.put, plI, plZ, plS]
        refine tkP 18 393215 48 (.agg #[.int .i64 M, .int .i64 H, .int .i64 D, .int .i64 A, .int .i64 K, .bool sh]) lsireg rfl (by decide) rfl rfl (y_rowG (cs := [.int .i64 M, .int .i64 H, .int .i64 D, .int .i64 A, .int .i64 K, .bool sh]) (wanted_gG (j := 11) (d := 41) (b := true) rfl rfl rfl rfl) rfl rfl Tryz.underlying23 rfl (by kernel_rfl) (fun _ h => (bx1.below h).range)) hb11 ?_
        simp only [Act.put, plI, plZ, plS]
        refine tkP 19 917503 49 (.slice ta text.length tc) lsireg rfl (by decide) rfl rfl (y_moveG (wanted_gG (j := 11) (d := 41) (b := true) rfl rfl rfl rfl) rfl rfl) hb11 ?_
        simp only [Act.put, plI, plZ, plS]
        refine tkP 20 1966079 50 (.slice sa secret.length sc) lsireg rfl (by decide) rfl rfl (y_moveG (wanted_gG (j := 11) (d := 41) (b := true) rfl rfl rfl rfl) rfl rfl) hb11 ?_
        simp only [Act.put, plI, plZ, plS]
        refine tkP 21 4063231 51 (.slice pa pub.length pc) lsireg rfl (by decide) rfl rfl (y_moveG (wanted_gG (j := 11) (d := 41) (b := true) rfl rfl rfl rfl) rfl rfl) hb11 ?_
        simp only [Act.put, plI, plZ, plS]
        refine tkP 22 8257535 52 (.agg (arr .u8 a)) lsireg rfl (by decide) rfl rfl (y_rowG (cs := vals .u8 a) (wanted_gG (j := 11) (d := 41) (b := true) rfl rfl rfl rfl) rfl rfl Tryz.underlying25 rfl (by rw [vals_length, ha.1]; kernel_rfl) (fun _ h => lies_rangeW (La1.below h))) hb11 ?_
        simp only [Act.put, plI, plZ, plS]
        refine at_one (i := 17) (m' := 8388607) lsireg (by decide) rfl ?_
        refine p_callG (args := #[.agg #[.int .i64 M, .int .i64 H, .int .i64 D, .int .i64 A, .int .i64 K, .bool sh], .slice ta text.length tc, .slice sa secret.length sc, .slice pa pub.length pc, .agg (arr .u8 a)]) (d := some 47) rfl (wanted_gG (j := 11) (d := 41) (b := true) rfl rfl rfl rfl) rfl (by simp only [List.map_toArray, List.map_cons, List.map_nil]; rfl) rfl Tryz.call21 ((hs1 y11 (keep_trans k1 hb11)).mono ?_)
        rintro e y23 ⟨v3, rfl, r3, g23⟩
        obtain ⟨j3, d3, rfl, _⟩ := r3.opens rfl
        have hb23 := keep_trans hb11 g23
        refine ⟨_, rfl, hb23, ?_⟩
        simp only [Act.put, plI, plZ, plS]
        refine at_one (i := 23) (m' := 16777215) lsireg (by decide) rfl ?_
        refine p_callG (args := #[.agg #[.int .i64 M, .int .i64 H, .int .i64 D, .int .i64 A, .int .i64 K, .bool sh], .slice ta text.length tc, .slice sa secret.length sc, .slice pa pub.length pc, .agg (arr .u8 a)]) (d := some 53) rfl (wanted_gG (j := 11) (d := 41) (b := true) rfl rfl rfl rfl) rfl (by simp only [List.map_toArray, List.map_cons, List.map_nil]; rfl) rfl Tryz.call22 ((hs2 y23 (keep_trans k1 hb23)).mono ?_)
        rintro e y24 ⟨v4, rfl, r4, g24⟩
        obtain ⟨j4, d4, rfl, _⟩ := r4.opens rfl
        replace r3 := r3.below g24
        have hb24 := keep_trans hb23 g24
        refine ⟨_, rfl, hb24, ?_⟩
        simp only [Act.put, plI, plZ, plS]
        refine at_one (i := 24) (m' := 33554431) lsireg (by decide) rfl ?_
        refine p_callG (args := #[.slice j3 X2.length d3, .slice j4 X2.length d4]) (d := some 54) rfl (wanted_gG (j := 11) (d := 41) (b := true) rfl rfl rfl rfl) rfl (by simp only [List.map_toArray, List.map_cons, List.map_nil]; rfl) rfl Tryz.call14 ((rsame_true _ _ _ y24 r3 r4).mono ?_)
        rintro e y25 ⟨rfl, g25⟩
        have hb25 := keep_trans hb24 g25
        refine ⟨_, rfl, hb25, ?_⟩
        simp only [Act.put, plI, plZ, plS]
        refine tkP 25 67108863 55 (.bool true) lsireg rfl (by decide) rfl rfl (y_pickTG (wF rfl) rfl rfl rfl) hb25 ?_
        simp only [Act.put, plI, plZ, plS]
        refine tkP 26 134217727 56 (.bool true) lsireg rfl (by decide) rfl rfl (y_moveG (wF rfl) rfl rfl) hb25 ?_
        simp only [Act.put, plI, plZ, plS]
        refine tkP 27 268435455 57 (.agg #[.int .i64 M, .int .i64 H, .int .i64 D, .int .i64 A, .int .i64 K, .bool sh]) lsireg rfl (by decide) rfl rfl (y_rowG (cs := [.int .i64 M, .int .i64 H, .int .i64 D, .int .i64 A, .int .i64 K, .bool sh]) (wanted_gG (j := 26) (d := 56) (b := true) rfl rfl rfl rfl) rfl rfl Tryz.underlying23 rfl (by kernel_rfl) (fun _ h => (bx1.below h).range)) hb25 ?_
        simp only [Act.put, plI, plZ, plS]
        refine tkP 28 536870911 58 (.slice ga sig.length gc) lsireg rfl (by decide) rfl rfl (y_moveG (wanted_gG (j := 26) (d := 56) (b := true) rfl rfl rfl rfl) rfl rfl) hb25 ?_
        simp only [Act.put, plI, plZ, plS]
        refine tkP 29 1073741823 59 (.slice ta text.length tc) lsireg rfl (by decide) rfl rfl (y_moveG (wanted_gG (j := 26) (d := 56) (b := true) rfl rfl rfl rfl) rfl rfl) hb25 ?_
        simp only [Act.put, plI, plZ, plS]
        refine tkP 30 2147483647 60 (.slice pa pub.length pc) lsireg rfl (by decide) rfl rfl (y_moveG (wanted_gG (j := 26) (d := 56) (b := true) rfl rfl rfl rfl) rfl rfl) hb25 ?_
        simp only [Act.put, plI, plZ, plS]
        refine tkP 31 4294967295 61 (.agg (arr .u8 a)) lsireg rfl (by decide) rfl rfl (y_rowG (cs := vals .u8 a) (wanted_gG (j := 26) (d := 56) (b := true) rfl rfl rfl rfl) rfl rfl Tryz.underlying25 rfl (by rw [vals_length, ha.1]; kernel_rfl) (fun _ h => lies_rangeW (La1.below h))) hb25 ?_
        simp only [Act.put, plI, plZ, plS]
        refine tkP 33 12884901887 63 (.agg #[.int .i64 M, .int .i64 H, .int .i64 D, .int .i64 A, .int .i64 K, .bool sh]) lsireg rfl (by decide) rfl rfl (y_rowG (cs := [.int .i64 M, .int .i64 H, .int .i64 D, .int .i64 A, .int .i64 K, .bool sh]) (wanted_gG (j := 26) (d := 56) (b := true) rfl rfl rfl rfl) rfl rfl Tryz.underlying23 rfl (by kernel_rfl) (fun _ h => (bx1.below h).range)) hb25 ?_
        simp only [Act.put, plI, plZ, plS]
        refine tkP 34 30064771071 64 (.slice ga sig.length gc) lsireg rfl (by decide) rfl rfl (y_moveG (wanted_gG (j := 26) (d := 56) (b := true) rfl rfl rfl rfl) rfl rfl) hb25 ?_
        simp only [Act.put, plI, plZ, plS]
        refine tkP 35 64424509439 65 (.slice ta text.length tc) lsireg rfl (by decide) rfl rfl (y_moveG (wanted_gG (j := 26) (d := 56) (b := true) rfl rfl rfl rfl) rfl rfl) hb25 ?_
        simp only [Act.put, plI, plZ, plS]
        refine tkP 36 133143986175 66 (.slice pa pub.length pc) lsireg rfl (by decide) rfl rfl (y_moveG (wanted_gG (j := 26) (d := 56) (b := true) rfl rfl rfl rfl) rfl rfl) hb25 ?_
        simp only [Act.put, plI, plZ, plS]
        refine tkP 37 270582939647 67 (.agg (arr .u8 a)) lsireg rfl (by decide) rfl rfl (y_rowG (cs := vals .u8 a) (wanted_gG (j := 26) (d := 56) (b := true) rfl rfl rfl rfl) rfl rfl Tryz.underlying25 rfl (by rw [vals_length, ha.1]; kernel_rfl) (fun _ h => lies_rangeW (La1.below h))) hb25 ?_
        simp only [Act.put, plI, plZ, plS]
        refine at_one (i := 32) (m' := 274877906943) lsireg (by decide) rfl ?_
        refine p_callG (args := #[.agg #[.int .i64 M, .int .i64 H, .int .i64 D, .int .i64 A, .int .i64 K, .bool sh], .slice ga sig.length gc, .slice ta text.length tc, .slice pa pub.length pc, .agg (arr .u8 a)]) (d := some 62) rfl (wanted_gG (j := 26) (d := 56) (b := true) rfl rfl rfl rfl) rfl (by simp only [List.map_toArray, List.map_cons, List.map_nil]; rfl) rfl Tryz.call23 ((hc1 y25 (keep_trans k1 hb25)).mono ?_)
        rintro e y38 ⟨v5, rfl, r5, g38⟩
        obtain ⟨j5, d5, rfl, _⟩ := r5.opens rfl
        have hb38 := keep_trans hb25 g38
        refine ⟨_, rfl, hb38, ?_⟩
        simp only [Act.put, plI, plZ, plS]
        refine at_one (i := 38) (m' := 549755813887) lsireg (by decide) rfl ?_
        refine p_callG (args := #[.agg #[.int .i64 M, .int .i64 H, .int .i64 D, .int .i64 A, .int .i64 K, .bool sh], .slice ga sig.length gc, .slice ta text.length tc, .slice pa pub.length pc, .agg (arr .u8 a)]) (d := some 68) rfl (wanted_gG (j := 26) (d := 56) (b := true) rfl rfl rfl rfl) rfl (by simp only [List.map_toArray, List.map_cons, List.map_nil]; rfl) rfl Tryz.call24 ((hc2 y38 (keep_trans k1 hb38)).mono ?_)
        rintro e y39 ⟨v6, rfl, r6, g39⟩
        obtain ⟨j6, d6, rfl, _⟩ := r6.opens rfl
        replace r5 := r5.below g39
        have hb39 := keep_trans hb38 g39
        refine ⟨_, rfl, hb39, ?_⟩
        simp only [Act.put, plI, plZ, plS]
        refine at_one (i := 39) (m' := 1099511627775) lsireg (by decide) rfl ?_
        refine p_callG (args := #[.slice j5 X3.length d5, .slice j6 X3.length d6]) (d := some 69) rfl (wanted_gG (j := 26) (d := 56) (b := true) rfl rfl rfl rfl) rfl (by simp only [List.map_toArray, List.map_cons, List.map_nil]; rfl) rfl Tryz.call14 ((rsame_true _ _ _ y39 r5 r6).mono ?_)
        rintro e y40 ⟨rfl, g40⟩
        have hb40 := keep_trans hb39 g40
        refine ⟨_, rfl, hb40, ?_⟩
        simp only [Act.put, plI, plZ, plS]
        refine tkP 40 2199023255551 70 (.bool true) lsireg rfl (by decide) rfl rfl (y_pickTG (wF rfl) rfl rfl rfl) hb40 ?_
        simp only [Act.put, plI, plZ, plS]
        refine tkP 41 4398046511103 71 (.bool true) lsireg rfl (by decide) rfl rfl (y_moveG (wF rfl) rfl rfl) hb40 ?_
        simp only [Act.put, plI, plZ, plS]
        refine at_one (i := 42) (m' := 8796093022207) lsireg (by decide) rfl ?_
        refine p_callG (args := #[]) (d := some 72) rfl (wanted_gG (j := 41) (d := 71) (b := true) rfl rfl rfl rfl) rfl (by simp only [List.map_toArray, List.map_nil]) rfl Tryz.call6 ((awakeY_any y40).mono ?_)
        rintro e y43 ⟨rfl, g43⟩
        have hb43 := keep_trans hb40 g43
        refine ⟨_, rfl, hb43, ?_⟩
        simp only [Act.put, plI, plZ, plS]
        refine tkP 43 17592186044415 73 (.bool true) lsireg rfl (by decide) rfl rfl (y_pickTG (wF rfl) rfl rfl rfl) hb43 ?_
        simp only [Act.put, plI, plZ, plS]
        refine tkP 44 35184372088831 12 (.bool true) lsireg rfl (by decide) rfl rfl (y_assignG (wF rfl) rfl rfl) hb43 ?_
        simp only [Act.put, plI, plZ, plS]
        refine at_done lsireg (by decide) ?_
        go_wp2
        go_ret
        exact ⟨rfl, keep_trans k1 hb43⟩
      · have hsi : (3000 : Int) < (sig.length : Int) := by omega
        have hsi2 : (sig.length : Int) > 3000 := by omega
        unfold slV at hf ⊢
        clear hs hp ht hg hF hC hT hfw hsg
        go_enter Tryz.func4, Tryz.ntmps4
        go_wp2_with (first
          | (refine wpList_load_rowS (by rfl) 23 _ (by rfl) w.heap.size (by rfl) _ _ _ _ bx0 Tryz.underlying23 (by kernel_rfl) ?_)
          | (go_at_call 8; refine (hf _).mono ?_; rintro e y0 ⟨rfl, g0⟩)
          | (go_at_call 5; refine (hfe _).mono ?_; rintro e W1 ⟨rfl, g1⟩)
          | (go_at_call 6; refine (awakeY_any _).mono ?_; rintro e y2 ⟨rfl, g2⟩)
          | fail)
        go_ret
        exact ⟨rfl, keep_trans k0 (keep_trans g0 (keep_trans g1 g2))⟩
    · rw [decide_eq_false hfw] at hfe
      unfold slV at hf ⊢
      clear hs hp ht hg hF hC hT hfw
      go_enter Tryz.func4, Tryz.ntmps4
      go_wp2_with (first
        | (refine wpList_load_rowS (by rfl) 23 _ (by rfl) w.heap.size (by rfl) _ _ _ _ bx0 Tryz.underlying23 (by kernel_rfl) ?_)
        | (go_at_call 8; refine (hf _).mono ?_; rintro e y0 ⟨rfl, g0⟩)
        | (go_at_call 5; refine (hfe _).mono ?_; rintro e W1 ⟨rfl, g1⟩)
        | (go_at_call 6; refine (awakeY_any _).mono ?_; rintro e y2 ⟨rfl, g2⟩)
        | fail)
      go_ret
      exact ⟨rfl, keep_trans k0 (keep_trans g0 (keep_trans g1 g2))⟩
  · rw [decide_eq_false hF] at hf
    unfold slV at hf ⊢
    clear hs hp ht hg hF hC hT
    go_enter Tryz.func4, Tryz.ntmps4
    go_wp2_with (first
      | (refine wpList_load_rowS (by rfl) 23 _ (by rfl) w.heap.size (by rfl) _ _ _ _ bx0 Tryz.underlying23 (by kernel_rfl) ?_)
      | (go_at_call 8; refine (hf _).mono ?_; rintro e y0 ⟨rfl, g0⟩)
      | (go_at_call 6; refine (awakeY_any _).mono ?_; rintro e y2 ⟨rfl, g2⟩)
      | fail)
    go_ret
    exact ⟨rfl, keep_trans k0 (keep_trans g0 g2)⟩
end Go.Proofs.YtpmobjfhhkglbaaGreatDoor
