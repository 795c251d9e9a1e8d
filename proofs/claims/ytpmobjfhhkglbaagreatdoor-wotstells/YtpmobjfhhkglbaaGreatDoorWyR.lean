/- Keys of chains: what the laws WotsTells and WotsSigns ask. -/
import Derived.Test.YtpmobjfhhkglbaaGreatDoorWyL
namespace Go.Proofs.YtpmobjfhhkglbaaGreatDoor
open Go.RowKit
set_option linter.unusedVariables false
set_option linter.unusedSimpArgs false

theorem wanted_uGY {ops : Array Oper} {o oj : Oper} {a : Act} {j d : Nat} {b : Bool} (hg : o.guard = some (j, b)) (hj : ops[j]? = some oj) (hd : oj.dst = some d) (hv : a.eval (.tmp d) = undef) : Region.wanted o (yielded ops a.tmps) = false := by
  have h' : a.tmps.getD d undef = undef := hv
  rw [Array.getD_eq_getD_getElem?] at h'
  cases hq : a.tmps[d]? with
  | none => simp [Region.wanted, hg, yielded, hj, hd, hq]
  | some v =>
    rw [hq] at h'
    have e : v = undef := by simpa using h'
    subst e
    simp [Region.wanted, hg, yielded, hj, hd, hq, undef]
theorem y_neBY {ops : Array Oper} {S : World → Prop} {o : Oper} {a : Act} {x y : Operand} {t t' : TypeId} {b : Bool} (hw : Region.wanted o (yielded ops a.tmps) = true) (ho : o.op = .binOp .neq t x y t') (hx : a.eval x = .bool b) (hy : a.eval y = .bool b) (hu : Tryz.prog.underlying t = some .bool) : YieldsIf Tryz.prog ops S o (.bool false) a := by
  refine y_ofG hw fun w _ => ?_
  unfold execOp
  simp only [ho, hx, hy]
  simp [go_sem, Sem.run_bind, run_underlying hu, hu]
/-- the world with a kind and a place in boxes, of whatever kind -/
theorem boxY (w : World) (M H D A K : Int) (sh : Bool) {a : List Nat} : BxSW ((w.alloc (.cells #[.int .i64 M, .int .i64 H, .int .i64 D, .int .i64 A, .int .i64 K, .bool sh] 23)).alloc (.cells (arr .u8 a) 25)) w.heap.size M H D A K sh ∧ Lies .u8 25 ((w.alloc (.cells #[.int .i64 M, .int .i64 H, .int .i64 D, .int .i64 A, .int .i64 K, .bool sh] 23)).alloc (.cells (arr .u8 a) 25)) (w.heap.size + 1) a ∧ Below w.heap.size w ((w.alloc (.cells #[.int .i64 M, .int .i64 H, .int .i64 D, .int .i64 A, .int .i64 K, .bool sh] 23)).alloc (.cells (arr .u8 a) 25)) := by
  have L0 := Lies.new .u8 25 (w.alloc (.cells #[.int .i64 M, .int .i64 H, .int .i64 D, .int .i64 A, .int .i64 K, .bool sh] 23)) a
  rw [World.size_alloc] at L0
  exact ⟨(BxSW.new w M H D A K sh).below (keep_alloc _ _), L0, keep_trans (keep_alloc _ _) (keep_alloc _ _)⟩
def lt3lt : List Lt := [(0, some 19, [6]), (1, some 20, [19]), (0, some 21, [6]), (6, some 22, [21]), (10, some 23, [20, 22]), (24, some 24, [23]), (32, some 25, [7, 24]), (32, some 26, [2, 24]), (32, some 27, [3, 24]), (480, some 28, [25, 26, 27, 24]), (32, some 29, [7, 24]), (32, some 30, [2, 24]), (32, some 31, [3, 24]), (7712, some 32, [29, 30, 31, 24]), (8736, some 33, [28, 32, 24]), (16416, some 34, [24, 33]), (40960, some 35, [34]), (65536, some 36, [6, 35]), (196608, some 37, [36, 35]), (65536, some 38, [5, 35]), (851968, some 39, [37, 38, 35]), (65536, some 40, [6, 35]), (2162688, some 41, [40, 35]), (65536, some 42, [5, 35]), (13697024, some 43, [41, 42, 35]), (17891328, some 44, [39, 43, 35]), (33619968, some 45, [44, 35]), (67174400, some 46, [35, 45])]
theorem lt3reg : Reg (opsA (cLA (cLA (cRA (cRA (Tryz.f3.body.getD .skip)))))) lt3lt := ⟨by kernel_rfl, by kernel_rfl⟩
def lt5lt : List Lt := [(0, some 47, [6]), (1, some 48, [47]), (2, some 49, [48]), (6, some 50, [49]), (8, some 51, [6, 50]), (8, some 52, [4, 50]), (8, some 53, [7, 50]), (8, some 54, [5, 50]), (248, some 55, [51, 52, 53, 54, 50]), (8, some 56, [6, 50]), (8, some 57, [4, 50]), (8, some 58, [7, 50]), (8, some 59, [5, 50]), (7944, some 60, [56, 57, 58, 59, 50]), (8456, some 61, [55, 60, 50]), (16392, some 62, [61, 50]), (32768, some 63, [6, 62]), (32768, some 64, [4, 62]), (32768, some 65, [5, 62]), (32768, some 66, [7, 62]), (1015808, some 67, [63, 64, 65, 66, 62]), (32768, some 68, [6, 62]), (32768, some 69, [4, 62]), (32768, some 70, [5, 62]), (32768, some 71, [7, 62]), (32538624, some 72, [68, 69, 70, 71, 62]), (34635776, some 73, [67, 72, 62]), (67141640, some 74, [62, 73, 50]), (201326600, some 75, [74, 50]), (268435456, some 76, [75]), (805306376, some 77, [75, 76, 50]), (1073741832, some 78, [50, 77]), (4294967295, some 12, [78])]
theorem lt5reg : Reg (opsA (cLA (cRA (cRA (cRA (Tryz.f3.body.getD .skip)))))) lt5lt := ⟨by kernel_rfl, by kernel_rfl⟩
set_option maxHeartbeats 8000000 in
set_option maxRecDepth 100000 in
theorem tellsY (M H D A K : Int) (sh : Bool) (a pub text : List Nat) (part : Int) (n : Nat) (pv tv : Value) (w : World) (hC : Csts w) (hT : Roots w) (hH : -9223372036854775808 ≤ H ∧ H ≤ 9223372036854775807) (ha : Pl a) (hn : n < 18446744073709551616) (hp : Row .u8 256 w pv pub) (tp : Tidy pv) (ht : Row .u8 256 w tv text) (tt : Tidy tv) :
    Calls Tryz.prog 3 #[slV M H D A K sh, .agg (arr .u8 a), .int .i64 part, .int .u64 (n : Int), pv, tv] w fun e w' => e = .returned (.bool true) ∧ Below w.heap.size w w' := by
  have hf2 := fun y => rfitX_any M H D A K sh y
  have hf1 := fun y => wfit_any M H D A K sh y hH
  have hu1 := fun y => wput_any a part n y ha hn
  have hu2 := fun y => rput_any a part n y ha hn
  have hPAl := (ha.put part n).1
  obtain ⟨X9, hd1, hd2⟩ := both_digY M text tv w ht tt
  generalize putA a part n = PA at *
  obtain ⟨bx, La, k0⟩ := boxY w M H D A K sh (a := a)
  obtain ⟨pa, pc, hpv, _⟩ := hp.opens rfl
  obtain ⟨ta, tc, htv, _⟩ := ht.opens rfl
  subst hpv
  subst htv
  have hfe : Calls Tryz.prog 5 #[.slice (some ⟨w.heap.size + 1 + 1, 0, none⟩) 2 2] (((w.alloc (.cells #[.int .i64 M, .int .i64 H, .int .i64 D, .int .i64 A, .int .i64 K, .bool sh] 23)).alloc (.cells (arr .u8 a) 25)).alloc (.cells #[.slice pa pub.length pc, .slice ta text.length tc] 27)) fun e w' => e = .returned (.bool (decide (pub.length ≤ 300 ∧ text.length ≤ 300))) ∧ Below ((w.alloc (.cells #[.int .i64 M, .int .i64 H, .int .i64 D, .int .i64 A, .int .i64 K, .bool sh] 23)).alloc (.cells (arr .u8 a) 25)).heap.size ((w.alloc (.cells #[.int .i64 M, .int .i64 H, .int .i64 D, .int .i64 A, .int .i64 K, .bool sh] 23)).alloc (.cells (arr .u8 a) 25)) w' := by
    have h := few2Y pa ta pub.length text.length pc tc ((w.alloc (.cells #[.int .i64 M, .int .i64 H, .int .i64 D, .int .i64 A, .int .i64 K, .bool sh] 23)).alloc (.cells (arr .u8 a) 25))
    have e : ((w.alloc (.cells #[.int .i64 M, .int .i64 H, .int .i64 D, .int .i64 A, .int .i64 K, .bool sh] 23)).alloc (.cells (arr .u8 a) 25)).heap.size = w.heap.size + 1 + 1 := by rw [World.size_alloc, World.size_alloc]
    rw [e] at h ⊢
    exact h
  by_cases hfw : pub.length ≤ 300 ∧ text.length ≤ 300
  · rw [decide_eq_true hfw] at hfe
    by_cases hF : FitX M H D A K
    · rw [decide_eq_true hF] at hf1 hf2
      obtain ⟨N, hN⟩ : ∃ N : Nat, M = (N : Int) := ⟨M.toNat, by have := hF.1; omega⟩
      subst hN
      obtain ⟨X1, hs1, hs2⟩ := both_sumY sh pub a text _ _ w hC hT hF ha hp tp ht tt hfw.2
      obtain ⟨X2, hw1, hw2⟩ := both_drwY sh pub a text _ _ w hC hT hF ha hp tp ht tt
      unfold TellsY slV at hs1 hs2 hw1 hw2
      unfold slV at hf1 hf2 ⊢
      obtain ⟨M, hM⟩ : ∃ M : Int, M = (N : Int) := ⟨_, rfl⟩
      rw [← hM] at hfe hf1 hf2 hd1 hd2 bx La k0 hs1 hs2 hw1 hw2 ⊢
      obtain ⟨fb, hfb⟩ : ∃ fb : Bool, fb = true := ⟨_, rfl⟩
      rw [← hfb] at hf1
      have hf2' := hf2
      rw [← hfb] at hf2
      clear hM hp ht hF hC hT hfw hH hfb hn
      go_enter Tryz.func3, Tryz.ntmps3
      go_wp2_with (first
        | (go_at_call 5; refine hfe.mono ?_; rintro e W1 ⟨rfl, g1⟩)
        | fail)
      have bx1 := bx.below g1
      have La1 := La.below g1
      have k1 := keep_trans k0 g1
      have hbd : Below W1.heap.size W1 W1.drew := (Below.refl _ _).drew
      clear bx La k0 g1
      refine at_begin (ops := opsA (cLA (cLA (cRA (cRA (Tryz.f3.body.getD .skip)))))) (n := 28) (fun y => Below W1.heap.size W1 y) (by kernel_rfl) (by kernel_rfl) ?_
      refine at_takeD (i := 0) (m' := 1) (d := some 19) (v := .agg #[.int .i64 M, .int .i64 H, .int .i64 D, .int .i64 A, .int .i64 K, .bool sh]) lt3reg rfl (by decide) rfl rfl (y_rowG (cs := [.int .i64 M, .int .i64 H, .int .i64 D, .int .i64 A, .int .i64 K, .bool sh]) (wanted_free rfl) rfl rfl Tryz.underlying23 rfl (by kernel_rfl) (fun _ h => (bx1.below h).range)) hbd ?_
      simp only [Act.put, List.setIfInBounds_toArray, List.set_cons_zero, List.set_cons_succ]
      refine at_takeD (i := 2) (m' := 5) (d := some 21) (v := .agg #[.int .i64 M, .int .i64 H, .int .i64 D, .int .i64 A, .int .i64 K, .bool sh]) lt3reg rfl (by decide) rfl rfl (y_rowG (cs := [.int .i64 M, .int .i64 H, .int .i64 D, .int .i64 A, .int .i64 K, .bool sh]) (wanted_free rfl) rfl rfl Tryz.underlying23 rfl (by kernel_rfl) (fun _ h => (bx1.below h).range)) hbd ?_
      simp only [Act.put, List.setIfInBounds_toArray, List.set_cons_zero, List.set_cons_succ]
      refine at_one (i := 1) (m' := 7) lt3reg (by decide) rfl ?_
      refine p_callG (args := #[.agg #[.int .i64 M, .int .i64 H, .int .i64 D, .int .i64 A, .int .i64 K, .bool sh]]) (d := some 20) rfl (wanted_free rfl) rfl (by simp only [List.map_toArray, List.map_cons, List.map_nil]; rfl) rfl Tryz.call7 ((hf1 W1.drew).mono ?_)
      rintro e y3 ⟨rfl, g3⟩
      have hb3 := keep_trans hbd g3
      refine ⟨_, rfl, hb3, ?_⟩
      simp only [Act.put, List.setIfInBounds_toArray, List.set_cons_zero, List.set_cons_succ]
      refine at_one (i := 3) (m' := 15) lt3reg (by decide) rfl ?_
      refine p_callG (args := #[.agg #[.int .i64 M, .int .i64 H, .int .i64 D, .int .i64 A, .int .i64 K, .bool sh]]) (d := some 22) rfl (wanted_free rfl) rfl (by simp only [List.map_toArray, List.map_cons, List.map_nil]; rfl) rfl Tryz.call8 ((hf2 y3).mono ?_)
      rintro e y4 ⟨rfl, g4⟩
      have hb4 := keep_trans hb3 g4
      refine ⟨_, rfl, hb4, ?_⟩
      simp only [Act.put, List.setIfInBounds_toArray, List.set_cons_zero, List.set_cons_succ]
      refine at_takeD (i := 4) (m' := 31) (d := some 23) (v := .bool false) lt3reg rfl (by decide) rfl rfl (y_neBY (wanted_free rfl) rfl rfl rfl Tryz.underlying4) hb4 ?_
      simp only [Act.put, List.setIfInBounds_toArray, List.set_cons_zero, List.set_cons_succ]
      refine at_takeD (i := 5) (m' := 63) (d := some 24) (v := .bool false) lt3reg rfl (by decide) rfl rfl (y_moveG (wanted_free rfl) rfl rfl) hb4 ?_
      simp only [Act.put, List.setIfInBounds_toArray, List.set_cons_zero, List.set_cons_succ]
      refine at_takeD (i := 6) (m' := 127) (d := some 25) (v := .agg (arr .u8 a)) lt3reg rfl (by decide) rfl rfl (y_rowG (cs := vals .u8 a) (wanted_gG (j := 5) (d := 24) (b := false) rfl rfl rfl rfl) rfl rfl Tryz.underlying25 rfl (by rw [vals_length, ha.1]; kernel_rfl) (fun _ h => lies_rangeW (La1.below h))) hb4 ?_
      simp only [Act.put, List.setIfInBounds_toArray, List.set_cons_zero, List.set_cons_succ]
      refine at_takeD (i := 7) (m' := 255) (d := some 26) (v := .int .i64 part) lt3reg rfl (by decide) rfl rfl (y_moveG (wanted_gG (j := 5) (d := 24) (b := false) rfl rfl rfl rfl) rfl rfl) hb4 ?_
      simp only [Act.put, List.setIfInBounds_toArray, List.set_cons_zero, List.set_cons_succ]
      refine at_takeD (i := 8) (m' := 511) (d := some 27) (v := .int .u64 (n : Int)) lt3reg rfl (by decide) rfl rfl (y_moveG (wanted_gG (j := 5) (d := 24) (b := false) rfl rfl rfl rfl) rfl rfl) hb4 ?_
      simp only [Act.put, List.setIfInBounds_toArray, List.set_cons_zero, List.set_cons_succ]
      refine at_takeD (i := 10) (m' := 1535) (d := some 29) (v := .agg (arr .u8 a)) lt3reg rfl (by decide) rfl rfl (y_rowG (cs := vals .u8 a) (wanted_gG (j := 5) (d := 24) (b := false) rfl rfl rfl rfl) rfl rfl Tryz.underlying25 rfl (by rw [vals_length, ha.1]; kernel_rfl) (fun _ h => lies_rangeW (La1.below h))) hb4 ?_
      simp only [Act.put, List.setIfInBounds_toArray, List.set_cons_zero, List.set_cons_succ]
      refine at_takeD (i := 11) (m' := 3583) (d := some 30) (v := .int .i64 part) lt3reg rfl (by decide) rfl rfl (y_moveG (wanted_gG (j := 5) (d := 24) (b := false) rfl rfl rfl rfl) rfl rfl) hb4 ?_
      simp only [Act.put, List.setIfInBounds_toArray, List.set_cons_zero, List.set_cons_succ]
      refine at_takeD (i := 12) (m' := 7679) (d := some 31) (v := .int .u64 (n : Int)) lt3reg rfl (by decide) rfl rfl (y_moveG (wanted_gG (j := 5) (d := 24) (b := false) rfl rfl rfl rfl) rfl rfl) hb4 ?_
      simp only [Act.put, List.setIfInBounds_toArray, List.set_cons_zero, List.set_cons_succ]
      refine at_one (i := 9) (m' := 8191) lt3reg (by decide) rfl ?_
      refine p_callG (args := #[.agg (arr .u8 a), .int .i64 part, .int .u64 (n : Int)]) (d := some 28) rfl (wanted_gG (j := 5) (d := 24) (b := false) rfl rfl rfl rfl) rfl (by simp only [List.map_toArray, List.map_cons, List.map_nil]; rfl) rfl Tryz.call9 ((hu1 y4).mono ?_)
      rintro e y13 ⟨rfl, g13⟩
      have hb13 := keep_trans hb4 g13
      refine ⟨_, rfl, hb13, ?_⟩
      simp only [Act.put, List.setIfInBounds_toArray, List.set_cons_zero, List.set_cons_succ]
      refine at_one (i := 13) (m' := 16383) lt3reg (by decide) rfl ?_
      refine p_callG (args := #[.agg (arr .u8 a), .int .i64 part, .int .u64 (n : Int)]) (d := some 32) rfl (wanted_gG (j := 5) (d := 24) (b := false) rfl rfl rfl rfl) rfl (by simp only [List.map_toArray, List.map_cons, List.map_nil]; rfl) rfl Tryz.call10 ((hu2 y13).mono ?_)
      rintro e y14 ⟨rfl, g14⟩
      have hb14 := keep_trans hb13 g14
      refine ⟨_, rfl, hb14, ?_⟩
      simp only [Act.put, List.setIfInBounds_toArray, List.set_cons_zero, List.set_cons_succ]
      refine at_takeD (i := 14) (m' := 32767) (d := some 33) (v := .bool false) lt3reg rfl (by decide) rfl rfl (y_neAdY (wanted_gG (j := 5) (d := 24) (b := false) rfl rfl rfl rfl) rfl rfl rfl hPAl) hb14 ?_
      simp only [Act.put, List.setIfInBounds_toArray, List.set_cons_zero, List.set_cons_succ]
      refine at_takeD (i := 15) (m' := 65535) (d := some 34) (v := .bool false) lt3reg rfl (by decide) rfl rfl (y_pickEG (wanted_free rfl) rfl rfl rfl) hb14 ?_
      simp only [Act.put, List.setIfInBounds_toArray, List.set_cons_zero, List.set_cons_succ]
      refine at_takeD (i := 16) (m' := 131071) (d := some 35) (v := .bool false) lt3reg rfl (by decide) rfl rfl (y_moveG (wanted_free rfl) rfl rfl) hb14 ?_
      simp only [Act.put, List.setIfInBounds_toArray, List.set_cons_zero, List.set_cons_succ]
      refine at_takeD (i := 17) (m' := 262143) (d := some 36) (v := .pointer (some ⟨w.heap.size, 0, none⟩)) lt3reg rfl (by decide) rfl rfl (y_fieldG (wanted_gG (j := 16) (d := 35) (b := false) rfl rfl rfl rfl) rfl rfl (fun w => by simp [go_sem])) hb14 ?_
      simp only [Act.put, List.setIfInBounds_toArray, List.set_cons_zero, List.set_cons_succ]
      refine at_takeD (i := 18) (m' := 524287) (d := some 37) (v := .int .i64 M) lt3reg rfl (by decide) rfl rfl (y_plainG (wanted_gG (j := 16) (d := 35) (b := false) rfl rfl rfl rfl) rfl rfl Tryz.underlying3 rfl (fun _ h => (bx1.below h).c0)) hb14 ?_
      simp only [Act.put, List.setIfInBounds_toArray, List.set_cons_zero, List.set_cons_succ]
      refine at_takeD (i := 19) (m' := 1048575) (d := some 38) (v := .slice ta text.length tc) lt3reg rfl (by decide) rfl rfl (y_moveG (wanted_gG (j := 16) (d := 35) (b := false) rfl rfl rfl rfl) rfl rfl) hb14 ?_
      simp only [Act.put, List.setIfInBounds_toArray, List.set_cons_zero, List.set_cons_succ]
      refine at_takeD (i := 21) (m' := 3145727) (d := some 40) (v := .pointer (some ⟨w.heap.size, 0, none⟩)) lt3reg rfl (by decide) rfl rfl (y_fieldG (wanted_gG (j := 16) (d := 35) (b := false) rfl rfl rfl rfl) rfl rfl (fun w => by simp [go_sem])) hb14 ?_
      simp only [Act.put, List.setIfInBounds_toArray, List.set_cons_zero, List.set_cons_succ]
      refine at_takeD (i := 22) (m' := 7340031) (d := some 41) (v := .int .i64 M) lt3reg rfl (by decide) rfl rfl (y_plainG (wanted_gG (j := 16) (d := 35) (b := false) rfl rfl rfl rfl) rfl rfl Tryz.underlying3 rfl (fun _ h => (bx1.below h).c0)) hb14 ?_
      simp only [Act.put, List.setIfInBounds_toArray, List.set_cons_zero, List.set_cons_succ]
      refine at_takeD (i := 23) (m' := 15728639) (d := some 42) (v := .slice ta text.length tc) lt3reg rfl (by decide) rfl rfl (y_moveG (wanted_gG (j := 16) (d := 35) (b := false) rfl rfl rfl rfl) rfl rfl) hb14 ?_
      simp only [Act.put, List.setIfInBounds_toArray, List.set_cons_zero, List.set_cons_succ]
      refine at_one (i := 20) (m' := 16777215) lt3reg (by decide) rfl ?_
      refine p_callG (args := #[.int .i64 M, .slice ta text.length tc]) (d := some 39) rfl (wanted_gG (j := 16) (d := 35) (b := false) rfl rfl rfl rfl) rfl (by simp only [List.map_toArray, List.map_cons, List.map_nil]; rfl) rfl Tryz.call12 ((hd1 y14 (keep_trans k1 hb14)).mono ?_)
      rintro e y24 ⟨v1, rfl, r1, g24⟩
      obtain ⟨j1, d1, rfl, _⟩ := r1.opens rfl
      have hb24 := keep_trans hb14 g24
      refine ⟨_, rfl, hb24, ?_⟩
      simp only [Act.put, List.setIfInBounds_toArray, List.set_cons_zero, List.set_cons_succ]
      refine at_one (i := 24) (m' := 33554431) lt3reg (by decide) rfl ?_
      refine p_callG (args := #[.int .i64 M, .slice ta text.length tc]) (d := some 43) rfl (wanted_gG (j := 16) (d := 35) (b := false) rfl rfl rfl rfl) rfl (by simp only [List.map_toArray, List.map_cons, List.map_nil]; rfl) rfl Tryz.call13 ((hd2 y24 (keep_trans k1 hb24)).mono ?_)
      rintro e y25 ⟨v2, rfl, r2, g25⟩
      obtain ⟨j2, d2, rfl, _⟩ := r2.opens rfl
      replace r1 := r1.below g25
      have hb25 := keep_trans hb24 g25
      refine ⟨_, rfl, hb25, ?_⟩
      simp only [Act.put, List.setIfInBounds_toArray, List.set_cons_zero, List.set_cons_succ]
      refine at_one (i := 25) (m' := 67108863) lt3reg (by decide) rfl ?_
      refine p_callG (args := #[.slice j1 X9.length d1, .slice j2 X9.length d2]) (d := some 44) rfl (wanted_gG (j := 16) (d := 35) (b := false) rfl rfl rfl rfl) rfl (by simp only [List.map_toArray, List.map_cons, List.map_nil]; rfl) rfl Tryz.call11 ((rsameNums_true _ _ _ y25 r1 r2).mono ?_)
      rintro e y26 ⟨rfl, g26⟩
      have hb26 := keep_trans hb25 g26
      refine ⟨_, rfl, hb26, ?_⟩
      simp only [Act.put, List.setIfInBounds_toArray, List.set_cons_zero, List.set_cons_succ]
      refine at_takeD (i := 26) (m' := 134217727) (d := some 45) (v := .bool false) lt3reg rfl (by decide) rfl rfl (y_notG (b := true) (wanted_gG (j := 16) (d := 35) (b := false) rfl rfl rfl rfl) rfl rfl) hb26 ?_
      simp only [Act.put, List.setIfInBounds_toArray, List.set_cons_zero, List.set_cons_succ]
      refine at_takeD (i := 27) (m' := 268435455) (d := some 46) (v := .bool false) lt3reg rfl (by decide) rfl rfl (y_pickEG (wanted_free rfl) rfl rfl rfl) hb26 ?_
      simp only [Act.put, List.setIfInBounds_toArray, List.set_cons_zero, List.set_cons_succ]
      refine at_done lt3reg (by decide) ?_
      have kz := hb26
      obtain ⟨W9, hW9⟩ : ∃ W9 : World, W9 = y26 := ⟨_, rfl⟩
      rw [← hW9] at kz ⊢
      have bx9 := bx1.below kz
      have La9 := La1.below kz
      have k9 := keep_trans k1 kz
      have hbd9 : Below W9.heap.size W9 W9.drew := (Below.refl _ _).drew
      have hf2 := hf2'
      have hbd := hbd9
      clear hbd9 hW9 hf1 hd1 hd2 r1 r2 kz hu1 hu2 hf2' bx1 La1 k1
      go_wp2
      refine at_begin (ops := opsA (cLA (cRA (cRA (cRA (Tryz.f3.body.getD .skip)))))) (n := 33) (fun y => Below W9.heap.size W9 y) (by kernel_rfl) (by kernel_rfl) ?_
      refine at_takeD (i := 0) (m' := 1) (d := some 47) (v := .agg #[.int .i64 M, .int .i64 H, .int .i64 D, .int .i64 A, .int .i64 K, .bool sh]) lt5reg rfl (by decide) rfl rfl (y_rowG (cs := [.int .i64 M, .int .i64 H, .int .i64 D, .int .i64 A, .int .i64 K, .bool sh]) (wanted_free rfl) rfl rfl Tryz.underlying23 rfl (by kernel_rfl) (fun _ h => (bx9.below h).range)) hbd ?_
      simp only [Act.put, List.setIfInBounds_toArray, List.set_cons_zero, List.set_cons_succ]
      refine at_one (i := 1) (m' := 3) lt5reg (by decide) rfl ?_
      refine p_callG (args := #[.agg #[.int .i64 M, .int .i64 H, .int .i64 D, .int .i64 A, .int .i64 K, .bool sh]]) (d := some 48) rfl (wanted_free rfl) rfl (by simp only [List.map_toArray, List.map_cons, List.map_nil]; rfl) rfl Tryz.call8 ((hf2 W9.drew).mono ?_)
      rintro e y2 ⟨rfl, g2⟩
      have hb2 := keep_trans hbd g2
      refine ⟨_, rfl, hb2, ?_⟩
      simp only [Act.put, List.setIfInBounds_toArray, List.set_cons_zero, List.set_cons_succ]
      refine at_takeD (i := 2) (m' := 7) (d := some 49) (v := .bool false) lt5reg rfl (by decide) rfl rfl (y_notG (b := true) (wanted_free rfl) rfl rfl) hb2 ?_
      simp only [Act.put, List.setIfInBounds_toArray, List.set_cons_zero, List.set_cons_succ]
      refine at_takeD (i := 3) (m' := 15) (d := some 50) (v := .bool false) lt5reg rfl (by decide) rfl rfl (y_moveG (wanted_free rfl) rfl rfl) hb2 ?_
      simp only [Act.put, List.setIfInBounds_toArray, List.set_cons_zero, List.set_cons_succ]
      refine at_takeD (i := 4) (m' := 31) (d := some 51) (v := .agg #[.int .i64 M, .int .i64 H, .int .i64 D, .int .i64 A, .int .i64 K, .bool sh]) lt5reg rfl (by decide) rfl rfl (y_rowG (cs := [.int .i64 M, .int .i64 H, .int .i64 D, .int .i64 A, .int .i64 K, .bool sh]) (wanted_gG (j := 3) (d := 50) (b := false) rfl rfl rfl rfl) rfl rfl Tryz.underlying23 rfl (by kernel_rfl) (fun _ h => (bx9.below h).range)) hb2 ?_
      simp only [Act.put, List.setIfInBounds_toArray, List.set_cons_zero, List.set_cons_succ]
      refine at_takeD (i := 5) (m' := 63) (d := some 52) (v := .slice pa pub.length pc) lt5reg rfl (by decide) rfl rfl (y_moveG (wanted_gG (j := 3) (d := 50) (b := false) rfl rfl rfl rfl) rfl rfl) hb2 ?_
      simp only [Act.put, List.setIfInBounds_toArray, List.set_cons_zero, List.set_cons_succ]
      refine at_takeD (i := 6) (m' := 127) (d := some 53) (v := .agg (arr .u8 a)) lt5reg rfl (by decide) rfl rfl (y_rowG (cs := vals .u8 a) (wanted_gG (j := 3) (d := 50) (b := false) rfl rfl rfl rfl) rfl rfl Tryz.underlying25 rfl (by rw [vals_length, ha.1]; kernel_rfl) (fun _ h => lies_rangeW (La9.below h))) hb2 ?_
      simp only [Act.put, List.setIfInBounds_toArray, List.set_cons_zero, List.set_cons_succ]
      refine at_takeD (i := 7) (m' := 255) (d := some 54) (v := .slice ta text.length tc) lt5reg rfl (by decide) rfl rfl (y_moveG (wanted_gG (j := 3) (d := 50) (b := false) rfl rfl rfl rfl) rfl rfl) hb2 ?_
      simp only [Act.put, List.setIfInBounds_toArray, List.set_cons_zero, List.set_cons_succ]
      refine at_takeD (i := 9) (m' := 767) (d := some 56) (v := .agg #[.int .i64 M, .int .i64 H, .int .i64 D, .int .i64 A, .int .i64 K, .bool sh]) lt5reg rfl (by decide) rfl rfl (y_rowG (cs := [.int .i64 M, .int .i64 H, .int .i64 D, .int .i64 A, .int .i64 K, .bool sh]) (wanted_gG (j := 3) (d := 50) (b := false) rfl rfl rfl rfl) rfl rfl Tryz.underlying23 rfl (by kernel_rfl) (fun _ h => (bx9.below h).range)) hb2 ?_
      simp only [Act.put, List.setIfInBounds_toArray, List.set_cons_zero, List.set_cons_succ]
      refine at_takeD (i := 10) (m' := 1791) (d := some 57) (v := .slice pa pub.length pc) lt5reg rfl (by decide) rfl rfl (y_moveG (wanted_gG (j := 3) (d := 50) (b := false) rfl rfl rfl rfl) rfl rfl) hb2 ?_
      simp only [Act.put, List.setIfInBounds_toArray, List.set_cons_zero, List.set_cons_succ]
      refine at_takeD (i := 11) (m' := 3839) (d := some 58) (v := .agg (arr .u8 a)) lt5reg rfl (by decide) rfl rfl (y_rowG (cs := vals .u8 a) (wanted_gG (j := 3) (d := 50) (b := false) rfl rfl rfl rfl) rfl rfl Tryz.underlying25 rfl (by rw [vals_length, ha.1]; kernel_rfl) (fun _ h => lies_rangeW (La9.below h))) hb2 ?_
      simp only [Act.put, List.setIfInBounds_toArray, List.set_cons_zero, List.set_cons_succ]
      refine at_takeD (i := 12) (m' := 7935) (d := some 59) (v := .slice ta text.length tc) lt5reg rfl (by decide) rfl rfl (y_moveG (wanted_gG (j := 3) (d := 50) (b := false) rfl rfl rfl rfl) rfl rfl) hb2 ?_
      simp only [Act.put, List.setIfInBounds_toArray, List.set_cons_zero, List.set_cons_succ]
      refine at_one (i := 8) (m' := 8191) lt5reg (by decide) rfl ?_
      refine p_callG (args := #[.agg #[.int .i64 M, .int .i64 H, .int .i64 D, .int .i64 A, .int .i64 K, .bool sh], .slice pa pub.length pc, .agg (arr .u8 a), .slice ta text.length tc]) (d := some 55) rfl (wanted_gG (j := 3) (d := 50) (b := false) rfl rfl rfl rfl) rfl (by simp only [List.map_toArray, List.map_cons, List.map_nil]; rfl) rfl Tryz.call15 ((hs1 y2 (keep_trans k9 hb2)).mono ?_)
      rintro e y13 ⟨v1, rfl, r1, g13⟩
      obtain ⟨j1, d1, rfl, _⟩ := r1.opens rfl
      have hb13 := keep_trans hb2 g13
      refine ⟨_, rfl, hb13, ?_⟩
      simp only [Act.put, List.setIfInBounds_toArray, List.set_cons_zero, List.set_cons_succ]
      refine at_one (i := 13) (m' := 16383) lt5reg (by decide) rfl ?_
      refine p_callG (args := #[.agg #[.int .i64 M, .int .i64 H, .int .i64 D, .int .i64 A, .int .i64 K, .bool sh], .slice pa pub.length pc, .agg (arr .u8 a), .slice ta text.length tc]) (d := some 60) rfl (wanted_gG (j := 3) (d := 50) (b := false) rfl rfl rfl rfl) rfl (by simp only [List.map_toArray, List.map_cons, List.map_nil]; rfl) rfl Tryz.call16 ((hs2 y13 (keep_trans k9 hb13)).mono ?_)
      rintro e y14 ⟨v2, rfl, r2, g14⟩
      obtain ⟨j2, d2, rfl, _⟩ := r2.opens rfl
      replace r1 := r1.below g14
      have hb14 := keep_trans hb13 g14
      refine ⟨_, rfl, hb14, ?_⟩
      simp only [Act.put, List.setIfInBounds_toArray, List.set_cons_zero, List.set_cons_succ]
      refine at_one (i := 14) (m' := 32767) lt5reg (by decide) rfl ?_
      refine p_callG (args := #[.slice j1 X1.length d1, .slice j2 X1.length d2]) (d := some 61) rfl (wanted_gG (j := 3) (d := 50) (b := false) rfl rfl rfl rfl) rfl (by simp only [List.map_toArray, List.map_cons, List.map_nil]; rfl) rfl Tryz.call14 ((rsame_true _ _ _ y14 r1 r2).mono ?_)
      rintro e y15 ⟨rfl, g15⟩
      have hb15 := keep_trans hb14 g15
      refine ⟨_, rfl, hb15, ?_⟩
      simp only [Act.put, List.setIfInBounds_toArray, List.set_cons_zero, List.set_cons_succ]
      refine at_takeD (i := 15) (m' := 65535) (d := some 62) (v := .bool true) lt5reg rfl (by decide) rfl rfl (y_moveG (wanted_gG (j := 3) (d := 50) (b := false) rfl rfl rfl rfl) rfl rfl) hb15 ?_
      simp only [Act.put, List.setIfInBounds_toArray, List.set_cons_zero, List.set_cons_succ]
      refine at_takeD (i := 16) (m' := 131071) (d := some 63) (v := .agg #[.int .i64 M, .int .i64 H, .int .i64 D, .int .i64 A, .int .i64 K, .bool sh]) lt5reg rfl (by decide) rfl rfl (y_rowG (cs := [.int .i64 M, .int .i64 H, .int .i64 D, .int .i64 A, .int .i64 K, .bool sh]) (wanted_gG (j := 15) (d := 62) (b := true) rfl rfl rfl rfl) rfl rfl Tryz.underlying23 rfl (by kernel_rfl) (fun _ h => (bx9.below h).range)) hb15 ?_
      simp only [Act.put, List.setIfInBounds_toArray, List.set_cons_zero, List.set_cons_succ]
      refine at_takeD (i := 17) (m' := 262143) (d := some 64) (v := .slice pa pub.length pc) lt5reg rfl (by decide) rfl rfl (y_moveG (wanted_gG (j := 15) (d := 62) (b := true) rfl rfl rfl rfl) rfl rfl) hb15 ?_
      simp only [Act.put, List.setIfInBounds_toArray, List.set_cons_zero, List.set_cons_succ]
      refine at_takeD (i := 18) (m' := 524287) (d := some 65) (v := .slice ta text.length tc) lt5reg rfl (by decide) rfl rfl (y_moveG (wanted_gG (j := 15) (d := 62) (b := true) rfl rfl rfl rfl) rfl rfl) hb15 ?_
      simp only [Act.put, List.setIfInBounds_toArray, List.set_cons_zero, List.set_cons_succ]
      refine at_takeD (i := 19) (m' := 1048575) (d := some 66) (v := .agg (arr .u8 a)) lt5reg rfl (by decide) rfl rfl (y_rowG (cs := vals .u8 a) (wanted_gG (j := 15) (d := 62) (b := true) rfl rfl rfl rfl) rfl rfl Tryz.underlying25 rfl (by rw [vals_length, ha.1]; kernel_rfl) (fun _ h => lies_rangeW (La9.below h))) hb15 ?_
      simp only [Act.put, List.setIfInBounds_toArray, List.set_cons_zero, List.set_cons_succ]
      refine at_takeD (i := 21) (m' := 3145727) (d := some 68) (v := .agg #[.int .i64 M, .int .i64 H, .int .i64 D, .int .i64 A, .int .i64 K, .bool sh]) lt5reg rfl (by decide) rfl rfl (y_rowG (cs := [.int .i64 M, .int .i64 H, .int .i64 D, .int .i64 A, .int .i64 K, .bool sh]) (wanted_gG (j := 15) (d := 62) (b := true) rfl rfl rfl rfl) rfl rfl Tryz.underlying23 rfl (by kernel_rfl) (fun _ h => (bx9.below h).range)) hb15 ?_
      simp only [Act.put, List.setIfInBounds_toArray, List.set_cons_zero, List.set_cons_succ]
      refine at_takeD (i := 22) (m' := 7340031) (d := some 69) (v := .slice pa pub.length pc) lt5reg rfl (by decide) rfl rfl (y_moveG (wanted_gG (j := 15) (d := 62) (b := true) rfl rfl rfl rfl) rfl rfl) hb15 ?_
      simp only [Act.put, List.setIfInBounds_toArray, List.set_cons_zero, List.set_cons_succ]
      refine at_takeD (i := 23) (m' := 15728639) (d := some 70) (v := .slice ta text.length tc) lt5reg rfl (by decide) rfl rfl (y_moveG (wanted_gG (j := 15) (d := 62) (b := true) rfl rfl rfl rfl) rfl rfl) hb15 ?_
      simp only [Act.put, List.setIfInBounds_toArray, List.set_cons_zero, List.set_cons_succ]
      refine at_takeD (i := 24) (m' := 32505855) (d := some 71) (v := .agg (arr .u8 a)) lt5reg rfl (by decide) rfl rfl (y_rowG (cs := vals .u8 a) (wanted_gG (j := 15) (d := 62) (b := true) rfl rfl rfl rfl) rfl rfl Tryz.underlying25 rfl (by rw [vals_length, ha.1]; kernel_rfl) (fun _ h => lies_rangeW (La9.below h))) hb15 ?_
      simp only [Act.put, List.setIfInBounds_toArray, List.set_cons_zero, List.set_cons_succ]
      refine at_one (i := 20) (m' := 33554431) lt5reg (by decide) rfl ?_
      refine p_callG (args := #[.agg #[.int .i64 M, .int .i64 H, .int .i64 D, .int .i64 A, .int .i64 K, .bool sh], .slice pa pub.length pc, .slice ta text.length tc, .agg (arr .u8 a)]) (d := some 67) rfl (wanted_gG (j := 15) (d := 62) (b := true) rfl rfl rfl rfl) rfl (by simp only [List.map_toArray, List.map_cons, List.map_nil]; rfl) rfl Tryz.call17 ((hw1 y15 (keep_trans k9 hb15)).mono ?_)
      rintro e y25 ⟨v3, rfl, r3, g25⟩
      obtain ⟨j3, d3, rfl, _⟩ := r3.opens rfl
      have hb25 := keep_trans hb15 g25
      refine ⟨_, rfl, hb25, ?_⟩
      simp only [Act.put, List.setIfInBounds_toArray, List.set_cons_zero, List.set_cons_succ]
      refine at_one (i := 25) (m' := 67108863) lt5reg (by decide) rfl ?_
      refine p_callG (args := #[.agg #[.int .i64 M, .int .i64 H, .int .i64 D, .int .i64 A, .int .i64 K, .bool sh], .slice pa pub.length pc, .slice ta text.length tc, .agg (arr .u8 a)]) (d := some 72) rfl (wanted_gG (j := 15) (d := 62) (b := true) rfl rfl rfl rfl) rfl (by simp only [List.map_toArray, List.map_cons, List.map_nil]; rfl) rfl Tryz.call18 ((hw2 y25 (keep_trans k9 hb25)).mono ?_)
      rintro e y26 ⟨v4, rfl, r4, g26⟩
      obtain ⟨j4, d4, rfl, _⟩ := r4.opens rfl
      replace r3 := r3.below g26
      have hb26 := keep_trans hb25 g26
      refine ⟨_, rfl, hb26, ?_⟩
      simp only [Act.put, List.setIfInBounds_toArray, List.set_cons_zero, List.set_cons_succ]
      refine at_one (i := 26) (m' := 134217727) lt5reg (by decide) rfl ?_
      refine p_callG (args := #[.slice j3 X2.length d3, .slice j4 X2.length d4]) (d := some 73) rfl (wanted_gG (j := 15) (d := 62) (b := true) rfl rfl rfl rfl) rfl (by simp only [List.map_toArray, List.map_cons, List.map_nil]; rfl) rfl Tryz.call14 ((rsame_true _ _ _ y26 r3 r4).mono ?_)
      rintro e y27 ⟨rfl, g27⟩
      have hb27 := keep_trans hb26 g27
      refine ⟨_, rfl, hb27, ?_⟩
      simp only [Act.put, List.setIfInBounds_toArray, List.set_cons_zero, List.set_cons_succ]
      refine at_takeD (i := 27) (m' := 268435455) (d := some 74) (v := .bool true) lt5reg rfl (by decide) rfl rfl (y_pickTG (wanted_gG (j := 3) (d := 50) (b := false) rfl rfl rfl rfl) rfl rfl rfl) hb27 ?_
      simp only [Act.put, List.setIfInBounds_toArray, List.set_cons_zero, List.set_cons_succ]
      refine at_takeD (i := 28) (m' := 536870911) (d := some 75) (v := .bool true) lt5reg rfl (by decide) rfl rfl (y_moveG (wanted_gG (j := 3) (d := 50) (b := false) rfl rfl rfl rfl) rfl rfl) hb27 ?_
      simp only [Act.put, List.setIfInBounds_toArray, List.set_cons_zero, List.set_cons_succ]
      refine at_one (i := 29) (m' := 1073741823) lt5reg (by decide) rfl ?_
      refine p_callG (args := #[]) (d := some 76) rfl (wanted_gG (j := 28) (d := 75) (b := true) rfl rfl rfl rfl) rfl (by simp only [List.map_toArray, List.map_nil]) rfl Tryz.call6 ((awakeY_any y27).mono ?_)
      rintro e y30 ⟨rfl, g30⟩
      have hb30 := keep_trans hb27 g30
      refine ⟨_, rfl, hb30, ?_⟩
      simp only [Act.put, List.setIfInBounds_toArray, List.set_cons_zero, List.set_cons_succ]
      refine at_takeD (i := 30) (m' := 2147483647) (d := some 77) (v := .bool true) lt5reg rfl (by decide) rfl rfl (y_pickTG (wanted_gG (j := 3) (d := 50) (b := false) rfl rfl rfl rfl) rfl rfl rfl) hb30 ?_
      simp only [Act.put, List.setIfInBounds_toArray, List.set_cons_zero, List.set_cons_succ]
      refine at_takeD (i := 31) (m' := 4294967295) (d := some 78) (v := .bool true) lt5reg rfl (by decide) rfl rfl (y_pickEG (wanted_free rfl) rfl rfl rfl) hb30 ?_
      simp only [Act.put, List.setIfInBounds_toArray, List.set_cons_zero, List.set_cons_succ]
      refine at_takeD (i := 32) (m' := 8589934591) (d := some 12) (v := .bool true) lt5reg rfl (by decide) rfl rfl (y_assignG (wanted_free rfl) rfl rfl) hb30 ?_
      simp only [Act.put, List.setIfInBounds_toArray, List.set_cons_zero, List.set_cons_succ]
      refine at_done lt5reg (by decide) ?_
      go_wp2
      go_ret
      exact ⟨rfl, keep_trans k9 hb30⟩
    · rw [decide_eq_false hF] at hf1 hf2
      unfold slV at hf1 hf2 ⊢
      obtain ⟨fb, hfb⟩ : ∃ fb : Bool, fb = false := ⟨_, rfl⟩
      rw [← hfb] at hf1
      have hf2' := hf2
      rw [← hfb] at hf2
      clear hp ht hF hC hT hfw hH hfb hn
      go_enter Tryz.func3, Tryz.ntmps3
      go_wp2_with (first
        | (go_at_call 5; refine hfe.mono ?_; rintro e W1 ⟨rfl, g1⟩)
        | fail)
      have bx1 := bx.below g1
      have La1 := La.below g1
      have k1 := keep_trans k0 g1
      have hbd : Below W1.heap.size W1 W1.drew := (Below.refl _ _).drew
      clear bx La k0 g1
      refine at_begin (ops := opsA (cLA (cLA (cRA (cRA (Tryz.f3.body.getD .skip)))))) (n := 28) (fun y => Below W1.heap.size W1 y) (by kernel_rfl) (by kernel_rfl) ?_
      refine at_takeD (i := 0) (m' := 1) (d := some 19) (v := .agg #[.int .i64 M, .int .i64 H, .int .i64 D, .int .i64 A, .int .i64 K, .bool sh]) lt3reg rfl (by decide) rfl rfl (y_rowG (cs := [.int .i64 M, .int .i64 H, .int .i64 D, .int .i64 A, .int .i64 K, .bool sh]) (wanted_free rfl) rfl rfl Tryz.underlying23 rfl (by kernel_rfl) (fun _ h => (bx1.below h).range)) hbd ?_
      simp only [Act.put, List.setIfInBounds_toArray, List.set_cons_zero, List.set_cons_succ]
      refine at_takeD (i := 2) (m' := 5) (d := some 21) (v := .agg #[.int .i64 M, .int .i64 H, .int .i64 D, .int .i64 A, .int .i64 K, .bool sh]) lt3reg rfl (by decide) rfl rfl (y_rowG (cs := [.int .i64 M, .int .i64 H, .int .i64 D, .int .i64 A, .int .i64 K, .bool sh]) (wanted_free rfl) rfl rfl Tryz.underlying23 rfl (by kernel_rfl) (fun _ h => (bx1.below h).range)) hbd ?_
      simp only [Act.put, List.setIfInBounds_toArray, List.set_cons_zero, List.set_cons_succ]
      refine at_one (i := 1) (m' := 7) lt3reg (by decide) rfl ?_
      refine p_callG (args := #[.agg #[.int .i64 M, .int .i64 H, .int .i64 D, .int .i64 A, .int .i64 K, .bool sh]]) (d := some 20) rfl (wanted_free rfl) rfl (by simp only [List.map_toArray, List.map_cons, List.map_nil]; rfl) rfl Tryz.call7 ((hf1 W1.drew).mono ?_)
      rintro e y3 ⟨rfl, g3⟩
      have hb3 := keep_trans hbd g3
      refine ⟨_, rfl, hb3, ?_⟩
      simp only [Act.put, List.setIfInBounds_toArray, List.set_cons_zero, List.set_cons_succ]
      refine at_one (i := 3) (m' := 15) lt3reg (by decide) rfl ?_
      refine p_callG (args := #[.agg #[.int .i64 M, .int .i64 H, .int .i64 D, .int .i64 A, .int .i64 K, .bool sh]]) (d := some 22) rfl (wanted_free rfl) rfl (by simp only [List.map_toArray, List.map_cons, List.map_nil]; rfl) rfl Tryz.call8 ((hf2 y3).mono ?_)
      rintro e y4 ⟨rfl, g4⟩
      have hb4 := keep_trans hb3 g4
      refine ⟨_, rfl, hb4, ?_⟩
      simp only [Act.put, List.setIfInBounds_toArray, List.set_cons_zero, List.set_cons_succ]
      refine at_takeD (i := 4) (m' := 31) (d := some 23) (v := .bool false) lt3reg rfl (by decide) rfl rfl (y_neBY (wanted_free rfl) rfl rfl rfl Tryz.underlying4) hb4 ?_
      simp only [Act.put, List.setIfInBounds_toArray, List.set_cons_zero, List.set_cons_succ]
      refine at_takeD (i := 5) (m' := 63) (d := some 24) (v := .bool false) lt3reg rfl (by decide) rfl rfl (y_moveG (wanted_free rfl) rfl rfl) hb4 ?_
      simp only [Act.put, List.setIfInBounds_toArray, List.set_cons_zero, List.set_cons_succ]
      refine at_takeD (i := 6) (m' := 127) (d := some 25) (v := .agg (arr .u8 a)) lt3reg rfl (by decide) rfl rfl (y_rowG (cs := vals .u8 a) (wanted_gG (j := 5) (d := 24) (b := false) rfl rfl rfl rfl) rfl rfl Tryz.underlying25 rfl (by rw [vals_length, ha.1]; kernel_rfl) (fun _ h => lies_rangeW (La1.below h))) hb4 ?_
      simp only [Act.put, List.setIfInBounds_toArray, List.set_cons_zero, List.set_cons_succ]
      refine at_takeD (i := 7) (m' := 255) (d := some 26) (v := .int .i64 part) lt3reg rfl (by decide) rfl rfl (y_moveG (wanted_gG (j := 5) (d := 24) (b := false) rfl rfl rfl rfl) rfl rfl) hb4 ?_
      simp only [Act.put, List.setIfInBounds_toArray, List.set_cons_zero, List.set_cons_succ]
      refine at_takeD (i := 8) (m' := 511) (d := some 27) (v := .int .u64 (n : Int)) lt3reg rfl (by decide) rfl rfl (y_moveG (wanted_gG (j := 5) (d := 24) (b := false) rfl rfl rfl rfl) rfl rfl) hb4 ?_
      simp only [Act.put, List.setIfInBounds_toArray, List.set_cons_zero, List.set_cons_succ]
      refine at_takeD (i := 10) (m' := 1535) (d := some 29) (v := .agg (arr .u8 a)) lt3reg rfl (by decide) rfl rfl (y_rowG (cs := vals .u8 a) (wanted_gG (j := 5) (d := 24) (b := false) rfl rfl rfl rfl) rfl rfl Tryz.underlying25 rfl (by rw [vals_length, ha.1]; kernel_rfl) (fun _ h => lies_rangeW (La1.below h))) hb4 ?_
      simp only [Act.put, List.setIfInBounds_toArray, List.set_cons_zero, List.set_cons_succ]
      refine at_takeD (i := 11) (m' := 3583) (d := some 30) (v := .int .i64 part) lt3reg rfl (by decide) rfl rfl (y_moveG (wanted_gG (j := 5) (d := 24) (b := false) rfl rfl rfl rfl) rfl rfl) hb4 ?_
      simp only [Act.put, List.setIfInBounds_toArray, List.set_cons_zero, List.set_cons_succ]
      refine at_takeD (i := 12) (m' := 7679) (d := some 31) (v := .int .u64 (n : Int)) lt3reg rfl (by decide) rfl rfl (y_moveG (wanted_gG (j := 5) (d := 24) (b := false) rfl rfl rfl rfl) rfl rfl) hb4 ?_
      simp only [Act.put, List.setIfInBounds_toArray, List.set_cons_zero, List.set_cons_succ]
      refine at_one (i := 9) (m' := 8191) lt3reg (by decide) rfl ?_
      refine p_callG (args := #[.agg (arr .u8 a), .int .i64 part, .int .u64 (n : Int)]) (d := some 28) rfl (wanted_gG (j := 5) (d := 24) (b := false) rfl rfl rfl rfl) rfl (by simp only [List.map_toArray, List.map_cons, List.map_nil]; rfl) rfl Tryz.call9 ((hu1 y4).mono ?_)
      rintro e y13 ⟨rfl, g13⟩
      have hb13 := keep_trans hb4 g13
      refine ⟨_, rfl, hb13, ?_⟩
      simp only [Act.put, List.setIfInBounds_toArray, List.set_cons_zero, List.set_cons_succ]
      refine at_one (i := 13) (m' := 16383) lt3reg (by decide) rfl ?_
      refine p_callG (args := #[.agg (arr .u8 a), .int .i64 part, .int .u64 (n : Int)]) (d := some 32) rfl (wanted_gG (j := 5) (d := 24) (b := false) rfl rfl rfl rfl) rfl (by simp only [List.map_toArray, List.map_cons, List.map_nil]; rfl) rfl Tryz.call10 ((hu2 y13).mono ?_)
      rintro e y14 ⟨rfl, g14⟩
      have hb14 := keep_trans hb13 g14
      refine ⟨_, rfl, hb14, ?_⟩
      simp only [Act.put, List.setIfInBounds_toArray, List.set_cons_zero, List.set_cons_succ]
      refine at_takeD (i := 14) (m' := 32767) (d := some 33) (v := .bool false) lt3reg rfl (by decide) rfl rfl (y_neAdY (wanted_gG (j := 5) (d := 24) (b := false) rfl rfl rfl rfl) rfl rfl rfl hPAl) hb14 ?_
      simp only [Act.put, List.setIfInBounds_toArray, List.set_cons_zero, List.set_cons_succ]
      refine at_takeD (i := 15) (m' := 65535) (d := some 34) (v := .bool false) lt3reg rfl (by decide) rfl rfl (y_pickEG (wanted_free rfl) rfl rfl rfl) hb14 ?_
      simp only [Act.put, List.setIfInBounds_toArray, List.set_cons_zero, List.set_cons_succ]
      refine at_takeD (i := 16) (m' := 131071) (d := some 35) (v := .bool false) lt3reg rfl (by decide) rfl rfl (y_moveG (wanted_free rfl) rfl rfl) hb14 ?_
      simp only [Act.put, List.setIfInBounds_toArray, List.set_cons_zero, List.set_cons_succ]
      refine at_takeD (i := 17) (m' := 262143) (d := some 36) (v := .pointer (some ⟨w.heap.size, 0, none⟩)) lt3reg rfl (by decide) rfl rfl (y_fieldG (wanted_gG (j := 16) (d := 35) (b := false) rfl rfl rfl rfl) rfl rfl (fun w => by simp [go_sem])) hb14 ?_
      simp only [Act.put, List.setIfInBounds_toArray, List.set_cons_zero, List.set_cons_succ]
      refine at_takeD (i := 18) (m' := 524287) (d := some 37) (v := .int .i64 M) lt3reg rfl (by decide) rfl rfl (y_plainG (wanted_gG (j := 16) (d := 35) (b := false) rfl rfl rfl rfl) rfl rfl Tryz.underlying3 rfl (fun _ h => (bx1.below h).c0)) hb14 ?_
      simp only [Act.put, List.setIfInBounds_toArray, List.set_cons_zero, List.set_cons_succ]
      refine at_takeD (i := 19) (m' := 1048575) (d := some 38) (v := .slice ta text.length tc) lt3reg rfl (by decide) rfl rfl (y_moveG (wanted_gG (j := 16) (d := 35) (b := false) rfl rfl rfl rfl) rfl rfl) hb14 ?_
      simp only [Act.put, List.setIfInBounds_toArray, List.set_cons_zero, List.set_cons_succ]
      refine at_takeD (i := 21) (m' := 3145727) (d := some 40) (v := .pointer (some ⟨w.heap.size, 0, none⟩)) lt3reg rfl (by decide) rfl rfl (y_fieldG (wanted_gG (j := 16) (d := 35) (b := false) rfl rfl rfl rfl) rfl rfl (fun w => by simp [go_sem])) hb14 ?_
      simp only [Act.put, List.setIfInBounds_toArray, List.set_cons_zero, List.set_cons_succ]
      refine at_takeD (i := 22) (m' := 7340031) (d := some 41) (v := .int .i64 M) lt3reg rfl (by decide) rfl rfl (y_plainG (wanted_gG (j := 16) (d := 35) (b := false) rfl rfl rfl rfl) rfl rfl Tryz.underlying3 rfl (fun _ h => (bx1.below h).c0)) hb14 ?_
      simp only [Act.put, List.setIfInBounds_toArray, List.set_cons_zero, List.set_cons_succ]
      refine at_takeD (i := 23) (m' := 15728639) (d := some 42) (v := .slice ta text.length tc) lt3reg rfl (by decide) rfl rfl (y_moveG (wanted_gG (j := 16) (d := 35) (b := false) rfl rfl rfl rfl) rfl rfl) hb14 ?_
      simp only [Act.put, List.setIfInBounds_toArray, List.set_cons_zero, List.set_cons_succ]
      refine at_one (i := 20) (m' := 16777215) lt3reg (by decide) rfl ?_
      refine p_callG (args := #[.int .i64 M, .slice ta text.length tc]) (d := some 39) rfl (wanted_gG (j := 16) (d := 35) (b := false) rfl rfl rfl rfl) rfl (by simp only [List.map_toArray, List.map_cons, List.map_nil]; rfl) rfl Tryz.call12 ((hd1 y14 (keep_trans k1 hb14)).mono ?_)
      rintro e y24 ⟨v1, rfl, r1, g24⟩
      obtain ⟨j1, d1, rfl, _⟩ := r1.opens rfl
      have hb24 := keep_trans hb14 g24
      refine ⟨_, rfl, hb24, ?_⟩
      simp only [Act.put, List.setIfInBounds_toArray, List.set_cons_zero, List.set_cons_succ]
      refine at_one (i := 24) (m' := 33554431) lt3reg (by decide) rfl ?_
      refine p_callG (args := #[.int .i64 M, .slice ta text.length tc]) (d := some 43) rfl (wanted_gG (j := 16) (d := 35) (b := false) rfl rfl rfl rfl) rfl (by simp only [List.map_toArray, List.map_cons, List.map_nil]; rfl) rfl Tryz.call13 ((hd2 y24 (keep_trans k1 hb24)).mono ?_)
      rintro e y25 ⟨v2, rfl, r2, g25⟩
      obtain ⟨j2, d2, rfl, _⟩ := r2.opens rfl
      replace r1 := r1.below g25
      have hb25 := keep_trans hb24 g25
      refine ⟨_, rfl, hb25, ?_⟩
      simp only [Act.put, List.setIfInBounds_toArray, List.set_cons_zero, List.set_cons_succ]
      refine at_one (i := 25) (m' := 67108863) lt3reg (by decide) rfl ?_
      refine p_callG (args := #[.slice j1 X9.length d1, .slice j2 X9.length d2]) (d := some 44) rfl (wanted_gG (j := 16) (d := 35) (b := false) rfl rfl rfl rfl) rfl (by simp only [List.map_toArray, List.map_cons, List.map_nil]; rfl) rfl Tryz.call11 ((rsameNums_true _ _ _ y25 r1 r2).mono ?_)
      rintro e y26 ⟨rfl, g26⟩
      have hb26 := keep_trans hb25 g26
      refine ⟨_, rfl, hb26, ?_⟩
      simp only [Act.put, List.setIfInBounds_toArray, List.set_cons_zero, List.set_cons_succ]
      refine at_takeD (i := 26) (m' := 134217727) (d := some 45) (v := .bool false) lt3reg rfl (by decide) rfl rfl (y_notG (b := true) (wanted_gG (j := 16) (d := 35) (b := false) rfl rfl rfl rfl) rfl rfl) hb26 ?_
      simp only [Act.put, List.setIfInBounds_toArray, List.set_cons_zero, List.set_cons_succ]
      refine at_takeD (i := 27) (m' := 268435455) (d := some 46) (v := .bool false) lt3reg rfl (by decide) rfl rfl (y_pickEG (wanted_free rfl) rfl rfl rfl) hb26 ?_
      simp only [Act.put, List.setIfInBounds_toArray, List.set_cons_zero, List.set_cons_succ]
      refine at_done lt3reg (by decide) ?_
      have kz := hb26
      obtain ⟨W9, hW9⟩ : ∃ W9 : World, W9 = y26 := ⟨_, rfl⟩
      rw [← hW9] at kz ⊢
      have bx9 := bx1.below kz
      have La9 := La1.below kz
      have k9 := keep_trans k1 kz
      have hbd9 : Below W9.heap.size W9 W9.drew := (Below.refl _ _).drew
      have hf2 := hf2'
      have hbd := hbd9
      clear hbd9 hW9 hf1 hd1 hd2 r1 r2 kz hu1 hu2 hf2' bx1 La1 k1
      go_wp2
      refine at_begin (ops := opsA (cLA (cRA (cRA (cRA (Tryz.f3.body.getD .skip)))))) (n := 33) (fun y => Below W9.heap.size W9 y) (by kernel_rfl) (by kernel_rfl) ?_
      refine at_takeD (i := 0) (m' := 1) (d := some 47) (v := .agg #[.int .i64 M, .int .i64 H, .int .i64 D, .int .i64 A, .int .i64 K, .bool sh]) lt5reg rfl (by decide) rfl rfl (y_rowG (cs := [.int .i64 M, .int .i64 H, .int .i64 D, .int .i64 A, .int .i64 K, .bool sh]) (wanted_free rfl) rfl rfl Tryz.underlying23 rfl (by kernel_rfl) (fun _ h => (bx9.below h).range)) hbd ?_
      simp only [Act.put, List.setIfInBounds_toArray, List.set_cons_zero, List.set_cons_succ]
      refine at_one (i := 1) (m' := 3) lt5reg (by decide) rfl ?_
      refine p_callG (args := #[.agg #[.int .i64 M, .int .i64 H, .int .i64 D, .int .i64 A, .int .i64 K, .bool sh]]) (d := some 48) rfl (wanted_free rfl) rfl (by simp only [List.map_toArray, List.map_cons, List.map_nil]; rfl) rfl Tryz.call8 ((hf2 W9.drew).mono ?_)
      rintro e y2 ⟨rfl, g2⟩
      have hb2 := keep_trans hbd g2
      refine ⟨_, rfl, hb2, ?_⟩
      simp only [Act.put, List.setIfInBounds_toArray, List.set_cons_zero, List.set_cons_succ]
      refine at_takeD (i := 2) (m' := 7) (d := some 49) (v := .bool true) lt5reg rfl (by decide) rfl rfl (y_notG (b := false) (wanted_free rfl) rfl rfl) hb2 ?_
      simp only [Act.put, List.setIfInBounds_toArray, List.set_cons_zero, List.set_cons_succ]
      refine at_takeD (i := 3) (m' := 15) (d := some 50) (v := .bool true) lt5reg rfl (by decide) rfl rfl (y_moveG (wanted_free rfl) rfl rfl) hb2 ?_
      simp only [Act.put, List.setIfInBounds_toArray, List.set_cons_zero, List.set_cons_succ]
      refine at_takeD (i := 4) (m' := 31) (d := some 51) (v := undef) lt5reg rfl (by decide) rfl rfl (y_unG (wanted_nG (j := 3) (d := 50) (b := false) rfl rfl rfl rfl)) hb2 ?_
      simp only [Act.put, List.setIfInBounds_toArray, List.set_cons_zero, List.set_cons_succ]
      refine at_takeD (i := 5) (m' := 63) (d := some 52) (v := undef) lt5reg rfl (by decide) rfl rfl (y_unG (wanted_nG (j := 3) (d := 50) (b := false) rfl rfl rfl rfl)) hb2 ?_
      simp only [Act.put, List.setIfInBounds_toArray, List.set_cons_zero, List.set_cons_succ]
      refine at_takeD (i := 6) (m' := 127) (d := some 53) (v := undef) lt5reg rfl (by decide) rfl rfl (y_unG (wanted_nG (j := 3) (d := 50) (b := false) rfl rfl rfl rfl)) hb2 ?_
      simp only [Act.put, List.setIfInBounds_toArray, List.set_cons_zero, List.set_cons_succ]
      refine at_takeD (i := 7) (m' := 255) (d := some 54) (v := undef) lt5reg rfl (by decide) rfl rfl (y_unG (wanted_nG (j := 3) (d := 50) (b := false) rfl rfl rfl rfl)) hb2 ?_
      simp only [Act.put, List.setIfInBounds_toArray, List.set_cons_zero, List.set_cons_succ]
      refine at_takeD (i := 8) (m' := 511) (d := some 55) (v := undef) lt5reg rfl (by decide) rfl rfl (y_unG (wanted_nG (j := 3) (d := 50) (b := false) rfl rfl rfl rfl)) hb2 ?_
      simp only [Act.put, List.setIfInBounds_toArray, List.set_cons_zero, List.set_cons_succ]
      refine at_takeD (i := 9) (m' := 1023) (d := some 56) (v := undef) lt5reg rfl (by decide) rfl rfl (y_unG (wanted_nG (j := 3) (d := 50) (b := false) rfl rfl rfl rfl)) hb2 ?_
      simp only [Act.put, List.setIfInBounds_toArray, List.set_cons_zero, List.set_cons_succ]
      refine at_takeD (i := 10) (m' := 2047) (d := some 57) (v := undef) lt5reg rfl (by decide) rfl rfl (y_unG (wanted_nG (j := 3) (d := 50) (b := false) rfl rfl rfl rfl)) hb2 ?_
      simp only [Act.put, List.setIfInBounds_toArray, List.set_cons_zero, List.set_cons_succ]
      refine at_takeD (i := 11) (m' := 4095) (d := some 58) (v := undef) lt5reg rfl (by decide) rfl rfl (y_unG (wanted_nG (j := 3) (d := 50) (b := false) rfl rfl rfl rfl)) hb2 ?_
      simp only [Act.put, List.setIfInBounds_toArray, List.set_cons_zero, List.set_cons_succ]
      refine at_takeD (i := 12) (m' := 8191) (d := some 59) (v := undef) lt5reg rfl (by decide) rfl rfl (y_unG (wanted_nG (j := 3) (d := 50) (b := false) rfl rfl rfl rfl)) hb2 ?_
      simp only [Act.put, List.setIfInBounds_toArray, List.set_cons_zero, List.set_cons_succ]
      refine at_takeD (i := 13) (m' := 16383) (d := some 60) (v := undef) lt5reg rfl (by decide) rfl rfl (y_unG (wanted_nG (j := 3) (d := 50) (b := false) rfl rfl rfl rfl)) hb2 ?_
      simp only [Act.put, List.setIfInBounds_toArray, List.set_cons_zero, List.set_cons_succ]
      refine at_takeD (i := 14) (m' := 32767) (d := some 61) (v := undef) lt5reg rfl (by decide) rfl rfl (y_unG (wanted_nG (j := 3) (d := 50) (b := false) rfl rfl rfl rfl)) hb2 ?_
      simp only [Act.put, List.setIfInBounds_toArray, List.set_cons_zero, List.set_cons_succ]
      refine at_takeD (i := 15) (m' := 65535) (d := some 62) (v := undef) lt5reg rfl (by decide) rfl rfl (y_unG (wanted_nG (j := 3) (d := 50) (b := false) rfl rfl rfl rfl)) hb2 ?_
      simp only [Act.put, List.setIfInBounds_toArray, List.set_cons_zero, List.set_cons_succ]
      refine at_takeD (i := 16) (m' := 131071) (d := some 63) (v := undef) lt5reg rfl (by decide) rfl rfl (y_unG (wanted_uGY (j := 15) (d := 62) rfl rfl rfl rfl)) hb2 ?_
      simp only [Act.put, List.setIfInBounds_toArray, List.set_cons_zero, List.set_cons_succ]
      refine at_takeD (i := 17) (m' := 262143) (d := some 64) (v := undef) lt5reg rfl (by decide) rfl rfl (y_unG (wanted_uGY (j := 15) (d := 62) rfl rfl rfl rfl)) hb2 ?_
      simp only [Act.put, List.setIfInBounds_toArray, List.set_cons_zero, List.set_cons_succ]
      refine at_takeD (i := 18) (m' := 524287) (d := some 65) (v := undef) lt5reg rfl (by decide) rfl rfl (y_unG (wanted_uGY (j := 15) (d := 62) rfl rfl rfl rfl)) hb2 ?_
      simp only [Act.put, List.setIfInBounds_toArray, List.set_cons_zero, List.set_cons_succ]
      refine at_takeD (i := 19) (m' := 1048575) (d := some 66) (v := undef) lt5reg rfl (by decide) rfl rfl (y_unG (wanted_uGY (j := 15) (d := 62) rfl rfl rfl rfl)) hb2 ?_
      simp only [Act.put, List.setIfInBounds_toArray, List.set_cons_zero, List.set_cons_succ]
      refine at_takeD (i := 20) (m' := 2097151) (d := some 67) (v := undef) lt5reg rfl (by decide) rfl rfl (y_unG (wanted_uGY (j := 15) (d := 62) rfl rfl rfl rfl)) hb2 ?_
      simp only [Act.put, List.setIfInBounds_toArray, List.set_cons_zero, List.set_cons_succ]
      refine at_takeD (i := 21) (m' := 4194303) (d := some 68) (v := undef) lt5reg rfl (by decide) rfl rfl (y_unG (wanted_uGY (j := 15) (d := 62) rfl rfl rfl rfl)) hb2 ?_
      simp only [Act.put, List.setIfInBounds_toArray, List.set_cons_zero, List.set_cons_succ]
      refine at_takeD (i := 22) (m' := 8388607) (d := some 69) (v := undef) lt5reg rfl (by decide) rfl rfl (y_unG (wanted_uGY (j := 15) (d := 62) rfl rfl rfl rfl)) hb2 ?_
      simp only [Act.put, List.setIfInBounds_toArray, List.set_cons_zero, List.set_cons_succ]
      refine at_takeD (i := 23) (m' := 16777215) (d := some 70) (v := undef) lt5reg rfl (by decide) rfl rfl (y_unG (wanted_uGY (j := 15) (d := 62) rfl rfl rfl rfl)) hb2 ?_
      simp only [Act.put, List.setIfInBounds_toArray, List.set_cons_zero, List.set_cons_succ]
      refine at_takeD (i := 24) (m' := 33554431) (d := some 71) (v := undef) lt5reg rfl (by decide) rfl rfl (y_unG (wanted_uGY (j := 15) (d := 62) rfl rfl rfl rfl)) hb2 ?_
      simp only [Act.put, List.setIfInBounds_toArray, List.set_cons_zero, List.set_cons_succ]
      refine at_takeD (i := 25) (m' := 67108863) (d := some 72) (v := undef) lt5reg rfl (by decide) rfl rfl (y_unG (wanted_uGY (j := 15) (d := 62) rfl rfl rfl rfl)) hb2 ?_
      simp only [Act.put, List.setIfInBounds_toArray, List.set_cons_zero, List.set_cons_succ]
      refine at_takeD (i := 26) (m' := 134217727) (d := some 73) (v := undef) lt5reg rfl (by decide) rfl rfl (y_unG (wanted_uGY (j := 15) (d := 62) rfl rfl rfl rfl)) hb2 ?_
      simp only [Act.put, List.setIfInBounds_toArray, List.set_cons_zero, List.set_cons_succ]
      refine at_takeD (i := 27) (m' := 268435455) (d := some 74) (v := undef) lt5reg rfl (by decide) rfl rfl (y_unG (wanted_nG (j := 3) (d := 50) (b := false) rfl rfl rfl rfl)) hb2 ?_
      simp only [Act.put, List.setIfInBounds_toArray, List.set_cons_zero, List.set_cons_succ]
      refine at_takeD (i := 28) (m' := 536870911) (d := some 75) (v := undef) lt5reg rfl (by decide) rfl rfl (y_unG (wanted_nG (j := 3) (d := 50) (b := false) rfl rfl rfl rfl)) hb2 ?_
      simp only [Act.put, List.setIfInBounds_toArray, List.set_cons_zero, List.set_cons_succ]
      refine at_takeD (i := 29) (m' := 1073741823) (d := some 76) (v := undef) lt5reg rfl (by decide) rfl rfl (y_unG (wanted_uGY (j := 28) (d := 75) rfl rfl rfl rfl)) hb2 ?_
      simp only [Act.put, List.setIfInBounds_toArray, List.set_cons_zero, List.set_cons_succ]
      refine at_takeD (i := 30) (m' := 2147483647) (d := some 77) (v := undef) lt5reg rfl (by decide) rfl rfl (y_unG (wanted_nG (j := 3) (d := 50) (b := false) rfl rfl rfl rfl)) hb2 ?_
      simp only [Act.put, List.setIfInBounds_toArray, List.set_cons_zero, List.set_cons_succ]
      refine at_takeD (i := 31) (m' := 4294967295) (d := some 78) (v := .bool true) lt5reg rfl (by decide) rfl rfl (y_pickTG (wanted_free rfl) rfl rfl rfl) hb2 ?_
      simp only [Act.put, List.setIfInBounds_toArray, List.set_cons_zero, List.set_cons_succ]
      refine at_takeD (i := 32) (m' := 8589934591) (d := some 12) (v := .bool true) lt5reg rfl (by decide) rfl rfl (y_assignG (wanted_free rfl) rfl rfl) hb2 ?_
      simp only [Act.put, List.setIfInBounds_toArray, List.set_cons_zero, List.set_cons_succ]
      refine at_done lt5reg (by decide) ?_
      go_wp2
      go_ret
      exact ⟨rfl, keep_trans k9 hb2⟩
  · rw [decide_eq_false hfw] at hfe
    unfold slV
    clear hf1 hf2 hu1 hu2 hd1 hd2 hp ht hC hT hfw hH hn
    go_enter Tryz.func3, Tryz.ntmps3
    go_wp2_with (first
      | (go_at_call 5; refine hfe.mono ?_; rintro e W1 ⟨rfl, g1⟩)
      | (go_at_call 6; refine (awakeY_any _).mono ?_; rintro e y2 ⟨rfl, g2⟩)
      | fail)
    go_ret
    exact ⟨rfl, keep_trans k0 (keep_trans g1 g2)⟩
end Go.Proofs.YtpmobjfhhkglbaaGreatDoor
