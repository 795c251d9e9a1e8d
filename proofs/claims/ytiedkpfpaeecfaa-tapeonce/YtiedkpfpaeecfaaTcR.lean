/- The drawn regions of the laws of tapes. -/
import Derived.Test.YtiedkpfpaeecfaaTcW
namespace Go.Proofs.Ytiedkpfpaeecfaa
open Go.RowKit
set_option linter.unusedVariables false
set_option linter.unusedSimpArgs false

theorem rtsame_true (u v : Value) (l : List Nat) (x : Int) (w : World) (hu : Row .u8 256 w u l) (hv : Row .u8 256 w v l) :
    Calls Try.prog 14 #[.agg #[u, .int .i64 x], .agg #[v, .int .i64 x]] w fun e w' => e = .returned (.bool true) ∧ Below w.heap.size w w' :=
  (rtsame_any u v l l x x w hu hv).mono fun e w' h => ⟨by rw [h.1]; simp, h.2⟩
theorem tSame_true (u v : Value) (l : List Nat) (x : Int) (w : World) (hu : Row .u8 256 w u l) (hv : Row .u8 256 w v l) :
    Calls Try.prog 17 #[.agg #[u, .int .i64 x], .agg #[v, .int .i64 x]] w fun e w' => e = .returned (.bool true) ∧ Below w.heap.size w w' :=
  (tSame_any u v l l x x w hu hv).mono fun e w' h => ⟨by rw [h.1]; simp, h.2⟩
theorem rsame2_true (va vb : Value) (l : List (List Nat)) (w : World) (ha : Rows2 w va l) (hb : Rows2 w vb l) :
    Calls Try.prog 16 #[va, vb] w fun e w' => e = .returned (.bool true) ∧ Below w.heap.size w w' :=
  (rsame2_any va vb l l w ha hb).mono fun _ _ ⟨h1, h2⟩ => ⟨by rw [h1, decide_eq_true rfl], h2.below⟩
def tllt : List Lt := [(0, some 63, [4]), (1, some 64, [63]), (0, some 65, [4]), (6, some 66, [65]), (10, some 67, [64, 66]), (24, some 68, [67]), (32, some 69, [4, 68]), (96, some 70, [69, 68]), (32, some 71, [4, 68]), (416, some 72, [71, 68]), (672, some 73, [70, 72, 68]), (1056, some 74, [68, 73]), (2560, some 75, [74]), (4096, some 76, [9, 75]), (4096, some 77, [12, 75]), (28672, some 78, [76, 77, 75]), (36864, some 79, [75, 78]), (98304, some 80, [79]), (131072, some 81, [10, 80]), (131072, some 82, [13, 80]), (917504, some 83, [81, 82, 80]), (1179648, some 84, [80, 83]), (3145728, some 85, [84]), (4194304, some 86, [11, 85]), (4194304, some 87, [14, 85]), (29360128, some 88, [86, 87, 85]), (37748736, some 89, [85, 88]), (71303168, some 90, [89]), (134217728, some 91, [15, 90]), (134217728, some 92, [18, 90]), (939524096, some 93, [91, 92, 90]), (1207959552, some 94, [90, 93]), (3221225472, some 95, [94]), (4294967296, some 96, [16, 95]), (4294967296, some 97, [19, 95]), (30064771072, some 98, [96, 97, 95]), (38654705664, some 99, [95, 98]), (103079215104, some 100, [99]), (137438953472, some 101, [17, 100]), (137438953472, some 102, [20, 100]), (962072674304, some 103, [101, 102, 100]), (1236950581248, some 104, [100, 103]), (2336462209024, some 105, [104]), (4398046511104, some 106, [4, 105]), (4398046511104, some 107, [5, 105]), (30786325577728, some 108, [106, 107, 105]), (4398046511104, some 109, [4, 105]), (4398046511104, some 110, [5, 105]), (250688651132928, some 111, [109, 110, 105]), (321057395310592, some 112, [108, 111, 105]), (567347999932416, some 113, [105, 112]), (1407374883553280, some 114, [113]), (2251799813685248, some 115, [4, 114]), (2251799813685248, some 116, [4, 114]), (15762598695796736, some 117, [115, 116, 114]), (20266198323167232, some 118, [114, 117]), (54043195528445952, some 119, [118]), (72057594037927936, some 120, [119]), (216172782113783808, some 121, [119, 120]), (576460752303423487, some 8, [121])]
theorem tlreg : Reg (opsA (cLA (cRA (cRA (cRA (cRA (cRA (cRA (Try.f3.body.getD .skip)))))))) ) tllt := ⟨by kernel_rfl, by kernel_rfl⟩
set_option maxHeartbeats 8000000 in
theorem tells_reg {Q : Exit → Act → World → Prop} {id : Nat} {a : Act} {x : World} {ta va : Option Addr} {tn tc un uc B4 B5 B9 B12 B15 B18 : Nat} {av xv b d lv mv : Value} {tl ul TB : List Nat} {PL : List (List Nat)} {tx ux AY PY EC PC : Int}
    (F : FrK 122 a) (s4 : a.eval (.tmp 4) = .pointer (some ⟨B4, 0, none⟩)) (s5 : a.eval (.tmp 5) = .pointer (some ⟨B5, 0, none⟩)) (s9 : a.eval (.tmp 9) = .pointer (some ⟨B9, 0, none⟩)) (s10 : a.eval (.tmp 10) = b) (s11 : a.eval (.tmp 11) = .int .i64 EC) (s12 : a.eval (.tmp 12) = .pointer (some ⟨B12, 0, none⟩)) (s13 : a.eval (.tmp 13) = d) (s14 : a.eval (.tmp 14) = .int .i64 EC) (s15 : a.eval (.tmp 15) = .pointer (some ⟨B15, 0, none⟩)) (s16 : a.eval (.tmp 16) = lv) (s17 : a.eval (.tmp 17) = .int .i64 PC) (s18 : a.eval (.tmp 18) = .pointer (some ⟨B18, 0, none⟩)) (s19 : a.eval (.tmp 19) = mv) (s20 : a.eval (.tmp 20) = .int .i64 PC)
    (b4 : Bx2 x B4 (.slice ta tn tc) (.int .i64 tx)) (b5 : Bx2 x B5 (.slice va un uc) (.int .i64 ux)) (b9 : Bx2 x B9 av (.int .i64 AY)) (b12 : Bx2 x B12 (.slice ta tn tc) (.int .i64 AY)) (b15 : Bx2 x B15 xv (.int .i64 PY)) (b18 : Bx2 x B18 (.slice ta tn tc) (.int .i64 PY))
    (rt : Row .u8 256 x (.slice ta tn tc) tl) (ru : Row .u8 256 x (.slice va un uc) ul) (ra : Row .u8 256 x av tl) (rx : Row .u8 256 x xv tl) (rb : Row .u8 256 x b TB) (rd : Row .u8 256 x d TB) (rl : Rows2 x lv PL) (rm : Rows2 x mv PL)
    (hQ : ∀ (a' : Act) (y : World), FrK 122 a' → a'.eval (.tmp 8) = .bool true → Below x.heap.size x y → Q .normal a' y) :
    (Code.region id (opsA (cLA (cRA (cRA (cRA (cRA (cRA (cRA (Try.f3.body.getD .skip)))))))) ) true).wp Try.prog Q a x := by
  have hb0 : Below x.heap.size x x.drew := (Below.refl _ _).drew
  refine at_begin (n := 60) (fun y => Below x.heap.size x y) (by kernel_rfl) (by kernel_rfl) ?_
  refine at_takeD (i := 0) (m' := 1) (d := some 63) (v := .agg #[.slice ta tn tc, .int .i64 tx]) tlreg rfl (by decide) rfl rfl (y_rowG (cs := [.slice ta tn tc, .int .i64 tx]) (wanted_free rfl) rfl s4 Try.underlying24 rfl (by kernel_rfl) (fun _ h => (b4.below h).range)) hb0 ?_
  refine F.step (kk := 63) rfl (by decide) ?_
  intro a1 F s63 e
  replace s4 := (e 4 (by decide)).trans s4
  replace s5 := (e 5 (by decide)).trans s5
  replace s9 := (e 9 (by decide)).trans s9
  replace s10 := (e 10 (by decide)).trans s10
  replace s11 := (e 11 (by decide)).trans s11
  replace s12 := (e 12 (by decide)).trans s12
  replace s13 := (e 13 (by decide)).trans s13
  replace s14 := (e 14 (by decide)).trans s14
  replace s15 := (e 15 (by decide)).trans s15
  replace s16 := (e 16 (by decide)).trans s16
  replace s17 := (e 17 (by decide)).trans s17
  replace s18 := (e 18 (by decide)).trans s18
  replace s19 := (e 19 (by decide)).trans s19
  replace s20 := (e 20 (by decide)).trans s20
  clear e
  refine at_takeD (i := 2) (m' := 5) (d := some 65) (v := .agg #[.slice ta tn tc, .int .i64 tx]) tlreg rfl (by decide) rfl rfl (y_rowG (cs := [.slice ta tn tc, .int .i64 tx]) (wanted_free rfl) rfl s4 Try.underlying24 rfl (by kernel_rfl) (fun _ h => (b4.below h).range)) hb0 ?_
  refine F.step (kk := 65) rfl (by decide) ?_
  intro a2 F s65 e
  replace s4 := (e 4 (by decide)).trans s4
  replace s5 := (e 5 (by decide)).trans s5
  replace s9 := (e 9 (by decide)).trans s9
  replace s10 := (e 10 (by decide)).trans s10
  replace s11 := (e 11 (by decide)).trans s11
  replace s12 := (e 12 (by decide)).trans s12
  replace s13 := (e 13 (by decide)).trans s13
  replace s14 := (e 14 (by decide)).trans s14
  replace s15 := (e 15 (by decide)).trans s15
  replace s16 := (e 16 (by decide)).trans s16
  replace s17 := (e 17 (by decide)).trans s17
  replace s18 := (e 18 (by decide)).trans s18
  replace s19 := (e 19 (by decide)).trans s19
  replace s20 := (e 20 (by decide)).trans s20
  replace s63 := (e 63 (by decide)).trans s63
  clear e
  refine at_one (i := 1) (m' := 7) tlreg (by decide) rfl ?_
  refine p_callG (args := #[.agg #[.slice ta tn tc, .int .i64 tx]]) (d := some 64) rfl (wanted_free rfl) rfl (by simp only [List.map_toArray, List.map_cons, List.map_nil, s63]) rfl Try.call10 ((tfit_any ta tn tc tx x.drew).mono ?_)
  rintro e y3 ⟨rfl, g3⟩
  have hb3 := keep_trans hb0 g3
  refine ⟨_, rfl, hb3, ?_⟩
  refine F.step (kk := 64) rfl (by decide) ?_
  intro a3 F s64 e
  replace s4 := (e 4 (by decide)).trans s4
  replace s5 := (e 5 (by decide)).trans s5
  replace s9 := (e 9 (by decide)).trans s9
  replace s10 := (e 10 (by decide)).trans s10
  replace s11 := (e 11 (by decide)).trans s11
  replace s12 := (e 12 (by decide)).trans s12
  replace s13 := (e 13 (by decide)).trans s13
  replace s14 := (e 14 (by decide)).trans s14
  replace s15 := (e 15 (by decide)).trans s15
  replace s16 := (e 16 (by decide)).trans s16
  replace s17 := (e 17 (by decide)).trans s17
  replace s18 := (e 18 (by decide)).trans s18
  replace s19 := (e 19 (by decide)).trans s19
  replace s20 := (e 20 (by decide)).trans s20
  replace s65 := (e 65 (by decide)).trans s65
  clear e
  refine at_one (i := 3) (m' := 15) tlreg (by decide) rfl ?_
  refine p_callG (args := #[.agg #[.slice ta tn tc, .int .i64 tx]]) (d := some 66) rfl (wanted_free rfl) rfl (by simp only [List.map_toArray, List.map_cons, List.map_nil, s65]) rfl Try.call11 ((rtfit_any ta tn tc tx y3).mono ?_)
  rintro e y4 ⟨rfl, g4⟩
  have hb4 := keep_trans hb3 g4
  refine ⟨_, rfl, hb4, ?_⟩
  refine F.step (kk := 66) rfl (by decide) ?_
  intro a4 F s66 e
  replace s4 := (e 4 (by decide)).trans s4
  replace s5 := (e 5 (by decide)).trans s5
  replace s9 := (e 9 (by decide)).trans s9
  replace s10 := (e 10 (by decide)).trans s10
  replace s11 := (e 11 (by decide)).trans s11
  replace s12 := (e 12 (by decide)).trans s12
  replace s13 := (e 13 (by decide)).trans s13
  replace s14 := (e 14 (by decide)).trans s14
  replace s15 := (e 15 (by decide)).trans s15
  replace s16 := (e 16 (by decide)).trans s16
  replace s17 := (e 17 (by decide)).trans s17
  replace s18 := (e 18 (by decide)).trans s18
  replace s19 := (e 19 (by decide)).trans s19
  replace s20 := (e 20 (by decide)).trans s20
  replace s64 := (e 64 (by decide)).trans s64
  clear e
  refine at_takeD (i := 4) (m' := 31) (d := some 67) (v := .bool true) tlreg rfl (by decide) rfl rfl (y_eqB (wanted_free rfl) rfl s64 s66 Try.underlying4 (by simp)) hb4 ?_
  refine F.step (kk := 67) rfl (by decide) ?_
  intro a5 F s67 e
  replace s4 := (e 4 (by decide)).trans s4
  replace s5 := (e 5 (by decide)).trans s5
  replace s9 := (e 9 (by decide)).trans s9
  replace s10 := (e 10 (by decide)).trans s10
  replace s11 := (e 11 (by decide)).trans s11
  replace s12 := (e 12 (by decide)).trans s12
  replace s13 := (e 13 (by decide)).trans s13
  replace s14 := (e 14 (by decide)).trans s14
  replace s15 := (e 15 (by decide)).trans s15
  replace s16 := (e 16 (by decide)).trans s16
  replace s17 := (e 17 (by decide)).trans s17
  replace s18 := (e 18 (by decide)).trans s18
  replace s19 := (e 19 (by decide)).trans s19
  replace s20 := (e 20 (by decide)).trans s20
  clear e
  refine at_takeD (i := 5) (m' := 63) (d := some 68) (v := .bool true) tlreg rfl (by decide) rfl rfl (y_moveG (wanted_free rfl) rfl s67) hb4 ?_
  refine F.step (kk := 68) rfl (by decide) ?_
  intro a6 F s68 e
  replace s4 := (e 4 (by decide)).trans s4
  replace s5 := (e 5 (by decide)).trans s5
  replace s9 := (e 9 (by decide)).trans s9
  replace s10 := (e 10 (by decide)).trans s10
  replace s11 := (e 11 (by decide)).trans s11
  replace s12 := (e 12 (by decide)).trans s12
  replace s13 := (e 13 (by decide)).trans s13
  replace s14 := (e 14 (by decide)).trans s14
  replace s15 := (e 15 (by decide)).trans s15
  replace s16 := (e 16 (by decide)).trans s16
  replace s17 := (e 17 (by decide)).trans s17
  replace s18 := (e 18 (by decide)).trans s18
  replace s19 := (e 19 (by decide)).trans s19
  replace s20 := (e 20 (by decide)).trans s20
  clear e
  refine at_takeD (i := 6) (m' := 127) (d := some 69) (v := .agg #[.slice ta tn tc, .int .i64 tx]) tlreg rfl (by decide) rfl rfl (y_rowG (cs := [.slice ta tn tc, .int .i64 tx]) (wanted_gG (j := 5) rfl rfl rfl s68) rfl s4 Try.underlying24 rfl (by kernel_rfl) (fun _ h => (b4.below h).range)) hb4 ?_
  refine F.step (kk := 69) rfl (by decide) ?_
  intro a7 F s69 e
  replace s4 := (e 4 (by decide)).trans s4
  replace s5 := (e 5 (by decide)).trans s5
  replace s9 := (e 9 (by decide)).trans s9
  replace s10 := (e 10 (by decide)).trans s10
  replace s11 := (e 11 (by decide)).trans s11
  replace s12 := (e 12 (by decide)).trans s12
  replace s13 := (e 13 (by decide)).trans s13
  replace s14 := (e 14 (by decide)).trans s14
  replace s15 := (e 15 (by decide)).trans s15
  replace s16 := (e 16 (by decide)).trans s16
  replace s17 := (e 17 (by decide)).trans s17
  replace s18 := (e 18 (by decide)).trans s18
  replace s19 := (e 19 (by decide)).trans s19
  replace s20 := (e 20 (by decide)).trans s20
  replace s68 := (e 68 (by decide)).trans s68
  clear e
  refine at_takeD (i := 8) (m' := 383) (d := some 71) (v := .agg #[.slice ta tn tc, .int .i64 tx]) tlreg rfl (by decide) rfl rfl (y_rowG (cs := [.slice ta tn tc, .int .i64 tx]) (wanted_gG (j := 5) rfl rfl rfl s68) rfl s4 Try.underlying24 rfl (by kernel_rfl) (fun _ h => (b4.below h).range)) hb4 ?_
  refine F.step (kk := 71) rfl (by decide) ?_
  intro a8 F s71 e
  replace s4 := (e 4 (by decide)).trans s4
  replace s5 := (e 5 (by decide)).trans s5
  replace s9 := (e 9 (by decide)).trans s9
  replace s10 := (e 10 (by decide)).trans s10
  replace s11 := (e 11 (by decide)).trans s11
  replace s12 := (e 12 (by decide)).trans s12
  replace s13 := (e 13 (by decide)).trans s13
  replace s14 := (e 14 (by decide)).trans s14
  replace s15 := (e 15 (by decide)).trans s15
  replace s16 := (e 16 (by decide)).trans s16
  replace s17 := (e 17 (by decide)).trans s17
  replace s18 := (e 18 (by decide)).trans s18
  replace s19 := (e 19 (by decide)).trans s19
  replace s20 := (e 20 (by decide)).trans s20
  replace s68 := (e 68 (by decide)).trans s68
  replace s69 := (e 69 (by decide)).trans s69
  clear e
  refine at_one (i := 7) (m' := 511) tlreg (by decide) rfl ?_
  refine p_callG (args := #[.agg #[.slice ta tn tc, .int .i64 tx]]) (d := some 70) rfl (wanted_gG (j := 5) rfl rfl rfl s68) rfl (by simp only [List.map_toArray, List.map_cons, List.map_nil, s69]) rfl Try.call12 ((tleft_any ta tn tc tx y4).mono ?_)
  rintro e y9 ⟨rfl, g9⟩
  have hb9 := keep_trans hb4 g9
  refine ⟨_, rfl, hb9, ?_⟩
  refine F.step (kk := 70) rfl (by decide) ?_
  intro a9 F s70 e
  replace s4 := (e 4 (by decide)).trans s4
  replace s5 := (e 5 (by decide)).trans s5
  replace s9 := (e 9 (by decide)).trans s9
  replace s10 := (e 10 (by decide)).trans s10
  replace s11 := (e 11 (by decide)).trans s11
  replace s12 := (e 12 (by decide)).trans s12
  replace s13 := (e 13 (by decide)).trans s13
  replace s14 := (e 14 (by decide)).trans s14
  replace s15 := (e 15 (by decide)).trans s15
  replace s16 := (e 16 (by decide)).trans s16
  replace s17 := (e 17 (by decide)).trans s17
  replace s18 := (e 18 (by decide)).trans s18
  replace s19 := (e 19 (by decide)).trans s19
  replace s20 := (e 20 (by decide)).trans s20
  replace s68 := (e 68 (by decide)).trans s68
  replace s71 := (e 71 (by decide)).trans s71
  clear e
  refine at_one (i := 9) (m' := 1023) tlreg (by decide) rfl ?_
  refine p_callG (args := #[.agg #[.slice ta tn tc, .int .i64 tx]]) (d := some 72) rfl (wanted_gG (j := 5) rfl rfl rfl s68) rfl (by simp only [List.map_toArray, List.map_cons, List.map_nil, s71]) rfl Try.call13 ((rtleft_any ta tn tc tx y9).mono ?_)
  rintro e y10 ⟨rfl, g10⟩
  have hb10 := keep_trans hb9 g10
  refine ⟨_, rfl, hb10, ?_⟩
  refine F.step (kk := 72) rfl (by decide) ?_
  intro a10 F s72 e
  replace s4 := (e 4 (by decide)).trans s4
  replace s5 := (e 5 (by decide)).trans s5
  replace s9 := (e 9 (by decide)).trans s9
  replace s10 := (e 10 (by decide)).trans s10
  replace s11 := (e 11 (by decide)).trans s11
  replace s12 := (e 12 (by decide)).trans s12
  replace s13 := (e 13 (by decide)).trans s13
  replace s14 := (e 14 (by decide)).trans s14
  replace s15 := (e 15 (by decide)).trans s15
  replace s16 := (e 16 (by decide)).trans s16
  replace s17 := (e 17 (by decide)).trans s17
  replace s18 := (e 18 (by decide)).trans s18
  replace s19 := (e 19 (by decide)).trans s19
  replace s20 := (e 20 (by decide)).trans s20
  replace s68 := (e 68 (by decide)).trans s68
  replace s70 := (e 70 (by decide)).trans s70
  clear e
  refine at_takeD (i := 10) (m' := 2047) (d := some 73) (v := .bool true) tlreg rfl (by decide) rfl rfl (y_eqI (wanted_gG (j := 5) rfl rfl rfl s68) rfl s70 s72 Try.underlying3 (by simp)) hb10 ?_
  refine F.step (kk := 73) rfl (by decide) ?_
  intro a11 F s73 e
  replace s4 := (e 4 (by decide)).trans s4
  replace s5 := (e 5 (by decide)).trans s5
  replace s9 := (e 9 (by decide)).trans s9
  replace s10 := (e 10 (by decide)).trans s10
  replace s11 := (e 11 (by decide)).trans s11
  replace s12 := (e 12 (by decide)).trans s12
  replace s13 := (e 13 (by decide)).trans s13
  replace s14 := (e 14 (by decide)).trans s14
  replace s15 := (e 15 (by decide)).trans s15
  replace s16 := (e 16 (by decide)).trans s16
  replace s17 := (e 17 (by decide)).trans s17
  replace s18 := (e 18 (by decide)).trans s18
  replace s19 := (e 19 (by decide)).trans s19
  replace s20 := (e 20 (by decide)).trans s20
  replace s68 := (e 68 (by decide)).trans s68
  clear e
  refine at_takeD (i := 11) (m' := 4095) (d := some 74) (v := .bool true) tlreg rfl (by decide) rfl rfl (y_pickTG (wanted_free rfl) rfl s68 s73) hb10 ?_
  refine F.step (kk := 74) rfl (by decide) ?_
  intro a12 F s74 e
  replace s4 := (e 4 (by decide)).trans s4
  replace s5 := (e 5 (by decide)).trans s5
  replace s9 := (e 9 (by decide)).trans s9
  replace s10 := (e 10 (by decide)).trans s10
  replace s11 := (e 11 (by decide)).trans s11
  replace s12 := (e 12 (by decide)).trans s12
  replace s13 := (e 13 (by decide)).trans s13
  replace s14 := (e 14 (by decide)).trans s14
  replace s15 := (e 15 (by decide)).trans s15
  replace s16 := (e 16 (by decide)).trans s16
  replace s17 := (e 17 (by decide)).trans s17
  replace s18 := (e 18 (by decide)).trans s18
  replace s19 := (e 19 (by decide)).trans s19
  replace s20 := (e 20 (by decide)).trans s20
  clear e
  refine at_takeD (i := 12) (m' := 8191) (d := some 75) (v := .bool true) tlreg rfl (by decide) rfl rfl (y_moveG (wanted_free rfl) rfl s74) hb10 ?_
  refine F.step (kk := 75) rfl (by decide) ?_
  intro a13 F s75 e
  replace s4 := (e 4 (by decide)).trans s4
  replace s5 := (e 5 (by decide)).trans s5
  replace s9 := (e 9 (by decide)).trans s9
  replace s10 := (e 10 (by decide)).trans s10
  replace s11 := (e 11 (by decide)).trans s11
  replace s12 := (e 12 (by decide)).trans s12
  replace s13 := (e 13 (by decide)).trans s13
  replace s14 := (e 14 (by decide)).trans s14
  replace s15 := (e 15 (by decide)).trans s15
  replace s16 := (e 16 (by decide)).trans s16
  replace s17 := (e 17 (by decide)).trans s17
  replace s18 := (e 18 (by decide)).trans s18
  replace s19 := (e 19 (by decide)).trans s19
  replace s20 := (e 20 (by decide)).trans s20
  clear e
  refine at_takeD (i := 13) (m' := 16383) (d := some 76) (v := .agg #[av, .int .i64 AY]) tlreg rfl (by decide) rfl rfl (y_rowG (cs := [av, .int .i64 AY]) (wanted_gG (j := 12) rfl rfl rfl s75) rfl s9 Try.underlying24 rfl (by kernel_rfl) (fun _ h => (b9.below h).range)) hb10 ?_
  refine F.step (kk := 76) rfl (by decide) ?_
  intro a14 F s76 e
  replace s4 := (e 4 (by decide)).trans s4
  replace s5 := (e 5 (by decide)).trans s5
  replace s10 := (e 10 (by decide)).trans s10
  replace s11 := (e 11 (by decide)).trans s11
  replace s12 := (e 12 (by decide)).trans s12
  replace s13 := (e 13 (by decide)).trans s13
  replace s14 := (e 14 (by decide)).trans s14
  replace s15 := (e 15 (by decide)).trans s15
  replace s16 := (e 16 (by decide)).trans s16
  replace s17 := (e 17 (by decide)).trans s17
  replace s18 := (e 18 (by decide)).trans s18
  replace s19 := (e 19 (by decide)).trans s19
  replace s20 := (e 20 (by decide)).trans s20
  replace s75 := (e 75 (by decide)).trans s75
  clear e
  refine at_takeD (i := 14) (m' := 32767) (d := some 77) (v := .agg #[.slice ta tn tc, .int .i64 AY]) tlreg rfl (by decide) rfl rfl (y_rowG (cs := [.slice ta tn tc, .int .i64 AY]) (wanted_gG (j := 12) rfl rfl rfl s75) rfl s12 Try.underlying24 rfl (by kernel_rfl) (fun _ h => (b12.below h).range)) hb10 ?_
  refine F.step (kk := 77) rfl (by decide) ?_
  intro a15 F s77 e
  replace s4 := (e 4 (by decide)).trans s4
  replace s5 := (e 5 (by decide)).trans s5
  replace s10 := (e 10 (by decide)).trans s10
  replace s11 := (e 11 (by decide)).trans s11
  replace s13 := (e 13 (by decide)).trans s13
  replace s14 := (e 14 (by decide)).trans s14
  replace s15 := (e 15 (by decide)).trans s15
  replace s16 := (e 16 (by decide)).trans s16
  replace s17 := (e 17 (by decide)).trans s17
  replace s18 := (e 18 (by decide)).trans s18
  replace s19 := (e 19 (by decide)).trans s19
  replace s20 := (e 20 (by decide)).trans s20
  replace s75 := (e 75 (by decide)).trans s75
  replace s76 := (e 76 (by decide)).trans s76
  clear e
  refine at_one (i := 15) (m' := 65535) tlreg (by decide) rfl ?_
  refine p_callG (args := #[.agg #[av, .int .i64 AY], .agg #[.slice ta tn tc, .int .i64 AY]]) (d := some 78) rfl (wanted_gG (j := 12) rfl rfl rfl s75) rfl (by simp only [List.map_toArray, List.map_cons, List.map_nil, s76, s77]) rfl Try.call14 ((rtsame_true _ _ tl AY y10 (ra.below hb10) (rt.below hb10)).mono ?_)
  rintro e y16 ⟨rfl, g16⟩
  have hb16 := keep_trans hb10 g16
  refine ⟨_, rfl, hb16, ?_⟩
  refine F.step (kk := 78) rfl (by decide) ?_
  intro a16 F s78 e
  replace s4 := (e 4 (by decide)).trans s4
  replace s5 := (e 5 (by decide)).trans s5
  replace s10 := (e 10 (by decide)).trans s10
  replace s11 := (e 11 (by decide)).trans s11
  replace s13 := (e 13 (by decide)).trans s13
  replace s14 := (e 14 (by decide)).trans s14
  replace s15 := (e 15 (by decide)).trans s15
  replace s16 := (e 16 (by decide)).trans s16
  replace s17 := (e 17 (by decide)).trans s17
  replace s18 := (e 18 (by decide)).trans s18
  replace s19 := (e 19 (by decide)).trans s19
  replace s20 := (e 20 (by decide)).trans s20
  replace s75 := (e 75 (by decide)).trans s75
  clear e
  refine at_takeD (i := 16) (m' := 131071) (d := some 79) (v := .bool true) tlreg rfl (by decide) rfl rfl (y_pickTG (wanted_free rfl) rfl s75 s78) hb16 ?_
  refine F.step (kk := 79) rfl (by decide) ?_
  intro a17 F s79 e
  replace s4 := (e 4 (by decide)).trans s4
  replace s5 := (e 5 (by decide)).trans s5
  replace s10 := (e 10 (by decide)).trans s10
  replace s11 := (e 11 (by decide)).trans s11
  replace s13 := (e 13 (by decide)).trans s13
  replace s14 := (e 14 (by decide)).trans s14
  replace s15 := (e 15 (by decide)).trans s15
  replace s16 := (e 16 (by decide)).trans s16
  replace s17 := (e 17 (by decide)).trans s17
  replace s18 := (e 18 (by decide)).trans s18
  replace s19 := (e 19 (by decide)).trans s19
  replace s20 := (e 20 (by decide)).trans s20
  clear e
  refine at_takeD (i := 17) (m' := 262143) (d := some 80) (v := .bool true) tlreg rfl (by decide) rfl rfl (y_moveG (wanted_free rfl) rfl s79) hb16 ?_
  refine F.step (kk := 80) rfl (by decide) ?_
  intro a18 F s80 e
  replace s4 := (e 4 (by decide)).trans s4
  replace s5 := (e 5 (by decide)).trans s5
  replace s10 := (e 10 (by decide)).trans s10
  replace s11 := (e 11 (by decide)).trans s11
  replace s13 := (e 13 (by decide)).trans s13
  replace s14 := (e 14 (by decide)).trans s14
  replace s15 := (e 15 (by decide)).trans s15
  replace s16 := (e 16 (by decide)).trans s16
  replace s17 := (e 17 (by decide)).trans s17
  replace s18 := (e 18 (by decide)).trans s18
  replace s19 := (e 19 (by decide)).trans s19
  replace s20 := (e 20 (by decide)).trans s20
  clear e
  refine at_takeD (i := 18) (m' := 524287) (d := some 81) (v := b) tlreg rfl (by decide) rfl rfl (y_moveG (wanted_gG (j := 17) rfl rfl rfl s80) rfl s10) hb16 ?_
  refine F.step (kk := 81) rfl (by decide) ?_
  intro a19 F s81 e
  replace s4 := (e 4 (by decide)).trans s4
  replace s5 := (e 5 (by decide)).trans s5
  replace s11 := (e 11 (by decide)).trans s11
  replace s13 := (e 13 (by decide)).trans s13
  replace s14 := (e 14 (by decide)).trans s14
  replace s15 := (e 15 (by decide)).trans s15
  replace s16 := (e 16 (by decide)).trans s16
  replace s17 := (e 17 (by decide)).trans s17
  replace s18 := (e 18 (by decide)).trans s18
  replace s19 := (e 19 (by decide)).trans s19
  replace s20 := (e 20 (by decide)).trans s20
  replace s80 := (e 80 (by decide)).trans s80
  clear e
  refine at_takeD (i := 19) (m' := 1048575) (d := some 82) (v := d) tlreg rfl (by decide) rfl rfl (y_moveG (wanted_gG (j := 17) rfl rfl rfl s80) rfl s13) hb16 ?_
  refine F.step (kk := 82) rfl (by decide) ?_
  intro a20 F s82 e
  replace s4 := (e 4 (by decide)).trans s4
  replace s5 := (e 5 (by decide)).trans s5
  replace s11 := (e 11 (by decide)).trans s11
  replace s14 := (e 14 (by decide)).trans s14
  replace s15 := (e 15 (by decide)).trans s15
  replace s16 := (e 16 (by decide)).trans s16
  replace s17 := (e 17 (by decide)).trans s17
  replace s18 := (e 18 (by decide)).trans s18
  replace s19 := (e 19 (by decide)).trans s19
  replace s20 := (e 20 (by decide)).trans s20
  replace s80 := (e 80 (by decide)).trans s80
  replace s81 := (e 81 (by decide)).trans s81
  clear e
  refine at_one (i := 20) (m' := 2097151) tlreg (by decide) rfl ?_
  refine p_callG (args := #[b, d]) (d := some 83) rfl (wanted_gG (j := 17) rfl rfl rfl s80) rfl (by simp only [List.map_toArray, List.map_cons, List.map_nil, s81, s82]) rfl Try.call15 ((rsame_true b d TB y16 (rb.below hb16) (rd.below hb16)).mono ?_)
  rintro e y21 ⟨rfl, g21⟩
  have hb21 := keep_trans hb16 g21
  refine ⟨_, rfl, hb21, ?_⟩
  refine F.step (kk := 83) rfl (by decide) ?_
  intro a21 F s83 e
  replace s4 := (e 4 (by decide)).trans s4
  replace s5 := (e 5 (by decide)).trans s5
  replace s11 := (e 11 (by decide)).trans s11
  replace s14 := (e 14 (by decide)).trans s14
  replace s15 := (e 15 (by decide)).trans s15
  replace s16 := (e 16 (by decide)).trans s16
  replace s17 := (e 17 (by decide)).trans s17
  replace s18 := (e 18 (by decide)).trans s18
  replace s19 := (e 19 (by decide)).trans s19
  replace s20 := (e 20 (by decide)).trans s20
  replace s80 := (e 80 (by decide)).trans s80
  clear e
  refine at_takeD (i := 21) (m' := 4194303) (d := some 84) (v := .bool true) tlreg rfl (by decide) rfl rfl (y_pickTG (wanted_free rfl) rfl s80 s83) hb21 ?_
  refine F.step (kk := 84) rfl (by decide) ?_
  intro a22 F s84 e
  replace s4 := (e 4 (by decide)).trans s4
  replace s5 := (e 5 (by decide)).trans s5
  replace s11 := (e 11 (by decide)).trans s11
  replace s14 := (e 14 (by decide)).trans s14
  replace s15 := (e 15 (by decide)).trans s15
  replace s16 := (e 16 (by decide)).trans s16
  replace s17 := (e 17 (by decide)).trans s17
  replace s18 := (e 18 (by decide)).trans s18
  replace s19 := (e 19 (by decide)).trans s19
  replace s20 := (e 20 (by decide)).trans s20
  clear e
  refine at_takeD (i := 22) (m' := 8388607) (d := some 85) (v := .bool true) tlreg rfl (by decide) rfl rfl (y_moveG (wanted_free rfl) rfl s84) hb21 ?_
  refine F.step (kk := 85) rfl (by decide) ?_
  intro a23 F s85 e
  replace s4 := (e 4 (by decide)).trans s4
  replace s5 := (e 5 (by decide)).trans s5
  replace s11 := (e 11 (by decide)).trans s11
  replace s14 := (e 14 (by decide)).trans s14
  replace s15 := (e 15 (by decide)).trans s15
  replace s16 := (e 16 (by decide)).trans s16
  replace s17 := (e 17 (by decide)).trans s17
  replace s18 := (e 18 (by decide)).trans s18
  replace s19 := (e 19 (by decide)).trans s19
  replace s20 := (e 20 (by decide)).trans s20
  clear e
  refine at_takeD (i := 23) (m' := 16777215) (d := some 86) (v := .int .i64 EC) tlreg rfl (by decide) rfl rfl (y_moveG (wanted_gG (j := 22) rfl rfl rfl s85) rfl s11) hb21 ?_
  refine F.step (kk := 86) rfl (by decide) ?_
  intro a24 F s86 e
  replace s4 := (e 4 (by decide)).trans s4
  replace s5 := (e 5 (by decide)).trans s5
  replace s14 := (e 14 (by decide)).trans s14
  replace s15 := (e 15 (by decide)).trans s15
  replace s16 := (e 16 (by decide)).trans s16
  replace s17 := (e 17 (by decide)).trans s17
  replace s18 := (e 18 (by decide)).trans s18
  replace s19 := (e 19 (by decide)).trans s19
  replace s20 := (e 20 (by decide)).trans s20
  replace s85 := (e 85 (by decide)).trans s85
  clear e
  refine at_takeD (i := 24) (m' := 33554431) (d := some 87) (v := .int .i64 EC) tlreg rfl (by decide) rfl rfl (y_moveG (wanted_gG (j := 22) rfl rfl rfl s85) rfl s14) hb21 ?_
  refine F.step (kk := 87) rfl (by decide) ?_
  intro a25 F s87 e
  replace s4 := (e 4 (by decide)).trans s4
  replace s5 := (e 5 (by decide)).trans s5
  replace s15 := (e 15 (by decide)).trans s15
  replace s16 := (e 16 (by decide)).trans s16
  replace s17 := (e 17 (by decide)).trans s17
  replace s18 := (e 18 (by decide)).trans s18
  replace s19 := (e 19 (by decide)).trans s19
  replace s20 := (e 20 (by decide)).trans s20
  replace s85 := (e 85 (by decide)).trans s85
  replace s86 := (e 86 (by decide)).trans s86
  clear e
  refine at_takeD (i := 25) (m' := 67108863) (d := some 88) (v := .bool true) tlreg rfl (by decide) rfl rfl (y_eqI (wanted_gG (j := 22) rfl rfl rfl s85) rfl s86 s87 Try.underlying3 (by simp)) hb21 ?_
  refine F.step (kk := 88) rfl (by decide) ?_
  intro a26 F s88 e
  replace s4 := (e 4 (by decide)).trans s4
  replace s5 := (e 5 (by decide)).trans s5
  replace s15 := (e 15 (by decide)).trans s15
  replace s16 := (e 16 (by decide)).trans s16
  replace s17 := (e 17 (by decide)).trans s17
  replace s18 := (e 18 (by decide)).trans s18
  replace s19 := (e 19 (by decide)).trans s19
  replace s20 := (e 20 (by decide)).trans s20
  replace s85 := (e 85 (by decide)).trans s85
  clear e
  refine at_takeD (i := 26) (m' := 134217727) (d := some 89) (v := .bool true) tlreg rfl (by decide) rfl rfl (y_pickTG (wanted_free rfl) rfl s85 s88) hb21 ?_
  refine F.step (kk := 89) rfl (by decide) ?_
  intro a27 F s89 e
  replace s4 := (e 4 (by decide)).trans s4
  replace s5 := (e 5 (by decide)).trans s5
  replace s15 := (e 15 (by decide)).trans s15
  replace s16 := (e 16 (by decide)).trans s16
  replace s17 := (e 17 (by decide)).trans s17
  replace s18 := (e 18 (by decide)).trans s18
  replace s19 := (e 19 (by decide)).trans s19
  replace s20 := (e 20 (by decide)).trans s20
  clear e
  refine at_takeD (i := 27) (m' := 268435455) (d := some 90) (v := .bool true) tlreg rfl (by decide) rfl rfl (y_moveG (wanted_free rfl) rfl s89) hb21 ?_
  refine F.step (kk := 90) rfl (by decide) ?_
  intro a28 F s90 e
  replace s4 := (e 4 (by decide)).trans s4
  replace s5 := (e 5 (by decide)).trans s5
  replace s15 := (e 15 (by decide)).trans s15
  replace s16 := (e 16 (by decide)).trans s16
  replace s17 := (e 17 (by decide)).trans s17
  replace s18 := (e 18 (by decide)).trans s18
  replace s19 := (e 19 (by decide)).trans s19
  replace s20 := (e 20 (by decide)).trans s20
  clear e
  refine at_takeD (i := 28) (m' := 536870911) (d := some 91) (v := .agg #[xv, .int .i64 PY]) tlreg rfl (by decide) rfl rfl (y_rowG (cs := [xv, .int .i64 PY]) (wanted_gG (j := 27) rfl rfl rfl s90) rfl s15 Try.underlying24 rfl (by kernel_rfl) (fun _ h => (b15.below h).range)) hb21 ?_
  refine F.step (kk := 91) rfl (by decide) ?_
  intro a29 F s91 e
  replace s4 := (e 4 (by decide)).trans s4
  replace s5 := (e 5 (by decide)).trans s5
  replace s16 := (e 16 (by decide)).trans s16
  replace s17 := (e 17 (by decide)).trans s17
  replace s18 := (e 18 (by decide)).trans s18
  replace s19 := (e 19 (by decide)).trans s19
  replace s20 := (e 20 (by decide)).trans s20
  replace s90 := (e 90 (by decide)).trans s90
  clear e
  refine at_takeD (i := 29) (m' := 1073741823) (d := some 92) (v := .agg #[.slice ta tn tc, .int .i64 PY]) tlreg rfl (by decide) rfl rfl (y_rowG (cs := [.slice ta tn tc, .int .i64 PY]) (wanted_gG (j := 27) rfl rfl rfl s90) rfl s18 Try.underlying24 rfl (by kernel_rfl) (fun _ h => (b18.below h).range)) hb21 ?_
  refine F.step (kk := 92) rfl (by decide) ?_
  intro a30 F s92 e
  replace s4 := (e 4 (by decide)).trans s4
  replace s5 := (e 5 (by decide)).trans s5
  replace s16 := (e 16 (by decide)).trans s16
  replace s17 := (e 17 (by decide)).trans s17
  replace s19 := (e 19 (by decide)).trans s19
  replace s20 := (e 20 (by decide)).trans s20
  replace s90 := (e 90 (by decide)).trans s90
  replace s91 := (e 91 (by decide)).trans s91
  clear e
  refine at_one (i := 30) (m' := 2147483647) tlreg (by decide) rfl ?_
  refine p_callG (args := #[.agg #[xv, .int .i64 PY], .agg #[.slice ta tn tc, .int .i64 PY]]) (d := some 93) rfl (wanted_gG (j := 27) rfl rfl rfl s90) rfl (by simp only [List.map_toArray, List.map_cons, List.map_nil, s91, s92]) rfl Try.call14 ((rtsame_true _ _ tl PY y21 (rx.below hb21) (rt.below hb21)).mono ?_)
  rintro e y31 ⟨rfl, g31⟩
  have hb31 := keep_trans hb21 g31
  refine ⟨_, rfl, hb31, ?_⟩
  refine F.step (kk := 93) rfl (by decide) ?_
  intro a31 F s93 e
  replace s4 := (e 4 (by decide)).trans s4
  replace s5 := (e 5 (by decide)).trans s5
  replace s16 := (e 16 (by decide)).trans s16
  replace s17 := (e 17 (by decide)).trans s17
  replace s19 := (e 19 (by decide)).trans s19
  replace s20 := (e 20 (by decide)).trans s20
  replace s90 := (e 90 (by decide)).trans s90
  clear e
  refine at_takeD (i := 31) (m' := 4294967295) (d := some 94) (v := .bool true) tlreg rfl (by decide) rfl rfl (y_pickTG (wanted_free rfl) rfl s90 s93) hb31 ?_
  refine F.step (kk := 94) rfl (by decide) ?_
  intro a32 F s94 e
  replace s4 := (e 4 (by decide)).trans s4
  replace s5 := (e 5 (by decide)).trans s5
  replace s16 := (e 16 (by decide)).trans s16
  replace s17 := (e 17 (by decide)).trans s17
  replace s19 := (e 19 (by decide)).trans s19
  replace s20 := (e 20 (by decide)).trans s20
  clear e
  refine at_takeD (i := 32) (m' := 8589934591) (d := some 95) (v := .bool true) tlreg rfl (by decide) rfl rfl (y_moveG (wanted_free rfl) rfl s94) hb31 ?_
  refine F.step (kk := 95) rfl (by decide) ?_
  intro a33 F s95 e
  replace s4 := (e 4 (by decide)).trans s4
  replace s5 := (e 5 (by decide)).trans s5
  replace s16 := (e 16 (by decide)).trans s16
  replace s17 := (e 17 (by decide)).trans s17
  replace s19 := (e 19 (by decide)).trans s19
  replace s20 := (e 20 (by decide)).trans s20
  clear e
  refine at_takeD (i := 33) (m' := 17179869183) (d := some 96) (v := lv) tlreg rfl (by decide) rfl rfl (y_moveG (wanted_gG (j := 32) rfl rfl rfl s95) rfl s16) hb31 ?_
  refine F.step (kk := 96) rfl (by decide) ?_
  intro a34 F s96 e
  replace s4 := (e 4 (by decide)).trans s4
  replace s5 := (e 5 (by decide)).trans s5
  replace s17 := (e 17 (by decide)).trans s17
  replace s19 := (e 19 (by decide)).trans s19
  replace s20 := (e 20 (by decide)).trans s20
  replace s95 := (e 95 (by decide)).trans s95
  clear e
  refine at_takeD (i := 34) (m' := 34359738367) (d := some 97) (v := mv) tlreg rfl (by decide) rfl rfl (y_moveG (wanted_gG (j := 32) rfl rfl rfl s95) rfl s19) hb31 ?_
  refine F.step (kk := 97) rfl (by decide) ?_
  intro a35 F s97 e
  replace s4 := (e 4 (by decide)).trans s4
  replace s5 := (e 5 (by decide)).trans s5
  replace s17 := (e 17 (by decide)).trans s17
  replace s20 := (e 20 (by decide)).trans s20
  replace s95 := (e 95 (by decide)).trans s95
  replace s96 := (e 96 (by decide)).trans s96
  clear e
  refine at_one (i := 35) (m' := 68719476735) tlreg (by decide) rfl ?_
  refine p_callG (args := #[lv, mv]) (d := some 98) rfl (wanted_gG (j := 32) rfl rfl rfl s95) rfl (by simp only [List.map_toArray, List.map_cons, List.map_nil, s96, s97]) rfl Try.call16 ((rsame2_true lv mv PL y31 (rl.below hb31) (rm.below hb31)).mono ?_)
  rintro e y36 ⟨rfl, g36⟩
  have hb36 := keep_trans hb31 g36
  refine ⟨_, rfl, hb36, ?_⟩
  refine F.step (kk := 98) rfl (by decide) ?_
  intro a36 F s98 e
  replace s4 := (e 4 (by decide)).trans s4
  replace s5 := (e 5 (by decide)).trans s5
  replace s17 := (e 17 (by decide)).trans s17
  replace s20 := (e 20 (by decide)).trans s20
  replace s95 := (e 95 (by decide)).trans s95
  clear e
  refine at_takeD (i := 36) (m' := 137438953471) (d := some 99) (v := .bool true) tlreg rfl (by decide) rfl rfl (y_pickTG (wanted_free rfl) rfl s95 s98) hb36 ?_
  refine F.step (kk := 99) rfl (by decide) ?_
  intro a37 F s99 e
  replace s4 := (e 4 (by decide)).trans s4
  replace s5 := (e 5 (by decide)).trans s5
  replace s17 := (e 17 (by decide)).trans s17
  replace s20 := (e 20 (by decide)).trans s20
  clear e
  refine at_takeD (i := 37) (m' := 274877906943) (d := some 100) (v := .bool true) tlreg rfl (by decide) rfl rfl (y_moveG (wanted_free rfl) rfl s99) hb36 ?_
  refine F.step (kk := 100) rfl (by decide) ?_
  intro a38 F s100 e
  replace s4 := (e 4 (by decide)).trans s4
  replace s5 := (e 5 (by decide)).trans s5
  replace s17 := (e 17 (by decide)).trans s17
  replace s20 := (e 20 (by decide)).trans s20
  clear e
  refine at_takeD (i := 38) (m' := 549755813887) (d := some 101) (v := .int .i64 PC) tlreg rfl (by decide) rfl rfl (y_moveG (wanted_gG (j := 37) rfl rfl rfl s100) rfl s17) hb36 ?_
  refine F.step (kk := 101) rfl (by decide) ?_
  intro a39 F s101 e
  replace s4 := (e 4 (by decide)).trans s4
  replace s5 := (e 5 (by decide)).trans s5
  replace s20 := (e 20 (by decide)).trans s20
  replace s100 := (e 100 (by decide)).trans s100
  clear e
  refine at_takeD (i := 39) (m' := 1099511627775) (d := some 102) (v := .int .i64 PC) tlreg rfl (by decide) rfl rfl (y_moveG (wanted_gG (j := 37) rfl rfl rfl s100) rfl s20) hb36 ?_
  refine F.step (kk := 102) rfl (by decide) ?_
  intro a40 F s102 e
  replace s4 := (e 4 (by decide)).trans s4
  replace s5 := (e 5 (by decide)).trans s5
  replace s100 := (e 100 (by decide)).trans s100
  replace s101 := (e 101 (by decide)).trans s101
  clear e
  refine at_takeD (i := 40) (m' := 2199023255551) (d := some 103) (v := .bool true) tlreg rfl (by decide) rfl rfl (y_eqI (wanted_gG (j := 37) rfl rfl rfl s100) rfl s101 s102 Try.underlying3 (by simp)) hb36 ?_
  refine F.step (kk := 103) rfl (by decide) ?_
  intro a41 F s103 e
  replace s4 := (e 4 (by decide)).trans s4
  replace s5 := (e 5 (by decide)).trans s5
  replace s100 := (e 100 (by decide)).trans s100
  clear e
  refine at_takeD (i := 41) (m' := 4398046511103) (d := some 104) (v := .bool true) tlreg rfl (by decide) rfl rfl (y_pickTG (wanted_free rfl) rfl s100 s103) hb36 ?_
  refine F.step (kk := 104) rfl (by decide) ?_
  intro a42 F s104 e
  replace s4 := (e 4 (by decide)).trans s4
  replace s5 := (e 5 (by decide)).trans s5
  clear e
  refine at_takeD (i := 42) (m' := 8796093022207) (d := some 105) (v := .bool true) tlreg rfl (by decide) rfl rfl (y_moveG (wanted_free rfl) rfl s104) hb36 ?_
  refine F.step (kk := 105) rfl (by decide) ?_
  intro a43 F s105 e
  replace s4 := (e 4 (by decide)).trans s4
  replace s5 := (e 5 (by decide)).trans s5
  clear e
  refine at_takeD (i := 43) (m' := 17592186044415) (d := some 106) (v := .agg #[.slice ta tn tc, .int .i64 tx]) tlreg rfl (by decide) rfl rfl (y_rowG (cs := [.slice ta tn tc, .int .i64 tx]) (wanted_gG (j := 42) rfl rfl rfl s105) rfl s4 Try.underlying24 rfl (by kernel_rfl) (fun _ h => (b4.below h).range)) hb36 ?_
  refine F.step (kk := 106) rfl (by decide) ?_
  intro a44 F s106 e
  replace s4 := (e 4 (by decide)).trans s4
  replace s5 := (e 5 (by decide)).trans s5
  replace s105 := (e 105 (by decide)).trans s105
  clear e
  refine at_takeD (i := 44) (m' := 35184372088831) (d := some 107) (v := .agg #[.slice va un uc, .int .i64 ux]) tlreg rfl (by decide) rfl rfl (y_rowG (cs := [.slice va un uc, .int .i64 ux]) (wanted_gG (j := 42) rfl rfl rfl s105) rfl s5 Try.underlying24 rfl (by kernel_rfl) (fun _ h => (b5.below h).range)) hb36 ?_
  refine F.step (kk := 107) rfl (by decide) ?_
  intro a45 F s107 e
  replace s4 := (e 4 (by decide)).trans s4
  replace s5 := (e 5 (by decide)).trans s5
  replace s105 := (e 105 (by decide)).trans s105
  replace s106 := (e 106 (by decide)).trans s106
  clear e
  refine at_takeD (i := 46) (m' := 105553116266495) (d := some 109) (v := .agg #[.slice ta tn tc, .int .i64 tx]) tlreg rfl (by decide) rfl rfl (y_rowG (cs := [.slice ta tn tc, .int .i64 tx]) (wanted_gG (j := 42) rfl rfl rfl s105) rfl s4 Try.underlying24 rfl (by kernel_rfl) (fun _ h => (b4.below h).range)) hb36 ?_
  refine F.step (kk := 109) rfl (by decide) ?_
  intro a46 F s109 e
  replace s4 := (e 4 (by decide)).trans s4
  replace s5 := (e 5 (by decide)).trans s5
  replace s105 := (e 105 (by decide)).trans s105
  replace s106 := (e 106 (by decide)).trans s106
  replace s107 := (e 107 (by decide)).trans s107
  clear e
  refine at_takeD (i := 47) (m' := 246290604621823) (d := some 110) (v := .agg #[.slice va un uc, .int .i64 ux]) tlreg rfl (by decide) rfl rfl (y_rowG (cs := [.slice va un uc, .int .i64 ux]) (wanted_gG (j := 42) rfl rfl rfl s105) rfl s5 Try.underlying24 rfl (by kernel_rfl) (fun _ h => (b5.below h).range)) hb36 ?_
  refine F.step (kk := 110) rfl (by decide) ?_
  intro a47 F s110 e
  replace s4 := (e 4 (by decide)).trans s4
  replace s105 := (e 105 (by decide)).trans s105
  replace s106 := (e 106 (by decide)).trans s106
  replace s107 := (e 107 (by decide)).trans s107
  replace s109 := (e 109 (by decide)).trans s109
  clear e
  refine at_one (i := 45) (m' := 281474976710655) tlreg (by decide) rfl ?_
  refine p_callG (args := #[.agg #[.slice ta tn tc, .int .i64 tx], .agg #[.slice va un uc, .int .i64 ux]]) (d := some 108) rfl (wanted_gG (j := 42) rfl rfl rfl s105) rfl (by simp only [List.map_toArray, List.map_cons, List.map_nil, s106, s107]) rfl Try.call17 ((tSame_any _ _ tl ul tx ux y36 (rt.below hb36) (ru.below hb36)).mono ?_)
  rintro e y48 ⟨rfl, g48⟩
  have hb48 := keep_trans hb36 g48
  refine ⟨_, rfl, hb48, ?_⟩
  refine F.step (kk := 108) rfl (by decide) ?_
  intro a48 F s108 e
  replace s4 := (e 4 (by decide)).trans s4
  replace s105 := (e 105 (by decide)).trans s105
  replace s109 := (e 109 (by decide)).trans s109
  replace s110 := (e 110 (by decide)).trans s110
  clear e
  refine at_one (i := 48) (m' := 562949953421311) tlreg (by decide) rfl ?_
  refine p_callG (args := #[.agg #[.slice ta tn tc, .int .i64 tx], .agg #[.slice va un uc, .int .i64 ux]]) (d := some 111) rfl (wanted_gG (j := 42) rfl rfl rfl s105) rfl (by simp only [List.map_toArray, List.map_cons, List.map_nil, s109, s110]) rfl Try.call14 ((rtsame_any _ _ tl ul tx ux y48 (rt.below hb48) (ru.below hb48)).mono ?_)
  rintro e y49 ⟨rfl, g49⟩
  have hb49 := keep_trans hb48 g49
  refine ⟨_, rfl, hb49, ?_⟩
  refine F.step (kk := 111) rfl (by decide) ?_
  intro a49 F s111 e
  replace s4 := (e 4 (by decide)).trans s4
  replace s105 := (e 105 (by decide)).trans s105
  replace s108 := (e 108 (by decide)).trans s108
  clear e
  refine at_takeD (i := 49) (m' := 1125899906842623) (d := some 112) (v := .bool true) tlreg rfl (by decide) rfl rfl (y_eqB (wanted_gG (j := 42) rfl rfl rfl s105) rfl s108 s111 Try.underlying4 (by simp)) hb49 ?_
  refine F.step (kk := 112) rfl (by decide) ?_
  intro a50 F s112 e
  replace s4 := (e 4 (by decide)).trans s4
  replace s105 := (e 105 (by decide)).trans s105
  clear e
  refine at_takeD (i := 50) (m' := 2251799813685247) (d := some 113) (v := .bool true) tlreg rfl (by decide) rfl rfl (y_pickTG (wanted_free rfl) rfl s105 s112) hb49 ?_
  refine F.step (kk := 113) rfl (by decide) ?_
  intro a51 F s113 e
  replace s4 := (e 4 (by decide)).trans s4
  clear e
  refine at_takeD (i := 51) (m' := 4503599627370495) (d := some 114) (v := .bool true) tlreg rfl (by decide) rfl rfl (y_moveG (wanted_free rfl) rfl s113) hb49 ?_
  refine F.step (kk := 114) rfl (by decide) ?_
  intro a52 F s114 e
  replace s4 := (e 4 (by decide)).trans s4
  clear e
  refine at_takeD (i := 52) (m' := 9007199254740991) (d := some 115) (v := .agg #[.slice ta tn tc, .int .i64 tx]) tlreg rfl (by decide) rfl rfl (y_rowG (cs := [.slice ta tn tc, .int .i64 tx]) (wanted_gG (j := 51) rfl rfl rfl s114) rfl s4 Try.underlying24 rfl (by kernel_rfl) (fun _ h => (b4.below h).range)) hb49 ?_
  refine F.step (kk := 115) rfl (by decide) ?_
  intro a53 F s115 e
  replace s4 := (e 4 (by decide)).trans s4
  replace s114 := (e 114 (by decide)).trans s114
  clear e
  refine at_takeD (i := 53) (m' := 18014398509481983) (d := some 116) (v := .agg #[.slice ta tn tc, .int .i64 tx]) tlreg rfl (by decide) rfl rfl (y_rowG (cs := [.slice ta tn tc, .int .i64 tx]) (wanted_gG (j := 51) rfl rfl rfl s114) rfl s4 Try.underlying24 rfl (by kernel_rfl) (fun _ h => (b4.below h).range)) hb49 ?_
  refine F.step (kk := 116) rfl (by decide) ?_
  intro a54 F s116 e
  replace s114 := (e 114 (by decide)).trans s114
  replace s115 := (e 115 (by decide)).trans s115
  clear e
  refine at_one (i := 54) (m' := 36028797018963967) tlreg (by decide) rfl ?_
  refine p_callG (args := #[.agg #[.slice ta tn tc, .int .i64 tx], .agg #[.slice ta tn tc, .int .i64 tx]]) (d := some 117) rfl (wanted_gG (j := 51) rfl rfl rfl s114) rfl (by simp only [List.map_toArray, List.map_cons, List.map_nil, s115, s116]) rfl Try.call17 ((tSame_true _ _ tl tx y49 (rt.below hb49) (rt.below hb49)).mono ?_)
  rintro e y55 ⟨rfl, g55⟩
  have hb55 := keep_trans hb49 g55
  refine ⟨_, rfl, hb55, ?_⟩
  refine F.step (kk := 117) rfl (by decide) ?_
  intro a55 F s117 e
  replace s114 := (e 114 (by decide)).trans s114
  clear e
  refine at_takeD (i := 55) (m' := 72057594037927935) (d := some 118) (v := .bool true) tlreg rfl (by decide) rfl rfl (y_pickTG (wanted_free rfl) rfl s114 s117) hb55 ?_
  refine F.step (kk := 118) rfl (by decide) ?_
  intro a56 F s118 e
  clear e
  refine at_takeD (i := 56) (m' := 144115188075855871) (d := some 119) (v := .bool true) tlreg rfl (by decide) rfl rfl (y_moveG (wanted_free rfl) rfl s118) hb55 ?_
  refine F.step (kk := 119) rfl (by decide) ?_
  intro a57 F s119 e
  clear e
  refine at_one (i := 57) (m' := 288230376151711743) tlreg (by decide) rfl ?_
  refine p_callG (args := #[]) (d := some 120) rfl (wanted_gG (j := 56) rfl rfl rfl s119) rfl (by simp only [List.map_toArray, List.map_nil]) rfl Try.call5 ((tawake_any y55).mono ?_)
  rintro e y58 ⟨rfl, g58⟩
  have hb58 := keep_trans hb55 g58
  refine ⟨_, rfl, hb58, ?_⟩
  refine F.step (kk := 120) rfl (by decide) ?_
  intro a58 F s120 e
  replace s119 := (e 119 (by decide)).trans s119
  clear e
  refine at_takeD (i := 58) (m' := 576460752303423487) (d := some 121) (v := .bool true) tlreg rfl (by decide) rfl rfl (y_pickTG (wanted_free rfl) rfl s119 s120) hb58 ?_
  refine F.step (kk := 121) rfl (by decide) ?_
  intro a59 F s121 e
  clear e
  refine at_takeD (i := 59) (m' := 1152921504606846975) (d := some 8) (v := .bool true) tlreg rfl (by decide) rfl rfl (y_assignG (wanted_free rfl) rfl s121) hb58 ?_
  refine F.step (kk := 8) rfl (by decide) ?_
  intro a60 F s8 e
  clear e
  refine at_done tlreg (by decide) ?_
  exact hQ _ _ F s8 hb58
theorem rows_lit2T {w : World} {u v : Value} {a b : List Nat} (hu : Row .u8 256 w u a) (tu : Tidy u) (hv : Row .u8 256 w v b) (tv : Tidy v) : Rows2 (w.alloc (.cells #[u, v] 22)) (.slice (some ⟨w.heap.size, 0, none⟩) 2 2) [a, b] := by
  refine ⟨_, _, rfl, Nat.le_refl _, by decide, fun _ => ⟨_, _, rfl, fun i hi => ?_⟩⟩
  match i, hi with
  | 0, _ => exact ⟨u, by rw [World.cell?_alloc_at _ _ _ _ (by simp)]; rfl, hu.below (keep_alloc _ _), tu⟩
  | 1, _ => exact ⟨v, by rw [World.cell?_alloc_at _ _ _ _ (by simp)]; rfl, hv.below (keep_alloc _ _), tv⟩
theorem conv_u8i (n : Nat) (h : n < 256) (w : World) : (convert 5 3 (.int .u8 (n : Int))).run Try.prog w = .ok (.int .i64 (n : Int)) w := by
  have hq : IntKind.i64.wrap (n : Int) = (n : Int) := by rw [IntKind.wrap_i64]; omega
  simp [go_sem, convert, Sem.run_bind, run_underlying Try.underlying5, run_underlying Try.underlying3, hq]
def onlt : List Lt := [(0, some 95, [15]), (1, some 96, [95]), (2, some 97, [96]), (4, some 98, [18, 97]), (12, some 99, [98, 97]), (20, some 100, [97, 99]), (36, some 101, [100]), (64, some 102, [14, 101]), (64, some 103, [8, 101]), (64, some 104, [11, 101]), (832, some 105, [103, 104, 101]), (1088, some 106, [105, 101]), (2240, some 107, [102, 106, 101]), (4160, some 108, [101, 107]), (12288, some 109, [108]), (16384, some 110, [17, 109]), (49152, some 111, [110, 109]), (16384, some 112, [14, 109]), (212992, some 113, [111, 112, 109]), (278528, some 114, [109, 113]), (786432, some 115, [114]), (1048576, some 116, [17, 115]), (3145728, some 117, [116, 115]), (5242880, some 118, [117, 115]), (9437184, some 119, [115, 118]), (17825792, some 120, [119]), (33554432, some 121, [13, 120]), (33554432, some 122, [10, 120]), (234881024, some 123, [121, 122, 120]), (301989888, some 124, [120, 123]), (805306368, some 125, [124]), (1073741824, some 126, [16, 125]), (1073741824, some 127, [10, 125]), (7516192768, some 128, [126, 127, 125]), (9663676416, some 129, [125, 128]), (25769803776, some 130, [129]), (34359738368, some 131, [3, 130]), (103079215104, some 132, [131, 130]), (34359738368, some 133, [10, 130]), (446676598784, some 134, [133, 130]), (34359738368, some 135, [1, 130]), (1133871366144, some 136, [135, 130]), (2783138807808, some 137, [134, 136, 130]), (34359738368, some 138, [2, 130]), (8830452760576, some 139, [138, 130]), (22024592293888, some 140, [137, 139, 130]), (35356170780672, some 141, [132, 140, 130]), (70403103916032, some 142, [130, 141]), (141287244169216, some 143, [142]), (281474976710656, some 144, [143]), (844424930131968, some 145, [143, 144]), (2251799813685247, some 6, [145])]
theorem onreg : Reg (opsA (cLA (cRA (cRA (cRA (cRA (cRA (cRA (cRA (Try.f4.body.getD .skip))))))))) ) onlt := ⟨by kernel_rfl, by kernel_rfl⟩
set_option maxHeartbeats 8000000 in
theorem once_reg {Q : Exit → Act → World → Prop} {id : Nat} {a : Act} {x : World} {ta ba da la ca : Option Addr} {n m tn tc bn bc dn dc lc cc B3 B10 B13 B16 : Nat} {xv yv zv : Value} {tl Bl Dl Y : List Nat} {tx Z : Int}
    (F : FrK 146 a) (s1 : a.eval (.tmp 1) = .int .u8 (n : Int)) (s2 : a.eval (.tmp 2) = .int .u8 (m : Int)) (s3 : a.eval (.tmp 3) = .pointer (some ⟨B3, 0, none⟩)) (s8 : a.eval (.tmp 8) = .slice ba bn bc) (s10 : a.eval (.tmp 10) = .pointer (some ⟨B10, 0, none⟩)) (s11 : a.eval (.tmp 11) = .slice da dn dc) (s13 : a.eval (.tmp 13) = .pointer (some ⟨B13, 0, none⟩)) (s14 : a.eval (.tmp 14) = yv) (s15 : a.eval (.tmp 15) = .int .i64 0) (s16 : a.eval (.tmp 16) = .pointer (some ⟨B16, 0, none⟩)) (s17 : a.eval (.tmp 17) = .slice la 2 lc) (s18 : a.eval (.tmp 18) = .int .i64 0)
    (b3 : Bx2 x B3 (.slice ta tn tc) (.int .i64 tx)) (b10 : Bx2 x B10 (.slice ca tn cc) (.int .i64 Z)) (b13 : Bx2 x B13 xv (.int .i64 Z)) (b16 : Bx2 x B16 zv (.int .i64 Z))
    (rc : Row .u8 256 x (.slice ca tn cc) tl) (rx : Row .u8 256 x xv tl) (rz : Row .u8 256 x zv tl) (rb : Row .u8 256 x (.slice ba bn bc) Bl) (tb : Tidy (.slice ba bn bc)) (rd : Row .u8 256 x (.slice da dn dc) Dl) (td : Tidy (.slice da dn dc)) (ry : Row .u8 256 x yv Y) (rl : Rows2 x (.slice la 2 lc) [Bl, Dl])
    (hJ : [Bl, Dl].flatten = Y) (hlen : [Bl, Dl].flatten.length ≤ 2000000) (hn : n < 256) (hm : m < 256) (hw1 : IntKind.i64.wrap (leftT tn Z + (n : Int)) = leftT tn Z + (n : Int)) (hw2 : IntKind.i64.wrap (leftT tn Z + (n : Int) + (m : Int)) = leftT tn tx)
    (hQ : ∀ (a' : Act) (y : World), FrK 146 a' → a'.eval (.tmp 6) = .bool true → Below x.heap.size x y → Q .normal a' y) :
    (Code.region id (opsA (cLA (cRA (cRA (cRA (cRA (cRA (cRA (cRA (Try.f4.body.getD .skip))))))))) ) true).wp Try.prog Q a x := by
  have hb0 : Below x.heap.size x x.drew := (Below.refl _ _).drew
  obtain ⟨iT, hiT, hz0, hzs, _⟩ := info_text
  refine at_begin (n := 52) (fun y => Below x.heap.size x y) (by kernel_rfl) (by kernel_rfl) ?_
  refine at_takeD (i := 0) (m' := 1) (d := some 95) (v := .int .i64 0) onreg rfl (by decide) rfl rfl (y_moveG (wanted_free rfl) rfl s15) hb0 ?_
  refine F.step (kk := 95) rfl (by decide) ?_
  intro a1 F s95 e
  replace s1 := (e 1 (by decide)).trans s1
  replace s2 := (e 2 (by decide)).trans s2
  replace s3 := (e 3 (by decide)).trans s3
  replace s8 := (e 8 (by decide)).trans s8
  replace s10 := (e 10 (by decide)).trans s10
  replace s11 := (e 11 (by decide)).trans s11
  replace s13 := (e 13 (by decide)).trans s13
  replace s14 := (e 14 (by decide)).trans s14
  replace s16 := (e 16 (by decide)).trans s16
  replace s17 := (e 17 (by decide)).trans s17
  replace s18 := (e 18 (by decide)).trans s18
  clear e
  refine at_takeD (i := 1) (m' := 3) (d := some 96) (v := .bool true) onreg rfl (by decide) rfl rfl (y_eqI (wanted_free rfl) rfl s95 rfl Try.underlying27 (by simp)) hb0 ?_
  refine F.step (kk := 96) rfl (by decide) ?_
  intro a2 F s96 e
  replace s1 := (e 1 (by decide)).trans s1
  replace s2 := (e 2 (by decide)).trans s2
  replace s3 := (e 3 (by decide)).trans s3
  replace s8 := (e 8 (by decide)).trans s8
  replace s10 := (e 10 (by decide)).trans s10
  replace s11 := (e 11 (by decide)).trans s11
  replace s13 := (e 13 (by decide)).trans s13
  replace s14 := (e 14 (by decide)).trans s14
  replace s16 := (e 16 (by decide)).trans s16
  replace s17 := (e 17 (by decide)).trans s17
  replace s18 := (e 18 (by decide)).trans s18
  clear e
  refine at_takeD (i := 2) (m' := 7) (d := some 97) (v := .bool true) onreg rfl (by decide) rfl rfl (y_moveG (wanted_free rfl) rfl s96) hb0 ?_
  refine F.step (kk := 97) rfl (by decide) ?_
  intro a3 F s97 e
  replace s1 := (e 1 (by decide)).trans s1
  replace s2 := (e 2 (by decide)).trans s2
  replace s3 := (e 3 (by decide)).trans s3
  replace s8 := (e 8 (by decide)).trans s8
  replace s10 := (e 10 (by decide)).trans s10
  replace s11 := (e 11 (by decide)).trans s11
  replace s13 := (e 13 (by decide)).trans s13
  replace s14 := (e 14 (by decide)).trans s14
  replace s16 := (e 16 (by decide)).trans s16
  replace s17 := (e 17 (by decide)).trans s17
  replace s18 := (e 18 (by decide)).trans s18
  clear e
  refine at_takeD (i := 3) (m' := 15) (d := some 98) (v := .int .i64 0) onreg rfl (by decide) rfl rfl (y_moveG (wanted_gG (j := 2) rfl rfl rfl s97) rfl s18) hb0 ?_
  refine F.step (kk := 98) rfl (by decide) ?_
  intro a4 F s98 e
  replace s1 := (e 1 (by decide)).trans s1
  replace s2 := (e 2 (by decide)).trans s2
  replace s3 := (e 3 (by decide)).trans s3
  replace s8 := (e 8 (by decide)).trans s8
  replace s10 := (e 10 (by decide)).trans s10
  replace s11 := (e 11 (by decide)).trans s11
  replace s13 := (e 13 (by decide)).trans s13
  replace s14 := (e 14 (by decide)).trans s14
  replace s16 := (e 16 (by decide)).trans s16
  replace s17 := (e 17 (by decide)).trans s17
  replace s97 := (e 97 (by decide)).trans s97
  clear e
  refine at_takeD (i := 4) (m' := 31) (d := some 99) (v := .bool true) onreg rfl (by decide) rfl rfl (y_eqI (wanted_gG (j := 2) rfl rfl rfl s97) rfl s98 rfl Try.underlying27 (by simp)) hb0 ?_
  refine F.step (kk := 99) rfl (by decide) ?_
  intro a5 F s99 e
  replace s1 := (e 1 (by decide)).trans s1
  replace s2 := (e 2 (by decide)).trans s2
  replace s3 := (e 3 (by decide)).trans s3
  replace s8 := (e 8 (by decide)).trans s8
  replace s10 := (e 10 (by decide)).trans s10
  replace s11 := (e 11 (by decide)).trans s11
  replace s13 := (e 13 (by decide)).trans s13
  replace s14 := (e 14 (by decide)).trans s14
  replace s16 := (e 16 (by decide)).trans s16
  replace s17 := (e 17 (by decide)).trans s17
  replace s97 := (e 97 (by decide)).trans s97
  clear e
  refine at_takeD (i := 5) (m' := 63) (d := some 100) (v := .bool true) onreg rfl (by decide) rfl rfl (y_pickTG (wanted_free rfl) rfl s97 s99) hb0 ?_
  refine F.step (kk := 100) rfl (by decide) ?_
  intro a6 F s100 e
  replace s1 := (e 1 (by decide)).trans s1
  replace s2 := (e 2 (by decide)).trans s2
  replace s3 := (e 3 (by decide)).trans s3
  replace s8 := (e 8 (by decide)).trans s8
  replace s10 := (e 10 (by decide)).trans s10
  replace s11 := (e 11 (by decide)).trans s11
  replace s13 := (e 13 (by decide)).trans s13
  replace s14 := (e 14 (by decide)).trans s14
  replace s16 := (e 16 (by decide)).trans s16
  replace s17 := (e 17 (by decide)).trans s17
  clear e
  refine at_takeD (i := 6) (m' := 127) (d := some 101) (v := .bool true) onreg rfl (by decide) rfl rfl (y_moveG (wanted_free rfl) rfl s100) hb0 ?_
  refine F.step (kk := 101) rfl (by decide) ?_
  intro a7 F s101 e
  replace s1 := (e 1 (by decide)).trans s1
  replace s2 := (e 2 (by decide)).trans s2
  replace s3 := (e 3 (by decide)).trans s3
  replace s8 := (e 8 (by decide)).trans s8
  replace s10 := (e 10 (by decide)).trans s10
  replace s11 := (e 11 (by decide)).trans s11
  replace s13 := (e 13 (by decide)).trans s13
  replace s14 := (e 14 (by decide)).trans s14
  replace s16 := (e 16 (by decide)).trans s16
  replace s17 := (e 17 (by decide)).trans s17
  clear e
  refine at_takeD (i := 7) (m' := 255) (d := some 102) (v := yv) onreg rfl (by decide) rfl rfl (y_moveG (wanted_gG (j := 6) rfl rfl rfl s101) rfl s14) hb0 ?_
  refine F.step (kk := 102) rfl (by decide) ?_
  intro a8 F s102 e
  replace s1 := (e 1 (by decide)).trans s1
  replace s2 := (e 2 (by decide)).trans s2
  replace s3 := (e 3 (by decide)).trans s3
  replace s8 := (e 8 (by decide)).trans s8
  replace s10 := (e 10 (by decide)).trans s10
  replace s11 := (e 11 (by decide)).trans s11
  replace s13 := (e 13 (by decide)).trans s13
  replace s14 := (e 14 (by decide)).trans s14
  replace s16 := (e 16 (by decide)).trans s16
  replace s17 := (e 17 (by decide)).trans s17
  replace s101 := (e 101 (by decide)).trans s101
  clear e
  refine at_takeD (i := 8) (m' := 511) (d := some 103) (v := .slice ba bn bc) onreg rfl (by decide) rfl rfl (y_moveG (wanted_gG (j := 6) rfl rfl rfl s101) rfl s8) hb0 ?_
  refine F.step (kk := 103) rfl (by decide) ?_
  intro a9 F s103 e
  replace s1 := (e 1 (by decide)).trans s1
  replace s2 := (e 2 (by decide)).trans s2
  replace s3 := (e 3 (by decide)).trans s3
  replace s10 := (e 10 (by decide)).trans s10
  replace s11 := (e 11 (by decide)).trans s11
  replace s13 := (e 13 (by decide)).trans s13
  replace s14 := (e 14 (by decide)).trans s14
  replace s16 := (e 16 (by decide)).trans s16
  replace s17 := (e 17 (by decide)).trans s17
  replace s101 := (e 101 (by decide)).trans s101
  replace s102 := (e 102 (by decide)).trans s102
  clear e
  refine at_takeD (i := 9) (m' := 1023) (d := some 104) (v := .slice da dn dc) onreg rfl (by decide) rfl rfl (y_moveG (wanted_gG (j := 6) rfl rfl rfl s101) rfl s11) hb0 ?_
  refine F.step (kk := 104) rfl (by decide) ?_
  intro a10 F s104 e
  replace s1 := (e 1 (by decide)).trans s1
  replace s2 := (e 2 (by decide)).trans s2
  replace s3 := (e 3 (by decide)).trans s3
  replace s10 := (e 10 (by decide)).trans s10
  replace s13 := (e 13 (by decide)).trans s13
  replace s14 := (e 14 (by decide)).trans s14
  replace s16 := (e 16 (by decide)).trans s16
  replace s17 := (e 17 (by decide)).trans s17
  replace s101 := (e 101 (by decide)).trans s101
  replace s102 := (e 102 (by decide)).trans s102
  replace s103 := (e 103 (by decide)).trans s103
  clear e
  refine at_one (i := 10) (m' := 2047) onreg (by decide) rfl ?_
  have rj := rows_lit2T (rb.below hb0) tb (rd.below hb0) td
  have hb11 := keep_trans hb0 (keep_alloc x.drew (.cells #[.slice ba bn bc, .slice da dn dc] 22))
  refine p_build2G (d := some 105) rfl (wanted_gG (j := 6) rfl rfl rfl s101) rfl s103 s104 rfl Try.underlying32 hiT hzs hz0 ?_
  refine ⟨hb11, ?_⟩
  refine F.step (kk := 105) rfl (by decide) ?_
  intro a11 F s105 e
  replace s1 := (e 1 (by decide)).trans s1
  replace s2 := (e 2 (by decide)).trans s2
  replace s3 := (e 3 (by decide)).trans s3
  replace s10 := (e 10 (by decide)).trans s10
  replace s13 := (e 13 (by decide)).trans s13
  replace s14 := (e 14 (by decide)).trans s14
  replace s16 := (e 16 (by decide)).trans s16
  replace s17 := (e 17 (by decide)).trans s17
  replace s101 := (e 101 (by decide)).trans s101
  replace s102 := (e 102 (by decide)).trans s102
  clear e
  refine at_one (i := 11) (m' := 4095) onreg (by decide) rfl ?_
  refine p_callG (args := #[.slice (some ⟨x.drew.heap.size, 0, none⟩) 2 2]) (d := some 106) rfl (wanted_gG (j := 6) rfl rfl rfl s101) rfl (by simp only [List.map_toArray, List.map_cons, List.map_nil, s105]) rfl Try.call18 ((rjoin_any _ _ _ rj hlen).mono ?_)
  rintro e y12 ⟨jv, rfl, oj, g12⟩
  have hb12 := keep_trans hb11 g12
  refine ⟨_, rfl, hb12, ?_⟩
  refine F.step (kk := 106) rfl (by decide) ?_
  intro a12 F s106 e
  replace s1 := (e 1 (by decide)).trans s1
  replace s2 := (e 2 (by decide)).trans s2
  replace s3 := (e 3 (by decide)).trans s3
  replace s10 := (e 10 (by decide)).trans s10
  replace s13 := (e 13 (by decide)).trans s13
  replace s14 := (e 14 (by decide)).trans s14
  replace s16 := (e 16 (by decide)).trans s16
  replace s17 := (e 17 (by decide)).trans s17
  replace s101 := (e 101 (by decide)).trans s101
  replace s102 := (e 102 (by decide)).trans s102
  clear e
  refine at_one (i := 12) (m' := 8191) onreg (by decide) rfl ?_
  refine p_callG (args := #[yv, jv]) (d := some 107) rfl (wanted_gG (j := 6) rfl rfl rfl s101) rfl (by simp only [List.map_toArray, List.map_cons, List.map_nil, s102, s106]) rfl Try.call15 ((rsame_true yv jv Y y12 (ry.below hb12) (by rw [← hJ]; exact oj.row)).mono ?_)
  rintro e y13 ⟨rfl, g13⟩
  have hb13 := keep_trans hb12 g13
  refine ⟨_, rfl, hb13, ?_⟩
  refine F.step (kk := 107) rfl (by decide) ?_
  intro a13 F s107 e
  replace s1 := (e 1 (by decide)).trans s1
  replace s2 := (e 2 (by decide)).trans s2
  replace s3 := (e 3 (by decide)).trans s3
  replace s10 := (e 10 (by decide)).trans s10
  replace s13 := (e 13 (by decide)).trans s13
  replace s14 := (e 14 (by decide)).trans s14
  replace s16 := (e 16 (by decide)).trans s16
  replace s17 := (e 17 (by decide)).trans s17
  replace s101 := (e 101 (by decide)).trans s101
  clear e
  refine at_takeD (i := 13) (m' := 16383) (d := some 108) (v := .bool true) onreg rfl (by decide) rfl rfl (y_pickTG (wanted_free rfl) rfl s101 s107) hb13 ?_
  refine F.step (kk := 108) rfl (by decide) ?_
  intro a14 F s108 e
  replace s1 := (e 1 (by decide)).trans s1
  replace s2 := (e 2 (by decide)).trans s2
  replace s3 := (e 3 (by decide)).trans s3
  replace s10 := (e 10 (by decide)).trans s10
  replace s13 := (e 13 (by decide)).trans s13
  replace s14 := (e 14 (by decide)).trans s14
  replace s16 := (e 16 (by decide)).trans s16
  replace s17 := (e 17 (by decide)).trans s17
  clear e
  refine at_takeD (i := 14) (m' := 32767) (d := some 109) (v := .bool true) onreg rfl (by decide) rfl rfl (y_moveG (wanted_free rfl) rfl s108) hb13 ?_
  refine F.step (kk := 109) rfl (by decide) ?_
  intro a15 F s109 e
  replace s1 := (e 1 (by decide)).trans s1
  replace s2 := (e 2 (by decide)).trans s2
  replace s3 := (e 3 (by decide)).trans s3
  replace s10 := (e 10 (by decide)).trans s10
  replace s13 := (e 13 (by decide)).trans s13
  replace s14 := (e 14 (by decide)).trans s14
  replace s16 := (e 16 (by decide)).trans s16
  replace s17 := (e 17 (by decide)).trans s17
  clear e
  refine at_takeD (i := 15) (m' := 65535) (d := some 110) (v := .slice la 2 lc) onreg rfl (by decide) rfl rfl (y_moveG (wanted_gG (j := 14) rfl rfl rfl s109) rfl s17) hb13 ?_
  refine F.step (kk := 110) rfl (by decide) ?_
  intro a16 F s110 e
  replace s1 := (e 1 (by decide)).trans s1
  replace s2 := (e 2 (by decide)).trans s2
  replace s3 := (e 3 (by decide)).trans s3
  replace s10 := (e 10 (by decide)).trans s10
  replace s13 := (e 13 (by decide)).trans s13
  replace s14 := (e 14 (by decide)).trans s14
  replace s16 := (e 16 (by decide)).trans s16
  replace s17 := (e 17 (by decide)).trans s17
  replace s109 := (e 109 (by decide)).trans s109
  clear e
  refine at_takeD (i := 17) (m' := 196607) (d := some 112) (v := yv) onreg rfl (by decide) rfl rfl (y_moveG (wanted_gG (j := 14) rfl rfl rfl s109) rfl s14) hb13 ?_
  refine F.step (kk := 112) rfl (by decide) ?_
  intro a17 F s112 e
  replace s1 := (e 1 (by decide)).trans s1
  replace s2 := (e 2 (by decide)).trans s2
  replace s3 := (e 3 (by decide)).trans s3
  replace s10 := (e 10 (by decide)).trans s10
  replace s13 := (e 13 (by decide)).trans s13
  replace s16 := (e 16 (by decide)).trans s16
  replace s17 := (e 17 (by decide)).trans s17
  replace s109 := (e 109 (by decide)).trans s109
  replace s110 := (e 110 (by decide)).trans s110
  clear e
  refine at_one (i := 16) (m' := 262143) onreg (by decide) rfl ?_
  refine p_callG (args := #[.slice la 2 lc]) (d := some 111) rfl (wanted_gG (j := 14) rfl rfl rfl s109) rfl (by simp only [List.map_toArray, List.map_cons, List.map_nil, s110]) rfl Try.call18 ((rjoin_any _ [Bl, Dl] y13 (rl.below hb13) hlen).mono ?_)
  rintro e y18 ⟨kv, rfl, ok, g18⟩
  have hb18 := keep_trans hb13 g18
  refine ⟨_, rfl, hb18, ?_⟩
  refine F.step (kk := 111) rfl (by decide) ?_
  intro a18 F s111 e
  replace s1 := (e 1 (by decide)).trans s1
  replace s2 := (e 2 (by decide)).trans s2
  replace s3 := (e 3 (by decide)).trans s3
  replace s10 := (e 10 (by decide)).trans s10
  replace s13 := (e 13 (by decide)).trans s13
  replace s16 := (e 16 (by decide)).trans s16
  replace s17 := (e 17 (by decide)).trans s17
  replace s109 := (e 109 (by decide)).trans s109
  replace s112 := (e 112 (by decide)).trans s112
  clear e
  refine at_one (i := 18) (m' := 524287) onreg (by decide) rfl ?_
  refine p_callG (args := #[kv, yv]) (d := some 113) rfl (wanted_gG (j := 14) rfl rfl rfl s109) rfl (by simp only [List.map_toArray, List.map_cons, List.map_nil, s111, s112]) rfl Try.call15 ((rsame_true kv yv Y y18 (by rw [← hJ]; exact ok.row) (ry.below hb18)).mono ?_)
  rintro e y19 ⟨rfl, g19⟩
  have hb19 := keep_trans hb18 g19
  refine ⟨_, rfl, hb19, ?_⟩
  refine F.step (kk := 113) rfl (by decide) ?_
  intro a19 F s113 e
  replace s1 := (e 1 (by decide)).trans s1
  replace s2 := (e 2 (by decide)).trans s2
  replace s3 := (e 3 (by decide)).trans s3
  replace s10 := (e 10 (by decide)).trans s10
  replace s13 := (e 13 (by decide)).trans s13
  replace s16 := (e 16 (by decide)).trans s16
  replace s17 := (e 17 (by decide)).trans s17
  replace s109 := (e 109 (by decide)).trans s109
  clear e
  refine at_takeD (i := 19) (m' := 1048575) (d := some 114) (v := .bool true) onreg rfl (by decide) rfl rfl (y_pickTG (wanted_free rfl) rfl s109 s113) hb19 ?_
  refine F.step (kk := 114) rfl (by decide) ?_
  intro a20 F s114 e
  replace s1 := (e 1 (by decide)).trans s1
  replace s2 := (e 2 (by decide)).trans s2
  replace s3 := (e 3 (by decide)).trans s3
  replace s10 := (e 10 (by decide)).trans s10
  replace s13 := (e 13 (by decide)).trans s13
  replace s16 := (e 16 (by decide)).trans s16
  replace s17 := (e 17 (by decide)).trans s17
  clear e
  refine at_takeD (i := 20) (m' := 2097151) (d := some 115) (v := .bool true) onreg rfl (by decide) rfl rfl (y_moveG (wanted_free rfl) rfl s114) hb19 ?_
  refine F.step (kk := 115) rfl (by decide) ?_
  intro a21 F s115 e
  replace s1 := (e 1 (by decide)).trans s1
  replace s2 := (e 2 (by decide)).trans s2
  replace s3 := (e 3 (by decide)).trans s3
  replace s10 := (e 10 (by decide)).trans s10
  replace s13 := (e 13 (by decide)).trans s13
  replace s16 := (e 16 (by decide)).trans s16
  replace s17 := (e 17 (by decide)).trans s17
  clear e
  refine at_takeD (i := 21) (m' := 4194303) (d := some 116) (v := .slice la 2 lc) onreg rfl (by decide) rfl rfl (y_moveG (wanted_gG (j := 20) rfl rfl rfl s115) rfl s17) hb19 ?_
  refine F.step (kk := 116) rfl (by decide) ?_
  intro a22 F s116 e
  replace s1 := (e 1 (by decide)).trans s1
  replace s2 := (e 2 (by decide)).trans s2
  replace s3 := (e 3 (by decide)).trans s3
  replace s10 := (e 10 (by decide)).trans s10
  replace s13 := (e 13 (by decide)).trans s13
  replace s16 := (e 16 (by decide)).trans s16
  replace s115 := (e 115 (by decide)).trans s115
  clear e
  refine at_takeD (i := 22) (m' := 8388607) (d := some 117) (v := .int .i64 (2 : Int)) onreg rfl (by decide) rfl rfl (y_lenP (wanted_gG (j := 20) rfl rfl rfl s115) rfl s116 Try.underlying32) hb19 ?_
  refine F.step (kk := 117) rfl (by decide) ?_
  intro a23 F s117 e
  replace s1 := (e 1 (by decide)).trans s1
  replace s2 := (e 2 (by decide)).trans s2
  replace s3 := (e 3 (by decide)).trans s3
  replace s10 := (e 10 (by decide)).trans s10
  replace s13 := (e 13 (by decide)).trans s13
  replace s16 := (e 16 (by decide)).trans s16
  replace s115 := (e 115 (by decide)).trans s115
  clear e
  refine at_takeD (i := 23) (m' := 16777215) (d := some 118) (v := .bool true) onreg rfl (by decide) rfl rfl (y_eqI (wanted_gG (j := 20) rfl rfl rfl s115) rfl s117 rfl Try.underlying3 (by decide)) hb19 ?_
  refine F.step (kk := 118) rfl (by decide) ?_
  intro a24 F s118 e
  replace s1 := (e 1 (by decide)).trans s1
  replace s2 := (e 2 (by decide)).trans s2
  replace s3 := (e 3 (by decide)).trans s3
  replace s10 := (e 10 (by decide)).trans s10
  replace s13 := (e 13 (by decide)).trans s13
  replace s16 := (e 16 (by decide)).trans s16
  replace s115 := (e 115 (by decide)).trans s115
  clear e
  refine at_takeD (i := 24) (m' := 33554431) (d := some 119) (v := .bool true) onreg rfl (by decide) rfl rfl (y_pickTG (wanted_free rfl) rfl s115 s118) hb19 ?_
  refine F.step (kk := 119) rfl (by decide) ?_
  intro a25 F s119 e
  replace s1 := (e 1 (by decide)).trans s1
  replace s2 := (e 2 (by decide)).trans s2
  replace s3 := (e 3 (by decide)).trans s3
  replace s10 := (e 10 (by decide)).trans s10
  replace s13 := (e 13 (by decide)).trans s13
  replace s16 := (e 16 (by decide)).trans s16
  clear e
  refine at_takeD (i := 25) (m' := 67108863) (d := some 120) (v := .bool true) onreg rfl (by decide) rfl rfl (y_moveG (wanted_free rfl) rfl s119) hb19 ?_
  refine F.step (kk := 120) rfl (by decide) ?_
  intro a26 F s120 e
  replace s1 := (e 1 (by decide)).trans s1
  replace s2 := (e 2 (by decide)).trans s2
  replace s3 := (e 3 (by decide)).trans s3
  replace s10 := (e 10 (by decide)).trans s10
  replace s13 := (e 13 (by decide)).trans s13
  replace s16 := (e 16 (by decide)).trans s16
  clear e
  refine at_takeD (i := 26) (m' := 134217727) (d := some 121) (v := .agg #[xv, .int .i64 Z]) onreg rfl (by decide) rfl rfl (y_rowG (cs := [xv, .int .i64 Z]) (wanted_gG (j := 25) rfl rfl rfl s120) rfl s13 Try.underlying24 rfl (by kernel_rfl) (fun _ h => (b13.below h).range)) hb19 ?_
  refine F.step (kk := 121) rfl (by decide) ?_
  intro a27 F s121 e
  replace s1 := (e 1 (by decide)).trans s1
  replace s2 := (e 2 (by decide)).trans s2
  replace s3 := (e 3 (by decide)).trans s3
  replace s10 := (e 10 (by decide)).trans s10
  replace s16 := (e 16 (by decide)).trans s16
  replace s120 := (e 120 (by decide)).trans s120
  clear e
  refine at_takeD (i := 27) (m' := 268435455) (d := some 122) (v := .agg #[.slice ca tn cc, .int .i64 Z]) onreg rfl (by decide) rfl rfl (y_rowG (cs := [.slice ca tn cc, .int .i64 Z]) (wanted_gG (j := 25) rfl rfl rfl s120) rfl s10 Try.underlying24 rfl (by kernel_rfl) (fun _ h => (b10.below h).range)) hb19 ?_
  refine F.step (kk := 122) rfl (by decide) ?_
  intro a28 F s122 e
  replace s1 := (e 1 (by decide)).trans s1
  replace s2 := (e 2 (by decide)).trans s2
  replace s3 := (e 3 (by decide)).trans s3
  replace s10 := (e 10 (by decide)).trans s10
  replace s16 := (e 16 (by decide)).trans s16
  replace s120 := (e 120 (by decide)).trans s120
  replace s121 := (e 121 (by decide)).trans s121
  clear e
  refine at_one (i := 28) (m' := 536870911) onreg (by decide) rfl ?_
  refine p_callG (args := #[.agg #[xv, .int .i64 Z], .agg #[.slice ca tn cc, .int .i64 Z]]) (d := some 123) rfl (wanted_gG (j := 25) rfl rfl rfl s120) rfl (by simp only [List.map_toArray, List.map_cons, List.map_nil, s121, s122]) rfl Try.call14 ((rtsame_true _ _ tl Z y19 (rx.below hb19) (rc.below hb19)).mono ?_)
  rintro e y29 ⟨rfl, g29⟩
  have hb29 := keep_trans hb19 g29
  refine ⟨_, rfl, hb29, ?_⟩
  refine F.step (kk := 123) rfl (by decide) ?_
  intro a29 F s123 e
  replace s1 := (e 1 (by decide)).trans s1
  replace s2 := (e 2 (by decide)).trans s2
  replace s3 := (e 3 (by decide)).trans s3
  replace s10 := (e 10 (by decide)).trans s10
  replace s16 := (e 16 (by decide)).trans s16
  replace s120 := (e 120 (by decide)).trans s120
  clear e
  refine at_takeD (i := 29) (m' := 1073741823) (d := some 124) (v := .bool true) onreg rfl (by decide) rfl rfl (y_pickTG (wanted_free rfl) rfl s120 s123) hb29 ?_
  refine F.step (kk := 124) rfl (by decide) ?_
  intro a30 F s124 e
  replace s1 := (e 1 (by decide)).trans s1
  replace s2 := (e 2 (by decide)).trans s2
  replace s3 := (e 3 (by decide)).trans s3
  replace s10 := (e 10 (by decide)).trans s10
  replace s16 := (e 16 (by decide)).trans s16
  clear e
  refine at_takeD (i := 30) (m' := 2147483647) (d := some 125) (v := .bool true) onreg rfl (by decide) rfl rfl (y_moveG (wanted_free rfl) rfl s124) hb29 ?_
  refine F.step (kk := 125) rfl (by decide) ?_
  intro a31 F s125 e
  replace s1 := (e 1 (by decide)).trans s1
  replace s2 := (e 2 (by decide)).trans s2
  replace s3 := (e 3 (by decide)).trans s3
  replace s10 := (e 10 (by decide)).trans s10
  replace s16 := (e 16 (by decide)).trans s16
  clear e
  refine at_takeD (i := 31) (m' := 4294967295) (d := some 126) (v := .agg #[zv, .int .i64 Z]) onreg rfl (by decide) rfl rfl (y_rowG (cs := [zv, .int .i64 Z]) (wanted_gG (j := 30) rfl rfl rfl s125) rfl s16 Try.underlying24 rfl (by kernel_rfl) (fun _ h => (b16.below h).range)) hb29 ?_
  refine F.step (kk := 126) rfl (by decide) ?_
  intro a32 F s126 e
  replace s1 := (e 1 (by decide)).trans s1
  replace s2 := (e 2 (by decide)).trans s2
  replace s3 := (e 3 (by decide)).trans s3
  replace s10 := (e 10 (by decide)).trans s10
  replace s125 := (e 125 (by decide)).trans s125
  clear e
  refine at_takeD (i := 32) (m' := 8589934591) (d := some 127) (v := .agg #[.slice ca tn cc, .int .i64 Z]) onreg rfl (by decide) rfl rfl (y_rowG (cs := [.slice ca tn cc, .int .i64 Z]) (wanted_gG (j := 30) rfl rfl rfl s125) rfl s10 Try.underlying24 rfl (by kernel_rfl) (fun _ h => (b10.below h).range)) hb29 ?_
  refine F.step (kk := 127) rfl (by decide) ?_
  intro a33 F s127 e
  replace s1 := (e 1 (by decide)).trans s1
  replace s2 := (e 2 (by decide)).trans s2
  replace s3 := (e 3 (by decide)).trans s3
  replace s10 := (e 10 (by decide)).trans s10
  replace s125 := (e 125 (by decide)).trans s125
  replace s126 := (e 126 (by decide)).trans s126
  clear e
  refine at_one (i := 33) (m' := 17179869183) onreg (by decide) rfl ?_
  refine p_callG (args := #[.agg #[zv, .int .i64 Z], .agg #[.slice ca tn cc, .int .i64 Z]]) (d := some 128) rfl (wanted_gG (j := 30) rfl rfl rfl s125) rfl (by simp only [List.map_toArray, List.map_cons, List.map_nil, s126, s127]) rfl Try.call14 ((rtsame_true _ _ tl Z y29 (rz.below hb29) (rc.below hb29)).mono ?_)
  rintro e y34 ⟨rfl, g34⟩
  have hb34 := keep_trans hb29 g34
  refine ⟨_, rfl, hb34, ?_⟩
  refine F.step (kk := 128) rfl (by decide) ?_
  intro a34 F s128 e
  replace s1 := (e 1 (by decide)).trans s1
  replace s2 := (e 2 (by decide)).trans s2
  replace s3 := (e 3 (by decide)).trans s3
  replace s10 := (e 10 (by decide)).trans s10
  replace s125 := (e 125 (by decide)).trans s125
  clear e
  refine at_takeD (i := 34) (m' := 34359738367) (d := some 129) (v := .bool true) onreg rfl (by decide) rfl rfl (y_pickTG (wanted_free rfl) rfl s125 s128) hb34 ?_
  refine F.step (kk := 129) rfl (by decide) ?_
  intro a35 F s129 e
  replace s1 := (e 1 (by decide)).trans s1
  replace s2 := (e 2 (by decide)).trans s2
  replace s3 := (e 3 (by decide)).trans s3
  replace s10 := (e 10 (by decide)).trans s10
  clear e
  refine at_takeD (i := 35) (m' := 68719476735) (d := some 130) (v := .bool true) onreg rfl (by decide) rfl rfl (y_moveG (wanted_free rfl) rfl s129) hb34 ?_
  refine F.step (kk := 130) rfl (by decide) ?_
  intro a36 F s130 e
  replace s1 := (e 1 (by decide)).trans s1
  replace s2 := (e 2 (by decide)).trans s2
  replace s3 := (e 3 (by decide)).trans s3
  replace s10 := (e 10 (by decide)).trans s10
  clear e
  refine at_takeD (i := 36) (m' := 137438953471) (d := some 131) (v := .agg #[.slice ta tn tc, .int .i64 tx]) onreg rfl (by decide) rfl rfl (y_rowG (cs := [.slice ta tn tc, .int .i64 tx]) (wanted_gG (j := 35) rfl rfl rfl s130) rfl s3 Try.underlying24 rfl (by kernel_rfl) (fun _ h => (b3.below h).range)) hb34 ?_
  refine F.step (kk := 131) rfl (by decide) ?_
  intro a37 F s131 e
  replace s1 := (e 1 (by decide)).trans s1
  replace s2 := (e 2 (by decide)).trans s2
  replace s10 := (e 10 (by decide)).trans s10
  replace s130 := (e 130 (by decide)).trans s130
  clear e
  refine at_takeD (i := 38) (m' := 412316860415) (d := some 133) (v := .agg #[.slice ca tn cc, .int .i64 Z]) onreg rfl (by decide) rfl rfl (y_rowG (cs := [.slice ca tn cc, .int .i64 Z]) (wanted_gG (j := 35) rfl rfl rfl s130) rfl s10 Try.underlying24 rfl (by kernel_rfl) (fun _ h => (b10.below h).range)) hb34 ?_
  refine F.step (kk := 133) rfl (by decide) ?_
  intro a38 F s133 e
  replace s1 := (e 1 (by decide)).trans s1
  replace s2 := (e 2 (by decide)).trans s2
  replace s130 := (e 130 (by decide)).trans s130
  replace s131 := (e 131 (by decide)).trans s131
  clear e
  refine at_takeD (i := 40) (m' := 1511828488191) (d := some 135) (v := .int .u8 (n : Int)) onreg rfl (by decide) rfl rfl (y_moveG (wanted_gG (j := 35) rfl rfl rfl s130) rfl s1) hb34 ?_
  refine F.step (kk := 135) rfl (by decide) ?_
  intro a39 F s135 e
  replace s2 := (e 2 (by decide)).trans s2
  replace s130 := (e 130 (by decide)).trans s130
  replace s131 := (e 131 (by decide)).trans s131
  replace s133 := (e 133 (by decide)).trans s133
  clear e
  refine at_takeD (i := 41) (m' := 3710851743743) (d := some 136) (v := .int .i64 (n : Int)) onreg rfl (by decide) rfl rfl (y_convI (wanted_gG (j := 35) rfl rfl rfl s130) rfl s135 (conv_u8i n hn)) hb34 ?_
  refine F.step (kk := 136) rfl (by decide) ?_
  intro a40 F s136 e
  replace s2 := (e 2 (by decide)).trans s2
  replace s130 := (e 130 (by decide)).trans s130
  replace s131 := (e 131 (by decide)).trans s131
  replace s133 := (e 133 (by decide)).trans s133
  clear e
  refine at_takeD (i := 43) (m' := 12506944765951) (d := some 138) (v := .int .u8 (m : Int)) onreg rfl (by decide) rfl rfl (y_moveG (wanted_gG (j := 35) rfl rfl rfl s130) rfl s2) hb34 ?_
  refine F.step (kk := 138) rfl (by decide) ?_
  intro a41 F s138 e
  replace s130 := (e 130 (by decide)).trans s130
  replace s131 := (e 131 (by decide)).trans s131
  replace s133 := (e 133 (by decide)).trans s133
  replace s136 := (e 136 (by decide)).trans s136
  clear e
  refine at_takeD (i := 44) (m' := 30099130810367) (d := some 139) (v := .int .i64 (m : Int)) onreg rfl (by decide) rfl rfl (y_convI (wanted_gG (j := 35) rfl rfl rfl s130) rfl s138 (conv_u8i m hm)) hb34 ?_
  refine F.step (kk := 139) rfl (by decide) ?_
  intro a42 F s139 e
  replace s130 := (e 130 (by decide)).trans s130
  replace s131 := (e 131 (by decide)).trans s131
  replace s133 := (e 133 (by decide)).trans s133
  replace s136 := (e 136 (by decide)).trans s136
  clear e
  refine at_one (i := 37) (m' := 30236569763839) onreg (by decide) rfl ?_
  refine p_callG (args := #[.agg #[.slice ta tn tc, .int .i64 tx]]) (d := some 132) rfl (wanted_gG (j := 35) rfl rfl rfl s130) rfl (by simp only [List.map_toArray, List.map_cons, List.map_nil, s131]) rfl Try.call12 ((tleft_any ta tn tc tx y34).mono ?_)
  rintro e y43 ⟨rfl, g43⟩
  have hb43 := keep_trans hb34 g43
  refine ⟨_, rfl, hb43, ?_⟩
  refine F.step (kk := 132) rfl (by decide) ?_
  intro a43 F s132 e
  replace s130 := (e 130 (by decide)).trans s130
  replace s133 := (e 133 (by decide)).trans s133
  replace s136 := (e 136 (by decide)).trans s136
  replace s139 := (e 139 (by decide)).trans s139
  clear e
  refine at_one (i := 39) (m' := 30786325577727) onreg (by decide) rfl ?_
  refine p_callG (args := #[.agg #[.slice ca tn cc, .int .i64 Z]]) (d := some 134) rfl (wanted_gG (j := 35) rfl rfl rfl s130) rfl (by simp only [List.map_toArray, List.map_cons, List.map_nil, s133]) rfl Try.call12 ((tleft_any ca tn cc Z y43).mono ?_)
  rintro e y44 ⟨rfl, g44⟩
  have hb44 := keep_trans hb43 g44
  refine ⟨_, rfl, hb44, ?_⟩
  refine F.step (kk := 134) rfl (by decide) ?_
  intro a44 F s134 e
  replace s130 := (e 130 (by decide)).trans s130
  replace s136 := (e 136 (by decide)).trans s136
  replace s139 := (e 139 (by decide)).trans s139
  replace s132 := (e 132 (by decide)).trans s132
  clear e
  refine at_takeD (i := 42) (m' := 35184372088831) (d := some 137) (v := .int .i64 (leftT tn Z + (n : Int))) onreg rfl (by decide) rfl rfl (y_addI (wanted_gG (j := 35) rfl rfl rfl s130) rfl s134 s136 Try.underlying3 hw1) hb44 ?_
  refine F.step (kk := 137) rfl (by decide) ?_
  intro a45 F s137 e
  replace s130 := (e 130 (by decide)).trans s130
  replace s139 := (e 139 (by decide)).trans s139
  replace s132 := (e 132 (by decide)).trans s132
  clear e
  refine at_takeD (i := 45) (m' := 70368744177663) (d := some 140) (v := .int .i64 (leftT tn tx)) onreg rfl (by decide) rfl rfl (y_addI (wanted_gG (j := 35) rfl rfl rfl s130) rfl s137 s139 Try.underlying3 hw2) hb44 ?_
  refine F.step (kk := 140) rfl (by decide) ?_
  intro a46 F s140 e
  replace s130 := (e 130 (by decide)).trans s130
  replace s132 := (e 132 (by decide)).trans s132
  clear e
  refine at_takeD (i := 46) (m' := 140737488355327) (d := some 141) (v := .bool true) onreg rfl (by decide) rfl rfl (y_eqI (wanted_gG (j := 35) rfl rfl rfl s130) rfl s132 s140 Try.underlying3 (by simp)) hb44 ?_
  refine F.step (kk := 141) rfl (by decide) ?_
  intro a47 F s141 e
  replace s130 := (e 130 (by decide)).trans s130
  clear e
  refine at_takeD (i := 47) (m' := 281474976710655) (d := some 142) (v := .bool true) onreg rfl (by decide) rfl rfl (y_pickTG (wanted_free rfl) rfl s130 s141) hb44 ?_
  refine F.step (kk := 142) rfl (by decide) ?_
  intro a48 F s142 e
  clear e
  refine at_takeD (i := 48) (m' := 562949953421311) (d := some 143) (v := .bool true) onreg rfl (by decide) rfl rfl (y_moveG (wanted_free rfl) rfl s142) hb44 ?_
  refine F.step (kk := 143) rfl (by decide) ?_
  intro a49 F s143 e
  clear e
  refine at_one (i := 49) (m' := 1125899906842623) onreg (by decide) rfl ?_
  refine p_callG (args := #[]) (d := some 144) rfl (wanted_gG (j := 48) rfl rfl rfl s143) rfl (by simp only [List.map_toArray, List.map_nil]) rfl Try.call5 ((tawake_any y44).mono ?_)
  rintro e y50 ⟨rfl, g50⟩
  have hb50 := keep_trans hb44 g50
  refine ⟨_, rfl, hb50, ?_⟩
  refine F.step (kk := 144) rfl (by decide) ?_
  intro a50 F s144 e
  replace s143 := (e 143 (by decide)).trans s143
  clear e
  refine at_takeD (i := 50) (m' := 2251799813685247) (d := some 145) (v := .bool true) onreg rfl (by decide) rfl rfl (y_pickTG (wanted_free rfl) rfl s143 s144) hb50 ?_
  refine F.step (kk := 145) rfl (by decide) ?_
  intro a51 F s145 e
  clear e
  refine at_takeD (i := 51) (m' := 4503599627370495) (d := some 6) (v := .bool true) onreg rfl (by decide) rfl rfl (y_assignG (wanted_free rfl) rfl s145) hb50 ?_
  refine F.step (kk := 6) rfl (by decide) ?_
  intro a52 F s6 e
  clear e
  refine at_done onreg (by decide) ?_
  exact hQ _ _ F s6 hb50
end Go.Proofs.Ytiedkpfpaeecfaa
