/- Keys of chains: IT IS RIGHT: what the law WotsRight asks. -/
import Derived.Test.YtpmobjfhhkglbaaDoorWyG
import Derived.Test.YtpmobjfhhkglbaaDoorWyH
import Derived.Test.YtpmobjfhhkglbaaDoorWyU
import Derived.Test.YtpmobjfhhkglbaaDoorWtM
namespace Go.Proofs.YtpmobjfhhkglbaaDoor
open Go.RowKit
set_option linter.unusedVariables false
set_option linter.unusedSimpArgs false

theorem y_hi32Z {ops : Array Oper} {S : World → Prop} {o : Oper} {a : Act} {x z : Operand} {g G : Nat} (hw : Region.wanted o (yielded ops a.tmps) = true) (ho : o.op = .slice 22 x none (some z) none) (hx : a.eval x = .pointer (some ⟨g, 0, none⟩)) (hz : a.eval z = .int .i64 (G : Int)) (hG : G ≤ 32) : YieldsIf Tryd.prog ops S o (.slice (some ⟨g, 0, none⟩) G 32) a := by
  obtain ⟨i0, hi0, hz0, hz1, hz2⟩ := info_byte
  have h1 : (G : Int) ≤ 32 := by omega
  refine y_ofG hw fun w _ => ?_
  unfold execOp
  simp only [ho, hx, Option.map_none, Option.map_some, hz]
  simp [Instr.sliceAt, Instr.slice, Instr.sliceBounds, Instr.sliceBound, asIntOf, Sem.run_bind, run_underlying Tryd.underlying22, run_underlying Tryd.underlying26, sizeOf, typeInfo, hi0, hz1, Addr.add, go_sem, h1, hG]
/-- the world with a place, a secret, what all know and a text in boxes -/
def box4Y (w : World) (a b c d : List Nat) : World := (((w.alloc (.cells (arr .u8 a) 23)).alloc (.cells (arr .u8 b) 22)).alloc (.cells (arr .u8 c) 22)).alloc (.cells (arr .u8 d) 22)
theorem box4_allY (w : World) {a b c d : List Nat} (hb : b.length = 32) (hc : c.length = 32) (hd : d.length = 32) (ub : Under 256 b) (uc : Under 256 c) (ud : Under 256 d) :
    Lies .u8 23 (box4Y w a b c d) w.heap.size a ∧ Row .u8 256 (box4Y w a b c d) (.slice (some ⟨w.heap.size + 1, 0, none⟩) 32 32) b ∧ Row .u8 256 (box4Y w a b c d) (.slice (some ⟨w.heap.size + 1 + 1, 0, none⟩) 32 32) c ∧ Row .u8 256 (box4Y w a b c d) (.slice (some ⟨w.heap.size + 1 + 1 + 1, 0, none⟩) 32 32) d ∧ Below w.heap.size w (box4Y w a b c d) ∧ (box4Y w a b c d).heap.size = w.heap.size + 1 + 1 + 1 + 1 := by
  unfold box4Y
  have k1 := keep_alloc w (.cells (arr .u8 a) 23)
  have L0 := Lies.new .u8 23 w a
  have s1 : (w.alloc (.cells (arr .u8 a) 23)).heap.size = w.heap.size + 1 := by rw [World.size_alloc]
  generalize w.alloc (.cells (arr .u8 a) 23) = w1 at *
  have k2 := keep_alloc w1 (.cells (arr .u8 b) 22)
  have hB := heap_alloc_last w1 (.cells (arr .u8 b) 22)
  have s2 : (w1.alloc (.cells (arr .u8 b) 22)).heap.size = w.heap.size + 1 + 1 := by rw [World.size_alloc, s1]
  generalize w1.alloc (.cells (arr .u8 b) 22) = w2 at *
  have k3 := keep_alloc w2 (.cells (arr .u8 c) 22)
  have hCc := heap_alloc_last w2 (.cells (arr .u8 c) 22)
  have s3 : (w2.alloc (.cells (arr .u8 c) 22)).heap.size = w.heap.size + 1 + 1 + 1 := by rw [World.size_alloc, s2]
  generalize w2.alloc (.cells (arr .u8 c) 22) = w3 at *
  have k4 := keep_alloc w3 (.cells (arr .u8 d) 22)
  have hDd := heap_alloc_last w3 (.cells (arr .u8 d) 22)
  have s4 : (w3.alloc (.cells (arr .u8 d) 22)).heap.size = w.heap.size + 1 + 1 + 1 + 1 := by rw [World.size_alloc, s3]
  generalize w3.alloc (.cells (arr .u8 d) 22) = w4 at *
  rw [s1] at hB
  rw [s2] at hCc
  rw [s3] at hDd
  have rB := row_boxL hB ub (by omega)
  have rC := row_boxL hCc uc (by omega)
  have rD := row_boxL hDd ud (by omega)
  rw [hb] at rB
  rw [hc] at rC
  rw [hd] at rD
  exact ⟨((L0.below k2).below k3).below k4, (rB.below k3).below k4, rC.below k4, rD, keep_trans k1 (keep_trans k2 (keep_trans k3 k4)), s4⟩
theorem wpList_build6Y {ops : Array Oper} {rest : List Oper} {o : Oper} {a : Act} {w : World} {Q : Exit → Act → World → Prop} (hg : Region.wanted o (yielded ops a.tmps) = true) (x y : Operand) (ho : o.op = .build 25 #[(0, x), (1, .const (.int .i64 2)), (2, .const (.int .i64 1)), (3, .const (.int .i64 1)), (4, .const (.int .i64 1)), (5, y)]) (N : Nat) (sh : Bool) (hx : a.eval x = .int .i64 (N : Int)) (hy : a.eval y = .bool sh)
    (h : wpList Tryd.prog ops Q rest (a.put o.dst (.agg #[.int .i64 (N : Int), .int .i64 2, .int .i64 1, .int .i64 1, .int .i64 1, .bool sh])) w) : wpList Tryd.prog ops Q (o :: rest) a w := by
  have hr : (execOp a.eval o).run Tryd.prog w = .ok (.value (.agg #[.int .i64 (N : Int), .int .i64 2, .int .i64 1, .int .i64 1, .int .i64 1, .bool sh])) w := by
    unfold execOp
    simp only [ho, List.map_toArray, List.map_cons, List.map_nil, hx, hy, ev_const]
    simp [go_sem]
  refine BigFrame.wpList_want hg fun K hK => ?_
  unfold Oper.wp
  rw [hr, Oper.upon_value]
  exact hK _ _ h
theorem zeroSlhY : ∀ w, (zeroValue 25).run Tryd.prog w = .ok (.agg #[.int .i64 0, .int .i64 0, .int .i64 0, .int .i64 0, .int .i64 0, .bool false]) w := fun _ => by kernel_rfl
def rw3lt : List Lt := [(0, some 25, [14]), (0, some 26, [13]), (2, some 27, [9, 26]), (0, some 28, [13]), (8, some 29, [10, 28]), (0, some 30, [8]), (53, some 31, [25, 27, 29, 30]), (127, some 15, [31])]
theorem rw3reg : Reg (opsA (cLA (cRA (cRA (cRA (Tryd.f3.body.getD .skip)))))) rw3lt := ⟨by kernel_rfl, by kernel_rfl⟩
def rw4lt : List Lt := [(0, some 32, [14]), (0, some 33, [13]), (2, some 34, [11, 33]), (0, some 35, [13]), (8, some 36, [9, 35]), (0, some 37, [13]), (32, some 38, [10, 37]), (0, some 39, [8]), (213, some 40, [32, 34, 36, 38, 39]), (511, some 16, [40])]
theorem rw4reg : Reg (opsA (cLA (cRA (cRA (cRA (cRA (Tryd.f3.body.getD .skip))))))) rw4lt := ⟨by kernel_rfl, by kernel_rfl⟩
def rw5lt : List Lt := [(0, some 41, [15]), (1, some 42, [41]), (0, some 43, [13]), (6, some 44, [42, 43]), (8, some 45, [44]), (16, some 46, [16, 45]), (48, some 47, [46, 45]), (16, some 48, [13, 45]), (16, some 49, [13, 45]), (272, some 50, [49, 45]), (528, some 51, [50, 45]), (1168, some 52, [48, 51, 45]), (2128, some 53, [47, 52, 45]), (4112, some 54, [45, 53]), (8208, some 55, [54]), (16384, some 56, [14, 55]), (16384, some 57, [16, 55]), (16384, some 58, [13, 55]), (147456, some 59, [11, 58, 55]), (16384, some 60, [13, 55]), (540672, some 61, [10, 60, 55]), (16384, some 62, [8, 55]), (3522560, some 63, [56, 57, 59, 61, 62, 55]), (16384, some 64, [15, 55]), (12599296, some 65, [63, 64, 55]), (16793600, some 66, [55, 65]), (50331648, some 67, [66]), (67108864, some 68, [67]), (201326592, some 69, [67, 68]), (536870911, some 12, [69])]
theorem rw5reg : Reg (opsA (cLA (cRA (cRA (cRA (cRA (cRA (Tryd.f3.body.getD .skip)))))))) rw5lt := ⟨by kernel_rfl, by kernel_rfl⟩
set_option maxHeartbeats 8000000 in
set_option maxRecDepth 100000 in
theorem rightY (kd r N : Nat) (sh : Bool) (a sec pub text : List Nat) (w : World) (hC : Csts w) (hT : Roots w) (hkd : kd < 256) (hr : kd % 3 = r) (hNr : N = 16 + 8 * r) (ha : Pl a) (hs : sec.length = 32) (hp : pub.length = 32) (ht : text.length = 32) (us : Under 256 sec) (up : Under 256 pub) (ut : Under 256 text) :
    Calls Tryd.prog 3 #[.int .u8 (kd : Int), .bool sh, .agg (arr .u8 a), .agg (arr .u8 sec), .agg (arr .u8 pub), .agg (arr .u8 text)] w fun e w' => e = .returned (.bool true) ∧ Below w.heap.size w w' := by
  obtain ⟨La0, rS0, rP0, rT0, k0, hWs⟩ := box4_allY w (a := a) hs hp ht us up ut
  have hN32 : N ≤ 32 := by omega
  have hN1 : 16 ≤ N := by omega
  have hF : FitX (N : Int) 2 1 1 1 := ⟨by omega, by decide, by decide, by decide, by decide, by decide, by decide, by decide, by decide, by decide⟩
  have rS := rS0.cut (M := N) (by omega)
  have rP := rP0.cut (M := N) (by omega)
  have rT := rT0.cut (M := N) (by omega)
  have tS : Tidy (.slice (some ⟨w.heap.size + 1, 0, none⟩) N 32) := fun n c e => by cases e
  have tP : Tidy (.slice (some ⟨w.heap.size + 1 + 1, 0, none⟩) N 32) := fun n c e => by cases e
  have tT : Tidy (.slice (some ⟨w.heap.size + 1 + 1 + 1, 0, none⟩) N 32) := fun n c e => by cases e
  have lS : (sec.take N).length = N := by rw [List.length_take]; omega
  have lP : (pub.take N).length = N := by rw [List.length_take]; omega
  have lT : (text.take N).length = N := by rw [List.length_take]; omega
  have hCb := hC.below k0
  have hTb := hT.below k0
  obtain ⟨Fs, hFs⟩ : ∃ Fs : List Nat → List Nat → List Nat, Fs = fun p x => sumW N sh (pub.take N) p x := ⟨_, rfl⟩
  have hFl : ∀ p x, (Fs p x).length = N := fun p x => by rw [hFs]; exact sumW_len hN32 _ _ _ _
  have hpub := fun y (k : Below (box4Y w a sec pub text).heap.size (box4Y w a sec pub text) y) => wpub_ok sh (pub.take N) a (sec.take N) _ _ y (hCb.below k) (hTb.below k) hF ha (rP.below k) tP (rS.below k) tS lP lS
  have hsgn := fun y (k : Below (box4Y w a sec pub text).heap.size (box4Y w a sec pub text) y) => wsgn_ok sh (pub.take N) a (sec.take N) (text.take N) _ _ _ y (hCb.below k) (hTb.below k) hF ha (rP.below k) tP (rS.below k) tS (rT.below k) tT lT lP lS
  obtain ⟨ds, hds⟩ : ∃ ds, ds = dgW N (text.take N) := ⟨_, rfl⟩
  obtain ⟨SG, hSG⟩ : ∃ SG, SG = (wsP Fs a ds (sec.take N)).flatten := ⟨_, rfl⟩
  have hdl : ds.length = 2 * N + 3 := by rw [hds]; exact dgW_len N _
  have hd15 : ∀ i, i < ds.length → el ds i ≤ 15 := fun i _ => by have := el_le_ofW (K := 4) (l := ds) (by rw [hds]; exact dgW_lt N _) i; omega
  have hSl : SG.length = N * (2 * N + 3) := by
    rw [hSG, flat_N_len _ (wsP_N hFl ds (sec.take N))]
    congr 1
    unfold wsP
    rw [List.length_map, List.length_range, hdl]
  obtain ⟨PB, hPB⟩ : ∃ PB, PB = wpb Fs a N (sec.take N) := ⟨_, rfl⟩
  have hX1 : PB.length = N := by rw [hPB]; exact hFl _ _
  have hcE : wky Fs a (wcE Fs a N ds SG) = PB := by
    rw [hSG, wcE_is hFl ds (sec.take N) hd15 hdl, hPB]
    rfl
  have hcnd : ∀ y gv, Below (box4Y w a sec pub text).heap.size (box4Y w a sec pub text) y → Row .u8 256 y gv SG → Calls Tryd.prog 7 #[slV (N : Int) 2 1 1 1 sh, gv, .slice (some ⟨w.heap.size + 1 + 1 + 1, 0, none⟩) N 32, .slice (some ⟨w.heap.size + 1 + 1, 0, none⟩) N 32, .agg (arr .u8 a)] y fun e w' => ∃ v, e = .returned v ∧ Row .u8 256 w' v PB ∧ New y.heap.size v ∧ Below y.heap.size y w' := fun y gv k rg => by
    have := wcnd_ok sh (pub.take N) a (text.take N) SG _ _ gv y (hCb.below k) (hTb.below k) hF ha (rP.below k) tP (rT.below k) tT rg lT hSl lP
    rw [← hFs, ← hds, hcE] at this
    exact this
  rw [← hFs, ← hPB] at hpub
  rw [← hFs, ← hds, ← hSG] at hsgn
  obtain ⟨P9, hP9⟩ : ∃ P, P = 2 * N + 3 := ⟨_, rfl⟩
  obtain ⟨Z9, hZ9⟩ : ∃ Z, Z = N * P9 := ⟨_, rfl⟩
  have hX2 : SG.length = Z9 := by rw [hSl, hZ9, hP9]
  have hZb : Z9 ≤ 50000 := by
    rw [hZ9, hP9]
    calc N * (2 * N + 3) ≤ 32 * (2 * 32 + 3) := Nat.mul_le_mul hN32 (by omega)
      _ ≤ 50000 := by decide
  obtain ⟨M2, hM2⟩ : ∃ M2 : Nat, M2 = 2 * N := ⟨_, rfl⟩
  have u_M2 : IntKind.i64.wrap ((2 : Int) * (N : Int)) = (M2 : Int) := by rw [show (2 : Int) * (N : Int) = (M2 : Int) by omega, IntKind.wrap_i64]; omega
  have u_P9 : IntKind.i64.wrap ((M2 : Int) + 3) = (P9 : Int) := by rw [show (M2 : Int) + 3 = (P9 : Int) by omega, IntKind.wrap_i64]; omega
  have u_Z9 : IntKind.i64.wrap ((N : Int) * (P9 : Int)) = (Z9 : Int) := by
    rw [show (N : Int) * (P9 : Int) = (Z9 : Int) by rw [hZ9]; norm_cast, IntKind.wrap_i64]; omega
  have e_r : (kd : Int).tmod 3 = (r : Int) := by rw [Int.tmod_eq_emod_of_nonneg (by omega)]; omega
  have m_r : (kd : Int) % 3 = (r : Int) := by omega
  have s_r : IntKind.u8.wrap (r : Int) = (r : Int) := by rw [IntKind.wrap_u8]; omega
  have s_r2 : IntKind.i64.wrap (r : Int) = (r : Int) := by rw [IntKind.wrap_i64]; omega
  obtain ⟨E, hE⟩ : ∃ E : Nat, 8 * r = E := ⟨_, rfl⟩
  have e_E : 8 * (r : Int) = (E : Int) := by omega
  have s_E : IntKind.i64.wrap (E : Int) = (E : Int) := by rw [IntKind.wrap_i64]; omega
  have e_N : 16 + (E : Int) = (N : Int) := by omega
  have s_N : IntKind.i64.wrap (N : Int) = (N : Int) := by rw [IntKind.wrap_i64]; omega
  unfold slV at hpub hsgn hcnd
  have hzz := zeroSlhY
  have hn0 := heap_alloc_last (box4Y w a sec pub text) (.cells #[.int .i64 0, .int .i64 0, .int .i64 0, .int .i64 0, .int .i64 0, .bool false] 25)
  have ka := keep_alloc (box4Y w a sec pub text) (.cells #[.int .i64 0, .int .i64 0, .int .i64 0, .int .i64 0, .int .i64 0, .bool false] 25)
  have hB : But (box4Y w a sec pub text).heap.size ((box4Y w a sec pub text).alloc (.cells #[.int .i64 0, .int .i64 0, .int .i64 0, .int .i64 0, .int .i64 0, .bool false] 25)) (((box4Y w a sec pub text).alloc (.cells #[.int .i64 0, .int .i64 0, .int .i64 0, .int .i64 0, .int .i64 0, .bool false] 25)).setRow (box4Y w a sec pub text).heap.size #[.int .i64 (N : Int), .int .i64 2, .int .i64 1, .int .i64 1, .int .i64 1, .bool sh]) := (But.refl _ _).setRow _
  have k2 := ka.trans (hB.below (Nat.le_refl _) ka.size)
  have bx2 : BxSW (((box4Y w a sec pub text).alloc (.cells #[.int .i64 0, .int .i64 0, .int .i64 0, .int .i64 0, .int .i64 0, .bool false] 25)).setRow (box4Y w a sec pub text).heap.size #[.int .i64 (N : Int), .int .i64 2, .int .i64 1, .int .i64 1, .int .i64 1, .bool sh]) (box4Y w a sec pub text).heap.size (N : Int) 2 1 1 1 sh := ⟨setRow_heap _ _ _ _ _ _ hn0⟩
  have La2 := La0.below k2
  have h1o : (#[.int .i64 (N : Int), .int .i64 2, .int .i64 1, .int .i64 1, .int .i64 1, .bool sh] : Array Value).all (·.oneCell') = true := by simp [Value.oneCell']
  obtain ⟨W2, hW2⟩ : ∃ W2 : World, W2 = ((box4Y w a sec pub text).alloc (.cells #[.int .i64 0, .int .i64 0, .int .i64 0, .int .i64 0, .int .i64 0, .bool false] 25)).setRow (box4Y w a sec pub text).heap.size #[.int .i64 (N : Int), .int .i64 2, .int .i64 1, .int .i64 1, .int .i64 1, .bool sh] := ⟨_, rfl⟩
  rw [← hW2] at k2 bx2 La2
  have hG : W2 = ((((((w.alloc (.cells (arr .u8 a) 23)).alloc (.cells (arr .u8 sec) 22)).alloc (.cells (arr .u8 pub) 22)).alloc (.cells (arr .u8 text) 22)).alloc (.cells #[.int .i64 0, .int .i64 0, .int .i64 0, .int .i64 0, .int .i64 0, .bool false] 25)).setRow (w.heap.size + 1 + 1 + 1 + 1) #[.int .i64 (N : Int), .int .i64 2, .int .i64 1, .int .i64 1, .int .i64 1, .bool sh]) := by rw [hW2, hWs]; rfl
  rw [hWs] at hn0 bx2
  have HW := hide (And.intro k0 hWs)
  clear La0 rS0 rP0 rT0 rS rP rT tS tP tT lS lP lT hCb hTb hC hT hF hs hp ht us up ut hkd hr hNr hE hM2 hP9 hZ9 hZb hSl hcE hPB hSG hds hdl hd15 hFs hFl hN1 ka hB k0
  go_enter Tryd.func3, Tryd.ntmps3
  unfold box4Y at hn0
  go_wp2_with (first
    | (refine wpList_build6Y (by rfl) _ _ (by rfl) N sh (by rfl) (by rfl) ?_)
    | (refine wpList_store_row rfl 25 _ _ (by rfl) (w.heap.size + 1 + 1 + 1 + 1) #[.int .i64 (N : Int), .int .i64 2, .int .i64 1, .int .i64 1, .int .i64 1, .bool sh] (by rfl) (by rfl) _ _ hn0 (by kernel_rfl) rfl h1o ?_)
    | fail)
  rw [← hG]
  clear hG hn0
  obtain ⟨X, hXe⟩ : ∃ X : Nat, w.heap.size + 1 + 1 + 1 + 1 = X := ⟨_, rfl⟩
  rw [hXe] at bx2 ⊢
  clear hXe
  have hbd : Below W2.heap.size W2 W2.drew := (Below.refl _ _).drew
  refine at_begin (ops := opsA (cLA (cRA (cRA (cRA (Tryd.f3.body.getD .skip)))))) (n := 8) (fun y => Below W2.heap.size W2 y) (by kernel_rfl) (by kernel_rfl) ?_
  refine at_takeD (i := 0) (m' := 1) (d := some 25) (v := .agg #[.int .i64 (N : Int), .int .i64 2, .int .i64 1, .int .i64 1, .int .i64 1, .bool sh]) rw3reg rfl (by decide) rfl rfl (y_rowG (cs := [.int .i64 (N : Int), .int .i64 2, .int .i64 1, .int .i64 1, .int .i64 1, .bool sh]) (wanted_free rfl) rfl rfl Tryd.underlying25 rfl (by kernel_rfl) (fun _ h => (bx2.below h).range)) hbd ?_
  simp only [Act.put, List.setIfInBounds_toArray, List.set_cons_zero, List.set_cons_succ]
  refine at_takeD (i := 1) (m' := 3) (d := some 26) (v := .int .i64 (N : Int)) rw3reg rfl (by decide) rfl rfl (y_moveG (wanted_free rfl) rfl rfl) hbd ?_
  simp only [Act.put, List.setIfInBounds_toArray, List.set_cons_zero, List.set_cons_succ]
  refine at_takeD (i := 2) (m' := 7) (d := some 27) (v := .slice (some ⟨w.heap.size + 1, 0, none⟩) N 32) rw3reg rfl (by decide) rfl rfl (y_hi32Z (wanted_free rfl) rfl rfl rfl hN32) hbd ?_
  simp only [Act.put, List.setIfInBounds_toArray, List.set_cons_zero, List.set_cons_succ]
  refine at_takeD (i := 3) (m' := 15) (d := some 28) (v := .int .i64 (N : Int)) rw3reg rfl (by decide) rfl rfl (y_moveG (wanted_free rfl) rfl rfl) hbd ?_
  simp only [Act.put, List.setIfInBounds_toArray, List.set_cons_zero, List.set_cons_succ]
  refine at_takeD (i := 4) (m' := 31) (d := some 29) (v := .slice (some ⟨w.heap.size + 1 + 1, 0, none⟩) N 32) rw3reg rfl (by decide) rfl rfl (y_hi32Z (wanted_free rfl) rfl rfl rfl hN32) hbd ?_
  simp only [Act.put, List.setIfInBounds_toArray, List.set_cons_zero, List.set_cons_succ]
  refine at_takeD (i := 5) (m' := 63) (d := some 30) (v := .agg (arr .u8 a)) rw3reg rfl (by decide) rfl rfl (y_rowG (cs := vals .u8 a) (wanted_free rfl) rfl rfl Tryd.underlying23 rfl (by rw [vals_length, ha.1]; kernel_rfl) (fun _ h => lies_rangeW (La2.below h))) hbd ?_
  simp only [Act.put, List.setIfInBounds_toArray, List.set_cons_zero, List.set_cons_succ]
  refine at_one (i := 6) (m' := 127) rw3reg (by decide) rfl ?_
  refine p_callG (args := #[.agg #[.int .i64 (N : Int), .int .i64 2, .int .i64 1, .int .i64 1, .int .i64 1, .bool sh], .slice (some ⟨w.heap.size + 1, 0, none⟩) N 32, .slice (some ⟨w.heap.size + 1 + 1, 0, none⟩) N 32, .agg (arr .u8 a)]) (d := some 31) rfl (wanted_free rfl) rfl (by simp only [List.map_toArray, List.map_cons, List.map_nil]; rfl) rfl Tryd.call4 ((hpub W2.drew (keep_trans k2 hbd)).mono ?_)
  rintro e y7 ⟨v1, rfl, r1, n1, g7⟩
  obtain ⟨j1, d1, rfl, _⟩ := r1.opens hX1
  have hb7 := keep_trans hbd g7
  refine ⟨_, rfl, hb7, ?_⟩
  simp only [Act.put, List.setIfInBounds_toArray, List.set_cons_zero, List.set_cons_succ]
  refine at_takeD (i := 7) (m' := 255) (d := some 15) (v := .slice j1 N d1) rw3reg rfl (by decide) rfl rfl (y_assignG (wanted_free rfl) rfl rfl) hb7 ?_
  simp only [Act.put, List.setIfInBounds_toArray, List.set_cons_zero, List.set_cons_succ]
  refine at_done rw3reg (by decide) ?_
  have kz3 := hb7
  obtain ⟨W3, hW3⟩ : ∃ W3 : World, W3 = y7 := ⟨_, rfl⟩
  rw [← hW3] at kz3 r1 ⊢
  have bx3 := bx2.below kz3
  have La3 := La2.below kz3
  have k3 := keep_trans k2 kz3
  clear hbd hW3 kz3 bx2 La2 k2 hpub
  have hbd : Below W3.heap.size W3 W3.drew := (Below.refl _ _).drew
  go_wp2
  refine at_begin (ops := opsA (cLA (cRA (cRA (cRA (cRA (Tryd.f3.body.getD .skip))))))) (n := 10) (fun y => Below W3.heap.size W3 y) (by kernel_rfl) (by kernel_rfl) ?_
  refine at_takeD (i := 0) (m' := 1) (d := some 32) (v := .agg #[.int .i64 (N : Int), .int .i64 2, .int .i64 1, .int .i64 1, .int .i64 1, .bool sh]) rw4reg rfl (by decide) rfl rfl (y_rowG (cs := [.int .i64 (N : Int), .int .i64 2, .int .i64 1, .int .i64 1, .int .i64 1, .bool sh]) (wanted_free rfl) rfl rfl Tryd.underlying25 rfl (by kernel_rfl) (fun _ h => (bx3.below h).range)) hbd ?_
  simp only [Act.put, List.setIfInBounds_toArray, List.set_cons_zero, List.set_cons_succ]
  refine at_takeD (i := 1) (m' := 3) (d := some 33) (v := .int .i64 (N : Int)) rw4reg rfl (by decide) rfl rfl (y_moveG (wanted_free rfl) rfl rfl) hbd ?_
  simp only [Act.put, List.setIfInBounds_toArray, List.set_cons_zero, List.set_cons_succ]
  refine at_takeD (i := 2) (m' := 7) (d := some 34) (v := .slice (some ⟨w.heap.size + 1 + 1 + 1, 0, none⟩) N 32) rw4reg rfl (by decide) rfl rfl (y_hi32Z (wanted_free rfl) rfl rfl rfl hN32) hbd ?_
  simp only [Act.put, List.setIfInBounds_toArray, List.set_cons_zero, List.set_cons_succ]
  refine at_takeD (i := 3) (m' := 15) (d := some 35) (v := .int .i64 (N : Int)) rw4reg rfl (by decide) rfl rfl (y_moveG (wanted_free rfl) rfl rfl) hbd ?_
  simp only [Act.put, List.setIfInBounds_toArray, List.set_cons_zero, List.set_cons_succ]
  refine at_takeD (i := 4) (m' := 31) (d := some 36) (v := .slice (some ⟨w.heap.size + 1, 0, none⟩) N 32) rw4reg rfl (by decide) rfl rfl (y_hi32Z (wanted_free rfl) rfl rfl rfl hN32) hbd ?_
  simp only [Act.put, List.setIfInBounds_toArray, List.set_cons_zero, List.set_cons_succ]
  refine at_takeD (i := 5) (m' := 63) (d := some 37) (v := .int .i64 (N : Int)) rw4reg rfl (by decide) rfl rfl (y_moveG (wanted_free rfl) rfl rfl) hbd ?_
  simp only [Act.put, List.setIfInBounds_toArray, List.set_cons_zero, List.set_cons_succ]
  refine at_takeD (i := 6) (m' := 127) (d := some 38) (v := .slice (some ⟨w.heap.size + 1 + 1, 0, none⟩) N 32) rw4reg rfl (by decide) rfl rfl (y_hi32Z (wanted_free rfl) rfl rfl rfl hN32) hbd ?_
  simp only [Act.put, List.setIfInBounds_toArray, List.set_cons_zero, List.set_cons_succ]
  refine at_takeD (i := 7) (m' := 255) (d := some 39) (v := .agg (arr .u8 a)) rw4reg rfl (by decide) rfl rfl (y_rowG (cs := vals .u8 a) (wanted_free rfl) rfl rfl Tryd.underlying23 rfl (by rw [vals_length, ha.1]; kernel_rfl) (fun _ h => lies_rangeW (La3.below h))) hbd ?_
  simp only [Act.put, List.setIfInBounds_toArray, List.set_cons_zero, List.set_cons_succ]
  refine at_one (i := 8) (m' := 511) rw4reg (by decide) rfl ?_
  refine p_callG (args := #[.agg #[.int .i64 (N : Int), .int .i64 2, .int .i64 1, .int .i64 1, .int .i64 1, .bool sh], .slice (some ⟨w.heap.size + 1 + 1 + 1, 0, none⟩) N 32, .slice (some ⟨w.heap.size + 1, 0, none⟩) N 32, .slice (some ⟨w.heap.size + 1 + 1, 0, none⟩) N 32, .agg (arr .u8 a)]) (d := some 40) rfl (wanted_free rfl) rfl (by simp only [List.map_toArray, List.map_cons, List.map_nil]; rfl) rfl Tryd.call5 ((hsgn W3.drew (keep_trans k3 hbd)).mono ?_)
  rintro e y9 ⟨v2, rfl, r2, n2, g9⟩
  obtain ⟨j2, d2, rfl, _⟩ := r2.opens hX2
  replace r1 := r1.below (keep_trans hbd g9)
  have hb9 := keep_trans hbd g9
  refine ⟨_, rfl, hb9, ?_⟩
  simp only [Act.put, List.setIfInBounds_toArray, List.set_cons_zero, List.set_cons_succ]
  refine at_takeD (i := 9) (m' := 1023) (d := some 16) (v := .slice j2 Z9 d2) rw4reg rfl (by decide) rfl rfl (y_assignG (wanted_free rfl) rfl rfl) hb9 ?_
  simp only [Act.put, List.setIfInBounds_toArray, List.set_cons_zero, List.set_cons_succ]
  refine at_done rw4reg (by decide) ?_
  have kz4 := hb9
  obtain ⟨W4, hW4⟩ : ∃ W4 : World, W4 = y9 := ⟨_, rfl⟩
  rw [← hW4] at kz4 r1 r2 ⊢
  have bx4 := bx3.below kz4
  have La4 := La3.below kz4
  have k4 := keep_trans k3 kz4
  clear hbd hW4 kz4 bx3 La3 k3 hsgn
  have hbd : Below W4.heap.size W4 W4.drew := (Below.refl _ _).drew
  go_wp2
  refine at_begin (ops := opsA (cLA (cRA (cRA (cRA (cRA (cRA (Tryd.f3.body.getD .skip)))))))) (n := 30) (fun y => Below W4.heap.size W4 y) (by kernel_rfl) (by kernel_rfl) ?_
  refine at_takeD (i := 0) (m' := 1) (d := some 41) (v := .slice j1 N d1) rw5reg rfl (by decide) rfl rfl (y_moveG (wanted_free rfl) rfl rfl) hbd ?_
  simp only [Act.put, List.setIfInBounds_toArray, List.set_cons_zero, List.set_cons_succ]
  refine at_takeD (i := 1) (m' := 3) (d := some 42) (v := .int .i64 (N : Int)) rw5reg rfl (by decide) rfl rfl (y_lenP (wanted_free rfl) rfl rfl Tryd.underlying26) hbd ?_
  simp only [Act.put, List.setIfInBounds_toArray, List.set_cons_zero, List.set_cons_succ]
  refine at_takeD (i := 2) (m' := 7) (d := some 43) (v := .int .i64 (N : Int)) rw5reg rfl (by decide) rfl rfl (y_moveG (wanted_free rfl) rfl rfl) hbd ?_
  simp only [Act.put, List.setIfInBounds_toArray, List.set_cons_zero, List.set_cons_succ]
  refine at_takeD (i := 3) (m' := 15) (d := some 44) (v := .bool true) rw5reg rfl (by decide) rfl rfl (y_eqI (wanted_free rfl) rfl rfl rfl Tryd.underlying3 (by simp)) hbd ?_
  simp only [Act.put, List.setIfInBounds_toArray, List.set_cons_zero, List.set_cons_succ]
  refine at_takeD (i := 4) (m' := 31) (d := some 45) (v := .bool true) rw5reg rfl (by decide) rfl rfl (y_moveG (wanted_free rfl) rfl rfl) hbd ?_
  simp only [Act.put, List.setIfInBounds_toArray, List.set_cons_zero, List.set_cons_succ]
  refine at_takeD (i := 5) (m' := 63) (d := some 46) (v := .slice j2 Z9 d2) rw5reg rfl (by decide) rfl rfl (y_moveG (wanted_gG (j := 4) (d := 45) (b := true) rfl rfl rfl rfl) rfl rfl) hbd ?_
  simp only [Act.put, List.setIfInBounds_toArray, List.set_cons_zero, List.set_cons_succ]
  refine at_takeD (i := 6) (m' := 127) (d := some 47) (v := .int .i64 (Z9 : Int)) rw5reg rfl (by decide) rfl rfl (y_lenP (wanted_gG (j := 4) (d := 45) (b := true) rfl rfl rfl rfl) rfl rfl Tryd.underlying26) hbd ?_
  simp only [Act.put, List.setIfInBounds_toArray, List.set_cons_zero, List.set_cons_succ]
  refine at_takeD (i := 7) (m' := 255) (d := some 48) (v := .int .i64 (N : Int)) rw5reg rfl (by decide) rfl rfl (y_moveG (wanted_gG (j := 4) (d := 45) (b := true) rfl rfl rfl rfl) rfl rfl) hbd ?_
  simp only [Act.put, List.setIfInBounds_toArray, List.set_cons_zero, List.set_cons_succ]
  refine at_takeD (i := 8) (m' := 511) (d := some 49) (v := .int .i64 (N : Int)) rw5reg rfl (by decide) rfl rfl (y_moveG (wanted_gG (j := 4) (d := 45) (b := true) rfl rfl rfl rfl) rfl rfl) hbd ?_
  simp only [Act.put, List.setIfInBounds_toArray, List.set_cons_zero, List.set_cons_succ]
  refine at_takeD (i := 9) (m' := 1023) (d := some 50) (v := .int .i64 (M2 : Int)) rw5reg rfl (by decide) rfl rfl (y_mulI (wanted_gG (j := 4) (d := 45) (b := true) rfl rfl rfl rfl) rfl rfl rfl Tryd.underlying3 u_M2) hbd ?_
  simp only [Act.put, List.setIfInBounds_toArray, List.set_cons_zero, List.set_cons_succ]
  refine at_takeD (i := 10) (m' := 2047) (d := some 51) (v := .int .i64 (P9 : Int)) rw5reg rfl (by decide) rfl rfl (y_addI (wanted_gG (j := 4) (d := 45) (b := true) rfl rfl rfl rfl) rfl rfl rfl Tryd.underlying3 u_P9) hbd ?_
  simp only [Act.put, List.setIfInBounds_toArray, List.set_cons_zero, List.set_cons_succ]
  refine at_takeD (i := 11) (m' := 4095) (d := some 52) (v := .int .i64 (Z9 : Int)) rw5reg rfl (by decide) rfl rfl (y_mulI (wanted_gG (j := 4) (d := 45) (b := true) rfl rfl rfl rfl) rfl rfl rfl Tryd.underlying3 u_Z9) hbd ?_
  simp only [Act.put, List.setIfInBounds_toArray, List.set_cons_zero, List.set_cons_succ]
  refine at_takeD (i := 12) (m' := 8191) (d := some 53) (v := .bool true) rw5reg rfl (by decide) rfl rfl (y_eqI (wanted_gG (j := 4) (d := 45) (b := true) rfl rfl rfl rfl) rfl rfl rfl Tryd.underlying3 (by simp)) hbd ?_
  simp only [Act.put, List.setIfInBounds_toArray, List.set_cons_zero, List.set_cons_succ]
  refine at_takeD (i := 13) (m' := 16383) (d := some 54) (v := .bool true) rw5reg rfl (by decide) rfl rfl (y_pickTG (wanted_free rfl) rfl rfl rfl) hbd ?_
  simp only [Act.put, List.setIfInBounds_toArray, List.set_cons_zero, List.set_cons_succ]
  refine at_takeD (i := 14) (m' := 32767) (d := some 55) (v := .bool true) rw5reg rfl (by decide) rfl rfl (y_moveG (wanted_free rfl) rfl rfl) hbd ?_
  simp only [Act.put, List.setIfInBounds_toArray, List.set_cons_zero, List.set_cons_succ]
  refine at_takeD (i := 15) (m' := 65535) (d := some 56) (v := .agg #[.int .i64 (N : Int), .int .i64 2, .int .i64 1, .int .i64 1, .int .i64 1, .bool sh]) rw5reg rfl (by decide) rfl rfl (y_rowG (cs := [.int .i64 (N : Int), .int .i64 2, .int .i64 1, .int .i64 1, .int .i64 1, .bool sh]) (wanted_gG (j := 14) (d := 55) (b := true) rfl rfl rfl rfl) rfl rfl Tryd.underlying25 rfl (by kernel_rfl) (fun _ h => (bx4.below h).range)) hbd ?_
  simp only [Act.put, List.setIfInBounds_toArray, List.set_cons_zero, List.set_cons_succ]
  refine at_takeD (i := 16) (m' := 131071) (d := some 57) (v := .slice j2 Z9 d2) rw5reg rfl (by decide) rfl rfl (y_moveG (wanted_gG (j := 14) (d := 55) (b := true) rfl rfl rfl rfl) rfl rfl) hbd ?_
  simp only [Act.put, List.setIfInBounds_toArray, List.set_cons_zero, List.set_cons_succ]
  refine at_takeD (i := 17) (m' := 262143) (d := some 58) (v := .int .i64 (N : Int)) rw5reg rfl (by decide) rfl rfl (y_moveG (wanted_gG (j := 14) (d := 55) (b := true) rfl rfl rfl rfl) rfl rfl) hbd ?_
  simp only [Act.put, List.setIfInBounds_toArray, List.set_cons_zero, List.set_cons_succ]
  refine at_takeD (i := 18) (m' := 524287) (d := some 59) (v := .slice (some ⟨w.heap.size + 1 + 1 + 1, 0, none⟩) N 32) rw5reg rfl (by decide) rfl rfl (y_hi32Z (wanted_gG (j := 14) (d := 55) (b := true) rfl rfl rfl rfl) rfl rfl rfl hN32) hbd ?_
  simp only [Act.put, List.setIfInBounds_toArray, List.set_cons_zero, List.set_cons_succ]
  refine at_takeD (i := 19) (m' := 1048575) (d := some 60) (v := .int .i64 (N : Int)) rw5reg rfl (by decide) rfl rfl (y_moveG (wanted_gG (j := 14) (d := 55) (b := true) rfl rfl rfl rfl) rfl rfl) hbd ?_
  simp only [Act.put, List.setIfInBounds_toArray, List.set_cons_zero, List.set_cons_succ]
  refine at_takeD (i := 20) (m' := 2097151) (d := some 61) (v := .slice (some ⟨w.heap.size + 1 + 1, 0, none⟩) N 32) rw5reg rfl (by decide) rfl rfl (y_hi32Z (wanted_gG (j := 14) (d := 55) (b := true) rfl rfl rfl rfl) rfl rfl rfl hN32) hbd ?_
  simp only [Act.put, List.setIfInBounds_toArray, List.set_cons_zero, List.set_cons_succ]
  refine at_takeD (i := 21) (m' := 4194303) (d := some 62) (v := .agg (arr .u8 a)) rw5reg rfl (by decide) rfl rfl (y_rowG (cs := vals .u8 a) (wanted_gG (j := 14) (d := 55) (b := true) rfl rfl rfl rfl) rfl rfl Tryd.underlying23 rfl (by rw [vals_length, ha.1]; kernel_rfl) (fun _ h => lies_rangeW (La4.below h))) hbd ?_
  simp only [Act.put, List.setIfInBounds_toArray, List.set_cons_zero, List.set_cons_succ]
  refine at_takeD (i := 23) (m' := 12582911) (d := some 64) (v := .slice j1 N d1) rw5reg rfl (by decide) rfl rfl (y_moveG (wanted_gG (j := 14) (d := 55) (b := true) rfl rfl rfl rfl) rfl rfl) hbd ?_
  simp only [Act.put, List.setIfInBounds_toArray, List.set_cons_zero, List.set_cons_succ]
  refine at_one (i := 22) (m' := 16777215) rw5reg (by decide) rfl ?_
  refine p_callG (args := #[.agg #[.int .i64 (N : Int), .int .i64 2, .int .i64 1, .int .i64 1, .int .i64 1, .bool sh], .slice j2 Z9 d2, .slice (some ⟨w.heap.size + 1 + 1 + 1, 0, none⟩) N 32, .slice (some ⟨w.heap.size + 1 + 1, 0, none⟩) N 32, .agg (arr .u8 a)]) (d := some 63) rfl (wanted_gG (j := 14) (d := 55) (b := true) rfl rfl rfl rfl) rfl (by simp only [List.map_toArray, List.map_cons, List.map_nil]; rfl) rfl Tryd.call7 ((hcnd W4.drew _ (keep_trans k4 hbd) (r2.below hbd)).mono ?_)
  rintro e y24 ⟨v3, rfl, r3, n3, g24⟩
  obtain ⟨j3, d3, rfl, _⟩ := r3.opens hX1
  replace r1 := r1.below (keep_trans hbd g24)
  have hb24 := keep_trans hbd g24
  refine ⟨_, rfl, hb24, ?_⟩
  simp only [Act.put, List.setIfInBounds_toArray, List.set_cons_zero, List.set_cons_succ]
  refine at_one (i := 24) (m' := 33554431) rw5reg (by decide) rfl ?_
  refine p_callG (args := #[.slice j3 N d3, .slice j1 N d1]) (d := some 65) rfl (wanted_gG (j := 14) (d := 55) (b := true) rfl rfl rfl rfl) rfl (by simp only [List.map_toArray, List.map_cons, List.map_nil]; rfl) rfl Tryd.call6 ((rsame_true _ _ _ y24 r3 r1).mono ?_)
  rintro e y25 ⟨rfl, g25⟩
  have hb25 := keep_trans hb24 g25
  refine ⟨_, rfl, hb25, ?_⟩
  simp only [Act.put, List.setIfInBounds_toArray, List.set_cons_zero, List.set_cons_succ]
  refine at_takeD (i := 25) (m' := 67108863) (d := some 66) (v := .bool true) rw5reg rfl (by decide) rfl rfl (y_pickTG (wanted_free rfl) rfl rfl rfl) hb25 ?_
  simp only [Act.put, List.setIfInBounds_toArray, List.set_cons_zero, List.set_cons_succ]
  refine at_takeD (i := 26) (m' := 134217727) (d := some 67) (v := .bool true) rw5reg rfl (by decide) rfl rfl (y_moveG (wanted_free rfl) rfl rfl) hb25 ?_
  simp only [Act.put, List.setIfInBounds_toArray, List.set_cons_zero, List.set_cons_succ]
  refine at_one (i := 27) (m' := 268435455) rw5reg (by decide) rfl ?_
  refine p_callG (args := #[]) (d := some 68) rfl (wanted_gG (j := 26) (d := 67) (b := true) rfl rfl rfl rfl) rfl (by simp only [List.map_toArray, List.map_nil]) rfl Tryd.call8 ((awakeY_any y25).mono ?_)
  rintro e y28 ⟨rfl, g28⟩
  have hb28 := keep_trans hb25 g28
  refine ⟨_, rfl, hb28, ?_⟩
  simp only [Act.put, List.setIfInBounds_toArray, List.set_cons_zero, List.set_cons_succ]
  refine at_takeD (i := 28) (m' := 536870911) (d := some 69) (v := .bool true) rw5reg rfl (by decide) rfl rfl (y_pickTG (wanted_free rfl) rfl rfl rfl) hb28 ?_
  simp only [Act.put, List.setIfInBounds_toArray, List.set_cons_zero, List.set_cons_succ]
  refine at_takeD (i := 29) (m' := 1073741823) (d := some 12) (v := .bool true) rw5reg rfl (by decide) rfl rfl (y_assignG (wanted_free rfl) rfl rfl) hb28 ?_
  simp only [Act.put, List.setIfInBounds_toArray, List.set_cons_zero, List.set_cons_succ]
  refine at_done rw5reg (by decide) ?_
  have kz5 := keep_trans k4 hb28
  go_wp2
  go_ret
  exact ⟨rfl, keep_trans HW.out.1 kz5⟩
end Go.Proofs.YtpmobjfhhkglbaaDoor
