/- Leaves that sign once, the program's own: a kind's digits. -/
import Derived.Test.YtogiballdmgcpaaGreatDoorHkM
import Derived.Test.YtogiballdmgcpaaGreatDoorHTak32
namespace Go.Proofs.YtogiballdmgcpaaGreatDoor
open Go.RowKit
set_option linter.unusedVariables false
set_option linter.unusedSimpArgs false

theorem kd_range (w : World) (a b c d : Value) (t : TypeId) : (w.alloc (.cells #[a, b, c, d] t)).rangeAt w.heap.size 0 [a, b, c, d] := fun j v hv => by
  rw [World.cell?_alloc_at _ _ _ _ rfl, Nat.zero_add]
  simpa using hv
theorem y_quoI {ops : Array Oper} {S : World → Prop} {o : Oper} {a : Act} {x y : Operand} {t t' : TypeId} {i j q : Int} (hw : Region.wanted o (yielded ops a.tmps) = true) (ho : o.op = .binOp .quo t x y t') (hx : a.eval x = .int .i64 i) (hy : a.eval y = .int .i64 j) (hu : Tryz.prog.underlying t = some (.int .i64)) (hj : j ≠ 0) (hb : IntKind.i64.wrap (i.tdiv j) = q) : YieldsIf Tryz.prog ops S o (.int .i64 q) a := by
  refine y_ofG hw fun w _ => ?_
  unfold execOp
  simp only [ho, hx, hy]
  simp [go_sem, hu, hj, hb]
theorem y_shlU {ops : Array Oper} {S : World → Prop} {o : Oper} {a : Act} {x y : Operand} {t t' : TypeId} {i q : Int} {s : Nat} (hw : Region.wanted o (yielded ops a.tmps) = true) (ho : o.op = .binOp .shl t x y t') (hx : a.eval x = .int .u64 i) (hy : a.eval y = .int .i64 (s : Int)) (hu : Tryz.prog.underlying t = some (.int .u64)) (hu' : Tryz.prog.underlying t' = some (.int .i64)) (hs : s < 64) (hb : IntKind.u64.wrap (i * 2 ^ s) = q) : YieldsIf Tryz.prog ops S o (.int .u64 q) a := by
  refine y_ofG hw fun w _ => ?_
  unfold execOp
  simp only [ho, hx, hy]
  simp [go_sem, hu, hu', hs, hb]
def dg2lt : List Lt := [(0, some 8, [1]), (0, some 9, [2]), (2, some 10, [9]), (0, some 11, [1]), (8, some 12, [11]), (16, some 13, [12]), (0, some 14, [2]), (64, some 15, [14]), (160, some 16, [13, 15]), (261, some 17, [8, 10, 16]), (512, some 18, [17]), (0, some 19, [])]
theorem dg2reg : Reg (opsA (cLA (cLA (cRA (cRA (Tryz.f94.body.getD .skip)))))) dg2lt := ⟨by kernel_rfl, by kernel_rfl⟩
def dg7lt : List Lt := [(0, some 31, [1]), (0, some 32, [5]), (0, some 33, [2]), (4, some 34, [33]), (10, some 35, [32, 34]), (16, some 36, [35]), (33, some 37, [31, 36]), (96, some 38, [37]), (0, some 39, [2]), (256, some 40, [39]), (0, some 41, [2]), (1024, some 42, [41]), (2688, some 43, [38, 40, 42]), (8191, some 4, [43])]
theorem dg7reg : Reg (opsA (cLA (cRA (cRA (cRA (Tryz.f94.body.getD .skip)))))) dg7lt := ⟨by kernel_rfl, by kernel_rfl⟩
theorem Kd.more {k n m s c : Nat} (h : Kd k n m s c) : (256 : Int).tdiv (k : Int) = (n : Int) ∧ (n + m) * k ≤ 272 ∧ 2 ^ k - 1 ≤ 255 ∧ n ≤ 256 ∧ n * (2 ^ k - 1) ≤ 65535 ∧ 1 ≤ n ∧ 1 ≤ 2 ^ k - 1 := by cases h <;> decide
set_option maxHeartbeats 4000000 in
set_option maxRecDepth 100000 in
theorem kdigs_any {k n m s c P : Nat} (h : Kd k n m s c) (hP : P = n + m) (d : List Nat) (dv : Value) (w : World) (hd : Row .u8 256 w dv d) (td : Tidy dv) (hl : d.length = 32) :
    Calls Tryz.prog 94 #[.agg #[.int .i64 (k : Int), .int .i64 (P : Int), .int .i64 (s : Int), .int .u64 (c : Int)], dv] w fun e w' => ∃ v, e = .returned v ∧ Own 52 .u32 4294967296 w' w.heap.size v (digsL k n m s d) ∧ Below w.heap.size w w' := by
  obtain ⟨da, dc, rfl, lc1, lc2, _⟩ := hd.opens hl
  obtain ⟨q1, q2, q3, q4, q5, q6, q7⟩ := h.more
  obtain ⟨p1, p2, p3, p4, p5, p6, p7⟩ := h.pos
  have htop := fun y => ktop_ok h hP y
  have hdig := fun y (r : Row .u8 256 y (.slice da 32 dc) d) => dig_any _ d (k : Int) (n : Int) y r (by omega) (by omega) (by omega)
  rw [digS_natL d k n p4 (by omega) (by rw [hl, p5]; decide)] at hdig
  have hch := chk_lt h.kind d
  have hc16 := chk_16 h.kind d
  have hll : (digL d k n).length = n := digL_length _ _ _
  obtain ⟨M, hM⟩ : ∃ M, M = 2 ^ k - 1 := ⟨_, rfl⟩
  have hlt : ∀ i, el (digL d k n) i ≤ M := fun i => by
    by_cases h : i < n
    · unfold digL el
      rw [List.getElem?_map, List.getElem?_range h]
      have := dig_ltM d k i
      show dig d k i ≤ M
      omega
    · unfold el
      rw [List.getElem?_eq_none (by rw [hll]; omega)]
      exact Nat.zero_le _
  obtain ⟨L, hL⟩ : ∃ L, L = digL d k n := ⟨_, rfl⟩
  have hC : chkL k n d = lackL M L := by unfold chkL; rw [hL, hM]
  have hDs : digsL k n m s d = digL (d ++ (leL (lackL M L * 2 ^ s) 2).reverse) k P := by unfold digsL; rw [hC, hP]
  rw [hC] at hch hc16
  rw [hDs]
  rw [← hL] at hdig hll hlt
  rw [← hM] at htop q3 q5 q7
  obtain ⟨SM, hSM⟩ : ∃ x : Nat, x = lackL M L := ⟨_, rfl⟩
  rw [← hSM] at hch hc16 ⊢
  obtain ⟨SH, hSH⟩ : ∃ x : Nat, x = SM * 2 ^ s := ⟨_, rfl⟩
  rw [← hSH] at hc16
  have w_SH : IntKind.u64.wrap ((SM : Int) * 2 ^ s) = (SH : Int) := by
    rw [show (SM : Int) * 2 ^ s = (SH : Int) by rw [hSH]; push_cast; rfl, IntKind.wrap_u64]
    omega
  have h2 := fun y => cbe2 SH y (by omega)
  rw [← hSH]
  have hjn := fun y lv (r : Rows2 y lv [d, be2 SH]) => join_any lv _ y r (by simp only [List.flatten_cons, List.flatten_nil, List.append_nil, List.length_append, be2_len]; omega)
  have hfl : [d, be2 SH].flatten = d ++ (leL SH 2).reverse := by simp [be2]
  rw [hfl] at hjn
  obtain ⟨J, hJ⟩ : ∃ J, J = d ++ (leL SH 2).reverse := ⟨_, rfl⟩
  have hJl : J.length = 34 := by rw [hJ, List.length_append, List.length_reverse, leL_length, hl]
  rw [← hJ] at hjn ⊢
  have hdg2 := fun y v (r : Row .u8 256 y v J) => dig_any v J (k : Int) (P : Int) y r (by omega) (by omega) (by omega)
  rw [digS_natL J k P p4 (by omega) (by rw [hJl, hP]; exact q2)] at hdg2
  have hsumb : ∀ i, i ≤ n → lackL M (L.take i) ≤ 65535 := fun i hi => by
    have := lack_lt M (L.take i)
    rw [List.length_take, hll] at this
    exact Nat.le_trans this (Nat.le_trans (Nat.mul_le_mul_right _ (Nat.min_le_right _ _)) q5)
  have kn0 : (k : Int) ≠ 0 := by omega
  have w_n : IntKind.i64.wrap ((256 : Int).tdiv (k : Int)) = (n : Int) := by rw [q1, IntKind.wrap_i64]; omega
  obtain ⟨i0, hi0, hz0, hz1, hz2⟩ := info_text
  obtain ⟨W0, hW0⟩ : ∃ W0 : World, W0 = w.alloc (.cells #[.int .i64 (k : Int), .int .i64 (P : Int), .int .i64 (s : Int), .int .u64 (c : Int)] 124) := ⟨_, rfl⟩
  have hb0 : Below w.heap.size w W0 := by rw [hW0]; exact keep_alloc _ _
  have hbox : W0.rangeAt w.heap.size 0 [.int .i64 (k : Int), .int .i64 (P : Int), .int .i64 (s : Int), .int .u64 (c : Int)] := by rw [hW0]; exact kd_range _ _ _ _ _ _
  have HX := hide (And.intro hC (And.intro hDs (And.intro hSM (And.intro hSH (And.intro hJ (And.intro hll (And.intro hsumb hL)))))))
  have HD := hide (And.intro (hd.below hb0) (And.intro td (And.intro hlt (And.intro hch hb0))))
  have HQ := hide (And.intro q3 (And.intro q4 (And.intro p7 hP)))
  have hd0 := hd.below hb0
  have hbd : Below W0.heap.size W0 W0.drew := (Below.refl _ _).drew
  clear hC hDs hSM hSH hJ hfl hsumb hd td hL hlt hch h hP q1 q2 hM q5 p5
  go_enter Tryz.func94, Tryz.ntmps94
  go_wp2
  rw [← hW0]
  clear hW0
  refine at_begin (ops := opsA (cLA (cLA (cRA (cRA (Tryz.f94.body.getD .skip)))))) (n := 12) (fun y => Below W0.heap.size W0 y) (by kernel_rfl) (by kernel_rfl) ?_
  refine at_takeD (i := 0) (m' := 1) (d := some 8) (v := .slice da 32 dc) dg2reg rfl (by decide) rfl rfl (y_moveG (wanted_free rfl) rfl rfl) hbd ?_
  simp only [Act.put, List.setIfInBounds_toArray, List.set_cons_zero, List.set_cons_succ]
  refine at_takeD (i := 1) (m' := 3) (d := some 9) (v := .pointer (some ⟨w.heap.size, 0, none⟩)) dg2reg rfl (by decide) rfl rfl (y_fieldG (wanted_free rfl) rfl rfl (fun w => by simp [go_sem])) hbd ?_
  simp only [Act.put, List.setIfInBounds_toArray, List.set_cons_zero, List.set_cons_succ]
  refine at_takeD (i := 2) (m' := 7) (d := some 10) (v := .int .i64 (k : Int)) dg2reg rfl (by decide) rfl rfl (y_plainG (wanted_free rfl) rfl rfl Tryz.underlying3 rfl (fun _ h => range_below hbox h 0 _ rfl)) hbd ?_
  simp only [Act.put, List.setIfInBounds_toArray, List.set_cons_zero, List.set_cons_succ]
  refine at_takeD (i := 3) (m' := 15) (d := some 11) (v := .slice da 32 dc) dg2reg rfl (by decide) rfl rfl (y_moveG (wanted_free rfl) rfl rfl) hbd ?_
  simp only [Act.put, List.setIfInBounds_toArray, List.set_cons_zero, List.set_cons_succ]
  refine at_takeD (i := 4) (m' := 31) (d := some 12) (v := .int .i64 (32 : Int)) dg2reg rfl (by decide) rfl rfl (y_lenP (wanted_free rfl) rfl rfl Tryz.underlying23) hbd ?_
  simp only [Act.put, List.setIfInBounds_toArray, List.set_cons_zero, List.set_cons_succ]
  refine at_takeD (i := 5) (m' := 63) (d := some 13) (v := .int .i64 256) dg2reg rfl (by decide) rfl rfl (y_mulI (wanted_free rfl) rfl rfl rfl Tryz.underlying3 (by decide)) hbd ?_
  simp only [Act.put, List.setIfInBounds_toArray, List.set_cons_zero, List.set_cons_succ]
  refine at_takeD (i := 6) (m' := 127) (d := some 14) (v := .pointer (some ⟨w.heap.size, 0, none⟩)) dg2reg rfl (by decide) rfl rfl (y_fieldG (wanted_free rfl) rfl rfl (fun w => by simp [go_sem])) hbd ?_
  simp only [Act.put, List.setIfInBounds_toArray, List.set_cons_zero, List.set_cons_succ]
  refine at_takeD (i := 7) (m' := 255) (d := some 15) (v := .int .i64 (k : Int)) dg2reg rfl (by decide) rfl rfl (y_plainG (wanted_free rfl) rfl rfl Tryz.underlying3 rfl (fun _ h => range_below hbox h 0 _ rfl)) hbd ?_
  simp only [Act.put, List.setIfInBounds_toArray, List.set_cons_zero, List.set_cons_succ]
  refine at_takeD (i := 8) (m' := 511) (d := some 16) (v := .int .i64 (n : Int)) dg2reg rfl (by decide) rfl rfl (y_quoI (wanted_free rfl) rfl rfl rfl Tryz.underlying3 kn0 w_n) hbd ?_
  simp only [Act.put, List.setIfInBounds_toArray, List.set_cons_zero, List.set_cons_succ]
  refine at_takeD (i := 11) (m' := 2559) (d := some 19) (v := .int .i64 0) dg2reg rfl (by decide) rfl rfl (y_moveG (wanted_free rfl) rfl rfl) hbd ?_
  simp only [Act.put, List.setIfInBounds_toArray, List.set_cons_zero, List.set_cons_succ]
  refine at_one (i := 9) (m' := 3071) dg2reg (by decide) rfl ?_
  refine p_callG (args := #[.slice da 32 dc, .int .i64 (k : Int), .int .i64 (n : Int)]) (d := some 17) rfl (wanted_free rfl) rfl (by simp only [List.map_toArray, List.map_cons, List.map_nil]; rfl) rfl Tryz.call116 ((hdig W0.drew (hd0.below hbd)).mono ?_)
  rintro e y11 ⟨v3, rfl, o3, g11⟩
  obtain ⟨a3, c3, rfl, _, _, ho3⟩ := o3.row.opens hll
  have hb11 := keep_trans hbd g11
  refine ⟨_, rfl, hb11, ?_⟩
  simp only [Act.put, List.setIfInBounds_toArray, List.set_cons_zero, List.set_cons_succ]
  refine at_takeD (i := 10) (m' := 4095) (d := some 18) (v := .int .i64 (n : Int)) dg2reg rfl (by decide) rfl rfl (y_lenP (wanted_free rfl) rfl rfl Tryz.underlying49) hb11 ?_
  simp only [Act.put, List.setIfInBounds_toArray, List.set_cons_zero, List.set_cons_succ]
  refine at_done dg2reg (by decide) ?_
  have hbx := hb11
  clear hd0 hbd hdig
  go_wp2
  go_loopw [5, 19] (fun vs vi wr => SmL y11 M L vs vi wr) (fun _ vi _ => n - (intOf vi).toNat)
  case atStart => exact ⟨0, Nat.zero_le _, rfl, rfl, Below.refl _ _⟩
  case round =>
    obtain ⟨i, hi, rfl, rfl, hbr⟩ := hrel
    rename World => wr
    obtain ⟨hC, hDs, hSM, hSH, hJ, hll, hsumb, hL⟩ := HX.out
    obtain ⟨hd, td, hlt, hch, hb0⟩ := HD.out
    obtain ⟨q3, q4, p7, hP⟩ := HQ.out
    have hbox' := range_below hbox (keep_trans hbx hbr)
    by_cases hin : i < n
    · have hii : (i : Int) < (n : Int) := by omega
      have z_i : (0 : Int) ≤ (i : Int) := Int.natCast_nonneg _
      obtain ⟨b3, f3, rfl, hc3⟩ := ho3 (by omega)
      have ci : wr.cell? ⟨b3, f3 + i, none⟩ = some (.int .u32 (el L i)) := keep_cell (hc3 i (by omega)) hbr
      have hei := hlt i
      obtain ⟨X, hX⟩ : ∃ X : Nat, X = lackL M (L.take i) := ⟨_, rfl⟩
      have hXb : X ≤ 65535 := by rw [hX]; exact hsumb i (by omega)
      rw [← hX]
      obtain ⟨D, hD⟩ : ∃ D : Nat, D = el L i := ⟨_, rfl⟩
      rw [← hD] at ci hei
      obtain ⟨Y, hY⟩ : ∃ Y : Nat, Y = M - D := ⟨_, rfl⟩
      obtain ⟨Z, hZ⟩ : ∃ Z : Nat, Z = X + Y := ⟨_, rfl⟩
      have e_Y : (M : Int) - (D : Int) = (Y : Int) := by omega
      have s_Y : IntKind.u32.wrap (Y : Int) = (Y : Int) := by rw [IntKind.wrap_u32]; omega
      have u_Y : IntKind.u64.wrap (Y : Int) = (Y : Int) := by rw [IntKind.wrap_u64]; omega
      have e_Z : (X : Int) + (Y : Int) = (Z : Int) := by omega
      have s_Z : IntKind.u64.wrap (Z : Int) = (Z : Int) := by rw [IntKind.wrap_u64]; omega
      obtain ⟨I, hI⟩ : ∃ I : Nat, I = i + 1 := ⟨_, rfl⟩
      have e_I : (i : Int) + 1 = (I : Int) := by omega
      have s_I : IntKind.i64.wrap (I : Int) = (I : Int) := by rw [IntKind.wrap_i64]; omega
      have c0 := hbox' 0 _ rfl
      have c1 := hbox' 1 _ rfl
      have c2 := hbox' 2 _ rfl
      have c3' := hbox' 3 _ rfl
      have HK := hide (And.intro hX (And.intro hD (And.intro hY (And.intro hZ (And.intro hI (And.intro hbr (And.intro hin hei)))))))
      clear hX hD hY hZ hI hbr hin hei hlt hch hC hDs hSM hSH hJ hsumb hL hXb hc3 ho3 o3 hbox' hP
      go_wp2_with (first
        | (go_at_call 97; refine (htop _).mono ?_; rintro e w4 ⟨rfl, g4⟩)
        | fail)
      obtain ⟨hX, hD, hY, hZ, hI, hbr, hin, hei⟩ := HK.out
      refine ⟨⟨i + 1, by omega, vint (by omega), ?_, hbr.trans (g4.mono hbr.size)⟩, by simp [intOf]; omega⟩
      rw [lack_take (by omega), ← hX, ← hD]
      exact vint64 (by omega)
    · obtain rfl : i = n := by omega
      have ht : L.take i = L := List.take_of_length_le (by omega)
      rw [ht, ← hSM]
      have hdr := hd.below (keep_trans hbx hbr)
      have hbd : Below wr.heap.size wr wr.drew := (Below.refl _ _).drew
      have HK := hide (And.intro hbr (And.intro hbx hb0))
      clear hC hDs hSM hSH hJ hsumb hL hlt hch ht ho3 o3
      go_wp2
      refine at_begin (ops := opsA (cLA (cRA (cRA (cRA (Tryz.f94.body.getD .skip)))))) (n := 14) (fun y => Below wr.heap.size wr y) (by kernel_rfl) (by kernel_rfl) ?_
      refine at_takeD (i := 0) (m' := 1) (d := some 31) (v := .slice da 32 dc) dg7reg rfl (by decide) rfl rfl (y_moveG (wanted_free rfl) rfl rfl) hbd ?_
      simp only [Act.put, List.setIfInBounds_toArray, List.set_cons_zero, List.set_cons_succ]
      refine at_takeD (i := 1) (m' := 3) (d := some 32) (v := .int .u64 (SM : Int)) dg7reg rfl (by decide) rfl rfl (y_moveG (wanted_free rfl) rfl rfl) hbd ?_
      simp only [Act.put, List.setIfInBounds_toArray, List.set_cons_zero, List.set_cons_succ]
      refine at_takeD (i := 2) (m' := 7) (d := some 33) (v := .pointer (some ⟨w.heap.size, 2, none⟩)) dg7reg rfl (by decide) rfl rfl (y_fieldG (wanted_free rfl) rfl rfl (fun w => by simp [go_sem])) hbd ?_
      simp only [Act.put, List.setIfInBounds_toArray, List.set_cons_zero, List.set_cons_succ]
      refine at_takeD (i := 3) (m' := 15) (d := some 34) (v := .int .i64 (s : Int)) dg7reg rfl (by decide) rfl rfl (y_plainG (wanted_free rfl) rfl rfl Tryz.underlying3 rfl (fun _ h => range_below hbox' h 2 _ rfl)) hbd ?_
      simp only [Act.put, List.setIfInBounds_toArray, List.set_cons_zero, List.set_cons_succ]
      refine at_takeD (i := 4) (m' := 31) (d := some 35) (v := .int .u64 (SH : Int)) dg7reg rfl (by decide) rfl rfl (y_shlU (wanted_free rfl) rfl rfl rfl Tryz.underlying26 Tryz.underlying3 (by omega) w_SH) hbd ?_
      simp only [Act.put, List.setIfInBounds_toArray, List.set_cons_zero, List.set_cons_succ]
      refine at_takeD (i := 8) (m' := 287) (d := some 39) (v := .pointer (some ⟨w.heap.size, 0, none⟩)) dg7reg rfl (by decide) rfl rfl (y_fieldG (wanted_free rfl) rfl rfl (fun w => by simp [go_sem])) hbd ?_
      simp only [Act.put, List.setIfInBounds_toArray, List.set_cons_zero, List.set_cons_succ]
      refine at_takeD (i := 9) (m' := 799) (d := some 40) (v := .int .i64 (k : Int)) dg7reg rfl (by decide) rfl rfl (y_plainG (wanted_free rfl) rfl rfl Tryz.underlying3 rfl (fun _ h => range_below hbox' h 0 _ rfl)) hbd ?_
      simp only [Act.put, List.setIfInBounds_toArray, List.set_cons_zero, List.set_cons_succ]
      refine at_takeD (i := 10) (m' := 1823) (d := some 41) (v := .pointer (some ⟨w.heap.size, 1, none⟩)) dg7reg rfl (by decide) rfl rfl (y_fieldG (wanted_free rfl) rfl rfl (fun w => by simp [go_sem])) hbd ?_
      simp only [Act.put, List.setIfInBounds_toArray, List.set_cons_zero, List.set_cons_succ]
      refine at_takeD (i := 11) (m' := 3871) (d := some 42) (v := .int .i64 (P : Int)) dg7reg rfl (by decide) rfl rfl (y_plainG (wanted_free rfl) rfl rfl Tryz.underlying3 rfl (fun _ h => range_below hbox' h 1 _ rfl)) hbd ?_
      simp only [Act.put, List.setIfInBounds_toArray, List.set_cons_zero, List.set_cons_succ]
      refine at_one (i := 5) (m' := 3903) dg7reg (by decide) rfl ?_
      refine p_callG (args := #[.int .u64 (SH : Int), .int .i64 2]) (d := some 36) rfl (wanted_free rfl) rfl (by simp only [List.map_toArray, List.map_cons, List.map_nil]; rfl) rfl Tryz.call21 ((h2 wr.drew).mono ?_)
      rintro e y10 ⟨bv, rfl, ob, g10⟩
      obtain ⟨ba, bc, rfl, _⟩ := ob.row.opens (be2_len SH)
      have hb10 := keep_trans hbd g10
      have yb0 := hb10
      refine ⟨_, rfl, hb10, ?_⟩
      simp only [Act.put, List.setIfInBounds_toArray, List.set_cons_zero, List.set_cons_succ]
      refine at_one (i := 6) (m' := 3967) dg7reg (by decide) rfl ?_
      refine p_build2G (d := some 37) rfl (wanted_free rfl) rfl rfl rfl rfl Tryz.underlying48 hi0 hz1 hz0 ?_
      have hb11 := keep_trans hb10 (keep_alloc y10 (.cells #[.slice da 32 dc, .slice ba 2 bc] 23))
      have rr := rows_litL (B := y10.heap.size) (k := 2) (texts_cons (hdr.below yb0) td (texts_cons ob.row ob.tidy (Texts.nil _))) rfl rfl (by decide)
      refine ⟨hb11, ?_⟩
      simp only [Act.put, List.setIfInBounds_toArray, List.set_cons_zero, List.set_cons_succ]
      refine at_one (i := 7) (m' := 4095) dg7reg (by decide) rfl ?_
      refine p_callG (args := #[.slice (some ⟨y10.heap.size, 0, none⟩) 2 2]) (d := some 38) rfl (wanted_free rfl) rfl (by simp only [List.map_toArray, List.map_cons, List.map_nil]; rfl) rfl Tryz.call20 ((hjn (y10.alloc (.cells #[.slice da 32 dc, .slice ba 2 bc] 23)) _ rr).mono ?_)
      rintro e y12 ⟨jv, rfl, oj, g12⟩
      obtain ⟨ja, jc, rfl, _⟩ := oj.row.opens hJl
      have hb12 := keep_trans hb11 g12
      refine ⟨_, rfl, hb12, ?_⟩
      simp only [Act.put, List.setIfInBounds_toArray, List.set_cons_zero, List.set_cons_succ]
      refine at_one (i := 12) (m' := 8191) dg7reg (by decide) rfl ?_
      refine p_callG (args := #[.slice ja 34 jc, .int .i64 (k : Int), .int .i64 (P : Int)]) (d := some 43) rfl (wanted_free rfl) rfl (by simp only [List.map_toArray, List.map_cons, List.map_nil]; rfl) rfl Tryz.call116 ((hdg2 y12 _ oj.row).mono ?_)
      rintro e y13 ⟨xv, rfl, ox, g13⟩
      have ybs := (hb12).size
      have hb13 := keep_trans hb12 g13
      refine ⟨_, rfl, hb13, ?_⟩
      simp only [Act.put, List.setIfInBounds_toArray, List.set_cons_zero, List.set_cons_succ]
      refine at_takeD (i := 13) (m' := 16383) (d := some 4) (v := xv) dg7reg rfl (by decide) rfl rfl (y_assignG (wanted_free rfl) rfl rfl) hb13 ?_
      simp only [Act.put, List.setIfInBounds_toArray, List.set_cons_zero, List.set_cons_succ]
      refine at_done dg7reg (by decide) ?_
      obtain ⟨hbr', hbx', hb0'⟩ := HK.out
      have kk := keep_trans (keep_trans hb0' hbx') hbr'
      go_wp2
      go_ret
      exact ⟨_, rfl, ox.mono (Nat.le_trans kk.size ybs), keep_trans kk hb13⟩
end Go.Proofs.YtogiballdmgcpaaGreatDoor

/- Leaves that sign once: few, Digits and Size of the program, the chapter's examples. -/
namespace Go.Proofs.YtogiballdmgcpaaGreatDoor
open Go.RowKit
set_option linter.unusedVariables false
set_option linter.unusedSimpArgs false

theorem cell_row0 (w : World) (us : Array Value) (t : TypeId) (i : Nat) (u : Value) (h : us[i]? = some u) : (w.alloc (.cells us t)).cell? ⟨w.heap.size, i, none⟩ = some u := by
  rw [World.cell?_alloc_at _ _ _ _ rfl]
  exact h
set_option maxHeartbeats 2000000 in
set_option maxRecDepth 100000 in
theorem csize_no (x : Int) (w : World) (h : NoK x) : Calls Tryz.prog 98 #[.int .i64 x] w fun e w' => e = .returned (.int .i64 0) ∧ Below w.heap.size w w' := by
  have hk := fun y => ckind_no x y h
  clear h
  go_enter Tryz.func98, Tryz.ntmps98
  go_wp2_with (first
    | (go_at_call 115; refine (hk _).mono ?_; rintro e w1 ⟨rfl, g1⟩)
    | fail)
  go_ret
  exact ⟨rfl, keep_trans g1 (keep_alloc _ _)⟩
set_option maxHeartbeats 2000000 in
set_option maxRecDepth 100000 in
theorem csize_ok {k n m s c P : Nat} (h : Kd k n m s c) (hP : P = n + m) (w : World) : Calls Tryz.prog 98 #[.int .i64 (k : Int)] w fun e w' => e = .returned (.int .i64 ((36 + 32 * P : Nat) : Int)) ∧ Below w.heap.size w w' := by
  have hk := fun y => ckind_ok h hP y
  obtain ⟨p1, p2, p3, p4, p5, p6, p7⟩ := h.pos
  have hz := fun y => ksize_any k P s c y (by omega)
  obtain ⟨Z, hZ⟩ : ∃ Z : Nat, Z = 36 + 32 * P := ⟨_, rfl⟩
  rw [← hZ] at hz ⊢
  clear h hP p1 p2 p3 p4 p5 p6 p7 hZ
  go_enter Tryz.func98, Tryz.ntmps98
  go_wp2_with (first
    | (go_at_call 115; refine (hk _).mono ?_; rintro e w1 ⟨rfl, g1⟩; have hA := heap_alloc_new w1 (.cells #[.int .i64 (k : Int), .int .i64 (P : Int), .int .i64 (s : Int), .int .u64 (c : Int)] 124))
    | (go_at_call 92; refine (hz _).mono ?_; rintro e w2 ⟨rfl, g2⟩)
    | (refine wpList_load_row rfl 124 _ (by rfl) w1.heap.size (by rfl) _ _ _ _ hA Tryz.underlying124 rfl (by kernel_rfl) ?_)
    | fail)
  go_ret
  exact ⟨rfl, keep_trans g1 (keep_trans (keep_alloc _ _) g2)⟩
end Go.Proofs.YtogiballdmgcpaaGreatDoor
