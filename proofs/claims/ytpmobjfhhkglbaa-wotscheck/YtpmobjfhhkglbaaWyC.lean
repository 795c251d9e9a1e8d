/- Keys of chains: THE CHECK. -/
import Derived.Test.YtpmobjfhhkglbaaWyK
import Derived.Test.YtpmobjfhhkglbaaLcFrm
import Derived.Test.YtpmobjfhhkglbaaKit
namespace Go.Proofs.Ytpmobjfhhkglbaa
open Go.RowKit
set_option linter.unusedVariables false
set_option linter.unusedSimpArgs false

/-- is a digit of X less than Y's -/
def ltBY (X Y : List Nat) : Nat → Bool
  | 0 => false
  | i + 1 => ltBY X Y i || decide (el X i < el Y i)
theorem ltB_iffY (X Y : List Nat) : ∀ i, ltBY X Y i = true ↔ ∃ j, j < i ∧ el X j < el Y j
  | 0 => ⟨fun h => (by cases h), fun ⟨j, h, _⟩ => (by omega)⟩
  | i + 1 => by
    unfold ltBY
    rw [Bool.or_eq_true, ltB_iffY X Y i, decide_eq_true_iff]
    constructor
    · rintro (⟨j, h1, h2⟩ | h)
      · exact ⟨j, by omega, h2⟩
      · exact ⟨i, by omega, h⟩
    · rintro ⟨j, h1, h2⟩
      by_cases e : j = i
      · exact .inr (e ▸ h2)
      · exact .inl ⟨j, by omega, h2⟩
theorem ltB_selfY (X : List Nat) (i : Nat) : ltBY X X i = false := by
  cases h : ltBY X X i
  · rfl
  · obtain ⟨j, _, h2⟩ := (ltB_iffY X X i).1 h
    omega
/-- the world with two digests in boxes -/
def box2LY (w : World) (a b : List Nat) : World := (w.alloc (.cells (arr .u8 a) 22)).alloc (.cells (arr .u8 b) 22)
theorem box2L_allY (w : World) {a b : List Nat} (ha : a.length = 32) (hb : b.length = 32) (ua : Under 256 a) (ub : Under 256 b) :
    Row .u8 256 (box2LY w a b) (.slice (some ⟨w.heap.size, 0, none⟩) 32 32) a ∧ Row .u8 256 (box2LY w a b) (.slice (some ⟨w.heap.size + 1, 0, none⟩) 32 32) b ∧ Below w.heap.size w (box2LY w a b) ∧ (box2LY w a b).heap[w.heap.size]? = some (.cells (arr .u8 a) 22 (0, 0)) ∧ (box2LY w a b).heap[w.heap.size + 1]? = some (.cells (arr .u8 b) 22 (0, 0)) ∧ (box2LY w a b).heap.size = w.heap.size + 1 + 1 := by
  have h1 : (box2LY w a b).heap[w.heap.size]? = some (.cells (arr .u8 a) 22 (0, 0)) := by
    unfold box2LY
    have h0 := heap_alloc_new w (.cells (arr .u8 a) 22)
    exact ((keep_alloc (w.alloc (.cells (arr .u8 a) 22)) (.cells (arr .u8 b) 22)).block _ (by rw [World.size_alloc]; exact Nat.lt_succ_self _)).trans h0
  have h2 : (box2LY w a b).heap[w.heap.size + 1]? = some (.cells (arr .u8 b) 22 (0, 0)) := by
    unfold box2LY
    have h0 := heap_alloc_new (w.alloc (.cells (arr .u8 a) 22)) (.cells (arr .u8 b) 22)
    rw [World.size_alloc] at h0
    exact h0
  have r1 := row_boxL h1 ua (by omega)
  have r2 := row_boxL h2 ub (by omega)
  rw [ha] at r1
  rw [hb] at r2
  exact ⟨r1, r2, keep_trans (keep_alloc _ _) (keep_alloc _ _), h1, h2, by unfold box2LY; simp⟩
section
variable {ops : Array Oper} {S : World → Prop}
theorem y_ixLY {o : Oper} {a : Act} {x y : Operand} {t e : TypeId} {g f n c i : Nat} (hw : Region.wanted o (yielded ops a.tmps) = true) (ho : o.op = .indexAddr t x y) (hx : a.eval x = .slice (some ⟨g, f, none⟩) n c) (hy : a.eval y = .int .i64 (i : Int)) (hu : Try.prog.underlying t = some (.slice e)) (hs : (Try.prog.info? e).map (·.size) = some 1) (hi : i < n) : YieldsIf Try.prog ops S o (.pointer (some ⟨g, f + i, none⟩)) a := by
  have := y_indexG (ops := ops) (S := S) hw ho hx hy hu hs hi
  rw [Nat.mul_one] at this
  exact this
theorem y_ltUY {o : Oper} {a : Act} {x y : Operand} {t t' : TypeId} {i j : Int} {b : Bool} (hw : Region.wanted o (yielded ops a.tmps) = true) (ho : o.op = .binOp .lss t x y t') (hx : a.eval x = .int .u32 i) (hy : a.eval y = .int .u32 j) (hb : decide (i < j) = b) : YieldsIf Try.prog ops S o (.bool b) a := by
  refine y_ofG hw fun w _ => ?_
  unfold execOp
  simp only [ho, hx, hy]
  simp [go_sem, ← hb]
theorem y_gtUY {o : Oper} {a : Act} {x y : Operand} {t t' : TypeId} {i j : Int} {b : Bool} (hw : Region.wanted o (yielded ops a.tmps) = true) (ho : o.op = .binOp .gtr t x y t') (hx : a.eval x = .int .u32 i) (hy : a.eval y = .int .u32 j) (hb : decide (j < i) = b) : YieldsIf Try.prog ops S o (.bool b) a := by
  refine y_ofG hw fun w _ => ?_
  unfold execOp
  simp only [ho, hx, hy]
  simp [go_sem, ← hb]
end
theorem ltB_unlikeY {N : Nat} (hN : N ≤ 32) {a b : List Nat} (ha : a.length = N) (hb : b.length = N) (ua : Under 256 a) (ub : Under 256 b) (h : ¬ a = b) {P : Nat} (hP : P = 2 * N + 3) : ltBY (dgW N a) (dgW N b) P = true := by
  rw [ltB_iffY]
  refine Classical.byContradiction fun hn => h ?_
  have hl : ∀ d, (dgW N d).length = 2 * N + 3 := fun d => dgW_len N d
  refine (dgW_unlike hN hb ha ub ua ⟨by rw [hl, hl], fun i hi => ?_⟩).symm
  rw [hl] at hi
  exact Nat.le_of_not_lt fun hx => hn ⟨i, by omega, hx⟩
theorem y_hi32Y {ops : Array Oper} {S : World → Prop} {o : Oper} {a : Act} {x z : Operand} {g G : Nat} (hw : Region.wanted o (yielded ops a.tmps) = true) (ho : o.op = .slice 22 x none (some z) none) (hx : a.eval x = .pointer (some ⟨g, 0, none⟩)) (hz : a.eval z = .int .i64 (G : Int)) (hG : G ≤ 32) : YieldsIf Try.prog ops S o (.slice (some ⟨g, 0, none⟩) G 32) a := by
  obtain ⟨i0, hi0, hz0, hz1, hz2⟩ := info_byte
  have h1 : (G : Int) ≤ 32 := by omega
  refine y_ofG hw fun w _ => ?_
  unfold execOp
  simp only [ho, hx, Option.map_none, Option.map_some, hz]
  simp [Instr.sliceAt, Instr.slice, Instr.sliceBounds, Instr.sliceBound, asIntOf, Sem.run_bind, run_underlying Try.underlying22, run_underlying Try.underlying25, sizeOf, typeInfo, hi0, hz1, Addr.add, go_sem, h1, hG]
def cy9lt : List Lt := [(0, some 45, [10]), (1, some 46, [45]), (2, some 47, [8, 46]), (2, some 48, [12, 46]), (14, some 49, [47, 48, 46]), (18, some 50, [49, 46]), (2, some 51, [9, 46]), (2, some 52, [12, 46]), (194, some 53, [51, 52, 46]), (258, some 54, [53, 46]), (546, some 55, [50, 54, 46]), (1026, some 56, [46, 55]), (4095, some 10, [56])]
theorem cy9reg : Reg (opsA (cLA (cRA (cBA (cLA (cRA (cRA (cLpA (cBA (cRA (cLA (cRA (cRA (cRA (cRA (cRA (Try.f3.body.getD .skip))))))))))))))))) cy9lt := ⟨by kernel_rfl, by kernel_rfl⟩
set_option maxHeartbeats 4000000 in
set_option maxRecDepth 100000 in
theorem cy9f {Q : Exit → Act → World → Prop} {x0 x1 x2 x3 x4 x5 x6 x7 x11 x13 x14 x15 x16 x17 x18 x19 x20 x21 x22 x23 x24 x25 x26 x27 x28 x29 x30 x31 x32 x33 x34 x35 x36 x37 x38 x39 x40 x41 x42 x43 x44 x45 x46 x47 x48 x49 x50 x51 x52 x53 x54 x55 x56 x57 x58 x59 x60 x61 x62 x63 x64 x65 x66 x67 x68 x69 x70 x71 x72 x73 x74 x75 x76 x77 x78 x79 x80 x81 x82 x83 x84 x85 x86 x87 x88 x89 x90 x91 : Value} {b1 f1 c1 b2 f2 c2 P i : Nat} {W : World} {u v : Nat} {p : Bool} (h1 : W.cell? ⟨b1, f1 + i, none⟩ = some (.int .u32 (u : Int))) (h2 : W.cell? ⟨b2, f2 + i, none⟩ = some (.int .u32 (v : Int))) (hp : decide ((u : Int) < (v : Int)) = p) (hi : i < P)
    (hQ : ∀ y45 y46 y47 y48 y49 y50 y51 y52 y53 y54 y55 y56 : Value, Q .normal { tmps := #[x0, x1, x2, x3, x4, x5, x6, x7, .slice (some ⟨b1, f1, none⟩) P c1, .slice (some ⟨b2, f2, none⟩) P c2, .bool p, x11, .int .i64 (i : Int), x13, x14, x15, x16, x17, x18, x19, x20, x21, x22, x23, x24, x25, x26, x27, x28, x29, x30, x31, x32, x33, x34, x35, x36, x37, x38, x39, x40, x41, x42, x43, x44, y45, y46, y47, y48, y49, y50, y51, y52, y53, y54, y55, y56, x57, x58, x59, x60, x61, x62, x63, x64, x65, x66, x67, x68, x69, x70, x71, x72, x73, x74, x75, x76, x77, x78, x79, x80, x81, x82, x83, x84, x85, x86, x87, x88, x89, x90, x91], defers := [] } W.drew) :
    (Code.region 9 (opsA (cLA (cRA (cBA (cLA (cRA (cRA (cLpA (cBA (cRA (cLA (cRA (cRA (cRA (cRA (cRA (Try.f3.body.getD .skip))))))))))))))))) true).wp Try.prog Q { tmps := #[x0, x1, x2, x3, x4, x5, x6, x7, .slice (some ⟨b1, f1, none⟩) P c1, .slice (some ⟨b2, f2, none⟩) P c2, .bool false, x11, .int .i64 (i : Int), x13, x14, x15, x16, x17, x18, x19, x20, x21, x22, x23, x24, x25, x26, x27, x28, x29, x30, x31, x32, x33, x34, x35, x36, x37, x38, x39, x40, x41, x42, x43, x44, x45, x46, x47, x48, x49, x50, x51, x52, x53, x54, x55, x56, x57, x58, x59, x60, x61, x62, x63, x64, x65, x66, x67, x68, x69, x70, x71, x72, x73, x74, x75, x76, x77, x78, x79, x80, x81, x82, x83, x84, x85, x86, x87, x88, x89, x90, x91], defers := [] } W := by
  have hbd : Below W.heap.size W W.drew := (Below.refl _ _).drew
  refine at_begin (ops := opsA (cLA (cRA (cBA (cLA (cRA (cRA (cLpA (cBA (cRA (cLA (cRA (cRA (cRA (cRA (cRA (Try.f3.body.getD .skip))))))))))))))))) (n := 13) (fun y => Below W.heap.size W y) (by kernel_rfl) (by kernel_rfl) ?_
  refine at_takeD (i := 0) (m' := 1) (d := some 45) (v := .bool false) cy9reg rfl (by decide) rfl rfl (y_moveG (wanted_free rfl) rfl rfl) hbd ?_
  simp only [Act.put, List.setIfInBounds_toArray, List.set_cons_zero, List.set_cons_succ]
  refine at_takeD (i := 1) (m' := 3) (d := some 46) (v := .bool false) cy9reg rfl (by decide) rfl rfl (y_moveG (wanted_free rfl) rfl rfl) hbd ?_
  simp only [Act.put, List.setIfInBounds_toArray, List.set_cons_zero, List.set_cons_succ]
  refine at_takeD (i := 2) (m' := 7) (d := some 47) (v := .slice (some ⟨b1, f1, none⟩) P c1) cy9reg rfl (by decide) rfl rfl (y_moveG (wanted_gG (j := 1) (d := 46) (b := false) rfl rfl rfl rfl) rfl rfl) hbd ?_
  simp only [Act.put, List.setIfInBounds_toArray, List.set_cons_zero, List.set_cons_succ]
  refine at_takeD (i := 3) (m' := 15) (d := some 48) (v := .int .i64 (i : Int)) cy9reg rfl (by decide) rfl rfl (y_moveG (wanted_gG (j := 1) (d := 46) (b := false) rfl rfl rfl rfl) rfl rfl) hbd ?_
  simp only [Act.put, List.setIfInBounds_toArray, List.set_cons_zero, List.set_cons_succ]
  refine at_takeD (i := 4) (m' := 31) (d := some 49) (v := .pointer (some ⟨b1, f1 + i, none⟩)) cy9reg rfl (by decide) rfl rfl (y_ixLY (wanted_gG (j := 1) (d := 46) (b := false) rfl rfl rfl rfl) rfl rfl rfl Try.underlying23 (by kernel_rfl) hi) hbd ?_
  simp only [Act.put, List.setIfInBounds_toArray, List.set_cons_zero, List.set_cons_succ]
  refine at_takeD (i := 5) (m' := 63) (d := some 50) (v := .int .u32 (u : Int)) cy9reg rfl (by decide) rfl rfl (y_plainG (wanted_gG (j := 1) (d := 46) (b := false) rfl rfl rfl rfl) rfl rfl Try.underlying26 rfl (fun _ h => keep_cell h1 h)) hbd ?_
  simp only [Act.put, List.setIfInBounds_toArray, List.set_cons_zero, List.set_cons_succ]
  refine at_takeD (i := 6) (m' := 127) (d := some 51) (v := .slice (some ⟨b2, f2, none⟩) P c2) cy9reg rfl (by decide) rfl rfl (y_moveG (wanted_gG (j := 1) (d := 46) (b := false) rfl rfl rfl rfl) rfl rfl) hbd ?_
  simp only [Act.put, List.setIfInBounds_toArray, List.set_cons_zero, List.set_cons_succ]
  refine at_takeD (i := 7) (m' := 255) (d := some 52) (v := .int .i64 (i : Int)) cy9reg rfl (by decide) rfl rfl (y_moveG (wanted_gG (j := 1) (d := 46) (b := false) rfl rfl rfl rfl) rfl rfl) hbd ?_
  simp only [Act.put, List.setIfInBounds_toArray, List.set_cons_zero, List.set_cons_succ]
  refine at_takeD (i := 8) (m' := 511) (d := some 53) (v := .pointer (some ⟨b2, f2 + i, none⟩)) cy9reg rfl (by decide) rfl rfl (y_ixLY (wanted_gG (j := 1) (d := 46) (b := false) rfl rfl rfl rfl) rfl rfl rfl Try.underlying23 (by kernel_rfl) hi) hbd ?_
  simp only [Act.put, List.setIfInBounds_toArray, List.set_cons_zero, List.set_cons_succ]
  refine at_takeD (i := 9) (m' := 1023) (d := some 54) (v := .int .u32 (v : Int)) cy9reg rfl (by decide) rfl rfl (y_plainG (wanted_gG (j := 1) (d := 46) (b := false) rfl rfl rfl rfl) rfl rfl Try.underlying26 rfl (fun _ h => keep_cell h2 h)) hbd ?_
  simp only [Act.put, List.setIfInBounds_toArray, List.set_cons_zero, List.set_cons_succ]
  refine at_takeD (i := 10) (m' := 2047) (d := some 55) (v := .bool p) cy9reg rfl (by decide) rfl rfl (y_ltUY (wanted_gG (j := 1) (d := 46) (b := false) rfl rfl rfl rfl) rfl rfl rfl hp) hbd ?_
  simp only [Act.put, List.setIfInBounds_toArray, List.set_cons_zero, List.set_cons_succ]
  refine at_takeD (i := 11) (m' := 4095) (d := some 56) (v := .bool p) cy9reg rfl (by decide) rfl rfl (y_pickEG (wanted_free rfl) rfl rfl rfl) hbd ?_
  simp only [Act.put, List.setIfInBounds_toArray, List.set_cons_zero, List.set_cons_succ]
  refine at_takeD (i := 12) (m' := 8191) (d := some 10) (v := .bool p) cy9reg rfl (by decide) rfl rfl (y_assignG (wanted_free rfl) rfl rfl) hbd ?_
  simp only [Act.put, List.setIfInBounds_toArray, List.set_cons_zero, List.set_cons_succ]
  refine at_done cy9reg (by decide) ?_
  exact hQ _ _ _ _ _ _ _ _ _ _ _ _
set_option maxHeartbeats 4000000 in
set_option maxRecDepth 100000 in
theorem cy9t {Q : Exit → Act → World → Prop} {x0 x1 x2 x3 x4 x5 x6 x7 x11 x13 x14 x15 x16 x17 x18 x19 x20 x21 x22 x23 x24 x25 x26 x27 x28 x29 x30 x31 x32 x33 x34 x35 x36 x37 x38 x39 x40 x41 x42 x43 x44 x45 x46 x47 x48 x49 x50 x51 x52 x53 x54 x55 x56 x57 x58 x59 x60 x61 x62 x63 x64 x65 x66 x67 x68 x69 x70 x71 x72 x73 x74 x75 x76 x77 x78 x79 x80 x81 x82 x83 x84 x85 x86 x87 x88 x89 x90 x91 : Value} {b1 f1 c1 b2 f2 c2 P i : Nat} {W : World}  (hi : i < P)
    (hQ : ∀ y45 y46 y47 y48 y49 y50 y51 y52 y53 y54 y55 y56 : Value, Q .normal { tmps := #[x0, x1, x2, x3, x4, x5, x6, x7, .slice (some ⟨b1, f1, none⟩) P c1, .slice (some ⟨b2, f2, none⟩) P c2, .bool true, x11, .int .i64 (i : Int), x13, x14, x15, x16, x17, x18, x19, x20, x21, x22, x23, x24, x25, x26, x27, x28, x29, x30, x31, x32, x33, x34, x35, x36, x37, x38, x39, x40, x41, x42, x43, x44, y45, y46, y47, y48, y49, y50, y51, y52, y53, y54, y55, y56, x57, x58, x59, x60, x61, x62, x63, x64, x65, x66, x67, x68, x69, x70, x71, x72, x73, x74, x75, x76, x77, x78, x79, x80, x81, x82, x83, x84, x85, x86, x87, x88, x89, x90, x91], defers := [] } W.drew) :
    (Code.region 9 (opsA (cLA (cRA (cBA (cLA (cRA (cRA (cLpA (cBA (cRA (cLA (cRA (cRA (cRA (cRA (cRA (Try.f3.body.getD .skip))))))))))))))))) true).wp Try.prog Q { tmps := #[x0, x1, x2, x3, x4, x5, x6, x7, .slice (some ⟨b1, f1, none⟩) P c1, .slice (some ⟨b2, f2, none⟩) P c2, .bool true, x11, .int .i64 (i : Int), x13, x14, x15, x16, x17, x18, x19, x20, x21, x22, x23, x24, x25, x26, x27, x28, x29, x30, x31, x32, x33, x34, x35, x36, x37, x38, x39, x40, x41, x42, x43, x44, x45, x46, x47, x48, x49, x50, x51, x52, x53, x54, x55, x56, x57, x58, x59, x60, x61, x62, x63, x64, x65, x66, x67, x68, x69, x70, x71, x72, x73, x74, x75, x76, x77, x78, x79, x80, x81, x82, x83, x84, x85, x86, x87, x88, x89, x90, x91], defers := [] } W := by
  have hbd : Below W.heap.size W W.drew := (Below.refl _ _).drew
  refine at_begin (ops := opsA (cLA (cRA (cBA (cLA (cRA (cRA (cLpA (cBA (cRA (cLA (cRA (cRA (cRA (cRA (cRA (Try.f3.body.getD .skip))))))))))))))))) (n := 13) (fun y => Below W.heap.size W y) (by kernel_rfl) (by kernel_rfl) ?_
  refine at_takeD (i := 0) (m' := 1) (d := some 45) (v := .bool true) cy9reg rfl (by decide) rfl rfl (y_moveG (wanted_free rfl) rfl rfl) hbd ?_
  simp only [Act.put, List.setIfInBounds_toArray, List.set_cons_zero, List.set_cons_succ]
  refine at_takeD (i := 1) (m' := 3) (d := some 46) (v := .bool true) cy9reg rfl (by decide) rfl rfl (y_moveG (wanted_free rfl) rfl rfl) hbd ?_
  simp only [Act.put, List.setIfInBounds_toArray, List.set_cons_zero, List.set_cons_succ]
  refine at_takeD (i := 2) (m' := 7) (d := some 47) (v := undef) cy9reg rfl (by decide) rfl rfl (y_unG (wanted_nG (j := 1) (d := 46) (b := false) rfl rfl rfl rfl)) hbd ?_
  simp only [Act.put, List.setIfInBounds_toArray, List.set_cons_zero, List.set_cons_succ]
  refine at_takeD (i := 3) (m' := 15) (d := some 48) (v := undef) cy9reg rfl (by decide) rfl rfl (y_unG (wanted_nG (j := 1) (d := 46) (b := false) rfl rfl rfl rfl)) hbd ?_
  simp only [Act.put, List.setIfInBounds_toArray, List.set_cons_zero, List.set_cons_succ]
  refine at_takeD (i := 4) (m' := 31) (d := some 49) (v := undef) cy9reg rfl (by decide) rfl rfl (y_unG (wanted_nG (j := 1) (d := 46) (b := false) rfl rfl rfl rfl)) hbd ?_
  simp only [Act.put, List.setIfInBounds_toArray, List.set_cons_zero, List.set_cons_succ]
  refine at_takeD (i := 5) (m' := 63) (d := some 50) (v := undef) cy9reg rfl (by decide) rfl rfl (y_unG (wanted_nG (j := 1) (d := 46) (b := false) rfl rfl rfl rfl)) hbd ?_
  simp only [Act.put, List.setIfInBounds_toArray, List.set_cons_zero, List.set_cons_succ]
  refine at_takeD (i := 6) (m' := 127) (d := some 51) (v := undef) cy9reg rfl (by decide) rfl rfl (y_unG (wanted_nG (j := 1) (d := 46) (b := false) rfl rfl rfl rfl)) hbd ?_
  simp only [Act.put, List.setIfInBounds_toArray, List.set_cons_zero, List.set_cons_succ]
  refine at_takeD (i := 7) (m' := 255) (d := some 52) (v := undef) cy9reg rfl (by decide) rfl rfl (y_unG (wanted_nG (j := 1) (d := 46) (b := false) rfl rfl rfl rfl)) hbd ?_
  simp only [Act.put, List.setIfInBounds_toArray, List.set_cons_zero, List.set_cons_succ]
  refine at_takeD (i := 8) (m' := 511) (d := some 53) (v := undef) cy9reg rfl (by decide) rfl rfl (y_unG (wanted_nG (j := 1) (d := 46) (b := false) rfl rfl rfl rfl)) hbd ?_
  simp only [Act.put, List.setIfInBounds_toArray, List.set_cons_zero, List.set_cons_succ]
  refine at_takeD (i := 9) (m' := 1023) (d := some 54) (v := undef) cy9reg rfl (by decide) rfl rfl (y_unG (wanted_nG (j := 1) (d := 46) (b := false) rfl rfl rfl rfl)) hbd ?_
  simp only [Act.put, List.setIfInBounds_toArray, List.set_cons_zero, List.set_cons_succ]
  refine at_takeD (i := 10) (m' := 2047) (d := some 55) (v := undef) cy9reg rfl (by decide) rfl rfl (y_unG (wanted_nG (j := 1) (d := 46) (b := false) rfl rfl rfl rfl)) hbd ?_
  simp only [Act.put, List.setIfInBounds_toArray, List.set_cons_zero, List.set_cons_succ]
  refine at_takeD (i := 11) (m' := 4095) (d := some 56) (v := .bool true) cy9reg rfl (by decide) rfl rfl (y_pickTG (wanted_free rfl) rfl rfl rfl) hbd ?_
  simp only [Act.put, List.setIfInBounds_toArray, List.set_cons_zero, List.set_cons_succ]
  refine at_takeD (i := 12) (m' := 8191) (d := some 10) (v := .bool true) cy9reg rfl (by decide) rfl rfl (y_assignG (wanted_free rfl) rfl rfl) hbd ?_
  simp only [Act.put, List.setIfInBounds_toArray, List.set_cons_zero, List.set_cons_succ]
  refine at_done cy9reg (by decide) ?_
  exact hQ _ _ _ _ _ _ _ _ _ _ _ _
def cy10lt : List Lt := [(0, some 57, [11]), (1, some 58, [57]), (2, some 59, [8, 58]), (2, some 60, [12, 58]), (14, some 61, [59, 60, 58]), (18, some 62, [61, 58]), (2, some 63, [9, 58]), (2, some 64, [12, 58]), (194, some 65, [63, 64, 58]), (258, some 66, [65, 58]), (546, some 67, [62, 66, 58]), (1026, some 68, [58, 67]), (4095, some 11, [68])]
theorem cy10reg : Reg (opsA (cLA (cRA (cRA (cBA (cLA (cRA (cRA (cLpA (cBA (cRA (cLA (cRA (cRA (cRA (cRA (cRA (Try.f3.body.getD .skip)))))))))))))))))) cy10lt := ⟨by kernel_rfl, by kernel_rfl⟩
set_option maxHeartbeats 4000000 in
set_option maxRecDepth 100000 in
theorem cy10f {Q : Exit → Act → World → Prop} {x0 x1 x2 x3 x4 x5 x6 x7 x10 x13 x14 x15 x16 x17 x18 x19 x20 x21 x22 x23 x24 x25 x26 x27 x28 x29 x30 x31 x32 x33 x34 x35 x36 x37 x38 x39 x40 x41 x42 x43 x44 x45 x46 x47 x48 x49 x50 x51 x52 x53 x54 x55 x56 x57 x58 x59 x60 x61 x62 x63 x64 x65 x66 x67 x68 x69 x70 x71 x72 x73 x74 x75 x76 x77 x78 x79 x80 x81 x82 x83 x84 x85 x86 x87 x88 x89 x90 x91 : Value} {b1 f1 c1 b2 f2 c2 P i : Nat} {W : World} {u v : Nat} {p : Bool} (h1 : W.cell? ⟨b1, f1 + i, none⟩ = some (.int .u32 (u : Int))) (h2 : W.cell? ⟨b2, f2 + i, none⟩ = some (.int .u32 (v : Int))) (hp : decide ((v : Int) < (u : Int)) = p) (hi : i < P)
    (hQ : ∀ y57 y58 y59 y60 y61 y62 y63 y64 y65 y66 y67 y68 : Value, Q .normal { tmps := #[x0, x1, x2, x3, x4, x5, x6, x7, .slice (some ⟨b1, f1, none⟩) P c1, .slice (some ⟨b2, f2, none⟩) P c2, x10, .bool p, .int .i64 (i : Int), x13, x14, x15, x16, x17, x18, x19, x20, x21, x22, x23, x24, x25, x26, x27, x28, x29, x30, x31, x32, x33, x34, x35, x36, x37, x38, x39, x40, x41, x42, x43, x44, x45, x46, x47, x48, x49, x50, x51, x52, x53, x54, x55, x56, y57, y58, y59, y60, y61, y62, y63, y64, y65, y66, y67, y68, x69, x70, x71, x72, x73, x74, x75, x76, x77, x78, x79, x80, x81, x82, x83, x84, x85, x86, x87, x88, x89, x90, x91], defers := [] } W.drew) :
    (Code.region 10 (opsA (cLA (cRA (cRA (cBA (cLA (cRA (cRA (cLpA (cBA (cRA (cLA (cRA (cRA (cRA (cRA (cRA (Try.f3.body.getD .skip)))))))))))))))))) true).wp Try.prog Q { tmps := #[x0, x1, x2, x3, x4, x5, x6, x7, .slice (some ⟨b1, f1, none⟩) P c1, .slice (some ⟨b2, f2, none⟩) P c2, x10, .bool false, .int .i64 (i : Int), x13, x14, x15, x16, x17, x18, x19, x20, x21, x22, x23, x24, x25, x26, x27, x28, x29, x30, x31, x32, x33, x34, x35, x36, x37, x38, x39, x40, x41, x42, x43, x44, x45, x46, x47, x48, x49, x50, x51, x52, x53, x54, x55, x56, x57, x58, x59, x60, x61, x62, x63, x64, x65, x66, x67, x68, x69, x70, x71, x72, x73, x74, x75, x76, x77, x78, x79, x80, x81, x82, x83, x84, x85, x86, x87, x88, x89, x90, x91], defers := [] } W := by
  have hbd : Below W.heap.size W W.drew := (Below.refl _ _).drew
  refine at_begin (ops := opsA (cLA (cRA (cRA (cBA (cLA (cRA (cRA (cLpA (cBA (cRA (cLA (cRA (cRA (cRA (cRA (cRA (Try.f3.body.getD .skip)))))))))))))))))) (n := 13) (fun y => Below W.heap.size W y) (by kernel_rfl) (by kernel_rfl) ?_
  refine at_takeD (i := 0) (m' := 1) (d := some 57) (v := .bool false) cy10reg rfl (by decide) rfl rfl (y_moveG (wanted_free rfl) rfl rfl) hbd ?_
  simp only [Act.put, List.setIfInBounds_toArray, List.set_cons_zero, List.set_cons_succ]
  refine at_takeD (i := 1) (m' := 3) (d := some 58) (v := .bool false) cy10reg rfl (by decide) rfl rfl (y_moveG (wanted_free rfl) rfl rfl) hbd ?_
  simp only [Act.put, List.setIfInBounds_toArray, List.set_cons_zero, List.set_cons_succ]
  refine at_takeD (i := 2) (m' := 7) (d := some 59) (v := .slice (some ⟨b1, f1, none⟩) P c1) cy10reg rfl (by decide) rfl rfl (y_moveG (wanted_gG (j := 1) (d := 58) (b := false) rfl rfl rfl rfl) rfl rfl) hbd ?_
  simp only [Act.put, List.setIfInBounds_toArray, List.set_cons_zero, List.set_cons_succ]
  refine at_takeD (i := 3) (m' := 15) (d := some 60) (v := .int .i64 (i : Int)) cy10reg rfl (by decide) rfl rfl (y_moveG (wanted_gG (j := 1) (d := 58) (b := false) rfl rfl rfl rfl) rfl rfl) hbd ?_
  simp only [Act.put, List.setIfInBounds_toArray, List.set_cons_zero, List.set_cons_succ]
  refine at_takeD (i := 4) (m' := 31) (d := some 61) (v := .pointer (some ⟨b1, f1 + i, none⟩)) cy10reg rfl (by decide) rfl rfl (y_ixLY (wanted_gG (j := 1) (d := 58) (b := false) rfl rfl rfl rfl) rfl rfl rfl Try.underlying23 (by kernel_rfl) hi) hbd ?_
  simp only [Act.put, List.setIfInBounds_toArray, List.set_cons_zero, List.set_cons_succ]
  refine at_takeD (i := 5) (m' := 63) (d := some 62) (v := .int .u32 (u : Int)) cy10reg rfl (by decide) rfl rfl (y_plainG (wanted_gG (j := 1) (d := 58) (b := false) rfl rfl rfl rfl) rfl rfl Try.underlying26 rfl (fun _ h => keep_cell h1 h)) hbd ?_
  simp only [Act.put, List.setIfInBounds_toArray, List.set_cons_zero, List.set_cons_succ]
  refine at_takeD (i := 6) (m' := 127) (d := some 63) (v := .slice (some ⟨b2, f2, none⟩) P c2) cy10reg rfl (by decide) rfl rfl (y_moveG (wanted_gG (j := 1) (d := 58) (b := false) rfl rfl rfl rfl) rfl rfl) hbd ?_
  simp only [Act.put, List.setIfInBounds_toArray, List.set_cons_zero, List.set_cons_succ]
  refine at_takeD (i := 7) (m' := 255) (d := some 64) (v := .int .i64 (i : Int)) cy10reg rfl (by decide) rfl rfl (y_moveG (wanted_gG (j := 1) (d := 58) (b := false) rfl rfl rfl rfl) rfl rfl) hbd ?_
  simp only [Act.put, List.setIfInBounds_toArray, List.set_cons_zero, List.set_cons_succ]
  refine at_takeD (i := 8) (m' := 511) (d := some 65) (v := .pointer (some ⟨b2, f2 + i, none⟩)) cy10reg rfl (by decide) rfl rfl (y_ixLY (wanted_gG (j := 1) (d := 58) (b := false) rfl rfl rfl rfl) rfl rfl rfl Try.underlying23 (by kernel_rfl) hi) hbd ?_
  simp only [Act.put, List.setIfInBounds_toArray, List.set_cons_zero, List.set_cons_succ]
  refine at_takeD (i := 9) (m' := 1023) (d := some 66) (v := .int .u32 (v : Int)) cy10reg rfl (by decide) rfl rfl (y_plainG (wanted_gG (j := 1) (d := 58) (b := false) rfl rfl rfl rfl) rfl rfl Try.underlying26 rfl (fun _ h => keep_cell h2 h)) hbd ?_
  simp only [Act.put, List.setIfInBounds_toArray, List.set_cons_zero, List.set_cons_succ]
  refine at_takeD (i := 10) (m' := 2047) (d := some 67) (v := .bool p) cy10reg rfl (by decide) rfl rfl (y_gtUY (wanted_gG (j := 1) (d := 58) (b := false) rfl rfl rfl rfl) rfl rfl rfl hp) hbd ?_
  simp only [Act.put, List.setIfInBounds_toArray, List.set_cons_zero, List.set_cons_succ]
  refine at_takeD (i := 11) (m' := 4095) (d := some 68) (v := .bool p) cy10reg rfl (by decide) rfl rfl (y_pickEG (wanted_free rfl) rfl rfl rfl) hbd ?_
  simp only [Act.put, List.setIfInBounds_toArray, List.set_cons_zero, List.set_cons_succ]
  refine at_takeD (i := 12) (m' := 8191) (d := some 11) (v := .bool p) cy10reg rfl (by decide) rfl rfl (y_assignG (wanted_free rfl) rfl rfl) hbd ?_
  simp only [Act.put, List.setIfInBounds_toArray, List.set_cons_zero, List.set_cons_succ]
  refine at_done cy10reg (by decide) ?_
  exact hQ _ _ _ _ _ _ _ _ _ _ _ _
set_option maxHeartbeats 4000000 in
set_option maxRecDepth 100000 in
theorem cy10t {Q : Exit → Act → World → Prop} {x0 x1 x2 x3 x4 x5 x6 x7 x10 x13 x14 x15 x16 x17 x18 x19 x20 x21 x22 x23 x24 x25 x26 x27 x28 x29 x30 x31 x32 x33 x34 x35 x36 x37 x38 x39 x40 x41 x42 x43 x44 x45 x46 x47 x48 x49 x50 x51 x52 x53 x54 x55 x56 x57 x58 x59 x60 x61 x62 x63 x64 x65 x66 x67 x68 x69 x70 x71 x72 x73 x74 x75 x76 x77 x78 x79 x80 x81 x82 x83 x84 x85 x86 x87 x88 x89 x90 x91 : Value} {b1 f1 c1 b2 f2 c2 P i : Nat} {W : World}  (hi : i < P)
    (hQ : ∀ y57 y58 y59 y60 y61 y62 y63 y64 y65 y66 y67 y68 : Value, Q .normal { tmps := #[x0, x1, x2, x3, x4, x5, x6, x7, .slice (some ⟨b1, f1, none⟩) P c1, .slice (some ⟨b2, f2, none⟩) P c2, x10, .bool true, .int .i64 (i : Int), x13, x14, x15, x16, x17, x18, x19, x20, x21, x22, x23, x24, x25, x26, x27, x28, x29, x30, x31, x32, x33, x34, x35, x36, x37, x38, x39, x40, x41, x42, x43, x44, x45, x46, x47, x48, x49, x50, x51, x52, x53, x54, x55, x56, y57, y58, y59, y60, y61, y62, y63, y64, y65, y66, y67, y68, x69, x70, x71, x72, x73, x74, x75, x76, x77, x78, x79, x80, x81, x82, x83, x84, x85, x86, x87, x88, x89, x90, x91], defers := [] } W.drew) :
    (Code.region 10 (opsA (cLA (cRA (cRA (cBA (cLA (cRA (cRA (cLpA (cBA (cRA (cLA (cRA (cRA (cRA (cRA (cRA (Try.f3.body.getD .skip)))))))))))))))))) true).wp Try.prog Q { tmps := #[x0, x1, x2, x3, x4, x5, x6, x7, .slice (some ⟨b1, f1, none⟩) P c1, .slice (some ⟨b2, f2, none⟩) P c2, x10, .bool true, .int .i64 (i : Int), x13, x14, x15, x16, x17, x18, x19, x20, x21, x22, x23, x24, x25, x26, x27, x28, x29, x30, x31, x32, x33, x34, x35, x36, x37, x38, x39, x40, x41, x42, x43, x44, x45, x46, x47, x48, x49, x50, x51, x52, x53, x54, x55, x56, x57, x58, x59, x60, x61, x62, x63, x64, x65, x66, x67, x68, x69, x70, x71, x72, x73, x74, x75, x76, x77, x78, x79, x80, x81, x82, x83, x84, x85, x86, x87, x88, x89, x90, x91], defers := [] } W := by
  have hbd : Below W.heap.size W W.drew := (Below.refl _ _).drew
  refine at_begin (ops := opsA (cLA (cRA (cRA (cBA (cLA (cRA (cRA (cLpA (cBA (cRA (cLA (cRA (cRA (cRA (cRA (cRA (Try.f3.body.getD .skip)))))))))))))))))) (n := 13) (fun y => Below W.heap.size W y) (by kernel_rfl) (by kernel_rfl) ?_
  refine at_takeD (i := 0) (m' := 1) (d := some 57) (v := .bool true) cy10reg rfl (by decide) rfl rfl (y_moveG (wanted_free rfl) rfl rfl) hbd ?_
  simp only [Act.put, List.setIfInBounds_toArray, List.set_cons_zero, List.set_cons_succ]
  refine at_takeD (i := 1) (m' := 3) (d := some 58) (v := .bool true) cy10reg rfl (by decide) rfl rfl (y_moveG (wanted_free rfl) rfl rfl) hbd ?_
  simp only [Act.put, List.setIfInBounds_toArray, List.set_cons_zero, List.set_cons_succ]
  refine at_takeD (i := 2) (m' := 7) (d := some 59) (v := undef) cy10reg rfl (by decide) rfl rfl (y_unG (wanted_nG (j := 1) (d := 58) (b := false) rfl rfl rfl rfl)) hbd ?_
  simp only [Act.put, List.setIfInBounds_toArray, List.set_cons_zero, List.set_cons_succ]
  refine at_takeD (i := 3) (m' := 15) (d := some 60) (v := undef) cy10reg rfl (by decide) rfl rfl (y_unG (wanted_nG (j := 1) (d := 58) (b := false) rfl rfl rfl rfl)) hbd ?_
  simp only [Act.put, List.setIfInBounds_toArray, List.set_cons_zero, List.set_cons_succ]
  refine at_takeD (i := 4) (m' := 31) (d := some 61) (v := undef) cy10reg rfl (by decide) rfl rfl (y_unG (wanted_nG (j := 1) (d := 58) (b := false) rfl rfl rfl rfl)) hbd ?_
  simp only [Act.put, List.setIfInBounds_toArray, List.set_cons_zero, List.set_cons_succ]
  refine at_takeD (i := 5) (m' := 63) (d := some 62) (v := undef) cy10reg rfl (by decide) rfl rfl (y_unG (wanted_nG (j := 1) (d := 58) (b := false) rfl rfl rfl rfl)) hbd ?_
  simp only [Act.put, List.setIfInBounds_toArray, List.set_cons_zero, List.set_cons_succ]
  refine at_takeD (i := 6) (m' := 127) (d := some 63) (v := undef) cy10reg rfl (by decide) rfl rfl (y_unG (wanted_nG (j := 1) (d := 58) (b := false) rfl rfl rfl rfl)) hbd ?_
  simp only [Act.put, List.setIfInBounds_toArray, List.set_cons_zero, List.set_cons_succ]
  refine at_takeD (i := 7) (m' := 255) (d := some 64) (v := undef) cy10reg rfl (by decide) rfl rfl (y_unG (wanted_nG (j := 1) (d := 58) (b := false) rfl rfl rfl rfl)) hbd ?_
  simp only [Act.put, List.setIfInBounds_toArray, List.set_cons_zero, List.set_cons_succ]
  refine at_takeD (i := 8) (m' := 511) (d := some 65) (v := undef) cy10reg rfl (by decide) rfl rfl (y_unG (wanted_nG (j := 1) (d := 58) (b := false) rfl rfl rfl rfl)) hbd ?_
  simp only [Act.put, List.setIfInBounds_toArray, List.set_cons_zero, List.set_cons_succ]
  refine at_takeD (i := 9) (m' := 1023) (d := some 66) (v := undef) cy10reg rfl (by decide) rfl rfl (y_unG (wanted_nG (j := 1) (d := 58) (b := false) rfl rfl rfl rfl)) hbd ?_
  simp only [Act.put, List.setIfInBounds_toArray, List.set_cons_zero, List.set_cons_succ]
  refine at_takeD (i := 10) (m' := 2047) (d := some 67) (v := undef) cy10reg rfl (by decide) rfl rfl (y_unG (wanted_nG (j := 1) (d := 58) (b := false) rfl rfl rfl rfl)) hbd ?_
  simp only [Act.put, List.setIfInBounds_toArray, List.set_cons_zero, List.set_cons_succ]
  refine at_takeD (i := 11) (m' := 4095) (d := some 68) (v := .bool true) cy10reg rfl (by decide) rfl rfl (y_pickTG (wanted_free rfl) rfl rfl rfl) hbd ?_
  simp only [Act.put, List.setIfInBounds_toArray, List.set_cons_zero, List.set_cons_succ]
  refine at_takeD (i := 12) (m' := 8191) (d := some 11) (v := .bool true) cy10reg rfl (by decide) rfl rfl (y_assignG (wanted_free rfl) rfl rfl) hbd ?_
  simp only [Act.put, List.setIfInBounds_toArray, List.set_cons_zero, List.set_cons_succ]
  refine at_done cy10reg (by decide) ?_
  exact hQ _ _ _ _ _ _ _ _ _ _ _ _
/-- where the loop over the digits stands -/
def CkY (w5 : World) (P : Nat) (X Y : List Nat) (vl vm vi : Value) (wr : World) : Prop := ∃ i : Nat, i ≤ P ∧ vi = .int .i64 (i : Int) ∧ vl = .bool (ltBY X Y i) ∧ vm = .bool (ltBY Y X i) ∧ Below w5.heap.size w5 wr
def cy2lt : List Lt := [(0, some 19, [7]), (0, some 20, [7]), (2, some 21, [4, 20]), (5, some 22, [19, 21]), (0, some 23, [7]), (0, some 24, [7]), (32, some 25, [5, 24]), (88, some 26, [23, 25]), (143, some 8, [22]), (511, some 9, [26])]
theorem cy2reg : Reg (opsA (cLA (cRA (cRA (Try.f3.body.getD .skip))))) cy2lt := ⟨by kernel_rfl, by kernel_rfl⟩
def cy14lt : List Lt := [(0, some 75, [7]), (1, some 76, [4, 75]), (0, some 77, [7]), (4, some 78, [5, 77]), (10, some 79, [76, 78]), (16, some 80, [79]), (63, some 13, [80])]
theorem cy14reg : Reg (opsA (cLA (cRA (cRA (cRA (cRA (cRA (cRA (Try.f3.body.getD .skip))))))))) cy14lt := ⟨by kernel_rfl, by kernel_rfl⟩
set_option maxHeartbeats 8000000 in
set_option maxRecDepth 100000 in
theorem chkY (kd r N : Nat) (a b : List Nat) (w : World) (hkd : kd < 256) (hr : kd % 3 = r) (hNr : N = 16 + 8 * r) (ha : a.length = 32) (hb : b.length = 32) (ua : Under 256 a) (ub : Under 256 b) :
    Calls Try.prog 3 #[.int .u8 (kd : Int), .agg (arr .u8 a), .agg (arr .u8 b)] w fun e w' => e = .returned (.bool true) ∧ Below w.heap.size w w' := by
  obtain ⟨rA0, rB0, hW, bA, bB, hWs⟩ := box2L_allY w ha hb ua ub
  have hN3 : N = 16 ∨ N = 24 ∨ N = 32 := by omega
  have hN32 : N ≤ 32 := by omega
  have rA := rA0.cut (M := N) (by omega)
  have rB := rB0.cut (M := N) (by omega)
  have tA : Tidy (.slice (some ⟨w.heap.size, 0, none⟩) N 32) := fun n c e => by cases e
  have tB : Tidy (.slice (some ⟨w.heap.size + 1, 0, none⟩) N 32) := fun n c e => by cases e
  have hla : (a.take N).length = N := by rw [List.length_take]; omega
  have hlb : (b.take N).length = N := by rw [List.length_take]; omega
  have ua' : Under 256 (a.take N) := fun x hx => ua x (List.mem_of_mem_take hx)
  have ub' : Under 256 (b.take N) := fun x hx => ub x (List.mem_of_mem_take hx)
  have hx := fun y (h : Below (box2LY w a b).heap.size (box2LY w a b) y) => wdig_ok hN3 (a.take N) _ y (rA.below h) tA hla
  have hy := fun y (h : Below (box2LY w a b).heap.size (box2LY w a b) y) => wdig_ok hN3 (b.take N) _ y (rB.below h) tB hlb
  obtain ⟨ne, hne⟩ : ∃ q : Bool, q = decide (a.take N = b.take N) := ⟨_, rfl⟩
  have hsm0 := fun y (h : Below (box2LY w a b).heap.size (box2LY w a b) y) => rsame_b _ _ _ _ y (rA.below h) (rB.below h)
  rw [← hne] at hsm0
  obtain ⟨P, hP⟩ : ∃ P, P = 2 * N + 3 := ⟨_, rfl⟩
  obtain ⟨X, hX⟩ : ∃ X, X = dgW N (a.take N) := ⟨_, rfl⟩
  obtain ⟨Y, hY⟩ : ∃ Y, Y = dgW N (b.take N) := ⟨_, rfl⟩
  have hXl : X.length = P := by rw [hX, hP]; exact dgW_len N _
  have hYl : Y.length = P := by rw [hY, hP]; exact dgW_len N _
  have hXb : ∀ i, el X i < 16 := fun i => by
    have := el_le_ofW (K := 4) (l := X) (by rw [hX]; exact dgW_lt N _) i
    omega
  rw [← hX] at hx
  rw [← hY] at hy
  have hL : ltBY X Y P = !ne := by
    rw [hne, hX, hY]
    by_cases h : a.take N = b.take N
    · rw [h, ltB_selfY]; simp
    · rw [ltB_unlikeY hN32 hla hlb ua' ub' h hP]; simp [h]
  have hM : ltBY Y X P = !ne := by
    rw [hne, hX, hY]
    by_cases h : a.take N = b.take N
    · rw [h, ltB_selfY]; simp
    · rw [ltB_unlikeY hN32 hlb hla ub' ua' (fun e => h e.symm) hP]; simp [h]
  have e_r : (kd : Int).tmod 3 = (r : Int) := by rw [Int.tmod_eq_emod_of_nonneg (by omega)]; omega
  have m_r : (kd : Int) % 3 = (r : Int) := by omega
  have s_r : IntKind.u8.wrap (r : Int) = (r : Int) := by rw [IntKind.wrap_u8]; omega
  have s_r2 : IntKind.i64.wrap (r : Int) = (r : Int) := by rw [IntKind.wrap_i64]; omega
  obtain ⟨E, hE⟩ : ∃ E : Nat, 8 * r = E := ⟨_, rfl⟩
  have e_E : 8 * (r : Int) = (E : Int) := by omega
  have s_E : IntKind.i64.wrap (E : Int) = (E : Int) := by rw [IntKind.wrap_i64]; omega
  have e_N : 16 + (E : Int) = (N : Int) := by omega
  have s_N : IntKind.i64.wrap (N : Int) = (N : Int) := by rw [IntKind.wrap_i64]; omega
  obtain ⟨M2, hM2⟩ : ∃ M2 : Nat, 2 * N = M2 := ⟨_, rfl⟩
  have e_M2 : 2 * (N : Int) = (M2 : Int) := by omega
  have s_M2 : IntKind.i64.wrap (M2 : Int) = (M2 : Int) := by rw [IntKind.wrap_i64]; omega
  have e_P : (M2 : Int) + 3 = (P : Int) := by omega
  have s_P : IntKind.i64.wrap (P : Int) = (P : Int) := by rw [IntKind.wrap_i64]; omega
  have hP0 : 0 < P := by omega
  have HQ := hide (And.intro hL (And.intro hM hW))
  have HX := hide hXb
  clear hL hM hW bA bB hX hY hXb hne rA0 rB0 rA rB tA tB ha hb ua ub hr hla hlb ua' ub' hN3 hNr hE hM2 hP hkd
  go_enter Try.func3, Try.ntmps3
  go_wp2
  obtain ⟨W0, hW0⟩ : ∃ W0 : World, W0 = box2LY w a b := ⟨_, rfl⟩
  rw [← hW0] at hx hy HQ hsm0
  unfold box2LY at hW0
  rw [← hW0]
  clear hW0 hWs
  have hbd : Below W0.heap.size W0 W0.drew := (Below.refl _ _).drew
  refine at_begin (ops := opsA (cLA (cRA (cRA (Try.f3.body.getD .skip))))) (n := 10) (fun y => Below W0.heap.size W0 y) (by kernel_rfl) (by kernel_rfl) ?_
  refine at_takeD (i := 0) (m' := 1) (d := some 19) (v := .int .i64 (N : Int)) cy2reg rfl (by decide) rfl rfl (y_moveG (wanted_free rfl) rfl rfl) hbd ?_
  simp only [Act.put, List.setIfInBounds_toArray, List.set_cons_zero, List.set_cons_succ]
  refine at_takeD (i := 1) (m' := 3) (d := some 20) (v := .int .i64 (N : Int)) cy2reg rfl (by decide) rfl rfl (y_moveG (wanted_free rfl) rfl rfl) hbd ?_
  simp only [Act.put, List.setIfInBounds_toArray, List.set_cons_zero, List.set_cons_succ]
  refine at_takeD (i := 2) (m' := 7) (d := some 21) (v := .slice (some ⟨w.heap.size, 0, none⟩) N 32) cy2reg rfl (by decide) rfl rfl (y_hi32Y (wanted_free rfl) rfl rfl rfl hN32) hbd ?_
  simp only [Act.put, List.setIfInBounds_toArray, List.set_cons_zero, List.set_cons_succ]
  refine at_takeD (i := 4) (m' := 23) (d := some 23) (v := .int .i64 (N : Int)) cy2reg rfl (by decide) rfl rfl (y_moveG (wanted_free rfl) rfl rfl) hbd ?_
  simp only [Act.put, List.setIfInBounds_toArray, List.set_cons_zero, List.set_cons_succ]
  refine at_takeD (i := 5) (m' := 55) (d := some 24) (v := .int .i64 (N : Int)) cy2reg rfl (by decide) rfl rfl (y_moveG (wanted_free rfl) rfl rfl) hbd ?_
  simp only [Act.put, List.setIfInBounds_toArray, List.set_cons_zero, List.set_cons_succ]
  refine at_takeD (i := 6) (m' := 119) (d := some 25) (v := .slice (some ⟨w.heap.size + 1, 0, none⟩) N 32) cy2reg rfl (by decide) rfl rfl (y_hi32Y (wanted_free rfl) rfl rfl rfl hN32) hbd ?_
  simp only [Act.put, List.setIfInBounds_toArray, List.set_cons_zero, List.set_cons_succ]
  refine at_one (i := 3) (m' := 127) cy2reg (by decide) rfl ?_
  refine p_callG (args := #[.int .i64 (N : Int), .slice (some ⟨w.heap.size, 0, none⟩) N 32]) (d := some 22) rfl (wanted_free rfl) rfl (by simp only [List.map_toArray, List.map_cons, List.map_nil]; rfl) rfl Try.call4 ((hx W0.drew hbd).mono ?_)
  rintro e y7 ⟨v1, rfl, o1, g7⟩
  obtain ⟨a1, c1, rfl, _, _, ho1⟩ := o1.row.opens hXl
  obtain ⟨b1, f1, rfl, hc1⟩ := ho1 hP0
  have hb7 := keep_trans hbd g7
  refine ⟨_, rfl, hb7, ?_⟩
  simp only [Act.put, List.setIfInBounds_toArray, List.set_cons_zero, List.set_cons_succ]
  refine at_one (i := 7) (m' := 255) cy2reg (by decide) rfl ?_
  refine p_callG (args := #[.int .i64 (N : Int), .slice (some ⟨w.heap.size + 1, 0, none⟩) N 32]) (d := some 26) rfl (wanted_free rfl) rfl (by simp only [List.map_toArray, List.map_cons, List.map_nil]; rfl) rfl Try.call4 ((hy y7 hb7).mono ?_)
  rintro e y8 ⟨v2, rfl, o2, g8⟩
  have gx2 := g8
  obtain ⟨a2, c2, rfl, _, _, ho2⟩ := o2.row.opens hYl
  obtain ⟨b2, f2, rfl, hc2⟩ := ho2 hP0
  have hb8 := keep_trans hb7 g8
  refine ⟨_, rfl, hb8, ?_⟩
  simp only [Act.put, List.setIfInBounds_toArray, List.set_cons_zero, List.set_cons_succ]
  refine at_takeD (i := 8) (m' := 511) (d := some 8) (v := .slice (some ⟨b1, f1, none⟩) P c1) cy2reg rfl (by decide) rfl rfl (y_assignG (wanted_free rfl) rfl rfl) hb8 ?_
  simp only [Act.put, List.setIfInBounds_toArray, List.set_cons_zero, List.set_cons_succ]
  refine at_takeD (i := 9) (m' := 1023) (d := some 9) (v := .slice (some ⟨b2, f2, none⟩) P c2) cy2reg rfl (by decide) rfl rfl (y_assignG (wanted_free rfl) rfl rfl) hb8 ?_
  simp only [Act.put, List.setIfInBounds_toArray, List.set_cons_zero, List.set_cons_succ]
  refine at_done cy2reg (by decide) ?_
  have gW := hb8
  obtain ⟨x3, hx3⟩ : ∃ x : World, x = y8 := ⟨_, rfl⟩
  rw [← hx3] at gW gx2 hc2 ⊢
  have q1 : ∀ i, i < P → x3.cell? ⟨b1, f1 + i, none⟩ = some (.int .u32 ((el X i : Nat) : Int)) := fun i h => keep_cell (hc1 i h) gx2
  have HG := hide (And.intro q1 (And.intro hc2 gW))
  clear q1 gW hc1 hc2 ho1 ho2 o1 o2 hx hy hx3 gx2 hbd
  go_wp2
  go_loopw [10, 11, 42] (fun vl vm vi wr => CkY x3 P X Y vl vm vi wr) (fun _ _ vi _ => P - (intOf vi).toNat)
  case atStart => exact ⟨0, Nat.zero_le _, rfl, rfl, rfl, Below.refl _ _⟩
  case round =>
    obtain ⟨i, hi, rfl, rfl, rfl, hbr⟩ := hrel
    rename World => wr
    by_cases hlt : i < P
    · have hii : (i : Int) < (P : Int) := by omega
      have z_i : (0 : Int) ≤ (i : Int) := Int.natCast_nonneg _
      obtain ⟨I, hI⟩ : ∃ I : Nat, I = i + 1 := ⟨_, rfl⟩
      have e_I : (i : Int) + 1 = (I : Int) := by omega
      have s_I : IntKind.i64.wrap (I : Int) = (I : Int) := by rw [IntKind.wrap_i64]; omega
      have ci1 := keep_cell (HG.out.1 i hlt) hbr
      have ci2 := keep_cell (HG.out.2.1 i hlt) hbr
      have hub := HX.out i
      have hl1 : ltBY X Y (i + 1) = (ltBY X Y i || decide (el X i < el Y i)) := rfl
      have hl2 : ltBY Y X (i + 1) = (ltBY Y X i || decide (el Y i < el X i)) := rfl
      generalize ltBY X Y i = L at *
      generalize ltBY Y X i = M at *
      generalize el X i = u at *
      generalize el Y i = v at *
      obtain ⟨p, hp⟩ : ∃ p : Bool, p = decide (u < v) := ⟨_, rfl⟩
      obtain ⟨r9, hr9⟩ : ∃ r : Bool, r = decide (v < u) := ⟨_, rfl⟩
      have d1 : decide ((u : Int) < (v : Int)) = p := by rw [hp]; exact decide_eq_decide.2 (by omega)
      have d2 : decide ((v : Int) < (u : Int)) = r9 := by rw [hr9]; exact decide_eq_decide.2 (by omega)
      have d3 : ¬ (15 : Int) < (u : Int) := by omega
      have hiP := hlt
      rw [← hp] at hl1
      rw [← hr9] at hl2
      have HK := hide (And.intro hI (And.intro hbr (And.intro hl1 hl2)))
      have c3 : wr.drew.drew.cell? ⟨b1, f1 + i, none⟩ = some (.int .u32 (u : Int)) := ci1
      clear hI hbr hl1 hl2 hp hr9 hlt hub hi
      cases L <;> cases M
      · go_wp2
        refine cy9f ci1 ci2 d1 hiP ?_
        intros
        go_wp2
        refine cy10f ci1 ci2 d2 hiP ?_
        intros
        go_wp2
        obtain ⟨hI, hbr, hl1, hl2⟩ := HK.out
        exact ⟨⟨i + 1, by omega, vint (by omega), by rw [hl1]; simp, by rw [hl2]; simp, (hbr.drew).drew⟩, by simp [intOf]; omega⟩
      · go_wp2
        refine cy9f ci1 ci2 d1 hiP ?_
        intros
        go_wp2
        refine cy10t hiP ?_
        intros
        go_wp2
        obtain ⟨hI, hbr, hl1, hl2⟩ := HK.out
        exact ⟨⟨i + 1, by omega, vint (by omega), by rw [hl1]; simp, by rw [hl2]; simp, (hbr.drew).drew⟩, by simp [intOf]; omega⟩
      · go_wp2
        refine cy9t hiP ?_
        intros
        go_wp2
        refine cy10f ci1 ci2 d2 hiP ?_
        intros
        go_wp2
        obtain ⟨hI, hbr, hl1, hl2⟩ := HK.out
        exact ⟨⟨i + 1, by omega, vint (by omega), by rw [hl1]; simp, by rw [hl2]; simp, (hbr.drew).drew⟩, by simp [intOf]; omega⟩
      · go_wp2
        refine cy9t hiP ?_
        intros
        go_wp2
        refine cy10t hiP ?_
        intros
        go_wp2
        obtain ⟨hI, hbr, hl1, hl2⟩ := HK.out
        exact ⟨⟨i + 1, by omega, vint (by omega), by rw [hl1]; simp, by rw [hl2]; simp, (hbr.drew).drew⟩, by simp [intOf]; omega⟩
    · obtain rfl : i = P := by omega
      obtain ⟨hL, hM, hW⟩ := HQ.out
      rw [hL, hM]
      have hbx := keep_trans HG.out.2.2 hbr
      have hsm := fun y (k : Below wr.heap.size wr y) => hsm0 y (keep_trans hbx k)
      have HB := hide (keep_trans hW hbx)
      have hbd : Below wr.heap.size wr wr.drew := (Below.refl _ _).drew
      clear hL hM hW hbx hbr hsm0
      go_wp2
      refine at_begin (ops := opsA (cLA (cRA (cRA (cRA (cRA (cRA (cRA (Try.f3.body.getD .skip))))))))) (n := 7) (fun y => Below wr.heap.size wr y) (by kernel_rfl) (by kernel_rfl) ?_
      refine at_takeD (i := 0) (m' := 1) (d := some 75) (v := .int .i64 (N : Int)) cy14reg rfl (by decide) rfl rfl (y_moveG (wanted_free rfl) rfl rfl) hbd ?_
      simp only [Act.put, List.setIfInBounds_toArray, List.set_cons_zero, List.set_cons_succ]
      refine at_takeD (i := 1) (m' := 3) (d := some 76) (v := .slice (some ⟨w.heap.size, 0, none⟩) N 32) cy14reg rfl (by decide) rfl rfl (y_hi32Y (wanted_free rfl) rfl rfl rfl hN32) hbd ?_
      simp only [Act.put, List.setIfInBounds_toArray, List.set_cons_zero, List.set_cons_succ]
      refine at_takeD (i := 2) (m' := 7) (d := some 77) (v := .int .i64 (N : Int)) cy14reg rfl (by decide) rfl rfl (y_moveG (wanted_free rfl) rfl rfl) hbd ?_
      simp only [Act.put, List.setIfInBounds_toArray, List.set_cons_zero, List.set_cons_succ]
      refine at_takeD (i := 3) (m' := 15) (d := some 78) (v := .slice (some ⟨w.heap.size + 1, 0, none⟩) N 32) cy14reg rfl (by decide) rfl rfl (y_hi32Y (wanted_free rfl) rfl rfl rfl hN32) hbd ?_
      simp only [Act.put, List.setIfInBounds_toArray, List.set_cons_zero, List.set_cons_succ]
      refine at_one (i := 4) (m' := 31) cy14reg (by decide) rfl ?_
      refine p_callG (args := #[.slice (some ⟨w.heap.size, 0, none⟩) N 32, .slice (some ⟨w.heap.size + 1, 0, none⟩) N 32]) (d := some 79) rfl (wanted_free rfl) rfl (by simp only [List.map_toArray, List.map_cons, List.map_nil]; rfl) rfl Try.call5 ((hsm wr.drew hbd).mono ?_)
      rintro e y5 ⟨rfl, g5⟩
      have hb5 := keep_trans hbd g5
      refine ⟨_, rfl, hb5, ?_⟩
      simp only [Act.put, List.setIfInBounds_toArray, List.set_cons_zero, List.set_cons_succ]
      refine at_takeD (i := 5) (m' := 63) (d := some 80) (v := .bool (!ne)) cy14reg rfl (by decide) rfl rfl (y_notG (b := ne) (wanted_free rfl) rfl rfl) hb5 ?_
      simp only [Act.put, List.setIfInBounds_toArray, List.set_cons_zero, List.set_cons_succ]
      refine at_takeD (i := 6) (m' := 127) (d := some 13) (v := .bool (!ne)) cy14reg rfl (by decide) rfl rfl (y_assignG (wanted_free rfl) rfl rfl) hb5 ?_
      simp only [Act.put, List.setIfInBounds_toArray, List.set_cons_zero, List.set_cons_succ]
      refine at_done cy14reg (by decide) ?_
      have kz := hb5
      cases ne
      · go_wp2_with (first
          | (go_at_call 6; refine (awakeY_any _).mono ?_; rintro e x7 ⟨rfl, g7⟩)
          | fail)
        go_ret
        exact ⟨rfl, keep_trans HB.out (keep_trans kz g7)⟩
      · go_wp2_with (first
          | (go_at_call 6; refine (awakeY_any _).mono ?_; rintro e x7 ⟨rfl, g7⟩)
          | fail)
        go_ret
        exact ⟨rfl, keep_trans HB.out (keep_trans kz g7)⟩
end Go.Proofs.Ytpmobjfhhkglbaa
