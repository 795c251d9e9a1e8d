/- Leaves that sign once: THE CHECK, a kind after another. -/
import Derived.Test.YtnjiilnkobhibaaLcT
import Derived.Test.YtnjiilnkobhibaaLcFrm
namespace Go.Proofs.Ytnjiilnkobhibaa
open Go.RowKit
set_option linter.unusedVariables false
set_option linter.unusedSimpArgs false

/-- is a digit of X less than Y's -/
def ltB (X Y : List Nat) : Nat → Bool
  | 0 => false
  | i + 1 => ltB X Y i || decide (el X i < el Y i)
theorem ltB_iff (X Y : List Nat) : ∀ i, ltB X Y i = true ↔ ∃ j, j < i ∧ el X j < el Y j
  | 0 => ⟨fun h => (by cases h), fun ⟨j, h, _⟩ => (by omega)⟩
  | i + 1 => by
    unfold ltB
    rw [Bool.or_eq_true, ltB_iff X Y i, decide_eq_true_iff]
    constructor
    · rintro (⟨j, h1, h2⟩ | h)
      · exact ⟨j, by omega, h2⟩
      · exact ⟨i, by omega, h⟩
    · rintro ⟨j, h1, h2⟩
      by_cases e : j = i
      · exact .inr (e ▸ h2)
      · exact .inl ⟨j, by omega, h2⟩
theorem ltB_self (X : List Nat) (i : Nat) : ltB X X i = false := by
  cases h : ltB X X i
  · rfl
  · obtain ⟨j, _, h2⟩ := (ltB_iff X X i).1 h
    omega
theorem ltB_unlike {w n m s : Nat} (hK : KindL w n m s) {a b : List Nat} (ha : a.length = 32) (hb : b.length = 32) (ua : Under 256 a) (ub : Under 256 b) (h : ¬ a = b) {P : Nat} (hP : P = n + m) : ltB (digsL w n m s a) (digsL w n m s b) P = true := by
  rw [ltB_iff]
  refine Classical.byContradiction fun hn => h ?_
  have hl : ∀ d, (digsL w n m s d).length = n + m := fun d => digs_len d
  refine (digs_unlike hK hb ha ub ua ⟨by rw [hl, hl], fun i hi => ?_⟩).symm
  rw [hl] at hi
  exact Nat.le_of_not_lt fun hx => hn ⟨i, by omega, hx⟩
/-- the world with two digests in boxes -/
def box2L (w : World) (a b : List Nat) : World := (w.alloc (.cells (arr .u8 a) 34)).alloc (.cells (arr .u8 b) 34)
theorem box2L_all (w : World) {a b : List Nat} (ha : a.length = 32) (hb : b.length = 32) (ua : Under 256 a) (ub : Under 256 b) :
    Row .u8 256 (box2L w a b) (.slice (some ⟨w.heap.size, 0, none⟩) 32 32) a ∧ Row .u8 256 (box2L w a b) (.slice (some ⟨w.heap.size + 1, 0, none⟩) 32 32) b ∧ Below w.heap.size w (box2L w a b) ∧ (box2L w a b).heap[w.heap.size]? = some (.cells (arr .u8 a) 34 (0, 0)) ∧ (box2L w a b).heap[w.heap.size + 1]? = some (.cells (arr .u8 b) 34 (0, 0)) ∧ (box2L w a b).heap.size = w.heap.size + 1 + 1 := by
  have h1 : (box2L w a b).heap[w.heap.size]? = some (.cells (arr .u8 a) 34 (0, 0)) := by
    unfold box2L
    have h0 := heap_alloc_new w (.cells (arr .u8 a) 34)
    exact ((keep_alloc (w.alloc (.cells (arr .u8 a) 34)) (.cells (arr .u8 b) 34)).block _ (by rw [World.size_alloc]; exact Nat.lt_succ_self _)).trans h0
  have h2 : (box2L w a b).heap[w.heap.size + 1]? = some (.cells (arr .u8 b) 34 (0, 0)) := by
    unfold box2L
    have h0 := heap_alloc_new (w.alloc (.cells (arr .u8 a) 34)) (.cells (arr .u8 b) 34)
    rw [World.size_alloc] at h0
    exact h0
  have r1 := row_boxL h1 ua (by omega)
  have r2 := row_boxL h2 ub (by omega)
  rw [ha] at r1
  rw [hb] at r2
  exact ⟨r1, r2, keep_trans (keep_alloc _ _) (keep_alloc _ _), h1, h2, by unfold box2L; simp⟩
theorem run_equal32 (w : World) (t e : TypeId) (k : IntKind) (i : TypeInfo) (hu : Try.prog.underlying t = some (.array 32 e)) (hi : Try.prog.info? e = some i) (hc : Try.prog.cellsOf e = 1) (he : Try.prog.underlying e = some (.int k)) (xs ys : List Nat) (hx : xs.length = 32) (hy : ys.length = 32) :
    (Op.equalIn 10000 t (.agg (arr k xs)) (.agg (arr k ys))).run Try.prog w = .ok (decide (xs = ys)) w := by
  rw [run_equalIn_array w 9999 (arr k xs) (arr k ys) hu hi, hc, run_items_arr w 9998 he xs ys (List.range 32) (fun i hi => by have := List.mem_range.1 hi; omega)]
  congr 1
  rw [Bool.eq_iff_iff, List.all_eq_true, decide_eq_true_iff]
  simp only [List.mem_range, beq_iff_eq]
  exact ⟨fun h => el_ext (by omega) (fun i hi => h i (by omega)), fun h i _ => by rw [h]⟩
theorem wpList_arr32 {ops : Array Oper} {rest : List Oper} {o : Oper} {a : Act} {w : World} {Q : Exit → Act → World → Prop} (hg : o.guard = none) (x : Operand) (ho : o.op = .slice 34 x none none none) (g : Nat) (hx : a.eval x = .pointer (some ⟨g, 0, none⟩))
    (h : wpList Try.prog ops Q rest (a.put o.dst (.slice (some ⟨g, 0, none⟩) 32 32)) w) : wpList Try.prog ops Q (o :: rest) a w := by
  obtain ⟨i0, hi0, hz0, hz1, hz2⟩ := info_byte
  have hr : (execOp a.eval o).run Try.prog w = .ok (.value (.slice (some ⟨g, 0, none⟩) 32 32)) w := by
    unfold execOp
    simp only [ho, hx, Option.map_none]
    simp [Instr.sliceAt, Instr.slice, Instr.sliceBounds, Sem.run_bind, run_underlying Try.underlying34, run_underlying Try.underlying22, sizeOf, typeInfo, hi0, hz1, Addr.add, go_sem]
  refine wpList_plain hg fun K hK => ?_
  unfold Oper.wp
  rw [hr, Oper.upon_value]
  exact hK _ _ h
theorem el_le_ofV {K : Nat} {l : List Nat} (h : ∀ x ∈ l, x < 2 ^ K) (i : Nat) : el l i ≤ 2 ^ K - 1 := by
  by_cases hi : i < l.length
  · rw [el_at hi]; have := h _ (List.getElem_mem hi); omega
  · unfold el; rw [List.getElem?_eq_none (by omega)]; exact Nat.zero_le _
section
variable {ops : Array Oper} {S : World → Prop}
theorem y_ixL {o : Oper} {a : Act} {x y : Operand} {t e : TypeId} {g f n c i : Nat} (hw : Region.wanted o (yielded ops a.tmps) = true) (ho : o.op = .indexAddr t x y) (hx : a.eval x = .slice (some ⟨g, f, none⟩) n c) (hy : a.eval y = .int .i64 (i : Int)) (hu : Try.prog.underlying t = some (.slice e)) (hs : (Try.prog.info? e).map (·.size) = some 1) (hi : i < n) : YieldsIf Try.prog ops S o (.pointer (some ⟨g, f + i, none⟩)) a := by
  have := y_indexG (ops := ops) (S := S) hw ho hx hy hu hs hi
  rw [Nat.mul_one] at this
  exact this
theorem y_ltU {o : Oper} {a : Act} {x y : Operand} {t t' : TypeId} {i j : Int} {b : Bool} (hw : Region.wanted o (yielded ops a.tmps) = true) (ho : o.op = .binOp .lss t x y t') (hx : a.eval x = .int .u32 i) (hy : a.eval y = .int .u32 j) (hb : decide (i < j) = b) : YieldsIf Try.prog ops S o (.bool b) a := by
  refine y_ofG hw fun w _ => ?_
  unfold execOp
  simp only [ho, hx, hy]
  simp [go_sem, ← hb]
theorem y_gtU {o : Oper} {a : Act} {x y : Operand} {t t' : TypeId} {i j : Int} {b : Bool} (hw : Region.wanted o (yielded ops a.tmps) = true) (ho : o.op = .binOp .gtr t x y t') (hx : a.eval x = .int .u32 i) (hy : a.eval y = .int .u32 j) (hb : decide (j < i) = b) : YieldsIf Try.prog ops S o (.bool b) a := by
  refine y_ofG hw fun w _ => ?_
  unfold execOp
  simp only [ho, hx, hy]
  simp [go_sem, ← hb]
theorem y_geU {o : Oper} {a : Act} {x y : Operand} {t t' : TypeId} {i j : Int} {b : Bool} (hw : Region.wanted o (yielded ops a.tmps) = true) (ho : o.op = .binOp .geq t x y t') (hx : a.eval x = .int .u32 i) (hy : a.eval y = .int .u32 j) (hb : decide (j ≤ i) = b) : YieldsIf Try.prog ops S o (.bool b) a := by
  refine y_ofG hw fun w _ => ?_
  unfold execOp
  simp only [ho, hx, hy]
  simp [go_sem, ← hb]
theorem y_shlL {o : Oper} {a : Act} {x y : Operand} {t t' : TypeId} {i q : Int} {s : Nat} (hw : Region.wanted o (yielded ops a.tmps) = true) (ho : o.op = .binOp .shl t x y t') (hx : a.eval x = .int .u32 i) (hy : a.eval y = .int .i64 (s : Int)) (hu : Try.prog.underlying t = some (.int .u32)) (hu' : Try.prog.underlying t' = some (.int .i64)) (hs : s < 32) (hb : IntKind.u32.wrap (i * 2 ^ s) = q) : YieldsIf Try.prog ops S o (.int .u32 q) a := by
  refine y_ofG hw fun w _ => ?_
  unfold execOp
  simp only [ho, hx, hy]
  simp [go_sem, hu, hu', hs, hb]
end
def ck10lt : List Lt := [(0, some 59, [12]), (1, some 60, [59]), (2, some 61, [8, 60]), (2, some 62, [14, 60]), (14, some 63, [61, 62, 60]), (18, some 64, [63, 60]), (2, some 65, [10, 60]), (2, some 66, [14, 60]), (194, some 67, [65, 66, 60]), (258, some 68, [67, 60]), (546, some 69, [64, 68, 60]), (1026, some 70, [60, 69]), (4095, some 12, [70])]
theorem ck10reg : Reg (opsA (cLA (cRA (cBA (cLA (cRA (cRA (cLpA (cBA (cRA (cLA (cRA (cRA (cRA (cRA (cRA (cRA (Try.f4.body.getD .skip)))))))))))))))))) ck10lt := ⟨by kernel_rfl, by kernel_rfl⟩
set_option maxHeartbeats 4000000 in
set_option maxRecDepth 100000 in
theorem ck10f {Q : Exit → Act → World → Prop} {x0 x1 x2 x3 x4 x5 x6 x7 x9 x11 x13 x15 x16 x17 x18 x19 x20 x21 x22 x23 x24 x25 x26 x27 x28 x29 x30 x31 x32 x33 x34 x35 x36 x37 x38 x39 x40 x41 x42 x43 x44 x45 x46 x47 x48 x49 x50 x51 x52 x53 x54 x55 x56 x57 x58 x59 x60 x61 x62 x63 x64 x65 x66 x67 x68 x69 x70 x71 x72 x73 x74 x75 x76 x77 x78 x79 x80 x81 x82 x83 x84 x85 x86 x87 x88 x89 x90 x91 x92 x93 x94 x95 x96 x97 x98 x99 x100 x101 x102 x103 x104 x105 : Value} {b1 f1 c1 b2 f2 c2 P i : Nat} {W : World} {u v : Nat} {p : Bool} (h1 : W.cell? ⟨b1, f1 + i, none⟩ = some (.int .u32 (u : Int))) (h2 : W.cell? ⟨b2, f2 + i, none⟩ = some (.int .u32 (v : Int))) (hp : decide ((u : Int) < (v : Int)) = p) (hi : i < P)
    (hQ : ∀ y59 y60 y61 y62 y63 y64 y65 y66 y67 y68 y69 y70 : Value, Q .normal { tmps := #[x0, x1, x2, x3, x4, x5, x6, x7, .slice (some ⟨b1, f1, none⟩) P c1, x9, .slice (some ⟨b2, f2, none⟩) P c2, x11, .bool p, x13, .int .i64 (i : Int), x15, x16, x17, x18, x19, x20, x21, x22, x23, x24, x25, x26, x27, x28, x29, x30, x31, x32, x33, x34, x35, x36, x37, x38, x39, x40, x41, x42, x43, x44, x45, x46, x47, x48, x49, x50, x51, x52, x53, x54, x55, x56, x57, x58, y59, y60, y61, y62, y63, y64, y65, y66, y67, y68, y69, y70, x71, x72, x73, x74, x75, x76, x77, x78, x79, x80, x81, x82, x83, x84, x85, x86, x87, x88, x89, x90, x91, x92, x93, x94, x95, x96, x97, x98, x99, x100, x101, x102, x103, x104, x105], defers := [] } W.drew) :
    (Code.region 10 (opsA (cLA (cRA (cBA (cLA (cRA (cRA (cLpA (cBA (cRA (cLA (cRA (cRA (cRA (cRA (cRA (cRA (Try.f4.body.getD .skip)))))))))))))))))) true).wp Try.prog Q { tmps := #[x0, x1, x2, x3, x4, x5, x6, x7, .slice (some ⟨b1, f1, none⟩) P c1, x9, .slice (some ⟨b2, f2, none⟩) P c2, x11, .bool false, x13, .int .i64 (i : Int), x15, x16, x17, x18, x19, x20, x21, x22, x23, x24, x25, x26, x27, x28, x29, x30, x31, x32, x33, x34, x35, x36, x37, x38, x39, x40, x41, x42, x43, x44, x45, x46, x47, x48, x49, x50, x51, x52, x53, x54, x55, x56, x57, x58, x59, x60, x61, x62, x63, x64, x65, x66, x67, x68, x69, x70, x71, x72, x73, x74, x75, x76, x77, x78, x79, x80, x81, x82, x83, x84, x85, x86, x87, x88, x89, x90, x91, x92, x93, x94, x95, x96, x97, x98, x99, x100, x101, x102, x103, x104, x105], defers := [] } W := by
  have hbd : Below W.heap.size W W.drew := (Below.refl _ _).drew
  refine at_begin (ops := opsA (cLA (cRA (cBA (cLA (cRA (cRA (cLpA (cBA (cRA (cLA (cRA (cRA (cRA (cRA (cRA (cRA (Try.f4.body.getD .skip)))))))))))))))))) (n := 13) (fun y => Below W.heap.size W y) (by kernel_rfl) (by kernel_rfl) ?_
  refine at_takeD (i := 0) (m' := 1) (d := some 59) (v := .bool false) ck10reg rfl (by decide) rfl rfl (y_moveG (wanted_free rfl) rfl rfl) hbd ?_
  simp only [Act.put, List.setIfInBounds_toArray, List.set_cons_zero, List.set_cons_succ]
  refine at_takeD (i := 1) (m' := 3) (d := some 60) (v := .bool false) ck10reg rfl (by decide) rfl rfl (y_moveG (wanted_free rfl) rfl rfl) hbd ?_
  simp only [Act.put, List.setIfInBounds_toArray, List.set_cons_zero, List.set_cons_succ]
  refine at_takeD (i := 2) (m' := 7) (d := some 61) (v := .slice (some ⟨b1, f1, none⟩) P c1) ck10reg rfl (by decide) rfl rfl (y_moveG (wanted_gG (j := 1) (d := 60) (b := false) rfl rfl rfl rfl) rfl rfl) hbd ?_
  simp only [Act.put, List.setIfInBounds_toArray, List.set_cons_zero, List.set_cons_succ]
  refine at_takeD (i := 3) (m' := 15) (d := some 62) (v := .int .i64 (i : Int)) ck10reg rfl (by decide) rfl rfl (y_moveG (wanted_gG (j := 1) (d := 60) (b := false) rfl rfl rfl rfl) rfl rfl) hbd ?_
  simp only [Act.put, List.setIfInBounds_toArray, List.set_cons_zero, List.set_cons_succ]
  refine at_takeD (i := 4) (m' := 31) (d := some 63) (v := .pointer (some ⟨b1, f1 + i, none⟩)) ck10reg rfl (by decide) rfl rfl (y_ixL (wanted_gG (j := 1) (d := 60) (b := false) rfl rfl rfl rfl) rfl rfl rfl Try.underlying25 (by kernel_rfl) hi) hbd ?_
  simp only [Act.put, List.setIfInBounds_toArray, List.set_cons_zero, List.set_cons_succ]
  refine at_takeD (i := 5) (m' := 63) (d := some 64) (v := .int .u32 (u : Int)) ck10reg rfl (by decide) rfl rfl (y_plainG (wanted_gG (j := 1) (d := 60) (b := false) rfl rfl rfl rfl) rfl rfl Try.underlying36 rfl (fun _ h => keep_cell h1 h)) hbd ?_
  simp only [Act.put, List.setIfInBounds_toArray, List.set_cons_zero, List.set_cons_succ]
  refine at_takeD (i := 6) (m' := 127) (d := some 65) (v := .slice (some ⟨b2, f2, none⟩) P c2) ck10reg rfl (by decide) rfl rfl (y_moveG (wanted_gG (j := 1) (d := 60) (b := false) rfl rfl rfl rfl) rfl rfl) hbd ?_
  simp only [Act.put, List.setIfInBounds_toArray, List.set_cons_zero, List.set_cons_succ]
  refine at_takeD (i := 7) (m' := 255) (d := some 66) (v := .int .i64 (i : Int)) ck10reg rfl (by decide) rfl rfl (y_moveG (wanted_gG (j := 1) (d := 60) (b := false) rfl rfl rfl rfl) rfl rfl) hbd ?_
  simp only [Act.put, List.setIfInBounds_toArray, List.set_cons_zero, List.set_cons_succ]
  refine at_takeD (i := 8) (m' := 511) (d := some 67) (v := .pointer (some ⟨b2, f2 + i, none⟩)) ck10reg rfl (by decide) rfl rfl (y_ixL (wanted_gG (j := 1) (d := 60) (b := false) rfl rfl rfl rfl) rfl rfl rfl Try.underlying25 (by kernel_rfl) hi) hbd ?_
  simp only [Act.put, List.setIfInBounds_toArray, List.set_cons_zero, List.set_cons_succ]
  refine at_takeD (i := 9) (m' := 1023) (d := some 68) (v := .int .u32 (v : Int)) ck10reg rfl (by decide) rfl rfl (y_plainG (wanted_gG (j := 1) (d := 60) (b := false) rfl rfl rfl rfl) rfl rfl Try.underlying36 rfl (fun _ h => keep_cell h2 h)) hbd ?_
  simp only [Act.put, List.setIfInBounds_toArray, List.set_cons_zero, List.set_cons_succ]
  refine at_takeD (i := 10) (m' := 2047) (d := some 69) (v := .bool p) ck10reg rfl (by decide) rfl rfl (y_ltU (wanted_gG (j := 1) (d := 60) (b := false) rfl rfl rfl rfl) rfl rfl rfl hp) hbd ?_
  simp only [Act.put, List.setIfInBounds_toArray, List.set_cons_zero, List.set_cons_succ]
  refine at_takeD (i := 11) (m' := 4095) (d := some 70) (v := .bool p) ck10reg rfl (by decide) rfl rfl (y_pickEG (wanted_free rfl) rfl rfl rfl) hbd ?_
  simp only [Act.put, List.setIfInBounds_toArray, List.set_cons_zero, List.set_cons_succ]
  refine at_takeD (i := 12) (m' := 8191) (d := some 12) (v := .bool p) ck10reg rfl (by decide) rfl rfl (y_assignG (wanted_free rfl) rfl rfl) hbd ?_
  simp only [Act.put, List.setIfInBounds_toArray, List.set_cons_zero, List.set_cons_succ]
  refine at_done ck10reg (by decide) ?_
  exact hQ _ _ _ _ _ _ _ _ _ _ _ _
set_option maxHeartbeats 4000000 in
set_option maxRecDepth 100000 in
theorem ck10t {Q : Exit → Act → World → Prop} {x0 x1 x2 x3 x4 x5 x6 x7 x9 x11 x13 x15 x16 x17 x18 x19 x20 x21 x22 x23 x24 x25 x26 x27 x28 x29 x30 x31 x32 x33 x34 x35 x36 x37 x38 x39 x40 x41 x42 x43 x44 x45 x46 x47 x48 x49 x50 x51 x52 x53 x54 x55 x56 x57 x58 x59 x60 x61 x62 x63 x64 x65 x66 x67 x68 x69 x70 x71 x72 x73 x74 x75 x76 x77 x78 x79 x80 x81 x82 x83 x84 x85 x86 x87 x88 x89 x90 x91 x92 x93 x94 x95 x96 x97 x98 x99 x100 x101 x102 x103 x104 x105 : Value} {b1 f1 c1 b2 f2 c2 P i : Nat} {W : World}  (hi : i < P)
    (hQ : ∀ y59 y60 y61 y62 y63 y64 y65 y66 y67 y68 y69 y70 : Value, Q .normal { tmps := #[x0, x1, x2, x3, x4, x5, x6, x7, .slice (some ⟨b1, f1, none⟩) P c1, x9, .slice (some ⟨b2, f2, none⟩) P c2, x11, .bool true, x13, .int .i64 (i : Int), x15, x16, x17, x18, x19, x20, x21, x22, x23, x24, x25, x26, x27, x28, x29, x30, x31, x32, x33, x34, x35, x36, x37, x38, x39, x40, x41, x42, x43, x44, x45, x46, x47, x48, x49, x50, x51, x52, x53, x54, x55, x56, x57, x58, y59, y60, y61, y62, y63, y64, y65, y66, y67, y68, y69, y70, x71, x72, x73, x74, x75, x76, x77, x78, x79, x80, x81, x82, x83, x84, x85, x86, x87, x88, x89, x90, x91, x92, x93, x94, x95, x96, x97, x98, x99, x100, x101, x102, x103, x104, x105], defers := [] } W.drew) :
    (Code.region 10 (opsA (cLA (cRA (cBA (cLA (cRA (cRA (cLpA (cBA (cRA (cLA (cRA (cRA (cRA (cRA (cRA (cRA (Try.f4.body.getD .skip)))))))))))))))))) true).wp Try.prog Q { tmps := #[x0, x1, x2, x3, x4, x5, x6, x7, .slice (some ⟨b1, f1, none⟩) P c1, x9, .slice (some ⟨b2, f2, none⟩) P c2, x11, .bool true, x13, .int .i64 (i : Int), x15, x16, x17, x18, x19, x20, x21, x22, x23, x24, x25, x26, x27, x28, x29, x30, x31, x32, x33, x34, x35, x36, x37, x38, x39, x40, x41, x42, x43, x44, x45, x46, x47, x48, x49, x50, x51, x52, x53, x54, x55, x56, x57, x58, x59, x60, x61, x62, x63, x64, x65, x66, x67, x68, x69, x70, x71, x72, x73, x74, x75, x76, x77, x78, x79, x80, x81, x82, x83, x84, x85, x86, x87, x88, x89, x90, x91, x92, x93, x94, x95, x96, x97, x98, x99, x100, x101, x102, x103, x104, x105], defers := [] } W := by
  have hbd : Below W.heap.size W W.drew := (Below.refl _ _).drew
  refine at_begin (ops := opsA (cLA (cRA (cBA (cLA (cRA (cRA (cLpA (cBA (cRA (cLA (cRA (cRA (cRA (cRA (cRA (cRA (Try.f4.body.getD .skip)))))))))))))))))) (n := 13) (fun y => Below W.heap.size W y) (by kernel_rfl) (by kernel_rfl) ?_
  refine at_takeD (i := 0) (m' := 1) (d := some 59) (v := .bool true) ck10reg rfl (by decide) rfl rfl (y_moveG (wanted_free rfl) rfl rfl) hbd ?_
  simp only [Act.put, List.setIfInBounds_toArray, List.set_cons_zero, List.set_cons_succ]
  refine at_takeD (i := 1) (m' := 3) (d := some 60) (v := .bool true) ck10reg rfl (by decide) rfl rfl (y_moveG (wanted_free rfl) rfl rfl) hbd ?_
  simp only [Act.put, List.setIfInBounds_toArray, List.set_cons_zero, List.set_cons_succ]
  refine at_takeD (i := 2) (m' := 7) (d := some 61) (v := undef) ck10reg rfl (by decide) rfl rfl (y_unG (wanted_nG (j := 1) (d := 60) (b := false) rfl rfl rfl rfl)) hbd ?_
  simp only [Act.put, List.setIfInBounds_toArray, List.set_cons_zero, List.set_cons_succ]
  refine at_takeD (i := 3) (m' := 15) (d := some 62) (v := undef) ck10reg rfl (by decide) rfl rfl (y_unG (wanted_nG (j := 1) (d := 60) (b := false) rfl rfl rfl rfl)) hbd ?_
  simp only [Act.put, List.setIfInBounds_toArray, List.set_cons_zero, List.set_cons_succ]
  refine at_takeD (i := 4) (m' := 31) (d := some 63) (v := undef) ck10reg rfl (by decide) rfl rfl (y_unG (wanted_nG (j := 1) (d := 60) (b := false) rfl rfl rfl rfl)) hbd ?_
  simp only [Act.put, List.setIfInBounds_toArray, List.set_cons_zero, List.set_cons_succ]
  refine at_takeD (i := 5) (m' := 63) (d := some 64) (v := undef) ck10reg rfl (by decide) rfl rfl (y_unG (wanted_nG (j := 1) (d := 60) (b := false) rfl rfl rfl rfl)) hbd ?_
  simp only [Act.put, List.setIfInBounds_toArray, List.set_cons_zero, List.set_cons_succ]
  refine at_takeD (i := 6) (m' := 127) (d := some 65) (v := undef) ck10reg rfl (by decide) rfl rfl (y_unG (wanted_nG (j := 1) (d := 60) (b := false) rfl rfl rfl rfl)) hbd ?_
  simp only [Act.put, List.setIfInBounds_toArray, List.set_cons_zero, List.set_cons_succ]
  refine at_takeD (i := 7) (m' := 255) (d := some 66) (v := undef) ck10reg rfl (by decide) rfl rfl (y_unG (wanted_nG (j := 1) (d := 60) (b := false) rfl rfl rfl rfl)) hbd ?_
  simp only [Act.put, List.setIfInBounds_toArray, List.set_cons_zero, List.set_cons_succ]
  refine at_takeD (i := 8) (m' := 511) (d := some 67) (v := undef) ck10reg rfl (by decide) rfl rfl (y_unG (wanted_nG (j := 1) (d := 60) (b := false) rfl rfl rfl rfl)) hbd ?_
  simp only [Act.put, List.setIfInBounds_toArray, List.set_cons_zero, List.set_cons_succ]
  refine at_takeD (i := 9) (m' := 1023) (d := some 68) (v := undef) ck10reg rfl (by decide) rfl rfl (y_unG (wanted_nG (j := 1) (d := 60) (b := false) rfl rfl rfl rfl)) hbd ?_
  simp only [Act.put, List.setIfInBounds_toArray, List.set_cons_zero, List.set_cons_succ]
  refine at_takeD (i := 10) (m' := 2047) (d := some 69) (v := undef) ck10reg rfl (by decide) rfl rfl (y_unG (wanted_nG (j := 1) (d := 60) (b := false) rfl rfl rfl rfl)) hbd ?_
  simp only [Act.put, List.setIfInBounds_toArray, List.set_cons_zero, List.set_cons_succ]
  refine at_takeD (i := 11) (m' := 4095) (d := some 70) (v := .bool true) ck10reg rfl (by decide) rfl rfl (y_pickTG (wanted_free rfl) rfl rfl rfl) hbd ?_
  simp only [Act.put, List.setIfInBounds_toArray, List.set_cons_zero, List.set_cons_succ]
  refine at_takeD (i := 12) (m' := 8191) (d := some 12) (v := .bool true) ck10reg rfl (by decide) rfl rfl (y_assignG (wanted_free rfl) rfl rfl) hbd ?_
  simp only [Act.put, List.setIfInBounds_toArray, List.set_cons_zero, List.set_cons_succ]
  refine at_done ck10reg (by decide) ?_
  exact hQ _ _ _ _ _ _ _ _ _ _ _ _
def ck11lt : List Lt := [(0, some 71, [13]), (1, some 72, [71]), (2, some 73, [8, 72]), (2, some 74, [14, 72]), (14, some 75, [73, 74, 72]), (18, some 76, [75, 72]), (2, some 77, [10, 72]), (2, some 78, [14, 72]), (194, some 79, [77, 78, 72]), (258, some 80, [79, 72]), (546, some 81, [76, 80, 72]), (1026, some 82, [72, 81]), (4095, some 13, [82])]
theorem ck11reg : Reg (opsA (cLA (cRA (cRA (cBA (cLA (cRA (cRA (cLpA (cBA (cRA (cLA (cRA (cRA (cRA (cRA (cRA (cRA (Try.f4.body.getD .skip))))))))))))))))))) ck11lt := ⟨by kernel_rfl, by kernel_rfl⟩
set_option maxHeartbeats 4000000 in
set_option maxRecDepth 100000 in
theorem ck11f {Q : Exit → Act → World → Prop} {x0 x1 x2 x3 x4 x5 x6 x7 x9 x11 x12 x15 x16 x17 x18 x19 x20 x21 x22 x23 x24 x25 x26 x27 x28 x29 x30 x31 x32 x33 x34 x35 x36 x37 x38 x39 x40 x41 x42 x43 x44 x45 x46 x47 x48 x49 x50 x51 x52 x53 x54 x55 x56 x57 x58 x59 x60 x61 x62 x63 x64 x65 x66 x67 x68 x69 x70 x71 x72 x73 x74 x75 x76 x77 x78 x79 x80 x81 x82 x83 x84 x85 x86 x87 x88 x89 x90 x91 x92 x93 x94 x95 x96 x97 x98 x99 x100 x101 x102 x103 x104 x105 : Value} {b1 f1 c1 b2 f2 c2 P i : Nat} {W : World} {u v : Nat} {p : Bool} (h1 : W.cell? ⟨b1, f1 + i, none⟩ = some (.int .u32 (u : Int))) (h2 : W.cell? ⟨b2, f2 + i, none⟩ = some (.int .u32 (v : Int))) (hp : decide ((v : Int) < (u : Int)) = p) (hi : i < P)
    (hQ : ∀ y71 y72 y73 y74 y75 y76 y77 y78 y79 y80 y81 y82 : Value, Q .normal { tmps := #[x0, x1, x2, x3, x4, x5, x6, x7, .slice (some ⟨b1, f1, none⟩) P c1, x9, .slice (some ⟨b2, f2, none⟩) P c2, x11, x12, .bool p, .int .i64 (i : Int), x15, x16, x17, x18, x19, x20, x21, x22, x23, x24, x25, x26, x27, x28, x29, x30, x31, x32, x33, x34, x35, x36, x37, x38, x39, x40, x41, x42, x43, x44, x45, x46, x47, x48, x49, x50, x51, x52, x53, x54, x55, x56, x57, x58, x59, x60, x61, x62, x63, x64, x65, x66, x67, x68, x69, x70, y71, y72, y73, y74, y75, y76, y77, y78, y79, y80, y81, y82, x83, x84, x85, x86, x87, x88, x89, x90, x91, x92, x93, x94, x95, x96, x97, x98, x99, x100, x101, x102, x103, x104, x105], defers := [] } W.drew) :
    (Code.region 11 (opsA (cLA (cRA (cRA (cBA (cLA (cRA (cRA (cLpA (cBA (cRA (cLA (cRA (cRA (cRA (cRA (cRA (cRA (Try.f4.body.getD .skip))))))))))))))))))) true).wp Try.prog Q { tmps := #[x0, x1, x2, x3, x4, x5, x6, x7, .slice (some ⟨b1, f1, none⟩) P c1, x9, .slice (some ⟨b2, f2, none⟩) P c2, x11, x12, .bool false, .int .i64 (i : Int), x15, x16, x17, x18, x19, x20, x21, x22, x23, x24, x25, x26, x27, x28, x29, x30, x31, x32, x33, x34, x35, x36, x37, x38, x39, x40, x41, x42, x43, x44, x45, x46, x47, x48, x49, x50, x51, x52, x53, x54, x55, x56, x57, x58, x59, x60, x61, x62, x63, x64, x65, x66, x67, x68, x69, x70, x71, x72, x73, x74, x75, x76, x77, x78, x79, x80, x81, x82, x83, x84, x85, x86, x87, x88, x89, x90, x91, x92, x93, x94, x95, x96, x97, x98, x99, x100, x101, x102, x103, x104, x105], defers := [] } W := by
  have hbd : Below W.heap.size W W.drew := (Below.refl _ _).drew
  refine at_begin (ops := opsA (cLA (cRA (cRA (cBA (cLA (cRA (cRA (cLpA (cBA (cRA (cLA (cRA (cRA (cRA (cRA (cRA (cRA (Try.f4.body.getD .skip))))))))))))))))))) (n := 13) (fun y => Below W.heap.size W y) (by kernel_rfl) (by kernel_rfl) ?_
  refine at_takeD (i := 0) (m' := 1) (d := some 71) (v := .bool false) ck11reg rfl (by decide) rfl rfl (y_moveG (wanted_free rfl) rfl rfl) hbd ?_
  simp only [Act.put, List.setIfInBounds_toArray, List.set_cons_zero, List.set_cons_succ]
  refine at_takeD (i := 1) (m' := 3) (d := some 72) (v := .bool false) ck11reg rfl (by decide) rfl rfl (y_moveG (wanted_free rfl) rfl rfl) hbd ?_
  simp only [Act.put, List.setIfInBounds_toArray, List.set_cons_zero, List.set_cons_succ]
  refine at_takeD (i := 2) (m' := 7) (d := some 73) (v := .slice (some ⟨b1, f1, none⟩) P c1) ck11reg rfl (by decide) rfl rfl (y_moveG (wanted_gG (j := 1) (d := 72) (b := false) rfl rfl rfl rfl) rfl rfl) hbd ?_
  simp only [Act.put, List.setIfInBounds_toArray, List.set_cons_zero, List.set_cons_succ]
  refine at_takeD (i := 3) (m' := 15) (d := some 74) (v := .int .i64 (i : Int)) ck11reg rfl (by decide) rfl rfl (y_moveG (wanted_gG (j := 1) (d := 72) (b := false) rfl rfl rfl rfl) rfl rfl) hbd ?_
  simp only [Act.put, List.setIfInBounds_toArray, List.set_cons_zero, List.set_cons_succ]
  refine at_takeD (i := 4) (m' := 31) (d := some 75) (v := .pointer (some ⟨b1, f1 + i, none⟩)) ck11reg rfl (by decide) rfl rfl (y_ixL (wanted_gG (j := 1) (d := 72) (b := false) rfl rfl rfl rfl) rfl rfl rfl Try.underlying25 (by kernel_rfl) hi) hbd ?_
  simp only [Act.put, List.setIfInBounds_toArray, List.set_cons_zero, List.set_cons_succ]
  refine at_takeD (i := 5) (m' := 63) (d := some 76) (v := .int .u32 (u : Int)) ck11reg rfl (by decide) rfl rfl (y_plainG (wanted_gG (j := 1) (d := 72) (b := false) rfl rfl rfl rfl) rfl rfl Try.underlying36 rfl (fun _ h => keep_cell h1 h)) hbd ?_
  simp only [Act.put, List.setIfInBounds_toArray, List.set_cons_zero, List.set_cons_succ]
  refine at_takeD (i := 6) (m' := 127) (d := some 77) (v := .slice (some ⟨b2, f2, none⟩) P c2) ck11reg rfl (by decide) rfl rfl (y_moveG (wanted_gG (j := 1) (d := 72) (b := false) rfl rfl rfl rfl) rfl rfl) hbd ?_
  simp only [Act.put, List.setIfInBounds_toArray, List.set_cons_zero, List.set_cons_succ]
  refine at_takeD (i := 7) (m' := 255) (d := some 78) (v := .int .i64 (i : Int)) ck11reg rfl (by decide) rfl rfl (y_moveG (wanted_gG (j := 1) (d := 72) (b := false) rfl rfl rfl rfl) rfl rfl) hbd ?_
  simp only [Act.put, List.setIfInBounds_toArray, List.set_cons_zero, List.set_cons_succ]
  refine at_takeD (i := 8) (m' := 511) (d := some 79) (v := .pointer (some ⟨b2, f2 + i, none⟩)) ck11reg rfl (by decide) rfl rfl (y_ixL (wanted_gG (j := 1) (d := 72) (b := false) rfl rfl rfl rfl) rfl rfl rfl Try.underlying25 (by kernel_rfl) hi) hbd ?_
  simp only [Act.put, List.setIfInBounds_toArray, List.set_cons_zero, List.set_cons_succ]
  refine at_takeD (i := 9) (m' := 1023) (d := some 80) (v := .int .u32 (v : Int)) ck11reg rfl (by decide) rfl rfl (y_plainG (wanted_gG (j := 1) (d := 72) (b := false) rfl rfl rfl rfl) rfl rfl Try.underlying36 rfl (fun _ h => keep_cell h2 h)) hbd ?_
  simp only [Act.put, List.setIfInBounds_toArray, List.set_cons_zero, List.set_cons_succ]
  refine at_takeD (i := 10) (m' := 2047) (d := some 81) (v := .bool p) ck11reg rfl (by decide) rfl rfl (y_gtU (wanted_gG (j := 1) (d := 72) (b := false) rfl rfl rfl rfl) rfl rfl rfl hp) hbd ?_
  simp only [Act.put, List.setIfInBounds_toArray, List.set_cons_zero, List.set_cons_succ]
  refine at_takeD (i := 11) (m' := 4095) (d := some 82) (v := .bool p) ck11reg rfl (by decide) rfl rfl (y_pickEG (wanted_free rfl) rfl rfl rfl) hbd ?_
  simp only [Act.put, List.setIfInBounds_toArray, List.set_cons_zero, List.set_cons_succ]
  refine at_takeD (i := 12) (m' := 8191) (d := some 13) (v := .bool p) ck11reg rfl (by decide) rfl rfl (y_assignG (wanted_free rfl) rfl rfl) hbd ?_
  simp only [Act.put, List.setIfInBounds_toArray, List.set_cons_zero, List.set_cons_succ]
  refine at_done ck11reg (by decide) ?_
  exact hQ _ _ _ _ _ _ _ _ _ _ _ _
set_option maxHeartbeats 4000000 in
set_option maxRecDepth 100000 in
theorem ck11t {Q : Exit → Act → World → Prop} {x0 x1 x2 x3 x4 x5 x6 x7 x9 x11 x12 x15 x16 x17 x18 x19 x20 x21 x22 x23 x24 x25 x26 x27 x28 x29 x30 x31 x32 x33 x34 x35 x36 x37 x38 x39 x40 x41 x42 x43 x44 x45 x46 x47 x48 x49 x50 x51 x52 x53 x54 x55 x56 x57 x58 x59 x60 x61 x62 x63 x64 x65 x66 x67 x68 x69 x70 x71 x72 x73 x74 x75 x76 x77 x78 x79 x80 x81 x82 x83 x84 x85 x86 x87 x88 x89 x90 x91 x92 x93 x94 x95 x96 x97 x98 x99 x100 x101 x102 x103 x104 x105 : Value} {b1 f1 c1 b2 f2 c2 P i : Nat} {W : World}  (hi : i < P)
    (hQ : ∀ y71 y72 y73 y74 y75 y76 y77 y78 y79 y80 y81 y82 : Value, Q .normal { tmps := #[x0, x1, x2, x3, x4, x5, x6, x7, .slice (some ⟨b1, f1, none⟩) P c1, x9, .slice (some ⟨b2, f2, none⟩) P c2, x11, x12, .bool true, .int .i64 (i : Int), x15, x16, x17, x18, x19, x20, x21, x22, x23, x24, x25, x26, x27, x28, x29, x30, x31, x32, x33, x34, x35, x36, x37, x38, x39, x40, x41, x42, x43, x44, x45, x46, x47, x48, x49, x50, x51, x52, x53, x54, x55, x56, x57, x58, x59, x60, x61, x62, x63, x64, x65, x66, x67, x68, x69, x70, y71, y72, y73, y74, y75, y76, y77, y78, y79, y80, y81, y82, x83, x84, x85, x86, x87, x88, x89, x90, x91, x92, x93, x94, x95, x96, x97, x98, x99, x100, x101, x102, x103, x104, x105], defers := [] } W.drew) :
    (Code.region 11 (opsA (cLA (cRA (cRA (cBA (cLA (cRA (cRA (cLpA (cBA (cRA (cLA (cRA (cRA (cRA (cRA (cRA (cRA (Try.f4.body.getD .skip))))))))))))))))))) true).wp Try.prog Q { tmps := #[x0, x1, x2, x3, x4, x5, x6, x7, .slice (some ⟨b1, f1, none⟩) P c1, x9, .slice (some ⟨b2, f2, none⟩) P c2, x11, x12, .bool true, .int .i64 (i : Int), x15, x16, x17, x18, x19, x20, x21, x22, x23, x24, x25, x26, x27, x28, x29, x30, x31, x32, x33, x34, x35, x36, x37, x38, x39, x40, x41, x42, x43, x44, x45, x46, x47, x48, x49, x50, x51, x52, x53, x54, x55, x56, x57, x58, x59, x60, x61, x62, x63, x64, x65, x66, x67, x68, x69, x70, x71, x72, x73, x74, x75, x76, x77, x78, x79, x80, x81, x82, x83, x84, x85, x86, x87, x88, x89, x90, x91, x92, x93, x94, x95, x96, x97, x98, x99, x100, x101, x102, x103, x104, x105], defers := [] } W := by
  have hbd : Below W.heap.size W W.drew := (Below.refl _ _).drew
  refine at_begin (ops := opsA (cLA (cRA (cRA (cBA (cLA (cRA (cRA (cLpA (cBA (cRA (cLA (cRA (cRA (cRA (cRA (cRA (cRA (Try.f4.body.getD .skip))))))))))))))))))) (n := 13) (fun y => Below W.heap.size W y) (by kernel_rfl) (by kernel_rfl) ?_
  refine at_takeD (i := 0) (m' := 1) (d := some 71) (v := .bool true) ck11reg rfl (by decide) rfl rfl (y_moveG (wanted_free rfl) rfl rfl) hbd ?_
  simp only [Act.put, List.setIfInBounds_toArray, List.set_cons_zero, List.set_cons_succ]
  refine at_takeD (i := 1) (m' := 3) (d := some 72) (v := .bool true) ck11reg rfl (by decide) rfl rfl (y_moveG (wanted_free rfl) rfl rfl) hbd ?_
  simp only [Act.put, List.setIfInBounds_toArray, List.set_cons_zero, List.set_cons_succ]
  refine at_takeD (i := 2) (m' := 7) (d := some 73) (v := undef) ck11reg rfl (by decide) rfl rfl (y_unG (wanted_nG (j := 1) (d := 72) (b := false) rfl rfl rfl rfl)) hbd ?_
  simp only [Act.put, List.setIfInBounds_toArray, List.set_cons_zero, List.set_cons_succ]
  refine at_takeD (i := 3) (m' := 15) (d := some 74) (v := undef) ck11reg rfl (by decide) rfl rfl (y_unG (wanted_nG (j := 1) (d := 72) (b := false) rfl rfl rfl rfl)) hbd ?_
  simp only [Act.put, List.setIfInBounds_toArray, List.set_cons_zero, List.set_cons_succ]
  refine at_takeD (i := 4) (m' := 31) (d := some 75) (v := undef) ck11reg rfl (by decide) rfl rfl (y_unG (wanted_nG (j := 1) (d := 72) (b := false) rfl rfl rfl rfl)) hbd ?_
  simp only [Act.put, List.setIfInBounds_toArray, List.set_cons_zero, List.set_cons_succ]
  refine at_takeD (i := 5) (m' := 63) (d := some 76) (v := undef) ck11reg rfl (by decide) rfl rfl (y_unG (wanted_nG (j := 1) (d := 72) (b := false) rfl rfl rfl rfl)) hbd ?_
  simp only [Act.put, List.setIfInBounds_toArray, List.set_cons_zero, List.set_cons_succ]
  refine at_takeD (i := 6) (m' := 127) (d := some 77) (v := undef) ck11reg rfl (by decide) rfl rfl (y_unG (wanted_nG (j := 1) (d := 72) (b := false) rfl rfl rfl rfl)) hbd ?_
  simp only [Act.put, List.setIfInBounds_toArray, List.set_cons_zero, List.set_cons_succ]
  refine at_takeD (i := 7) (m' := 255) (d := some 78) (v := undef) ck11reg rfl (by decide) rfl rfl (y_unG (wanted_nG (j := 1) (d := 72) (b := false) rfl rfl rfl rfl)) hbd ?_
  simp only [Act.put, List.setIfInBounds_toArray, List.set_cons_zero, List.set_cons_succ]
  refine at_takeD (i := 8) (m' := 511) (d := some 79) (v := undef) ck11reg rfl (by decide) rfl rfl (y_unG (wanted_nG (j := 1) (d := 72) (b := false) rfl rfl rfl rfl)) hbd ?_
  simp only [Act.put, List.setIfInBounds_toArray, List.set_cons_zero, List.set_cons_succ]
  refine at_takeD (i := 9) (m' := 1023) (d := some 80) (v := undef) ck11reg rfl (by decide) rfl rfl (y_unG (wanted_nG (j := 1) (d := 72) (b := false) rfl rfl rfl rfl)) hbd ?_
  simp only [Act.put, List.setIfInBounds_toArray, List.set_cons_zero, List.set_cons_succ]
  refine at_takeD (i := 10) (m' := 2047) (d := some 81) (v := undef) ck11reg rfl (by decide) rfl rfl (y_unG (wanted_nG (j := 1) (d := 72) (b := false) rfl rfl rfl rfl)) hbd ?_
  simp only [Act.put, List.setIfInBounds_toArray, List.set_cons_zero, List.set_cons_succ]
  refine at_takeD (i := 11) (m' := 4095) (d := some 82) (v := .bool true) ck11reg rfl (by decide) rfl rfl (y_pickTG (wanted_free rfl) rfl rfl rfl) hbd ?_
  simp only [Act.put, List.setIfInBounds_toArray, List.set_cons_zero, List.set_cons_succ]
  refine at_takeD (i := 12) (m' := 8191) (d := some 13) (v := .bool true) ck11reg rfl (by decide) rfl rfl (y_assignG (wanted_free rfl) rfl rfl) hbd ?_
  simp only [Act.put, List.setIfInBounds_toArray, List.set_cons_zero, List.set_cons_succ]
  refine at_done ck11reg (by decide) ?_
  exact hQ _ _ _ _ _ _ _ _ _ _ _ _
def ck12lt : List Lt := [(0, some 83, [8]), (0, some 84, [14]), (3, some 85, [83, 84]), (4, some 86, [85]), (0, some 87, [7]), (16, some 88, [87]), (40, some 89, [86, 88])]
theorem ck12reg : Reg (opsA (cLA (cRA (cRA (cRA (cBA (cLA (cRA (cRA (cLpA (cBA (cRA (cLA (cRA (cRA (cRA (cRA (cRA (cRA (Try.f4.body.getD .skip)))))))))))))))))))) ck12lt := ⟨by kernel_rfl, by kernel_rfl⟩
set_option maxHeartbeats 4000000 in
set_option maxRecDepth 100000 in
theorem ck12 {Q : Exit → Act → World → Prop} {x0 x1 x2 x3 x4 x5 x6 x9 x11 x12 x13 x15 x16 x17 x18 x19 x20 x21 x22 x23 x24 x25 x26 x27 x28 x29 x30 x31 x32 x33 x34 x35 x36 x37 x38 x39 x40 x41 x42 x43 x44 x45 x46 x47 x48 x49 x50 x51 x52 x53 x54 x55 x56 x57 x58 x59 x60 x61 x62 x63 x64 x65 x66 x67 x68 x69 x70 x71 x72 x73 x74 x75 x76 x77 x78 x79 x80 x81 x82 x83 x84 x85 x86 x87 x88 x89 x90 x91 x92 x93 x94 x95 x96 x97 x98 x99 x100 x101 x102 x103 x104 x105 : Value} {b1 f1 c1 b2 f2 c2 P i : Nat} {W : World} {k M u : Nat} {kI : Int} (hkI : kI = (k : Int)) (h1 : W.cell? ⟨b1, f1 + i, none⟩ = some (.int .u32 (u : Int))) (hk : k < 32) (hM : IntKind.u32.wrap (1 * 2 ^ k) = (M : Int)) (hp : decide ((M : Int) ≤ (u : Int)) = false) (hi : i < P)
    (hQ : ∀ y83 y84 y85 y86 y87 y88 : Value, Q .normal { tmps := #[x0, x1, x2, x3, x4, x5, x6, .int .i64 kI, .slice (some ⟨b1, f1, none⟩) P c1, x9, .slice (some ⟨b2, f2, none⟩) P c2, x11, x12, x13, .int .i64 (i : Int), x15, x16, x17, x18, x19, x20, x21, x22, x23, x24, x25, x26, x27, x28, x29, x30, x31, x32, x33, x34, x35, x36, x37, x38, x39, x40, x41, x42, x43, x44, x45, x46, x47, x48, x49, x50, x51, x52, x53, x54, x55, x56, x57, x58, x59, x60, x61, x62, x63, x64, x65, x66, x67, x68, x69, x70, x71, x72, x73, x74, x75, x76, x77, x78, x79, x80, x81, x82, y83, y84, y85, y86, y87, y88, .bool false, x90, x91, x92, x93, x94, x95, x96, x97, x98, x99, x100, x101, x102, x103, x104, x105], defers := [] } W.drew) :
    (Code.region 12 (opsA (cLA (cRA (cRA (cRA (cBA (cLA (cRA (cRA (cLpA (cBA (cRA (cLA (cRA (cRA (cRA (cRA (cRA (cRA (Try.f4.body.getD .skip)))))))))))))))))))) true).wp Try.prog Q { tmps := #[x0, x1, x2, x3, x4, x5, x6, .int .i64 kI, .slice (some ⟨b1, f1, none⟩) P c1, x9, .slice (some ⟨b2, f2, none⟩) P c2, x11, x12, x13, .int .i64 (i : Int), x15, x16, x17, x18, x19, x20, x21, x22, x23, x24, x25, x26, x27, x28, x29, x30, x31, x32, x33, x34, x35, x36, x37, x38, x39, x40, x41, x42, x43, x44, x45, x46, x47, x48, x49, x50, x51, x52, x53, x54, x55, x56, x57, x58, x59, x60, x61, x62, x63, x64, x65, x66, x67, x68, x69, x70, x71, x72, x73, x74, x75, x76, x77, x78, x79, x80, x81, x82, x83, x84, x85, x86, x87, x88, x89, x90, x91, x92, x93, x94, x95, x96, x97, x98, x99, x100, x101, x102, x103, x104, x105], defers := [] } W := by
  have hbd : Below W.heap.size W W.drew := (Below.refl _ _).drew
  refine at_begin (ops := opsA (cLA (cRA (cRA (cRA (cBA (cLA (cRA (cRA (cLpA (cBA (cRA (cLA (cRA (cRA (cRA (cRA (cRA (cRA (Try.f4.body.getD .skip)))))))))))))))))))) (n := 7) (fun y => Below W.heap.size W y) (by kernel_rfl) (by kernel_rfl) ?_
  refine at_takeD (i := 0) (m' := 1) (d := some 83) (v := .slice (some ⟨b1, f1, none⟩) P c1) ck12reg rfl (by decide) rfl rfl (y_moveG (wanted_free rfl) rfl rfl) hbd ?_
  simp only [Act.put, List.setIfInBounds_toArray, List.set_cons_zero, List.set_cons_succ]
  refine at_takeD (i := 1) (m' := 3) (d := some 84) (v := .int .i64 (i : Int)) ck12reg rfl (by decide) rfl rfl (y_moveG (wanted_free rfl) rfl rfl) hbd ?_
  simp only [Act.put, List.setIfInBounds_toArray, List.set_cons_zero, List.set_cons_succ]
  refine at_takeD (i := 2) (m' := 7) (d := some 85) (v := .pointer (some ⟨b1, f1 + i, none⟩)) ck12reg rfl (by decide) rfl rfl (y_ixL (wanted_free rfl) rfl rfl rfl Try.underlying25 (by kernel_rfl) hi) hbd ?_
  simp only [Act.put, List.setIfInBounds_toArray, List.set_cons_zero, List.set_cons_succ]
  refine at_takeD (i := 3) (m' := 15) (d := some 86) (v := .int .u32 (u : Int)) ck12reg rfl (by decide) rfl rfl (y_plainG (wanted_free rfl) rfl rfl Try.underlying36 rfl (fun _ h => keep_cell h1 h)) hbd ?_
  simp only [Act.put, List.setIfInBounds_toArray, List.set_cons_zero, List.set_cons_succ]
  refine at_takeD (i := 4) (m' := 31) (d := some 87) (v := .int .i64 kI) ck12reg rfl (by decide) rfl rfl (y_moveG (wanted_free rfl) rfl rfl) hbd ?_
  simp only [Act.put, List.setIfInBounds_toArray, List.set_cons_zero, List.set_cons_succ]
  refine at_takeD (i := 5) (m' := 63) (d := some 88) (v := .int .u32 (M : Int)) ck12reg rfl (by decide) rfl rfl (y_shlL (wanted_free rfl) rfl rfl (congrArg (Value.int .i64) hkI) Try.underlying36 Try.underlying3 hk hM) hbd ?_
  simp only [Act.put, List.setIfInBounds_toArray, List.set_cons_zero, List.set_cons_succ]
  refine at_takeD (i := 6) (m' := 127) (d := some 89) (v := .bool false) ck12reg rfl (by decide) rfl rfl (y_geU (wanted_free rfl) rfl rfl rfl hp) hbd ?_
  simp only [Act.put, List.setIfInBounds_toArray, List.set_cons_zero, List.set_cons_succ]
  refine at_done ck12reg (by decide) ?_
  exact hQ _ _ _ _ _ _

theorem wpList_load_rowW {ops : Array Oper} {rest : List Oper} {o : Oper} {a : Act} {w : World} {Q : Exit → Act → World → Prop} (hw : Region.wanted o (yielded ops a.tmps) = true) (ty : TypeId) (x : Operand) (ho : o.op = .load ty x)
    (g : Nat) (hx : a.eval x = .pointer (some ⟨g, 0, none⟩)) (t : TypeId) (cs : Array Value) (fr : Nat × Nat) (n : Nat) (e : TypeId) (hg : w.heap[g]? = some (.cells cs t fr))
    (hu : Try.prog.underlying ty = some (.array n e)) (hi : (Try.prog.info? ty).map (·.size) = some cs.size)
    (h : wpList Try.prog ops Q rest (a.put o.dst (.agg cs)) w) : wpList Try.prog ops Q (o :: rest) a w :=
  BigFrame.wpList_want hw fun _ hK => wp_load_row ty x ho g hx t cs fr (.array n e) hg hu rfl hi (hK _ _ h)
/-- where the loop over the digits stands -/
def CkL (w5 : World) (P : Nat) (X Y : List Nat) (vl vm vi : Value) (wr : World) : Prop := ∃ i : Nat, i ≤ P ∧ vi = .int .i64 (i : Int) ∧ vl = .bool (ltB X Y i) ∧ vm = .bool (ltB Y X i) ∧ Below w5.heap.size w5 wr
set_option maxHeartbeats 8000000 in
set_option maxRecDepth 100000 in
theorem chk_1 (kd : Nat) (a b : List Nat) (w : World) (hkd : kd < 256) (hr : kd % 4 = 0) (ha : a.length = 32) (hb : b.length = 32) (ua : Under 256 a) (ub : Under 256 b) :
    Calls Try.prog 4 #[.int .u8 (kd : Int), .agg (arr .u8 a), .agg (arr .u8 b)] w fun e w' => e = .returned (.bool true) ∧ Below w.heap.size w w' := by
  obtain ⟨rA, rB, hW, bA, bB, hWs⟩ := box2L_all w ha hb ua ub
  have tA : Tidy (.slice (some ⟨w.heap.size, 0, none⟩) 32 32) := fun n c e => by cases e
  have tB : Tidy (.slice (some ⟨w.heap.size + 1, 0, none⟩) 32 32) := fun n c e => by cases e
  have hx := fun y (h : Below (box2L w a b).heap.size (box2L w a b) y) => cdig_ok Kd.k1 (P := 265) rfl a _ y (rA.below h) tA ha
  have hy := fun y (h : Below (box2L w a b).heap.size (box2L w a b) y) => cdig_ok Kd.k1 (P := 265) rfl b _ y (rB.below h) tB hb
  have hz : ∀ y, Calls Try.prog 10 #[.int .i64 1] y fun e w' => e = .returned (.int .i64 8516) ∧ Below y.heap.size y w' := fun y => csize_ok Kd.k1 (P := 265) rfl y
  have e_r : (kd : Int).tmod 4 = 0 := by rw [Int.tmod_eq_emod_of_nonneg (by omega)]; omega
  have hcell : ∀ y : World, (y.alloc (.cells #[.int .i64 1, .int .i64 2, .int .i64 4, .int .i64 8] 3)).cell? ⟨y.heap.size, 0, none⟩ = some (.int .i64 1) := fun y => cell_row0 _ _ _ _ _ rfl
  have hcW := hcell (box2L w a b)
  rw [hWs] at hcW
  obtain ⟨X, hX⟩ : ∃ X, X = digsL 1 256 9 7 a := ⟨_, rfl⟩
  obtain ⟨Y, hY⟩ : ∃ Y, Y = digsL 1 256 9 7 b := ⟨_, rfl⟩
  rw [← hX] at hx
  rw [← hY] at hy
  have hXl : X.length = 265 := by rw [hX]; exact digs_len a
  have hYl : Y.length = 265 := by rw [hY]; exact digs_len b
  have hXb : ∀ i, el X i < 2 := fun i => by
    have := el_le_ofV (K := 1) (l := X) (by rw [hX]; exact digs_lt a) i
    omega
  obtain ⟨ne, hne⟩ : ∃ q : Bool, q = decide (a = b) := ⟨_, rfl⟩
  have heq : ∀ w, (Op.equalIn 10000 34 (.agg (arr .u8 a)) (.agg (arr .u8 b))).run Try.prog w = .ok ne w := fun w => by
    obtain ⟨i0, hi0, _⟩ := info_byte
    rw [hne]
    exact run_equal32 w 34 5 .u8 i0 Try.underlying34 hi0 (by kernel_rfl) Try.underlying5 a b ha hb
  have hL : ltB X Y 265 = !ne := by
    rw [hne, hX, hY]
    by_cases h : a = b
    · subst h; rw [ltB_self]; simp
    · rw [ltB_unlike kind_1 ha hb ua ub h rfl]; simp [h]
  have hM : ltB Y X 265 = !ne := by
    rw [hne, hX, hY]
    by_cases h : a = b
    · subst h; rw [ltB_self]; simp
    · rw [ltB_unlike kind_1 hb ha ub ua (fun e => h e.symm) rfl]; simp [h]
  have HQ := hide (And.intro hL (And.intro hM (And.intro hW (And.intro bA bB))))
  have HX := hide (And.intro hXl (And.intro hYl hXb))
  have hAs : (arr .u8 a).size = 32 := by rw [arr_size, ha]
  have hBs : (arr .u8 b).size = 32 := by rw [arr_size, hb]
  clear hL hM hW bA bB hX hY hXl hYl hXb hne rA rB tA tB ha hb ua ub hr hcell
  go_enter Try.func4, Try.ntmps4
  go_wp2_with (first
    | (refine wpList_arr32 rfl _ (by rfl) _ (by rfl) ?_)
    | (go_at_call 7; have hu := hx; clear hx; refine (hu _ (keep_alloc _ _)).mono ?_; rintro e x1 ⟨v1, rfl, o1, g1⟩; obtain ⟨a1, c1, rfl, _, _, ho1⟩ := o1.row.opens HX.out.1)
    | (go_at_call 7; refine (hy _ (keep_trans (keep_alloc _ _) g1)).mono ?_; rintro e x2 ⟨v2, rfl, o2, g2⟩; obtain ⟨a2, c2, rfl, _, _, ho2⟩ := o2.row.opens HX.out.2.1)
    | (go_at_call 10; refine (hz _).mono ?_; rintro e x3 ⟨rfl, g3⟩)
    | fail)
  obtain ⟨b1, f1, rfl, hc1⟩ := ho1 (by decide)
  obtain ⟨b2, f2, rfl, hc2⟩ := ho2 (by decide)
  have gW : Below (box2L w a b).heap.size (box2L w a b) x3 := keep_trans (keep_trans (keep_trans (keep_alloc _ _) g1) g2) g3
  have q1 : ∀ i, i < 265 → x3.cell? ⟨b1, f1 + i, none⟩ = some (.int .u32 ((el X i : Nat) : Int)) := fun i h => keep_cell (hc1 i h) (keep_trans g2 g3)
  have q2 : ∀ i, i < 265 → x3.cell? ⟨b2, f2 + i, none⟩ = some (.int .u32 ((el Y i : Nat) : Int)) := fun i h => keep_cell (hc2 i h) g3
  have HG := hide (And.intro q1 (And.intro q2 gW))
  clear q1 q2 gW hc1 hc2 ho1 ho2 o1 o2 g1 g2 g3 hu hy hz hcW
  go_loopw [12, 13, 56] (fun vl vm vi wr => CkL x3 265 X Y vl vm vi wr) (fun _ _ vi _ => 265 - (intOf vi).toNat)
  case atStart => exact ⟨0, by decide, rfl, rfl, rfl, Below.refl _ _⟩
  case round =>
    obtain ⟨i, hi, rfl, rfl, rfl, hbr⟩ := hrel
    rename World => wr
    by_cases hlt : i < 265
    · have hii : (i : Int) < 265 := by omega
      have z_i : (0 : Int) ≤ (i : Int) := Int.natCast_nonneg _
      obtain ⟨I, hI⟩ : ∃ I : Nat, I = i + 1 := ⟨_, rfl⟩
      have e_I : (i : Int) + 1 = (I : Int) := by omega
      have s_I : IntKind.i64.wrap (I : Int) = (I : Int) := by rw [IntKind.wrap_i64]; omega
      have ci1 := keep_cell (HG.out.1 i hlt) hbr
      have ci2 := keep_cell (HG.out.2.1 i hlt) hbr
      have hub := HX.out.2.2 i
      have hl1 : ltB X Y (i + 1) = (ltB X Y i || decide (el X i < el Y i)) := rfl
      have hl2 : ltB Y X (i + 1) = (ltB Y X i || decide (el Y i < el X i)) := rfl
      generalize ltB X Y i = L at *
      generalize ltB Y X i = M at *
      generalize el X i = u at *
      generalize el Y i = v at *
      obtain ⟨p, hp⟩ : ∃ p : Bool, p = decide (u < v) := ⟨_, rfl⟩
      obtain ⟨r, hr⟩ : ∃ r : Bool, r = decide (v < u) := ⟨_, rfl⟩
      have d1 : decide ((u : Int) < (v : Int)) = p := by rw [hp]; exact decide_eq_decide.2 (by omega)
      have d2 : decide ((v : Int) < (u : Int)) = r := by rw [hr]; exact decide_eq_decide.2 (by omega)
      have d3 : decide (((2 : Nat) : Int) ≤ (u : Int)) = false := decide_eq_false (by omega)
      have d4 : IntKind.u32.wrap (1 * 2 ^ 1) = ((2 : Nat) : Int) := by decide
      have hiP := hlt
      rw [← hp] at hl1
      rw [← hr] at hl2
      have HK := hide (And.intro hI (And.intro hbr (And.intro hl1 hl2)))
      clear hI hbr hl1 hl2 hp hr hlt hub hi
      cases L <;> cases M
      · go_wp2
        refine ck10f ci1 ci2 d1 hiP ?_
        intros
        go_wp2
        refine ck11f ci1 ci2 d2 hiP ?_
        intros
        go_wp2
        refine ck12 (k := 1) (M := 2) (by rfl) ci1 (by decide) d4 d3 hiP ?_
        intros
        go_wp2
        obtain ⟨hI, hbr, hl1, hl2⟩ := HK.out
        exact ⟨⟨i + 1, by omega, vint (by omega), by rw [hl1]; simp, by rw [hl2]; simp, ((hbr.drew).drew).drew⟩, by simp [intOf]; omega⟩
      · go_wp2
        refine ck10f ci1 ci2 d1 hiP ?_
        intros
        go_wp2
        refine ck11t hiP ?_
        intros
        go_wp2
        refine ck12 (k := 1) (M := 2) (by rfl) ci1 (by decide) d4 d3 hiP ?_
        intros
        go_wp2
        obtain ⟨hI, hbr, hl1, hl2⟩ := HK.out
        exact ⟨⟨i + 1, by omega, vint (by omega), by rw [hl1]; simp, by rw [hl2]; simp, ((hbr.drew).drew).drew⟩, by simp [intOf]; omega⟩
      · go_wp2
        refine ck10t hiP ?_
        intros
        go_wp2
        refine ck11f ci1 ci2 d2 hiP ?_
        intros
        go_wp2
        refine ck12 (k := 1) (M := 2) (by rfl) ci1 (by decide) d4 d3 hiP ?_
        intros
        go_wp2
        obtain ⟨hI, hbr, hl1, hl2⟩ := HK.out
        exact ⟨⟨i + 1, by omega, vint (by omega), by rw [hl1]; simp, by rw [hl2]; simp, ((hbr.drew).drew).drew⟩, by simp [intOf]; omega⟩
      · go_wp2
        refine ck10t hiP ?_
        intros
        go_wp2
        refine ck11t hiP ?_
        intros
        go_wp2
        refine ck12 (k := 1) (M := 2) (by rfl) ci1 (by decide) d4 d3 hiP ?_
        intros
        go_wp2
        obtain ⟨hI, hbr, hl1, hl2⟩ := HK.out
        exact ⟨⟨i + 1, by omega, vint (by omega), by rw [hl1]; simp, by rw [hl2]; simp, ((hbr.drew).drew).drew⟩, by simp [intOf]; omega⟩
    · obtain rfl : i = 265 := by omega
      obtain ⟨hL, hM, hW, bA, bB⟩ := HQ.out
      rw [hL, hM]
      have hbx := keep_trans HG.out.2.2 hbr
      have bA2 := (hbx.block _ (Array.getElem?_eq_some_iff.1 bA).1).trans bA
      have bB2 := (hbx.block _ (Array.getElem?_eq_some_iff.1 bB).1).trans bB
      have HB := hide (keep_trans hW hbx)
      clear hL hM hW bA bB hbx hbr
      go_wp2_with (first
        | (refine wpList_load_rowW (by rfl) 34 _ (by rfl) w.heap.size (by rfl) _ _ _ _ _ bA2 Try.underlying34 (by rw [hAs]; kernel_rfl) ?_)
        | (refine wpList_load_rowW (by rfl) 34 _ (by rfl) (w.heap.size + 1) (by rfl) _ _ _ _ _ bB2 Try.underlying34 (by rw [hBs]; kernel_rfl) ?_)
        | (go_at_call 6; refine (awakeL_any _).mono ?_; rintro e x7 ⟨rfl, g7⟩)
        | fail)
      go_ret
      exact ⟨rfl, keep_trans HB.out g7⟩
set_option maxHeartbeats 8000000 in
set_option maxRecDepth 100000 in
theorem chk_2 (kd : Nat) (a b : List Nat) (w : World) (hkd : kd < 256) (hr : kd % 4 = 1) (ha : a.length = 32) (hb : b.length = 32) (ua : Under 256 a) (ub : Under 256 b) :
    Calls Try.prog 4 #[.int .u8 (kd : Int), .agg (arr .u8 a), .agg (arr .u8 b)] w fun e w' => e = .returned (.bool true) ∧ Below w.heap.size w w' := by
  obtain ⟨rA, rB, hW, bA, bB, hWs⟩ := box2L_all w ha hb ua ub
  have tA : Tidy (.slice (some ⟨w.heap.size, 0, none⟩) 32 32) := fun n c e => by cases e
  have tB : Tidy (.slice (some ⟨w.heap.size + 1, 0, none⟩) 32 32) := fun n c e => by cases e
  have hx := fun y (h : Below (box2L w a b).heap.size (box2L w a b) y) => cdig_ok Kd.k2 (P := 133) rfl a _ y (rA.below h) tA ha
  have hy := fun y (h : Below (box2L w a b).heap.size (box2L w a b) y) => cdig_ok Kd.k2 (P := 133) rfl b _ y (rB.below h) tB hb
  have hz : ∀ y, Calls Try.prog 10 #[.int .i64 2] y fun e w' => e = .returned (.int .i64 4292) ∧ Below y.heap.size y w' := fun y => csize_ok Kd.k2 (P := 133) rfl y
  have e_r : (kd : Int).tmod 4 = 1 := by rw [Int.tmod_eq_emod_of_nonneg (by omega)]; omega
  have hcell : ∀ y : World, (y.alloc (.cells #[.int .i64 1, .int .i64 2, .int .i64 4, .int .i64 8] 3)).cell? ⟨y.heap.size, 1, none⟩ = some (.int .i64 2) := fun y => cell_row0 _ _ _ _ _ rfl
  have hcW := hcell (box2L w a b)
  rw [hWs] at hcW
  obtain ⟨X, hX⟩ : ∃ X, X = digsL 2 128 5 6 a := ⟨_, rfl⟩
  obtain ⟨Y, hY⟩ : ∃ Y, Y = digsL 2 128 5 6 b := ⟨_, rfl⟩
  rw [← hX] at hx
  rw [← hY] at hy
  have hXl : X.length = 133 := by rw [hX]; exact digs_len a
  have hYl : Y.length = 133 := by rw [hY]; exact digs_len b
  have hXb : ∀ i, el X i < 4 := fun i => by
    have := el_le_ofV (K := 2) (l := X) (by rw [hX]; exact digs_lt a) i
    omega
  obtain ⟨ne, hne⟩ : ∃ q : Bool, q = decide (a = b) := ⟨_, rfl⟩
  have heq : ∀ w, (Op.equalIn 10000 34 (.agg (arr .u8 a)) (.agg (arr .u8 b))).run Try.prog w = .ok ne w := fun w => by
    obtain ⟨i0, hi0, _⟩ := info_byte
    rw [hne]
    exact run_equal32 w 34 5 .u8 i0 Try.underlying34 hi0 (by kernel_rfl) Try.underlying5 a b ha hb
  have hL : ltB X Y 133 = !ne := by
    rw [hne, hX, hY]
    by_cases h : a = b
    · subst h; rw [ltB_self]; simp
    · rw [ltB_unlike kind_2 ha hb ua ub h rfl]; simp [h]
  have hM : ltB Y X 133 = !ne := by
    rw [hne, hX, hY]
    by_cases h : a = b
    · subst h; rw [ltB_self]; simp
    · rw [ltB_unlike kind_2 hb ha ub ua (fun e => h e.symm) rfl]; simp [h]
  have HQ := hide (And.intro hL (And.intro hM (And.intro hW (And.intro bA bB))))
  have HX := hide (And.intro hXl (And.intro hYl hXb))
  have hAs : (arr .u8 a).size = 32 := by rw [arr_size, ha]
  have hBs : (arr .u8 b).size = 32 := by rw [arr_size, hb]
  clear hL hM hW bA bB hX hY hXl hYl hXb hne rA rB tA tB ha hb ua ub hr hcell
  go_enter Try.func4, Try.ntmps4
  go_wp2_with (first
    | (refine wpList_arr32 rfl _ (by rfl) _ (by rfl) ?_)
    | (go_at_call 7; have hu := hx; clear hx; refine (hu _ (keep_alloc _ _)).mono ?_; rintro e x1 ⟨v1, rfl, o1, g1⟩; obtain ⟨a1, c1, rfl, _, _, ho1⟩ := o1.row.opens HX.out.1)
    | (go_at_call 7; refine (hy _ (keep_trans (keep_alloc _ _) g1)).mono ?_; rintro e x2 ⟨v2, rfl, o2, g2⟩; obtain ⟨a2, c2, rfl, _, _, ho2⟩ := o2.row.opens HX.out.2.1)
    | (go_at_call 10; refine (hz _).mono ?_; rintro e x3 ⟨rfl, g3⟩)
    | fail)
  obtain ⟨b1, f1, rfl, hc1⟩ := ho1 (by decide)
  obtain ⟨b2, f2, rfl, hc2⟩ := ho2 (by decide)
  have gW : Below (box2L w a b).heap.size (box2L w a b) x3 := keep_trans (keep_trans (keep_trans (keep_alloc _ _) g1) g2) g3
  have q1 : ∀ i, i < 133 → x3.cell? ⟨b1, f1 + i, none⟩ = some (.int .u32 ((el X i : Nat) : Int)) := fun i h => keep_cell (hc1 i h) (keep_trans g2 g3)
  have q2 : ∀ i, i < 133 → x3.cell? ⟨b2, f2 + i, none⟩ = some (.int .u32 ((el Y i : Nat) : Int)) := fun i h => keep_cell (hc2 i h) g3
  have HG := hide (And.intro q1 (And.intro q2 gW))
  clear q1 q2 gW hc1 hc2 ho1 ho2 o1 o2 g1 g2 g3 hu hy hz hcW
  go_loopw [12, 13, 56] (fun vl vm vi wr => CkL x3 133 X Y vl vm vi wr) (fun _ _ vi _ => 133 - (intOf vi).toNat)
  case atStart => exact ⟨0, by decide, rfl, rfl, rfl, Below.refl _ _⟩
  case round =>
    obtain ⟨i, hi, rfl, rfl, rfl, hbr⟩ := hrel
    rename World => wr
    by_cases hlt : i < 133
    · have hii : (i : Int) < 133 := by omega
      have z_i : (0 : Int) ≤ (i : Int) := Int.natCast_nonneg _
      obtain ⟨I, hI⟩ : ∃ I : Nat, I = i + 1 := ⟨_, rfl⟩
      have e_I : (i : Int) + 1 = (I : Int) := by omega
      have s_I : IntKind.i64.wrap (I : Int) = (I : Int) := by rw [IntKind.wrap_i64]; omega
      have ci1 := keep_cell (HG.out.1 i hlt) hbr
      have ci2 := keep_cell (HG.out.2.1 i hlt) hbr
      have hub := HX.out.2.2 i
      have hl1 : ltB X Y (i + 1) = (ltB X Y i || decide (el X i < el Y i)) := rfl
      have hl2 : ltB Y X (i + 1) = (ltB Y X i || decide (el Y i < el X i)) := rfl
      generalize ltB X Y i = L at *
      generalize ltB Y X i = M at *
      generalize el X i = u at *
      generalize el Y i = v at *
      obtain ⟨p, hp⟩ : ∃ p : Bool, p = decide (u < v) := ⟨_, rfl⟩
      obtain ⟨r, hr⟩ : ∃ r : Bool, r = decide (v < u) := ⟨_, rfl⟩
      have d1 : decide ((u : Int) < (v : Int)) = p := by rw [hp]; exact decide_eq_decide.2 (by omega)
      have d2 : decide ((v : Int) < (u : Int)) = r := by rw [hr]; exact decide_eq_decide.2 (by omega)
      have d3 : decide (((4 : Nat) : Int) ≤ (u : Int)) = false := decide_eq_false (by omega)
      have d4 : IntKind.u32.wrap (1 * 2 ^ 2) = ((4 : Nat) : Int) := by decide
      have hiP := hlt
      rw [← hp] at hl1
      rw [← hr] at hl2
      have HK := hide (And.intro hI (And.intro hbr (And.intro hl1 hl2)))
      clear hI hbr hl1 hl2 hp hr hlt hub hi
      cases L <;> cases M
      · go_wp2
        refine ck10f ci1 ci2 d1 hiP ?_
        intros
        go_wp2
        refine ck11f ci1 ci2 d2 hiP ?_
        intros
        go_wp2
        refine ck12 (k := 2) (M := 4) (by rfl) ci1 (by decide) d4 d3 hiP ?_
        intros
        go_wp2
        obtain ⟨hI, hbr, hl1, hl2⟩ := HK.out
        exact ⟨⟨i + 1, by omega, vint (by omega), by rw [hl1]; simp, by rw [hl2]; simp, ((hbr.drew).drew).drew⟩, by simp [intOf]; omega⟩
      · go_wp2
        refine ck10f ci1 ci2 d1 hiP ?_
        intros
        go_wp2
        refine ck11t hiP ?_
        intros
        go_wp2
        refine ck12 (k := 2) (M := 4) (by rfl) ci1 (by decide) d4 d3 hiP ?_
        intros
        go_wp2
        obtain ⟨hI, hbr, hl1, hl2⟩ := HK.out
        exact ⟨⟨i + 1, by omega, vint (by omega), by rw [hl1]; simp, by rw [hl2]; simp, ((hbr.drew).drew).drew⟩, by simp [intOf]; omega⟩
      · go_wp2
        refine ck10t hiP ?_
        intros
        go_wp2
        refine ck11f ci1 ci2 d2 hiP ?_
        intros
        go_wp2
        refine ck12 (k := 2) (M := 4) (by rfl) ci1 (by decide) d4 d3 hiP ?_
        intros
        go_wp2
        obtain ⟨hI, hbr, hl1, hl2⟩ := HK.out
        exact ⟨⟨i + 1, by omega, vint (by omega), by rw [hl1]; simp, by rw [hl2]; simp, ((hbr.drew).drew).drew⟩, by simp [intOf]; omega⟩
      · go_wp2
        refine ck10t hiP ?_
        intros
        go_wp2
        refine ck11t hiP ?_
        intros
        go_wp2
        refine ck12 (k := 2) (M := 4) (by rfl) ci1 (by decide) d4 d3 hiP ?_
        intros
        go_wp2
        obtain ⟨hI, hbr, hl1, hl2⟩ := HK.out
        exact ⟨⟨i + 1, by omega, vint (by omega), by rw [hl1]; simp, by rw [hl2]; simp, ((hbr.drew).drew).drew⟩, by simp [intOf]; omega⟩
    · obtain rfl : i = 133 := by omega
      obtain ⟨hL, hM, hW, bA, bB⟩ := HQ.out
      rw [hL, hM]
      have hbx := keep_trans HG.out.2.2 hbr
      have bA2 := (hbx.block _ (Array.getElem?_eq_some_iff.1 bA).1).trans bA
      have bB2 := (hbx.block _ (Array.getElem?_eq_some_iff.1 bB).1).trans bB
      have HB := hide (keep_trans hW hbx)
      clear hL hM hW bA bB hbx hbr
      go_wp2_with (first
        | (refine wpList_load_rowW (by rfl) 34 _ (by rfl) w.heap.size (by rfl) _ _ _ _ _ bA2 Try.underlying34 (by rw [hAs]; kernel_rfl) ?_)
        | (refine wpList_load_rowW (by rfl) 34 _ (by rfl) (w.heap.size + 1) (by rfl) _ _ _ _ _ bB2 Try.underlying34 (by rw [hBs]; kernel_rfl) ?_)
        | (go_at_call 6; refine (awakeL_any _).mono ?_; rintro e x7 ⟨rfl, g7⟩)
        | fail)
      go_ret
      exact ⟨rfl, keep_trans HB.out g7⟩
set_option maxHeartbeats 8000000 in
set_option maxRecDepth 100000 in
theorem chk_4 (kd : Nat) (a b : List Nat) (w : World) (hkd : kd < 256) (hr : kd % 4 = 2) (ha : a.length = 32) (hb : b.length = 32) (ua : Under 256 a) (ub : Under 256 b) :
    Calls Try.prog 4 #[.int .u8 (kd : Int), .agg (arr .u8 a), .agg (arr .u8 b)] w fun e w' => e = .returned (.bool true) ∧ Below w.heap.size w w' := by
  obtain ⟨rA, rB, hW, bA, bB, hWs⟩ := box2L_all w ha hb ua ub
  have tA : Tidy (.slice (some ⟨w.heap.size, 0, none⟩) 32 32) := fun n c e => by cases e
  have tB : Tidy (.slice (some ⟨w.heap.size + 1, 0, none⟩) 32 32) := fun n c e => by cases e
  have hx := fun y (h : Below (box2L w a b).heap.size (box2L w a b) y) => cdig_ok Kd.k4 (P := 67) rfl a _ y (rA.below h) tA ha
  have hy := fun y (h : Below (box2L w a b).heap.size (box2L w a b) y) => cdig_ok Kd.k4 (P := 67) rfl b _ y (rB.below h) tB hb
  have hz : ∀ y, Calls Try.prog 10 #[.int .i64 4] y fun e w' => e = .returned (.int .i64 2180) ∧ Below y.heap.size y w' := fun y => csize_ok Kd.k4 (P := 67) rfl y
  have e_r : (kd : Int).tmod 4 = 2 := by rw [Int.tmod_eq_emod_of_nonneg (by omega)]; omega
  have hcell : ∀ y : World, (y.alloc (.cells #[.int .i64 1, .int .i64 2, .int .i64 4, .int .i64 8] 3)).cell? ⟨y.heap.size, 2, none⟩ = some (.int .i64 4) := fun y => cell_row0 _ _ _ _ _ rfl
  have hcW := hcell (box2L w a b)
  rw [hWs] at hcW
  obtain ⟨X, hX⟩ : ∃ X, X = digsL 4 64 3 4 a := ⟨_, rfl⟩
  obtain ⟨Y, hY⟩ : ∃ Y, Y = digsL 4 64 3 4 b := ⟨_, rfl⟩
  rw [← hX] at hx
  rw [← hY] at hy
  have hXl : X.length = 67 := by rw [hX]; exact digs_len a
  have hYl : Y.length = 67 := by rw [hY]; exact digs_len b
  have hXb : ∀ i, el X i < 16 := fun i => by
    have := el_le_ofV (K := 4) (l := X) (by rw [hX]; exact digs_lt a) i
    omega
  obtain ⟨ne, hne⟩ : ∃ q : Bool, q = decide (a = b) := ⟨_, rfl⟩
  have heq : ∀ w, (Op.equalIn 10000 34 (.agg (arr .u8 a)) (.agg (arr .u8 b))).run Try.prog w = .ok ne w := fun w => by
    obtain ⟨i0, hi0, _⟩ := info_byte
    rw [hne]
    exact run_equal32 w 34 5 .u8 i0 Try.underlying34 hi0 (by kernel_rfl) Try.underlying5 a b ha hb
  have hL : ltB X Y 67 = !ne := by
    rw [hne, hX, hY]
    by_cases h : a = b
    · subst h; rw [ltB_self]; simp
    · rw [ltB_unlike kind_4 ha hb ua ub h rfl]; simp [h]
  have hM : ltB Y X 67 = !ne := by
    rw [hne, hX, hY]
    by_cases h : a = b
    · subst h; rw [ltB_self]; simp
    · rw [ltB_unlike kind_4 hb ha ub ua (fun e => h e.symm) rfl]; simp [h]
  have HQ := hide (And.intro hL (And.intro hM (And.intro hW (And.intro bA bB))))
  have HX := hide (And.intro hXl (And.intro hYl hXb))
  have hAs : (arr .u8 a).size = 32 := by rw [arr_size, ha]
  have hBs : (arr .u8 b).size = 32 := by rw [arr_size, hb]
  clear hL hM hW bA bB hX hY hXl hYl hXb hne rA rB tA tB ha hb ua ub hr hcell
  go_enter Try.func4, Try.ntmps4
  go_wp2_with (first
    | (refine wpList_arr32 rfl _ (by rfl) _ (by rfl) ?_)
    | (go_at_call 7; have hu := hx; clear hx; refine (hu _ (keep_alloc _ _)).mono ?_; rintro e x1 ⟨v1, rfl, o1, g1⟩; obtain ⟨a1, c1, rfl, _, _, ho1⟩ := o1.row.opens HX.out.1)
    | (go_at_call 7; refine (hy _ (keep_trans (keep_alloc _ _) g1)).mono ?_; rintro e x2 ⟨v2, rfl, o2, g2⟩; obtain ⟨a2, c2, rfl, _, _, ho2⟩ := o2.row.opens HX.out.2.1)
    | (go_at_call 10; refine (hz _).mono ?_; rintro e x3 ⟨rfl, g3⟩)
    | fail)
  obtain ⟨b1, f1, rfl, hc1⟩ := ho1 (by decide)
  obtain ⟨b2, f2, rfl, hc2⟩ := ho2 (by decide)
  have gW : Below (box2L w a b).heap.size (box2L w a b) x3 := keep_trans (keep_trans (keep_trans (keep_alloc _ _) g1) g2) g3
  have q1 : ∀ i, i < 67 → x3.cell? ⟨b1, f1 + i, none⟩ = some (.int .u32 ((el X i : Nat) : Int)) := fun i h => keep_cell (hc1 i h) (keep_trans g2 g3)
  have q2 : ∀ i, i < 67 → x3.cell? ⟨b2, f2 + i, none⟩ = some (.int .u32 ((el Y i : Nat) : Int)) := fun i h => keep_cell (hc2 i h) g3
  have HG := hide (And.intro q1 (And.intro q2 gW))
  clear q1 q2 gW hc1 hc2 ho1 ho2 o1 o2 g1 g2 g3 hu hy hz hcW
  go_loopw [12, 13, 56] (fun vl vm vi wr => CkL x3 67 X Y vl vm vi wr) (fun _ _ vi _ => 67 - (intOf vi).toNat)
  case atStart => exact ⟨0, by decide, rfl, rfl, rfl, Below.refl _ _⟩
  case round =>
    obtain ⟨i, hi, rfl, rfl, rfl, hbr⟩ := hrel
    rename World => wr
    by_cases hlt : i < 67
    · have hii : (i : Int) < 67 := by omega
      have z_i : (0 : Int) ≤ (i : Int) := Int.natCast_nonneg _
      obtain ⟨I, hI⟩ : ∃ I : Nat, I = i + 1 := ⟨_, rfl⟩
      have e_I : (i : Int) + 1 = (I : Int) := by omega
      have s_I : IntKind.i64.wrap (I : Int) = (I : Int) := by rw [IntKind.wrap_i64]; omega
      have ci1 := keep_cell (HG.out.1 i hlt) hbr
      have ci2 := keep_cell (HG.out.2.1 i hlt) hbr
      have hub := HX.out.2.2 i
      have hl1 : ltB X Y (i + 1) = (ltB X Y i || decide (el X i < el Y i)) := rfl
      have hl2 : ltB Y X (i + 1) = (ltB Y X i || decide (el Y i < el X i)) := rfl
      generalize ltB X Y i = L at *
      generalize ltB Y X i = M at *
      generalize el X i = u at *
      generalize el Y i = v at *
      obtain ⟨p, hp⟩ : ∃ p : Bool, p = decide (u < v) := ⟨_, rfl⟩
      obtain ⟨r, hr⟩ : ∃ r : Bool, r = decide (v < u) := ⟨_, rfl⟩
      have d1 : decide ((u : Int) < (v : Int)) = p := by rw [hp]; exact decide_eq_decide.2 (by omega)
      have d2 : decide ((v : Int) < (u : Int)) = r := by rw [hr]; exact decide_eq_decide.2 (by omega)
      have d3 : decide (((16 : Nat) : Int) ≤ (u : Int)) = false := decide_eq_false (by omega)
      have d4 : IntKind.u32.wrap (1 * 2 ^ 4) = ((16 : Nat) : Int) := by decide
      have hiP := hlt
      rw [← hp] at hl1
      rw [← hr] at hl2
      have HK := hide (And.intro hI (And.intro hbr (And.intro hl1 hl2)))
      clear hI hbr hl1 hl2 hp hr hlt hub hi
      cases L <;> cases M
      · go_wp2
        refine ck10f ci1 ci2 d1 hiP ?_
        intros
        go_wp2
        refine ck11f ci1 ci2 d2 hiP ?_
        intros
        go_wp2
        refine ck12 (k := 4) (M := 16) (by rfl) ci1 (by decide) d4 d3 hiP ?_
        intros
        go_wp2
        obtain ⟨hI, hbr, hl1, hl2⟩ := HK.out
        exact ⟨⟨i + 1, by omega, vint (by omega), by rw [hl1]; simp, by rw [hl2]; simp, ((hbr.drew).drew).drew⟩, by simp [intOf]; omega⟩
      · go_wp2
        refine ck10f ci1 ci2 d1 hiP ?_
        intros
        go_wp2
        refine ck11t hiP ?_
        intros
        go_wp2
        refine ck12 (k := 4) (M := 16) (by rfl) ci1 (by decide) d4 d3 hiP ?_
        intros
        go_wp2
        obtain ⟨hI, hbr, hl1, hl2⟩ := HK.out
        exact ⟨⟨i + 1, by omega, vint (by omega), by rw [hl1]; simp, by rw [hl2]; simp, ((hbr.drew).drew).drew⟩, by simp [intOf]; omega⟩
      · go_wp2
        refine ck10t hiP ?_
        intros
        go_wp2
        refine ck11f ci1 ci2 d2 hiP ?_
        intros
        go_wp2
        refine ck12 (k := 4) (M := 16) (by rfl) ci1 (by decide) d4 d3 hiP ?_
        intros
        go_wp2
        obtain ⟨hI, hbr, hl1, hl2⟩ := HK.out
        exact ⟨⟨i + 1, by omega, vint (by omega), by rw [hl1]; simp, by rw [hl2]; simp, ((hbr.drew).drew).drew⟩, by simp [intOf]; omega⟩
      · go_wp2
        refine ck10t hiP ?_
        intros
        go_wp2
        refine ck11t hiP ?_
        intros
        go_wp2
        refine ck12 (k := 4) (M := 16) (by rfl) ci1 (by decide) d4 d3 hiP ?_
        intros
        go_wp2
        obtain ⟨hI, hbr, hl1, hl2⟩ := HK.out
        exact ⟨⟨i + 1, by omega, vint (by omega), by rw [hl1]; simp, by rw [hl2]; simp, ((hbr.drew).drew).drew⟩, by simp [intOf]; omega⟩
    · obtain rfl : i = 67 := by omega
      obtain ⟨hL, hM, hW, bA, bB⟩ := HQ.out
      rw [hL, hM]
      have hbx := keep_trans HG.out.2.2 hbr
      have bA2 := (hbx.block _ (Array.getElem?_eq_some_iff.1 bA).1).trans bA
      have bB2 := (hbx.block _ (Array.getElem?_eq_some_iff.1 bB).1).trans bB
      have HB := hide (keep_trans hW hbx)
      clear hL hM hW bA bB hbx hbr
      go_wp2_with (first
        | (refine wpList_load_rowW (by rfl) 34 _ (by rfl) w.heap.size (by rfl) _ _ _ _ _ bA2 Try.underlying34 (by rw [hAs]; kernel_rfl) ?_)
        | (refine wpList_load_rowW (by rfl) 34 _ (by rfl) (w.heap.size + 1) (by rfl) _ _ _ _ _ bB2 Try.underlying34 (by rw [hBs]; kernel_rfl) ?_)
        | (go_at_call 6; refine (awakeL_any _).mono ?_; rintro e x7 ⟨rfl, g7⟩)
        | fail)
      go_ret
      exact ⟨rfl, keep_trans HB.out g7⟩
set_option maxHeartbeats 8000000 in
set_option maxRecDepth 100000 in
theorem chk_8 (kd : Nat) (a b : List Nat) (w : World) (hkd : kd < 256) (hr : kd % 4 = 3) (ha : a.length = 32) (hb : b.length = 32) (ua : Under 256 a) (ub : Under 256 b) :
    Calls Try.prog 4 #[.int .u8 (kd : Int), .agg (arr .u8 a), .agg (arr .u8 b)] w fun e w' => e = .returned (.bool true) ∧ Below w.heap.size w w' := by
  obtain ⟨rA, rB, hW, bA, bB, hWs⟩ := box2L_all w ha hb ua ub
  have tA : Tidy (.slice (some ⟨w.heap.size, 0, none⟩) 32 32) := fun n c e => by cases e
  have tB : Tidy (.slice (some ⟨w.heap.size + 1, 0, none⟩) 32 32) := fun n c e => by cases e
  have hx := fun y (h : Below (box2L w a b).heap.size (box2L w a b) y) => cdig_ok Kd.k8 (P := 34) rfl a _ y (rA.below h) tA ha
  have hy := fun y (h : Below (box2L w a b).heap.size (box2L w a b) y) => cdig_ok Kd.k8 (P := 34) rfl b _ y (rB.below h) tB hb
  have hz : ∀ y, Calls Try.prog 10 #[.int .i64 8] y fun e w' => e = .returned (.int .i64 1124) ∧ Below y.heap.size y w' := fun y => csize_ok Kd.k8 (P := 34) rfl y
  have e_r : (kd : Int).tmod 4 = 3 := by rw [Int.tmod_eq_emod_of_nonneg (by omega)]; omega
  have hcell : ∀ y : World, (y.alloc (.cells #[.int .i64 1, .int .i64 2, .int .i64 4, .int .i64 8] 3)).cell? ⟨y.heap.size, 3, none⟩ = some (.int .i64 8) := fun y => cell_row0 _ _ _ _ _ rfl
  have hcW := hcell (box2L w a b)
  rw [hWs] at hcW
  obtain ⟨X, hX⟩ : ∃ X, X = digsL 8 32 2 0 a := ⟨_, rfl⟩
  obtain ⟨Y, hY⟩ : ∃ Y, Y = digsL 8 32 2 0 b := ⟨_, rfl⟩
  rw [← hX] at hx
  rw [← hY] at hy
  have hXl : X.length = 34 := by rw [hX]; exact digs_len a
  have hYl : Y.length = 34 := by rw [hY]; exact digs_len b
  have hXb : ∀ i, el X i < 256 := fun i => by
    have := el_le_ofV (K := 8) (l := X) (by rw [hX]; exact digs_lt a) i
    omega
  obtain ⟨ne, hne⟩ : ∃ q : Bool, q = decide (a = b) := ⟨_, rfl⟩
  have heq : ∀ w, (Op.equalIn 10000 34 (.agg (arr .u8 a)) (.agg (arr .u8 b))).run Try.prog w = .ok ne w := fun w => by
    obtain ⟨i0, hi0, _⟩ := info_byte
    rw [hne]
    exact run_equal32 w 34 5 .u8 i0 Try.underlying34 hi0 (by kernel_rfl) Try.underlying5 a b ha hb
  have hL : ltB X Y 34 = !ne := by
    rw [hne, hX, hY]
    by_cases h : a = b
    · subst h; rw [ltB_self]; simp
    · rw [ltB_unlike kind_8 ha hb ua ub h rfl]; simp [h]
  have hM : ltB Y X 34 = !ne := by
    rw [hne, hX, hY]
    by_cases h : a = b
    · subst h; rw [ltB_self]; simp
    · rw [ltB_unlike kind_8 hb ha ub ua (fun e => h e.symm) rfl]; simp [h]
  have HQ := hide (And.intro hL (And.intro hM (And.intro hW (And.intro bA bB))))
  have HX := hide (And.intro hXl (And.intro hYl hXb))
  have hAs : (arr .u8 a).size = 32 := by rw [arr_size, ha]
  have hBs : (arr .u8 b).size = 32 := by rw [arr_size, hb]
  clear hL hM hW bA bB hX hY hXl hYl hXb hne rA rB tA tB ha hb ua ub hr hcell
  go_enter Try.func4, Try.ntmps4
  go_wp2_with (first
    | (refine wpList_arr32 rfl _ (by rfl) _ (by rfl) ?_)
    | (go_at_call 7; have hu := hx; clear hx; refine (hu _ (keep_alloc _ _)).mono ?_; rintro e x1 ⟨v1, rfl, o1, g1⟩; obtain ⟨a1, c1, rfl, _, _, ho1⟩ := o1.row.opens HX.out.1)
    | (go_at_call 7; refine (hy _ (keep_trans (keep_alloc _ _) g1)).mono ?_; rintro e x2 ⟨v2, rfl, o2, g2⟩; obtain ⟨a2, c2, rfl, _, _, ho2⟩ := o2.row.opens HX.out.2.1)
    | (go_at_call 10; refine (hz _).mono ?_; rintro e x3 ⟨rfl, g3⟩)
    | fail)
  obtain ⟨b1, f1, rfl, hc1⟩ := ho1 (by decide)
  obtain ⟨b2, f2, rfl, hc2⟩ := ho2 (by decide)
  have gW : Below (box2L w a b).heap.size (box2L w a b) x3 := keep_trans (keep_trans (keep_trans (keep_alloc _ _) g1) g2) g3
  have q1 : ∀ i, i < 34 → x3.cell? ⟨b1, f1 + i, none⟩ = some (.int .u32 ((el X i : Nat) : Int)) := fun i h => keep_cell (hc1 i h) (keep_trans g2 g3)
  have q2 : ∀ i, i < 34 → x3.cell? ⟨b2, f2 + i, none⟩ = some (.int .u32 ((el Y i : Nat) : Int)) := fun i h => keep_cell (hc2 i h) g3
  have HG := hide (And.intro q1 (And.intro q2 gW))
  clear q1 q2 gW hc1 hc2 ho1 ho2 o1 o2 g1 g2 g3 hu hy hz hcW
  go_loopw [12, 13, 56] (fun vl vm vi wr => CkL x3 34 X Y vl vm vi wr) (fun _ _ vi _ => 34 - (intOf vi).toNat)
  case atStart => exact ⟨0, by decide, rfl, rfl, rfl, Below.refl _ _⟩
  case round =>
    obtain ⟨i, hi, rfl, rfl, rfl, hbr⟩ := hrel
    rename World => wr
    by_cases hlt : i < 34
    · have hii : (i : Int) < 34 := by omega
      have z_i : (0 : Int) ≤ (i : Int) := Int.natCast_nonneg _
      obtain ⟨I, hI⟩ : ∃ I : Nat, I = i + 1 := ⟨_, rfl⟩
      have e_I : (i : Int) + 1 = (I : Int) := by omega
      have s_I : IntKind.i64.wrap (I : Int) = (I : Int) := by rw [IntKind.wrap_i64]; omega
      have ci1 := keep_cell (HG.out.1 i hlt) hbr
      have ci2 := keep_cell (HG.out.2.1 i hlt) hbr
      have hub := HX.out.2.2 i
      have hl1 : ltB X Y (i + 1) = (ltB X Y i || decide (el X i < el Y i)) := rfl
      have hl2 : ltB Y X (i + 1) = (ltB Y X i || decide (el Y i < el X i)) := rfl
      generalize ltB X Y i = L at *
      generalize ltB Y X i = M at *
      generalize el X i = u at *
      generalize el Y i = v at *
      obtain ⟨p, hp⟩ : ∃ p : Bool, p = decide (u < v) := ⟨_, rfl⟩
      obtain ⟨r, hr⟩ : ∃ r : Bool, r = decide (v < u) := ⟨_, rfl⟩
      have d1 : decide ((u : Int) < (v : Int)) = p := by rw [hp]; exact decide_eq_decide.2 (by omega)
      have d2 : decide ((v : Int) < (u : Int)) = r := by rw [hr]; exact decide_eq_decide.2 (by omega)
      have d3 : decide (((256 : Nat) : Int) ≤ (u : Int)) = false := decide_eq_false (by omega)
      have d4 : IntKind.u32.wrap (1 * 2 ^ 8) = ((256 : Nat) : Int) := by decide
      have hiP := hlt
      rw [← hp] at hl1
      rw [← hr] at hl2
      have HK := hide (And.intro hI (And.intro hbr (And.intro hl1 hl2)))
      clear hI hbr hl1 hl2 hp hr hlt hub hi
      cases L <;> cases M
      · go_wp2
        refine ck10f ci1 ci2 d1 hiP ?_
        intros
        go_wp2
        refine ck11f ci1 ci2 d2 hiP ?_
        intros
        go_wp2
        refine ck12 (k := 8) (M := 256) (by rfl) ci1 (by decide) d4 d3 hiP ?_
        intros
        go_wp2
        obtain ⟨hI, hbr, hl1, hl2⟩ := HK.out
        exact ⟨⟨i + 1, by omega, vint (by omega), by rw [hl1]; simp, by rw [hl2]; simp, ((hbr.drew).drew).drew⟩, by simp [intOf]; omega⟩
      · go_wp2
        refine ck10f ci1 ci2 d1 hiP ?_
        intros
        go_wp2
        refine ck11t hiP ?_
        intros
        go_wp2
        refine ck12 (k := 8) (M := 256) (by rfl) ci1 (by decide) d4 d3 hiP ?_
        intros
        go_wp2
        obtain ⟨hI, hbr, hl1, hl2⟩ := HK.out
        exact ⟨⟨i + 1, by omega, vint (by omega), by rw [hl1]; simp, by rw [hl2]; simp, ((hbr.drew).drew).drew⟩, by simp [intOf]; omega⟩
      · go_wp2
        refine ck10t hiP ?_
        intros
        go_wp2
        refine ck11f ci1 ci2 d2 hiP ?_
        intros
        go_wp2
        refine ck12 (k := 8) (M := 256) (by rfl) ci1 (by decide) d4 d3 hiP ?_
        intros
        go_wp2
        obtain ⟨hI, hbr, hl1, hl2⟩ := HK.out
        exact ⟨⟨i + 1, by omega, vint (by omega), by rw [hl1]; simp, by rw [hl2]; simp, ((hbr.drew).drew).drew⟩, by simp [intOf]; omega⟩
      · go_wp2
        refine ck10t hiP ?_
        intros
        go_wp2
        refine ck11t hiP ?_
        intros
        go_wp2
        refine ck12 (k := 8) (M := 256) (by rfl) ci1 (by decide) d4 d3 hiP ?_
        intros
        go_wp2
        obtain ⟨hI, hbr, hl1, hl2⟩ := HK.out
        exact ⟨⟨i + 1, by omega, vint (by omega), by rw [hl1]; simp, by rw [hl2]; simp, ((hbr.drew).drew).drew⟩, by simp [intOf]; omega⟩
    · obtain rfl : i = 34 := by omega
      obtain ⟨hL, hM, hW, bA, bB⟩ := HQ.out
      rw [hL, hM]
      have hbx := keep_trans HG.out.2.2 hbr
      have bA2 := (hbx.block _ (Array.getElem?_eq_some_iff.1 bA).1).trans bA
      have bB2 := (hbx.block _ (Array.getElem?_eq_some_iff.1 bB).1).trans bB
      have HB := hide (keep_trans hW hbx)
      clear hL hM hW bA bB hbx hbr
      go_wp2_with (first
        | (refine wpList_load_rowW (by rfl) 34 _ (by rfl) w.heap.size (by rfl) _ _ _ _ _ bA2 Try.underlying34 (by rw [hAs]; kernel_rfl) ?_)
        | (refine wpList_load_rowW (by rfl) 34 _ (by rfl) (w.heap.size + 1) (by rfl) _ _ _ _ _ bB2 Try.underlying34 (by rw [hBs]; kernel_rfl) ?_)
        | (go_at_call 6; refine (awakeL_any _).mono ?_; rintro e x7 ⟨rfl, g7⟩)
        | fail)
      go_ret
      exact ⟨rfl, keep_trans HB.out g7⟩

end Go.Proofs.Ytnjiilnkobhibaa
