/- Blocks as two words of 64 bits: out of bytes, and back; a sum goes on. -/
import Derived.Test.YtjeofkemfpdieaaGRt
import Derived.Test.YtjeofkemfpdieaaGGh
import Derived.Deep.MidRow
namespace Go.Proofs.Ytjeofkemfpdieaa
open Go.RowKit
set_option linter.unusedVariables false
set_option linter.unusedSimpArgs false

theorem row_dropQ {w : World} {b o n c M : Nat} {l : List Nat} (h : Row .u8 256 w (.slice (some ⟨b, o, none⟩) n c) l) (hM : M ≤ n) : Row .u8 256 w (.slice (some ⟨b, o + M, none⟩) (n - M) (c - M)) (l.drop M) := by
  obtain ⟨a', c', he, h1, h2, h3, h4⟩ := h
  simp only [Value.slice.injEq] at he
  obtain ⟨rfl, rfl, rfl⟩ := he
  refine ⟨_, _, by rw [List.length_drop], by rw [List.length_drop]; omega, by omega, fun hp => ?_, fun x hx => h4 x (List.mem_of_mem_drop hx)⟩
  rw [List.length_drop] at hp
  obtain ⟨b', o', e, hc⟩ := h3 (by omega)
  cases e
  refine ⟨_, _, rfl, fun x hx => ?_⟩
  rw [List.length_drop] at hx
  rw [show el (l.drop M) x = el l (M + x) by unfold el; rw [List.getElem?_drop], Nat.add_assoc]
  exact hc (M + x) (by omega)
theorem numL_ltQ (l : List Nat) : numL l < 2 ^ 64 := numL_lt l
section
variable {ops : Array Oper} {Q : Exit → Act → World → Prop} {S : World → Prop} {K : Act → World → Prop}
theorem built_blk (u v : Int) : Try.prog.built 41 [(0, .int .u64 u), (1, .int .u64 v)] = some #[.int .u64 u, .int .u64 v] := by kernel_rfl
theorem y_blk {o : Oper} {a : Act} {x y : Operand} {u v : Int} (hg : o.guard = none) (ho : o.op = .build 41 #[(0, x), (1, y)]) (hx : a.eval x = .int .u64 u) (hy : a.eval y = .int .u64 v) : YieldsIf Try.prog ops S o (.agg #[.int .u64 u, .int .u64 v]) a := by
  refine y_of hg fun w _ => ?_
  have hb := run_build (P := Try.prog) w 41 #[(0, .int .u64 u), (1, .int .u64 v)] _ (built_blk u v)
  unfold execOp
  simp only [ho, List.map_toArray, List.map_cons, List.map_nil, hx, hy]
  simp [Sem.run_bind, hb]
theorem y_fieldQ {o : Oper} {a : Act} {x : Operand} {t : TypeId} {q q' f off : Nat} (hg : o.guard = none) (ho : o.op = .fieldAddr t x f) (hx : a.eval x = .pointer (some ⟨q, q', none⟩))
    (hf : ∀ w : World, (Instr.fieldAt t (.pointer (some ⟨q, q', none⟩)) f).run Try.prog w = .ok (.pointer (some ⟨q, off, none⟩)) w) : YieldsIf Try.prog ops S o (.pointer (some ⟨q, off, none⟩)) a := by
  refine y_of hg fun w _ => ?_
  unfold execOp
  simp only [ho, hx]
  simp [hf w, Sem.run_bind]
theorem fB0 (q : Nat) (w : World) : (Instr.fieldAt 41 (.pointer (some ⟨q, 0, none⟩)) 0).run Try.prog w = .ok (.pointer (some ⟨q, 0, none⟩)) w := by simp [go_sem]
theorem fB1 (q : Nat) (w : World) : (Instr.fieldAt 41 (.pointer (some ⟨q, 0, none⟩)) 1).run Try.prog w = .ok (.pointer (some ⟨q, 1, none⟩)) w := by simp [go_sem]
theorem fS0 (q : Nat) (w : World) : (Instr.fieldAt 47 (.pointer (some ⟨q, 0, none⟩)) 0).run Try.prog w = .ok (.pointer (some ⟨q, 0, none⟩)) w := by simp [go_sem]
theorem fS1 (q : Nat) (w : World) : (Instr.fieldAt 47 (.pointer (some ⟨q, 0, none⟩)) 1).run Try.prog w = .ok (.pointer (some ⟨q, 2, none⟩)) w := by simp [go_sem]
theorem y_nilQ {o : Oper} {a : Act} {x : Operand} {p : Addr} (hg : o.guard = none) (ho : o.op = .nilCheck x) (hx : a.eval x = .pointer (some p)) : YieldsIf Try.prog ops S o (.pointer (some p)) a := by
  refine y_of hg fun w _ => ?_
  unfold execOp
  simp only [ho, hx]
  simp [go_sem]
end
def rdlt : List Lt := [(0, some 3, [0]), (1, some 4, [3]), (2, some 5, [4]), (0, some 6, [0]), (8, some 7, [6]), (20, some 8, [7]), (36, some 9, [5, 8]), (127, none, [2, 9])]
theorem rdreg : Reg (opsA (cLA (cRA (Try.f20.body.getD .skip)))) rdlt := ⟨by kernel_rfl, by kernel_rfl⟩
set_option maxHeartbeats 2000000 in
set_option maxRecDepth 100000 in
theorem readQ_any (b : List Nat) (bv : Value) (w : World) (rb : Row .u8 256 w bv b) (hb : B16 b) :
    Calls Try.prog 20 #[bv] w fun e w' => ∃ u, e = .returned u ∧ Bk u (polB b) ∧ Below w.heap.size w w' := by
  obtain ⟨a0, c0, rfl, lc1, lc2, hcs⟩ := rb.opens hb.1
  obtain ⟨B, o, rfl, _⟩ := hcs (by decide)
  have hz := zeroB
  have h0 : (w.alloc (.cells #[.int .u64 0, .int .u64 0] 41)).heap[w.heap.size]? = some (.cells #[.int .u64 0, .int .u64 0] 41 (0, 0)) := heap_alloc_new _ _
  have hbA := keep_alloc w (.cells #[.int .u64 0, .int .u64 0] 41)
  have r1 := (rb.below hbA).cut (M := 8) (by rw [hb.1]; decide)
  have r2 := row_dropQ (rb.below hbA) (M := 8) (by decide)
  generalize hN1 : numL (b.take 8) = N1
  generalize hN2 : numL (b.drop 8) = N2
  have hn1 : ∀ y, Below (w.alloc (.cells #[.int .u64 0, .int .u64 0] 41)).heap.size (w.alloc (.cells #[.int .u64 0, .int .u64 0] 41)) y → Calls Try.prog 34 #[.slice (some ⟨B, o, none⟩) 8 c0] y fun e w' => e = .returned (.int .u64 (N1 : Int)) ∧ w' = y := fun y hy => by have := num_any _ _ y (r1.below hy); rw [hN1] at this; exact this
  have hn2 : ∀ y, Below (w.alloc (.cells #[.int .u64 0, .int .u64 0] 41)).heap.size (w.alloc (.cells #[.int .u64 0, .int .u64 0] 41)) y → Calls Try.prog 34 #[.slice (some ⟨B, o + 8, none⟩) (16 - 8) (c0 - 8)] y fun e w' => e = .returned (.int .u64 (N2 : Int)) ∧ w' = y := fun y hy => by have := num_any _ _ y (r2.below hy); rw [hN2] at this; exact this
  have hbk : Bk (.agg #[.int .u64 (N1 : Int), .int .u64 (N2 : Int)]) (polB b) := ⟨N1, N2, by rw [← hN1]; exact numL_ltQ _, by rw [← hN2]; exact numL_ltQ _, rfl, by rw [← hN1, ← hN2]; exact pP_read hb⟩
  obtain ⟨i8, hi8, hz0, hz1, _⟩ := info_byte
  clear hN1 hN2 r1 r2 rb
  go_enter Try.func20, Try.ntmps20
  go_wp2
  generalize w.alloc (.cells #[.int .u64 0, .int .u64 0] 41) = W at *
  have hbd : Below W.heap.size W W.drew := (Below.refl _ _).drew
  refine at_begin (ops := (opsA (cLA (cRA (Try.f20.body.getD .skip))))) (n := 8) (fun _ => True) (by kernel_rfl) (by kernel_rfl) ?_
  refine at_takeD (i := 0) (m' := 1) (d := some 3) (v := .slice (some ⟨B, o, none⟩) 16 c0) rdreg rfl (by decide) rfl rfl (y_move rfl rfl rfl) trivial ?_
  simp only [Act.put, List.setIfInBounds_toArray, List.set_cons_zero, List.set_cons_succ]
  refine at_takeD (i := 1) (m' := 3) (d := some 4) (v := .slice (some ⟨B, o, none⟩) 8 c0) rdreg rfl (by decide) rfl rfl (y_slice_hi rfl rfl rfl Try.underlying22 hi8 hz1 (by omega)) trivial ?_
  simp only [Act.put, List.setIfInBounds_toArray, List.set_cons_zero, List.set_cons_succ]
  refine at_takeD (i := 3) (m' := 11) (d := some 6) (v := .slice (some ⟨B, o, none⟩) 16 c0) rdreg rfl (by decide) rfl rfl (y_move rfl rfl rfl) trivial ?_
  simp only [Act.put, List.setIfInBounds_toArray, List.set_cons_zero, List.set_cons_succ]
  refine at_takeD (i := 4) (m' := 27) (d := some 7) (v := .slice (some ⟨B, o + 8, none⟩) (16 - 8) (c0 - 8)) rdreg rfl (by decide) rfl rfl (y_slice_lo rfl rfl rfl Try.underlying22 hi8 hz1 (by decide) lc1 (by omega)) trivial ?_
  simp only [Act.put, List.setIfInBounds_toArray, List.set_cons_zero, List.set_cons_succ]
  refine at_one (i := 2) (m' := 31) rdreg (by decide) rfl ?_
  refine p_call1 (u := .slice (some ⟨B, o, none⟩) 8 c0) (d := some 5) rfl rfl rfl rfl rfl Try.call34 ((hn1 _ hbd).mono ?_)
  rintro e z ⟨rfl, rfl⟩
  refine ⟨_, rfl, trivial, ?_⟩
  simp only [Act.put, List.setIfInBounds_toArray, List.set_cons_zero, List.set_cons_succ]
  refine at_one (i := 5) (m' := 63) rdreg (by decide) rfl ?_
  refine p_call1 (u := .slice (some ⟨B, o + 8, none⟩) (16 - 8) (c0 - 8)) (d := some 8) rfl rfl rfl rfl rfl Try.call34 ((hn2 _ hbd).mono ?_)
  rintro e z ⟨rfl, rfl⟩
  refine ⟨_, rfl, trivial, ?_⟩
  simp only [Act.put, List.setIfInBounds_toArray, List.set_cons_zero, List.set_cons_succ]
  refine at_takeD (i := 6) (m' := 127) (d := some 9) (v := .agg #[.int .u64 (N1 : Int), .int .u64 (N2 : Int)]) rdreg rfl (by decide) rfl rfl (y_blk rfl rfl rfl rfl) trivial ?_
  simp only [Act.put, List.setIfInBounds_toArray, List.set_cons_zero, List.set_cons_succ]
  refine at_one (i := 7) (m' := 255) rdreg (by decide) rfl ?_
  have h0d : W.drew.heap[w.heap.size]? = some (.cells #[.int .u64 0, .int .u64 0] 41 (0, 0)) := h0
  refine p_rowA (g := w.heap.size) (cells := #[.int .u64 (N1 : Int), .int .u64 (N2 : Int)]) rfl rfl rfl rfl rfl rfl h0d (by kernel_rfl) rfl (one2Q _ _) ⟨trivial, ?_⟩
  have hBt : But w.heap.size W.drew (W.drew.setRow w.heap.size #[.int .u64 (N1 : Int), .int .u64 (N2 : Int)]) := (But.refl _ _).setRow _
  have h02 := setRow_heap W.drew w.heap.size _ #[.int .u64 (N1 : Int), .int .u64 (N2 : Int)] 41 _ h0d
  have hbF := (keep_trans hbA hbd).trans (hBt.below (Nat.le_refl _) (keep_trans hbA hbd).size)
  refine at_done rdreg (by decide) ?_
  go_wp2
  refine bodyPost_ret (results_cell_row Try.results20 _ _ w.heap.size _ _ _ _ (by rfl) h02 Try.underlying41 rfl (by kernel_rfl)) rfl ?_
  exact ⟨_, rfl, hbk, hbF⟩
def bylt : List Lt := [(0, some 3, [1]), (1, some 4, [3]), (2, some 5, [4]), (0, some 6, [1]), (8, some 7, [6]), (20, some 8, [7]), (36, some 9, [5, 8]), (96, some 10, [9]), (255, some 2, [10])]
theorem byreg : Reg (opsA (cLA (cRA (Try.f22.body.getD .skip)))) bylt := ⟨by kernel_rfl, by kernel_rfl⟩
theorem leS_8Q (n : Nat) : leS n 8 = leL n 8 := by unfold leS; rw [if_neg (by decide)]; rfl
theorem own_sliceQ {e : TypeId} {k : IntKind} {m : Nat} {w : World} {B : Nat} {v : Value} {l : List Nat} (h : Own e k m w B v l) : ∃ a c, v = .slice a l.length c := by
  obtain ⟨a, c, he, _⟩ := h.row
  exact ⟨a, c, he⟩
set_option maxHeartbeats 2000000 in
set_option maxRecDepth 100000 in
theorem bytes_any (v : Value) (p : Nat) (w : World) (hv : Bk v p) :
    Calls Try.prog 22 #[v] w fun e w' => ∃ u, e = .returned u ∧ Own 5 .u8 256 w' w.heap.size u (blkP p) ∧ Below w.heap.size w w' := by
  obtain ⟨f, l, hf, hl, rfl, rfl⟩ := hv
  rw [← bb_blk]
  have h0 : (w.alloc (.cells #[.int .u64 (f : Int), .int .u64 (l : Int)] 41)).heap[w.heap.size]? = some (.cells #[.int .u64 (f : Int), .int .u64 (l : Int)] 41 (0, 0)) := heap_alloc_new _ _
  have hbA := keep_alloc w (.cells #[.int .u64 (f : Int), .int .u64 (l : Int)] 41)
  have hbe1 := fun y => be_any f 8 y hf (by decide) (by decide)
  have hbe2 := fun y => be_any l 8 y hl (by decide) (by decide)
  rw [leS_8Q] at hbe1 hbe2
  change ∀ y, Calls Try.prog 38 #[.int .u64 (f : Int), .int .i64 8] y fun e w' => ∃ v, e = .returned v ∧ Own 5 .u8 256 w' y.heap.size v (be8 f) ∧ Below y.heap.size y w' at hbe1
  change ∀ y, Calls Try.prog 38 #[.int .u64 (l : Int), .int .i64 8] y fun e w' => ∃ v, e = .returned v ∧ Own 5 .u8 256 w' y.heap.size v (be8 l) ∧ Below y.heap.size y w' at hbe2
  have hfe : [be8 f, be8 l].flatten = bbL f l := by simp [bbL]
  have hlf := be8_len f
  have hll := be8_len l
  have hj := fun y lv (r : Rows2 y lv [be8 f, be8 l]) => join_any lv _ y r (by rw [hfe, (bbL_b f l).1]; decide)
  rw [hfe] at hj
  obtain ⟨i0, hi0, hz0, hz1, hz2⟩ := info_text
  generalize be8 f = bf at *
  generalize be8 l = bl at *
  generalize bbL f l = bb at *
  clear hf hl hfe
  go_enter Try.func22, Try.ntmps22
  go_wp2
  generalize w.alloc (.cells #[.int .u64 (f : Int), .int .u64 (l : Int)] 41) = W at *
  have hbd : Below W.heap.size W W.drew := (Below.refl _ _).drew
  have hSf : ∀ y, Below W.heap.size W y → y.cell? ⟨w.heap.size, 0, none⟩ = some (.int .u64 (f : Int)) ∧ y.cell? ⟨w.heap.size, 1, none⟩ = some (.int .u64 (l : Int)) := fun y hy => by
    have := (hy.block _ (Array.getElem?_eq_some_iff.1 h0).1).trans h0
    exact ⟨cell_ofQ this rfl, cell_ofQ this rfl⟩
  refine at_begin (ops := (opsA (cLA (cRA (Try.f22.body.getD .skip))))) (n := 9) (fun y => y.cell? ⟨w.heap.size, 0, none⟩ = some (.int .u64 (f : Int)) ∧ y.cell? ⟨w.heap.size, 1, none⟩ = some (.int .u64 (l : Int))) (by kernel_rfl) (by kernel_rfl) ?_
  refine at_takeD (i := 0) (m' := 1) (d := some 3) (v := .pointer (some ⟨w.heap.size, 0, none⟩)) byreg rfl (by decide) rfl rfl (y_fieldQ rfl rfl rfl (fB0 _)) (hSf _ hbd) ?_
  simp only [Act.put, List.setIfInBounds_toArray, List.set_cons_zero, List.set_cons_succ]
  refine at_takeD (i := 1) (m' := 3) (d := some 4) (v := .int .u64 (f : Int)) byreg rfl (by decide) rfl rfl (y_load_plain rfl rfl rfl Try.underlying39 rfl (fun _ h => h.1)) (hSf _ hbd) ?_
  simp only [Act.put, List.setIfInBounds_toArray, List.set_cons_zero, List.set_cons_succ]
  refine at_takeD (i := 3) (m' := 11) (d := some 6) (v := .pointer (some ⟨w.heap.size, 1, none⟩)) byreg rfl (by decide) rfl rfl (y_fieldQ rfl rfl rfl (fB1 _)) (hSf _ hbd) ?_
  simp only [Act.put, List.setIfInBounds_toArray, List.set_cons_zero, List.set_cons_succ]
  refine at_takeD (i := 4) (m' := 27) (d := some 7) (v := .int .u64 (l : Int)) byreg rfl (by decide) rfl rfl (y_load_plain rfl rfl rfl Try.underlying39 rfl (fun _ h => h.2)) (hSf _ hbd) ?_
  simp only [Act.put, List.setIfInBounds_toArray, List.set_cons_zero, List.set_cons_succ]
  refine at_one (i := 2) (m' := 31) byreg (by decide) rfl ?_
  refine p_call2 (u := .int .u64 (f : Int)) (v := .int .i64 8) (d := some 5) rfl rfl rfl rfl rfl rfl Try.call38 ((hbe1 _).mono ?_)
  rintro e z1 ⟨v1, rfl, o1, hb1⟩
  obtain ⟨a1, c1, rfl⟩ := own_sliceQ o1
  have hz1b := keep_trans hbd hb1
  refine ⟨_, rfl, hSf _ hz1b, ?_⟩
  simp only [Act.put, List.setIfInBounds_toArray, List.set_cons_zero, List.set_cons_succ]
  refine at_one (i := 5) (m' := 63) byreg (by decide) rfl ?_
  refine p_call2 (u := .int .u64 (l : Int)) (v := .int .i64 8) (d := some 8) rfl rfl rfl rfl rfl rfl Try.call38 ((hbe2 _).mono ?_)
  rintro e z2 ⟨v2, rfl, o2, hb2⟩
  obtain ⟨a2, c2, rfl⟩ := own_sliceQ o2
  have hz2b := keep_trans hz1b hb2
  refine ⟨_, rfl, hSf _ hz2b, ?_⟩
  simp only [Act.put, List.setIfInBounds_toArray, List.set_cons_zero, List.set_cons_succ]
  refine at_one (i := 6) (m' := 127) byreg (by decide) rfl ?_
  have hbc := keep_alloc z2 (.cells #[.slice a1 bf.length c1, .slice a2 bl.length c2] 22)
  refine p_build2 (d := some 9) rfl rfl rfl rfl rfl rfl Try.underlying37 hi0 hz1 hz0 ⟨hSf _ (keep_trans hz2b hbc), ?_⟩
  simp only [Act.put, List.setIfInBounds_toArray, List.set_cons_zero, List.set_cons_succ]
  have hT := hj _ _ (rows_lit2G (o1.row.below hb2) (own_tidyG o1) o2.row (own_tidyG o2))
  refine at_one (i := 7) (m' := 255) byreg (by decide) rfl ?_
  refine p_call1 (u := .slice (some ⟨z2.heap.size, 0, none⟩) 2 2) (d := some 10) rfl rfl rfl rfl rfl Try.call28 (hT.mono ?_)
  rintro e z4 ⟨v4, rfl, o4, hb4⟩
  have hz4 := keep_trans (keep_trans hz2b hbc) hb4
  refine ⟨_, rfl, hSf _ hz4, ?_⟩
  simp only [Act.put, List.setIfInBounds_toArray, List.set_cons_zero, List.set_cons_succ]
  refine at_takeD (i := 8) (m' := 511) (d := some 2) (v := v4) byreg rfl (by decide) rfl rfl (y_assignA rfl rfl rfl) (hSf _ hz4) ?_
  simp only [Act.put, List.setIfInBounds_toArray, List.set_cons_zero, List.set_cons_succ]
  refine at_done byreg (by decide) ?_
  go_wp2
  go_ret
  have hF := keep_trans hbA hz4
  exact ⟨_, rfl, o4.mono (by have := keep_trans hbA (keep_trans hz2b hbc); exact this.size), hF⟩
/-- a sum in a box: its key, where it stands -/
def SmB (W : World) (B h t : Nat) : Prop := ∃ f l g m : Nat, f < 2 ^ 64 ∧ l < 2 ^ 64 ∧ g < 2 ^ 64 ∧ m < 2 ^ 64 ∧ W.heap[B]? = some (.cells #[.int .u64 (f : Int), .int .u64 (l : Int), .int .u64 (g : Int), .int .u64 (m : Int)] 47 (0, 0)) ∧ pP f l = h ∧ pP g m = t
theorem smB_keep {W W' : World} {B h t : Nat} (s : SmB W B h t) (hk : W'.heap[B]? = W.heap[B]?) : SmB W' B h t := by
  obtain ⟨f, l, g, m, h1, h2, h3, h4, h5, h6⟩ := s
  exact ⟨f, l, g, m, h1, h2, h3, h4, hk.trans h5, h6⟩
theorem SmB.lt {W : World} {B h t : Nat} (s : SmB W B h t) : B < W.heap.size := by obtain ⟨f, l, g, m, _, _, _, _, h5, _⟩ := s; exact (Array.getElem?_eq_some_iff.1 h5).1
theorem smB_below {W W' : World} {B h t : Nat} (s : SmB W B h t) (hb : Below W.heap.size W W') : SmB W' B h t := smB_keep s (hb.block B s.lt)
end Go.Proofs.Ytjeofkemfpdieaa

/- A sum of blocks that goes on. -/
namespace Go.Proofs.Ytjeofkemfpdieaa
open Go.RowKit
set_option linter.unusedVariables false
set_option linter.unusedSimpArgs false

section
variable {ops : Array Oper} {Q : Exit → Act → World → Prop} {S : World → Prop} {K : Act → World → Prop}
theorem p_loadM {i : Nat} {o : Oper} {a : Act} {w : World} {t : TypeId} {x : Operand} {b c : Nat} {cs : List Value} {d : Option Nat} {td : TypeDesc} (hi : ops[i]? = some o) (hg : o.guard = none) (ho : o.op = .load t x) (hx : a.eval x = .pointer (some ⟨b, c, none⟩)) (hd : o.dst = d) (hc : w.rangeAt b c cs) (hu : Try.prog.underlying t = some td) (htd : td.isRow = true) (hs : (Try.prog.info? t).map (·.size) = some cs.length) (h : K (a.put d (.agg cs.toArray)) w) : wpOp Try.prog ops Q i K a w := by
  unfold wpOp
  simp only [hi]
  rw [if_pos (wanted_free hg)]
  left
  refine wp_load_mid t x ho b c hx cs td hc hu htd hs ?_
  rw [hd]
  exact h
theorem p_storeM {i : Nat} {o : Oper} {a : Act} {w : World} {t : TypeId} {x y : Operand} {b c : Nat} {cells : Array Value} (hi : ops[i]? = some o) (hg : o.guard = none) (ho : o.op = .store t x y) (hd : o.dst = none) (hx : a.eval x = .pointer (some ⟨b, c, none⟩)) (hy : a.eval y = .agg cells)
    (ht : w.there b c cells.size) (hs : (Try.prog.info? t).map (·.size) = some cells.size) (h1 : cells.all (·.oneCell') = true) (h : K a (w.setCells b c cells.toList)) : wpOp Try.prog ops Q i K a w := by
  unfold wpOp
  simp only [hi]
  rw [if_pos (wanted_free hg)]
  left
  refine wp_store_mid t x y ho b c cells hx hy ht hs h1 ?_
  rw [hd]
  exact h
end
theorem rangeQ {W : World} {B : Nat} {cs : Array Value} {t : TypeId} {fz : Nat × Nat} (h : W.heap[B]? = some (.cells cs t fz)) (o : Nat) (vs : List Value) (hv : ∀ j v, vs[j]? = some v → cs[o + j]? = some v) : W.rangeAt B o vs := fun j v hj => cell_ofQ h (hv j v hj)
theorem two_at {u v : Value} : ∀ (j : Nat) (x : Value), [u, v][j]? = some x → j = 0 ∧ x = u ∨ j = 1 ∧ x = v
  | 0, x, h => .inl ⟨rfl, by simpa using h.symm⟩
  | 1, x, h => .inr ⟨rfl, by simpa using h.symm⟩
  | j + 2, x, h => by simp at h
theorem there2Q {W : World} {B : Nat} {u v a b : Value} {t : TypeId} (h : W.heap[B]? = some (.cells #[u, v, a, b] t (0, 0))) : W.there B 2 2 := fun j hj => by
  match j, hj with
  | 0, _ => exact ⟨by rw [cell_ofQ (v := a) h rfl]; rfl, by simp [World.frozen?, h]⟩
  | 1, _ => exact ⟨by rw [cell_ofQ (v := b) h rfl]; rfl, by simp [World.frozen?, h]⟩
theorem setCell_heapQ {W : World} {B i : Nat} {cs : Array Value} {t : TypeId} {fz : Nat × Nat} (h : W.heap[B]? = some (.cells cs t fz)) (u : Value) : (W.setCell ⟨B, i, none⟩ u).heap[B]? = some (.cells (cs.setIfInBounds i u) t fz) := by
  have hl := (Array.getElem?_eq_some_iff.1 h).1
  obtain ⟨_, he⟩ := Array.getElem?_eq_some_iff.1 h
  simp [World.setCell, hl, Array.getElem_modify, he]
theorem set2Q {W : World} {B : Nat} {u v a b : Value} {t : TypeId} (h : W.heap[B]? = some (.cells #[u, v, a, b] t (0, 0))) (a' b' : Value) : (W.setCells B 2 [a', b']).heap[B]? = some (.cells #[u, v, a', b'] t (0, 0)) := by
  have h1 := setCell_heapQ h (i := 2) a'
  have h2 := setCell_heapQ h1 (i := 3) b'
  exact h2
def adlt : List Lt := [(0, some 4, [0]), (0, some 5, [0]), (2, some 6, [5]), (4, some 7, [6]), (8, some 8, [7]), (0, some 9, [3]), (48, some 10, [8, 9]), (0, some 11, [0]), (128, some 12, [11]), (256, some 13, [12]), (512, some 14, [13]), (1088, some 15, [10, 14]), (4095, some 16, [4]), (8191, some 17, [16]), (12287, none, [17, 15])]
theorem adreg : Reg (opsA (cRA (Try.f25.body.getD .skip))) adlt := ⟨by kernel_rfl, by kernel_rfl⟩
set_option maxHeartbeats 2000000 in
set_option maxRecDepth 100000 in
theorem add_any (B h t p : Nat) (v : Value) (w : World) (hs : SmB w B h t) (hv : Bk v p) :
    Calls Try.prog 25 #[.pointer (some ⟨B, 0, none⟩), v] w fun e w' => (∃ u, e = .returned u) ∧ SmB w' B h (mulG (t ^^^ p) h) ∧ But B w w' := by
  have hsl := hs.lt
  obtain ⟨f, l, g, m, hf, hl, hg, hm, hB, hh, ht⟩ := hs
  obtain ⟨pf, pl, hpf, hpl, rfl, hp⟩ := hv
  have h0 : (w.alloc (.cells #[.int .u64 (pf : Int), .int .u64 (pl : Int)] 41)).heap[w.heap.size]? = some (.cells #[.int .u64 (pf : Int), .int .u64 (pl : Int)] 41 (0, 0)) := heap_alloc_new _ _
  have hbA := keep_alloc w (.cells #[.int .u64 (pf : Int), .int .u64 (pl : Int)] 41)
  have hxo := fun y => xored_any _ _ t p y ⟨g, m, hg, hm, rfl, ht⟩ ⟨pf, pl, hpf, hpl, rfl, hp⟩
  have hti := fun y u (hu : Bk u (t ^^^ p)) => times_any u _ (t ^^^ p) h y hu ⟨f, l, hf, hl, rfl, hh⟩
  have HH := hide (And.intro hf (And.intro hl hh))
  clear hf hl hg hm hpf hpl hh ht hp
  go_enter Try.func25, Try.ntmps25
  go_wp2
  generalize w.alloc (.cells #[.int .u64 (pf : Int), .int .u64 (pl : Int)] 41) = W at *
  have hbd : Below W.heap.size W W.drew := (Below.refl _ _).drew
  have hWB : W.heap[B]? = _ := (hbA.block _ hsl).trans hB
  have lB := (Array.getElem?_eq_some_iff.1 hWB).1
  have lG := (Array.getElem?_eq_some_iff.1 h0).1
  have hSf : ∀ y : World, y.heap[w.heap.size]? = W.heap[w.heap.size]? → y.heap[B]? = some (.cells #[.int .u64 (f : Int), .int .u64 (l : Int), .int .u64 (g : Int), .int .u64 (m : Int)] 47 (0, 0)) ∨ (∃ g' m' : Nat, y.heap[B]? = some (.cells #[.int .u64 (f : Int), .int .u64 (l : Int), .int .u64 (g' : Int), .int .u64 (m' : Int)] 47 (0, 0))) → y.rangeAt w.heap.size 0 [.int .u64 (pf : Int), .int .u64 (pl : Int)] ∧ y.rangeAt B 0 [.int .u64 (f : Int), .int .u64 (l : Int)] := fun y hy hyB => by
    refine ⟨rangeQ (hy.trans h0) 0 _ fun j x hj => ?_, ?_⟩
    · rcases two_at j x hj with ⟨rfl, rfl⟩ | ⟨rfl, rfl⟩ <;> rfl
    · rcases hyB with hyB | ⟨g', m', hyB⟩
      · refine rangeQ hyB 0 _ fun j x hj => ?_
        rcases two_at j x hj with ⟨rfl, rfl⟩ | ⟨rfl, rfl⟩ <;> rfl
      · refine rangeQ hyB 0 _ fun j x hj => ?_
        rcases two_at j x hj with ⟨rfl, rfl⟩ | ⟨rfl, rfl⟩ <;> rfl
  have hSb : ∀ y, Below W.heap.size W y → y.rangeAt w.heap.size 0 [.int .u64 (pf : Int), .int .u64 (pl : Int)] ∧ y.rangeAt B 0 [.int .u64 (f : Int), .int .u64 (l : Int)] := fun y hy => hSf y (hy.block _ lG) (.inl ((hy.block _ lB).trans hWB))
  have hS0 := hSb _ hbd
  refine at_begin (ops := (opsA (cRA (Try.f25.body.getD .skip)))) (n := 15) (fun y => y.rangeAt w.heap.size 0 [.int .u64 (pf : Int), .int .u64 (pl : Int)] ∧ y.rangeAt B 0 [.int .u64 (f : Int), .int .u64 (l : Int)]) (by kernel_rfl) (by kernel_rfl) ?_
  refine at_takeD (i := 0) (m' := 1) (d := some 4) (v := .pointer (some ⟨B, 0, none⟩)) adreg rfl (by decide) rfl rfl (y_move rfl rfl rfl) hS0 ?_
  simp only [Act.put, List.setIfInBounds_toArray, List.set_cons_zero, List.set_cons_succ]
  refine at_takeD (i := 1) (m' := 3) (d := some 5) (v := .pointer (some ⟨B, 0, none⟩)) adreg rfl (by decide) rfl rfl (y_move rfl rfl rfl) hS0 ?_
  simp only [Act.put, List.setIfInBounds_toArray, List.set_cons_zero, List.set_cons_succ]
  refine at_takeD (i := 2) (m' := 7) (d := some 6) (v := .pointer (some ⟨B, 0, none⟩)) adreg rfl (by decide) rfl rfl (y_nilQ rfl rfl rfl) hS0 ?_
  simp only [Act.put, List.setIfInBounds_toArray, List.set_cons_zero, List.set_cons_succ]
  refine at_takeD (i := 3) (m' := 15) (d := some 7) (v := .pointer (some ⟨B, 2, none⟩)) adreg rfl (by decide) rfl rfl (y_fieldQ rfl rfl rfl (fS1 _)) hS0 ?_
  simp only [Act.put, List.setIfInBounds_toArray, List.set_cons_zero, List.set_cons_succ]
  refine at_takeD (i := 5) (m' := 47) (d := some 9) (v := .agg #[.int .u64 (pf : Int), .int .u64 (pl : Int)]) adreg rfl (by decide) rfl rfl (y_load_row (cs := [.int .u64 (pf : Int), .int .u64 (pl : Int)]) rfl rfl rfl Try.underlying41 rfl (by kernel_rfl) (fun _ h => h.1)) hS0 ?_
  simp only [Act.put, List.setIfInBounds_toArray, List.set_cons_zero, List.set_cons_succ]
  refine at_takeD (i := 7) (m' := 175) (d := some 11) (v := .pointer (some ⟨B, 0, none⟩)) adreg rfl (by decide) rfl rfl (y_move rfl rfl rfl) hS0 ?_
  simp only [Act.put, List.setIfInBounds_toArray, List.set_cons_zero, List.set_cons_succ]
  refine at_takeD (i := 8) (m' := 431) (d := some 12) (v := .pointer (some ⟨B, 0, none⟩)) adreg rfl (by decide) rfl rfl (y_nilQ rfl rfl rfl) hS0 ?_
  simp only [Act.put, List.setIfInBounds_toArray, List.set_cons_zero, List.set_cons_succ]
  refine at_takeD (i := 9) (m' := 943) (d := some 13) (v := .pointer (some ⟨B, 0, none⟩)) adreg rfl (by decide) rfl rfl (y_fieldQ rfl rfl rfl (fS0 _)) hS0 ?_
  simp only [Act.put, List.setIfInBounds_toArray, List.set_cons_zero, List.set_cons_succ]
  refine at_takeD (i := 10) (m' := 1967) (d := some 14) (v := .agg #[.int .u64 (f : Int), .int .u64 (l : Int)]) adreg rfl (by decide) rfl rfl (y_load_row (cs := [.int .u64 (f : Int), .int .u64 (l : Int)]) rfl rfl rfl Try.underlying41 rfl (by kernel_rfl) (fun _ h => h.2)) hS0 ?_
  simp only [Act.put, List.setIfInBounds_toArray, List.set_cons_zero, List.set_cons_succ]
  refine at_one (i := 4) (m' := 1983) adreg (by decide) rfl ?_
  have hrg : W.drew.rangeAt B 2 [.int .u64 (g : Int), .int .u64 (m : Int)] := by
    refine rangeQ (W := W.drew) hWB 2 _ fun j x hj => ?_
    rcases two_at j x hj with ⟨rfl, rfl⟩ | ⟨rfl, rfl⟩ <;> rfl
  refine p_loadM (cs := [.int .u64 (g : Int), .int .u64 (m : Int)]) (d := some 8) rfl rfl rfl rfl rfl hrg Try.underlying41 rfl (by kernel_rfl) ⟨hS0, ?_⟩
  simp only [Act.put, List.setIfInBounds_toArray, List.set_cons_zero, List.set_cons_succ]
  refine at_one (i := 6) (m' := 2047) adreg (by decide) rfl ?_
  refine p_call2 (u := .agg #[.int .u64 (g : Int), .int .u64 (m : Int)]) (v := .agg #[.int .u64 (pf : Int), .int .u64 (pl : Int)]) (d := some 10) rfl rfl rfl rfl rfl rfl Try.call35 ((hxo _).mono ?_)
  rintro e z1 ⟨r1, rfl, k1, hb1⟩
  have hz1 := keep_trans hbd hb1
  refine ⟨_, rfl, hSb _ hz1, ?_⟩
  simp only [Act.put, List.setIfInBounds_toArray, List.set_cons_zero, List.set_cons_succ]
  refine at_one (i := 11) (m' := 4095) adreg (by decide) rfl ?_
  refine p_call2 (u := r1) (v := .agg #[.int .u64 (f : Int), .int .u64 (l : Int)]) (d := some 15) rfl rfl rfl rfl rfl rfl Try.call21 ((hti _ _ k1).mono ?_)
  rintro e z2 ⟨r2, rfl, ⟨f2, l2, hf2, hl2, rfl, h2⟩, hb2⟩
  have hz2 := keep_trans hz1 hb2
  have hS2 := hSb _ hz2
  refine ⟨_, rfl, hS2, ?_⟩
  simp only [Act.put, List.setIfInBounds_toArray, List.set_cons_zero, List.set_cons_succ]
  refine at_takeD (i := 12) (m' := 8191) (d := some 16) (v := .pointer (some ⟨B, 0, none⟩)) adreg rfl (by decide) rfl rfl (y_nilQ rfl rfl rfl) hS2 ?_
  simp only [Act.put, List.setIfInBounds_toArray, List.set_cons_zero, List.set_cons_succ]
  refine at_takeD (i := 13) (m' := 16383) (d := some 17) (v := .pointer (some ⟨B, 2, none⟩)) adreg rfl (by decide) rfl rfl (y_fieldQ rfl rfl rfl (fS1 _)) hS2 ?_
  simp only [Act.put, List.setIfInBounds_toArray, List.set_cons_zero, List.set_cons_succ]
  refine at_one (i := 14) (m' := 32767) adreg (by decide) rfl ?_
  have hB2 := (hz2.block _ lB).trans hWB
  have hB3 := set2Q hB2 (.int .u64 (f2 : Int)) (.int .u64 (l2 : Int))
  have hBt : But B z2 (z2.setCells B 2 [.int .u64 (f2 : Int), .int .u64 (l2 : Int)]) := ((But.refl _ _).setCell 2 _).setCell 3 _
  have hG3 := (hBt.block w.heap.size (Nat.lt_of_lt_of_le lG hz2.size) (by omega)).trans (hz2.block _ lG)
  refine p_storeM (b := B) (c := 2) (cells := #[.int .u64 (f2 : Int), .int .u64 (l2 : Int)]) rfl rfl rfl rfl rfl rfl (there2Q hB2) (by kernel_rfl) (one2Q _ _) ⟨hSf _ hG3 (.inr ⟨f2, l2, hB3⟩), ?_⟩
  refine at_done adreg (by decide) ?_
  go_wp2
  go_end0
  exact ⟨⟨_, rfl⟩, ⟨f, l, f2, l2, HH.out.1, HH.out.2.1, hf2, hl2, hB3, HH.out.2.2, h2⟩, (But.of_below (keep_trans hbA hz2)).trans hBt⟩
end Go.Proofs.Ytjeofkemfpdieaa
