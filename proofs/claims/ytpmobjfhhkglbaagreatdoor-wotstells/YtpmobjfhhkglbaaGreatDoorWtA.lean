/- Keys of chains: the document's pair and short; steps of plans over a place's box. -/
import Derived.Test.YtpmobjfhhkglbaaGreatDoorWtP
import Derived.Test.YtpmobjfhhkglbaaGreatDoorGEn64
namespace Go.Proofs.YtpmobjfhhkglbaaGreatDoor
open Go.RowKit
set_option linter.unusedVariables false
set_option linter.unusedSimpArgs false

theorem p_build3G {ops : Array Oper} {Q : Exit → Act → World → Prop} {K : Act → World → Prop} {i : Nat} {o : Oper} {a : Act} {w : World} {t e : TypeId} {p q r : Operand} {adp adq adr : Option Addr} {np cp nq cq nr cr : Nat} {d : Option Nat} {z : TypeInfo} (hi : ops[i]? = some o) (hw : Region.wanted o (yielded ops a.tmps) = true) (ho : o.op = .buildSlice t 3 #[(0, p), (1, q), (2, r)]) (hp : a.eval p = .slice adp np cp) (hq : a.eval q = .slice adq nq cq) (hr : a.eval r = .slice adr nr cr) (hd : o.dst = d)
    (hu : Tryz.prog.underlying t = some (.slice e)) (hz : Tryz.prog.info? e = some z) (hsz : z.size = 1) (hz0 : z.zero = some (.slice none 0 0)) (h : K (a.put d (.slice (some ⟨w.heap.size, 0, none⟩) 3 3)) (w.alloc (.cells #[.slice adp np cp, .slice adq nq cq, .slice adr nr cr] e))) : wpOp Tryz.prog ops Q i K a w := by
  have hr : (execOp a.eval o).run Tryz.prog w = .ok (.value (.slice (some ⟨w.heap.size, 0, none⟩) 3 3)) (w.alloc (.cells #[.slice adp np cp, .slice adq nq cq, .slice adr nr cr] e)) := by
    unfold execOp
    simp only [ho, List.map_toArray, List.map_cons, List.map_nil, hp, hq, hr]
    simp [Sem.run_bind, run_underlying hu, sizeOf, typeInfo, zeroValue, hz, hsz, hz0, go_sem]
  unfold wpOp
  simp only [hi]
  rw [if_pos hw]
  left
  unfold Oper.wp
  rw [hr]
  show K (a.put o.dst _) _
  rw [hd]
  exact h
theorem p_build4G {ops : Array Oper} {Q : Exit → Act → World → Prop} {K : Act → World → Prop} {i : Nat} {o : Oper} {a : Act} {w : World} {t e : TypeId} {p q r s : Operand} {adp adq adr ads : Option Addr} {np cp nq cq nr cr ns cs : Nat} {d : Option Nat} {z : TypeInfo} (hi : ops[i]? = some o) (hw : Region.wanted o (yielded ops a.tmps) = true) (ho : o.op = .buildSlice t 4 #[(0, p), (1, q), (2, r), (3, s)]) (hp : a.eval p = .slice adp np cp) (hq : a.eval q = .slice adq nq cq) (hr : a.eval r = .slice adr nr cr) (hs : a.eval s = .slice ads ns cs) (hd : o.dst = d)
    (hu : Tryz.prog.underlying t = some (.slice e)) (hz : Tryz.prog.info? e = some z) (hsz : z.size = 1) (hz0 : z.zero = some (.slice none 0 0)) (h : K (a.put d (.slice (some ⟨w.heap.size, 0, none⟩) 4 4)) (w.alloc (.cells #[.slice adp np cp, .slice adq nq cq, .slice adr nr cr, .slice ads ns cs] e))) : wpOp Tryz.prog ops Q i K a w := by
  have hr : (execOp a.eval o).run Tryz.prog w = .ok (.value (.slice (some ⟨w.heap.size, 0, none⟩) 4 4)) (w.alloc (.cells #[.slice adp np cp, .slice adq nq cq, .slice adr nr cr, .slice ads ns cs] e)) := by
    unfold execOp
    simp only [ho, List.map_toArray, List.map_cons, List.map_nil, hp, hq, hr, hs]
    simp [Sem.run_bind, run_underlying hu, sizeOf, typeInfo, zeroValue, hz, hsz, hz0, go_sem]
  unfold wpOp
  simp only [hi]
  rw [if_pos hw]
  left
  unfold Oper.wp
  rw [hr]
  show K (a.put o.dst _) _
  rw [hd]
  exact h
theorem run_midA3_4 {o : Oper} {a : Act} (w : World) {x : Operand} {g : Nat} (ho : o.op = .slice 25 x (some (.const (.int .i64 3))) (some (.const (.int .i64 4))) none) (hx : a.eval x = .pointer (some ⟨g, 0, none⟩)) : (execOp a.eval o).run Tryz.prog w = .ok (.value (.slice (some ⟨g, 3, none⟩) 1 29)) w := by
  obtain ⟨i0, hi0, hz0, hz1, hz2⟩ := info_byte
  have hr : (execOp a.eval o).run Tryz.prog w = .ok (.value (.slice (some ⟨g, 3, none⟩) 1 29)) w := by
    unfold execOp
    simp only [ho, hx, Option.map_some, Option.map_none, ev_const]
    simp [Instr.sliceAt, Instr.slice, Instr.sliceBounds, Sem.run_bind, run_underlying Tryz.underlying25, run_underlying Tryz.underlying27, sizeOf, typeInfo, hi0, hz1, Addr.add, go_sem]
  exact hr
theorem y_midA3_4 {ops : Array Oper} {S : World → Prop} {o : Oper} {a : Act} {x : Operand} {g : Nat} (hw : Region.wanted o (yielded ops a.tmps) = true) (ho : o.op = .slice 25 x (some (.const (.int .i64 3))) (some (.const (.int .i64 4))) none) (hx : a.eval x = .pointer (some ⟨g, 0, none⟩)) : YieldsIf Tryz.prog ops S o (.slice (some ⟨g, 3, none⟩) 1 29) a := .inl ⟨hw, fun w _ => run_midA3_4 w ho hx⟩
theorem run_midA8_16 {o : Oper} {a : Act} (w : World) {x : Operand} {g : Nat} (ho : o.op = .slice 25 x (some (.const (.int .i64 8))) (some (.const (.int .i64 16))) none) (hx : a.eval x = .pointer (some ⟨g, 0, none⟩)) : (execOp a.eval o).run Tryz.prog w = .ok (.value (.slice (some ⟨g, 8, none⟩) 8 24)) w := by
  obtain ⟨i0, hi0, hz0, hz1, hz2⟩ := info_byte
  have hr : (execOp a.eval o).run Tryz.prog w = .ok (.value (.slice (some ⟨g, 8, none⟩) 8 24)) w := by
    unfold execOp
    simp only [ho, hx, Option.map_some, Option.map_none, ev_const]
    simp [Instr.sliceAt, Instr.slice, Instr.sliceBounds, Sem.run_bind, run_underlying Tryz.underlying25, run_underlying Tryz.underlying27, sizeOf, typeInfo, hi0, hz1, Addr.add, go_sem]
  exact hr
theorem y_midA8_16 {ops : Array Oper} {S : World → Prop} {o : Oper} {a : Act} {x : Operand} {g : Nat} (hw : Region.wanted o (yielded ops a.tmps) = true) (ho : o.op = .slice 25 x (some (.const (.int .i64 8))) (some (.const (.int .i64 16))) none) (hx : a.eval x = .pointer (some ⟨g, 0, none⟩)) : YieldsIf Tryz.prog ops S o (.slice (some ⟨g, 8, none⟩) 8 24) a := .inl ⟨hw, fun w _ => run_midA8_16 w ho hx⟩
theorem run_midA19_20 {o : Oper} {a : Act} (w : World) {x : Operand} {g : Nat} (ho : o.op = .slice 25 x (some (.const (.int .i64 19))) (some (.const (.int .i64 20))) none) (hx : a.eval x = .pointer (some ⟨g, 0, none⟩)) : (execOp a.eval o).run Tryz.prog w = .ok (.value (.slice (some ⟨g, 19, none⟩) 1 13)) w := by
  obtain ⟨i0, hi0, hz0, hz1, hz2⟩ := info_byte
  have hr : (execOp a.eval o).run Tryz.prog w = .ok (.value (.slice (some ⟨g, 19, none⟩) 1 13)) w := by
    unfold execOp
    simp only [ho, hx, Option.map_some, Option.map_none, ev_const]
    simp [Instr.sliceAt, Instr.slice, Instr.sliceBounds, Sem.run_bind, run_underlying Tryz.underlying25, run_underlying Tryz.underlying27, sizeOf, typeInfo, hi0, hz1, Addr.add, go_sem]
  exact hr
theorem y_midA19_20 {ops : Array Oper} {S : World → Prop} {o : Oper} {a : Act} {x : Operand} {g : Nat} (hw : Region.wanted o (yielded ops a.tmps) = true) (ho : o.op = .slice 25 x (some (.const (.int .i64 19))) (some (.const (.int .i64 20))) none) (hx : a.eval x = .pointer (some ⟨g, 0, none⟩)) : YieldsIf Tryz.prog ops S o (.slice (some ⟨g, 19, none⟩) 1 13) a := .inl ⟨hw, fun w _ => run_midA19_20 w ho hx⟩
theorem run_midA20_32 {o : Oper} {a : Act} (w : World) {x : Operand} {g : Nat} (ho : o.op = .slice 25 x (some (.const (.int .i64 20))) (some (.const (.int .i64 32))) none) (hx : a.eval x = .pointer (some ⟨g, 0, none⟩)) : (execOp a.eval o).run Tryz.prog w = .ok (.value (.slice (some ⟨g, 20, none⟩) 12 12)) w := by
  obtain ⟨i0, hi0, hz0, hz1, hz2⟩ := info_byte
  have hr : (execOp a.eval o).run Tryz.prog w = .ok (.value (.slice (some ⟨g, 20, none⟩) 12 12)) w := by
    unfold execOp
    simp only [ho, hx, Option.map_some, Option.map_none, ev_const]
    simp [Instr.sliceAt, Instr.slice, Instr.sliceBounds, Sem.run_bind, run_underlying Tryz.underlying25, run_underlying Tryz.underlying27, sizeOf, typeInfo, hi0, hz1, Addr.add, go_sem]
  exact hr
theorem y_midA20_32 {ops : Array Oper} {S : World → Prop} {o : Oper} {a : Act} {x : Operand} {g : Nat} (hw : Region.wanted o (yielded ops a.tmps) = true) (ho : o.op = .slice 25 x (some (.const (.int .i64 20))) (some (.const (.int .i64 32))) none) (hx : a.eval x = .pointer (some ⟨g, 0, none⟩)) : YieldsIf Tryz.prog ops S o (.slice (some ⟨g, 20, none⟩) 12 12) a := .inl ⟨hw, fun w _ => run_midA20_32 w ho hx⟩
/-- a slice of n bytes 0 -/
theorem p_makeX {ops : Array Oper} {Q : Exit → Act → World → Prop} {K : Act → World → Prop} {i : Nat} {o : Oper} {a : Act} {w : World} {n : Nat} {x y : Operand} {d : Option Nat} (hi : ops[i]? = some o) (hw : Region.wanted o (yielded ops a.tmps) = true) (ho : o.op = .makeSlice 27 x y) (hx : a.eval x = .int .i64 (n : Int)) (hy : a.eval y = .int .i64 (n : Int)) (hd : o.dst = d) (hn : n ≤ 100000)
    (h : ∀ w', Own 5 .u8 256 w' w.heap.size (.slice (some ⟨w.heap.size, 0, none⟩) n n) (List.replicate n 0) → Below w.heap.size w w' → K (a.put d (.slice (some ⟨w.heap.size, 0, none⟩) n n)) w') : wpOp Tryz.prog ops Q i K a w := by
  obtain ⟨i0, hi0, hz0, hz1, hz2⟩ := info_parts Tryz.info5
  obtain ⟨w', hrun, r1, r2⟩ := run_make_full (P := Tryz.prog) w w.heap.size 27 5 i0 (.int .u8 0) 1 Tryz.underlying27 hi0 hz0 hz1 .i64 .i64 n (by rw [hz2]; omega) (by unfold maxLen; omega) (Nat.le_refl _)
  rw [made_u8] at r1
  have hb := (Below.refl w.heap.size w).grown r2 (Nat.le_refl _) (fun k h => by cases h)
  have hr : (execOp a.eval o).run Tryz.prog w = .ok (.value (.slice (some ⟨w.heap.size, 0, none⟩) n n)) w' := by
    unfold execOp
    simp only [ho, hx, hy]
    simp [hrun, Sem.run_bind]
  unfold wpOp
  simp only [hi]
  rw [if_pos hw]
  left
  unfold Oper.wp
  rw [hr]
  show K (a.put o.dst _) _
  rw [hd]
  exact h w' ⟨by rw [List.length_replicate]; exact r1, Under.replicate 256 n (by decide)⟩ hb
theorem run_arrA {o : Oper} {a : Act} (w : World) {x : Operand} {g : Nat} (ho : o.op = .slice 25 x none none none) (hx : a.eval x = .pointer (some ⟨g, 0, none⟩)) : (execOp a.eval o).run Tryz.prog w = .ok (.value (.slice (some ⟨g, 0, none⟩) 32 32)) w := by
  obtain ⟨i0, hi0, hz0, hz1, hz2⟩ := info_byte
  unfold execOp
  simp only [ho, hx, Option.map_none]
  simp [Instr.sliceAt, Instr.slice, Instr.sliceBounds, Sem.run_bind, run_underlying Tryz.underlying25, run_underlying Tryz.underlying27, sizeOf, typeInfo, hi0, hz1, Addr.add, go_sem]
theorem y_arrA {ops : Array Oper} {S : World → Prop} {o : Oper} {a : Act} {x : Operand} {g : Nat} (hw : Region.wanted o (yielded ops a.tmps) = true) (ho : o.op = .slice 25 x none none none) (hx : a.eval x = .pointer (some ⟨g, 0, none⟩)) : YieldsIf Tryz.prog ops S o (.slice (some ⟨g, 0, none⟩) 32 32) a := .inl ⟨hw, fun w _ => run_arrA w ho hx⟩
/-- a place in a box is a text -/
theorem row_ad {w : World} {g : Nat} {a : List Nat} (h : Lies .u8 25 w g a) (ha : Pl a) : Row .u8 256 w (.slice (some ⟨g, 0, none⟩) 32 32) a :=
  ⟨_, 32, by rw [ha.1], by rw [ha.1]; exact Nat.le_refl _, by unfold maxLen; decide, fun _ => ⟨g, 0, rfl, fun i hi => by rw [Nat.zero_add]; exact h.cell hi⟩, ha.2⟩
theorem tidy_someW {b o n c : Nat} : Tidy (.slice (some ⟨b, o, none⟩) n c) := fun n c e => by cases e
/-- a place, short -/
def shA (a : List Nat) : List Nat := (a.drop 3).take 1 ++ ((a.drop 8).take 8 ++ ((a.drop 19).take 1 ++ (a.drop 20).take 12))
theorem shA_len {a : List Nat} (ha : a.length = 32) : (shA a).length = 22 := by
  unfold shA
  simp only [List.length_append, List.length_take, List.length_drop]
  omega
def sh1lt : List Lt := [(0, some 3, [1]), (0, some 4, [1]), (0, some 5, [1]), (0, some 6, [1]), (15, some 7, [3, 4, 5, 6]), (16, some 8, [7]), (63, some 2, [8])]
theorem sh1reg : Reg (opsA (cLA (cRA (Tryz.f39.body.getD .skip)))) sh1lt := ⟨by kernel_rfl, by kernel_rfl⟩
set_option maxHeartbeats 4000000 in
set_option maxRecDepth 100000 in
theorem rshort_any (a : List Nat) (w : World) (ha : Pl a) :
    Calls Tryz.prog 39 #[.agg (arr .u8 a)] w fun e w' => ∃ v, e = .returned v ∧ Own 5 .u8 256 w' w.heap.size v (shA a) ∧ Below w.heap.size w w' := by
  obtain ⟨W0, hW0⟩ : ∃ W0 : World, W0 = w.alloc (.cells (arr .u8 a) 25) := ⟨_, rfl⟩
  have hb0 : Below w.heap.size w W0 := by rw [hW0]; exact keep_alloc _ _
  have L0 : Lies .u8 25 W0 w.heap.size a := by rw [hW0]; exact Lies.new .u8 25 w a
  have r := row_ad L0 ha
  have q1 : Row .u8 256 W0 (.slice (some ⟨w.heap.size, 3, none⟩) 1 29) ((a.drop 3).take 1) := by have := r.mid (i := 3) (j := 4) (by decide) (by rw [ha.1]; decide); simpa using this
  have q2 : Row .u8 256 W0 (.slice (some ⟨w.heap.size, 8, none⟩) 8 24) ((a.drop 8).take 8) := by have := r.mid (i := 8) (j := 16) (by decide) (by rw [ha.1]; decide); simpa using this
  have q3 : Row .u8 256 W0 (.slice (some ⟨w.heap.size, 19, none⟩) 1 13) ((a.drop 19).take 1) := by have := r.mid (i := 19) (j := 20) (by decide) (by rw [ha.1]; decide); simpa using this
  have q4 : Row .u8 256 W0 (.slice (some ⟨w.heap.size, 20, none⟩) 12 12) ((a.drop 20).take 12) := by have := r.mid (i := 20) (j := 32) (by decide) (by rw [ha.1]; exact Nat.le_refl _); simpa using this
  have t1 : Tidy (.slice (some ⟨w.heap.size, 3, none⟩) 1 29) := tidy_someW
  have t2 : Tidy (.slice (some ⟨w.heap.size, 8, none⟩) 8 24) := tidy_someW
  have t3 : Tidy (.slice (some ⟨w.heap.size, 19, none⟩) 1 13) := tidy_someW
  have t4 : Tidy (.slice (some ⟨w.heap.size, 20, none⟩) 12 12) := tidy_someW
  have hl := shA_len ha.1
  have hjn : ∀ y lv, Rows2 y lv [(a.drop 3).take 1, (a.drop 8).take 8, (a.drop 19).take 1, (a.drop 20).take 12] → Calls Tryz.prog 37 #[lv] y fun e w' => ∃ v, e = .returned v ∧ Own 5 .u8 256 w' y.heap.size v (shA a) ∧ Below y.heap.size y w' := fun y lv r => by
    have := rjoin_any lv _ y r (by simp only [List.flatten_cons, List.flatten_nil, List.append_nil, List.length_append, List.length_take, List.length_drop]; omega)
    simpa [shA] using this
  obtain ⟨SA, hSA⟩ : ∃ x, x = shA a := ⟨_, rfl⟩
  rw [← hSA] at hjn ⊢
  generalize (a.drop 3).take 1 = p1 at *
  generalize (a.drop 8).take 8 = p2 at *
  generalize (a.drop 19).take 1 = p3 at *
  generalize (a.drop 20).take 12 = p4 at *
  obtain ⟨i0, hi0, hz0, hz1, hz2⟩ := info_text
  have hbd : Below W0.heap.size W0 W0.drew := (Below.refl _ _).drew
  clear r L0 ha hl hSA
  go_enter Tryz.func39, Tryz.ntmps39
  go_wp2
  rw [← hW0]
  clear hW0
  refine at_begin (ops := opsA (cLA (cRA (Tryz.f39.body.getD .skip)))) (n := 7) (fun y => Below W0.heap.size W0 y) (by kernel_rfl) (by kernel_rfl) ?_
  refine at_takeD (i := 0) (m' := 1) (d := some 3) (v := .slice (some ⟨w.heap.size, 3, none⟩) 1 29) sh1reg rfl (by decide) rfl rfl (y_midA3_4 (wanted_free rfl) rfl rfl) hbd ?_
  simp only [Act.put, List.setIfInBounds_toArray, List.set_cons_zero, List.set_cons_succ]
  refine at_takeD (i := 1) (m' := 3) (d := some 4) (v := .slice (some ⟨w.heap.size, 8, none⟩) 8 24) sh1reg rfl (by decide) rfl rfl (y_midA8_16 (wanted_free rfl) rfl rfl) hbd ?_
  simp only [Act.put, List.setIfInBounds_toArray, List.set_cons_zero, List.set_cons_succ]
  refine at_takeD (i := 2) (m' := 7) (d := some 5) (v := .slice (some ⟨w.heap.size, 19, none⟩) 1 13) sh1reg rfl (by decide) rfl rfl (y_midA19_20 (wanted_free rfl) rfl rfl) hbd ?_
  simp only [Act.put, List.setIfInBounds_toArray, List.set_cons_zero, List.set_cons_succ]
  refine at_takeD (i := 3) (m' := 15) (d := some 6) (v := .slice (some ⟨w.heap.size, 20, none⟩) 12 12) sh1reg rfl (by decide) rfl rfl (y_midA20_32 (wanted_free rfl) rfl rfl) hbd ?_
  simp only [Act.put, List.setIfInBounds_toArray, List.set_cons_zero, List.set_cons_succ]
  refine at_one (i := 4) (m' := 31) sh1reg (by decide) rfl ?_
  refine p_build4G (d := some 7) rfl (wanted_free rfl) rfl rfl rfl rfl rfl rfl Tryz.underlying41 hi0 hz1 hz0 ?_
  have hb5 := keep_trans hbd (keep_alloc W0.drew (.cells #[.slice (some ⟨w.heap.size, 3, none⟩) 1 29, .slice (some ⟨w.heap.size, 8, none⟩) 8 24, .slice (some ⟨w.heap.size, 19, none⟩) 1 13, .slice (some ⟨w.heap.size, 20, none⟩) 12 12] 27))
  have rr := rows_litL (B := W0.drew.heap.size) (k := 4) (texts_cons (q1.below hbd) t1 (texts_cons (q2.below hbd) t2 (texts_cons (q3.below hbd) t3 (texts_cons (q4.below hbd) t4 (Texts.nil _))))) rfl rfl (by decide)
  refine ⟨hb5, ?_⟩
  simp only [Act.put, List.setIfInBounds_toArray, List.set_cons_zero, List.set_cons_succ]
  refine at_one (i := 5) (m' := 63) sh1reg (by decide) rfl ?_
  refine p_callG (args := #[.slice (some ⟨W0.drew.heap.size, 0, none⟩) 4 4]) (d := some 8) rfl (wanted_free rfl) rfl (by simp only [List.map_toArray, List.map_cons, List.map_nil]; rfl) rfl Tryz.call37 ((hjn (W0.drew.alloc (.cells #[.slice (some ⟨w.heap.size, 3, none⟩) 1 29, .slice (some ⟨w.heap.size, 8, none⟩) 8 24, .slice (some ⟨w.heap.size, 19, none⟩) 1 13, .slice (some ⟨w.heap.size, 20, none⟩) 12 12] 27)) _ rr).mono ?_)
  rintro e y6 ⟨jv, rfl, oj, g6⟩
  have ybs := (hb5).size
  have hb6 := keep_trans hb5 g6
  refine ⟨_, rfl, hb6, ?_⟩
  simp only [Act.put, List.setIfInBounds_toArray, List.set_cons_zero, List.set_cons_succ]
  refine at_takeD (i := 6) (m' := 127) (d := some 2) (v := jv) sh1reg rfl (by decide) rfl rfl (y_assignG (wanted_free rfl) rfl rfl) hb6 ?_
  simp only [Act.put, List.setIfInBounds_toArray, List.set_cons_zero, List.set_cons_succ]
  refine at_done sh1reg (by decide) ?_
  go_wp2
  go_ret
  exact ⟨_, rfl, oj.mono (Nat.le_trans hb0.size ybs), keep_trans hb0 hb6⟩
end Go.Proofs.YtpmobjfhhkglbaaGreatDoor
