/- Words for the laws of keccak: what is equal to itself. -/
import Derived.Test.YtnbohjoakngkeaaDoorCSm
import Derived.ChangeKeysEq
namespace Go.Proofs.YtnbohjoakngkeaaDoor
open Go.RowKit
set_option linter.unusedVariables false
set_option linter.unusedSimpArgs false

theorem infoU64 : (Tryd.prog.info? 22).map (fun i => (i.zero, i.size, i.bytes)) = some (some (.int .u64 0), 1, 8) := by kernel_rfl
theorem items_self {P : Program} (w : World) (d : Nat) {e : TypeId} {k : IntKind} (he : P.underlying e = some (.int k)) (xs : List Nat) : ∀ is : List Nat, (∀ i ∈ is, i < xs.length) →
    (Op.eqItems (d + 1) e 1 (arr k xs) (arr k xs) is).run P w = .ok true w
  | [], _ => by simp [Op.eqItems]
  | i :: is, h => by
    have h1 := h i (by simp)
    have hag : (isAgg e).run P w = .ok false w := by unfold isAgg; rw [Sem.run_bind, run_underlying he w]; rfl
    have px : (part e (arr k xs) (i * 1)).run P w = .ok (.int k (el xs i)) w := by simp [part, hag, arr_get k xs i h1]
    have pe := run_equalIn_int (P := P) w d e k k (el xs i) (el xs i) he
    have ih := items_self w d he xs is (fun j hj => h j (by simp [hj]))
    rw [beq_self_eq_true] at pe
    simp only [Op.eqItems, Sem.run_bind, px, pe, Result.andThen_ok]
    simpa using ih
theorem eq_words (d : Nat) (l : List Nat) (h : l.length = 25) (w : World) : (Op.equalIn (d + 2) 23 (.agg (arr .u64 l)) (.agg (arr .u64 l))).run Tryd.prog w = .ok true w := by
  obtain ⟨i0, hi, _⟩ := info_parts infoU64
  rw [run_equalIn_array w (d + 1) (arr .u64 l) (arr .u64 l) Tryd.underlying23 hi, show Tryd.prog.cellsOf 22 = 1 by kernel_rfl]
  exact items_self w d Tryd.underlying22 l _ (fun i hi => by have := List.mem_range.1 hi; omega)
theorem sl_words (kind : Int) (ws : List Nat) (p : Int) (o : Bool) (h : ws.length = 25) : (sl kind ws p o).tail.take 25 = vals .u64 ws := by
  show List.take 25 (vals .u64 ws ++ [Value.int .i64 p, Value.bool o]) = vals .u64 ws
  rw [List.take_append_of_le_length (by rw [vals_length]; omega), List.take_of_length_le (by rw [vals_length]; omega)]
theorem fieldsS : (Tryd.prog.fieldsOf 26).toList.map (fun f => (f.type, f.offset, f.name == "_")) = [(3, 0, false), (23, 1, false), (3, 26, false), (4, 27, false)] := by kernel_rfl
theorem four_fields {l : List Field} {a0 a1 a2 a3 : Nat × Nat × Bool} (h : l.map (fun f => (f.type, f.offset, f.name == "_")) = [a0, a1, a2, a3]) : ∃ f0 f1 f2 f3 : Field, l = [f0, f1, f2, f3] ∧ (f0.type, f0.offset, f0.name == "_") = a0 ∧ (f1.type, f1.offset, f1.name == "_") = a1 ∧ (f2.type, f2.offset, f2.name == "_") = a2 ∧ (f3.type, f3.offset, f3.name == "_") = a3 := by
  match l, h with
  | [f0, f1, f2, f3], h =>
    simp only [List.map_cons, List.map_nil, List.cons.injEq, and_true] at h
    exact ⟨f0, f1, f2, f3, rfl, h.1, h.2.1, h.2.2.1, h.2.2.2⟩
theorem fields_cons {P : Program} {w : World} {d : Nat} {xs : Array Value} {f : Field} {fs : List Field} {a : Value} (hn : f.name ≠ "_") (px : (part f.type xs f.offset).run P w = .ok a w) (he : (Op.equalIn d f.type a a).run P w = .ok true w)
    (h : (Op.eqFields d xs xs fs).run P w = .ok true w) : (Op.eqFields d xs xs (f :: fs)).run P w = .ok true w := by
  unfold Op.eqFields
  rw [if_pos hn]
  simp only [Sem.run_bind, px, he, Result.andThen_ok]
  exact h
theorem structS : Tryd.prog.underlying 26 = some (.struct (Tryd.prog.fieldsOf 26)) := by kernel_rfl
theorem stoodS : Tryd.prog.stoodInHeld 26 = false := by kernel_rfl
theorem eq_sponge (kind : Int) (ws : List Nat) (p : Int) (o : Bool) (h : ws.length = 25) (w : World) : (Op.equalIn 10000 26 (.agg (sl kind ws p o).toArray) (.agg (sl kind ws p o).toArray)).run Tryd.prog w = .ok true w := by
  have hg : ∀ i : Nat, (sl kind ws p o).toArray[i]? = (sl kind ws p o)[i]? := fun i => by simp
  have g0 : (sl kind ws p o)[0]? = some (.int .i64 kind) := rfl
  have g26 : (sl kind ws p o)[26]? = some (.int .i64 p) := by
    rw [sl, show 26 = 25 + 1 from rfl, List.getElem?_cons_succ, List.getElem?_append_right (by rw [vals_length]; omega), vals_length, h]; rfl
  have g27 : (sl kind ws p o)[27]? = some (.bool o) := by
    rw [sl, show 27 = 26 + 1 from rfl, List.getElem?_cons_succ, List.getElem?_append_right (by rw [vals_length]; omega), vals_length, h]; rfl
  have hgi : (isAgg 3).run Tryd.prog w = .ok false w := by unfold isAgg; rw [Sem.run_bind, run_underlying Tryd.underlying3 w]; rfl
  have hgb : (isAgg 4).run Tryd.prog w = .ok false w := by unfold isAgg; rw [Sem.run_bind, run_underlying Tryd.underlying4 w]; rfl
  have hgw : (isAgg 23).run Tryd.prog w = .ok true w := by unfold isAgg; rw [Sem.run_bind, run_underlying Tryd.underlying23 w]; rfl
  have hsw : (sizeOf 23).run Tryd.prog w = .ok 25 w := by
    cases hq : Tryd.prog.info? 23 with
    | none => have := sizeW; rw [hq] at this; cases this
    | some x =>
      have hx : x.size = 25 := by have := sizeW; rw [hq] at this; simpa using this
      simp [sizeOf, typeInfo, hq, hx]
  have hle := sl_words kind ws p o h
  have p0 : (part 3 (sl kind ws p o).toArray 0).run Tryd.prog w = .ok (.int .i64 kind) w := by simp [part, hgi, hg, g0]
  have p26 : (part 3 (sl kind ws p o).toArray 26).run Tryd.prog w = .ok (.int .i64 p) w := by simp [part, hgi, hg, g26]
  have p27 : (part 4 (sl kind ws p o).toArray 27).run Tryd.prog w = .ok (.bool o) w := by simp [part, hgb, hg, g27]
  have p1 : (part 23 (sl kind ws p o).toArray 1).run Tryd.prog w = .ok (.agg (arr .u64 ws)) w := by simp [part, hgw, hsw, hle, arr]
  have e1 : (Op.equalIn 9999 23 (.agg (arr .u64 ws)) (.agg (arr .u64 ws))).run Tryd.prog w = .ok true w := eq_words 9997 ws h w
  have ei : ∀ x : Int, (Op.equalIn 9999 3 (.int .i64 x) (.int .i64 x)).run Tryd.prog w = .ok (x == x) w := fun x => run_equalIn_int (P := Tryd.prog) w 9998 3 .i64 .i64 x x Tryd.underlying3
  have eb : (Op.equalIn 9999 4 (.bool o) (.bool o)).run Tryd.prog w = .ok (o == o) w := run_equalIn_bool w 9998 4 o o Tryd.underlying4
  simp only [beq_self_eq_true] at ei eb
  have hst := run_equalIn_struct (P := Tryd.prog) w 9999 26 (sl kind ws p o).toArray (sl kind ws p o).toArray structS stoodS
  obtain ⟨f0, f1, f2, f3, hf, h0, h1, h2, h3⟩ := four_fields fieldsS
  simp only [Prod.mk.injEq] at h0 h1 h2 h3
  obtain ⟨t0, o0, n0⟩ := h0
  obtain ⟨t1, o1, n1⟩ := h1
  obtain ⟨t2, o2, n2⟩ := h2
  obtain ⟨t3, o3, n3⟩ := h3
  rw [beq_eq_false_iff_ne] at n0 n1 n2 n3
  refine hst.trans ?_
  clear hst
  rw [hf]
  clear hf
  refine fields_cons n0 (by rw [t0, o0]; exact p0) (by rw [t0]; exact ei kind) ?_
  refine fields_cons n1 (by rw [t1, o1]; exact p1) (by rw [t1]; exact e1) ?_
  refine fields_cons n2 (by rw [t2, o2]; exact p26) (by rw [t2]; exact ei p) ?_
  refine fields_cons n3 (by rw [t3, o3]; exact p27) (by rw [t3]; exact eb) ?_
  rfl
end Go.Proofs.YtnbohjoakngkeaaDoor

/- Words for the laws of keccak: both sides' Absorb and Squeeze of whatever fit sponge. -/
namespace Go.Proofs.YtnbohjoakngkeaaDoor
open Go.RowKit
set_option linter.unusedVariables false
set_option linter.unusedSimpArgs false

/-- a whole load behind '&&' -/
theorem wpList_load_rowG {P : Program} {ops : Array Oper} {rest : List Oper} {o : Oper} {a : Act} {w : World} {Q : Exit → Act → World → Prop} (hgd : Region.wanted o (yielded ops a.tmps) = true) (ty : TypeId) (x : Operand) (ho : o.op = .load ty x)
    (g : Nat) (hx : a.eval x = .pointer (some ⟨g, 0, none⟩)) (t : TypeId) (cs : Array Value) (fr : Nat × Nat) (d : TypeDesc) (hg : w.heap[g]? = some (.cells cs t fr))
    (hu : P.underlying ty = some d) (hd : (match d with | .struct _ | .array _ _ => true | _ => false) = true) (hi : (P.info? ty).map (·.size) = some cs.size)
    (h : wpList P ops Q rest (a.put o.dst (.agg cs)) w) : wpList P ops Q (o :: rest) a w := by
  unfold wpList
  rw [if_pos hgd]
  exact .inl (wp_load_row ty x ho g hx t cs fr d hg hu hd hi h)
theorem both_abs (kind : Int) (ws : List Nat) (p : Int) (ot : Bool) (bv : Value) (l : List Nat) (w : World) (hT : Csts w) (hw : W25 ws) (hf : fitK kind p ot = true) (hr : Row .u8 256 w bv l) (hl : l.length ≤ 1000000) :
    ∃ (M : List Nat) (P : Int) (O : Bool), W25 M ∧ fitK kind P O = true ∧
      (∀ x, Below w.heap.size w x → Calls Tryd.prog 17 #[.agg (sl kind ws p ot).toArray, bv] x fun e x' => e = .returned (.agg (sl kind M P O).toArray) ∧ Below x.heap.size x x') ∧
      (∀ x, Below w.heap.size w x → Calls Tryd.prog 18 #[.agg (sl kind ws p ot).toArray, bv] x fun e x' => e = .returned (.agg (sl kind M P O).toArray) ∧ Below x.heap.size x x') := by
  obtain ⟨P, rfl, h0, h1, h2⟩ := of_fitK hf
  cases ot with
  | true => exact ⟨ws, P, true, hw, hf, fun x _ => cabs_out kind ws P bv x hw.1 hf, fun x _ => kabs_out kind ws P bv x hw.1⟩
  | false =>
    have h3 := h2 rfl
    exact ⟨_, _, false, absK_w l (ws, P) hw, fitK_in (absK_at l (ws, P) h3), fun x hb => cabs_any kind ws P bv l x (hT.below hb) hw h3 (hr.below hb) hl, fun x hb => kabs_any kind ws P bv l x hw h3 (hr.below hb) hl⟩
theorem both_sqz (kind : Int) (ws : List Nat) (p : Int) (ot : Bool) (n : Int) (w : World) (hT : Csts w) (hw : W25 ws) (hf : fitK kind p ot = true) (hn : n ≤ 16777216) :
    ∃ (U : List Nat) (P : Int) (O : Bool) (B : List Nat), W25 U ∧ fitK kind P O = true ∧
      (∀ x, Below w.heap.size w x → Calls Tryd.prog 19 #[.agg (sl kind ws p ot).toArray, .int .i64 n] x fun e x' => ∃ v, e = .returned (.tuple #[.agg (sl kind U P O).toArray, v]) ∧ Row .u8 256 x' v B ∧ Below x.heap.size x x') ∧
      (∀ x, Below w.heap.size w x → Calls Tryd.prog 20 #[.agg (sl kind ws p ot).toArray, .int .i64 n] x fun e x' => ∃ v, e = .returned (.tuple #[.agg (sl kind U P O).toArray, v]) ∧ Row .u8 256 x' v B ∧ Below x.heap.size x x') := by
  obtain ⟨P, rfl, h0, h1, h2⟩ := of_fitK hf
  by_cases hneg : n < 0
  · refine ⟨ws, P, ot, [], hw, hf, fun x _ => ?_, fun x _ => ?_⟩
    · refine (csqz_neg kind ws P ot n x hw.1 hf hneg).mono ?_
      rintro e x' ⟨rfl, hb⟩
      exact ⟨_, rfl, Row.nil _ _ _, hb⟩
    · refine (ksqz_neg kind ws P ot n x hw.1 hneg).mono ?_
      rintro e x' ⟨rfl, hb⟩
      exact ⟨_, rfl, Row.nil _ _ _, hb⟩
  · obtain ⟨N, rfl⟩ := Int.eq_ofNat_of_zero_le (show 0 ≤ n by omega)
    have hbw := begK_w (kind := kind) (p := P) (o := ot) hw
    have hba : (begK kind ws P ot).2 ≤ rateK kind := by
      cases ot with
      | false => exact Nat.zero_le _
      | true => exact h1
    refine ⟨(sqzS (rateK kind) (begK kind ws P ot) N).1, ((sqzS (rateK kind) (begK kind ws P ot) N).2 : Nat), true, sqzB (rateK kind) (begK kind ws P ot) N, sqzS_w hbw N, fitK_of h0 (sqzS_at h0 hba N) (fun h => by cases h), fun x hb => ?_, fun x hb => ?_⟩
    · refine (csqz_any kind ws P ot N x (hT.below hb) hw h0 h1 h2 (by omega)).mono ?_
      rintro e x' ⟨v, rfl, hO, hb'⟩
      exact ⟨v, rfl, hO.row, hb'⟩
    · refine (ksqz_any kind ws P ot N x hw h0 h1 h2 (by omega)).mono ?_
      rintro e x' ⟨v, rfl, hO, hb'⟩
      exact ⟨v, rfl, hO.row, hb'⟩
end Go.Proofs.YtnbohjoakngkeaaDoor
