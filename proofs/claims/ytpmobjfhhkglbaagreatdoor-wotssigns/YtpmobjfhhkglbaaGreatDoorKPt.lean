import Derived.Test.YtpmobjfhhkglbaaGreatDoorKSp
import Derived.Test.YtpmobjfhhkglbaaGreatDoorKCs
import Derived.StillTailTactics
set_option maxHeartbeats 8000000
set_option maxRecDepth 100000
namespace Go.Proofs.YtpmobjfhhkglbaaGreatDoor
open Go.RowKit
set_option linter.unusedVariables false
set_option linter.unusedSimpArgs false
theorem krate_any (kind : Int) (w : World) : Calls Tryz.prog 69 #[.int .i64 kind] w fun e w' => e = .returned (.int .i64 (rateK kind : Nat)) ∧ w' = w := by
  by_cases h4 : kind = 4
  · subst h4
    go_enter Tryz.func69, Tryz.ntmps69
    go_wp2
    go_ret
    exact ⟨rfl, rfl⟩
  by_cases h7 : kind = 7
  · subst h7
    go_enter Tryz.func69, Tryz.ntmps69
    go_wp2
    go_ret
    exact ⟨rfl, rfl⟩
  by_cases h5 : kind = 5
  · subst h5
    go_enter Tryz.func69, Tryz.ntmps69
    go_wp2
    go_ret
    exact ⟨rfl, rfl⟩
  by_cases h6 : kind = 6
  · subst h6
    go_enter Tryz.func69, Tryz.ntmps69
    go_wp2
    go_ret
    exact ⟨rfl, rfl⟩
  have hr : rateK kind = 0 := by simp [rateK, h4, h5, h6, h7]
  rw [hr]
  go_enter Tryz.func69, Tryz.ntmps69
  go_wp2
  go_ret
  exact ⟨rfl, rfl⟩
theorem kput_any (a : List Nat) (p c : Nat) (w : World) (hw : W25 a) (hp : p < 200) (hc : c < 256) :
    Calls Tryz.prog 71 #[.agg (arr .u64 a), .int .i64 p, .int .u8 c] w fun e w' => e = .returned (.agg (arr .u64 (putK a p c))) ∧ Below w.heap.size w w' := by
  have hz := zero25
  have hA0 : Lies .u64 79 ((w.alloc (.cells (arr .u64 a) 79)).alloc (.cells (arr .u64 (zs 25)) 79)) w.heap.size a := (Lies.new .u64 79 w a).alloc _
  have hR0 : Lies .u64 79 ((w.alloc (.cells (arr .u64 a) 79)).alloc (.cells (arr .u64 (zs 25)) 79)) (w.heap.size + 1) (zs 25) := by
    have := Lies.new .u64 79 (w.alloc (.cells (arr .u64 a) 79)) (zs 25)
    rw [World.size_alloc] at this
    exact this
  have hb0 := keep_trans (keep_alloc w (.cells (arr .u64 a) 79)) (keep_alloc _ (.cells (arr .u64 (zs 25)) 79))
  obtain ⟨j, hj⟩ : ∃ x : Nat, x = p / 8 := ⟨_, rfl⟩
  obtain ⟨m, hm⟩ : ∃ x : Nat, x = p % 8 := ⟨_, rfl⟩
  obtain ⟨m8, hm8⟩ : ∃ x : Nat, x = 8 * m := ⟨_, rfl⟩
  have e_j : (p : Int) / 8 = (j : Int) := by omega
  have t_j : (p : Int).tdiv 8 = (j : Int) := by rw [Int.tdiv_eq_ediv_of_nonneg (by omega)]; exact e_j
  have e_m : (p : Int) % 8 = (m : Int) := by omega
  have t_m : (p : Int).tmod 8 = (m : Int) := by rw [Int.tmod_eq_emod_of_nonneg (by omega)]; exact e_m
  have e_8 : 8 * (m : Int) = (m8 : Int) := by omega
  have r_8 : IntKind.i64.wrap (m8 : Int) = (m8 : Int) := by rw [IntKind.wrap_i64]; omega
  have mn : min m8 64 = m8 := by omega
  have r_c : IntKind.u64.wrap (c : Int) = (c : Int) := by rw [IntKind.wrap_u64]; omega
  have i0 : (0 : Int) ≤ (j : Int) := Int.natCast_nonneg _
  have i1 : (j : Int) < 25 := by omega
  have i2 : (0 : Int) ≤ (m8 : Int) := Int.natCast_nonneg _
  have hpk : putK a p c = a.set j (el a j ^^^ c * 2 ^ m8 % 18446744073709551616) := by unfold putK; rw [← hj, ← hm, ← hm8]
  have hpw := (putK_w hw p c).1
  have c0 := hA0.cell (i := j) (by rw [hw.1]; omega)
  have f0 := hA0.frozen j
  have h1 := hw.el j
  have e_s : IntKind.u64.wrap ((c : Int) * 2 ^ m8) = ((c * 2 ^ m8 % 18446744073709551616 : Nat) : Int) := by rw [IntKind.wrap_u64]; simp
  have hv := xor_k (el a j) (c * 2 ^ m8 % 18446744073709551616) h1 (Nat.mod_lt _ (by decide))
  clear hj hm hm8
  have HPK := hide hpk
  clear hpk
  go_enter Tryz.func71, Tryz.ntmps71
  go_wp2
  generalize (w.alloc (.cells (arr .u64 a) 79)).alloc (.cells (arr .u64 (zs 25)) 79) = x1 at *
  have hv2 : bits .xor .u64 (el a j : Int) ((c : Int) * 2 ^ m8 % 18446744073709551616) = ((el a j ^^^ c * 2 ^ m8 % 18446744073709551616 : Nat) : Int) := by
    rw [show (c : Int) * 2 ^ m8 % 18446744073709551616 = ((c * 2 ^ m8 % 18446744073709551616 : Nat) : Int) by simp]; exact hv
  have hst : Lies .u64 79 (x1.setCell ⟨w.heap.size, j, none⟩ (.int .u64 (bits .xor .u64 (el a j : Int) ((c : Int) * 2 ^ m8 % 18446744073709551616)))).drew w.heap.size (putK a p c) := by
    rw [hv2, HPK.out]
    exact hA0.set j _
  have hBq : But w.heap.size x1 (x1.setCell ⟨w.heap.size, j, none⟩ (.int .u64 (bits .xor .u64 (el a j : Int) ((c : Int) * 2 ^ m8 % 18446744073709551616)))).drew := ((But.refl _ _).setCell j _).drew
  have hRz := hR0.but hBq (by omega)
  have hbz := hb0.trans (hBq.below (Nat.le_refl _) hb0.size)
  clear hv hv2 HPK
  go_region
  clear hBq c0 f0
  generalize (x1.setCell ⟨w.heap.size, j, none⟩ (.int .u64 (bits .xor .u64 (el a j : Int) ((c : Int) * 2 ^ m8 % 18446744073709551616)))).drew = x2 at *
  have hOf : Lies .u64 79 (x2.setRow (w.heap.size + 1) (arr .u64 (putK a p c))) (w.heap.size + 1) (putK a p c) := hRz.row
  have hbf := hbz.trans ((But.setRow (But.refl (w.heap.size + 1) _) (arr .u64 (putK a p c))).below (by omega) hbz.size)
  go_wp2_with (first
    | (refine wpList_load_row rfl 79 _ (by rfl) w.heap.size (by rfl) _ _ _ (.array 25 26) hst (by kernel_rfl) rfl (by rw [arr_size, hpw]; kernel_rfl) ?_)
    | (refine wpList_store_row rfl 79 _ _ (by rfl) (w.heap.size + 1) (arr .u64 (putK a p c)) (by rfl) (by rfl) _ _ hRz (by rw [arr_size, hpw]; kernel_rfl) (by rw [arr_size, arr_size, hpw, zs_len]) (arr_one _ _) ?_)
    | fail)
  refine bodyPost_ret (v := .agg (arr .u64 (putK a p c))) ?_ rfl ⟨rfl, hbf⟩
  exact results_cell_row Tryz.results71 _ _ (w.heap.size + 1) _ _ _ (.array 25 26) (by rfl) hOf (by kernel_rfl) rfl (by rw [arr_size, hpw]; kernel_rfl)
def sl (kind : Int) (ws : List Nat) (p : Int) (o : Bool) : List Value := .int .i64 kind :: (vals .u64 ws ++ [.int .i64 p, .bool o])
theorem sl_len {kind : Int} {ws : List Nat} {p : Int} {o : Bool} (h : ws.length = 25) : (sl kind ws p o).length = 28 := by simp [sl, vals_length, h]
theorem sl_one (kind : Int) (ws : List Nat) (p : Int) (o : Bool) : ∀ v ∈ sl kind ws p o, v.oneCell' = true := by
  intro v hv
  simp only [sl, List.mem_cons, List.mem_append, List.not_mem_nil, or_false] at hv
  rcases hv with rfl | hv | rfl | rfl
  · rfl
  · exact vals_one _ _ _ hv
  · rfl
  · rfl
structure Sg (w : World) (q : Nat) (kind : Int) (ws : List Nat) (p : Int) (o : Bool) : Prop where
  all : w.rangeAt q 0 (sl kind ws p o)
  th : w.there q 0 28
  len : ws.length = 25
theorem Sg.kind {w : World} {q : Nat} {kind : Int} {ws : List Nat} {p : Int} {o : Bool} (h : Sg w q kind ws p o) : w.cell? ⟨q, 0, none⟩ = some (.int .i64 kind) := h.all 0 _ rfl
theorem Sg.words {w : World} {q : Nat} {kind : Int} {ws : List Nat} {p : Int} {o : Bool} (h : Sg w q kind ws p o) : w.rangeAt q 1 (vals .u64 ws) := fun j v hv => by
  have hj : j < (vals .u64 ws).length := (List.getElem?_eq_some_iff.1 hv).1
  have := h.all (1 + j) v (by
    show (sl kind ws p o)[1 + j]? = some v
    rw [Nat.add_comm, sl, List.getElem?_cons_succ, List.getElem?_append_left hj]; exact hv)
  rw [Nat.zero_add] at this
  exact this
theorem Sg.at {w : World} {q : Nat} {kind : Int} {ws : List Nat} {p : Int} {o : Bool} (h : Sg w q kind ws p o) : w.cell? ⟨q, 26, none⟩ = some (.int .i64 p) := by
  have hl := h.len
  exact h.all 26 _ (by
    show (sl kind ws p o)[26]? = _
    rw [sl, show 26 = 25 + 1 from rfl, List.getElem?_cons_succ, List.getElem?_append_right (by rw [vals_length]; omega), vals_length, hl]; rfl)
theorem Sg.out {w : World} {q : Nat} {kind : Int} {ws : List Nat} {p : Int} {o : Bool} (h : Sg w q kind ws p o) : w.cell? ⟨q, 27, none⟩ = some (.bool o) := by
  have hl := h.len
  exact h.all 27 _ (by
    show (sl kind ws p o)[27]? = _
    rw [sl, show 27 = 26 + 1 from rfl, List.getElem?_cons_succ, List.getElem?_append_right (by rw [vals_length]; omega), vals_length, hl]; rfl)
theorem Sg.frozen {w : World} {q : Nat} {kind : Int} {ws : List Nat} {p : Int} {o : Bool} (h : Sg w q kind ws p o) (i : Nat) (hi : i < 28) : w.frozen? ⟨q, i, none⟩ = false := by
  have := (h.th i hi).2
  rw [Nat.zero_add] at this
  exact this
theorem Sg.mk' {w : World} {q : Nat} {kind : Int} {ws : List Nat} {p : Int} {o : Bool} (h0 : w.cell? ⟨q, 0, none⟩ = some (.int .i64 kind)) (h1 : w.rangeAt q 1 (vals .u64 ws)) (h2 : w.cell? ⟨q, 26, none⟩ = some (.int .i64 p)) (h3 : w.cell? ⟨q, 27, none⟩ = some (.bool o)) (th : w.there q 0 28) (hl : ws.length = 25) : Sg w q kind ws p o := by
  refine ⟨fun j v hv => ?_, th, hl⟩
  rw [Nat.zero_add]
  match j, hv with
  | 0, hv => have e : some (.int .i64 kind) = some v := hv; rw [h0, e]
  | j + 1, hv =>
    rw [sl, List.getElem?_cons_succ] at hv
    by_cases hj : j < (vals .u64 ws).length
    · rw [List.getElem?_append_left hj] at hv
      have := h1 j v hv
      rw [Nat.add_comm] at this
      exact this
    · rw [List.getElem?_append_right (by omega), vals_length, hl] at hv
      rw [vals_length, hl] at hj
      have hk : j - 25 < 2 := by
        have := (List.getElem?_eq_some_iff.1 hv).1
        simpa using this
      have : j = 25 ∨ j = 26 := by omega
      rcases this with rfl | rfl
      · have e : some (.int .i64 p) = some v := hv; rw [h2, e]
      · have e : some (.bool o) = some v := hv; rw [h3, e]
theorem Sg.lt {w : World} {q : Nat} {kind : Int} {ws : List Nat} {p : Int} {o : Bool} (h : Sg w q kind ws p o) : q < w.heap.size := World.block_lt_of_cell? w _ h.kind
theorem there_below {w w' : World} {q o n : Nat} (h : w.there q o n) (hq : q < w.heap.size) (hb : Below w.heap.size w w') : w'.there q o n := fun j hj => by
  have hbk := hb.block q hq
  exact ⟨by rw [World.cell?_of_block (a := ⟨q, o + j, none⟩) hbk]; exact (h j hj).1, by rw [World.frozen?_of_block (a := ⟨q, o + j, none⟩) hbk]; exact (h j hj).2⟩
theorem range_bel {w w' : World} {b o : Nat} {cs : List Value} (h : w.rangeAt b o cs) (hb : Below w.heap.size w w') : w'.rangeAt b o cs := fun j v hv => keep_cell (h j v hv) hb
theorem Sg.below {w w' : World} {q : Nat} {kind : Int} {ws : List Nat} {p : Int} {o : Bool} (h : Sg w q kind ws p o) (hb : Below w.heap.size w w') : Sg w' q kind ws p o := ⟨range_bel h.all hb, there_below h.th h.lt hb, h.len⟩
theorem frozen_row {w : World} {b i : Nat} {cs : Array Value} {t : TypeId} (h : w.heap[b]? = some (.cells cs t (0, 0))) : w.frozen? ⟨b, i, none⟩ = false := by simp [World.frozen?, h]
theorem Sg.new (w : World) (t : TypeId) (kind : Int) (ws : List Nat) (p : Int) (o : Bool) (hl : ws.length = 25) : Sg (w.alloc (.cells (sl kind ws p o).toArray t)) w.heap.size kind ws p o := by
  have hb : (w.alloc (.cells (sl kind ws p o).toArray t)).heap[w.heap.size]? = some (.cells (sl kind ws p o).toArray t (0, 0)) := heap_alloc_last w _
  refine ⟨fun j v hv => ?_, fun j hj => ?_, hl⟩
  · rw [Nat.zero_add, cell_of_row _ _ j _ _ _ hb]; simpa using hv
  · rw [Nat.zero_add]
    refine ⟨?_, frozen_row hb⟩
    rw [cell_of_row _ _ j _ _ _ hb]
    simp [sl_len hl, hj]
theorem Sg.setWords {w : World} {q : Nat} {kind : Int} {ws : List Nat} {p : Int} {o : Bool} (h : Sg w q kind ws p o) (l : List Nat) (hl : l.length = 25) : Sg (w.setCells q 1 (vals .u64 l)) q kind l p o := by
  have ht : w.there q 1 (vals .u64 l).length := fun j hj => by
    rw [vals_length, hl] at hj
    have := h.th (1 + j) (by omega)
    rw [Nat.zero_add] at this
    exact this
  have away : ∀ i, i < 1 ∨ 26 ≤ i → (w.setCells q 1 (vals .u64 l)).cell? ⟨q, i, none⟩ = w.cell? ⟨q, i, none⟩ := fun i hi =>
    World.cell?_setCells_out q _ _ w ⟨q, i, none⟩ (fun _ _ => by show i < 1 ∨ 1 + (vals .u64 l).length ≤ i; rw [vals_length, hl]; omega)
  exact Sg.mk' ((away 0 (by omega)).trans h.kind) (World.rangeAt_setCells_same w q 1 _ ht) ((away 26 (by omega)).trans h.at) ((away 27 (by omega)).trans h.out) (World.there_setCells h.th _ _ _) hl
theorem Sg.setAt {w : World} {q : Nat} {kind : Int} {ws : List Nat} {p : Int} {o : Bool} (h : Sg w q kind ws p o) (x : Int) : Sg (w.setCell ⟨q, 26, none⟩ (.int .i64 x)) q kind ws x o := by
  have hl := h.len
  have e : w.setCell ⟨q, 26, none⟩ (.int .i64 x) = w.setCells q 26 [.int .i64 x] := rfl
  rw [e]
  have ht : w.there q 26 [Value.int .i64 x].length := fun j hj => by
    have hj' : j = 0 := by simpa using hj
    subst hj'
    have := h.th 26 (by decide)
    rw [Nat.zero_add] at this
    exact this
  have away : ∀ i, i < 26 ∨ 27 ≤ i → (w.setCells q 26 [.int .i64 x]).cell? ⟨q, i, none⟩ = w.cell? ⟨q, i, none⟩ := fun i hi =>
    World.cell?_setCells_out q _ _ w ⟨q, i, none⟩ (fun _ _ => by show i < 26 ∨ 26 + 1 ≤ i; omega)
  refine Sg.mk' ((away 0 (by omega)).trans h.kind) (World.rangeAt_setCells_apart h.words q 26 _ (.inr (.inl (by rw [vals_length, hl]; decide)))) ?_ ((away 27 (by omega)).trans h.out) (World.there_setCells h.th _ _ _) hl
  have := World.rangeAt_setCells_same w q 26 _ ht 0 _ rfl
  exact this
theorem Sg.setOut {w : World} {q : Nat} {kind : Int} {ws : List Nat} {p : Int} {o : Bool} (h : Sg w q kind ws p o) (x : Bool) : Sg (w.setCell ⟨q, 27, none⟩ (.bool x)) q kind ws p x := by
  have hl := h.len
  have e : w.setCell ⟨q, 27, none⟩ (.bool x) = w.setCells q 27 [.bool x] := rfl
  rw [e]
  have ht : w.there q 27 [Value.bool x].length := fun j hj => by
    have hj' : j = 0 := by simpa using hj
    subst hj'
    have := h.th 27 (by decide)
    rw [Nat.zero_add] at this
    exact this
  have away : ∀ i, i < 27 ∨ 28 ≤ i → (w.setCells q 27 [.bool x]).cell? ⟨q, i, none⟩ = w.cell? ⟨q, i, none⟩ := fun i hi =>
    World.cell?_setCells_out q _ _ w ⟨q, i, none⟩ (fun _ _ => by show i < 27 ∨ 27 + 1 ≤ i; omega)
  refine Sg.mk' ((away 0 (by omega)).trans h.kind) (World.rangeAt_setCells_apart h.words q 27 _ (.inr (.inl (by rw [vals_length, hl]; decide)))) ((away 26 (by omega)).trans h.at) ?_ (World.there_setCells h.th _ _ _) hl
  have := World.rangeAt_setCells_same w q 27 _ ht 0 _ rfl
  exact this
theorem But.setCells {g : Nat} {a w : World} (h : But g a w) : ∀ (vs : List Value) (o : Nat), But g a (w.setCells g o vs) := by
  intro vs
  induction vs generalizing w with
  | nil => intro o; exact h
  | cons v vs ih => intro o; exact ih (h.setCell o v) (o + 1)
theorem infoS : (Tryz.prog.info? 81).map (fun i => (i.zero, i.size)) = some (some (.agg (sl 0 (zs 25) 0 false).toArray), 28) := by kernel_rfl
theorem zero28 : ∀ w, (zeroValue 81).run Tryz.prog w = .ok (.agg (sl 0 (zs 25) 0 false).toArray) w := (zero_of_info infoS).1
theorem still_load_mid {P : Program} {ops : Array Oper} {op : Oper} {a : Act} {w : World} {K : Act → Prop} (hgd : op.guard = none) (ty : TypeId) (x : Operand) (ho : op.op = .load ty x)
    (b o : Nat) (hx : a.eval x = .pointer (some ⟨b, o, none⟩)) (cs : List Value) (d : TypeDesc) (hc : w.rangeAt b o cs)
    (hu : P.underlying ty = some d) (hd : d.isRow = true) (hi : (P.info? ty).map (·.size) = some cs.length)
    (h : K (a.put op.dst (.agg cs.toArray))) : if Region.wanted op (yielded ops a.tmps) = true then op.still P a w K else K (a.put op.dst undef) := by
  have hw : Region.wanted op (yielded ops a.tmps) = true := by simp [Region.wanted, hgd]
  rw [if_pos hw]
  unfold Oper.still execOp
  simp only [ho, hx, Instr.loadAt, Instr.sureAddr, Sem.run_bind, Sem.run_pure, Result.andThen_ok, run_loadVar_mid w b o ty cs d hc hu hd hi]
  exact ⟨rfl, h⟩
def KAbs (w : World) (kind : Int) (s0 : List Nat × Nat) (b : List Nat) (i : Value) (wr : World) : Prop := ∃ n : Nat, n ≤ b.length ∧ i = .int .i64 n ∧ Sg wr w.heap.size kind (absK (rateK kind) s0 (b.take n)).1 ((absK (rateK kind) s0 (b.take n)).2 : Nat) false ∧ wr.heap[w.heap.size + 1]? = some (.cells (sl 0 (zs 25) 0 false).toArray 81 (0, 0)) ∧ Below w.heap.size w wr
theorem take_elb (b : List Nat) (n : Nat) (h : n < b.length) : b.take (n + 1) = b.take n ++ [el b n] := by
  rw [List.take_add_one, List.getElem?_eq_getElem h, el_at h]; rfl
theorem rateK_le (kind : Int) : rateK kind ≤ 168 := by
  unfold rateK
  split
  · decide
  · split
    · decide
    · split <;> decide
theorem kabs_any (kind : Int) (ws : List Nat) (p : Nat) (bv : Value) (b : List Nat) (w : World) (hw : W25 ws) (hp : p < rateK kind) (hRb : Row .u8 256 w bv b) (hbl : b.length ≤ 1000000) :
    Calls Tryz.prog 59 #[.agg (sl kind ws p false).toArray, bv] w fun e w' => e = .returned (.agg (sl kind (absK (rateK kind) (ws, p) b).1 ((absK (rateK kind) (ws, p) b).2 : Nat) false).toArray) ∧ Below w.heap.size w w' := by
  have hz := zero28
  have hS : Sg ((w.alloc (.cells (sl kind ws p false).toArray 81)).alloc (.cells (sl 0 (zs 25) 0 false).toArray 81)) w.heap.size kind ws p false := (Sg.new w 81 kind ws p false hw.1).below (keep_alloc _ _)
  have hR : ((w.alloc (.cells (sl kind ws p false).toArray 81)).alloc (.cells (sl 0 (zs 25) 0 false).toArray 81)).heap[w.heap.size + 1]? = some (.cells (sl 0 (zs 25) 0 false).toArray 81 (0, 0)) := by
    have := heap_alloc_last (w.alloc (.cells (sl kind ws p false).toArray 81)) (.cells (sl 0 (zs 25) 0 false).toArray 81)
    rw [World.size_alloc] at this
    exact this
  have hb := keep_trans (keep_alloc w (.cells (sl kind ws p false).toArray 81)) (keep_alloc _ (.cells (sl 0 (zs 25) 0 false).toArray 81))
  have c27 := hS.out
  have hrt := rateK_le kind
  have hsz0 : (sl 0 (zs 25) 0 false).toArray.size = 28 := by simp [sl_len (zs_len 25)]
  have hub := hRb.under
  obtain ⟨ba, bc, rfl, g1, g2, g3, g4⟩ := hRb
  have hRb : Row .u8 256 w (.slice ba b.length bc) b := ⟨ba, bc, rfl, g1, g2, g3, g4⟩
  go_enter Tryz.func59, Tryz.ntmps59
  go_wp2
  clear hz c27
  generalize (w.alloc (.cells (sl kind ws p false).toArray 81)).alloc (.cells (sl 0 (zs 25) 0 false).toArray 81) = x1 at *
  go_loopw [5] (fun i wr => KAbs w kind (ws, p) b i wr) (fun i _ => b.length - (intOf i).toNat)
  case atStart => exact ⟨0, Nat.zero_le _, rfl, hS, hR, hb⟩
  case round =>
    clear hS hR hb
    obtain ⟨n, hn, rfl, hS, hR, hbr⟩ := hrel
    by_cases hlt : n < b.length
    · have hsn := absK_snoc (rateK kind) (ws, p) (b.take n) (el b n)
      rw [← take_elb b n hlt] at hsn
      have hsw : W25 (absK (rateK kind) (ws, p) (b.take n)).1 := absK_w _ _ hw
      have hsa : (absK (rateK kind) (ws, p) (b.take n)).2 < rateK kind := absK_at _ _ hp
      generalize absK (rateK kind) (ws, p) (b.take n) = s at *
      obtain ⟨A, P⟩ := s
      dsimp only at hS hsw hsa
      obtain ⟨bb, off, rfl, hc⟩ := g3 (by omega)
      have cb := keep_cell (hc n hlt) hbr
      have hcl : el b n < 256 := el_lt hub (by decide) n
      have hAl := hsw.1
      have hwd := hS.words
      have c26 := hS.at
      have c0 := hS.kind
      obtain ⟨n1, hn1⟩ : ∃ x : Nat, x = n + 1 := ⟨_, rfl⟩
      have e_n : (n : Int) + 1 = (n1 : Int) := by omega
      have r_n : IntKind.i64.wrap (n1 : Int) = (n1 : Int) := by rw [IntKind.wrap_i64]; omega
      obtain ⟨P1, hP1⟩ : ∃ x : Nat, x = P + 1 := ⟨_, rfl⟩
      have e_P : (P : Int) + 1 = (P1 : Int) := by omega
      have r_P : IntKind.i64.wrap (P1 : Int) = (P1 : Int) := by rw [IntKind.wrap_i64]; omega
      have hput := fun w' => kput_any A P (el b n) w' hsw (by omega) hcl
      have hpw := putK_w hsw P (el b n)
      rw [← hn1] at hsn
      have i0 : (0 : Int) ≤ (n : Int) := Int.natCast_nonneg _
      have i1 : (n : Int) < (b.length : Int) := by omega
      have HSN := hide hsn
      have HN1 := hide hn1
      have HP1 := hide hP1
      clear hsn hn1 hP1
      generalize el b n = c at *
      go_wp2
      refine wp_region_still_tail 8 (by kernel_rfl) (by kernel_rfl) ?_
      simp only [List.take_succ_cons, List.take_zero, List.drop_succ_cons, List.drop_zero]
      change wpStill _ _ (World.drew wr) (fun a' => wpList _ _ _ _ a' (World.drew wr)) _ _
      have hwd2 : wr.drew.rangeAt w.heap.size 1 (vals .u64 A) := (World.rangeAt_drew _ _ _ _).2 hwd
      have hvl : (vals .u64 A).length = 25 := by rw [vals_length, hAl]
      still_step
      refine wpStill_step (fun K hK => ?_)
      refine still_load_mid rfl 79 _ (by rfl) w.heap.size 1 (by rfl) (vals .u64 A) (.array 25 26) hwd2 (by kernel_rfl) rfl (by rw [hvl]; kernel_rfl) (hK _ ?_)
      clear hK K
      still_step
      still_step
      still_step
      still_step
      still_step
      still_step
      refine wpStill_nil ?_
      clear hwd hwd2 c26 c0 cb
      have hpl := hpw.1
      have hps : (arr .u64 (putK A P c)).size = 25 := by rw [arr_size, hpl]
      go_wp2_with (first
        | (go_at_call 71; refine (hput _).mono ?_; rintro e w3 ⟨rfl, hb3⟩; replace hb3 := un_drew hb3; have hS3 := hS.below hb3; have hth : w3.there w.heap.size 1 (arr .u64 (putK A P c)).size := fun j hj => (by rw [hps] at hj; have := hS3.th (1 + j) (by omega); rw [Nat.zero_add] at this; exact this))
        | (refine wpList_store_mid rfl 79 _ _ (by rfl) w.heap.size 1 (arr .u64 (putK A P c)) (by rfl) (by rfl) hth (by rw [hps]; kernel_rfl) (arr_one _ _) ?_; have hS4 : Sg (w3.setCells w.heap.size 1 (arr .u64 (putK A P c)).toList) w.heap.size kind (putK A P c) P false := hS3.setWords _ hpl; have c26 := hS4.at; have f26 := hS4.frozen 26 (by decide))
        | fail)
      have hS5 := hS4.setAt (P1 : Int)
      have hBt : But w.heap.size w3 ((w3.setCells w.heap.size 1 (arr .u64 (putK A P c)).toList).setCell ⟨w.heap.size, 26, none⟩ (.int .i64 (P1 : Int))) := ((But.refl _ _).setCells _ _).setCell _ _
      have hR3 : w3.heap[w.heap.size + 1]? = _ := (hb3.block _ (by
        rcases Nat.lt_or_ge (w.heap.size + 1) wr.heap.size with h | h
        · exact h
        · rw [Array.getElem?_eq_none h] at hR; cases hR)).trans hR
      have hs3 : w.heap.size + 1 < w3.heap.size := by
        rcases Nat.lt_or_ge (w.heap.size + 1) w3.heap.size with h | h
        · exact h
        · rw [Array.getElem?_eq_none h] at hR3; cases hR3
      have hR5 := (hBt.block (w.heap.size + 1) hs3 (by omega)).trans hR3
      have hb5 := (keep_trans hbr hb3).trans (hBt.below (Nat.le_refl _) (keep_trans hbr hb3).size)
      clear c26 f26 hS4 hS3 hth hBt hR3 hb3 hput hS hR hbr
      generalize (w3.setCells w.heap.size 1 (arr .u64 (putK A P c)).toList).setCell ⟨w.heap.size, 26, none⟩ (.int .i64 (P1 : Int)) = x3 at *
      have c26 := hS5.at
      have c0 := hS5.kind
      have hrk := fun w' => krate_any kind w'
      by_cases hfull : P1 = rateK kind
      · have hbe : ((P1 : Int) == ((rateK kind : Nat) : Int)) = true := by rw [hfull]; exact beq_self_eq_true _
        have hin : inK (rateK kind) (A, P) c = (perm (putK A P c), 0) := by unfold inK; rw [if_pos (by have := HP1.out; show P + 1 = rateK kind; omega)]
        have HIN := hide hin
        have hprm := fun w' => kperm_any (putK A P c) w' hpw
        have hqw := perm_w hpw
        have hql := hqw.1
        have hqs : (arr .u64 (perm (putK A P c))).size = 25 := by rw [arr_size, hql]
        clear hin
        have HFL := hide hfull
        clear hfull
        go_quiet (exact (hrk _).mono (by rintro e w' ⟨rfl, rfl⟩; exact ⟨rfl, _, rfl⟩))
        have hS6 := hS5.below (bel_drewN (Below.refl _ x3) nq)
        have hb6 := bel_drewN hb5 nq
        have hR6 : (x3.drewN nq).heap[w.heap.size + 1]? = _ := hR5
        have hwd := hS6.words
        have hvl : (vals .u64 (putK A P c)).length = 25 := by rw [vals_length, hpl]
        generalize perm (putK A P c) = M at *
        generalize putK A P c = B at *
        clear hS5 hb5 hR5 c26 c0
        generalize x3.drewN nq = x4 at *
        go_wp2_with (first
          | (refine wpList_load_mid rfl 79 _ (by rfl) w.heap.size 1 (by rfl) (vals .u64 B) (.array 25 26) hwd (by kernel_rfl) rfl (by rw [hvl]; kernel_rfl) ?_)
          | (go_at_call 70; refine (hprm _).mono ?_; rintro e w6 ⟨rfl, hb7⟩; have hS7 := hS6.below hb7; have hth : w6.there w.heap.size 1 (arr .u64 M).size := fun j hj => (by rw [hqs] at hj; have := hS7.th (1 + j) (by omega); rw [Nat.zero_add] at this; exact this))
          | (refine wpList_store_mid rfl 79 _ _ (by rfl) w.heap.size 1 (arr .u64 M) (by rfl) (by rfl) hth (by rw [hqs]; kernel_rfl) (arr_one _ _) ?_; have hS8 : Sg (w6.setCells w.heap.size 1 (arr .u64 M).toList) w.heap.size kind M P1 false := hS7.setWords _ hql; have c26 := hS8.at; have f26 := hS8.frozen 26 (by decide))
          | fail)
        have hS9 := hS8.setAt 0
        have hBt : But w.heap.size w6 ((w6.setCells w.heap.size 1 (arr .u64 M).toList).setCell ⟨w.heap.size, 26, none⟩ (.int .i64 0)) := ((But.refl _ _).setCells _ _).setCell _ _
        have hs4 : w.heap.size + 1 < x4.heap.size := by
          rcases Nat.lt_or_ge (w.heap.size + 1) x4.heap.size with h | h
          · exact h
          · rw [Array.getElem?_eq_none h] at hR6; cases hR6
        have hR7 := (hb7.block _ hs4).trans hR6
        have hR9 := (hBt.block (w.heap.size + 1) (by have := hb7.size; omega) (by omega)).trans hR7
        have hb9 := (keep_trans hb6 hb7).trans (hBt.below (Nat.le_refl _) (keep_trans hb6 hb7).size)
        exact ⟨⟨n1, by have := HN1.out; omega, rfl, by rw [HSN.out, HIN.out]; exact hS9, hR9, hb9⟩, by have := HN1.out; simp [intOf]; omega⟩
      · have hbe : ((P1 : Int) == ((rateK kind : Nat) : Int)) = false := by rw [beq_eq_false_iff_ne]; omega
        have hin : inK (rateK kind) (A, P) c = (putK A P c, P1) := by unfold inK; rw [if_neg (by have := HP1.out; show ¬ P + 1 = rateK kind; omega)]; rw [HP1.out]
        have HIN := hide hin
        clear hin
        go_quiet (exact (hrk _).mono (by rintro e w' ⟨rfl, rfl⟩; exact ⟨rfl, _, rfl⟩))
        go_wp2
        exact ⟨⟨n1, by have := HN1.out; omega, rfl, by rw [HSN.out, HIN.out]; exact hS5.below (bel_drewN (Below.refl _ x3) nq), hR5, bel_drewN hb5 nq⟩, by have := HN1.out; simp [intOf]; omega⟩
    · rw [List.take_of_length_le (by omega)] at hS
      generalize hs : absK (rateK kind) (ws, p) b = s at hS
      obtain ⟨A, P⟩ := s
      dsimp only at hS
      have HS := hide hs
      clear hs
      have hll := hS.all
      have hsl := sl_len (kind := kind) (p := (P : Int)) (o := false) hS.len
      have hsz : (sl kind A P false).toArray.size = 28 := by simp [hsl]
      have hfu := setRow_heap wr (w.heap.size + 1) _ (sl kind A P false).toArray 81 _ hR
      have hbf := hbr.trans ((But.setRow (But.refl (w.heap.size + 1) _) (sl kind A P false).toArray).below (by omega) hbr.size)
      go_wp2_with (first
        | (refine wpList_load_mid rfl 81 _ (by rfl) w.heap.size 0 (by rfl) (sl kind A P false) _ hll Tryz.underlying81 rfl (by rw [hsl]; kernel_rfl) ?_)
        | (refine wpList_store_row rfl 81 _ _ (by rfl) (w.heap.size + 1) (sl kind A P false).toArray (by rfl) (by rfl) _ _ hR (by rw [hsz]; kernel_rfl) (by rw [hsz, hsz0]) (all_oneCell_toArray (sl_one _ _ _ _)) ?_)
        | fail)
      refine bodyPost_ret (v := .agg (sl kind A P false).toArray) ?_ rfl ⟨by rw [HS.out], hbf⟩
      exact results_cell_row Tryz.results59 _ _ (w.heap.size + 1) _ _ _ _ (by rfl) hfu Tryz.underlying81 rfl (by rw [hsz]; kernel_rfl)
end Go.Proofs.YtpmobjfhhkglbaaGreatDoor
