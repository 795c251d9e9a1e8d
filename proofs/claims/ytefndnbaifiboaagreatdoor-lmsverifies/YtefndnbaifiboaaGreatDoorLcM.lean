/- Leaves that sign once, the program's own: secretLeaf; texts that are laid in order into a block; steps of plans. -/
import Derived.Test.YtefndnbaifiboaaGreatDoorLsC
import Derived.Test.YtefndnbaifiboaaGreatDoorPlan3
namespace Go.Proofs.YtefndnbaifiboaaGreatDoor
open Go.RowKit
set_option linter.unusedVariables false
set_option linter.unusedSimpArgs false

theorem but_keep {H : Nat} {x y z : World} (h : But H x y) (k : Below y.heap.size y z) : But H x z := h.trans (But.of_below k)
/-- up to place i, texts lie in block H of N places -/
def UpS (wr : World) (H N i : Nat) (f : Nat → List Nat) : Prop := ∃ us : Array Value, us.size = N ∧ wr.heap[H]? = some (.cells us 24 (0, 0)) ∧ ∀ j, j < i → j < N → ∃ u, us[j]? = some u ∧ Row .u8 256 wr u (f j) ∧ Tidy u ∧ ∀ q, u.ownBlock = some q → q ≠ H
theorem UpS.lt {wr : World} {H N i : Nat} {f : Nat → List Nat} (h : UpS wr H N i f) : H < wr.heap.size := by
  obtain ⟨us, _, h1, _⟩ := h
  exact (Array.getElem?_eq_some_iff.1 h1).1
theorem UpS.below {wr w' : World} {H N i : Nat} {f : Nat → List Nat} (h : UpS wr H N i f) (hb : Below wr.heap.size wr w') : UpS w' H N i f := by
  have hl := h.lt
  obtain ⟨us, h1, h2, h3⟩ := h
  refine ⟨us, h1, (hb.block _ hl).trans h2, fun j k1 k2 => ?_⟩
  obtain ⟨u, e1, e2, e3, e4⟩ := h3 j k1 k2
  exact ⟨u, e1, e2.below hb, e3, e4⟩
theorem UpS.frozen {wr : World} {H N i : Nat} {f : Nat → List Nat} (h : UpS wr H N i f) (j : Nat) : wr.frozen? ⟨H, j, none⟩ = false := by
  obtain ⟨us, _, h1, _⟩ := h
  simp [World.frozen?, h1]
theorem UpS.any {wr : World} {H N i : Nat} {f : Nat → List Nat} (h : UpS wr H N i f) {j : Nat} (hj : j < N) : (wr.cell? ⟨H, j, none⟩).isSome = true := by
  obtain ⟨us, h0, h1, _⟩ := h
  rw [cell_of_row wr H j _ _ (0, 0) h1]
  simp [h0, hj]
theorem UpS.store {wr : World} {H N i : Nat} {f : Nat → List Nat} {v : Value} (h : UpS wr H N i f) (hi : i < N) (hv : Row .u8 256 wr v (f i)) (tv : Tidy v) (hn : ∀ q, v.ownBlock = some q → q ≠ H) : UpS (wr.setCell ⟨H, i, none⟩ v) H N (i + 1) f := by
  obtain ⟨us, h0, h1, h2⟩ := h
  have hB : But H wr (wr.setCell ⟨H, i, none⟩ v) := (But.refl H wr).setCell i v
  have rw' : ∀ {u : Value} {l : List Nat}, Row .u8 256 wr u l → (∀ q, u.ownBlock = some q → q ≠ H) → Row .u8 256 (wr.setCell ⟨H, i, none⟩ v) u l := fun {u l} hu hq => by
    obtain ⟨a, cap, rfl, k1, k2, k3, k4⟩ := hu
    refine ⟨a, cap, rfl, k1, k2, fun hl => ?_, k4⟩
    obtain ⟨b, off, rfl, hc⟩ := k3 hl
    exact ⟨b, off, rfl, fun j hj => But.cell (hc j hj) hB (hq b (by simp [Value.ownBlock]))⟩
  refine ⟨us.setIfInBounds i v, by simp [h0], ?_, fun j k1 k2 => ?_⟩
  · rw [setCell_eq_setRow wr H i _ 24 (0, 0) _ h1]
    exact setRow_heap wr H _ _ 24 _ h1
  · by_cases e : j = i
    · subst e
      exact ⟨v, by rw [Array.getElem?_setIfInBounds_self_of_lt (by omega)], rw' hv hn, tv, hn⟩
    · obtain ⟨u, e1, e2, e3, e4⟩ := h2 j (by omega) k2
      exact ⟨u, by rw [Array.getElem?_setIfInBounds_ne (fun x => e x.symm)]; exact e1, rw' e2 e4, e3, e4⟩
theorem UpS.made {w : World} {base g n : Nat} {xs : List Value} (f : Nat → List Nat) (h : w.ownsRow base 24 1 (.slice (some ⟨g, 0, none⟩) n n) n xs) : UpS w g n 0 f := by
  obtain ⟨_, ⟨h1, _⟩ | ⟨g', cap, cur, h1, _, h3, _, _, h4, h5⟩⟩ := h
  · cases h1
  · simp only [Value.slice.injEq, Option.some.injEq, Addr.mk.injEq] at h1
    obtain ⟨⟨rfl, _⟩, rfl⟩ : (g = g' ∧ True) ∧ n = cap := ⟨⟨h1.1.1, trivial⟩, h1.2.2⟩
    exact ⟨cur, by omega, h3, fun j k1 k2 => by omega⟩
theorem UpS.rows {wr : World} {H N : Nat} {f : Nat → List Nat} (h : UpS wr H N N f) (hN : N ≤ 100000) : Rows2 wr (.slice (some ⟨H, 0, none⟩) N N) ((List.range N).map f) := by
  obtain ⟨us, h0, h1, h2⟩ := h
  have hl : ((List.range N).map f).length = N := by simp
  refine ⟨some ⟨H, 0, none⟩, N, by rw [hl], by rw [hl]; exact Nat.le_refl _, by unfold maxLen; omega, fun _ => ⟨H, 0, rfl, fun i hi => ?_⟩⟩
  rw [hl] at hi
  obtain ⟨u, e1, e2, e3, _⟩ := h2 i hi hi
  refine ⟨u, by rw [Nat.zero_add, cell_of_row wr H i _ _ (0, 0) h1]; exact e1, ?_, e3⟩
  have ht : tx ((List.range N).map f) i = f i := by simp [tx, hi]
  rw [ht]
  exact e2
theorem y_ix0 {ops : Array Oper} {S : World → Prop} {o : Oper} {a : Act} {x y : Operand} {t e : TypeId} {g n c i : Nat} (hw : Region.wanted o (yielded ops a.tmps) = true) (ho : o.op = .indexAddr t x y) (hx : a.eval x = .slice (some ⟨g, 0, none⟩) n c) (hy : a.eval y = .int .i64 (i : Int)) (hu : Tryz.prog.underlying t = some (.slice e)) (hs : (Tryz.prog.info? e).map (·.size) = some 1) (hi : i < n) : YieldsIf Tryz.prog ops S o (.pointer (some ⟨g, i, none⟩)) a := by
  have := y_indexG (ops := ops) (S := S) hw ho hx hy hu hs hi
  rw [Nat.zero_add, Nat.mul_one] at this
  exact this
theorem BxL.range4 {W : World} {B : Nat} {a b c d e : Value} (h : BxL W B a b c d e) : W.rangeAt B 0 [a, b, c, d] := fun j v hv => by
  refine h.range j v ?_
  have : j < 4 := (List.getElem?_eq_some_iff.1 hv).1
  match j, this with
  | 0, _ => exact hv
  | 1, _ => exact hv
  | 2, _ => exact hv
  | 3, _ => exact hv
theorem BxL.but {W W' : World} {B H : Nat} {a b c d e : Value} (h : BxL W B a b c d e) (hb : But H W W') (hn : B ≠ H) : BxL W' B a b c d e := ⟨(hb.block _ h.lt hn).trans h.here⟩
set_option maxHeartbeats 4000000 in
set_option maxRecDepth 100000 in
theorem csec_no (x : Int) (q : Nat) (ia sa : Option Addr) (il ic sl sc : Nat) (w : World) (h : NoK x) :
    Calls Tryz.prog 60 #[.int .i64 x, .slice ia il ic, .int .u32 (q : Int), .slice sa sl sc] w fun e w' => e = .returned (.tuple #[.agg #[.int .i64 0, .int .i64 0, .int .i64 0, .int .u64 0, .slice none 0 0], .int .i64 9]) ∧ Below w.heap.size w w' := by
  have hk := fun y => cleaf_no x q ia il ic y h
  have b0 := BxL.new w (.int .i64 0) (.int .i64 0) (.int .i64 0) (.int .u64 0) (.slice none 0 0)
  have k0 := keep_alloc w (.cells #[.int .i64 0, .int .i64 0, .int .i64 0, .int .u64 0, .slice none 0 0] 84)
  clear h
  go_enter Tryz.func60, Tryz.ntmps60
  go_wp2_with (first
    | (go_at_call 76; refine (hk _).mono ?_; rintro e w1 ⟨rfl, g1⟩; have b1 := b0.below (keep_trans g1 (keep_alloc w1 (.cells #[.int .i64 0, .int .i64 0, .int .i64 0, .int .u64 0, .slice none 0 0] 84))))
    | (refine wpList_store_row rfl 84 _ _ (by rfl) w.heap.size #[.int .i64 0, .int .i64 0, .int .i64 0, .int .u64 0, .slice none 0 0] (by rfl) (by rfl) _ _ b1.here (by kernel_rfl) rfl (by simp [Value.oneCell']) ?_)
    | fail)
  refine bodyPost_ret (v := .tuple #[.agg #[.int .i64 0, .int .i64 0, .int .i64 0, .int .u64 0, .slice none 0 0], .int .i64 9]) (b1.row.ret rfl _ rfl rfl) rfl ⟨rfl, ?_⟩
  exact (keep_trans k0 (keep_trans g1 (keep_alloc _ _))).trans (((But.refl _ _).setRow _).below (Nat.le_refl _) (Nat.le_of_lt b1.lt))
set_option maxHeartbeats 4000000 in
set_option maxRecDepth 100000 in
theorem csec_size {k n m s c P : Nat} (h : Kd k n m s c) (hP : P = n + m) (q : Nat) (ia sa : Option Addr) (il ic sl sc : Nat) (w : World) (hl : ¬ il = 16) :
    Calls Tryz.prog 60 #[.int .i64 (k : Int), .slice ia il ic, .int .u32 (q : Int), .slice sa sl sc] w fun e w' => e = .returned (.tuple #[.agg #[.int .i64 0, .int .i64 0, .int .i64 0, .int .u64 0, .slice none 0 0], .int .i64 14]) ∧ Below w.heap.size w w' := by
  have hk := fun y => cleaf_size h hP q ia il ic y hl
  have b0 := BxL.new w (.int .i64 0) (.int .i64 0) (.int .i64 0) (.int .u64 0) (.slice none 0 0)
  have k0 := keep_alloc w (.cells #[.int .i64 0, .int .i64 0, .int .i64 0, .int .u64 0, .slice none 0 0] 84)
  clear h hP hl
  go_enter Tryz.func60, Tryz.ntmps60
  go_wp2_with (first
    | (go_at_call 76; refine (hk _).mono ?_; rintro e w1 ⟨rfl, g1⟩; have b1 := b0.below (keep_trans g1 (keep_alloc w1 (.cells #[.int .i64 0, .int .i64 0, .int .i64 0, .int .u64 0, .slice none 0 0] 84))))
    | (refine wpList_store_row rfl 84 _ _ (by rfl) w.heap.size #[.int .i64 0, .int .i64 0, .int .i64 0, .int .u64 0, .slice none 0 0] (by rfl) (by rfl) _ _ b1.here (by kernel_rfl) rfl (by simp [Value.oneCell']) ?_)
    | fail)
  refine bodyPost_ret (v := .tuple #[.agg #[.int .i64 0, .int .i64 0, .int .i64 0, .int .u64 0, .slice none 0 0], .int .i64 14]) (b1.row.ret rfl _ rfl rfl) rfl ⟨rfl, ?_⟩
  exact (keep_trans k0 (keep_trans g1 (keep_alloc _ _))).trans (((But.refl _ _).setRow _).below (Nat.le_refl _) (Nat.le_of_lt b1.lt))
set_option maxHeartbeats 4000000 in
set_option maxRecDepth 100000 in
theorem csec_seed {k n m s c P : Nat} (h : Kd k n m s c) (hP : P = n + m) (q : Nat) (id : List Nat) (idv : Value) (sa : Option Addr) (sl sc : Nat) (w : World) (hi : Row .u8 256 w idv id) (ti : Tidy idv) (hl : id.length = 16) (hq : q < 4294967296) (hsl : ¬ sl = 32) :
    Calls Tryz.prog 60 #[.int .i64 (k : Int), idv, .int .u32 (q : Int), .slice sa sl sc] w fun e w' => e = .returned (.tuple #[.agg #[.int .i64 0, .int .i64 0, .int .i64 0, .int .u64 0, .slice none 0 0], .int .i64 14]) ∧ Below w.heap.size w w' := by
  have b0 := BxL.new w (.int .i64 0) (.int .i64 0) (.int .i64 0) (.int .u64 0) (.slice none 0 0)
  have k0 := keep_alloc w (.cells #[.int .i64 0, .int .i64 0, .int .i64 0, .int .u64 0, .slice none 0 0] 84)
  have hk := cleaf_ok h hP q id idv (w.alloc (.cells #[.int .i64 0, .int .i64 0, .int .i64 0, .int .u64 0, .slice none 0 0] 84)) (hi.below k0) ti hl hq
  obtain ⟨ia, ic, rfl, _⟩ := hi.opens hl
  have hpl : (preL id q).length = 20 := by rw [len_pre, hl]
  obtain ⟨PR, hPR⟩ : ∃ x, x = preL id q := ⟨_, rfl⟩
  rw [← hPR] at hk hpl
  have hli : ¬ (sl : Int) = 32 := by omega
  clear h hP hsl hi hPR
  go_enter Tryz.func60, Tryz.ntmps60
  go_wp2_with (first
    | (go_at_call 76; refine hk.mono ?_; rintro e w1 ⟨jv, rfl, oj, g1⟩; obtain ⟨ja, jc, rfl, _⟩ := oj.row.opens hpl; have b1 := b0.below (keep_trans g1 (keep_alloc w1 (.cells #[.int .i64 (k : Int), .int .i64 (P : Int), .int .i64 (s : Int), .int .u64 (c : Int), .slice ja 20 jc] 84))))
    | (refine wpList_store_row rfl 84 _ _ (by rfl) w.heap.size #[.int .i64 0, .int .i64 0, .int .i64 0, .int .u64 0, .slice none 0 0] (by rfl) (by rfl) _ _ b1.here (by kernel_rfl) rfl (by simp [Value.oneCell']) ?_)
    | fail)
  refine bodyPost_ret (v := .tuple #[.agg #[.int .i64 0, .int .i64 0, .int .i64 0, .int .u64 0, .slice none 0 0], .int .i64 14]) (b1.row.ret rfl _ rfl rfl) rfl ⟨rfl, ?_⟩
  exact (keep_trans k0 (keep_trans g1 (keep_alloc _ _))).trans (((But.refl _ _).setRow _).below (Nat.le_refl _) (Nat.le_of_lt b1.lt))
set_option maxHeartbeats 4000000 in
set_option maxRecDepth 100000 in
theorem csec_ok {k n m s c P : Nat} (h : Kd k n m s c) (hP : P = n + m) (q : Nat) (id : List Nat) (idv : Value) (sa : Option Addr) (sc : Nat) (w : World) (hi : Row .u8 256 w idv id) (ti : Tidy idv) (hl : id.length = 16) (hq : q < 4294967296) :
    Calls Tryz.prog 60 #[.int .i64 (k : Int), idv, .int .u32 (q : Int), .slice sa 32 sc] w fun e w' => ∃ v, e = .returned (.tuple #[.agg #[.int .i64 (k : Int), .int .i64 (P : Int), .int .i64 (s : Int), .int .u64 (c : Int), v], .int .i64 0]) ∧ Own 5 .u8 256 w' w.heap.size v (preL id q) ∧ Below w.heap.size w w' := by
  have b0 := BxL.new w (.int .i64 0) (.int .i64 0) (.int .i64 0) (.int .u64 0) (.slice none 0 0)
  have k0 := keep_alloc w (.cells #[.int .i64 0, .int .i64 0, .int .i64 0, .int .u64 0, .slice none 0 0] 84)
  have hk := cleaf_ok h hP q id idv (w.alloc (.cells #[.int .i64 0, .int .i64 0, .int .i64 0, .int .u64 0, .slice none 0 0] 84)) (hi.below k0) ti hl hq
  obtain ⟨ia, ic, rfl, _⟩ := hi.opens hl
  have hpl : (preL id q).length = 20 := by rw [len_pre, hl]
  obtain ⟨PR, hPR⟩ : ∃ x, x = preL id q := ⟨_, rfl⟩
  rw [← hPR] at hk hpl ⊢
  clear h hP hi hPR
  go_enter Tryz.func60, Tryz.ntmps60
  go_wp2_with (first
    | (go_at_call 76; refine hk.mono ?_; rintro e w1 ⟨jv, rfl, oj, g1⟩; obtain ⟨ja, jc, rfl, _⟩ := oj.row.opens hpl; have b1 := b0.below (keep_trans g1 (keep_alloc w1 (.cells #[.int .i64 (k : Int), .int .i64 (P : Int), .int .i64 (s : Int), .int .u64 (c : Int), .slice ja 20 jc] 84))); have c1 := BxL.new w1 (.int .i64 (k : Int)) (.int .i64 (P : Int)) (.int .i64 (s : Int)) (.int .u64 (c : Int)) (.slice ja 20 jc))
    | (refine wpList_load_row rfl 84 _ (by rfl) w1.heap.size (by rfl) _ _ _ _ c1.here Tryz.underlying84 rfl (by kernel_rfl) ?_)
    | (refine wpList_store_row rfl 84 _ _ (by rfl) w.heap.size #[.int .i64 (k : Int), .int .i64 (P : Int), .int .i64 (s : Int), .int .u64 (c : Int), .slice ja 20 jc] (by rfl) (by rfl) _ _ b1.here (by kernel_rfl) rfl (by simp [Value.oneCell']) ?_)
    | fail)
  have kk := keep_trans k0 (keep_trans g1 (keep_alloc w1 (.cells #[.int .i64 (k : Int), .int .i64 (P : Int), .int .i64 (s : Int), .int .u64 (c : Int), .slice ja 20 jc] 84)))
  refine bodyPost_ret (v := .tuple #[.agg #[.int .i64 (k : Int), .int .i64 (P : Int), .int .i64 (s : Int), .int .u64 (c : Int), .slice ja 20 jc], .int .i64 0]) (b1.row.ret rfl _ rfl rfl) rfl ⟨_, rfl, ?_, ?_⟩
  · have o2 := oj.mono (show w.heap.size + 1 ≤ _ by rw [World.size_alloc]; exact Nat.le_refl _)
    exact Own.mono (B := w.heap.size + 1) ⟨own_butL (o2.1.alloc (.cells #[.int .i64 (k : Int), .int .i64 (P : Int), .int .i64 (s : Int), .int .u64 (c : Int), .slice ja 20 jc] 84)) ((But.refl w.heap.size _).setRow _) (Nat.lt_succ_self _), o2.2⟩ (Nat.le_succ _)
  · exact kk.trans (((But.refl _ _).setRow _).below (Nat.le_refl _) (Nat.le_of_lt b1.lt))
end Go.Proofs.YtefndnbaifiboaaGreatDoor

/- Leaves that sign once, the program's own: Public. -/
namespace Go.Proofs.YtefndnbaifiboaaGreatDoor
open Go.RowKit
set_option linter.unusedVariables false
set_option linter.unusedSimpArgs false

/-- where the loop over the parts stands -/
def PuL (w2 : World) (H N : Nat) (f : Nat → List Nat) (vi : Value) (wr : World) : Prop := ∃ i : Nat, i ≤ N ∧ vi = .int .i64 (i : Int) ∧ UpS wr H N i f ∧ But H w2 wr
theorem PuL.next {w2 wr y : World} {H N i : Nat} {v : Value} {f : Nat → List Nat} (hU : UpS wr H N i f) (hb : But H w2 wr) (kb : Below wr.heap.size wr y) (hi : i < N) (hv : Row .u8 256 y v (f i)) (tv : Tidy v) (hn : ∀ q, v.ownBlock = some q → q ≠ H) :
    PuL w2 H N f (.int .i64 ((i + 1 : Nat) : Int)) (y.setCell ⟨H, i, none⟩ v) :=
  ⟨i + 1, hi, rfl, (hU.below kb).store hi hv tv hn, (hb.trans (But.of_below kb)).setCell _ _⟩
theorem PuL.start {w2 : World} {H N : Nat} (f : Nat → List Nat) (hU : UpS w2 H N 0 f) : PuL w2 H N f (.int .i64 0) w2 := ⟨0, Nat.zero_le _, rfl, hU, But.refl _ _⟩
theorem map_flat32 {f : Nat → List Nat} {N : Nat} (h : ∀ i, (f i).length = 32) : ((List.range N).map f).flatten.length = 32 * N := by
  rw [flat_32_len _ (fun p hp => by obtain ⟨i, _, rfl⟩ := List.mem_map.1 hp; exact h i)]
  simp
theorem cpub_no (x : Int) (q : Nat) (ia sa : Option Addr) (il ic sl sc : Nat) (w : World) (h : NoK x) :
    Calls Tryz.prog 85 #[.int .i64 x, .slice ia il ic, .int .u32 (q : Int), .slice sa sl sc] w fun e w' => e = .returned (.tuple #[.slice none 0 0, .int .i64 9]) ∧ Below w.heap.size w w' := by
  have hk := csec_no x q ia sa il ic sl sc w h
  clear h
  go_enter Tryz.func85, Tryz.ntmps85
  go_wp2_with (first
    | (go_at_call 60; refine hk.mono ?_; rintro e w1 ⟨rfl, g1⟩)
    | fail)
  go_ret2
  exact ⟨rfl, keep_trans g1 (keep_alloc _ _)⟩
theorem cpub_size {k n m s c P : Nat} (h : Kd k n m s c) (hP : P = n + m) (q : Nat) (id : List Nat) (idv : Value) (sa : Option Addr) (sl sc : Nat) (w : World) (hi : Row .u8 256 w idv id) (ti : Tidy idv) (hq : q < 4294967296) (hl : ¬ (id.length = 16 ∧ sl = 32)) :
    Calls Tryz.prog 85 #[.int .i64 (k : Int), idv, .int .u32 (q : Int), .slice sa sl sc] w fun e w' => e = .returned (.tuple #[.slice none 0 0, .int .i64 14]) ∧ Below w.heap.size w w' := by
  have hk : Calls Tryz.prog 60 #[.int .i64 (k : Int), idv, .int .u32 (q : Int), .slice sa sl sc] w fun e w' => e = .returned (.tuple #[.agg #[.int .i64 0, .int .i64 0, .int .i64 0, .int .u64 0, .slice none 0 0], .int .i64 14]) ∧ Below w.heap.size w w' := by
    by_cases h1 : id.length = 16
    · exact csec_seed h hP q id idv sa sl sc w hi ti h1 hq (fun h2 => hl ⟨h1, h2⟩)
    · obtain ⟨ia, ic, rfl, _⟩ := hi.opens rfl
      exact csec_size h hP q ia sa id.length ic sl sc w h1
  obtain ⟨ia, ic, rfl, _⟩ := hi.opens rfl
  clear h hP hl hi
  go_enter Tryz.func85, Tryz.ntmps85
  go_wp2_with (first
    | (go_at_call 60; refine hk.mono ?_; rintro e w1 ⟨rfl, g1⟩)
    | fail)
  go_ret2
  exact ⟨rfl, keep_trans g1 (keep_alloc _ _)⟩
def pu8lt : List Lt := [(0, some 35, [12]), (0, some 36, [13]), (0, some 37, [10]), (0, some 38, [13]), (0, some 39, [10]), (0, some 40, [13]), (32, some 41, [40]), (0, some 42, [3]), (208, some 43, [39, 41, 42]), (0, some 44, [10]), (512, some 45, [44]), (1280, some 46, [45]), (2316, some 47, [37, 38, 43, 46]), (8191, some 48, [35, 36]), (16383, none, [48, 47])]
theorem pu8reg : Reg (opsA (cRA (cBA (cLA (cRA (cRA (cLpA (cBA (cRA (cLA (cRA (cRA (cRA (cRA (Tryz.f85.body.getD .skip))))))))))))))) pu8lt := ⟨by kernel_rfl, by kernel_rfl⟩
set_option maxHeartbeats 4000000 in
set_option maxRecDepth 100000 in
theorem cpub_ok {k n m s c P : Nat} (h : Kd k n m s c) (hP : P = n + m) (q : Nat) (id seed : List Nat) (idv sv : Value) (w : World) (hT : Roots w) (hi : Row .u8 256 w idv id) (ti : Tidy idv) (hs : Row .u8 256 w sv seed) (ts : Tidy sv) (hl : id.length = 16) (hsl : seed.length = 32) (hq : q < 4294967296) :
    Calls Tryz.prog 85 #[.int .i64 (k : Int), idv, .int .u32 (q : Int), sv] w fun e w' => ∃ v, e = .returned (.tuple #[v, .int .i64 0]) ∧ Own 5 .u8 256 w' w.heap.size v (pubH shaL (preL id q) (2 ^ k - 1) P seed) ∧ Below w.heap.size w w' := by
  obtain ⟨sa, sc, rfl, _⟩ := hs.opens hsl
  have hsec := csec_ok h hP q id idv sa sc w hi ti hl hq
  obtain ⟨ia, ic, rfl, _⟩ := hi.opens hl
  obtain ⟨p1, p2, p3, p4, p5, p6, p7⟩ := h.pos
  obtain ⟨q1, q2, q3, q4, q5, q6, q7⟩ := h.more
  have htop := fun y => ktop_ok h hP y
  have hP1 : P ≤ 265 := by omega
  obtain ⟨M, hM⟩ : ∃ M, M = 2 ^ k - 1 := ⟨_, rfl⟩
  rw [← hM] at htop q3 ⊢
  have hpl : (preL id q).length = 20 := by rw [len_pre, hl]
  obtain ⟨pre, hpre⟩ : ∃ x, x = preL id q := ⟨_, rfl⟩
  rw [← hpre] at hsec hpl ⊢
  have hdr := fun (i : Nat) (hi' : i < 65536) y av (hTy : Roots y) (ra : Row .u8 256 y av pre) (ta : Tidy av) (rs : Row .u8 256 y (.slice sa 32 sc) seed) => cdrawn_any k P s c i pre seed av _ y hTy ra ta rs ts hi' (by omega)
  have hal : ∀ (i : Nat) (hi' : i < 65536) (y0 : List Nat) (hy0 : y0.length = 32) y av yv (hTy : Roots y) (ra : Row .u8 256 y av pre) (ta : Tidy av) (ry : Row .u8 256 y yv y0) (ty : Tidy yv), Calls Tryz.prog 64 #[.agg #[.int .i64 (k : Int), .int .i64 (P : Int), .int .i64 (s : Int), .int .u64 (c : Int), av], .int .i64 (i : Int), yv, .int .u32 0, .int .u32 (M : Int)] y fun e w' => ∃ v, e = .returned v ∧ Row .u8 256 w' v (chN shaL pre i 0 M y0) ∧ Tidy v ∧ (New y.heap.size v ∨ v = yv) ∧ Below y.heap.size y w' := fun i hi' y0 hy0 y av yv hTy ra ta ry ty => by
    have := calong_any k P s c i 0 M pre y0 av yv y hTy ra ta ry ty hi' (by omega) hy0 (by omega)
    rw [Nat.zero_add] at this
    exact this
  have hsm := fun y av mv ps (hTy : Roots y) (ra : Row .u8 256 y av pre) (ta : Tidy av) (rm : Rows2 y mv ps) (hps : ps.length ≤ 265) (hfl : ps.flatten.length ≤ 32 * 265) => csum_any k P s c 32896 pre ps av mv y hTy ra ta rm (by decide) (by omega) (by omega)
  have hX : ∀ i, (lmX shaL pre i 255 seed).length = 32 := fun i => shaL_len _
  have hC : ∀ i, (chN shaL pre i 0 M (lmX shaL pre i 255 seed)).length = 32 := fun i => chN_len shaL_len i 0 _ (hX i) _
  unfold pubH keyH endsP
  generalize shaL = HH at *
  obtain ⟨f, hf⟩ : ∃ f : Nat → List Nat, f = fun i => chN HH pre i 0 M (lmX HH pre i 255 seed) := ⟨_, rfl⟩
  rw [← hf]
  have hfi : ∀ i, chN HH pre i 0 M (lmX HH pre i 255 seed) = f i := fun i => by rw [hf]
  have hfl : ((List.range P).map f).flatten.length ≤ 32 * 265 := by rw [map_flat32 (fun i => by rw [← hfi]; exact hC i)]; omega
  have hps : ((List.range P).map f).length ≤ 265 := by simpa using hP1
  obtain ⟨i0, hi0, hz0, hz1, hz2⟩ := info_text
  have HX := hide (And.intro hX (And.intro hfi (And.intro hC (And.intro hP1 p1))))
  have HS := hide (And.intro hs (And.intro hT (And.intro hfl hps)))
  have hsmH := hide hsm
  have hdrH := hide hdr
  have halH := hide hal
  clear hX hfi hC hs hT hfl hps hsm hdr hal hM hpre hP h hf hi p1 q1 q2 q4 q5 p5
  go_enter Tryz.func85, Tryz.ntmps85
  go_wp2_with (first
    | (go_at_call 60; refine hsec.mono ?_; rintro e w1 ⟨av, rfl, oa, g1⟩; obtain ⟨aa, ac, rfl, _⟩ := oa.row.opens hpl; have bx := BxL.new w1 (.int .i64 (k : Int)) (.int .i64 (P : Int)) (.int .i64 (s : Int)) (.int .u64 (c : Int)) (.slice aa 20 ac); have cP : (w1.alloc (.cells #[.int .i64 (k : Int), .int .i64 (P : Int), .int .i64 (s : Int), .int .u64 (c : Int), .slice aa 20 ac] 84)).cell? ⟨w1.heap.size, 1, none⟩ = some (.int .i64 (P : Int)) := bx.range 1 _ rfl)
    | (at_make; refine wpList_make_full _ rfl _ _ 46 rfl (w1.heap.size + 1) 24 i0 (.slice none 0 0) 1 Tryz.underlying46 hi0 hz0 hz1 _ _ _ _ P rfl rfl rfl rfl (by rw [hz2]; have := HX.out.2.2.2.1; omega) (by have := HX.out.2.2.2.1; unfold maxLen; omega) (by rw [World.size_alloc]; exact Nat.le_refl _) ?_; intro w2 hown hgrow; have hbg := (Below.refl (w1.alloc (.cells #[.int .i64 (k : Int), .int .i64 (P : Int), .int .i64 (s : Int), .int .u64 (c : Int), .slice aa 20 ac] 84)).heap.size (w1.alloc (.cells #[.int .i64 (k : Int), .int .i64 (P : Int), .int .i64 (s : Int), .int .u64 (c : Int), .slice aa 20 ac] 84))).grown hgrow (Nat.le_refl _) (fun k h => by cases h); have bx2 := bx.below hbg; have cP2 : w2.cell? ⟨w1.heap.size, 1, none⟩ = some (.int .i64 (P : Int)) := bx2.range 1 _ rfl)
    | fail)
  have hb1 := keep_trans g1 (keep_alloc w1 (.cells #[.int .i64 (k : Int), .int .i64 (P : Int), .int .i64 (s : Int), .int .u64 (c : Int), .slice aa 20 ac] 84))
  have hU := UpS.made f hown
  have oa2 := (oa.row.below (keep_alloc w1 (.cells #[.int .i64 (k : Int), .int .i64 (P : Int), .int .i64 (s : Int), .int .u64 (c : Int), .slice aa 20 ac] 84))).below hbg
  have hb2 := keep_trans hb1 hbg
  have haw : ∀ H, H = w1.heap.size + 1 → Away H (.slice aa 20 ac) pre := fun H hH => oa.row.away (by omega)
  have hXn : ∀ H, H = w1.heap.size + 1 → w1.heap.size ≠ H ∧ w.heap.size ≤ H := fun H hH => by have := g1.size; omega
  have hHs : (w1.alloc (.cells #[.int .i64 (k : Int), .int .i64 (P : Int), .int .i64 (s : Int), .int .u64 (c : Int), .slice aa 20 ac] 84)).heap.size = w1.heap.size + 1 := by rw [World.size_alloc]
  have hXX := hXn _ hHs
  have haw2 := haw _ hHs
  have ta := oa.tidy
  generalize (w1.alloc (.cells #[.int .i64 (k : Int), .int .i64 (P : Int), .int .i64 (s : Int), .int .u64 (c : Int), .slice aa 20 ac] 84)).heap.size = H at *
  subst hHs
  generalize w1.heap.size = X at *
  have H0 := hide (PuL.start f hU)
  have HA := hide (And.intro oa2 (And.intro ta (And.intro hb2 (And.intro haw2 (And.intro bx2 hXX)))))
  go_loopw [32] (fun vi wr => PuL w2 (X + 1) P f vi wr) (fun vi _ => P - (intOf vi).toNat)
  case atStart => exact H0.out
  case round =>
    obtain ⟨i, hi', rfl, hUr, hbr⟩ := hrel
    clear H0
    rename World => wr
    obtain ⟨hX, hfi, hC, hP1, p1⟩ := HX.out
    obtain ⟨oar, ta, hb2, haw, bx2, hXH, hwH⟩ := HA.out
    obtain ⟨hs, hT, hfl, hps⟩ := HS.out
    have bxr := bx2.but hbr hXH
    have hbw := hb2.trans (hbr.below hwH hb2.size)
    have hTr := hT.below hbw
    have har := oar.but haw hbr
    by_cases hlt : i < P
    · have hiP := hlt
      have hii : (i : Int) < (P : Int) := by omega
      obtain ⟨I, hI⟩ : ∃ I : Nat, I = i + 1 := ⟨_, rfl⟩
      have e_I : (i : Int) + 1 = (I : Int) := by omega
      have s_I : IntKind.i64.wrap (I : Int) = (I : Int) := by rw [IntKind.wrap_i64]; omega
      have hsr := hs.below hbw
      have hXi := hX i
      have hCi : (f i).length = 32 := by rw [← hfi]; exact hC i
      have hdr := fun y hTy ra rs => hdrH.out i (by omega) y (.slice aa 20 ac) hTy ra ta rs
      have hal := fun y yv hTy ra ry ty => halH.out i (by omega) (lmX HH pre i 255 seed) hXi y (.slice aa 20 ac) yv hTy ra ta ry ty
      simp only [hfi] at hal
      have hbd : But (X + 1) wr wr.drew := (But.refl _ _).drew
      have kb : Below wr.heap.size wr wr.drew := (Below.refl _ _).drew
      have HK := hide (And.intro hI (And.intro hlt hbr))
      have hi6 : i < 65536 := by omega
      clear hX hfi hC hs hT hfl hps hI hlt hb2 hbw hwH hP1 hbr oar hi' haw bx2
      go_wp2
      refine at_begin (ops := opsA (cRA (cBA (cLA (cRA (cRA (cLpA (cBA (cRA (cLA (cRA (cRA (cRA (cRA (Tryz.f85.body.getD .skip))))))))))))))) (n := 15) (fun y => But (X + 1) wr y) (by kernel_rfl) (by kernel_rfl) ?_
      refine at_takeD (i := 0) (m' := 1) (d := some 35) (v := .slice (some ⟨X + 1, 0, none⟩) P P) pu8reg rfl (by decide) rfl rfl (y_moveG (wanted_free rfl) rfl rfl) hbd ?_
      simp only [Act.put, List.setIfInBounds_toArray, List.set_cons_zero, List.set_cons_succ]
      refine at_takeD (i := 1) (m' := 3) (d := some 36) (v := .int .i64 (i : Int)) pu8reg rfl (by decide) rfl rfl (y_moveG (wanted_free rfl) rfl rfl) hbd ?_
      simp only [Act.put, List.setIfInBounds_toArray, List.set_cons_zero, List.set_cons_succ]
      refine at_takeD (i := 2) (m' := 7) (d := some 37) (v := .agg #[.int .i64 (k : Int), .int .i64 (P : Int), .int .i64 (s : Int), .int .u64 (c : Int), .slice aa 20 ac]) pu8reg rfl (by decide) rfl rfl (y_rowG (cs := [.int .i64 (k : Int), .int .i64 (P : Int), .int .i64 (s : Int), .int .u64 (c : Int), .slice aa 20 ac]) (wanted_free rfl) rfl rfl Tryz.underlying84 rfl (by kernel_rfl) (fun _ h => (bxr.but h hXH).range)) hbd ?_
      simp only [Act.put, List.setIfInBounds_toArray, List.set_cons_zero, List.set_cons_succ]
      refine at_takeD (i := 3) (m' := 15) (d := some 38) (v := .int .i64 (i : Int)) pu8reg rfl (by decide) rfl rfl (y_moveG (wanted_free rfl) rfl rfl) hbd ?_
      simp only [Act.put, List.setIfInBounds_toArray, List.set_cons_zero, List.set_cons_succ]
      refine at_takeD (i := 4) (m' := 31) (d := some 39) (v := .agg #[.int .i64 (k : Int), .int .i64 (P : Int), .int .i64 (s : Int), .int .u64 (c : Int), .slice aa 20 ac]) pu8reg rfl (by decide) rfl rfl (y_rowG (cs := [.int .i64 (k : Int), .int .i64 (P : Int), .int .i64 (s : Int), .int .u64 (c : Int), .slice aa 20 ac]) (wanted_free rfl) rfl rfl Tryz.underlying84 rfl (by kernel_rfl) (fun _ h => (bxr.but h hXH).range)) hbd ?_
      simp only [Act.put, List.setIfInBounds_toArray, List.set_cons_zero, List.set_cons_succ]
      refine at_takeD (i := 5) (m' := 63) (d := some 40) (v := .int .i64 (i : Int)) pu8reg rfl (by decide) rfl rfl (y_moveG (wanted_free rfl) rfl rfl) hbd ?_
      simp only [Act.put, List.setIfInBounds_toArray, List.set_cons_zero, List.set_cons_succ]
      refine at_takeD (i := 6) (m' := 127) (d := some 41) (v := .int .u64 (i : Int)) pu8reg rfl (by decide) rfl rfl (y_convI (wanted_free rfl) rfl rfl (conv_i64u64 i (by omega))) hbd ?_
      simp only [Act.put, List.setIfInBounds_toArray, List.set_cons_zero, List.set_cons_succ]
      refine at_takeD (i := 7) (m' := 255) (d := some 42) (v := .slice sa 32 sc) pu8reg rfl (by decide) rfl rfl (y_moveG (wanted_free rfl) rfl rfl) hbd ?_
      simp only [Act.put, List.setIfInBounds_toArray, List.set_cons_zero, List.set_cons_succ]
      refine at_takeD (i := 9) (m' := 767) (d := some 44) (v := .pointer (some ⟨X, 0, none⟩)) pu8reg rfl (by decide) rfl rfl (y_fieldG (wanted_free rfl) rfl rfl (fun w => by simp [go_sem])) hbd ?_
      simp only [Act.put, List.setIfInBounds_toArray, List.set_cons_zero, List.set_cons_succ]
      refine at_takeD (i := 10) (m' := 1791) (d := some 45) (v := .agg #[.int .i64 (k : Int), .int .i64 (P : Int), .int .i64 (s : Int), .int .u64 (c : Int)]) pu8reg rfl (by decide) rfl rfl (y_rowG (cs := [.int .i64 (k : Int), .int .i64 (P : Int), .int .i64 (s : Int), .int .u64 (c : Int)]) (wanted_free rfl) rfl rfl Tryz.underlying82 rfl (by kernel_rfl) (fun _ h => (bxr.but h hXH).range4)) hbd ?_
      simp only [Act.put, List.setIfInBounds_toArray, List.set_cons_zero, List.set_cons_succ]
      refine at_one (i := 8) (m' := 2047) pu8reg (by decide) rfl ?_
      refine p_callG (args := #[.agg #[.int .i64 (k : Int), .int .i64 (P : Int), .int .i64 (s : Int), .int .u64 (c : Int), .slice aa 20 ac], .int .u64 (i : Int), .slice sa 32 sc]) (d := some 43) rfl (wanted_free rfl) rfl (by simp only [List.map_toArray, List.map_cons, List.map_nil]; rfl) rfl Tryz.call61 ((hdr wr.drew (hTr.below kb) (har.below kb) (hsr.below kb)).mono ?_)
      rintro e y11 ⟨dv, rfl, od, g11⟩
      obtain ⟨da, dc, rfl, _⟩ := od.row.opens hXi
      have td := od.tidy
      have rd := od.row
      replace kb := keep_trans kb g11
      have hb11 := but_keep hbd g11
      refine ⟨_, rfl, hb11, ?_⟩
      simp only [Act.put, List.setIfInBounds_toArray, List.set_cons_zero, List.set_cons_succ]
      refine at_one (i := 11) (m' := 4095) pu8reg (by decide) rfl ?_
      refine p_callG (args := #[.agg #[.int .i64 (k : Int), .int .i64 (P : Int), .int .i64 (s : Int), .int .u64 (c : Int)]]) (d := some 46) rfl (wanted_free rfl) rfl (by simp only [List.map_toArray, List.map_cons, List.map_nil]; rfl) rfl Tryz.call78 ((htop y11).mono ?_)
      rintro e y12 ⟨rfl, g12⟩
      replace rd := rd.below g12
      replace kb := keep_trans kb g12
      have hb12 := but_keep hb11 g12
      refine ⟨_, rfl, hb12, ?_⟩
      simp only [Act.put, List.setIfInBounds_toArray, List.set_cons_zero, List.set_cons_succ]
      refine at_one (i := 12) (m' := 8191) pu8reg (by decide) rfl ?_
      refine p_callG (args := #[.agg #[.int .i64 (k : Int), .int .i64 (P : Int), .int .i64 (s : Int), .int .u64 (c : Int), .slice aa 20 ac], .int .i64 (i : Int), .slice da 32 dc, .int .u32 0, .int .u32 (M : Int)]) (d := some 47) rfl (wanted_free rfl) rfl (by simp only [List.map_toArray, List.map_cons, List.map_nil]; rfl) rfl Tryz.call64 ((hal y12 _ (hTr.below kb) (har.below kb) rd td).mono ?_)
      rintro e y13 ⟨xv, rfl, rx, tx, nx, g13⟩
      have kc := kb
      replace kb := keep_trans kb g13
      obtain ⟨xa, xc, rfl, _⟩ := rx.opens hCi
      have hb13 := but_keep hb12 g13
      refine ⟨_, rfl, hb13, ?_⟩
      simp only [Act.put, List.setIfInBounds_toArray, List.set_cons_zero, List.set_cons_succ]
      refine at_takeD (i := 13) (m' := 16383) (d := some 48) (v := .pointer (some ⟨X + 1, i, none⟩)) pu8reg rfl (by decide) rfl rfl (y_ix0 (wanted_free rfl) rfl rfl rfl Tryz.underlying46 (by kernel_rfl) hiP) hb13 ?_
      simp only [Act.put, List.setIfInBounds_toArray, List.set_cons_zero, List.set_cons_succ]
      refine at_one (i := 14) (m' := 32767) pu8reg (by decide) rfl ?_
      have hsz := kb
      refine p_store_plain (P := Tryz.prog) rfl rfl rfl rfl rfl rfl Tryz.underlying24 rfl (by kernel_rfl) ((hUr.below kb).any hiP) ((hUr.below kb).frozen i) ?_
      have hb15 := hb13.setCell i (.slice xa 32 xc)
      refine ⟨hb15, ?_⟩
      refine at_done pu8reg (by decide) ?_
      go_wp2
      obtain ⟨hI, hlt, hbr⟩ := HK.out
      have hn : ∀ q, (Value.slice xa 32 xc).ownBlock = some q → q ≠ X + 1 := fun q hq => by
        have hl := hUr.lt
        have hz : wr.drew.heap.size = wr.heap.size := rfl
        rcases nx with nx | nx
        · have h1 := nx q hq
          have h2 := kc.size
          omega
        · rw [nx] at hq
          have h1 := od.new q hq
          omega
      have hnext := PuL.next hUr hbr kb hlt rx tx hn
      rw [← hI] at hnext
      exact ⟨hnext, by simp [intOf]; omega⟩
    · obtain rfl : i = P := by omega
      have hge : ¬ ((i : Int) < (i : Int)) := by omega
      have rr := hUr.rows (by omega)
      have hsm1 := hsmH.out wr (.slice aa 20 ac) _ ((List.range i).map f) hTr har ta rr hps hfl
      have HK := hide hbw
      clear hX hfi hC hs hT hfl hps hb2 hbw hP1 hbr oar hi' hlt rr haw bx2 hwH
      go_wp2_with (first
        | (refine wpList_load_row rfl 84 _ (by rfl) X (by rfl) _ _ _ _ bxr.here Tryz.underlying84 rfl (by kernel_rfl) ?_)
        | (go_at_call 63; refine hsm1.mono ?_; rintro e w9 ⟨v9, rfl, o9, g9⟩)
        | fail)
      go_ret2
      exact ⟨_, rfl, o9.mono HK.out.size, keep_trans HK.out g9⟩
end Go.Proofs.YtefndnbaifiboaaGreatDoor
