/- Leaves that sign once, the program's own: secretLeaf; texts that are laid in order into a block; steps of plans. -/
import Derived.Test.YtnjiilnkobhibaaDoorLcL
import Derived.Test.YtnjiilnkobhibaaDoorAPln
namespace Go.Proofs.YtnjiilnkobhibaaDoor
open Go.RowKit
set_option linter.unusedVariables false
set_option linter.unusedSimpArgs false

theorem but_keep {H : Nat} {x y z : World} (h : But H x y) (k : Below y.heap.size y z) : But H x z := h.trans (But.of_below k)
/-- up to place i, texts lie in block H of N places -/
def UpS (wr : World) (H N i : Nat) (f : Nat → List Nat) : Prop := ∃ us : Array Value, us.size = N ∧ wr.heap[H]? = some (.cells us 22 (0, 0)) ∧ ∀ j, j < i → j < N → ∃ u, us[j]? = some u ∧ Row .u8 256 wr u (f j) ∧ Tidy u ∧ ∀ q, u.ownBlock = some q → q ≠ H
theorem UpS.lt {wr : World} {H N i : Nat} {f : Nat → List Nat} (h : UpS wr H N i f) : H < wr.heap.size := by
  obtain ⟨us, _, h1, _⟩ := h
  exact (Array.getElem?_eq_some_iff.1 h1).1
theorem UpS.below {wr w' : World} {H N i : Nat} {f : Nat → List Nat} (h : UpS wr H N i f) (hb : Below wr.heap.size wr w') : UpS w' H N i f := by
  have hl := h.lt
  obtain ⟨us, h1, h2, h3⟩ := h
  refine ⟨us, h1, (hb.block _ hl).trans h2, fun j k1 k2 => ?_⟩
  obtain ⟨u, e1, e2, e3, e4⟩ := h3 j k1 k2
  exact ⟨u, e1, e2.below hb, e3, e4⟩
theorem UpS.frozen {wr : World} {H N i : Nat} {f : Nat → List Nat} (h : UpS wr H N i f) (j : Nat) : wr.frozen? ⟨H, j, none⟩ = false := by
  obtain ⟨us, _, h1, _⟩ := h
  simp [World.frozen?, h1]
theorem UpS.any {wr : World} {H N i : Nat} {f : Nat → List Nat} (h : UpS wr H N i f) {j : Nat} (hj : j < N) : (wr.cell? ⟨H, j, none⟩).isSome = true := by
  obtain ⟨us, h0, h1, _⟩ := h
  rw [cell_of_row wr H j _ _ (0, 0) h1]
  simp [h0, hj]
theorem UpS.store {wr : World} {H N i : Nat} {f : Nat → List Nat} {v : Value} (h : UpS wr H N i f) (hi : i < N) (hv : Row .u8 256 wr v (f i)) (tv : Tidy v) (hn : ∀ q, v.ownBlock = some q → q ≠ H) : UpS (wr.setCell ⟨H, i, none⟩ v) H N (i + 1) f := by
  obtain ⟨us, h0, h1, h2⟩ := h
  have hB : But H wr (wr.setCell ⟨H, i, none⟩ v) := (But.refl H wr).setCell i v
  have rw' : ∀ {u : Value} {l : List Nat}, Row .u8 256 wr u l → (∀ q, u.ownBlock = some q → q ≠ H) → Row .u8 256 (wr.setCell ⟨H, i, none⟩ v) u l := fun {u l} hu hq => by
    obtain ⟨a, cap, rfl, k1, k2, k3, k4⟩ := hu
    refine ⟨a, cap, rfl, k1, k2, fun hl => ?_, k4⟩
    obtain ⟨b, off, rfl, hc⟩ := k3 hl
    exact ⟨b, off, rfl, fun j hj => But.cell (hc j hj) hB (hq b (by simp [Value.ownBlock]))⟩
  refine ⟨us.setIfInBounds i v, by simp [h0], ?_, fun j k1 k2 => ?_⟩
  · rw [setCell_eq_setRow wr H i _ 22 (0, 0) _ h1]
    exact setRow_heap wr H _ _ 22 _ h1
  · by_cases e : j = i
    · subst e
      exact ⟨v, by rw [Array.getElem?_setIfInBounds_self_of_lt (by omega)], rw' hv hn, tv, hn⟩
    · obtain ⟨u, e1, e2, e3, e4⟩ := h2 j (by omega) k2
      exact ⟨u, by rw [Array.getElem?_setIfInBounds_ne (fun x => e x.symm)]; exact e1, rw' e2 e4, e3, e4⟩
theorem UpS.made {w : World} {base g n : Nat} {xs : List Value} (f : Nat → List Nat) (h : w.ownsRow base 22 1 (.slice (some ⟨g, 0, none⟩) n n) n xs) : UpS w g n 0 f := by
  obtain ⟨_, ⟨h1, _⟩ | ⟨g', cap, cur, h1, _, h3, _, _, h4, h5⟩⟩ := h
  · cases h1
  · simp only [Value.slice.injEq, Option.some.injEq, Addr.mk.injEq] at h1
    obtain ⟨⟨rfl, _⟩, rfl⟩ : (g = g' ∧ True) ∧ n = cap := ⟨⟨h1.1.1, trivial⟩, h1.2.2⟩
    exact ⟨cur, by omega, h3, fun j k1 k2 => by omega⟩
theorem UpS.rows {wr : World} {H N : Nat} {f : Nat → List Nat} (h : UpS wr H N N f) (hN : N ≤ 100000) : Rows2 wr (.slice (some ⟨H, 0, none⟩) N N) ((List.range N).map f) := by
  obtain ⟨us, h0, h1, h2⟩ := h
  have hl : ((List.range N).map f).length = N := by simp
  refine ⟨some ⟨H, 0, none⟩, N, by rw [hl], by rw [hl]; exact Nat.le_refl _, by unfold maxLen; omega, fun _ => ⟨H, 0, rfl, fun i hi => ?_⟩⟩
  rw [hl] at hi
  obtain ⟨u, e1, e2, e3, _⟩ := h2 i hi hi
  refine ⟨u, by rw [Nat.zero_add, cell_of_row wr H i _ _ (0, 0) h1]; exact e1, ?_, e3⟩
  have ht : tx ((List.range N).map f) i = f i := by simp [tx, hi]
  rw [ht]
  exact e2
theorem y_ix0 {ops : Array Oper} {S : World → Prop} {o : Oper} {a : Act} {x y : Operand} {t e : TypeId} {g n c i : Nat} (hw : Region.wanted o (yielded ops a.tmps) = true) (ho : o.op = .indexAddr t x y) (hx : a.eval x = .slice (some ⟨g, 0, none⟩) n c) (hy : a.eval y = .int .i64 (i : Int)) (hu : Tryd.prog.underlying t = some (.slice e)) (hs : (Tryd.prog.info? e).map (·.size) = some 1) (hi : i < n) : YieldsIf Tryd.prog ops S o (.pointer (some ⟨g, i, none⟩)) a := by
  have := y_indexG (ops := ops) (S := S) hw ho hx hy hu hs hi
  rw [Nat.zero_add, Nat.mul_one] at this
  exact this
theorem BxL.range4 {W : World} {B : Nat} {a b c d e : Value} (h : BxL W B a b c d e) : W.rangeAt B 0 [a, b, c, d] := fun j v hv => by
  refine h.range j v ?_
  have : j < 4 := (List.getElem?_eq_some_iff.1 hv).1
  match j, this with
  | 0, _ => exact hv
  | 1, _ => exact hv
  | 2, _ => exact hv
  | 3, _ => exact hv
theorem BxL.but {W W' : World} {B H : Nat} {a b c d e : Value} (h : BxL W B a b c d e) (hb : But H W W') (hn : B ≠ H) : BxL W' B a b c d e := ⟨(hb.block _ h.lt hn).trans h.here⟩
set_option maxHeartbeats 4000000 in
set_option maxRecDepth 100000 in
theorem csec_no (x : Int) (q : Nat) (ia sa : Option Addr) (il ic sl sc : Nat) (w : World) (h : NoK x) :
    Calls Tryd.prog 16 #[.int .i64 x, .slice ia il ic, .int .u32 (q : Int), .slice sa sl sc] w fun e w' => e = .returned (.tuple #[.agg #[.int .i64 0, .int .i64 0, .int .i64 0, .int .u64 0, .slice none 0 0], .int .i64 9]) ∧ Below w.heap.size w w' := by
  have hk := fun y => cleaf_no x q ia il ic y h
  have b0 := BxL.new w (.int .i64 0) (.int .i64 0) (.int .i64 0) (.int .u64 0) (.slice none 0 0)
  have k0 := keep_alloc w (.cells #[.int .i64 0, .int .i64 0, .int .i64 0, .int .u64 0, .slice none 0 0] 48)
  clear h
  go_enter Tryd.func16, Tryd.ntmps16
  go_wp2_with (first
    | (go_at_call 33; refine (hk _).mono ?_; rintro e w1 ⟨rfl, g1⟩; have b1 := b0.below (keep_trans g1 (keep_alloc w1 (.cells #[.int .i64 0, .int .i64 0, .int .i64 0, .int .u64 0, .slice none 0 0] 48))))
    | (refine wpList_store_row rfl 48 _ _ (by rfl) w.heap.size #[.int .i64 0, .int .i64 0, .int .i64 0, .int .u64 0, .slice none 0 0] (by rfl) (by rfl) _ _ b1.here (by kernel_rfl) rfl (by simp [Value.oneCell']) ?_)
    | fail)
  refine bodyPost_ret (v := .tuple #[.agg #[.int .i64 0, .int .i64 0, .int .i64 0, .int .u64 0, .slice none 0 0], .int .i64 9]) (b1.row.ret rfl _ rfl rfl) rfl ⟨rfl, ?_⟩
  exact (keep_trans k0 (keep_trans g1 (keep_alloc _ _))).trans (((But.refl _ _).setRow _).below (Nat.le_refl _) (Nat.le_of_lt b1.lt))
set_option maxHeartbeats 4000000 in
set_option maxRecDepth 100000 in
theorem csec_size {k n m s c P : Nat} (h : Kd k n m s c) (hP : P = n + m) (q : Nat) (ia sa : Option Addr) (il ic sl sc : Nat) (w : World) (hl : ¬ il = 16) :
    Calls Tryd.prog 16 #[.int .i64 (k : Int), .slice ia il ic, .int .u32 (q : Int), .slice sa sl sc] w fun e w' => e = .returned (.tuple #[.agg #[.int .i64 0, .int .i64 0, .int .i64 0, .int .u64 0, .slice none 0 0], .int .i64 14]) ∧ Below w.heap.size w w' := by
  have hk := fun y => cleaf_size h hP q ia il ic y hl
  have b0 := BxL.new w (.int .i64 0) (.int .i64 0) (.int .i64 0) (.int .u64 0) (.slice none 0 0)
  have k0 := keep_alloc w (.cells #[.int .i64 0, .int .i64 0, .int .i64 0, .int .u64 0, .slice none 0 0] 48)
  clear h hP hl
  go_enter Tryd.func16, Tryd.ntmps16
  go_wp2_with (first
    | (go_at_call 33; refine (hk _).mono ?_; rintro e w1 ⟨rfl, g1⟩; have b1 := b0.below (keep_trans g1 (keep_alloc w1 (.cells #[.int .i64 0, .int .i64 0, .int .i64 0, .int .u64 0, .slice none 0 0] 48))))
    | (refine wpList_store_row rfl 48 _ _ (by rfl) w.heap.size #[.int .i64 0, .int .i64 0, .int .i64 0, .int .u64 0, .slice none 0 0] (by rfl) (by rfl) _ _ b1.here (by kernel_rfl) rfl (by simp [Value.oneCell']) ?_)
    | fail)
  refine bodyPost_ret (v := .tuple #[.agg #[.int .i64 0, .int .i64 0, .int .i64 0, .int .u64 0, .slice none 0 0], .int .i64 14]) (b1.row.ret rfl _ rfl rfl) rfl ⟨rfl, ?_⟩
  exact (keep_trans k0 (keep_trans g1 (keep_alloc _ _))).trans (((But.refl _ _).setRow _).below (Nat.le_refl _) (Nat.le_of_lt b1.lt))
set_option maxHeartbeats 4000000 in
set_option maxRecDepth 100000 in
theorem csec_seed {k n m s c P : Nat} (h : Kd k n m s c) (hP : P = n + m) (q : Nat) (id : List Nat) (idv : Value) (sa : Option Addr) (sl sc : Nat) (w : World) (hi : Row .u8 256 w idv id) (ti : Tidy idv) (hl : id.length = 16) (hq : q < 4294967296) (hsl : ¬ sl = 32) :
    Calls Tryd.prog 16 #[.int .i64 (k : Int), idv, .int .u32 (q : Int), .slice sa sl sc] w fun e w' => e = .returned (.tuple #[.agg #[.int .i64 0, .int .i64 0, .int .i64 0, .int .u64 0, .slice none 0 0], .int .i64 14]) ∧ Below w.heap.size w w' := by
  have b0 := BxL.new w (.int .i64 0) (.int .i64 0) (.int .i64 0) (.int .u64 0) (.slice none 0 0)
  have k0 := keep_alloc w (.cells #[.int .i64 0, .int .i64 0, .int .i64 0, .int .u64 0, .slice none 0 0] 48)
  have hk := cleaf_ok h hP q id idv (w.alloc (.cells #[.int .i64 0, .int .i64 0, .int .i64 0, .int .u64 0, .slice none 0 0] 48)) (hi.below k0) ti hl hq
  obtain ⟨ia, ic, rfl, _⟩ := hi.opens hl
  have hpl : (preL id q).length = 20 := by rw [len_pre, hl]
  obtain ⟨PR, hPR⟩ : ∃ x, x = preL id q := ⟨_, rfl⟩
  rw [← hPR] at hk hpl
  have hli : ¬ (sl : Int) = 32 := by omega
  clear h hP hsl hi hPR
  go_enter Tryd.func16, Tryd.ntmps16
  go_wp2_with (first
    | (go_at_call 33; refine hk.mono ?_; rintro e w1 ⟨jv, rfl, oj, g1⟩; obtain ⟨ja, jc, rfl, _⟩ := oj.row.opens hpl; have b1 := b0.below (keep_trans g1 (keep_alloc w1 (.cells #[.int .i64 (k : Int), .int .i64 (P : Int), .int .i64 (s : Int), .int .u64 (c : Int), .slice ja 20 jc] 48))))
    | (refine wpList_store_row rfl 48 _ _ (by rfl) w.heap.size #[.int .i64 0, .int .i64 0, .int .i64 0, .int .u64 0, .slice none 0 0] (by rfl) (by rfl) _ _ b1.here (by kernel_rfl) rfl (by simp [Value.oneCell']) ?_)
    | fail)
  refine bodyPost_ret (v := .tuple #[.agg #[.int .i64 0, .int .i64 0, .int .i64 0, .int .u64 0, .slice none 0 0], .int .i64 14]) (b1.row.ret rfl _ rfl rfl) rfl ⟨rfl, ?_⟩
  exact (keep_trans k0 (keep_trans g1 (keep_alloc _ _))).trans (((But.refl _ _).setRow _).below (Nat.le_refl _) (Nat.le_of_lt b1.lt))
set_option maxHeartbeats 4000000 in
set_option maxRecDepth 100000 in
theorem csec_ok {k n m s c P : Nat} (h : Kd k n m s c) (hP : P = n + m) (q : Nat) (id : List Nat) (idv : Value) (sa : Option Addr) (sc : Nat) (w : World) (hi : Row .u8 256 w idv id) (ti : Tidy idv) (hl : id.length = 16) (hq : q < 4294967296) :
    Calls Tryd.prog 16 #[.int .i64 (k : Int), idv, .int .u32 (q : Int), .slice sa 32 sc] w fun e w' => ∃ v, e = .returned (.tuple #[.agg #[.int .i64 (k : Int), .int .i64 (P : Int), .int .i64 (s : Int), .int .u64 (c : Int), v], .int .i64 0]) ∧ Own 5 .u8 256 w' w.heap.size v (preL id q) ∧ Below w.heap.size w w' := by
  have b0 := BxL.new w (.int .i64 0) (.int .i64 0) (.int .i64 0) (.int .u64 0) (.slice none 0 0)
  have k0 := keep_alloc w (.cells #[.int .i64 0, .int .i64 0, .int .i64 0, .int .u64 0, .slice none 0 0] 48)
  have hk := cleaf_ok h hP q id idv (w.alloc (.cells #[.int .i64 0, .int .i64 0, .int .i64 0, .int .u64 0, .slice none 0 0] 48)) (hi.below k0) ti hl hq
  obtain ⟨ia, ic, rfl, _⟩ := hi.opens hl
  have hpl : (preL id q).length = 20 := by rw [len_pre, hl]
  obtain ⟨PR, hPR⟩ : ∃ x, x = preL id q := ⟨_, rfl⟩
  rw [← hPR] at hk hpl ⊢
  clear h hP hi hPR
  go_enter Tryd.func16, Tryd.ntmps16
  go_wp2_with (first
    | (go_at_call 33; refine hk.mono ?_; rintro e w1 ⟨jv, rfl, oj, g1⟩; obtain ⟨ja, jc, rfl, _⟩ := oj.row.opens hpl; have b1 := b0.below (keep_trans g1 (keep_alloc w1 (.cells #[.int .i64 (k : Int), .int .i64 (P : Int), .int .i64 (s : Int), .int .u64 (c : Int), .slice ja 20 jc] 48))); have c1 := BxL.new w1 (.int .i64 (k : Int)) (.int .i64 (P : Int)) (.int .i64 (s : Int)) (.int .u64 (c : Int)) (.slice ja 20 jc))
    | (refine wpList_load_row rfl 48 _ (by rfl) w1.heap.size (by rfl) _ _ _ _ c1.here Tryd.underlying48 rfl (by kernel_rfl) ?_)
    | (refine wpList_store_row rfl 48 _ _ (by rfl) w.heap.size #[.int .i64 (k : Int), .int .i64 (P : Int), .int .i64 (s : Int), .int .u64 (c : Int), .slice ja 20 jc] (by rfl) (by rfl) _ _ b1.here (by kernel_rfl) rfl (by simp [Value.oneCell']) ?_)
    | fail)
  have kk := keep_trans k0 (keep_trans g1 (keep_alloc w1 (.cells #[.int .i64 (k : Int), .int .i64 (P : Int), .int .i64 (s : Int), .int .u64 (c : Int), .slice ja 20 jc] 48)))
  refine bodyPost_ret (v := .tuple #[.agg #[.int .i64 (k : Int), .int .i64 (P : Int), .int .i64 (s : Int), .int .u64 (c : Int), .slice ja 20 jc], .int .i64 0]) (b1.row.ret rfl _ rfl rfl) rfl ⟨_, rfl, ?_, ?_⟩
  · have o2 := oj.mono (show w.heap.size + 1 ≤ _ by rw [World.size_alloc]; exact Nat.le_refl _)
    exact Own.mono (B := w.heap.size + 1) ⟨own_butL (o2.1.alloc (.cells #[.int .i64 (k : Int), .int .i64 (P : Int), .int .i64 (s : Int), .int .u64 (c : Int), .slice ja 20 jc] 48)) ((But.refl w.heap.size _).setRow _) (Nat.lt_succ_self _), o2.2⟩ (Nat.le_succ _)
  · exact kk.trans (((But.refl _ _).setRow _).below (Nat.le_refl _) (Nat.le_of_lt b1.lt))
end Go.Proofs.YtnjiilnkobhibaaDoor
