import Derived.Test.YtpmobjfhhkglbaaGreatDoorHHsh
import Derived.Test.YtpmobjfhhkglbaaGreatDoorGBl32
import Derived.Test.YtpmobjfhhkglbaaGreatDoorHaM
namespace Go.Proofs.YtpmobjfhhkglbaaGreatDoor
open Go.RowKit
set_option linter.unusedVariables false
set_option linter.unusedSimpArgs false
theorem slice_to (ba : Option Addr) (n bc F : Nat) (hF : F ≤ bc) (w : World) : (Instr.slice 27 (.slice ba n bc) none (some (.int .i64 (F : Int))) none).run Tryz.prog w = .ok (.slice ba F bc) w := by
  obtain ⟨i0, hi0, _, hz1, _⟩ := info_parts Tryz.info5
  have h : (F : Int) ≤ (bc : Int) := by omega
  cases ba <;> simp [Instr.slice, Instr.sliceBounds, Instr.sliceBound, asIntOf, Sem.run_bind, run_underlying Tryz.underlying27, h, hF, sizeOf, typeInfo, hi0, hz1, Addr.add]
theorem slice_from (ba : Option Addr) (n bc F : Nat) (hF : F ≤ n) (hn : n ≤ bc) : ∃ A, (∀ w : World, (Instr.slice 27 (.slice ba n bc) (some (.int .i64 (F : Int))) none none).run Tryz.prog w = .ok (.slice A (n - F) (bc - F)) w) ∧ (A = ba ∧ bc = F ∨ A = ba.map (·.add F)) := by
  obtain ⟨i0, hi0, _, hz1, _⟩ := info_parts Tryz.info5
  have h : (F : Int) ≤ (n : Int) := by omega
  refine ⟨if bc = F then ba else ba.map (·.add F), fun w => ?_, ?_⟩
  · simp [Instr.slice, Instr.sliceBounds, Instr.sliceBound, asIntOf, Sem.run_bind, run_underlying Tryz.underlying27, h, hF, sizeOf, typeInfo, hi0, hz1]
  · by_cases e : bc = F
    · exact .inl ⟨if_pos e, e⟩
    · exact .inr (if_neg e)
theorem Row.behind {w : World} {ba : Option Addr} {n bc F : Nat} {b : List Nat} (h : Row .u8 256 w (.slice ba n bc) b) (hF : F ≤ n) {A : Option Addr} (hA : A = ba ∧ bc = F ∨ A = ba.map (·.add F)) : Row .u8 256 w (.slice A (n - F) (bc - F)) (b.drop F) := by
  obtain ⟨a', c', he, h1, h2, h3, h4⟩ := h
  simp only [Value.slice.injEq] at he
  obtain ⟨rfl, rfl, rfl⟩ := he
  refine ⟨A, _, by rw [List.length_drop], by rw [List.length_drop]; omega, by omega, fun hp => ?_, fun x hx => h4 x (List.mem_of_mem_drop hx)⟩
  rw [List.length_drop] at hp
  obtain ⟨b', o', rfl, hc⟩ := h3 (by omega)
  rcases hA with ⟨_, e⟩ | rfl
  · omega
  · refine ⟨b', o' + F, by simp [Addr.add_lit], fun x hx => ?_⟩
    rw [List.length_drop] at hx
    rw [el_drop, Nat.add_assoc]
    exact hc (F + x) (by omega)
theorem own_any (A : Option Addr) (n c n' c' : Nat) : (Value.slice A n c).ownBlock = (Value.slice A n' c').ownBlock := by cases A <;> rfl
theorem add_block (x : Addr) (F : Nat) : (x.add F).block = x.block := by unfold Addr.add; split <;> rfl
theorem Away.behind {g : Nat} {ba : Option Addr} {n bc F n' c' : Nat} {b : List Nat} (h : Away g (.slice ba n bc) b) {A : Option Addr} (hA : A = ba ∧ bc = F ∨ A = ba.map (·.add F)) : Away g (.slice A n' c') (b.drop F) := fun hp q hq => by
  refine h (by rw [List.length_drop] at hp; omega) q ?_
  rcases hA with ⟨rfl, _⟩ | rfl
  · rw [own_any _ _ _ n' c']; exact hq
  · cases ba with
    | none => cases hq
    | some x =>
      have e : (x.add F).block = q := Option.some.inj hq
      rw [add_block] at e
      exact congrArg some e
theorem Tidy.behind {ba : Option Addr} {n bc F : Nat} (h : Tidy (.slice ba n bc)) (hF : F ≤ n) {A : Option Addr} (hA : A = ba ∧ bc = F ∨ A = ba.map (·.add F)) : Tidy (.slice A (n - F) (bc - F)) := fun m c he => by
  simp only [Value.slice.injEq] at he
  obtain ⟨hA0, rfl, rfl⟩ := he
  have hb : ba = none := by
    rcases hA with ⟨rfl, _⟩ | rfl
    · exact hA0
    · simpa using hA0
  subst hb
  obtain ⟨rfl, rfl⟩ := h _ _ rfl
  omega
theorem Tidy.to {ba : Option Addr} {n bc F : Nat} (h : Tidy (.slice ba n bc)) (hF : F ≤ n) : Tidy (.slice ba F bc) := fun m c he => by
  simp only [Value.slice.injEq] at he
  obtain ⟨rfl, rfl, rfl⟩ := he
  obtain ⟨rfl, rfl⟩ := h _ _ rfl
  omega
theorem Away.to {g : Nat} {ba : Option Addr} {n bc F c' : Nat} {b : List Nat} (h : Away g (.slice ba n bc) b) : Away g (.slice ba F c') (b.take F) := fun hp q hq => h (by rw [List.length_take] at hp; omega) q (by rw [own_any _ _ _ F c']; exact hq)
def El (w : World) (o : Nat) : Prop := ∃ cs : Array Value, cs.size = 11 ∧ w.heap[o]? = some (.cells cs 89 (0, 0))
theorem Hb.elev {w : World} {q : Nat} {kind : Int} {ws : List Nat} {tv : Value} {size : Nat} (h : Hb w q kind ws tv size) : El w q := ⟨_, rfl, h⟩
theorem El.lt {w : World} {o : Nat} (h : El w o) : o < w.heap.size := by
  obtain ⟨cs, _, h⟩ := h
  rcases Nat.lt_or_ge o w.heap.size with hlt | hge
  · exact hlt
  · rw [Array.getElem?_eq_none hge] at h; cases h
theorem El.cell {w : World} {o : Nat} (h : El w o) {i : Nat} (hi : i < 11) : w.cell? ⟨o, i, none⟩ = some (rdc w ⟨o, i, none⟩) := by
  obtain ⟨cs, hs, h⟩ := h
  unfold rdc
  rw [cell_of_row w o i _ _ (0, 0) h, Array.getElem?_eq_getElem (by omega)]; rfl
theorem El.frozen {w : World} {o : Nat} (h : El w o) (i : Nat) : w.frozen? ⟨o, i, none⟩ = false := by
  obtain ⟨cs, hs, h⟩ := h
  simp [World.frozen?, h]
theorem El.below {w w' : World} {o : Nat} (h : El w o) (hb : Below w.heap.size w w') : El w' o := by
  have hl := h.lt
  obtain ⟨cs, hs, h⟩ := h
  exact ⟨cs, hs, (hb.block o hl).trans h⟩
theorem El.but {w w' : World} {o g : Nat} (h : El w o) (hb : But g w w') (hn : o ≠ g) : El w' o := by
  have hl := h.lt
  obtain ⟨cs, hs, h⟩ := h
  exact ⟨cs, hs, (hb.block o hl hn).trans h⟩
theorem El.set {w : World} {o : Nat} (h : El w o) (i : Nat) (v : Value) : El (w.setCell ⟨o, i, none⟩ v) o := by
  obtain ⟨cs, hs, h⟩ := h
  refine ⟨cs.setIfInBounds i v, by simpa using hs, ?_⟩
  rw [setCell_eq_setRow w o i _ _ (0, 0) _ h]
  exact setRow_heap w o _ _ _ _ h
theorem El.full {w : World} {o : Nat} (h : El w o) (v0 v1 v2 v3 v4 v5 v6 v7 v8 v9 v10 : Value) : (((((((((((w.setCell ⟨o, 0, none⟩ v0).setCell ⟨o, 1, none⟩ v1).setCell ⟨o, 2, none⟩ v2).setCell ⟨o, 3, none⟩ v3).setCell ⟨o, 4, none⟩ v4).setCell ⟨o, 5, none⟩ v5).setCell ⟨o, 6, none⟩ v6).setCell ⟨o, 7, none⟩ v7).setCell ⟨o, 8, none⟩ v8).setCell ⟨o, 9, none⟩ v9).setCell ⟨o, 10, none⟩ v10).heap[o]? = some (.cells #[v0, v1, v2, v3, v4, v5, v6, v7, v8, v9, v10] 89 (0, 0)) := by
  obtain ⟨cs, hs, h⟩ := h
  have st : ∀ (w : World) (cur : Array Value) (i : Nat) (v : Value), w.heap[o]? = some (.cells cur 89 (0, 0)) → (w.setCell ⟨o, i, none⟩ v).heap[o]? = some (.cells (cur.setIfInBounds i v) 89 (0, 0)) := fun w cur i v h => by
    rw [setCell_eq_setRow w o i _ _ (0, 0) _ h]; exact setRow_heap w o _ _ _ _ h
  have e : (((((((((((cs.setIfInBounds 0 v0).setIfInBounds 1 v1).setIfInBounds 2 v2).setIfInBounds 3 v3).setIfInBounds 4 v4).setIfInBounds 5 v5).setIfInBounds 6 v6).setIfInBounds 7 v7).setIfInBounds 8 v8).setIfInBounds 9 v9).setIfInBounds 10 v10) = #[v0, v1, v2, v3, v4, v5, v6, v7, v8, v9, v10] := by
    apply Array.toList_inj.1
    simp only [Array.toList_setIfInBounds]
    have hl : cs.toList.length = 11 := by simpa using hs
    generalize cs.toList = l at hl
    match l, hl with
    | [_, _, _, _, _, _, _, _, _, _, _], _ => rfl
  rw [← e]
  exact st _ _ 10 v10 (st _ _ 9 v9 (st _ _ 8 v8 (st _ _ 7 v7 (st _ _ 6 v6 (st _ _ 5 v5 (st _ _ 4 v4 (st _ _ 3 v3 (st _ _ 2 v2 (st _ _ 1 v1 (st _ _ 0 v0 (h)))))))))))
theorem Hb.all {w : World} {q : Nat} {kind : Int} {ws : List Nat} {tv : Value} {size : Nat} (h : Hb w q kind ws tv size) : w.cell? ⟨q, 0, none⟩ = some (.int .i64 kind) ∧ w.cell? ⟨q, 1, none⟩ = some (.int .u64 (el ws 0)) ∧ w.cell? ⟨q, 2, none⟩ = some (.int .u64 (el ws 1)) ∧ w.cell? ⟨q, 3, none⟩ = some (.int .u64 (el ws 2)) ∧ w.cell? ⟨q, 4, none⟩ = some (.int .u64 (el ws 3)) ∧ w.cell? ⟨q, 5, none⟩ = some (.int .u64 (el ws 4)) ∧ w.cell? ⟨q, 6, none⟩ = some (.int .u64 (el ws 5)) ∧ w.cell? ⟨q, 7, none⟩ = some (.int .u64 (el ws 6)) ∧ w.cell? ⟨q, 8, none⟩ = some (.int .u64 (el ws 7)) ∧ w.cell? ⟨q, 9, none⟩ = some tv ∧ w.cell? ⟨q, 10, none⟩ = some (.int .u64 size) :=
  ⟨h.kind, h.word (i := 0) (by decide), h.word (i := 1) (by decide), h.word (i := 2) (by decide), h.word (i := 3) (by decide), h.word (i := 4) (by decide), h.word (i := 5) (by decide), h.word (i := 6) (by decide), h.word (i := 7) (by decide), h.tail, h.size⟩
theorem Hb.frozen {w : World} {q : Nat} {kind : Int} {ws : List Nat} {tv : Value} {size : Nat} (h : Hb w q kind ws tv size) (i : Nat) : w.frozen? ⟨q, i, none⟩ = false := h.elev.frozen i
theorem Hb.setWords {w : World} {q : Nat} {kind : Int} {H : List Nat} {tv : Value} {N : Nat} (h : Hb w q kind H tv N) (C : List Nat) : Hb ((((((((w.setCell ⟨q, 1, none⟩ (.int .u64 (el C 0))).setCell ⟨q, 2, none⟩ (.int .u64 (el C 1))).setCell ⟨q, 3, none⟩ (.int .u64 (el C 2))).setCell ⟨q, 4, none⟩ (.int .u64 (el C 3))).setCell ⟨q, 5, none⟩ (.int .u64 (el C 4))).setCell ⟨q, 6, none⟩ (.int .u64 (el C 5))).setCell ⟨q, 7, none⟩ (.int .u64 (el C 6))).setCell ⟨q, 8, none⟩ (.int .u64 (el C 7))) q kind C tv N := by
  have st : ∀ (w : World) (cur : Array Value) (i : Nat) (v : Value), w.heap[q]? = some (.cells cur 89 (0, 0)) → (w.setCell ⟨q, i, none⟩ v).heap[q]? = some (.cells (cur.setIfInBounds i v) 89 (0, 0)) := fun w cur i v h => by
    rw [setCell_eq_setRow w q i _ _ (0, 0) _ h]; exact setRow_heap w q _ _ _ _ h
  have e : (((((((((hv kind H tv N).setIfInBounds 1 (.int .u64 (el C 0))).setIfInBounds 2 (.int .u64 (el C 1))).setIfInBounds 3 (.int .u64 (el C 2))).setIfInBounds 4 (.int .u64 (el C 3))).setIfInBounds 5 (.int .u64 (el C 4))).setIfInBounds 6 (.int .u64 (el C 5))).setIfInBounds 7 (.int .u64 (el C 6))).setIfInBounds 8 (.int .u64 (el C 7))) = hv kind C tv N := by
    apply Array.toList_inj.1
    simp only [Array.toList_setIfInBounds]
    rfl
  unfold Hb
  rw [← e]
  exact st _ _ 8 (.int .u64 (el C 7)) (st _ _ 7 (.int .u64 (el C 6)) (st _ _ 6 (.int .u64 (el C 5)) (st _ _ 5 (.int .u64 (el C 4)) (st _ _ 4 (.int .u64 (el C 3)) (st _ _ 3 (.int .u64 (el C 2)) (st _ _ 2 (.int .u64 (el C 1)) (st _ _ 1 (.int .u64 (el C 0)) (h))))))))
theorem Hb.setTail {w : World} {q : Nat} {kind : Int} {H : List Nat} {tv : Value} {N : Nat} (h : Hb w q kind H tv N) (u : Value) : Hb (w.setCell ⟨q, 9, none⟩ u) q kind H u N := by
  unfold Hb
  rw [setCell_eq_setRow w q 9 _ _ (0, 0) _ h]
  have e : (hv kind H tv N).setIfInBounds 9 u = hv kind H u N := by
    apply Array.toList_inj.1
    simp only [Array.toList_setIfInBounds]
    rfl
  rw [e]
  exact setRow_heap w q _ _ _ _ h
theorem Hb.setSize {w : World} {q : Nat} {kind : Int} {H : List Nat} {tv : Value} {N : Nat} (h : Hb w q kind H tv N) (M : Nat) : Hb (w.setCell ⟨q, 10, none⟩ (.int .u64 (M : Int))) q kind H tv M := by
  unfold Hb
  rw [setCell_eq_setRow w q 10 _ _ (0, 0) _ h]
  have e : (hv kind H tv N).setIfInBounds 10 (.int .u64 (M : Int)) = hv kind H tv M := by
    apply Array.toList_inj.1
    simp only [Array.toList_setIfInBounds]
    rfl
  rw [e]
  exact setRow_heap w q _ _ _ _ h
theorem add_parts (c : Bool) (ws tl b : List Nat) (F : Nat) (hF : F = b.length ∨ F = bz c - tl.length ∧ tl.length < bz c ∧ F ≤ b.length) :
    eat c (eat c ws (tl ++ b.take F)) (b.drop F) = eat c ws (tl ++ b) ∧ left c (tl ++ b.take F) ++ left c (b.drop F) = left c (tl ++ b) := by
  rcases hF with rfl | ⟨rfl, h1, h2⟩
  · rw [List.take_of_length_le (Nat.le_refl _), List.drop_of_length_le (Nat.le_refl _), eat_short (by simpa using bz_pos c), left_short (l := []) (by simpa using bz_pos c), List.append_nil]
    exact ⟨rfl, rfl⟩
  · have hl : (tl ++ b.take (bz c - tl.length)).length = bz c := by rw [List.length_append, List.length_take]; omega
    have hz : left c (tl ++ b.take (bz c - tl.length)) = [] := by
      apply List.eq_nil_of_length_eq_zero
      rw [left_length, hl, Nat.mod_self]
    have e : (tl ++ b.take (bz c - tl.length)) ++ b.drop (bz c - tl.length) = tl ++ b := by rw [List.append_assoc, List.take_append_drop]
    have p1 := eat_parts c ws (tl ++ b.take (bz c - tl.length)) (b.drop (bz c - tl.length))
    have p2 := left_parts c (tl ++ b.take (bz c - tl.length)) (b.drop (bz c - tl.length))
    rw [hz, List.nil_append, e] at p1 p2
    rw [hz, List.nil_append]
    exact ⟨p1.symm, p2.symm⟩
def RAdd32 (w : World) (kind : Int) (tv : Value) (N : Nat) (ws all : List Nat) (u : Value) (wr : World) : Prop := ∃ (L H : List Nat), L.length ≤ 200000 ∧ slen u = L.length ∧ Row .u8 256 wr u L ∧ Away w.heap.size u L ∧ Away (w.heap.size + 1) u L ∧ Tidy u ∧ Hb wr w.heap.size kind H tv N ∧ El wr (w.heap.size + 1) ∧ Below w.heap.size w wr ∧ eat false ws all = eat false H L ∧ left false all = left false L ∧ H.length = 8 ∧ Under 4294967296 H
set_option maxHeartbeats 8000000 in
set_option maxRecDepth 100000 in
theorem radd_any32 (kind : Int) (hk : wide kind = false) (ws : List Nat) (tv bv : Value) (tl b : List Nat) (size : Nat) (w : World) (h8 : ws.length = 8) (hu : Under 4294967296 ws) (hRt : Row .u8 256 w tv tl) (tT : Tidy tv) (hRb : Row .u8 256 w bv b) (tB : Tidy bv) (htl : tl.length ≤ 100000) (hbl : b.length ≤ 100000) (hsz : size < 1152921504606846976) :
    Calls Tryz.prog 62 #[.agg (hv kind ws tv size), bv] w fun e w' => ∃ v', e = .returned (.agg (hv kind (eat false ws (tl ++ b)) v' (size + b.length))) ∧ Row .u8 256 w' v' (left false (tl ++ b)) ∧ Tidy v' ∧ Below w.heap.size w w' := by
  have hblk : ∀ w, Calls Tryz.prog 72 #[.int .i64 kind] w fun e w' => e = .returned (.int .i64 64) ∧ w = w' := fun w => (rBlock_any kind w).mono fun _ _ ⟨h1, h2⟩ => ⟨by rw [h1, hk]; rfl, h2.symm⟩
  clear hk
  obtain ⟨ta, tc, rfl⟩ := hRt.form
  obtain ⟨ba, bc, rfl⟩ := hRb.form
  have hb0 : Below w.heap.size w ((w.alloc (.cells #[.int .i64 kind, .int .u64 (el ws 0), .int .u64 (el ws 1), .int .u64 (el ws 2), .int .u64 (el ws 3), .int .u64 (el ws 4), .int .u64 (el ws 5), .int .u64 (el ws 6), .int .u64 (el ws 7), .slice ta tl.length tc, .int .u64 size] 89)).alloc (.cells #[.int .i64 0, .int .u64 0, .int .u64 0, .int .u64 0, .int .u64 0, .int .u64 0, .int .u64 0, .int .u64 0, .int .u64 0, .slice none 0 0, .int .u64 0] 89)) := keep_trans (keep_alloc _ _) (keep_alloc _ _)
  have hH0 : Hb ((w.alloc (.cells #[.int .i64 kind, .int .u64 (el ws 0), .int .u64 (el ws 1), .int .u64 (el ws 2), .int .u64 (el ws 3), .int .u64 (el ws 4), .int .u64 (el ws 5), .int .u64 (el ws 6), .int .u64 (el ws 7), .slice ta tl.length tc, .int .u64 size] 89)).alloc (.cells #[.int .i64 0, .int .u64 0, .int .u64 0, .int .u64 0, .int .u64 0, .int .u64 0, .int .u64 0, .int .u64 0, .int .u64 0, .slice none 0 0, .int .u64 0] 89)) w.heap.size kind ws (.slice ta tl.length tc) size := (Hb.new w kind ws (.slice ta tl.length tc) size).below (keep_alloc _ _)
  have hO0 : El ((w.alloc (.cells #[.int .i64 kind, .int .u64 (el ws 0), .int .u64 (el ws 1), .int .u64 (el ws 2), .int .u64 (el ws 3), .int .u64 (el ws 4), .int .u64 (el ws 5), .int .u64 (el ws 6), .int .u64 (el ws 7), .slice ta tl.length tc, .int .u64 size] 89)).alloc (.cells #[.int .i64 0, .int .u64 0, .int .u64 0, .int .u64 0, .int .u64 0, .int .u64 0, .int .u64 0, .int .u64 0, .int .u64 0, .slice none 0 0, .int .u64 0] 89)) (w.heap.size + 1) := by
    have := (Hb.new (w.alloc (.cells (hv kind ws (.slice ta tl.length tc) size) 89)) 0 (List.replicate 8 0) (.slice none 0 0) 0).elev
    rw [World.size_alloc] at this
    exact this
  have hrt := hRt.below hb0
  have hrb := hRb.below hb0
  have hfl : ([tl, b] : List (List Nat)).flatten = tl ++ b := by simp
  have hjl : ([tl, b] : List (List Nat)).flatten.length ≤ 2000000 := by rw [hfl, List.length_append]; omega
  obtain ⟨N, hN⟩ : ∃ N, N = size + b.length := ⟨_, rfl⟩
  have hsum : (size : Int) + (b.length : Int) = (N : Int) := by omega
  have hwr : IntKind.u64.wrap (N : Int) = (N : Int) := by rw [IntKind.wrap_u64]; omega
  have hwr2 : IntKind.u64.wrap (b.length : Int) = (b.length : Int) := by rw [IntKind.wrap_u64]; omega
  have HN := hide hN
  have HO := hide hO0
  have HH := hide hH0
  have HB := hide hb0
  clear hN hO0 hH0 hb0
  have huv : hv kind ws (.slice ta tl.length tc) size = #[.int .i64 kind, .int .u64 (el ws 0), .int .u64 (el ws 1), .int .u64 (el ws 2), .int .u64 (el ws 3), .int .u64 (el ws 4), .int .u64 (el ws 5), .int .u64 (el ws 6), .int .u64 (el ws 7), .slice ta tl.length tc, .int .u64 size] := rfl
  rw [huv]
  clear huv
  go_enter Tryz.func62, Tryz.ntmps62
  go_wp2_with fail
  refine (hblk _).mono ?_
  rintro e w9 ⟨rfl, rfl⟩
  have hrr := rows_lit2 hrt hrb tT tB
  rw [World.size_alloc, World.size_alloc] at hrr
  go_wp2_with fail
  refine (rjoin_any _ [tl, b] _ hrr hjl).mono ?_
  rintro e w1 ⟨v1, rfl, hO1, hb1⟩
  rw [hfl] at hO1
  have hH1 := (HH.out.below (keep_alloc _ _)).below hb1
  have hE1 := (HO.out.below (keep_alloc _ _)).below hb1
  have hbw1 : Below w.heap.size w w1 := keep_trans (keep_trans HB.out (keep_alloc _ _)) hb1
  have hs1 : w.heap.size + 3 ≤ w1.heap.size := by have := hb1.size; simp at this; omega
  have hO1' : Own 5 .u8 256 w1 (w.heap.size + 2) v1 (tl ++ b) := hO1.mono (by simp)
  clear HH HO HB hb1 hrr hrt hrb hO1
  have z10 := hH1.size
  have f10 := hH1.frozen 10
  have hR1 := hO1'.row
  have hT1 := hO1'.tidy
  have hA1 : Away w.heap.size v1 (tl ++ b) := hO1'.away (by omega)
  have hA2 : Away (w.heap.size + 1) v1 (tl ++ b) := hO1'.away (by omega)
  obtain ⟨a1, c1, rfl⟩ := hR1.form
  have hH2 := hH1.setSize N
  have hBq : But w.heap.size w1 (w1.setCell ⟨w.heap.size, 10, none⟩ (.int .u64 (N : Int))) := (But.refl _ _).setCell 10 _
  have hR2 := hR1.but hA1 hBq
  have hE2 : El (w1.setCell ⟨w.heap.size, 10, none⟩ (.int .u64 (N : Int))) (w.heap.size + 1) := by
    obtain ⟨cs, h1, h2⟩ := hE1
    exact ⟨cs, h1, (hBq.block _ (by omega) (by omega)).trans h2⟩
  have hbw2 := hbw1.trans (hBq.below (Nat.le_refl _) hbw1.size)
  go_wp2
  generalize w1.setCell ⟨w.heap.size, 10, none⟩ (.int .u64 (N : Int)) = x2 at *
  rw [← List.length_append] at *
  clear hH1 hE1 hbw1 hs1 hR1 z10 f10 hBq
  go_loopw [6] (fun u wr => RAdd32 w kind (.slice ta tl.length tc) N ws (tl ++ b) u wr) (fun u _ => slen u)
  case atStart => exact ⟨tl ++ b, ws, by rw [List.length_append]; omega, rfl, hR2, hA1, hA2, hT1, hH2, hE2, hbw2, rfl, rfl, h8, hu⟩
  case round =>
    clear hR2 hA1 hA2 hT1 hH2 hE2 hbw2
    obtain ⟨L, H, hLl, hsl, hRL, hAL, hAL2, hTL, hHr, hEr, hbr, hE, hLf, hH8, hHu⟩ := hrel
    have HE := hide hE
    have HF := hide hLf
    have hlu := hRL.under
    clear hE hLf
    obtain ⟨a, cap, rfl, g1, g2, g3, g4⟩ := hRL
    have hRL : Row .u8 256 wr (.slice a L.length cap) L := ⟨a, cap, rfl, g1, g2, g3, g4⟩
    unfold maxLen at g2
    by_cases hlt : 64 ≤ L.length
    · obtain ⟨bb, off, rfl, hc⟩ := g3 (by omega)
      clear hc g3
      have hRt := hRL.cut (M := 64) hlt
      have hcl : (L.take 64).length = 64 := by rw [List.length_take]; omega
      have hC8 := comp_length false H (L.take 64)
      have hCu := comp_under false H (L.take 64)
      have hcall : ∀ w0, Below wr.heap.size wr w0 → Calls Tryz.prog 73 #[.agg #[.int .u64 (el H 0), .int .u64 (el H 1), .int .u64 (el H 2), .int .u64 (el H 3), .int .u64 (el H 4), .int .u64 (el H 5), .int .u64 (el H 6), .int .u64 (el H 7)], .slice (some ⟨bb, off, none⟩) 64 cap, .bool false] w0 fun e w' => e = .returned (.agg (arr .u64 (comp false H (L.take 64)))) ∧ Below w0.heap.size w0 w' := fun w0 h0 => by
        rw [← arr8 .u64 H hH8]
        exact rblock_any32 H (L.take 64) _ w0 (hRt.below h0) hcl hH8 hHu
      generalize hCC : comp false H (L.take 64) = C at *
      have HCC := hide hCC
      clear hCC
      rw [arr8 .u64 C hC8] at hcall
      obtain ⟨z0, z1, z2, z3, z4, z5, z6, z7, z8, z9, z10⟩ := hHr.all
      have hcp : (64 : Int) ≤ (cap : Int) := by omega
      have hcp2 : 64 ≤ cap := by omega
      go_wp2
      go_region_with (first | (go_at_call 73; refine (hcall _ (by first | exact Below.refl _ _ | exact (Below.refl _ _).drew)).mono ?_; rintro e w5 ⟨rfl, hb5⟩; have hb5 : Below wr.heap.size wr w5 := (by first | exact hb5 | exact un_drew hb5); have hH5 := hHr.below hb5; obtain ⟨y0, y1, y2, y3, y4, y5, y6, y7, y8, y9, y10⟩ := hH5.all; have p1 := hH5.frozen 1; have p2 := hH5.frozen 2; have p3 := hH5.frozen 3; have p4 := hH5.frozen 4; have p5 := hH5.frozen 5; have p6 := hH5.frozen 6; have p7 := hH5.frozen 7; have p8 := hH5.frozen 8))
      have hfw : Hb ((((((((w5.setCell ⟨w.heap.size, 1, none⟩ (.int .u64 (el C 0))).setCell ⟨w.heap.size, 2, none⟩ (.int .u64 (el C 1))).setCell ⟨w.heap.size, 3, none⟩ (.int .u64 (el C 2))).setCell ⟨w.heap.size, 4, none⟩ (.int .u64 (el C 3))).setCell ⟨w.heap.size, 5, none⟩ (.int .u64 (el C 4))).setCell ⟨w.heap.size, 6, none⟩ (.int .u64 (el C 5))).setCell ⟨w.heap.size, 7, none⟩ (.int .u64 (el C 6))).setCell ⟨w.heap.size, 8, none⟩ (.int .u64 (el C 7))) w.heap.size kind C (.slice ta tl.length tc) N := hH5.setWords C
      have hBB : But w.heap.size w5 ((((((((w5.setCell ⟨w.heap.size, 1, none⟩ (.int .u64 (el C 0))).setCell ⟨w.heap.size, 2, none⟩ (.int .u64 (el C 1))).setCell ⟨w.heap.size, 3, none⟩ (.int .u64 (el C 2))).setCell ⟨w.heap.size, 4, none⟩ (.int .u64 (el C 3))).setCell ⟨w.heap.size, 5, none⟩ (.int .u64 (el C 4))).setCell ⟨w.heap.size, 6, none⟩ (.int .u64 (el C 5))).setCell ⟨w.heap.size, 7, none⟩ (.int .u64 (el C 6))).setCell ⟨w.heap.size, 8, none⟩ (.int .u64 (el C 7))) := (But.setCell (But.setCell (But.setCell (But.setCell (But.setCell (But.setCell (But.setCell (But.setCell (But.refl w.heap.size w5) _ _) _ _) _ _) _ _) _ _) _ _) _ _) _ _)
      have hRf := (hRL.below hb5).but hAL hBB
      have hEf : El ((((((((w5.setCell ⟨w.heap.size, 1, none⟩ (.int .u64 (el C 0))).setCell ⟨w.heap.size, 2, none⟩ (.int .u64 (el C 1))).setCell ⟨w.heap.size, 3, none⟩ (.int .u64 (el C 2))).setCell ⟨w.heap.size, 4, none⟩ (.int .u64 (el C 3))).setCell ⟨w.heap.size, 5, none⟩ (.int .u64 (el C 4))).setCell ⟨w.heap.size, 6, none⟩ (.int .u64 (el C 5))).setCell ⟨w.heap.size, 7, none⟩ (.int .u64 (el C 6))).setCell ⟨w.heap.size, 8, none⟩ (.int .u64 (el C 7))) (w.heap.size + 1) := (hEr.below hb5).but hBB (by omega)
      have hbf : Below w.heap.size w ((((((((w5.setCell ⟨w.heap.size, 1, none⟩ (.int .u64 (el C 0))).setCell ⟨w.heap.size, 2, none⟩ (.int .u64 (el C 1))).setCell ⟨w.heap.size, 3, none⟩ (.int .u64 (el C 2))).setCell ⟨w.heap.size, 4, none⟩ (.int .u64 (el C 3))).setCell ⟨w.heap.size, 5, none⟩ (.int .u64 (el C 4))).setCell ⟨w.heap.size, 6, none⟩ (.int .u64 (el C 5))).setCell ⟨w.heap.size, 7, none⟩ (.int .u64 (el C 6))).setCell ⟨w.heap.size, 8, none⟩ (.int .u64 (el C 7))) := (hbr.trans (hb5.mono hbr.size)).trans (hBB.below (Nat.le_refl _) (by have := hbr.size; have := hb5.size; omega))
      clear hcp hcp2 y0 y1 y2 y3 y4 y5 y6 y7 y8 y9 y10 z0 z1 z2 z3 z4 z5 z6 z7 z8 z9 z10 p1 p2 p3 p4 p5 p6 p7 p8
      generalize ((((((((w5.setCell ⟨w.heap.size, 1, none⟩ (.int .u64 (el C 0))).setCell ⟨w.heap.size, 2, none⟩ (.int .u64 (el C 1))).setCell ⟨w.heap.size, 3, none⟩ (.int .u64 (el C 2))).setCell ⟨w.heap.size, 4, none⟩ (.int .u64 (el C 3))).setCell ⟨w.heap.size, 5, none⟩ (.int .u64 (el C 4))).setCell ⟨w.heap.size, 6, none⟩ (.int .u64 (el C 5))).setCell ⟨w.heap.size, 7, none⟩ (.int .u64 (el C 6))).setCell ⟨w.heap.size, 8, none⟩ (.int .u64 (el C 7))) = wf at *
      obtain ⟨A, hsf, hA⟩ := slice_from (some ⟨bb, off, none⟩) L.length cap 64 hlt g1
      have hbz : bz false = 64 := rfl
      have hdl : (L.drop 64).length = L.length - 64 := List.length_drop
      have k1 := hRf.behind hlt hA
      have k2 := hAL.behind (n' := L.length - 64) (c' := cap - 64) hA
      have k3 := hAL2.behind (n' := L.length - 64) (c' := cap - 64) hA
      have k4 := hTL.behind hlt hA
      have k5 : eat false ws (tl ++ b) = eat false C (L.drop 64) := by rw [HE.out, eat_step (by rw [hbz]; exact hlt), hbz, HCC.out]
      have k6 : left false (tl ++ b) = left false (L.drop 64) := by rw [HF.out, left_step (by rw [hbz]; exact hlt), hbz]
      have hrl : RAdd32 w kind (.slice ta tl.length tc) N ws (tl ++ b) (.slice A (L.length - 64) (cap - 64)) wf :=
        ⟨L.drop 64, C, by omega, by simp [slen], k1, k2, k3, k4, hfw, hEf, hbf, k5, k6, hC8, hCu⟩
      have hAe : A = if cap = 64 then some ⟨bb, off, none⟩ else some ⟨bb, off + 64, none⟩ := by
        have h1 := hsf wf
        obtain ⟨i0, hi0, _, hz1, _⟩ := info_parts Tryz.info5
        have h : (64 : Int) ≤ (L.length : Int) := by omega
        simp [Instr.slice, Instr.sliceBounds, Instr.sliceBound, asIntOf, Sem.run_bind, run_underlying Tryz.underlying27, h, hlt, sizeOf, typeInfo, hi0, hz1, Addr.add_lit] at h1
        exact h1.symm
      rw [hAe] at hrl
      have HRL := hide hrl
      clear hrl hAe hsf k1 k2 k3 k4 k5 k6 hfw hEf hbf hRf hA
      by_cases hc64 : cap = 64
      · have hrl := HRL.out
        rw [if_pos hc64] at hrl
        go_wp2
        go_roundw
        case rel => first | exact hrl | simpa [hc64] using hrl
        case measure => simp [slen]; omega
      · have hrl := HRL.out
        rw [if_neg hc64] at hrl
        go_wp2
        go_roundw
        case rel => first | exact hrl | simpa [hc64] using hrl
        case measure => simp [slen]; omega
    · have hl9 : left false (tl ++ b) = L := by rw [HF.out, left_short (by show _ < 64; omega)]
      have he9 : eat false ws (tl ++ b) = H := by rw [HE.out, eat_short (by show _ < 64; omega)]
      have HL9 := hide hl9
      have HE9 := hide he9
      clear hl9 he9
      have f9 := hHr.frozen 9
      have hH9 := hHr.setTail (.slice a L.length cap)
      have hB9 : But w.heap.size wr (wr.setCell ⟨w.heap.size, 9, none⟩ (.slice a L.length cap)) := (But.refl _ _).setCell 9 _
      have hE9 := hEr.but hB9 (by omega)
      have hb9 := hbr.trans (hB9.below (Nat.le_refl _) hbr.size)
      have hR9 := hRL.but hAL hB9
      have HB9 := hide hb9
      have HR9 := hide hR9
      clear hb9 hR9
      obtain ⟨old, ho1, ho2⟩ := hE9
      have hHn : (wr.setCell ⟨w.heap.size, 9, none⟩ (.slice a L.length cap)).heap[w.heap.size]? = some (.cells (hv kind H (.slice a L.length cap) N) 89 (0, 0)) := hH9
      have hsz11 : (hv kind H (.slice a L.length cap) N).size = 11 := rfl
      have hfu := setRow_heap (wr.setCell ⟨w.heap.size, 9, none⟩ (.slice a L.length cap)) (w.heap.size + 1) old (hv kind H (.slice a L.length cap) N) 89 _ ho2
      have hBf : But (w.heap.size + 1) (wr.setCell ⟨w.heap.size, 9, none⟩ (.slice a L.length cap)) ((wr.setCell ⟨w.heap.size, 9, none⟩ (.slice a L.length cap)).setRow (w.heap.size + 1) (hv kind H (.slice a L.length cap) N)) := (But.refl _ _).setRow _
      have c9 := hHr.tail
      have HFU := hide hfu
      have HBF := hide hBf
      clear hfu hBf hB9 hH9
      go_wp2_with (first
        | (refine wpList_load_row rfl 89 _ (by rfl) w.heap.size (by rfl) _ _ _ _ hHn Tryz.underlying89 rfl (by kernel_rfl) ?_)
        | (refine wpList_store_row rfl 89 _ _ (by rfl) (w.heap.size + 1) (hv kind H (.slice a L.length cap) N) (by rfl) (by rfl) _ _ ho2 (by kernel_rfl) (by rw [ho1, hsz11]) (by simp [hv, Value.oneCell']) ?_)
        | fail)
      have hBf := HBF.out
      refine bodyPost_ret (v := .agg (hv kind H (.slice a L.length cap) N)) ?_ ?_ ?_
      · exact results_cell_row Tryz.results62 _ _ (w.heap.size + 1) _ _ _ _ (by rfl) HFU.out Tryz.underlying89 rfl (by kernel_rfl)
      · rfl
      · exact ⟨_, by rw [HE9.out, ← HN.out], by rw [HL9.out]; exact HR9.out.but hAL2 hBf, hTL, HB9.out.trans (hBf.below (by omega) (by have := HB9.out.size; omega))⟩
end Go.Proofs.YtpmobjfhhkglbaaGreatDoor

namespace Go.Proofs.YtpmobjfhhkglbaaGreatDoor
set_option linter.unusedVariables false
set_option linter.unusedSimpArgs false
theorem leL_add (n a z : Nat) (h : n < 256 ^ a) : leL n (a + z) = leL n a ++ List.replicate z 0 := by
  induction z with
  | zero => simp
  | succ z ih =>
    have e : leL n (a + (z + 1)) = leL n (a + z) ++ [n / 256 ^ (a + z) % 256] := by
      unfold leL
      rw [show a + (z + 1) = a + z + 1 by omega, List.range_succ, List.map_append]; rfl
    have hz : n / 256 ^ (a + z) % 256 = 0 := by
      rw [Nat.div_eq_of_lt (Nat.lt_of_lt_of_le h (Nat.pow_le_pow_right (by decide) (by omega)))]
    rw [e, ih, hz, List.append_assoc, List.replicate_succ']
theorem fill_is (b : Bool) (t size : Nat) (hs : size < 1152921504606846976) (hr : 8 ≤ room b t) : fill b t size = [128] ++ List.replicate (room b t - 8) 0 ++ (leL (8 * size) 8).reverse := by
  unfold fill
  have e : leL (8 * size) (room b t) = leL (8 * size) 8 ++ List.replicate (room b t - 8) 0 := by
    have := leL_add (8 * size) 8 (room b t - 8) (by have : (256 : Nat) ^ 8 = 18446744073709551616 := by decide
                                                    omega)
    rw [show 8 + (room b t - 8) = room b t by omega] at this
    exact this
  rw [e, List.reverse_append, List.reverse_replicate, List.append_assoc]
theorem room32 (t : Nat) (ht : t < 64) : room false t - 8 = if t + 1 ≤ 56 then 55 - t else 119 - t := by
  unfold room
  have e : bz false = 64 := rfl
  rw [e, Nat.mod_eq_of_lt ht]
  by_cases h : 64 - t - 1 < 64 / 8
  · rw [if_pos h, if_neg (by omega)]; omega
  · rw [if_neg h, if_pos (by omega)]; omega
theorem room64 (t : Nat) (ht : t < 128) : room true t - 16 = if t + 1 ≤ 112 then 111 - t else 239 - t := by
  unfold room
  have e : bz true = 128 := rfl
  rw [e, Nat.mod_eq_of_lt ht]
  by_cases h : 128 - t - 1 < 128 / 8
  · rw [if_pos h, if_neg (by omega)]; omega
  · rw [if_neg h, if_pos (by omega)]; omega
theorem room64_ge (t : Nat) (ht : t < 128) : 16 ≤ room true t := by
  unfold room
  have e : bz true = 128 := rfl
  rw [e, Nat.mod_eq_of_lt ht]
  split <;> omega
theorem fill_wide (t size : Nat) (ht : t < 128) (hs : size < 1152921504606846976) : fill true t size = [128] ++ List.replicate (room true t - 16) 0 ++ (leL (size / 2305843009213693952) 8).reverse ++ (leL (8 * size) 8).reverse := by
  have hr := room64_ge t ht
  have hz : size / 2305843009213693952 = 0 := Nat.div_eq_of_lt (by omega)
  have e0 : (leL 0 8).reverse = List.replicate 8 0 := by decide
  rw [fill_is true t size hs (by omega), hz, e0, show room true t - 8 = (room true t - 16) + 8 by omega, ← List.replicate_append_replicate]
  simp only [List.append_assoc]
end Go.Proofs.YtpmobjfhhkglbaaGreatDoor
