/- Parts of a text, nil or not. -/
import Derived.Test.YtpmobjfhhkglbaaDoorHHsh
import Derived.Test.YtpmobjfhhkglbaaDoorHTur32
namespace Go.Proofs.YtpmobjfhhkglbaaDoor
open Go.RowKit
set_option linter.unusedVariables false
set_option linter.unusedSimpArgs false

theorem slice_to (ba : Option Addr) (n bc F : Nat) (hF : F ≤ bc) (w : World) : (Instr.slice 26 (.slice ba n bc) none (some (.int .i64 (F : Int))) none).run Tryd.prog w = .ok (.slice ba F bc) w := by
  obtain ⟨i0, hi0, _, hz1, _⟩ := info_parts Tryd.info5
  have h : (F : Int) ≤ (bc : Int) := by omega
  cases ba <;> simp [Instr.slice, Instr.sliceBounds, Instr.sliceBound, asIntOf, Sem.run_bind, run_underlying Tryd.underlying26, h, hF, sizeOf, typeInfo, hi0, hz1, Addr.add]
theorem slice_from (ba : Option Addr) (n bc F : Nat) (hF : F ≤ n) (hn : n ≤ bc) : ∃ A, (∀ w : World, (Instr.slice 26 (.slice ba n bc) (some (.int .i64 (F : Int))) none none).run Tryd.prog w = .ok (.slice A (n - F) (bc - F)) w) ∧ (A = ba ∧ bc = F ∨ A = ba.map (·.add F)) := by
  obtain ⟨i0, hi0, _, hz1, _⟩ := info_parts Tryd.info5
  have h : (F : Int) ≤ (n : Int) := by omega
  refine ⟨if bc = F then ba else ba.map (·.add F), fun w => ?_, ?_⟩
  · simp [Instr.slice, Instr.sliceBounds, Instr.sliceBound, asIntOf, Sem.run_bind, run_underlying Tryd.underlying26, h, hF, sizeOf, typeInfo, hi0, hz1]
  · by_cases e : bc = F
    · exact .inl ⟨if_pos e, e⟩
    · exact .inr (if_neg e)
/-- what is behind the first bytes of a text -/
theorem Row.behind {w : World} {ba : Option Addr} {n bc F : Nat} {b : List Nat} (h : Row .u8 256 w (.slice ba n bc) b) (hF : F ≤ n) {A : Option Addr} (hA : A = ba ∧ bc = F ∨ A = ba.map (·.add F)) : Row .u8 256 w (.slice A (n - F) (bc - F)) (b.drop F) := by
  obtain ⟨a', c', he, h1, h2, h3, h4⟩ := h
  simp only [Value.slice.injEq] at he
  obtain ⟨rfl, rfl, rfl⟩ := he
  refine ⟨A, _, by rw [List.length_drop], by rw [List.length_drop]; omega, by omega, fun hp => ?_, fun x hx => h4 x (List.mem_of_mem_drop hx)⟩
  rw [List.length_drop] at hp
  obtain ⟨b', o', rfl, hc⟩ := h3 (by omega)
  rcases hA with ⟨_, e⟩ | rfl
  · omega
  · refine ⟨b', o' + F, by simp [Addr.add_lit], fun x hx => ?_⟩
    rw [List.length_drop] at hx
    rw [el_drop, Nat.add_assoc]
    exact hc (F + x) (by omega)
theorem own_any (A : Option Addr) (n c n' c' : Nat) : (Value.slice A n c).ownBlock = (Value.slice A n' c').ownBlock := by cases A <;> rfl
theorem add_block (x : Addr) (F : Nat) : (x.add F).block = x.block := by unfold Addr.add; split <;> rfl
theorem Away.behind {g : Nat} {ba : Option Addr} {n bc F n' c' : Nat} {b : List Nat} (h : Away g (.slice ba n bc) b) {A : Option Addr} (hA : A = ba ∧ bc = F ∨ A = ba.map (·.add F)) : Away g (.slice A n' c') (b.drop F) := fun hp q hq => by
  refine h (by rw [List.length_drop] at hp; omega) q ?_
  rcases hA with ⟨rfl, _⟩ | rfl
  · rw [own_any _ _ _ n' c']; exact hq
  · cases ba with
    | none => cases hq
    | some x =>
      have e : (x.add F).block = q := Option.some.inj hq
      rw [add_block] at e
      exact congrArg some e
theorem Tidy.behind {ba : Option Addr} {n bc F : Nat} (h : Tidy (.slice ba n bc)) (hF : F ≤ n) {A : Option Addr} (hA : A = ba ∧ bc = F ∨ A = ba.map (·.add F)) : Tidy (.slice A (n - F) (bc - F)) := fun m c he => by
  simp only [Value.slice.injEq] at he
  obtain ⟨hA0, rfl, rfl⟩ := he
  have hb : ba = none := by
    rcases hA with ⟨rfl, _⟩ | rfl
    · exact hA0
    · simpa using hA0
  subst hb
  obtain ⟨rfl, rfl⟩ := h _ _ rfl
  omega
theorem Tidy.to {ba : Option Addr} {n bc F : Nat} (h : Tidy (.slice ba n bc)) (hF : F ≤ n) : Tidy (.slice ba F bc) := fun m c he => by
  simp only [Value.slice.injEq] at he
  obtain ⟨rfl, rfl, rfl⟩ := he
  obtain ⟨rfl, rfl⟩ := h _ _ rfl
  omega
theorem Away.to {g : Nat} {ba : Option Addr} {n bc F c' : Nat} {b : List Nat} (h : Away g (.slice ba n bc) b) : Away g (.slice ba F c') (b.take F) := fun hp q hq => h (by rw [List.length_take] at hp; omega) q (by rw [own_any _ _ _ F c']; exact hq)
/-- a sum's eleven cells, whatever they hold -/
def El (w : World) (o : Nat) : Prop := ∃ cs : Array Value, cs.size = 11 ∧ w.heap[o]? = some (.cells cs 79 (0, 0))
theorem Hb.elev {w : World} {q : Nat} {kind : Int} {ws : List Nat} {tv : Value} {size : Nat} (h : Hb w q kind ws tv size) : El w q := ⟨_, rfl, h⟩
theorem El.lt {w : World} {o : Nat} (h : El w o) : o < w.heap.size := by
  obtain ⟨cs, _, h⟩ := h
  rcases Nat.lt_or_ge o w.heap.size with hlt | hge
  · exact hlt
  · rw [Array.getElem?_eq_none hge] at h; cases h
theorem El.cell {w : World} {o : Nat} (h : El w o) {i : Nat} (hi : i < 11) : w.cell? ⟨o, i, none⟩ = some (rdc w ⟨o, i, none⟩) := by
  obtain ⟨cs, hs, h⟩ := h
  unfold rdc
  rw [cell_of_row w o i _ _ (0, 0) h, Array.getElem?_eq_getElem (by omega)]; rfl
theorem El.frozen {w : World} {o : Nat} (h : El w o) (i : Nat) : w.frozen? ⟨o, i, none⟩ = false := by
  obtain ⟨cs, hs, h⟩ := h
  simp [World.frozen?, h]
theorem El.below {w w' : World} {o : Nat} (h : El w o) (hb : Below w.heap.size w w') : El w' o := by
  have hl := h.lt
  obtain ⟨cs, hs, h⟩ := h
  exact ⟨cs, hs, (hb.block o hl).trans h⟩
theorem El.but {w w' : World} {o g : Nat} (h : El w o) (hb : But g w w') (hn : o ≠ g) : El w' o := by
  have hl := h.lt
  obtain ⟨cs, hs, h⟩ := h
  exact ⟨cs, hs, (hb.block o hl hn).trans h⟩
theorem El.set {w : World} {o : Nat} (h : El w o) (i : Nat) (v : Value) : El (w.setCell ⟨o, i, none⟩ v) o := by
  obtain ⟨cs, hs, h⟩ := h
  refine ⟨cs.setIfInBounds i v, by simpa using hs, ?_⟩
  rw [setCell_eq_setRow w o i _ _ (0, 0) _ h]
  exact setRow_heap w o _ _ _ _ h
theorem El.full {w : World} {o : Nat} (h : El w o) (v0 v1 v2 v3 v4 v5 v6 v7 v8 v9 v10 : Value) : (((((((((((w.setCell ⟨o, 0, none⟩ v0).setCell ⟨o, 1, none⟩ v1).setCell ⟨o, 2, none⟩ v2).setCell ⟨o, 3, none⟩ v3).setCell ⟨o, 4, none⟩ v4).setCell ⟨o, 5, none⟩ v5).setCell ⟨o, 6, none⟩ v6).setCell ⟨o, 7, none⟩ v7).setCell ⟨o, 8, none⟩ v8).setCell ⟨o, 9, none⟩ v9).setCell ⟨o, 10, none⟩ v10).heap[o]? = some (.cells #[v0, v1, v2, v3, v4, v5, v6, v7, v8, v9, v10] 79 (0, 0)) := by
  obtain ⟨cs, hs, h⟩ := h
  have st : ∀ (w : World) (cur : Array Value) (i : Nat) (v : Value), w.heap[o]? = some (.cells cur 79 (0, 0)) → (w.setCell ⟨o, i, none⟩ v).heap[o]? = some (.cells (cur.setIfInBounds i v) 79 (0, 0)) := fun w cur i v h => by
    rw [setCell_eq_setRow w o i _ _ (0, 0) _ h]; exact setRow_heap w o _ _ _ _ h
  have e : (((((((((((cs.setIfInBounds 0 v0).setIfInBounds 1 v1).setIfInBounds 2 v2).setIfInBounds 3 v3).setIfInBounds 4 v4).setIfInBounds 5 v5).setIfInBounds 6 v6).setIfInBounds 7 v7).setIfInBounds 8 v8).setIfInBounds 9 v9).setIfInBounds 10 v10) = #[v0, v1, v2, v3, v4, v5, v6, v7, v8, v9, v10] := by
    apply Array.toList_inj.1
    simp only [Array.toList_setIfInBounds]
    have hl : cs.toList.length = 11 := by simpa using hs
    generalize cs.toList = l at hl
    match l, hl with
    | [_, _, _, _, _, _, _, _, _, _, _], _ => rfl
  rw [← e]
  exact st _ _ 10 v10 (st _ _ 9 v9 (st _ _ 8 v8 (st _ _ 7 v7 (st _ _ 6 v6 (st _ _ 5 v5 (st _ _ 4 v4 (st _ _ 3 v3 (st _ _ 2 v2 (st _ _ 1 v1 (st _ _ 0 v0 (h)))))))))))
theorem Hb.all {w : World} {q : Nat} {kind : Int} {ws : List Nat} {tv : Value} {size : Nat} (h : Hb w q kind ws tv size) : w.cell? ⟨q, 0, none⟩ = some (.int .i64 kind) ∧ w.cell? ⟨q, 1, none⟩ = some (.int .u64 (el ws 0)) ∧ w.cell? ⟨q, 2, none⟩ = some (.int .u64 (el ws 1)) ∧ w.cell? ⟨q, 3, none⟩ = some (.int .u64 (el ws 2)) ∧ w.cell? ⟨q, 4, none⟩ = some (.int .u64 (el ws 3)) ∧ w.cell? ⟨q, 5, none⟩ = some (.int .u64 (el ws 4)) ∧ w.cell? ⟨q, 6, none⟩ = some (.int .u64 (el ws 5)) ∧ w.cell? ⟨q, 7, none⟩ = some (.int .u64 (el ws 6)) ∧ w.cell? ⟨q, 8, none⟩ = some (.int .u64 (el ws 7)) ∧ w.cell? ⟨q, 9, none⟩ = some tv ∧ w.cell? ⟨q, 10, none⟩ = some (.int .u64 size) :=
  ⟨h.kind, h.word (i := 0) (by decide), h.word (i := 1) (by decide), h.word (i := 2) (by decide), h.word (i := 3) (by decide), h.word (i := 4) (by decide), h.word (i := 5) (by decide), h.word (i := 6) (by decide), h.word (i := 7) (by decide), h.tail, h.size⟩
theorem Hb.frozen {w : World} {q : Nat} {kind : Int} {ws : List Nat} {tv : Value} {size : Nat} (h : Hb w q kind ws tv size) (i : Nat) : w.frozen? ⟨q, i, none⟩ = false := h.elev.frozen i
theorem Hb.setWords {w : World} {q : Nat} {kind : Int} {H : List Nat} {tv : Value} {N : Nat} (h : Hb w q kind H tv N) (C : List Nat) : Hb ((((((((w.setCell ⟨q, 1, none⟩ (.int .u64 (el C 0))).setCell ⟨q, 2, none⟩ (.int .u64 (el C 1))).setCell ⟨q, 3, none⟩ (.int .u64 (el C 2))).setCell ⟨q, 4, none⟩ (.int .u64 (el C 3))).setCell ⟨q, 5, none⟩ (.int .u64 (el C 4))).setCell ⟨q, 6, none⟩ (.int .u64 (el C 5))).setCell ⟨q, 7, none⟩ (.int .u64 (el C 6))).setCell ⟨q, 8, none⟩ (.int .u64 (el C 7))) q kind C tv N := by
  have st : ∀ (w : World) (cur : Array Value) (i : Nat) (v : Value), w.heap[q]? = some (.cells cur 79 (0, 0)) → (w.setCell ⟨q, i, none⟩ v).heap[q]? = some (.cells (cur.setIfInBounds i v) 79 (0, 0)) := fun w cur i v h => by
    rw [setCell_eq_setRow w q i _ _ (0, 0) _ h]; exact setRow_heap w q _ _ _ _ h
  have e : (((((((((hv kind H tv N).setIfInBounds 1 (.int .u64 (el C 0))).setIfInBounds 2 (.int .u64 (el C 1))).setIfInBounds 3 (.int .u64 (el C 2))).setIfInBounds 4 (.int .u64 (el C 3))).setIfInBounds 5 (.int .u64 (el C 4))).setIfInBounds 6 (.int .u64 (el C 5))).setIfInBounds 7 (.int .u64 (el C 6))).setIfInBounds 8 (.int .u64 (el C 7))) = hv kind C tv N := by
    apply Array.toList_inj.1
    simp only [Array.toList_setIfInBounds]
    rfl
  unfold Hb
  rw [← e]
  exact st _ _ 8 (.int .u64 (el C 7)) (st _ _ 7 (.int .u64 (el C 6)) (st _ _ 6 (.int .u64 (el C 5)) (st _ _ 5 (.int .u64 (el C 4)) (st _ _ 4 (.int .u64 (el C 3)) (st _ _ 3 (.int .u64 (el C 2)) (st _ _ 2 (.int .u64 (el C 1)) (st _ _ 1 (.int .u64 (el C 0)) (h))))))))
/-- what a sum is, behind more bytes, in two steps -/
theorem add_parts (c : Bool) (ws tl b : List Nat) (F : Nat) (hF : F = b.length ∨ F = bz c - tl.length ∧ tl.length < bz c ∧ F ≤ b.length) :
    eat c (eat c ws (tl ++ b.take F)) (b.drop F) = eat c ws (tl ++ b) ∧ left c (tl ++ b.take F) ++ left c (b.drop F) = left c (tl ++ b) := by
  rcases hF with rfl | ⟨rfl, h1, h2⟩
  · rw [List.take_of_length_le (Nat.le_refl _), List.drop_of_length_le (Nat.le_refl _), eat_short (by simpa using bz_pos c), left_short (l := []) (by simpa using bz_pos c), List.append_nil]
    exact ⟨rfl, rfl⟩
  · have hl : (tl ++ b.take (bz c - tl.length)).length = bz c := by rw [List.length_append, List.length_take]; omega
    have hz : left c (tl ++ b.take (bz c - tl.length)) = [] := by
      apply List.eq_nil_of_length_eq_zero
      rw [left_length, hl, Nat.mod_self]
    have e : (tl ++ b.take (bz c - tl.length)) ++ b.drop (bz c - tl.length) = tl ++ b := by rw [List.append_assoc, List.take_append_drop]
    have p1 := eat_parts c ws (tl ++ b.take (bz c - tl.length)) (b.drop (bz c - tl.length))
    have p2 := left_parts c (tl ++ b.take (bz c - tl.length)) (b.drop (bz c - tl.length))
    rw [hz, List.nil_append, e] at p1 p2
    rw [hz, List.nil_append]
    exact ⟨p1.symm, p2.symm⟩
end Go.Proofs.YtpmobjfhhkglbaaDoor

/- Contract of sha.sum.mix at words of 32 bits. -/
namespace Go.Proofs.YtpmobjfhhkglbaaDoor
open Go.RowKit
set_option linter.unusedVariables false
set_option linter.unusedSimpArgs false

/-- a sum's block -/
abbrev Sm32 (w : World) (g : Nat) (hs cs : List Nat) : Prop := Lies .u32 111 w g (hs ++ cs)

set_option maxHeartbeats 4000000 in
set_option maxRecDepth 100000 in
theorem mix_any32 (g : Nat) (hs cs ls : List Nat) (w : World) (hS : Sm32 w g hs cs) (h8 : hs.length = 8) (c80 : cs.length = 80) (l80 : ls.length = 80) (hhu : Under 4294967296 hs) (hcu : Under 4294967296 cs) (hlu : Under 4294967296 ls) :
    Calls Tryd.prog 83 #[.pointer (some ⟨g, 0, none⟩), .agg (arr .u32 ls)] w fun e w' => e = .returned (.tuple #[]) ∧ Sm32 w' g (addW false hs (rndN false cs ls (rn false) hs) 8) cs ∧ But g w w' := by
  go_enter Tryd.func83, Tryd.ntmps83
  go_wp2_with fail
  refine (either_tur32 2 13 22 28 34 39 _).mono ?_
  rintro e w1 ⟨rfl, hb1⟩
  unfold tur32
  go_wp2_with fail
  refine (either_tur32 6 11 25 14 18 41 _).mono ?_
  rintro e w2 ⟨rfl, hb2⟩
  unfold tur32
  have hS2 : Sm32 w2 g hs cs := (((hS.alloc _).below hb1).alloc _).below hb2
  have hL2 : Lies .u32 109 w2 w.heap.size ls := (((Lies.new .u32 109 w ls).below hb1).alloc _).below hb2
  have hA2 : Tu32 w2 w1.heap.size 2 13 22 := (Tu32.new w1 2 13 22).below hb2
  go_wp2
  have hB3 : Tu32 (w2.alloc (.cells #[.int .i64 6, .int .i64 11, .int .i64 25] 126)) w2.heap.size 6 11 25 := Tu32.new w2 6 11 25
  have hw3 := keep_trans (keep_trans (keep_trans (keep_trans (keep_alloc _ _) hb1) (keep_alloc _ _)) hb2) (keep_alloc w2 (.cells #[.int .i64 6, .int .i64 11, .int .i64 25] 126))
  have hS3 := hS2.alloc (.cells #[.int .i64 6, .int .i64 11, .int .i64 25] 126)
  have hL3 := hL2.alloc (.cells #[.int .i64 6, .int .i64 11, .int .i64 25] 126)
  have hA3 := hA2.below (keep_alloc w2 (.cells #[.int .i64 6, .int .i64 11, .int .i64 25] 126))
  clear hS2 hL2 hA2 hb1 hb2
  generalize w2.alloc (.cells #[.int .i64 6, .int .i64 11, .int .i64 25] 126) = w3 at *
  have hc := fun (i : Nat) (hi : i < 8) => hS3.cell (i := i) (by rw [List.length_append]; omega)
  have hel : ∀ i, i < 8 → el (hs ++ cs) i = el hs i := fun i hi => by unfold el; rw [List.getElem?_append_left (by omega)]
  have c0 := hc 0 (by decide)
  have c1 := hc 1 (by decide)
  have c2 := hc 2 (by decide)
  have c3 := hc 3 (by decide)
  have c4 := hc 4 (by decide)
  have c5 := hc 5 (by decide)
  have c6 := hc 6 (by decide)
  have c7 := hc 7 (by decide)
  rw [hel _ (by decide)] at c0 c1 c2 c3 c4 c5 c6 c7
  clear hc hel
  go_quiet (fail)
  go_wp2
  go_quiet (fail)
  go_wp2_with fail
  refine (either_int32 _ _ _).mono ?_
  rintro e w4 ⟨rfl, rfl⟩
  go_wp2
  go_loopw [6, 7, 8, 9, 10, 11, 12, 13, 66] (fun v0 v1 v2 v3 v4 v5 v6 v7 i wr => ∃ k : Nat, k ≤ 64 ∧ i = .int .i64 k ∧ v0 = .int .u32 (el (rndN false cs ls k hs) 0) ∧ v1 = .int .u32 (el (rndN false cs ls k hs) 1) ∧ v2 = .int .u32 (el (rndN false cs ls k hs) 2) ∧ v3 = .int .u32 (el (rndN false cs ls k hs) 3) ∧ v4 = .int .u32 (el (rndN false cs ls k hs) 4) ∧ v5 = .int .u32 (el (rndN false cs ls k hs) 5) ∧ v6 = .int .u32 (el (rndN false cs ls k hs) 6) ∧ v7 = .int .u32 (el (rndN false cs ls k hs) 7) ∧ Below w3.heap.size w3 wr) (fun _ _ _ _ _ _ _ _ i _ => 64 - (intOf i).toNat)
  case atStart => exact ⟨0, Nat.zero_le _, rfl, rfl, rfl, rfl, rfl, rfl, rfl, rfl, rfl, bel_drewN (Below.refl _ _) _⟩
  case round =>
    obtain ⟨k, hk, rfl, rfl, rfl, rfl, rfl, rfl, rfl, rfl, rfl, hbr⟩ := hrel
    clear c0 c1 c2 c3 c4 c5 c6 c7
    have hsu := rndN_under (b := false) (ks := cs) (ws := ls) hhu k
    by_cases hlt : k < 64
    · have hnx : rndN false cs ls (k + 1) hs = rnd false (el cs k) (el ls k) (rndN false cs ls k hs) := rfl
      have HNX := hide hnx
      clear hnx
      generalize rndN false cs ls k hs = s at *
      have hSr := hS3.below hbr
      have hLr := hL3.below hbr
      have hAr := hA3.below hbr
      have hBr := hB3.below hbr
      have d1 := hSr.cell (i := 8 + k) (by rw [List.length_append]; omega)
      have del : el (hs ++ cs) (8 + k) = el cs k := by unfold el; rw [List.getElem?_append_right (by omega), h8, Nat.add_sub_cancel_left]
      rw [del] at d1
      have d2 := hLr.cell (i := k) (by omega)
      obtain ⟨e0, e1, e2⟩ := hBr.cells
      obtain ⟨f0, f1, f2⟩ := hAr.cells
      have HA := hide f0
      have HA1 := hide f1
      have HA2 := hide f2
      clear f0 f1 f2 del hSr hLr hAr hBr
      have u := fun i => el_lt hsu (wm_pos false) i
      have u4 : el s 4 < 4294967296 := u 4
      have hcall := turned32 (el s 4) 6 11 25 wr.drew u4 (by decide) (by decide) (by decide)
      have ik0 : (0 : Int) ≤ (k : Int) := Int.natCast_nonneg _
      have ik1 : (k : Int) < 80 := by omega
      have ik2 : k < 80 := by omega
      go_wp2
      go_region_held3 (fun w' => w'.cell? ⟨g, 8 + k, none⟩ = some (.int .u32 (el cs k)) ∧ w'.cell? ⟨w.heap.size, k, none⟩ = some (.int .u32 (el ls k)) ∧ w'.cell? ⟨w2.heap.size, 0, none⟩ = some (.int .i64 6) ∧ w'.cell? ⟨w2.heap.size, 1, none⟩ = some (.int .i64 11) ∧ w'.cell? ⟨w2.heap.size, 2, none⟩ = some (.int .i64 25))
        (first
          | exact ⟨keep_cell (w := wr.drew) d1 hb5, keep_cell (w := wr.drew) d2 hb5, keep_cell (w := wr.drew) e0 hb5, keep_cell (w := wr.drew) e1 hb5, keep_cell (w := wr.drew) e2 hb5⟩
          | exact ⟨d1, d2, e0, e1, e2⟩)
        (first
          | (go_at_call 91; refine hcall.mono ?_; rintro e w5 ⟨rfl, hb5⟩))
      have g0 := keep_cell (w := wr.drew) HA.out hb5
      have g1 := keep_cell (w := wr.drew) HA1.out hb5
      have g2 := keep_cell (w := wr.drew) HA2.out hb5
      clear d1 d2 e0 e1 e2 hcall
      go_wp2_with fail
      refine (turned32 (el s 0) 2 13 22 w5 (u 0) (by decide) (by decide) (by decide)).mono ?_
      rintro e w6 ⟨rfl, hb6⟩
      go_wp2
      go_roundw
      case rel =>
        have u1 : el s 1 < 4294967296 := u 1
        have u2 : el s 2 < 4294967296 := u 2
        have u0 : el s 0 < 4294967296 := u 0
        have u5 : el s 5 < 4294967296 := u 5
        have u6 : el s 6 < 4294967296 := u 6
        rw [chs_is32 _ _ _ u4 u5 u6, maj_is32 _ _ _ u0 u1 u2]
        repeat rw [add_is32]
        rw [rnd032, rnd432]
        refine ⟨k + 1, by omega, by go_num, ?_, ?_, ?_, ?_, ?_, ?_, ?_, ?_, keep_trans hbr (keep_trans (un_drew hb5) hb6)⟩ <;> rw [HNX.out] <;> rfl
      case measure => simp [intOf]; omega
    · obtain rfl : k = 64 := by omega
      have h8s : (rndN false cs ls 64 hs).length = 8 := rndN_length h8 _
      have hSr := hS3.below hbr
      generalize hR : rndN false cs ls 64 hs = s at *
      have HR : Hid (rndN false cs ls (rn false) hs = s) := hR
      clear hR
      have hlen : (hs ++ cs).length = 88 := by rw [List.length_append]; omega
      go_wp2
      go_loopw [131] (fun i wr' => ∃ j : Nat, j ≤ 8 ∧ i = .int .i64 j ∧ Lies .u32 111 wr' g (addW false hs s j ++ hs.drop j ++ cs) ∧ But g w wr') (fun i _ => 8 - (intOf i).toNat)
      case atStart => exact ⟨0, Nat.zero_le _, rfl, hSr, But.of_below (keep_trans hw3 hbr)⟩
      case round =>
        obtain ⟨j, hj, rfl, hSj, hbj⟩ := hrel
        by_cases hlt : j < 8
        · have hix : ∀ w : World, (Instr.index 92 (.agg #[.int .u32 (el s 0), .int .u32 (el s 1), .int .u32 (el s 2), .int .u32 (el s 3), .int .u32 (el s 4), .int .u32 (el s 5), .int .u32 (el s 6), .int .u32 (el s 7)]) (.int .i64 (j : Int))).run Tryd.prog w = .ok (.int .u32 (el s j)) w := fun w => by
            rw [← arr8 .u32 s h8s]; exact index_arr _ 42 8 .u32 s (by kernel_rfl) (by kernel_rfl) (by kernel_rfl) h8s j hlt w
          have c1 := hSj.cell (i := j) (by rw [List.length_append, List.length_append, addW_length, List.length_drop]; omega)
          rw [addTo_get false hs s cs j (by omega)] at c1
          have f1 := hSj.frozen j
          have hst := hSj.set j ((el hs j + el s j) % 4294967296)
          have hse := addTo_set false hs s cs j (by omega)
          have hst' : Lies .u32 111 (wr.setCell ⟨g, j, none⟩ (.int .u32 (((el hs j + el s j) % 4294967296 : Nat) : Int))) g (addW false hs s (j + 1) ++ hs.drop (j + 1) ++ cs) := by rw [← hse]; exact hst
          have HST := hide hst'
          clear hst hse hst'
          have ij0 : (0 : Int) ≤ (j : Int) := Int.natCast_nonneg _
          have ij1 : (j : Int) < 8 := by omega
          go_wp2
          go_region
          go_wp2
          rw [add_is32]
          exact ⟨⟨j + 1, by omega, by go_num, HST.out, (hbj.setCell j _).drew⟩, by simp [intOf]; omega⟩
        · obtain rfl : j = 8 := by omega
          rw [List.drop_of_length_le (by omega), List.append_nil] at hSj
          go_wp2
          go_end0
          exact ⟨rfl, by rw [HR.out]; exact hSj, hbj⟩
end Go.Proofs.YtpmobjfhhkglbaaDoor
