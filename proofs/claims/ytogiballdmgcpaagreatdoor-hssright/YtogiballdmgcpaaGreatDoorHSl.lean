/- Parts of a text, nil or not. -/
import Derived.Test.YtogiballdmgcpaaGreatDoorHKi2
import Derived.Test.YtogiballdmgcpaaGreatDoorHTur32
import Derived.Test.YtogiballdmgcpaaGreatDoorHTak32
import Derived.Test.YtogiballdmgcpaaGreatDoorHaM
import Derived.Laws.ShiftsVarLaws
import Derived.BigRegion
namespace Go.Proofs.YtogiballdmgcpaaGreatDoor
open Go.RowKit
set_option linter.unusedVariables false
set_option linter.unusedSimpArgs false

theorem slice_to (ba : Option Addr) (n bc F : Nat) (hF : F ≤ bc) (w : World) : (Instr.slice 23 (.slice ba n bc) none (some (.int .i64 (F : Int))) none).run Tryz.prog w = .ok (.slice ba F bc) w := by
  obtain ⟨i0, hi0, _, hz1, _⟩ := info_parts Tryz.info5
  have h : (F : Int) ≤ (bc : Int) := by omega
  cases ba <;> simp [Instr.slice, Instr.sliceBounds, Instr.sliceBound, asIntOf, Sem.run_bind, run_underlying Tryz.underlying23, h, hF, sizeOf, typeInfo, hi0, hz1, Addr.add]
theorem slice_from (ba : Option Addr) (n bc F : Nat) (hF : F ≤ n) (hn : n ≤ bc) : ∃ A, (∀ w : World, (Instr.slice 23 (.slice ba n bc) (some (.int .i64 (F : Int))) none none).run Tryz.prog w = .ok (.slice A (n - F) (bc - F)) w) ∧ (A = ba ∧ bc = F ∨ A = ba.map (·.add F)) := by
  obtain ⟨i0, hi0, _, hz1, _⟩ := info_parts Tryz.info5
  have h : (F : Int) ≤ (n : Int) := by omega
  refine ⟨if bc = F then ba else ba.map (·.add F), fun w => ?_, ?_⟩
  · simp [Instr.slice, Instr.sliceBounds, Instr.sliceBound, asIntOf, Sem.run_bind, run_underlying Tryz.underlying23, h, hF, sizeOf, typeInfo, hi0, hz1]
  · by_cases e : bc = F
    · exact .inl ⟨if_pos e, e⟩
    · exact .inr (if_neg e)
/-- what is behind the first bytes of a text -/
theorem Row.behind {w : World} {ba : Option Addr} {n bc F : Nat} {b : List Nat} (h : Row .u8 256 w (.slice ba n bc) b) (hF : F ≤ n) {A : Option Addr} (hA : A = ba ∧ bc = F ∨ A = ba.map (·.add F)) : Row .u8 256 w (.slice A (n - F) (bc - F)) (b.drop F) := by
  obtain ⟨a', c', he, h1, h2, h3, h4⟩ := h
  simp only [Value.slice.injEq] at he
  obtain ⟨rfl, rfl, rfl⟩ := he
  refine ⟨A, _, by rw [List.length_drop], by rw [List.length_drop]; omega, by omega, fun hp => ?_, fun x hx => h4 x (List.mem_of_mem_drop hx)⟩
  rw [List.length_drop] at hp
  obtain ⟨b', o', rfl, hc⟩ := h3 (by omega)
  rcases hA with ⟨_, e⟩ | rfl
  · omega
  · refine ⟨b', o' + F, by simp [Addr.add_lit], fun x hx => ?_⟩
    rw [List.length_drop] at hx
    rw [el_drop, Nat.add_assoc]
    exact hc (F + x) (by omega)
theorem own_any (A : Option Addr) (n c n' c' : Nat) : (Value.slice A n c).ownBlock = (Value.slice A n' c').ownBlock := by cases A <;> rfl
theorem add_block (x : Addr) (F : Nat) : (x.add F).block = x.block := by unfold Addr.add; split <;> rfl
theorem Away.behind {g : Nat} {ba : Option Addr} {n bc F n' c' : Nat} {b : List Nat} (h : Away g (.slice ba n bc) b) {A : Option Addr} (hA : A = ba ∧ bc = F ∨ A = ba.map (·.add F)) : Away g (.slice A n' c') (b.drop F) := fun hp q hq => by
  refine h (by rw [List.length_drop] at hp; omega) q ?_
  rcases hA with ⟨rfl, _⟩ | rfl
  · rw [own_any _ _ _ n' c']; exact hq
  · cases ba with
    | none => cases hq
    | some x =>
      have e : (x.add F).block = q := Option.some.inj hq
      rw [add_block] at e
      exact congrArg some e
theorem Tidy.behind {ba : Option Addr} {n bc F : Nat} (h : Tidy (.slice ba n bc)) (hF : F ≤ n) {A : Option Addr} (hA : A = ba ∧ bc = F ∨ A = ba.map (·.add F)) : Tidy (.slice A (n - F) (bc - F)) := fun m c he => by
  simp only [Value.slice.injEq] at he
  obtain ⟨hA0, rfl, rfl⟩ := he
  have hb : ba = none := by
    rcases hA with ⟨rfl, _⟩ | rfl
    · exact hA0
    · simpa using hA0
  subst hb
  obtain ⟨rfl, rfl⟩ := h _ _ rfl
  omega
theorem Tidy.to {ba : Option Addr} {n bc F : Nat} (h : Tidy (.slice ba n bc)) (hF : F ≤ n) : Tidy (.slice ba F bc) := fun m c he => by
  simp only [Value.slice.injEq] at he
  obtain ⟨rfl, rfl, rfl⟩ := he
  obtain ⟨rfl, rfl⟩ := h _ _ rfl
  omega
theorem Away.to {g : Nat} {ba : Option Addr} {n bc F c' : Nat} {b : List Nat} (h : Away g (.slice ba n bc) b) : Away g (.slice ba F c') (b.take F) := fun hp q hq => h (by rw [List.length_take] at hp; omega) q (by rw [own_any _ _ _ F c']; exact hq)
/-- a sum's eleven cells, whatever they hold -/
def El (w : World) (o : Nat) : Prop := ∃ cs : Array Value, cs.size = 11 ∧ w.heap[o]? = some (.cells cs 146 (0, 0))
theorem Hb.elev {w : World} {q : Nat} {kind : Int} {ws : List Nat} {tv : Value} {size : Nat} (h : Hb w q kind ws tv size) : El w q := ⟨_, rfl, h⟩
theorem El.lt {w : World} {o : Nat} (h : El w o) : o < w.heap.size := by
  obtain ⟨cs, _, h⟩ := h
  rcases Nat.lt_or_ge o w.heap.size with hlt | hge
  · exact hlt
  · rw [Array.getElem?_eq_none hge] at h; cases h
theorem El.cell {w : World} {o : Nat} (h : El w o) {i : Nat} (hi : i < 11) : w.cell? ⟨o, i, none⟩ = some (rdc w ⟨o, i, none⟩) := by
  obtain ⟨cs, hs, h⟩ := h
  unfold rdc
  rw [cell_of_row w o i _ _ (0, 0) h, Array.getElem?_eq_getElem (by omega)]; rfl
theorem El.frozen {w : World} {o : Nat} (h : El w o) (i : Nat) : w.frozen? ⟨o, i, none⟩ = false := by
  obtain ⟨cs, hs, h⟩ := h
  simp [World.frozen?, h]
theorem El.below {w w' : World} {o : Nat} (h : El w o) (hb : Below w.heap.size w w') : El w' o := by
  have hl := h.lt
  obtain ⟨cs, hs, h⟩ := h
  exact ⟨cs, hs, (hb.block o hl).trans h⟩
theorem El.but {w w' : World} {o g : Nat} (h : El w o) (hb : But g w w') (hn : o ≠ g) : El w' o := by
  have hl := h.lt
  obtain ⟨cs, hs, h⟩ := h
  exact ⟨cs, hs, (hb.block o hl hn).trans h⟩
theorem El.set {w : World} {o : Nat} (h : El w o) (i : Nat) (v : Value) : El (w.setCell ⟨o, i, none⟩ v) o := by
  obtain ⟨cs, hs, h⟩ := h
  refine ⟨cs.setIfInBounds i v, by simpa using hs, ?_⟩
  rw [setCell_eq_setRow w o i _ _ (0, 0) _ h]
  exact setRow_heap w o _ _ _ _ h
theorem El.full {w : World} {o : Nat} (h : El w o) (v0 v1 v2 v3 v4 v5 v6 v7 v8 v9 v10 : Value) : (((((((((((w.setCell ⟨o, 0, none⟩ v0).setCell ⟨o, 1, none⟩ v1).setCell ⟨o, 2, none⟩ v2).setCell ⟨o, 3, none⟩ v3).setCell ⟨o, 4, none⟩ v4).setCell ⟨o, 5, none⟩ v5).setCell ⟨o, 6, none⟩ v6).setCell ⟨o, 7, none⟩ v7).setCell ⟨o, 8, none⟩ v8).setCell ⟨o, 9, none⟩ v9).setCell ⟨o, 10, none⟩ v10).heap[o]? = some (.cells #[v0, v1, v2, v3, v4, v5, v6, v7, v8, v9, v10] 146 (0, 0)) := by
  obtain ⟨cs, hs, h⟩ := h
  have st : ∀ (w : World) (cur : Array Value) (i : Nat) (v : Value), w.heap[o]? = some (.cells cur 146 (0, 0)) → (w.setCell ⟨o, i, none⟩ v).heap[o]? = some (.cells (cur.setIfInBounds i v) 146 (0, 0)) := fun w cur i v h => by
    rw [setCell_eq_setRow w o i _ _ (0, 0) _ h]; exact setRow_heap w o _ _ _ _ h
  have e : (((((((((((cs.setIfInBounds 0 v0).setIfInBounds 1 v1).setIfInBounds 2 v2).setIfInBounds 3 v3).setIfInBounds 4 v4).setIfInBounds 5 v5).setIfInBounds 6 v6).setIfInBounds 7 v7).setIfInBounds 8 v8).setIfInBounds 9 v9).setIfInBounds 10 v10) = #[v0, v1, v2, v3, v4, v5, v6, v7, v8, v9, v10] := by
    apply Array.toList_inj.1
    simp only [Array.toList_setIfInBounds]
    have hl : cs.toList.length = 11 := by simpa using hs
    generalize cs.toList = l at hl
    match l, hl with
    | [_, _, _, _, _, _, _, _, _, _, _], _ => rfl
  rw [← e]
  exact st _ _ 10 v10 (st _ _ 9 v9 (st _ _ 8 v8 (st _ _ 7 v7 (st _ _ 6 v6 (st _ _ 5 v5 (st _ _ 4 v4 (st _ _ 3 v3 (st _ _ 2 v2 (st _ _ 1 v1 (st _ _ 0 v0 (h)))))))))))
theorem Hb.all {w : World} {q : Nat} {kind : Int} {ws : List Nat} {tv : Value} {size : Nat} (h : Hb w q kind ws tv size) : w.cell? ⟨q, 0, none⟩ = some (.int .i64 kind) ∧ w.cell? ⟨q, 1, none⟩ = some (.int .u64 (el ws 0)) ∧ w.cell? ⟨q, 2, none⟩ = some (.int .u64 (el ws 1)) ∧ w.cell? ⟨q, 3, none⟩ = some (.int .u64 (el ws 2)) ∧ w.cell? ⟨q, 4, none⟩ = some (.int .u64 (el ws 3)) ∧ w.cell? ⟨q, 5, none⟩ = some (.int .u64 (el ws 4)) ∧ w.cell? ⟨q, 6, none⟩ = some (.int .u64 (el ws 5)) ∧ w.cell? ⟨q, 7, none⟩ = some (.int .u64 (el ws 6)) ∧ w.cell? ⟨q, 8, none⟩ = some (.int .u64 (el ws 7)) ∧ w.cell? ⟨q, 9, none⟩ = some tv ∧ w.cell? ⟨q, 10, none⟩ = some (.int .u64 size) :=
  ⟨h.kind, h.word (i := 0) (by decide), h.word (i := 1) (by decide), h.word (i := 2) (by decide), h.word (i := 3) (by decide), h.word (i := 4) (by decide), h.word (i := 5) (by decide), h.word (i := 6) (by decide), h.word (i := 7) (by decide), h.tail, h.size⟩
theorem Hb.frozen {w : World} {q : Nat} {kind : Int} {ws : List Nat} {tv : Value} {size : Nat} (h : Hb w q kind ws tv size) (i : Nat) : w.frozen? ⟨q, i, none⟩ = false := h.elev.frozen i
end Go.Proofs.YtogiballdmgcpaaGreatDoor

/- Contract of sha.state.bytes at words of 32 bits. -/
namespace Go.Proofs.YtogiballdmgcpaaGreatDoor
open Go.RowKit
set_option linter.unusedVariables false
set_option linter.unusedSimpArgs false

set_option maxHeartbeats 4000000 in
set_option maxRecDepth 100000 in
theorem bytes_any32 (l : List Nat) (N : Nat) (w : World) (h8 : l.length = 8) (hu : Under 4294967296 l) (hN : N ≤ 32) :
    Calls Tryz.prog 144 #[.agg (arr .u32 l), .int .i64 N] w fun e w' => ∃ v, e = .returned v ∧ Own 5 .u8 256 w' w.heap.size v ((bytesW false l).take N) ∧ Below w.heap.size w w' := by
  obtain ⟨i0, hi, hz0, hz1, hz2⟩ := info_parts Tryz.info5
  have hlen : ((bytesW false l).take N).length = N := by rw [List.length_take, bytesW_length, h8]; show min N (8 * 4) = N; omega
  have hBu : Under 256 ((bytesW false l).take N) := (bytesW_under false l).take N
  have hel : ∀ i, i < N → el ((bytesW false l).take N) i = el l (i / 4) / 256 ^ (4 - 1 - i % 4) % 256 := fun i hi => by
    rw [el_take hi, bytesW_el _ _ _ (by rw [h8]; show i < 8 * 4; omega)]; rfl
  have HEL := hide hel
  clear hel
  have hL := Lies.new .u32 165 w l
  go_enter Tryz.func144, Tryz.ntmps144
  go_wp2_with (first | (at_make; refine wpList_make_full _ rfl _ _ 23 rfl w.heap.size 5 i0 (.int .u8 0) 1 Tryz.underlying23 hi hz0 hz1 _ _ _ _ N rfl rfl rfl rfl (by rw [hz2]; omega) (by unfold maxLen; omega) (by simp) ?_; intro w1 hown hgrow) | fail)
  rw [made_u8] at hown
  have hb := (Below.refl (w.alloc (.cells (arr .u32 l) 165)).heap.size (w.alloc (.cells (arr .u32 l) 165))).grown hgrow (Nat.le_refl _) (fun k h => by cases h)
  have hL1 := hL.below hb
  have hb1 := keep_trans (keep_alloc w _) hb
  clear hgrow hL hb
  refine (either_int32 _ _ _).mono ?_
  rintro e w2 ⟨rfl, rfl⟩
  go_wp2
  generalize hO : (bytesW false l).take N = O at *
  have HO := hide hO
  clear hO
  have hown0 : w2.ownsRow w.heap.size 5 1 (.slice (some ⟨w.heap.size + 1, 0, none⟩) N N) N (vals .u8 (pad N (O.take 0))) := by simpa [pad] using hown
  clear hown
  go_loopw [13] (fun i wr => ∃ k : Nat, k ≤ N ∧ i = .int .i64 k ∧ wr.ownsRow w.heap.size 5 1 (.slice (some ⟨w.heap.size + 1, 0, none⟩) N N) N (vals .u8 (pad N (O.take k))) ∧ Lies .u32 165 wr w.heap.size l ∧ Below w.heap.size w wr) (fun i _ => N - (intOf i).toNat)
  case atStart => exact ⟨0, Nat.zero_le _, rfl, hown0, hL1, hb1⟩
  case round =>
    obtain ⟨k, hk, rfl, how, hLk, hbr⟩ := hrel
    clear hown0 hL1 hb1
    by_cases hlt : k < N
    · have htl : (O.take k).length = k := by rw [List.length_take]; omega
      have hpl : (pad N (O.take k)).length = N := pad_length (by omega)
      have c1 := how.cellAt k (by omega)
      rw [vals_get _ _ _ (by omega)] at c1
      have f1 := how.frozenAt k
      have hst := (how.stored k (.int .u8 ((el O k : Nat) : Int))).1
      have hse := pad_set (n := N) (l := O.take k) (by omega) (el O k)
      rw [htl, ← take_el (by omega)] at hse
      rw [vals_set, hse] at hst
      have HST := hide hst
      have c2 := hLk.cell (i := k / 4) (by omega)
      have hkl : el l (k / 4) < 4294967296 := el_lt hu (by decide) _
      have HK := HEL.out k hlt
      have HKH := hide HK
      clear hst hse HK htl hpl
      have ik0 : (0 : Int) ≤ (k : Int) := Int.natCast_nonneg _
      have ik1 : (k : Int) < (N : Int) := by omega
      obtain ⟨q, hq⟩ : ∃ q, q = k / 4 := ⟨_, rfl⟩
      obtain ⟨r, hr⟩ : ∃ r, r = 4 - 1 - k % 4 := ⟨_, rfl⟩
      have k1 : (k : Int).tdiv 4 = (q : Int) := by rw [hq]; rfl
      have k2 : (k : Int) / 4 = (q : Int) := by rw [hq]; omega
      have k3 : IntKind.i64.wrap (q : Int) = (q : Int) := by rw [IntKind.wrap_i64]; omega
      have k4 : (q : Int) < 8 := by omega
      have k5 : (0 : Int) ≤ (q : Int) := Int.natCast_nonneg _
      have k6 : (k : Int).tmod 4 = 3 - (r : Int) := by rw [hr]; have : (k : Int).tmod 4 = ((k % 4 : Nat) : Int) := rfl; rw [this]; omega
      have k7 : (k : Int) % 4 = 3 - (r : Int) := by omega
      have k8 : q < 8 := by omega
      have k9 : r < 4 := by omega
      rw [← hq] at c2 hkl
      have HQ := hide hq
      have HR := hide hr
      clear hq hr
      go_wp2
      go_region
      go_wp2
      have ev : (el l q : Int) / 2 ^ (8 * (3 - (3 - r))) % 256 = ((el O k : Nat) : Int) := by
        rw [show 3 - (3 - r) = r by omega, byte_shr, HKH.out, ← HQ.out, ← HR.out]
      rw [ev]
      exact ⟨⟨k + 1, by omega, by go_num, HST.out, hLk.but ((But.setCell (But.refl (w.heap.size + 1) _) _ _).drew) (by omega), (hbr.setCell (by simp) _).drew⟩, by simp [intOf]; omega⟩
    · obtain rfl : k = N := by omega
      rw [List.take_of_length_le (by omega), pad_full hlen] at how
      go_wp2
      go_ret
      exact ⟨_, rfl, by rw [HO.out]; exact ⟨by rw [hlen]; exact how, hBu⟩, hbr⟩
end Go.Proofs.YtogiballdmgcpaaGreatDoor

/- sha.resume, of the words as a sum holds them. -/
namespace Go.Proofs.YtogiballdmgcpaaGreatDoor
open Go.RowKit
set_option linter.unusedVariables false
set_option linter.unusedSimpArgs false

theorem block_keep32 (v : Value) (w : World) :
    Calls Tryz.prog 143 #[v] w fun e w' => e = .returned (.int .i64 64) ∧ w = w' :=
  (block_any32 v w).mono fun _ _ ⟨h1, h2⟩ => ⟨h1, h2.symm⟩
theorem head_range32 {k : IntKind} {t : TypeId} {w : World} {g : Nat} {l c : List Nat} (h : Lies k t w g (l ++ c)) : w.rangeAt g 0 (vals k l) := fun j v hv => by
  have hj : j < l.length := by have := (List.getElem?_eq_some_iff.1 hv).1; rwa [vals_length] at this
  rw [Nat.zero_add, h.cell (by rw [List.length_append]; omega), el_app_left hj, ← vals_get k l j hj]; exact hv
theorem resume_is32 (ws : List Nat) (w : World) (h8 : ws.length = 8) (hu : Under 4294967296 ws) :
    Calls Tryz.prog 141 #[.agg #[.int .u64 (el ws 0), .int .u64 (el ws 1), .int .u64 (el ws 2), .int .u64 (el ws 3), .int .u64 (el ws 4), .int .u64 (el ws 5), .int .u64 (el ws 6), .int .u64 (el ws 7)], .agg (vals .u64 cubes).toArray] w fun e w' => ∃ g, e = .returned (.pointer (some ⟨g, 0, none⟩)) ∧ w.heap.size ≤ g ∧ Sm32 w' g ws (ks false) ∧ Below w.heap.size w w' := by
  rw [← arr8 .u64 ws h8]
  exact resume_any32 ws cubes w h8 hu cubes_length cubes_under

end Go.Proofs.YtogiballdmgcpaaGreatDoor

/- Contract of sha.finish at words of 32 bits. -/
namespace Go.Proofs.YtogiballdmgcpaaGreatDoor
open Go.RowKit
set_option linter.unusedVariables false
set_option linter.unusedSimpArgs false

theorem room_le32 (n : Nat) : 8 ≤ room false n ∧ room false n ≤ 128 := by
  unfold room
  have e : bz false = 64 := rfl
  rw [e]
  split <;> omega
theorem endS_is32 (ws l : List Nat) (size n : Nat) : (bytesW false (eat false (eat false ws l) (left false l ++ fill false l.length size))).take n = endS false ws l size n := by
  unfold endS
  rw [eat_parts false ws l (fill false l.length size)]
set_option maxHeartbeats 8000000 in
set_option maxRecDepth 100000 in
theorem finish_any32 (kind : Int) (ws : List Nat) (tv : Value) (tl : List Nat) (size N : Nat) (w : World) (hT : Roots w) (h8 : ws.length = 8) (hu : Under 4294967296 ws) (hRt : Row .u8 256 w tv tl) (tT : Tidy tv) (htl : tl.length ≤ 100000) (hsz : size < 1152921504606846976) (hN : N ≤ 32) :
    Calls Tryz.prog 132 #[.agg (hv kind ws tv size), .int .i64 N] w fun e w' => ∃ v', e = .returned v' ∧ Own 5 .u8 256 w' w.heap.size v' (endS false ws tl size N) ∧ Below w.heap.size w w' := by
  have hb0 := keep_alloc w (.cells (hv kind ws tv size) 146)
  have hT0 := (hT.below hb0).1
  have hH0 := Hb.new w kind ws tv size
  obtain ⟨ta, tc, rfl⟩ := hRt.form
  have HH := hide hH0
  have HB := hide hb0
  clear hH0 hb0
  have huv : hv kind ws (.slice ta tl.length tc) size = #[.int .i64 kind, .int .u64 (el ws 0), .int .u64 (el ws 1), .int .u64 (el ws 2), .int .u64 (el ws 3), .int .u64 (el ws 4), .int .u64 (el ws 5), .int .u64 (el ws 6), .int .u64 (el ws 7), .slice ta tl.length tc, .int .u64 size] := rfl
  rw [huv]
  clear huv
  go_enter Tryz.func132, Tryz.ntmps132
  go_wp2_with (first
    | (refine wpList_load_mid rfl 174 _ (by rfl) 1 0 (by rfl) (vals .u64 cubes) (.array 80 26) hT0 (by kernel_rfl) rfl (by kernel_rfl) ?_)
    | fail)
  refine (resume_is32 ws _ h8 hu).mono ?_
  rintro e w1 ⟨g, rfl, hg, hS1, hb1⟩
  have hW2 : w.heap.size + 1 ≤ g := by have := hg; simp at this; omega
  have hge : w.heap.size ≠ g := by omega
  have hH1 := HH.out.below hb1
  have hbw := keep_trans HB.out hb1
  have hRt1 := hRt.below hbw
  have hAt : Away g (.slice ta tl.length tc) tl := hRt.away (by omega)
  have c9 := hH1.tail
  clear HH HB hb1 hg
  go_wp2_with fail
  refine (take_any32 g ws tl _ w1 hS1 h8 hu hRt1 hAt tT (by omega)).mono ?_
  rintro e w2 ⟨⟨v2, rfl, hR2, hA2, hT2⟩, hS2, hB2⟩
  obtain ⟨a2, c2, rfl⟩ := hR2.form
  have hH2 := hH1.but hB2 hge
  have hbw2 : Below w.heap.size w w2 := hbw.trans (hB2.below (by omega) hbw.size)
  have hll : (left false tl).length = tl.length % 64 := left_length false tl
  have hlt := left_lt false tl
  have hbz : bz false = 64 := rfl
  rw [hbz] at hlt
  have he8 := eat_len (b := false) tl h8
  have heu := eat_under (b := false) tl hu
  obtain ⟨R, hR⟩ : ∃ R, R = 64 - (left false tl).length - 1 := ⟨_, rfl⟩
  have hrm : room false tl.length = if R < 8 then R + 64 else R := by
    unfold room
    rw [hbz, ← hll, ← hR]
  have hRb : R < 64 := by omega
  have HL := hide hll
  generalize hn2 : (left false tl).length = n2 at *
  have HN2 := hide hn2
  have y1 : (64 : Int) - (n2 : Int) = ((R + 1 : Nat) : Int) := by omega
  have y2 : ((R + 1 : Nat) : Int) - 1 = (R : Int) := by omega
  have HR := hide hR
  have HRM := hide hrm
  have hrr := room_le32 tl.length
  clear hR hrm c9 hH1 hbw hRt1 hAt hS1 hB2 hbz hll hn2
  obtain ⟨Q, hQ⟩ : ∃ Q, Q = R + 1 := ⟨_, rfl⟩
  rw [← hQ] at y1 y2
  have hQb : Q ≤ 64 := by omega
  have c10 := hH2.size
  have hm8 : (8 : Int) * (size : Int) = ((8 * size : Nat) : Int) := by omega
  obtain ⟨bs, hbs⟩ : ∃ bs, bs = 8 * size := ⟨_, rfl⟩
  rw [← hbs] at hm8
  have hbw8 : IntKind.u64.wrap (bs : Int) = (bs : Int) := by rw [IntKind.wrap_u64]; omega
  have hbsb : bs < 18446744073709551616 := by omega
  have HBS := hide hbs
  clear hQ hbs
  have key : ∀ (M : Nat) , M = room false tl.length → fill false tl.length size = [128] ++ (leL bs M).reverse := fun M hM => by unfold fill; rw [HBS.out, hM]
  have HKEY := hide key
  clear key
  by_cases hr8 : R < 8
  · skip
    obtain ⟨M, hM⟩ : ∃ M, M = R + 64 := ⟨_, rfl⟩
    have hMi : (R : Int) + 64 = (M : Int) := by omega
    have hMr : M = room false tl.length := by rw [HRM.out, if_pos hr8, hM]
    have hr8i : (R : Int) < 8 := by omega
    have hfl0 := HKEY.out M hMr
    have hMb : 8 ≤ M ∧ M ≤ 128 := by omega
    clear hM hMr
    have hleS : (leS bs (M : Int)).reverse = (leL bs M).reverse := by unfold leS; rw [if_neg (by omega), Int.toNat_natCast]
    have hl3 : (leL bs M).reverse.length = M := by rw [List.length_reverse, leL_length]
    generalize (leL bs M).reverse = L3 at *
    have HFL := hide hfl0
    have HL3 := hide hl3
    clear hfl0 hl3
    have c10' : (w2.alloc (.cells #[.int .u8 128] 5)).cell? ⟨w.heap.size, 10, none⟩ = some (.int .u64 size) := keep_cell c10 (keep_alloc _ _)
    have h128 : Row .u8 256 (w2.alloc (.cells #[.int .u8 128] 5)) (.slice (some ⟨w2.heap.size, 0, none⟩) 1 1) [128] := lit_row .u8 256 w2 [128] 5 (Under.one (by decide)) (by unfold maxLen; decide)
    go_wp2_with (first
      | (go_at_call 143; refine (block_keep32 _ _).mono ?_; rintro e w9 ⟨rfl, rfl⟩)
      | (go_at_call 21; refine (be_any bs (M : Int) _ hbsb (by omega) (by omega)).mono ?_; rintro e w3 ⟨v3, rfl, hO3, hb3⟩; rw [hleS] at hO3; obtain ⟨a3, c3, rfl⟩ := hO3.row.form)
      | (go_at_call 20; refine (join_any _ [left false tl, [128], L3] _ (rows_lit3 (hR2.below (keep_trans (keep_alloc _ _) hb3)) (h128.below hb3) hO3.row hT2 (tidy_at _ _ _) hO3.tidy) (by have := hMb.2; have := HN2.out; have := HL3.out; simp; omega)).mono ?_; rintro e w4 ⟨v4, rfl, hO4, hb4⟩; have hfe : ([left false tl, [128], L3] : List (List Nat)).flatten = left false tl ++ fill false tl.length size := (by rw [HFL.out]; simp); rw [hfe] at hO4; clear hfe)
      | (go_at_call 142; refine (take_any32 g _ _ _ w4 ((hS2.below (keep_trans (keep_alloc w2 _) hb3)).alloc _ |>.below hb4) he8 heu hO4.row (hO4.away (by have := hS2.lt; have := hb3.size; simp at *; omega)) hO4.tidy (by have := hMb.2; have := HN2.out; have := HL3.out; rw [HFL.out]; simp; omega)).mono ?_; rintro e w5 ⟨⟨v5, rfl, hR5, hA5, hT5⟩, hS5, hB5⟩; have hq8 := eat_len (b := false) (left false tl ++ fill false tl.length size) he8; have hqu := eat_under (b := false) (left false tl ++ fill false tl.length size) heu; have hrg := head_range32 hS5)
      | (refine wpList_load_mid rfl 165 _ (by rfl) g 0 (by rfl) _ (.array 8 52) hrg (by kernel_rfl) rfl (by rw [vals_length, hq8]; kernel_rfl) ?_)
      | (go_at_call 144; refine (bytes_any32 _ N w5 hq8 hqu hN).mono ?_; rintro e w6 ⟨v6, rfl, hO6, hb6⟩)
      | fail)
    have hbw4 : Below w.heap.size w w4 := keep_trans hbw2 (keep_trans (keep_trans (keep_alloc w2 _) hb3) (keep_trans (keep_alloc w3 _) hb4))
    have hbw5 := hbw4.trans (hB5.below (by omega) hbw4.size)
    rw [endS_is32] at hO6
    go_ret
    exact ⟨_, rfl, hO6.mono hbw5.size, keep_trans hbw5 hb6⟩
  · skip
    obtain ⟨M, hM⟩ : ∃ M, M = R := ⟨_, rfl⟩
    have hMr : M = room false tl.length := by rw [HRM.out, if_neg hr8, hM]
    have hr8i : ¬ (R : Int) < 8 := by omega
    subst hM
    have hfl0 := HKEY.out M hMr
    have hMb : 8 ≤ M ∧ M ≤ 128 := by omega
    clear hMr
    have hleS : (leS bs (M : Int)).reverse = (leL bs M).reverse := by unfold leS; rw [if_neg (by omega), Int.toNat_natCast]
    have hl3 : (leL bs M).reverse.length = M := by rw [List.length_reverse, leL_length]
    generalize (leL bs M).reverse = L3 at *
    have HFL := hide hfl0
    have HL3 := hide hl3
    clear hfl0 hl3
    have c10' : (w2.alloc (.cells #[.int .u8 128] 5)).cell? ⟨w.heap.size, 10, none⟩ = some (.int .u64 size) := keep_cell c10 (keep_alloc _ _)
    have h128 : Row .u8 256 (w2.alloc (.cells #[.int .u8 128] 5)) (.slice (some ⟨w2.heap.size, 0, none⟩) 1 1) [128] := lit_row .u8 256 w2 [128] 5 (Under.one (by decide)) (by unfold maxLen; decide)
    go_wp2_with (first
      | (go_at_call 143; refine (block_keep32 _ _).mono ?_; rintro e w9 ⟨rfl, rfl⟩)
      | (go_at_call 21; refine (be_any bs (M : Int) _ hbsb (by omega) (by omega)).mono ?_; rintro e w3 ⟨v3, rfl, hO3, hb3⟩; rw [hleS] at hO3; obtain ⟨a3, c3, rfl⟩ := hO3.row.form)
      | (go_at_call 20; refine (join_any _ [left false tl, [128], L3] _ (rows_lit3 (hR2.below (keep_trans (keep_alloc _ _) hb3)) (h128.below hb3) hO3.row hT2 (tidy_at _ _ _) hO3.tidy) (by have := hMb.2; have := HN2.out; have := HL3.out; simp; omega)).mono ?_; rintro e w4 ⟨v4, rfl, hO4, hb4⟩; have hfe : ([left false tl, [128], L3] : List (List Nat)).flatten = left false tl ++ fill false tl.length size := (by rw [HFL.out]; simp); rw [hfe] at hO4; clear hfe)
      | (go_at_call 142; refine (take_any32 g _ _ _ w4 ((hS2.below (keep_trans (keep_alloc w2 _) hb3)).alloc _ |>.below hb4) he8 heu hO4.row (hO4.away (by have := hS2.lt; have := hb3.size; simp at *; omega)) hO4.tidy (by have := hMb.2; have := HN2.out; have := HL3.out; rw [HFL.out]; simp; omega)).mono ?_; rintro e w5 ⟨⟨v5, rfl, hR5, hA5, hT5⟩, hS5, hB5⟩; have hq8 := eat_len (b := false) (left false tl ++ fill false tl.length size) he8; have hqu := eat_under (b := false) (left false tl ++ fill false tl.length size) heu; have hrg := head_range32 hS5)
      | (refine wpList_load_mid rfl 165 _ (by rfl) g 0 (by rfl) _ (.array 8 52) hrg (by kernel_rfl) rfl (by rw [vals_length, hq8]; kernel_rfl) ?_)
      | (go_at_call 144; refine (bytes_any32 _ N w5 hq8 hqu hN).mono ?_; rintro e w6 ⟨v6, rfl, hO6, hb6⟩)
      | fail)
    have hbw4 : Below w.heap.size w w4 := keep_trans hbw2 (keep_trans (keep_trans (keep_alloc w2 _) hb3) (keep_trans (keep_alloc w3 _) hb4))
    have hbw5 := hbw4.trans (hB5.below (by omega) hbw4.size)
    rw [endS_is32] at hO6
    go_ret
    exact ⟨_, rfl, hO6.mono hbw5.size, keep_trans hbw5 hb6⟩
end Go.Proofs.YtogiballdmgcpaaGreatDoor

/- Contracts of sha.either, turned, shifted, firstBits at words of 64 bits. -/
namespace Go.Proofs.YtogiballdmgcpaaGreatDoor
open Go.RowKit
set_option linter.unusedVariables false
set_option linter.unusedSimpArgs false

theorem ones64 : bits BinOp.xor .u64 IntKind.u64.max 0 = 18446744073709551616 - 1 := by decide
theorem sgn64 : IntKind.u64.signed = false := rfl

/-- a word turned, in the walk's spelling -/
theorem rot_is64 (x r : Nat) (hx : x < 18446744073709551616) (hr : r < 64) : bits .or .u64 ((x : Int) / 2 ^ r) (IntKind.u64.wrap ((x : Int) * 2 ^ (64 - r))) = ((rot true r x : Nat) : Int) := by
  have e1 : (x : Int) / 2 ^ r = ((x / 2 ^ r : Nat) : Int) := by simp
  have e2 : (IntKind.u64.wrap ((x : Int) * 2 ^ (64 - r))) = ((x * 2 ^ (64 - r) % 18446744073709551616 : Nat) : Int) := by
    rw [IntKind.wrap_u64]; simp
  rw [e1, e2, u64_or_nat _ _ (Nat.lt_of_le_of_lt (Nat.div_le_self _ _) hx) (Nat.mod_lt _ (by decide))]
  rfl
theorem xor_is64 (x y : Nat) (hx : x < 18446744073709551616) (hy : y < 18446744073709551616) : bits .xor .u64 (x : Int) (y : Int) = ((x ^^^ y : Nat) : Int) := u64_xor_nat x y hx hy
theorem turn_is64 (x a b c : Nat) (hx : x < 18446744073709551616) (ha : a < 64) (hb : b < 64) (hc : c < 64) :
    bits .xor .u64 (bits .xor .u64 (bits .or .u64 ((x : Int) / 2 ^ a) (IntKind.u64.wrap ((x : Int) * 2 ^ (64 - a)))) (bits .or .u64 ((x : Int) / 2 ^ b) (IntKind.u64.wrap ((x : Int) * 2 ^ (64 - b))))) (bits .or .u64 ((x : Int) / 2 ^ c) (IntKind.u64.wrap ((x : Int) * 2 ^ (64 - c)))) = ((turn3 true a b c x : Nat) : Int) := by
  have r := fun r => rot_lt (b := true) hx r
  rw [rot_is64 x a hx ha, rot_is64 x b hx hb, rot_is64 x c hx hc, xor_is64 _ _ (r a) (r b), xor_is64 _ _ (xor_lt (b := true) (r a) (r b)) (r c)]
  rfl
theorem shft_is64 (x a b c : Nat) (hx : x < 18446744073709551616) (ha : a < 64) (hb : b < 64) (hc : c < 64) :
    bits .xor .u64 (bits .xor .u64 (bits .or .u64 ((x : Int) / 2 ^ a) (IntKind.u64.wrap ((x : Int) * 2 ^ (64 - a)))) (bits .or .u64 ((x : Int) / 2 ^ b) (IntKind.u64.wrap ((x : Int) * 2 ^ (64 - b))))) ((x : Int) / 2 ^ c) = ((shft3 true a b c x : Nat) : Int) := by
  have r := fun r => rot_lt (b := true) hx r
  have e1 : (x : Int) / 2 ^ c = ((x / 2 ^ c : Nat) : Int) := by simp
  rw [rot_is64 x a hx ha, rot_is64 x b hx hb, e1, xor_is64 _ _ (r a) (r b), xor_is64 _ _ (xor_lt (b := true) (r a) (r b)) (shr_lt (b := true) hx c)]
  rfl

theorem and_is64 (x y : Nat) (hx : x < 18446744073709551616) (hy : y < 18446744073709551616) : bits .and .u64 (x : Int) (y : Int) = ((x &&& y : Nat) : Int) := u64_and_nat x y hx hy
theorem add_is64 (x y : Nat) : (IntKind.u64.wrap ((x : Int) + (y : Int))) = (((x + y) % 18446744073709551616 : Nat) : Int) := by
  rw [IntKind.wrap_u64]
  omega
theorem not_is64 (e : Nat) (he : e < 18446744073709551616) : bits .xor .u64 IntKind.u64.max (e : Int) = ((18446744073709551616 - 1 - e : Nat) : Int) := by
  rw [show IntKind.u64.max = ((18446744073709551616 - 1 : Nat) : Int) from rfl, xor_is64 _ _ (by decide) he, ← ones_xor 64 e he]
theorem chs_is64 (e f g : Nat) (he : e < 18446744073709551616) (hf : f < 18446744073709551616) (hg : g < 18446744073709551616) : bits .xor .u64 (bits .and .u64 (e : Int) (f : Int)) (bits .and .u64 (bits .xor .u64 IntKind.u64.max (e : Int)) (g : Int)) = ((chs true e f g : Nat) : Int) := by
  rw [not_is64 e he, and_is64 e f he hf, and_is64 _ g (by omega) hg, xor_is64 _ _ (and_lt (b := true) he) (and_lt (b := true) (by show 18446744073709551616 - 1 - e < 18446744073709551616; omega))]
  rfl
theorem maj_is64 (x y z : Nat) (hx : x < 18446744073709551616) (hy : y < 18446744073709551616) (hz : z < 18446744073709551616) : bits .xor .u64 (bits .xor .u64 (bits .and .u64 (x : Int) (y : Int)) (bits .and .u64 (x : Int) (z : Int))) (bits .and .u64 (y : Int) (z : Int)) = ((maj x y z : Nat) : Int) := by
  rw [and_is64 x y hx hy, and_is64 x z hx hz, and_is64 y z hy hz, xor_is64 _ _ (and_lt (b := true) hx) (and_lt (b := true) hx), xor_is64 _ _ (xor_lt (b := true) (and_lt (b := true) hx) (and_lt (b := true) hx)) (and_lt (b := true) hy)]
  rfl
theorem rnd064 (s : List Nat) (k w : Nat) : (((((el s 7 + turn3 true 14 18 41 (el s 4)) % 18446744073709551616 + chs true (el s 4) (el s 5) (el s 6)) % 18446744073709551616 + k) % 18446744073709551616 + w) % 18446744073709551616 + (turn3 true 28 34 39 (el s 0) + maj (el s 0) (el s 1) (el s 2)) % 18446744073709551616) % 18446744073709551616 = el (rnd true k w s) 0 := by
  show _ = (tOne true s k w + tTwo true s) % wm true
  unfold tOne tTwo
  simp only [gS0, gS1, wm, cond_true, cond_false]
  omega
theorem rnd464 (s : List Nat) (k w : Nat) : (el s 3 + ((((el s 7 + turn3 true 14 18 41 (el s 4)) % 18446744073709551616 + chs true (el s 4) (el s 5) (el s 6)) % 18446744073709551616 + k) % 18446744073709551616 + w) % 18446744073709551616) % 18446744073709551616 = el (rnd true k w s) 4 := by
  show _ = (el s 3 + tOne true s k w) % wm true
  unfold tOne
  simp only [gS0, gS1, wm, cond_true, cond_false]
  omega

theorem either_int64 (x y : Value) (w : World) :
    Calls Tryz.prog 151 #[x, y] w fun e w' => e = .returned y ∧ w' = w := by
  have h1 := ones64
  have h2 := sgn64
  go_enter Tryz.func151, Tryz.ntmps151
  go_wp2
  go_ret
  exact ⟨rfl, rfl⟩

/-- three turns, as a value -/
def tur64 (a b c : Nat) : Value := .agg #[.int .i64 (a : Int), .int .i64 (b : Int), .int .i64 (c : Int)]

/-- three turns, boxed -/
def Tu64 (w : World) (q a b c : Nat) : Prop := w.heap[q]? = some (.cells #[.int .i64 (a : Int), .int .i64 (b : Int), .int .i64 (c : Int)] 197)
theorem Tu64.new (w : World) (a b c : Nat) : Tu64 (w.alloc (.cells #[.int .i64 (a : Int), .int .i64 (b : Int), .int .i64 (c : Int)] 197)) w.heap.size a b c := heap_alloc_last w _
theorem Tu64.below {w w' : World} {q a b c : Nat} (h : Tu64 w q a b c) (hb : Below w.heap.size w w') : Tu64 w' q a b c := by
  unfold Tu64 at *
  rcases Nat.lt_or_ge q w.heap.size with hlt | hge
  · rw [hb.block q hlt]; exact h
  · rw [Array.getElem?_eq_none hge] at h; cases h
theorem Tu64.but {w w' : World} {q g a b c : Nat} (h : Tu64 w q a b c) (hb : But g w w') (hn : q ≠ g) : Tu64 w' q a b c := by
  unfold Tu64 at *
  rcases Nat.lt_or_ge q w.heap.size with hlt | hge
  · rw [hb.block q hlt hn]; exact h
  · rw [Array.getElem?_eq_none hge] at h; cases h
theorem Tu64.cells {w : World} {q a b c : Nat} (h : Tu64 w q a b c) : w.cell? ⟨q, 0, none⟩ = some (.int .i64 (a : Int)) ∧ w.cell? ⟨q, 1, none⟩ = some (.int .i64 (b : Int)) ∧ w.cell? ⟨q, 2, none⟩ = some (.int .i64 (c : Int)) := by
  unfold Tu64 at h
  refine ⟨?_, ?_, ?_⟩ <;> rw [cell_of_row w q _ _ _ (0, 0) h] <;> rfl

theorem either_tur64 (a b c a' b' c' : Nat) (w : World) :
    Calls Tryz.prog 159 #[tur64 a b c, tur64 a' b' c'] w fun e w' => e = .returned (tur64 a' b' c') ∧ Below w.heap.size w w' := by
  unfold tur64
  have h1 := ones64
  have h2 := sgn64
  go_enter Tryz.func159, Tryz.ntmps159
  go_wp2
  refine bodyPost_ret (v := .agg #[.int .i64 (a' : Int), .int .i64 (b' : Int), .int .i64 (c' : Int)]) (by simp [results, Tryz.results159, go_sem]) rfl ⟨rfl, ?_⟩
  exact (((Below.refl _ _).alloc (Nat.le_refl _) _).alloc (by simp) _).alloc (by simp; omega) _

theorem first64 (n : Nat) (w : World) (hn : n < 18446744073709551616) :
    Calls Tryz.prog 140 #[.int .u64 n] w fun e w' => e = .returned (.int .u64 (hi true n : Nat)) ∧ w' = w := by
  go_enter Tryz.func140, Tryz.ntmps140
  go_wp2_with fail
  refine (either_int64 _ _ _).mono ?_
  rintro e w1 ⟨rfl, rfl⟩
  go_wp2
  go_ret
  exact ⟨ret_int (by simp only [hi, cond_true, cond_false]), rfl⟩

set_option maxHeartbeats 1000000 in
theorem turned64 (x a b c : Nat) (w : World) (hx : x < 18446744073709551616) (ha : a < 64) (hb : b < 64) (hc : c < 64) :
    Calls Tryz.prog 160 #[.int .u64 x, tur64 a b c] w fun e w' => e = .returned (.int .u64 (turn3 true a b c x : Nat)) ∧ Below w.heap.size w w' := by
  unfold tur64
  have m1 : min a 64 = a := by omega
  have m2 : min b 64 = b := by omega
  have m3 : min c 64 = c := by omega
  go_enter Tryz.func160, Tryz.ntmps160
  go_wp2_with fail
  refine (either_int64 _ _ _).mono ?_
  rintro e w1 ⟨rfl, rfl⟩
  go_wp2
  go_quiet (fail)
  go_wp2
  go_ret
  exact ⟨ret_int (turn_is64 x a b c hx ha hb hc), bel_drewN (keep_alloc _ _) _⟩

set_option maxHeartbeats 1000000 in
theorem shifted64 (x a b c : Nat) (w : World) (hx : x < 18446744073709551616) (ha : a < 64) (hb : b < 64) (hc : c < 64) :
    Calls Tryz.prog 161 #[.int .u64 x, tur64 a b c] w fun e w' => e = .returned (.int .u64 (shft3 true a b c x : Nat)) ∧ Below w.heap.size w w' := by
  unfold tur64
  have m1 : min a 64 = a := by omega
  have m2 : min b 64 = b := by omega
  have m3 : min c 64 = c := by omega
  go_enter Tryz.func161, Tryz.ntmps161
  go_wp2_with fail
  refine (either_int64 _ _ _).mono ?_
  rintro e w1 ⟨rfl, rfl⟩
  go_wp2
  go_quiet (fail)
  go_wp2
  go_ret
  exact ⟨ret_int (shft_is64 x a b c hx ha hb hc), bel_drewN (keep_alloc _ _) _⟩
end Go.Proofs.YtogiballdmgcpaaGreatDoor
