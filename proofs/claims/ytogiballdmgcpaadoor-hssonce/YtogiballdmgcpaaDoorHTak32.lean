/- Contract of sha.sum.take at words of 32 bits. -/
import Derived.Test.YtogiballdmgcpaaDoorHTur32
import Derived.Test.YtogiballdmgcpaaDoorHKi2
import Derived.Test.YtogiballdmgcpaaDoorBase
import Derived.Laws.AppendOwnNone
namespace Go.Proofs.YtogiballdmgcpaaDoor
open Go.RowKit
set_option linter.unusedVariables false
set_option linter.unusedSimpArgs false

set_option maxHeartbeats 4000000 in
set_option maxRecDepth 100000 in
theorem take_any32 (g : Nat) (hs l : List Nat) (v : Value) (w : World) (hS : Sm32 w g hs (ks false)) (h8 : hs.length = 8) (hhu : Under 4294967296 hs) (hR : Row .u8 256 w v l) (ha : Away g v l) (ht : Tidy v) (hl : l.length ≤ 1000000) :
    Calls Tryd.prog 83 #[.pointer (some ⟨g, 0, none⟩), v] w fun e w' => (∃ v', e = .returned v' ∧ Row .u8 256 w' v' (left false l) ∧ Away g v' (left false l) ∧ Tidy v') ∧ Sm32 w' g (eat false hs l) (ks false) ∧ But g w w' := by
  go_enter Tryd.func83, Tryd.ntmps83
  go_wp2
  go_loopw [1] (fun u wr => ∃ (L H : List Nat), L.length ≤ l.length ∧ slen u = L.length ∧ Row .u8 256 wr u L ∧ Away g u L ∧ Tidy u ∧ Sm32 wr g H (ks false) ∧ But g w wr ∧ eat false hs l = eat false H L ∧ left false l = left false L ∧ H.length = 8 ∧ Under 4294967296 H) (fun u _ => slen u)
  case atStart => exact ⟨l, hs, Nat.le_refl _, by obtain ⟨a, c, rfl, _⟩ := hR; rfl, hR, ha, ht, hS, But.refl _ _, rfl, rfl, h8, hhu⟩
  case round =>
    obtain ⟨L, H, hLl, hsl, hRL, hAL, hTL, hSL, hBL, hE, hLf, hH8, hHu⟩ := hrel
    have HE := hide hE
    have HF := hide hLf
    have hlu := hRL.under
    clear hE hLf
    obtain ⟨a, cap, rfl, g1, g2, g3, g4⟩ := hRL
    have hRL : Row .u8 256 wr (.slice a L.length cap) L := ⟨a, cap, rfl, g1, g2, g3, g4⟩
    unfold maxLen at g2
    by_cases hlt : 64 ≤ L.length
    · obtain ⟨bb, off, rfl, hc⟩ := g3 (by omega)
      clear hc g3
      have hRt := hRL.cut (M := 64) hlt
      go_wp2_with fail
      refine (block_any32 _ _).mono ?_
      rintro e w1 ⟨rfl, rfl⟩
      go_wp2_with fail
      refine (block_any32 _ _).mono ?_
      rintro e w2 ⟨rfl, rfl⟩
      go_wp2_with fail
      refine (spread_any32 _ _ _ hRt (by rw [List.length_take]; omega)).mono ?_
      rintro e w3 ⟨rfl, hb3⟩
      have hS3 := hSL.below hb3
      have hsch := sched_under (b := false) (hlu.take 64) 48
      go_wp2_with fail
      refine (mix_any32 g H (ks false) _ w3 hS3 hH8 (ks_length false) (pad_length (by rw [sched_length]; decide)) hHu (ks_under false) (pad_under hsch (by decide))).mono ?_
      rintro e w4 ⟨rfl, hS4, hB4⟩
      have hcp : addW false H (rndN false (ks false) (pad 80 (sched false (L.take 64) 48)) (rn false) H) 8 = comp false H (L.take 64) := comp_pad H _
      rw [hcp] at hS4
      clear hcp
      go_wp2_with fail
      refine (block_any32 _ _).mono ?_
      rintro e w5 ⟨rfl, rfl⟩
      go_wp2
      have hif : (if cap = 64 then some (⟨bb, off, none⟩ : Addr) else some ⟨bb, off + 64, none⟩) = some ⟨bb, off, none⟩ ∧ cap = 64 ∨ (if cap = 64 then some (⟨bb, off, none⟩ : Addr) else some ⟨bb, off + 64, none⟩) = some ⟨bb, off + 64, none⟩ := by
        by_cases h : cap = 64
        · exact .inl ⟨if_pos h, h⟩
        · exact .inr (if_neg h)
      generalize (if cap = 64 then some (⟨bb, off, none⟩ : Addr) else some ⟨bb, off + 64, none⟩) = A at *
      have hbz : bz false = 64 := rfl
      have hdl : (L.drop 64).length = L.length - 64 := List.length_drop
      refine ⟨⟨L.drop 64, comp false H (L.take 64), by omega, by simp [slen], ((hRL.below hb3).but hAL hB4).rest hlt A hif, fun hp q hq => ?_, ?_, hS4, (hBL.trans (But.of_below hb3)).trans hB4, ?_, ?_, comp_length _ _ _, comp_under _ _ _⟩, by simp [slen]; omega⟩
      · refine hAL (by omega) q ?_
        rcases hif with ⟨rfl, _⟩ | rfl
        · exact hq
        · simpa [Value.ownBlock] using hq
      · rcases hif with ⟨rfl, _⟩ | rfl <;> exact tidy_at _ _ _
      · rw [HE.out, eat_step (by rw [hbz]; exact hlt), hbz]
      · rw [HF.out, left_step (by rw [hbz]; exact hlt), hbz]
    · go_wp2_with fail
      refine (block_any32 _ _).mono ?_
      rintro e w1 ⟨rfl, rfl⟩
      go_wp2
      go_ret
      exact ⟨⟨_, rfl, by rw [HF.out, left_short (by show _ < 64; omega)]; exact hRL, by rw [HF.out, left_short (by show _ < 64; omega)]; exact hAL, hTL⟩, by rw [HE.out, eat_short (by show _ < 64; omega)]; exact hSL, hBL⟩
end Go.Proofs.YtogiballdmgcpaaDoor

/- Contracts of bits.NumLe. -/
namespace Go.Proofs.YtogiballdmgcpaaDoor
open Go.RowKit
set_option linter.unusedVariables false


end Go.Proofs.YtogiballdmgcpaaDoor

/- Contracts of the small helpers: room, isWidth, holds, such, lowest, packedSize. -/
namespace Go.Proofs.YtogiballdmgcpaaDoor
open Go.RowKit
set_option linter.unusedVariables false

set_option maxHeartbeats 400000 in
theorem room8_any (c : Nat) (w : World) (hc : c ≤ 140737488355328) :
    Calls Tryd.prog 45 #[.int .i64 c] w fun e w' => ∃ v, e = .returned v ∧ Own 5 .u8 256 w' w.heap.size v [] ∧ Below w.heap.size w w' := by
  obtain ⟨i0, hi, hz0, hz1, hz2⟩ := info_parts Tryd.info5
  by_cases h0 : c = 0
  · subst h0
    go_enter Tryd.func45, Tryd.ntmps45
    go_wp2
    go_ret
    exact ⟨_, rfl, ⟨World.ownsRow_nil _ _ _ _, fun x hx => by simp at hx⟩, Below.refl _ _⟩
  · have hne : ((c : Int) == 0) = false := by simp; omega
    go_enter Tryd.func45, Tryd.ntmps45
    go_wp2_with (first | (at_make; refine wpList_make_own _ rfl _ _ 23 rfl w.heap.size 5 i0 (.int .u8 0) 1 Tryd.underlying23 hi hz0 hz1 _ _ _ c rfl rfl rfl (by rw [hz2]; omega) (by unfold maxLen; omega) (Nat.le_refl _) ?_; intro w1 hown hgrow) | go_in)
    go_ret
    exact ⟨_, rfl, ⟨hown, fun x hx => by simp at hx⟩, (Below.refl w.heap.size w).grown hgrow (Nat.le_refl _) (fun k h => by cases h)⟩

end Go.Proofs.YtogiballdmgcpaaDoor

/- Contracts of bits.Join, apostilleref01.Join. -/
namespace Go.Proofs.YtogiballdmgcpaaDoor
open Go.RowKit
set_option linter.unusedVariables false

set_option maxHeartbeats 1000000 in
theorem join_any (va : Value) (ls : List (List Nat)) (w : World) (ha : Rows2 w va ls) (hs : ls.flatten.length ≤ 1000000) :
    Calls Tryd.prog 33 #[va] w fun e w' => ∃ v, e = .returned v ∧ Own 5 .u8 256 w' w.heap.size v ls.flatten ∧ Below w.heap.size w w' := by
  have hu := ha.under
  have ha' := ha
  obtain ⟨a, ca, rfl, ha1, ha2, ha3⟩ := ha
  unfold maxLen at ha2
  obtain ⟨i0, hi, hz0, hz1, hz2⟩ := info_parts Tryd.info5
  go_enter Tryd.func33, Tryd.ntmps33
  go_wp2
  go_loop [3, 11] (fun s i => ∃ k : Nat, k ≤ ls.length ∧ i = .int .i64 k ∧ s = .int .i64 ((ls.take k).flatten.length : Nat)) (fun _ i => ls.length - (intOf i).toNat)
  case atStart => exact ⟨0, Nat.zero_le _, rfl, rfl⟩
  case round =>
    obtain ⟨k, hk, rfl, rfl⟩ := hrel
    by_cases hlt : k < ls.length
    · have hf := flat_succ hlt
      have hle := flat_le ls (k + 1)
      rw [hf, List.length_append] at hle
      obtain ⟨b, off, rfl, hc⟩ := ha3 (by omega)
      obtain ⟨u, c1, ⟨au, cu, rfl, hu1, hu2, hu3, hu4⟩, htidy⟩ := hc k hlt
      clear hc ha3
      have HF := hide hf
      clear hf
      generalize hM : (ls.take k).flatten.length = M at *
      have HM := hide hM
      clear hM
      generalize hT : (tx ls k).length = T at *
      have HT := hide hT
      clear hT
      go_wp2
      go_round
      case rel => exact ⟨k + 1, by omega, by go_num, vint (by rw [HF.out, List.length_append, HM.out, HT.out]; simp)⟩
      case measure => simp [intOf]; omega
    · have hkl : k = ls.length := by omega
      subst hkl
      rw [List.take_of_length_le (Nat.le_refl _)]
      generalize hM : ls.flatten.length = M at *
      have HM := hide hM
      clear hM
      go_wp2_with fail
      refine (room8_any M _ (by omega)).mono ?_
      rintro e w1 ⟨v, rfl, ⟨ho, _⟩, hb⟩
      go_wp2
      go_loopw [6, 24] (fun v i wr => ∃ k : Nat, k ≤ ls.length ∧ i = .int .i64 k ∧ wr.ownsRow w.heap.size 5 1 v (ls.take k).flatten.length (vals .u8 (ls.take k).flatten) ∧ Below w.heap.size w wr) (fun _ i _ => ls.length - (intOf i).toNat)
      case atStart => exact ⟨0, Nat.zero_le _, rfl, ho, hb⟩
      case round =>
        obtain ⟨k, hk, rfl, how, hbr⟩ := hrel
        clear ho hb
        by_cases hlt : k < ls.length
        · have hf := flat_succ hlt
          have hle := flat_le ls (k + 1)
          rw [hf, List.length_append, HM.out] at hle
          obtain ⟨a2, ca2, he, _, _, h3⟩ := ha'.below hbr
          obtain ⟨rfl, rfl⟩ : a = a2 ∧ ca = ca2 := by simpa using he
          obtain ⟨b, off, rfl, hc⟩ := h3 (by omega)
          obtain ⟨u, c1, ⟨au, cu, rfl, hu1, hu2, hu3, hu4⟩, htidy⟩ := hc k hlt
          clear hc h3 he ha3
          have hsz := hbr.size
          have HF := hide hf
          clear hf
          generalize hM2 : (ls.take k).flatten = M2 at *
          have HM2 := hide hM2
          clear hM2
          generalize hT : tx ls k = T at *
          have HT := hide hT
          clear hT
          cases au with
          | none =>
            obtain ⟨h0, rfl⟩ := htidy _ _ rfl
            have hT0 : T = [] := List.eq_nil_of_length_eq_zero h0
            subst hT0
            go_wp2_with (first | (at_builtin; refine wpList_append_own_none rfl _ _ 23 rfl w.heap.size 5 i0 1 Tryd.underlying23 hi _ _ _ rfl how rfl ?_) | fail)
            go_roundw
            case rel => exact ⟨k + 1, by omega, by go_num, by rw [HF.out, List.append_nil]; exact how, hbr⟩
            case measure => simp [intOf]; omega
          | some x =>
            go_wp2_with (first | (at_builtin; refine wpList_append_own _ rfl _ _ 23 rfl w.heap.size 5 i0 (.int .u8 0) 1 1 Tryd.underlying23 hi hz0 hz1 hz2 rfl (by decide) _ _ _ rfl how x T.length cu (vals .u8 T) rfl (by rw [vals_length, Nat.mul_one]) (cells_news hu3) (vals_one _ _) (by unfold maxLen; omega) (by omega) hsz ?_; intro v' w3 how' hgrow _) | fail)
            have hb3 := below_append' hbr hsz how hgrow
            clear how hgrow hbr
            go_roundw
            case rel => exact ⟨k + 1, by omega, by go_num, by rw [HF.out, List.length_append, vals_append]; exact how', hb3⟩
            case measure => simp [intOf]; omega
        · go_wp2
          go_ret
          rw [List.take_of_length_le (by omega)] at how
          exact ⟨_, rfl, ⟨how, hu⟩, hbr⟩
end Go.Proofs.YtogiballdmgcpaaDoor

/- Parts of a text, nil or not. -/
namespace Go.Proofs.YtogiballdmgcpaaDoor
open Go.RowKit
set_option linter.unusedVariables false
set_option linter.unusedSimpArgs false

theorem slice_to (ba : Option Addr) (n bc F : Nat) (hF : F ≤ bc) (w : World) : (Instr.slice 23 (.slice ba n bc) none (some (.int .i64 (F : Int))) none).run Tryd.prog w = .ok (.slice ba F bc) w := by
  obtain ⟨i0, hi0, _, hz1, _⟩ := info_parts Tryd.info5
  have h : (F : Int) ≤ (bc : Int) := by omega
  cases ba <;> simp [Instr.slice, Instr.sliceBounds, Instr.sliceBound, asIntOf, Sem.run_bind, run_underlying Tryd.underlying23, h, hF, sizeOf, typeInfo, hi0, hz1, Addr.add]
theorem own_any (A : Option Addr) (n c n' c' : Nat) : (Value.slice A n c).ownBlock = (Value.slice A n' c').ownBlock := by cases A <;> rfl
theorem Tidy.to {ba : Option Addr} {n bc F : Nat} (h : Tidy (.slice ba n bc)) (hF : F ≤ n) : Tidy (.slice ba F bc) := fun m c he => by
  simp only [Value.slice.injEq] at he
  obtain ⟨rfl, rfl, rfl⟩ := he
  obtain ⟨rfl, rfl⟩ := h _ _ rfl
  omega
theorem Away.to {g : Nat} {ba : Option Addr} {n bc F c' : Nat} {b : List Nat} (h : Away g (.slice ba n bc) b) : Away g (.slice ba F c') (b.take F) := fun hp q hq => h (by rw [List.length_take] at hp; omega) q (by rw [own_any _ _ _ F c']; exact hq)
/-- a sum's eleven cells, whatever they hold -/
def El (w : World) (o : Nat) : Prop := ∃ cs : Array Value, cs.size = 11 ∧ w.heap[o]? = some (.cells cs 111 (0, 0))
theorem Hb.elev {w : World} {q : Nat} {kind : Int} {ws : List Nat} {tv : Value} {size : Nat} (h : Hb w q kind ws tv size) : El w q := ⟨_, rfl, h⟩
theorem El.lt {w : World} {o : Nat} (h : El w o) : o < w.heap.size := by
  obtain ⟨cs, _, h⟩ := h
  rcases Nat.lt_or_ge o w.heap.size with hlt | hge
  · exact hlt
  · rw [Array.getElem?_eq_none hge] at h; cases h
theorem El.cell {w : World} {o : Nat} (h : El w o) {i : Nat} (hi : i < 11) : w.cell? ⟨o, i, none⟩ = some (rdc w ⟨o, i, none⟩) := by
  obtain ⟨cs, hs, h⟩ := h
  unfold rdc
  rw [cell_of_row w o i _ _ (0, 0) h, Array.getElem?_eq_getElem (by omega)]; rfl
theorem El.frozen {w : World} {o : Nat} (h : El w o) (i : Nat) : w.frozen? ⟨o, i, none⟩ = false := by
  obtain ⟨cs, hs, h⟩ := h
  simp [World.frozen?, h]
theorem El.below {w w' : World} {o : Nat} (h : El w o) (hb : Below w.heap.size w w') : El w' o := by
  have hl := h.lt
  obtain ⟨cs, hs, h⟩ := h
  exact ⟨cs, hs, (hb.block o hl).trans h⟩
theorem El.but {w w' : World} {o g : Nat} (h : El w o) (hb : But g w w') (hn : o ≠ g) : El w' o := by
  have hl := h.lt
  obtain ⟨cs, hs, h⟩ := h
  exact ⟨cs, hs, (hb.block o hl hn).trans h⟩
theorem El.set {w : World} {o : Nat} (h : El w o) (i : Nat) (v : Value) : El (w.setCell ⟨o, i, none⟩ v) o := by
  obtain ⟨cs, hs, h⟩ := h
  refine ⟨cs.setIfInBounds i v, by simpa using hs, ?_⟩
  rw [setCell_eq_setRow w o i _ _ (0, 0) _ h]
  exact setRow_heap w o _ _ _ _ h
theorem El.full {w : World} {o : Nat} (h : El w o) (v0 v1 v2 v3 v4 v5 v6 v7 v8 v9 v10 : Value) : (((((((((((w.setCell ⟨o, 0, none⟩ v0).setCell ⟨o, 1, none⟩ v1).setCell ⟨o, 2, none⟩ v2).setCell ⟨o, 3, none⟩ v3).setCell ⟨o, 4, none⟩ v4).setCell ⟨o, 5, none⟩ v5).setCell ⟨o, 6, none⟩ v6).setCell ⟨o, 7, none⟩ v7).setCell ⟨o, 8, none⟩ v8).setCell ⟨o, 9, none⟩ v9).setCell ⟨o, 10, none⟩ v10).heap[o]? = some (.cells #[v0, v1, v2, v3, v4, v5, v6, v7, v8, v9, v10] 111 (0, 0)) := by
  obtain ⟨cs, hs, h⟩ := h
  have st : ∀ (w : World) (cur : Array Value) (i : Nat) (v : Value), w.heap[o]? = some (.cells cur 111 (0, 0)) → (w.setCell ⟨o, i, none⟩ v).heap[o]? = some (.cells (cur.setIfInBounds i v) 111 (0, 0)) := fun w cur i v h => by
    rw [setCell_eq_setRow w o i _ _ (0, 0) _ h]; exact setRow_heap w o _ _ _ _ h
  have e : (((((((((((cs.setIfInBounds 0 v0).setIfInBounds 1 v1).setIfInBounds 2 v2).setIfInBounds 3 v3).setIfInBounds 4 v4).setIfInBounds 5 v5).setIfInBounds 6 v6).setIfInBounds 7 v7).setIfInBounds 8 v8).setIfInBounds 9 v9).setIfInBounds 10 v10) = #[v0, v1, v2, v3, v4, v5, v6, v7, v8, v9, v10] := by
    apply Array.toList_inj.1
    simp only [Array.toList_setIfInBounds]
    have hl : cs.toList.length = 11 := by simpa using hs
    generalize cs.toList = l at hl
    match l, hl with
    | [_, _, _, _, _, _, _, _, _, _, _], _ => rfl
  rw [← e]
  exact st _ _ 10 v10 (st _ _ 9 v9 (st _ _ 8 v8 (st _ _ 7 v7 (st _ _ 6 v6 (st _ _ 5 v5 (st _ _ 4 v4 (st _ _ 3 v3 (st _ _ 2 v2 (st _ _ 1 v1 (st _ _ 0 v0 (h)))))))))))
theorem Hb.all {w : World} {q : Nat} {kind : Int} {ws : List Nat} {tv : Value} {size : Nat} (h : Hb w q kind ws tv size) : w.cell? ⟨q, 0, none⟩ = some (.int .i64 kind) ∧ w.cell? ⟨q, 1, none⟩ = some (.int .u64 (el ws 0)) ∧ w.cell? ⟨q, 2, none⟩ = some (.int .u64 (el ws 1)) ∧ w.cell? ⟨q, 3, none⟩ = some (.int .u64 (el ws 2)) ∧ w.cell? ⟨q, 4, none⟩ = some (.int .u64 (el ws 3)) ∧ w.cell? ⟨q, 5, none⟩ = some (.int .u64 (el ws 4)) ∧ w.cell? ⟨q, 6, none⟩ = some (.int .u64 (el ws 5)) ∧ w.cell? ⟨q, 7, none⟩ = some (.int .u64 (el ws 6)) ∧ w.cell? ⟨q, 8, none⟩ = some (.int .u64 (el ws 7)) ∧ w.cell? ⟨q, 9, none⟩ = some tv ∧ w.cell? ⟨q, 10, none⟩ = some (.int .u64 size) :=
  ⟨h.kind, h.word (i := 0) (by decide), h.word (i := 1) (by decide), h.word (i := 2) (by decide), h.word (i := 3) (by decide), h.word (i := 4) (by decide), h.word (i := 5) (by decide), h.word (i := 6) (by decide), h.word (i := 7) (by decide), h.tail, h.size⟩
theorem Hb.frozen {w : World} {q : Nat} {kind : Int} {ws : List Nat} {tv : Value} {size : Nat} (h : Hb w q kind ws tv size) (i : Nat) : w.frozen? ⟨q, i, none⟩ = false := h.elev.frozen i
end Go.Proofs.YtogiballdmgcpaaDoor

/- Contract of sha.state.bytes at words of 32 bits. -/
namespace Go.Proofs.YtogiballdmgcpaaDoor
open Go.RowKit
set_option linter.unusedVariables false
set_option linter.unusedSimpArgs false

set_option maxHeartbeats 4000000 in
set_option maxRecDepth 100000 in
theorem bytes_any32 (l : List Nat) (N : Nat) (w : World) (h8 : l.length = 8) (hu : Under 4294967296 l) (hN : N ≤ 32) :
    Calls Tryd.prog 85 #[.agg (arr .u32 l), .int .i64 N] w fun e w' => ∃ v, e = .returned v ∧ Own 5 .u8 256 w' w.heap.size v ((bytesW false l).take N) ∧ Below w.heap.size w w' := by
  obtain ⟨i0, hi, hz0, hz1, hz2⟩ := info_parts Tryd.info5
  have hlen : ((bytesW false l).take N).length = N := by rw [List.length_take, bytesW_length, h8]; show min N (8 * 4) = N; omega
  have hBu : Under 256 ((bytesW false l).take N) := (bytesW_under false l).take N
  have hel : ∀ i, i < N → el ((bytesW false l).take N) i = el l (i / 4) / 256 ^ (4 - 1 - i % 4) % 256 := fun i hi => by
    rw [el_take hi, bytesW_el _ _ _ (by rw [h8]; show i < 8 * 4; omega)]; rfl
  have HEL := hide hel
  clear hel
  have hL := Lies.new .u32 120 w l
  go_enter Tryd.func85, Tryd.ntmps85
  go_wp2_with (first | (at_make; refine wpList_make_full _ rfl _ _ 23 rfl w.heap.size 5 i0 (.int .u8 0) 1 Tryd.underlying23 hi hz0 hz1 _ _ _ _ N rfl rfl rfl rfl (by rw [hz2]; omega) (by unfold maxLen; omega) (by simp) ?_; intro w1 hown hgrow) | fail)
  rw [made_u8] at hown
  have hb := (Below.refl (w.alloc (.cells (arr .u32 l) 120)).heap.size (w.alloc (.cells (arr .u32 l) 120))).grown hgrow (Nat.le_refl _) (fun k h => by cases h)
  have hL1 := hL.below hb
  have hb1 := keep_trans (keep_alloc w _) hb
  clear hgrow hL hb
  refine (either_int32 _ _ _).mono ?_
  rintro e w2 ⟨rfl, rfl⟩
  go_wp2
  generalize hO : (bytesW false l).take N = O at *
  have HO := hide hO
  clear hO
  have hown0 : w2.ownsRow w.heap.size 5 1 (.slice (some ⟨w.heap.size + 1, 0, none⟩) N N) N (vals .u8 (pad N (O.take 0))) := by simpa [pad] using hown
  clear hown
  go_loopw [13] (fun i wr => ∃ k : Nat, k ≤ N ∧ i = .int .i64 k ∧ wr.ownsRow w.heap.size 5 1 (.slice (some ⟨w.heap.size + 1, 0, none⟩) N N) N (vals .u8 (pad N (O.take k))) ∧ Lies .u32 120 wr w.heap.size l ∧ Below w.heap.size w wr) (fun i _ => N - (intOf i).toNat)
  case atStart => exact ⟨0, Nat.zero_le _, rfl, hown0, hL1, hb1⟩
  case round =>
    obtain ⟨k, hk, rfl, how, hLk, hbr⟩ := hrel
    clear hown0 hL1 hb1
    by_cases hlt : k < N
    · have htl : (O.take k).length = k := by rw [List.length_take]; omega
      have hpl : (pad N (O.take k)).length = N := pad_length (by omega)
      have c1 := how.cellAt k (by omega)
      rw [vals_get _ _ _ (by omega)] at c1
      have f1 := how.frozenAt k
      have hst := (how.stored k (.int .u8 ((el O k : Nat) : Int))).1
      have hse := pad_set (n := N) (l := O.take k) (by omega) (el O k)
      rw [htl, ← take_el (by omega)] at hse
      rw [vals_set, hse] at hst
      have HST := hide hst
      have c2 := hLk.cell (i := k / 4) (by omega)
      have hkl : el l (k / 4) < 4294967296 := el_lt hu (by decide) _
      have HK := HEL.out k hlt
      have HKH := hide HK
      clear hst hse HK htl hpl
      have ik0 : (0 : Int) ≤ (k : Int) := Int.natCast_nonneg _
      have ik1 : (k : Int) < (N : Int) := by omega
      obtain ⟨q, hq⟩ : ∃ q, q = k / 4 := ⟨_, rfl⟩
      obtain ⟨r, hr⟩ : ∃ r, r = 4 - 1 - k % 4 := ⟨_, rfl⟩
      have k1 : (k : Int).tdiv 4 = (q : Int) := by rw [hq]; rfl
      have k2 : (k : Int) / 4 = (q : Int) := by rw [hq]; omega
      have k3 : IntKind.i64.wrap (q : Int) = (q : Int) := by rw [IntKind.wrap_i64]; omega
      have k4 : (q : Int) < 8 := by omega
      have k5 : (0 : Int) ≤ (q : Int) := Int.natCast_nonneg _
      have k6 : (k : Int).tmod 4 = 3 - (r : Int) := by rw [hr]; have : (k : Int).tmod 4 = ((k % 4 : Nat) : Int) := rfl; rw [this]; omega
      have k7 : (k : Int) % 4 = 3 - (r : Int) := by omega
      have k8 : q < 8 := by omega
      have k9 : r < 4 := by omega
      rw [← hq] at c2 hkl
      have HQ := hide hq
      have HR := hide hr
      clear hq hr
      go_wp2
      go_region
      go_wp2
      have ev : (el l q : Int) / 2 ^ (8 * (3 - (3 - r))) % 256 = ((el O k : Nat) : Int) := by
        rw [show 3 - (3 - r) = r by omega, byte_shr, HKH.out, ← HQ.out, ← HR.out]
      rw [ev]
      exact ⟨⟨k + 1, by omega, by go_num, HST.out, hLk.but ((But.setCell (But.refl (w.heap.size + 1) _) _ _).drew) (by omega), (hbr.setCell (by simp) _).drew⟩, by simp [intOf]; omega⟩
    · obtain rfl : k = N := by omega
      rw [List.take_of_length_le (by omega), pad_full hlen] at how
      go_wp2
      go_ret
      exact ⟨_, rfl, by rw [HO.out]; exact ⟨by rw [hlen]; exact how, hBu⟩, hbr⟩
end Go.Proofs.YtogiballdmgcpaaDoor

/- sha.resume, of the words as a sum holds them. -/
namespace Go.Proofs.YtogiballdmgcpaaDoor
open Go.RowKit
set_option linter.unusedVariables false
set_option linter.unusedSimpArgs false

theorem block_keep32 (v : Value) (w : World) :
    Calls Tryd.prog 84 #[v] w fun e w' => e = .returned (.int .i64 64) ∧ w = w' :=
  (block_any32 v w).mono fun _ _ ⟨h1, h2⟩ => ⟨h1, h2.symm⟩
theorem head_range32 {k : IntKind} {t : TypeId} {w : World} {g : Nat} {l c : List Nat} (h : Lies k t w g (l ++ c)) : w.rangeAt g 0 (vals k l) := fun j v hv => by
  have hj : j < l.length := by have := (List.getElem?_eq_some_iff.1 hv).1; rwa [vals_length] at this
  rw [Nat.zero_add, h.cell (by rw [List.length_append]; omega), el_app_left hj, ← vals_get k l j hj]; exact hv
theorem resume_is32 (ws : List Nat) (w : World) (h8 : ws.length = 8) (hu : Under 4294967296 ws) :
    Calls Tryd.prog 82 #[.agg #[.int .u64 (el ws 0), .int .u64 (el ws 1), .int .u64 (el ws 2), .int .u64 (el ws 3), .int .u64 (el ws 4), .int .u64 (el ws 5), .int .u64 (el ws 6), .int .u64 (el ws 7)], .agg (vals .u64 cubes).toArray] w fun e w' => ∃ g, e = .returned (.pointer (some ⟨g, 0, none⟩)) ∧ w.heap.size ≤ g ∧ Sm32 w' g ws (ks false) ∧ Below w.heap.size w w' := by
  rw [← arr8 .u64 ws h8]
  exact resume_any32 ws cubes w h8 hu cubes_length cubes_under

end Go.Proofs.YtogiballdmgcpaaDoor

/- Contract of sha.finish at words of 32 bits. -/
namespace Go.Proofs.YtogiballdmgcpaaDoor
open Go.RowKit
set_option linter.unusedVariables false
set_option linter.unusedSimpArgs false

theorem room_le32 (n : Nat) : 8 ≤ room false n ∧ room false n ≤ 128 := by
  unfold room
  have e : bz false = 64 := rfl
  rw [e]
  split <;> omega
theorem endS_is32 (ws l : List Nat) (size n : Nat) : (bytesW false (eat false (eat false ws l) (left false l ++ fill false l.length size))).take n = endS false ws l size n := by
  unfold endS
  rw [eat_parts false ws l (fill false l.length size)]
set_option maxHeartbeats 8000000 in
set_option maxRecDepth 100000 in
theorem finish_any32 (kind : Int) (ws : List Nat) (tv : Value) (tl : List Nat) (size N : Nat) (w : World) (hT : Roots w) (h8 : ws.length = 8) (hu : Under 4294967296 ws) (hRt : Row .u8 256 w tv tl) (tT : Tidy tv) (htl : tl.length ≤ 100000) (hsz : size < 1152921504606846976) (hN : N ≤ 32) :
    Calls Tryd.prog 77 #[.agg (hv kind ws tv size), .int .i64 N] w fun e w' => ∃ v', e = .returned v' ∧ Own 5 .u8 256 w' w.heap.size v' (endS false ws tl size N) ∧ Below w.heap.size w w' := by
  have hb0 := keep_alloc w (.cells (hv kind ws tv size) 111)
  have hT0 := (hT.below hb0).1
  have hH0 := Hb.new w kind ws tv size
  obtain ⟨ta, tc, rfl⟩ := hRt.form
  have HH := hide hH0
  have HB := hide hb0
  clear hH0 hb0
  have huv : hv kind ws (.slice ta tl.length tc) size = #[.int .i64 kind, .int .u64 (el ws 0), .int .u64 (el ws 1), .int .u64 (el ws 2), .int .u64 (el ws 3), .int .u64 (el ws 4), .int .u64 (el ws 5), .int .u64 (el ws 6), .int .u64 (el ws 7), .slice ta tl.length tc, .int .u64 size] := rfl
  rw [huv]
  clear huv
  go_enter Tryd.func77, Tryd.ntmps77
  go_wp2_with (first
    | (refine wpList_load_mid rfl 131 _ (by rfl) 1 0 (by rfl) (vals .u64 cubes) (.array 80 26) hT0 (by kernel_rfl) rfl (by kernel_rfl) ?_)
    | fail)
  refine (resume_is32 ws _ h8 hu).mono ?_
  rintro e w1 ⟨g, rfl, hg, hS1, hb1⟩
  have hW2 : w.heap.size + 1 ≤ g := by have := hg; simp at this; omega
  have hge : w.heap.size ≠ g := by omega
  have hH1 := HH.out.below hb1
  have hbw := keep_trans HB.out hb1
  have hRt1 := hRt.below hbw
  have hAt : Away g (.slice ta tl.length tc) tl := hRt.away (by omega)
  have c9 := hH1.tail
  clear HH HB hb1 hg
  go_wp2_with fail
  refine (take_any32 g ws tl _ w1 hS1 h8 hu hRt1 hAt tT (by omega)).mono ?_
  rintro e w2 ⟨⟨v2, rfl, hR2, hA2, hT2⟩, hS2, hB2⟩
  obtain ⟨a2, c2, rfl⟩ := hR2.form
  have hH2 := hH1.but hB2 hge
  have hbw2 : Below w.heap.size w w2 := hbw.trans (hB2.below (by omega) hbw.size)
  have hll : (left false tl).length = tl.length % 64 := left_length false tl
  have hlt := left_lt false tl
  have hbz : bz false = 64 := rfl
  rw [hbz] at hlt
  have he8 := eat_len (b := false) tl h8
  have heu := eat_under (b := false) tl hu
  obtain ⟨R, hR⟩ : ∃ R, R = 64 - (left false tl).length - 1 := ⟨_, rfl⟩
  have hrm : room false tl.length = if R < 8 then R + 64 else R := by
    unfold room
    rw [hbz, ← hll, ← hR]
  have hRb : R < 64 := by omega
  have HL := hide hll
  generalize hn2 : (left false tl).length = n2 at *
  have HN2 := hide hn2
  have y1 : (64 : Int) - (n2 : Int) = ((R + 1 : Nat) : Int) := by omega
  have y2 : ((R + 1 : Nat) : Int) - 1 = (R : Int) := by omega
  have HR := hide hR
  have HRM := hide hrm
  have hrr := room_le32 tl.length
  clear hR hrm c9 hH1 hbw hRt1 hAt hS1 hB2 hbz hll hn2
  obtain ⟨Q, hQ⟩ : ∃ Q, Q = R + 1 := ⟨_, rfl⟩
  rw [← hQ] at y1 y2
  have hQb : Q ≤ 64 := by omega
  have c10 := hH2.size
  have hm8 : (8 : Int) * (size : Int) = ((8 * size : Nat) : Int) := by omega
  obtain ⟨bs, hbs⟩ : ∃ bs, bs = 8 * size := ⟨_, rfl⟩
  rw [← hbs] at hm8
  have hbw8 : IntKind.u64.wrap (bs : Int) = (bs : Int) := by rw [IntKind.wrap_u64]; omega
  have hbsb : bs < 18446744073709551616 := by omega
  have HBS := hide hbs
  clear hQ hbs
  have key : ∀ (M : Nat) , M = room false tl.length → fill false tl.length size = [128] ++ (leL bs M).reverse := fun M hM => by unfold fill; rw [HBS.out, hM]
  have HKEY := hide key
  clear key
  by_cases hr8 : R < 8
  · skip
    obtain ⟨M, hM⟩ : ∃ M, M = R + 64 := ⟨_, rfl⟩
    have hMi : (R : Int) + 64 = (M : Int) := by omega
    have hMr : M = room false tl.length := by rw [HRM.out, if_pos hr8, hM]
    have hr8i : (R : Int) < 8 := by omega
    have hfl0 := HKEY.out M hMr
    have hMb : 8 ≤ M ∧ M ≤ 128 := by omega
    clear hM hMr
    have hleS : (leS bs (M : Int)).reverse = (leL bs M).reverse := by unfold leS; rw [if_neg (by omega), Int.toNat_natCast]
    have hl3 : (leL bs M).reverse.length = M := by rw [List.length_reverse, leL_length]
    generalize (leL bs M).reverse = L3 at *
    have HFL := hide hfl0
    have HL3 := hide hl3
    clear hfl0 hl3
    have c10' : (w2.alloc (.cells #[.int .u8 128] 5)).cell? ⟨w.heap.size, 10, none⟩ = some (.int .u64 size) := keep_cell c10 (keep_alloc _ _)
    have h128 : Row .u8 256 (w2.alloc (.cells #[.int .u8 128] 5)) (.slice (some ⟨w2.heap.size, 0, none⟩) 1 1) [128] := lit_row .u8 256 w2 [128] 5 (Under.one (by decide)) (by unfold maxLen; decide)
    go_wp2_with (first
      | (go_at_call 84; refine (block_keep32 _ _).mono ?_; rintro e w9 ⟨rfl, rfl⟩)
      | (go_at_call 60; refine (be_any bs (M : Int) _ hbsb (by omega) (by omega)).mono ?_; rintro e w3 ⟨v3, rfl, hO3, hb3⟩; rw [hleS] at hO3; obtain ⟨a3, c3, rfl⟩ := hO3.row.form)
      | (go_at_call 33; refine (join_any _ [left false tl, [128], L3] _ (rows_lit3 (hR2.below (keep_trans (keep_alloc _ _) hb3)) (h128.below hb3) hO3.row hT2 (tidy_at _ _ _) hO3.tidy) (by have := hMb.2; have := HN2.out; have := HL3.out; simp; omega)).mono ?_; rintro e w4 ⟨v4, rfl, hO4, hb4⟩; have hfe : ([left false tl, [128], L3] : List (List Nat)).flatten = left false tl ++ fill false tl.length size := (by rw [HFL.out]; simp); rw [hfe] at hO4; clear hfe)
      | (go_at_call 83; refine (take_any32 g _ _ _ w4 ((hS2.below (keep_trans (keep_alloc w2 _) hb3)).alloc _ |>.below hb4) he8 heu hO4.row (hO4.away (by have := hS2.lt; have := hb3.size; simp at *; omega)) hO4.tidy (by have := hMb.2; have := HN2.out; have := HL3.out; rw [HFL.out]; simp; omega)).mono ?_; rintro e w5 ⟨⟨v5, rfl, hR5, hA5, hT5⟩, hS5, hB5⟩; have hq8 := eat_len (b := false) (left false tl ++ fill false tl.length size) he8; have hqu := eat_under (b := false) (left false tl ++ fill false tl.length size) heu; have hrg := head_range32 hS5)
      | (refine wpList_load_mid rfl 120 _ (by rfl) g 0 (by rfl) _ (.array 8 39) hrg (by kernel_rfl) rfl (by rw [vals_length, hq8]; kernel_rfl) ?_)
      | (go_at_call 85; refine (bytes_any32 _ N w5 hq8 hqu hN).mono ?_; rintro e w6 ⟨v6, rfl, hO6, hb6⟩)
      | fail)
    have hbw4 : Below w.heap.size w w4 := keep_trans hbw2 (keep_trans (keep_trans (keep_alloc w2 _) hb3) (keep_trans (keep_alloc w3 _) hb4))
    have hbw5 := hbw4.trans (hB5.below (by omega) hbw4.size)
    rw [endS_is32] at hO6
    go_ret
    exact ⟨_, rfl, hO6.mono hbw5.size, keep_trans hbw5 hb6⟩
  · skip
    obtain ⟨M, hM⟩ : ∃ M, M = R := ⟨_, rfl⟩
    have hMr : M = room false tl.length := by rw [HRM.out, if_neg hr8, hM]
    have hr8i : ¬ (R : Int) < 8 := by omega
    subst hM
    have hfl0 := HKEY.out M hMr
    have hMb : 8 ≤ M ∧ M ≤ 128 := by omega
    clear hMr
    have hleS : (leS bs (M : Int)).reverse = (leL bs M).reverse := by unfold leS; rw [if_neg (by omega), Int.toNat_natCast]
    have hl3 : (leL bs M).reverse.length = M := by rw [List.length_reverse, leL_length]
    generalize (leL bs M).reverse = L3 at *
    have HFL := hide hfl0
    have HL3 := hide hl3
    clear hfl0 hl3
    have c10' : (w2.alloc (.cells #[.int .u8 128] 5)).cell? ⟨w.heap.size, 10, none⟩ = some (.int .u64 size) := keep_cell c10 (keep_alloc _ _)
    have h128 : Row .u8 256 (w2.alloc (.cells #[.int .u8 128] 5)) (.slice (some ⟨w2.heap.size, 0, none⟩) 1 1) [128] := lit_row .u8 256 w2 [128] 5 (Under.one (by decide)) (by unfold maxLen; decide)
    go_wp2_with (first
      | (go_at_call 84; refine (block_keep32 _ _).mono ?_; rintro e w9 ⟨rfl, rfl⟩)
      | (go_at_call 60; refine (be_any bs (M : Int) _ hbsb (by omega) (by omega)).mono ?_; rintro e w3 ⟨v3, rfl, hO3, hb3⟩; rw [hleS] at hO3; obtain ⟨a3, c3, rfl⟩ := hO3.row.form)
      | (go_at_call 33; refine (join_any _ [left false tl, [128], L3] _ (rows_lit3 (hR2.below (keep_trans (keep_alloc _ _) hb3)) (h128.below hb3) hO3.row hT2 (tidy_at _ _ _) hO3.tidy) (by have := hMb.2; have := HN2.out; have := HL3.out; simp; omega)).mono ?_; rintro e w4 ⟨v4, rfl, hO4, hb4⟩; have hfe : ([left false tl, [128], L3] : List (List Nat)).flatten = left false tl ++ fill false tl.length size := (by rw [HFL.out]; simp); rw [hfe] at hO4; clear hfe)
      | (go_at_call 83; refine (take_any32 g _ _ _ w4 ((hS2.below (keep_trans (keep_alloc w2 _) hb3)).alloc _ |>.below hb4) he8 heu hO4.row (hO4.away (by have := hS2.lt; have := hb3.size; simp at *; omega)) hO4.tidy (by have := hMb.2; have := HN2.out; have := HL3.out; rw [HFL.out]; simp; omega)).mono ?_; rintro e w5 ⟨⟨v5, rfl, hR5, hA5, hT5⟩, hS5, hB5⟩; have hq8 := eat_len (b := false) (left false tl ++ fill false tl.length size) he8; have hqu := eat_under (b := false) (left false tl ++ fill false tl.length size) heu; have hrg := head_range32 hS5)
      | (refine wpList_load_mid rfl 120 _ (by rfl) g 0 (by rfl) _ (.array 8 39) hrg (by kernel_rfl) rfl (by rw [vals_length, hq8]; kernel_rfl) ?_)
      | (go_at_call 85; refine (bytes_any32 _ N w5 hq8 hqu hN).mono ?_; rintro e w6 ⟨v6, rfl, hO6, hb6⟩)
      | fail)
    have hbw4 : Below w.heap.size w w4 := keep_trans hbw2 (keep_trans (keep_trans (keep_alloc w2 _) hb3) (keep_trans (keep_alloc w3 _) hb4))
    have hbw5 := hbw4.trans (hB5.below (by omega) hbw4.size)
    rw [endS_is32] at hO6
    go_ret
    exact ⟨_, rfl, hO6.mono hbw5.size, keep_trans hbw5 hb6⟩
end Go.Proofs.YtogiballdmgcpaaDoor
