/- Contract of the document's Add, of words of 32 bits. -/
import Derived.Test.YtogiballdmgcpaaGreatDoorGRk
import Derived.Test.YtogiballdmgcpaaGreatDoorNumLe
import Derived.Test.YtogiballdmgcpaaGreatDoorHRes64
import Derived.Test.YtogiballdmgcpaaGreatDoorHSl
import Derived.Test.YtogiballdmgcpaaGreatDoorHRes32
import Derived.Lib.MinMax
import Derived.Test.YtogiballdmgcpaaGreatDoorHN1
import Derived.Test.YtogiballdmgcpaaGreatDoorLsFrm
namespace Go.Proofs.YtogiballdmgcpaaGreatDoor
open Go.RowKit
set_option linter.unusedVariables false
set_option linter.unusedSimpArgs false

/-- where the document's Add stands behind some blocks -/
def RAdd32 (w : World) (kind : Int) (tv : Value) (N : Nat) (ws all : List Nat) (u : Value) (wr : World) : Prop := ∃ (L H : List Nat), L.length ≤ 200000 ∧ slen u = L.length ∧ Row .u8 256 wr u L ∧ Away w.heap.size u L ∧ Away (w.heap.size + 1) u L ∧ Tidy u ∧ Hb wr w.heap.size kind H tv N ∧ El wr (w.heap.size + 1) ∧ Below w.heap.size w wr ∧ eat false ws all = eat false H L ∧ left false all = left false L ∧ H.length = 8 ∧ Under 4294967296 H

set_option maxHeartbeats 8000000 in
set_option maxRecDepth 100000 in
theorem radd_any32 (kind : Int) (hk : wide kind = false) (ws : List Nat) (tv bv : Value) (tl b : List Nat) (size : Nat) (w : World) (h8 : ws.length = 8) (hu : Under 4294967296 ws) (hRt : Row .u8 256 w tv tl) (tT : Tidy tv) (hRb : Row .u8 256 w bv b) (tB : Tidy bv) (htl : tl.length ≤ 100000) (hbl : b.length ≤ 100000) (hsz : size < 1152921504606846976) :
    Calls Tryz.prog 112 #[.agg (hv kind ws tv size), bv] w fun e w' => ∃ v', e = .returned (.agg (hv kind (eat false ws (tl ++ b)) v' (size + b.length))) ∧ Row .u8 256 w' v' (left false (tl ++ b)) ∧ Tidy v' ∧ Below w.heap.size w w' := by
  have hblk : ∀ w, Calls Tryz.prog 122 #[.int .i64 kind] w fun e w' => e = .returned (.int .i64 64) ∧ w = w' := fun w => (rBlock_any kind w).mono fun _ _ ⟨h1, h2⟩ => ⟨by rw [h1, hk]; rfl, h2.symm⟩
  clear hk
  obtain ⟨ta, tc, rfl⟩ := hRt.form
  obtain ⟨ba, bc, rfl⟩ := hRb.form
  have hb0 : Below w.heap.size w ((w.alloc (.cells #[.int .i64 kind, .int .u64 (el ws 0), .int .u64 (el ws 1), .int .u64 (el ws 2), .int .u64 (el ws 3), .int .u64 (el ws 4), .int .u64 (el ws 5), .int .u64 (el ws 6), .int .u64 (el ws 7), .slice ta tl.length tc, .int .u64 size] 146)).alloc (.cells #[.int .i64 0, .int .u64 0, .int .u64 0, .int .u64 0, .int .u64 0, .int .u64 0, .int .u64 0, .int .u64 0, .int .u64 0, .slice none 0 0, .int .u64 0] 146)) := keep_trans (keep_alloc _ _) (keep_alloc _ _)
  have hH0 : Hb ((w.alloc (.cells #[.int .i64 kind, .int .u64 (el ws 0), .int .u64 (el ws 1), .int .u64 (el ws 2), .int .u64 (el ws 3), .int .u64 (el ws 4), .int .u64 (el ws 5), .int .u64 (el ws 6), .int .u64 (el ws 7), .slice ta tl.length tc, .int .u64 size] 146)).alloc (.cells #[.int .i64 0, .int .u64 0, .int .u64 0, .int .u64 0, .int .u64 0, .int .u64 0, .int .u64 0, .int .u64 0, .int .u64 0, .slice none 0 0, .int .u64 0] 146)) w.heap.size kind ws (.slice ta tl.length tc) size := (Hb.new w kind ws (.slice ta tl.length tc) size).below (keep_alloc _ _)
  have hO0 : El ((w.alloc (.cells #[.int .i64 kind, .int .u64 (el ws 0), .int .u64 (el ws 1), .int .u64 (el ws 2), .int .u64 (el ws 3), .int .u64 (el ws 4), .int .u64 (el ws 5), .int .u64 (el ws 6), .int .u64 (el ws 7), .slice ta tl.length tc, .int .u64 size] 146)).alloc (.cells #[.int .i64 0, .int .u64 0, .int .u64 0, .int .u64 0, .int .u64 0, .int .u64 0, .int .u64 0, .int .u64 0, .int .u64 0, .slice none 0 0, .int .u64 0] 146)) (w.heap.size + 1) := by
    have := (Hb.new (w.alloc (.cells (hv kind ws (.slice ta tl.length tc) size) 146)) 0 (List.replicate 8 0) (.slice none 0 0) 0).elev
    rw [World.size_alloc] at this
    exact this
  have hrt := hRt.below hb0
  have hrb := hRb.below hb0
  have hfl : ([tl, b] : List (List Nat)).flatten = tl ++ b := by simp
  have hjl : ([tl, b] : List (List Nat)).flatten.length ≤ 2000000 := by rw [hfl, List.length_append]; omega
  obtain ⟨N, hN⟩ : ∃ N, N = size + b.length := ⟨_, rfl⟩
  have hsum : (size : Int) + (b.length : Int) = (N : Int) := by omega
  have hwr : IntKind.u64.wrap (N : Int) = (N : Int) := by rw [IntKind.wrap_u64]; omega
  have hwr2 : IntKind.u64.wrap (b.length : Int) = (b.length : Int) := by rw [IntKind.wrap_u64]; omega
  have HN := hide hN
  have HO := hide hO0
  have HH := hide hH0
  have HB := hide hb0
  clear hN hO0 hH0 hb0
  have huv : hv kind ws (.slice ta tl.length tc) size = #[.int .i64 kind, .int .u64 (el ws 0), .int .u64 (el ws 1), .int .u64 (el ws 2), .int .u64 (el ws 3), .int .u64 (el ws 4), .int .u64 (el ws 5), .int .u64 (el ws 6), .int .u64 (el ws 7), .slice ta tl.length tc, .int .u64 size] := rfl
  rw [huv]
  clear huv
  go_enter Tryz.func112, Tryz.ntmps112
  go_wp2_with fail
  refine (hblk _).mono ?_
  rintro e w9 ⟨rfl, rfl⟩
  have hrr := rows_lit2 hrt hrb tT tB
  rw [World.size_alloc, World.size_alloc] at hrr
  go_wp2_with fail
  refine (rjoin_any _ [tl, b] _ hrr hjl).mono ?_
  rintro e w1 ⟨v1, rfl, hO1, hb1⟩
  rw [hfl] at hO1
  have hH1 := (HH.out.below (keep_alloc _ _)).below hb1
  have hE1 := (HO.out.below (keep_alloc _ _)).below hb1
  have hbw1 : Below w.heap.size w w1 := keep_trans (keep_trans HB.out (keep_alloc _ _)) hb1
  have hs1 : w.heap.size + 3 ≤ w1.heap.size := by have := hb1.size; simp at this; omega
  have hO1' : Own 5 .u8 256 w1 (w.heap.size + 2) v1 (tl ++ b) := hO1.mono (by simp)
  clear HH HO HB hb1 hrr hrt hrb hO1
  have z10 := hH1.size
  have f10 := hH1.frozen 10
  have hR1 := hO1'.row
  have hT1 := hO1'.tidy
  have hA1 : Away w.heap.size v1 (tl ++ b) := hO1'.away (by omega)
  have hA2 : Away (w.heap.size + 1) v1 (tl ++ b) := hO1'.away (by omega)
  obtain ⟨a1, c1, rfl⟩ := hR1.form
  have hH2 := hH1.setSize N
  have hBq : But w.heap.size w1 (w1.setCell ⟨w.heap.size, 10, none⟩ (.int .u64 (N : Int))) := (But.refl _ _).setCell 10 _
  have hR2 := hR1.but hA1 hBq
  have hE2 : El (w1.setCell ⟨w.heap.size, 10, none⟩ (.int .u64 (N : Int))) (w.heap.size + 1) := by
    obtain ⟨cs, h1, h2⟩ := hE1
    exact ⟨cs, h1, (hBq.block _ (by omega) (by omega)).trans h2⟩
  have hbw2 := hbw1.trans (hBq.below (Nat.le_refl _) hbw1.size)
  go_wp2
  generalize w1.setCell ⟨w.heap.size, 10, none⟩ (.int .u64 (N : Int)) = x2 at *
  rw [← List.length_append] at *
  clear hH1 hE1 hbw1 hs1 hR1 z10 f10 hBq
  go_loopw [6] (fun u wr => RAdd32 w kind (.slice ta tl.length tc) N ws (tl ++ b) u wr) (fun u _ => slen u)
  case atStart => exact ⟨tl ++ b, ws, by rw [List.length_append]; omega, rfl, hR2, hA1, hA2, hT1, hH2, hE2, hbw2, rfl, rfl, h8, hu⟩
  case round =>
    clear hR2 hA1 hA2 hT1 hH2 hE2 hbw2
    obtain ⟨L, H, hLl, hsl, hRL, hAL, hAL2, hTL, hHr, hEr, hbr, hE, hLf, hH8, hHu⟩ := hrel
    have HE := hide hE
    have HF := hide hLf
    have hlu := hRL.under
    clear hE hLf
    obtain ⟨a, cap, rfl, g1, g2, g3, g4⟩ := hRL
    have hRL : Row .u8 256 wr (.slice a L.length cap) L := ⟨a, cap, rfl, g1, g2, g3, g4⟩
    unfold maxLen at g2
    by_cases hlt : 64 ≤ L.length
    · obtain ⟨bb, off, rfl, hc⟩ := g3 (by omega)
      clear hc g3
      have hRt := hRL.cut (M := 64) hlt
      have hcl : (L.take 64).length = 64 := by rw [List.length_take]; omega
      have hC8 := comp_length false H (L.take 64)
      have hCu := comp_under false H (L.take 64)
      have hcall : ∀ w0, Below wr.heap.size wr w0 → Calls Tryz.prog 123 #[.agg #[.int .u64 (el H 0), .int .u64 (el H 1), .int .u64 (el H 2), .int .u64 (el H 3), .int .u64 (el H 4), .int .u64 (el H 5), .int .u64 (el H 6), .int .u64 (el H 7)], .slice (some ⟨bb, off, none⟩) 64 cap, .bool false] w0 fun e w' => e = .returned (.agg (arr .u64 (comp false H (L.take 64)))) ∧ Below w0.heap.size w0 w' := fun w0 h0 => by
        rw [← arr8 .u64 H hH8]
        exact rblock_any32 H (L.take 64) _ w0 (hRt.below h0) hcl hH8 hHu
      generalize hCC : comp false H (L.take 64) = C at *
      have HCC := hide hCC
      clear hCC
      rw [arr8 .u64 C hC8] at hcall
      obtain ⟨z0, z1, z2, z3, z4, z5, z6, z7, z8, z9, z10⟩ := hHr.all
      have hcp : (64 : Int) ≤ (cap : Int) := by omega
      have hcp2 : 64 ≤ cap := by omega
      go_wp2
      go_region_with (first | (go_at_call 123; refine (hcall _ (by first | exact Below.refl _ _ | exact (Below.refl _ _).drew)).mono ?_; rintro e w5 ⟨rfl, hb5⟩; have hb5 : Below wr.heap.size wr w5 := (by first | exact hb5 | exact un_drew hb5); have hH5 := hHr.below hb5; obtain ⟨y0, y1, y2, y3, y4, y5, y6, y7, y8, y9, y10⟩ := hH5.all; have p1 := hH5.frozen 1; have p2 := hH5.frozen 2; have p3 := hH5.frozen 3; have p4 := hH5.frozen 4; have p5 := hH5.frozen 5; have p6 := hH5.frozen 6; have p7 := hH5.frozen 7; have p8 := hH5.frozen 8))
      have hfw : Hb ((((((((w5.setCell ⟨w.heap.size, 1, none⟩ (.int .u64 (el C 0))).setCell ⟨w.heap.size, 2, none⟩ (.int .u64 (el C 1))).setCell ⟨w.heap.size, 3, none⟩ (.int .u64 (el C 2))).setCell ⟨w.heap.size, 4, none⟩ (.int .u64 (el C 3))).setCell ⟨w.heap.size, 5, none⟩ (.int .u64 (el C 4))).setCell ⟨w.heap.size, 6, none⟩ (.int .u64 (el C 5))).setCell ⟨w.heap.size, 7, none⟩ (.int .u64 (el C 6))).setCell ⟨w.heap.size, 8, none⟩ (.int .u64 (el C 7))) w.heap.size kind C (.slice ta tl.length tc) N := hH5.setWords C
      have hBB : But w.heap.size w5 ((((((((w5.setCell ⟨w.heap.size, 1, none⟩ (.int .u64 (el C 0))).setCell ⟨w.heap.size, 2, none⟩ (.int .u64 (el C 1))).setCell ⟨w.heap.size, 3, none⟩ (.int .u64 (el C 2))).setCell ⟨w.heap.size, 4, none⟩ (.int .u64 (el C 3))).setCell ⟨w.heap.size, 5, none⟩ (.int .u64 (el C 4))).setCell ⟨w.heap.size, 6, none⟩ (.int .u64 (el C 5))).setCell ⟨w.heap.size, 7, none⟩ (.int .u64 (el C 6))).setCell ⟨w.heap.size, 8, none⟩ (.int .u64 (el C 7))) := (But.setCell (But.setCell (But.setCell (But.setCell (But.setCell (But.setCell (But.setCell (But.setCell (But.refl w.heap.size w5) _ _) _ _) _ _) _ _) _ _) _ _) _ _) _ _)
      have hRf := (hRL.below hb5).but hAL hBB
      have hEf : El ((((((((w5.setCell ⟨w.heap.size, 1, none⟩ (.int .u64 (el C 0))).setCell ⟨w.heap.size, 2, none⟩ (.int .u64 (el C 1))).setCell ⟨w.heap.size, 3, none⟩ (.int .u64 (el C 2))).setCell ⟨w.heap.size, 4, none⟩ (.int .u64 (el C 3))).setCell ⟨w.heap.size, 5, none⟩ (.int .u64 (el C 4))).setCell ⟨w.heap.size, 6, none⟩ (.int .u64 (el C 5))).setCell ⟨w.heap.size, 7, none⟩ (.int .u64 (el C 6))).setCell ⟨w.heap.size, 8, none⟩ (.int .u64 (el C 7))) (w.heap.size + 1) := (hEr.below hb5).but hBB (by omega)
      have hbf : Below w.heap.size w ((((((((w5.setCell ⟨w.heap.size, 1, none⟩ (.int .u64 (el C 0))).setCell ⟨w.heap.size, 2, none⟩ (.int .u64 (el C 1))).setCell ⟨w.heap.size, 3, none⟩ (.int .u64 (el C 2))).setCell ⟨w.heap.size, 4, none⟩ (.int .u64 (el C 3))).setCell ⟨w.heap.size, 5, none⟩ (.int .u64 (el C 4))).setCell ⟨w.heap.size, 6, none⟩ (.int .u64 (el C 5))).setCell ⟨w.heap.size, 7, none⟩ (.int .u64 (el C 6))).setCell ⟨w.heap.size, 8, none⟩ (.int .u64 (el C 7))) := (hbr.trans (hb5.mono hbr.size)).trans (hBB.below (Nat.le_refl _) (by have := hbr.size; have := hb5.size; omega))
      clear hcp hcp2 y0 y1 y2 y3 y4 y5 y6 y7 y8 y9 y10 z0 z1 z2 z3 z4 z5 z6 z7 z8 z9 z10 p1 p2 p3 p4 p5 p6 p7 p8
      generalize ((((((((w5.setCell ⟨w.heap.size, 1, none⟩ (.int .u64 (el C 0))).setCell ⟨w.heap.size, 2, none⟩ (.int .u64 (el C 1))).setCell ⟨w.heap.size, 3, none⟩ (.int .u64 (el C 2))).setCell ⟨w.heap.size, 4, none⟩ (.int .u64 (el C 3))).setCell ⟨w.heap.size, 5, none⟩ (.int .u64 (el C 4))).setCell ⟨w.heap.size, 6, none⟩ (.int .u64 (el C 5))).setCell ⟨w.heap.size, 7, none⟩ (.int .u64 (el C 6))).setCell ⟨w.heap.size, 8, none⟩ (.int .u64 (el C 7))) = wf at *
      obtain ⟨A, hsf, hA⟩ := slice_from (some ⟨bb, off, none⟩) L.length cap 64 hlt g1
      have hbz : bz false = 64 := rfl
      have hdl : (L.drop 64).length = L.length - 64 := List.length_drop
      have k1 := hRf.behind hlt hA
      have k2 := hAL.behind (n' := L.length - 64) (c' := cap - 64) hA
      have k3 := hAL2.behind (n' := L.length - 64) (c' := cap - 64) hA
      have k4 := hTL.behind hlt hA
      have k5 : eat false ws (tl ++ b) = eat false C (L.drop 64) := by rw [HE.out, eat_step (by rw [hbz]; exact hlt), hbz, HCC.out]
      have k6 : left false (tl ++ b) = left false (L.drop 64) := by rw [HF.out, left_step (by rw [hbz]; exact hlt), hbz]
      have hrl : RAdd32 w kind (.slice ta tl.length tc) N ws (tl ++ b) (.slice A (L.length - 64) (cap - 64)) wf :=
        ⟨L.drop 64, C, by omega, by simp [slen], k1, k2, k3, k4, hfw, hEf, hbf, k5, k6, hC8, hCu⟩
      have hAe : A = if cap = 64 then some ⟨bb, off, none⟩ else some ⟨bb, off + 64, none⟩ := by
        have h1 := hsf wf
        obtain ⟨i0, hi0, _, hz1, _⟩ := info_parts Tryz.info5
        have h : (64 : Int) ≤ (L.length : Int) := by omega
        simp [Instr.slice, Instr.sliceBounds, Instr.sliceBound, asIntOf, Sem.run_bind, run_underlying Tryz.underlying23, h, hlt, sizeOf, typeInfo, hi0, hz1, Addr.add_lit] at h1
        exact h1.symm
      rw [hAe] at hrl
      have HRL := hide hrl
      clear hrl hAe hsf k1 k2 k3 k4 k5 k6 hfw hEf hbf hRf hA
      by_cases hc64 : cap = 64
      · have hrl := HRL.out
        rw [if_pos hc64] at hrl
        go_wp2
        go_roundw
        case rel => first | exact hrl | simpa [hc64] using hrl
        case measure => simp [slen]; omega
      · have hrl := HRL.out
        rw [if_neg hc64] at hrl
        go_wp2
        go_roundw
        case rel => first | exact hrl | simpa [hc64] using hrl
        case measure => simp [slen]; omega
    · have hl9 : left false (tl ++ b) = L := by rw [HF.out, left_short (by show _ < 64; omega)]
      have he9 : eat false ws (tl ++ b) = H := by rw [HE.out, eat_short (by show _ < 64; omega)]
      have HL9 := hide hl9
      have HE9 := hide he9
      clear hl9 he9
      have f9 := hHr.frozen 9
      have hH9 := hHr.setTail (.slice a L.length cap)
      have hB9 : But w.heap.size wr (wr.setCell ⟨w.heap.size, 9, none⟩ (.slice a L.length cap)) := (But.refl _ _).setCell 9 _
      have hE9 := hEr.but hB9 (by omega)
      have hb9 := hbr.trans (hB9.below (Nat.le_refl _) hbr.size)
      have hR9 := hRL.but hAL hB9
      have HB9 := hide hb9
      have HR9 := hide hR9
      clear hb9 hR9
      obtain ⟨old, ho1, ho2⟩ := hE9
      have hHn : (wr.setCell ⟨w.heap.size, 9, none⟩ (.slice a L.length cap)).heap[w.heap.size]? = some (.cells (hv kind H (.slice a L.length cap) N) 146 (0, 0)) := hH9
      have hsz11 : (hv kind H (.slice a L.length cap) N).size = 11 := rfl
      have hfu := setRow_heap (wr.setCell ⟨w.heap.size, 9, none⟩ (.slice a L.length cap)) (w.heap.size + 1) old (hv kind H (.slice a L.length cap) N) 146 _ ho2
      have hBf : But (w.heap.size + 1) (wr.setCell ⟨w.heap.size, 9, none⟩ (.slice a L.length cap)) ((wr.setCell ⟨w.heap.size, 9, none⟩ (.slice a L.length cap)).setRow (w.heap.size + 1) (hv kind H (.slice a L.length cap) N)) := (But.refl _ _).setRow _
      have c9 := hHr.tail
      have HFU := hide hfu
      have HBF := hide hBf
      clear hfu hBf hB9 hH9
      go_wp2_with (first
        | (refine wpList_load_row rfl 146 _ (by rfl) w.heap.size (by rfl) _ _ _ _ hHn Tryz.underlying146 rfl (by kernel_rfl) ?_)
        | (refine wpList_store_row rfl 146 _ _ (by rfl) (w.heap.size + 1) (hv kind H (.slice a L.length cap) N) (by rfl) (by rfl) _ _ ho2 (by kernel_rfl) (by rw [ho1, hsz11]) (by simp [hv, Value.oneCell']) ?_)
        | fail)
      have hBf := HBF.out
      refine bodyPost_ret (v := .agg (hv kind H (.slice a L.length cap) N)) ?_ ?_ ?_
      · exact results_cell_row Tryz.results112 _ _ (w.heap.size + 1) _ _ _ _ (by rfl) HFU.out Tryz.underlying146 rfl (by kernel_rfl)
      · rfl
      · exact ⟨_, by rw [HE9.out, ← HN.out], by rw [HL9.out]; exact HR9.out.but hAL2 hBf, hTL, HB9.out.trans (hBf.below (by omega) (by have := HB9.out.size; omega))⟩
end Go.Proofs.YtogiballdmgcpaaGreatDoor

/- Words for the laws of sums: what is fit; rows over worlds. -/
namespace Go.Proofs.YtogiballdmgcpaaGreatDoor
open Go.RowKit
set_option linter.unusedVariables false
set_option linter.unusedSimpArgs false

/-- a row of the call's own, behind a call -/
theorem own_below {w w' : World} {base : Nat} {e : TypeId} {size : Nat} {v : Value} {n : Nat} {xs : List Value} (h : w.ownsRow base e size v n xs) (hb : Below w.heap.size w w') : w'.ownsRow base e size v n xs := by
  obtain ⟨h1, h2⟩ := h
  refine ⟨h1, ?_⟩
  rcases h2 with h2 | ⟨g, cap, cur, rfl, h3, h4, h5⟩
  · exact .inl h2
  · refine .inr ⟨g, cap, cur, rfl, h3, ?_, h5⟩
    rw [hb.block g (by
      rcases Nat.lt_or_ge g w.heap.size with hlt | hge
      · exact hlt
      · rw [Array.getElem?_eq_none hge] at h4; cases h4)]
    exact h4
/-- the cells of a row of the call's own that is not empty -/
theorem own_news {e : TypeId} {k : IntKind} {m : Nat} {w : World} {B : Nat} {v : Value} {l : List Nat} (h : Own e k m w B v l) (n : Nat) (hn : l.length = n) (hl : 0 < n) :
    ∃ g c, v = .slice (some ⟨g, 0, none⟩) n c ∧ B ≤ g ∧ ∀ j u, (vals k l)[j]? = some u → w.cell? ((⟨g, 0, none⟩ : Addr).add j) = some u := by
  subst hn
  obtain ⟨g, c, rfl, hB, _, _⟩ := row_form h.1 hl
  refine ⟨g, c, rfl, hB, ?_⟩
  exact h.1.cells rfl
theorem leS_8 (n : Nat) : leS n 8 = leL n 8 := by unfold leS; rw [if_neg (by decide)]; rfl
end Go.Proofs.YtogiballdmgcpaaGreatDoor
