/- Trees of trees, the program's own: how high, whether fit, how many leaves. -/
import Derived.Test.YtogiballdmgcpaaDoorHkF
import Derived.Test.YtogiballdmgcpaaDoorPgF
import Derived.Test.YtogiballdmgcpaaDoorHTak32
import Derived.BigQuiet
import Derived.Test.YtogiballdmgcpaaDoorHEnd
import Derived.Deep.AppendLies
import Derived.Deep.RegionHeld3
import Derived.Test.YtogiballdmgcpaaDoorBase
import Derived.RangeFuncBox
import Derived.RangeFuncNested
import Derived.RangeFuncBound
import Derived.RangeFuncCalls
import Derived.RangeFuncLeaves
import Derived.Shelf.Abstract
import Derived.OwnWalkIn
import Derived.Test.YtogiballdmgcpaaDoorProg
namespace Go.Proofs.YtogiballdmgcpaaDoor
open Go.RowKit
set_option linter.unusedVariables false
set_option linter.unusedSimpArgs false

/-- where the sum of heights stands -/
def HgL (w : World) (ts : List (Int × Int)) (vn vi : Value) (wr : World) : Prop := ∃ i : Nat, i ≤ ts.length ∧ vi = .int .i64 (i : Int) ∧ vn = .int .i64 (sumH (ts.take i)) ∧ Below w.heap.size w wr
set_option maxHeartbeats 4000000 in
set_option maxRecDepth 100000 in
theorem chgt_any (ts : List (Int × Int)) (tv : Value) (ia sa : Option Addr) (il ic sl sc : Nat) (w : World) (ht : TrS w tv ts) (h8 : ts.length ≤ 8) (hf : ∀ t ∈ ts, FitG t) :
    Calls Tryd.prog 18 #[.agg #[tv, .slice ia il ic, .slice sa sl sc]] w fun e w' => e = .returned (.int .i64 (sumH ts)) ∧ Below w.heap.size w w' := by
  obtain ⟨ta, tc, rfl, t1, t2, tcell⟩ := ht
  have b0 := BxK.new w (.slice ta ts.length tc) (.slice ia il ic) (.slice sa sl sc)
  have hb0 := keep_alloc w (.cells #[.slice ta ts.length tc, .slice ia il ic, .slice sa sl sc] 25)
  have c0 := b0.c0
  obtain ⟨N, hN⟩ : ∃ N, ts.length = N := ⟨_, rfl⟩
  rw [hN] at b0 hb0 c0 ⊢
  have h0 : HgL w ts (.int .i64 0) (.int .i64 0) (w.alloc (.cells #[.slice ta N tc, .slice ia il ic, .slice sa sl sc] 25)) := ⟨0, Nat.zero_le _, rfl, rfl, hb0⟩
  have H0 := hide h0
  have HT := hide (And.intro tcell (And.intro hN (And.intro h8 hf)))
  clear h0 tcell b0 hb0 hf h8
  obtain ⟨R, hR⟩ : ∃ R, sumH ts = R := ⟨_, rfl⟩
  rw [hR]
  have HR := hide hR
  clear hR
  go_enter Tryd.func18, Tryd.ntmps18
  go_wp2
  go_loopw [3, 9] (fun vn vi wr => HgL w ts vn vi wr) (fun _ vi _ => N - (intOf vi).toNat)
  case atStart => exact H0.out
  case round =>
    obtain ⟨i, hi, rfl, rfl, hbr⟩ := hrel
    clear H0
    obtain ⟨tcell, hN, h8, hf⟩ := HT.out
    by_cases hlt : i < N
    · have hlt' : (i : Int) < (N : Int) := by omega
      have hge' : ¬ ((N : Int) ≤ (i : Int)) := by omega
      obtain ⟨tb, to, rfl, tcc⟩ := tcell (by omega)
      obtain ⟨x1, x2⟩ := tcc i (by omega)
      have y1 : wr.cell? ⟨tb, to + i * 2, none⟩ = some (.int .i64 (trA ts i).1) := keep_cell x1 hbr
      have y2 : wr.cell? ⟨tb, to + i * 2 + 1, none⟩ = some (.int .i64 (trA ts i).2) := keep_cell x2 hbr
      have htk := tr_take (ts := ts) (i := i) (by omega)
      have hp := (hf _ (trA_mem (ts := ts) (i := i) (by omega))).pos
      obtain ⟨hs1, hs2⟩ := sumH_le (ts.take i) (fun t h => hf t (List.mem_of_mem_take h))
      have hsl : ((ts.take i).length : Int) ≤ (i : Int) := by rw [List.length_take]; omega
      obtain ⟨S, hS⟩ : ∃ S, sumH (ts.take i) = S := ⟨_, rfl⟩
      rw [hS] at hs1 hs2 ⊢
      obtain ⟨th, hth⟩ : ∃ t, (trA ts i).1 = t := ⟨_, rfl⟩
      obtain ⟨tw, htw⟩ : ∃ t, (trA ts i).2 = t := ⟨_, rfl⟩
      rw [hth] at y1 hp
      rw [htw] at y2
      obtain ⟨S2, hS2⟩ : ∃ S2, S + th = S2 := ⟨_, rfl⟩
      obtain ⟨Q, hQ⟩ : ∃ Q : Nat, i + 1 = Q := ⟨_, rfl⟩
      have e_Q : (i : Int) + 1 = (Q : Int) := by omega
      have s_Q : IntKind.i64.wrap (Q : Int) = (Q : Int) := by rw [IntKind.wrap_i64]; omega
      have s_S : IntKind.i64.wrap S2 = S2 := by rw [IntKind.wrap_i64]; omega
      have HQ := hide (And.intro hS (And.intro htk (And.intro hth (And.intro hN (And.intro hbr (And.intro hQ hS2))))))
      clear hS htk hth htw hN hbr tcell tcc x1 x2 hQ hp hs1 hs2 hsl hf h8
      go_wp2
      obtain ⟨hS, htk, hth, hN, hbr, hQ, hS2⟩ := HQ.out
      refine ⟨⟨Q, by omega, rfl, ?_, keep_trans hbr (keep_alloc _ _)⟩, by simp [intOf]; omega⟩
      rw [← hQ, htk, sumH_snoc, hS, hth, hS2]
    · obtain rfl : i = N := by omega
      have hge : ¬ ((i : Int) < (i : Int)) := by omega
      have htk : ts.take i = ts := List.take_of_length_le (by omega)
      rw [htk, HR.out]
      have HK := hide hbr
      clear hN tcell hbr htk hf h8
      go_wp2
      go_ret
      exact ⟨rfl, HK.out⟩
/-- where Fit stands -/
def HfL (w : World) (B : Nat) (v0 v1 v2 : Value) (ts : List (Int × Int)) (vi : Value) (wr : World) : Prop := ∃ i : Nat, i ≤ ts.length ∧ vi = .int .i64 (i : Int) ∧ (∀ t ∈ ts.take i, FitG t) ∧ BxK wr B v0 v1 v2 ∧ Below w.heap.size w wr
set_option maxHeartbeats 4000000 in
set_option maxRecDepth 100000 in
theorem cfitK_any (ts : List (Int × Int)) (tv : Value) (ia sa : Option Addr) (il ic sl sc : Nat) (w : World) (ht : TrS w tv ts) :
    Calls Tryd.prog 9 #[.agg #[tv, .slice ia il ic, .slice sa sl sc]] w fun e w' => e = .returned (.bool (decide (FitK ts il sl))) ∧ Below w.heap.size w w' := by
  have hhg := fun y (k : Below w.heap.size w y) => chgt_any ts tv ia sa il ic sl sc y (ht.below k)
  obtain ⟨ta, tc, rfl, t1, t2, tcell⟩ := ht
  have b0 := BxK.new w (.slice ta ts.length tc) (.slice ia il ic) (.slice sa sl sc)
  have hb0 := keep_alloc w (.cells #[.slice ta ts.length tc, .slice ia il ic, .slice sa sl sc] 25)
  obtain ⟨N, hN⟩ : ∃ N, ts.length = N := ⟨_, rfl⟩
  rw [hN] at b0 hb0 hhg ⊢
  obtain ⟨RB, hRB⟩ : ∃ R, decide (FitK ts il sl) = R := ⟨_, rfl⟩
  rw [hRB]
  have HR := hide hRB
  clear hRB
  have c0 := b0.c0
  by_cases hN1 : N < 1
  · have hN1' : (N : Int) < 1 := by omega
    have hd : false = RB := by rw [← HR.out, decide_eq_false (fun h => by have := h.1; omega)]
    have HD := hide (And.intro hd hb0)
    clear hd hb0 b0 hhg tcell t1 t2 HR hN
    go_enter Tryd.func9, Tryd.ntmps9
    go_wp2
    go_ret
    exact ⟨by rw [← HD.out.1]; rfl, HD.out.2⟩
  have hN1' : ¬ ((N : Int) < 1) := by omega
  by_cases hN8 : 8 < N
  · have hN8' : (8 : Int) < (N : Int) := by omega
    have hN8'' : (N : Int) > 8 := by omega
    have hd : false = RB := by rw [← HR.out, decide_eq_false (fun h => by have := h.2.1; omega)]
    have HD := hide (And.intro hd hb0)
    clear hd hb0 b0 hhg tcell t1 t2 HR hN
    go_enter Tryd.func9, Tryd.ntmps9
    go_wp2
    go_ret
    exact ⟨by rw [← HD.out.1]; rfl, HD.out.2⟩
  have hN8' : ¬ ((8 : Int) < (N : Int)) := by omega
  have hN8'' : ¬ ((N : Int) > 8) := by omega
  have h0 : HfL w w.heap.size (.slice ta N tc) (.slice ia il ic) (.slice sa sl sc) ts (.int .i64 0) (w.alloc (.cells #[.slice ta N tc, .slice ia il ic, .slice sa sl sc] 25)) := ⟨0, Nat.zero_le _, rfl, fun t h => by simp at h, b0, hb0⟩
  have H0 := hide h0
  have HT := hide (And.intro tcell (And.intro hN (And.intro hN1 hN8)))
  clear h0 tcell b0 hb0 hN1 hN8
  go_enter Tryd.func9, Tryd.ntmps9
  go_wp2
  go_loopw [18] (fun vi wr => HfL w w.heap.size (.slice ta N tc) (.slice ia il ic) (.slice sa sl sc) ts vi wr) (fun vi _ => N - (intOf vi).toNat)
  case atStart => exact H0.out
  case round =>
    obtain ⟨i, hi, rfl, hfit, bx, hbr⟩ := hrel
    clear H0
    have c0 := bx.c0
    have c1 := bx.c1
    have c2 := bx.c2
    obtain ⟨tcell, hN, hN1, hN8⟩ := HT.out
    by_cases hlt : i < N
    · have hlt' : (i : Int) < (N : Int) := by omega
      obtain ⟨tb, to, rfl, tcc⟩ := tcell (by omega)
      obtain ⟨x1, x2⟩ := tcc i (by omega)
      have y1 : wr.cell? ⟨tb, to + i * 2, none⟩ = some (.int .i64 (trA ts i).1) := keep_cell x1 hbr
      have y2 : wr.cell? ⟨tb, to + i * 2 + 1, none⟩ = some (.int .i64 (trA ts i).2) := keep_cell x2 hbr
      have htk := tr_take (ts := ts) (i := i) (by omega)
      have hmem := trA_mem (ts := ts) (i := i) (by omega)
      have hf := fun y => cfitT_any (trA ts i).1 (trA ts i).2 y
      obtain ⟨th, hth⟩ : ∃ t, (trA ts i).1 = t := ⟨_, rfl⟩
      obtain ⟨tw, htw⟩ : ∃ t, (trA ts i).2 = t := ⟨_, rfl⟩
      rw [hth] at y1 hf
      rw [htw] at y2 hf
      have d5 := Bx2T.new wr (.int .i64 th) (.int .i64 tw)
      have kd := keep_alloc wr (.cells #[.int .i64 th, .int .i64 tw] 41)
      have HQ := hide (And.intro htk (And.intro hmem (And.intro hfit (And.intro hth (And.intro htw (And.intro hN (And.intro bx (And.intro hbr (And.intro hi kd)))))))))
      clear htk hmem hfit hth htw hN bx hbr tcell tcc x1 x2 hhg kd hN1 hN8
      have d50 := d5.c0
      have d51 := d5.c1
      by_cases hL : FitL th tw
      · rw [decide_eq_true hL] at hf
        have HL := hide hL
        clear hL
        by_cases h10 : 10 < th
        · have h10' : th > 10 := by omega
          go_wp2_with (first
          | (go_at_call 17; refine (hf _).mono ?_; rintro e w2 ⟨rfl, g2⟩; have e5 := d5.below g2; have e50 := e5.c0; have e51 := e5.c1)
          | fail)
          go_ret
          obtain ⟨htk, hmem, hfit, hth, htw, hN, bx, hbr, hi, kd⟩ := HQ.out
          refine ⟨?_, keep_trans (keep_trans hbr kd) g2⟩
          rw [← HR.out, decide_eq_false (fun h => by have := (h.2.2.1 _ hmem).2; omega)]
          rfl
        · have h10' : ¬ (th > 10) := by omega
          obtain ⟨Q, hQ⟩ : ∃ Q : Nat, i + 1 = Q := ⟨_, rfl⟩
          have e_Q : (i : Int) + 1 = (Q : Int) := by omega
          have s_Q : IntKind.i64.wrap (Q : Int) = (Q : Int) := by rw [IntKind.wrap_i64]; have := HT.out.2.2.2; omega
          have hg : FitG (th, tw) := ⟨HL.out, by show th ≤ 10; omega⟩
          have HG := hide (And.intro hg hQ)
          clear hg hQ
          go_wp2_with (first
          | (go_at_call 17; refine (hf _).mono ?_; rintro e w2 ⟨rfl, g2⟩; have e5 := d5.below g2; have e50 := e5.c0; have e51 := e5.c1)
          | fail)
          obtain ⟨htk, hmem, hfit, hth, htw, hN, bx, hbr, hi, kd⟩ := HQ.out
          obtain ⟨hg, hQ⟩ := HG.out
          refine ⟨⟨Q, by omega, rfl, ?_, (bx.below kd).below g2, keep_trans (keep_trans hbr kd) g2⟩, by simp [intOf]; omega⟩
          rw [← hQ, htk]
          intro t ht
          rcases List.mem_append.1 ht with h | h
          · exact hfit t h
          · have : t = trA ts i := by simpa using h
            rw [this]
            have e : trA ts i = (th, tw) := by rw [← hth, ← htw]
            rw [e]
            exact hg
      · rw [decide_eq_false hL] at hf
        have HL := hide hL
        clear hL
        go_wp2_with (first
          | (go_at_call 17; refine (hf _).mono ?_; rintro e w2 ⟨rfl, g2⟩; have e5 := d5.below g2; have e50 := e5.c0; have e51 := e5.c1)
          | fail)
        go_ret
        obtain ⟨htk, hmem, hfit, hth, htw, hN, bx, hbr, hi, kd⟩ := HQ.out
        refine ⟨?_, keep_trans (keep_trans hbr kd) g2⟩
        rw [← HR.out, decide_eq_false (fun h => by have := (h.2.2.1 _ hmem).1; rw [hth, htw] at this; exact HL.out this)]
        rfl
    · obtain rfl : i = N := by omega
      have hge : ¬ ((i : Int) < (i : Int)) := by omega
      have htk : ts.take i = ts := List.take_of_length_le (by omega)
      rw [htk] at hfit
      have hh := hhg wr hbr (by omega) hfit
      have HK := hide (And.intro hfit (And.intro hN hbr))
      have hRd : decide (sumH ts ≤ 60 ∧ il = 16 ∧ sl = 32) = RB := by
        rw [← HR.out]
        apply decide_eq_decide.2
        constructor
        · rintro ⟨h2, h3, h4⟩; exact ⟨by omega, by omega, hfit, h2, h3, h4⟩
        · rintro ⟨h1, h2, h3, h4, h5, h6⟩; exact ⟨h4, h5, h6⟩
      clear hfit htk tcell hhg hN hbr
      obtain ⟨S, hS⟩ : ∃ S, sumH ts = S := ⟨_, rfl⟩
      rw [hS] at hRd hh
      have HD := hide hRd
      clear hRd hS
      by_cases k2 : S ≤ 60
      · by_cases k3 : il = 16
        · subst k3
          by_cases k4 : sl = 32
          · subst k4
            go_wp2_with (first
              | (refine wpList_load_row rfl 25 _ (by rfl) w.heap.size (by rfl) _ _ _ _ bx.here Tryd.underlying25 rfl (by kernel_rfl) ?_)
              | (go_at_call 18; refine hh.mono ?_; rintro e w3 ⟨rfl, g3⟩; have b3 := bx.below g3; have e1 := b3.c1; have e2 := b3.c2)
              | fail)
            go_ret
            exact ⟨by rw [← HD.out]; simp [k2], keep_trans HK.out.2.2 g3⟩
          · have k4' : ((sl : Int) == 32) = false := by simp; omega
            have k4i : ¬ (sl : Int) = 32 := by omega
            go_wp2_with (first
              | (refine wpList_load_row rfl 25 _ (by rfl) w.heap.size (by rfl) _ _ _ _ bx.here Tryd.underlying25 rfl (by kernel_rfl) ?_)
              | (go_at_call 18; refine hh.mono ?_; rintro e w3 ⟨rfl, g3⟩; have b3 := bx.below g3; have e1 := b3.c1; have e2 := b3.c2)
              | fail)
            go_ret
            exact ⟨by rw [← HD.out]; simp [k4], keep_trans HK.out.2.2 g3⟩
        · have k3' : ((il : Int) == 16) = false := by simp; omega
          have k3i : ¬ (il : Int) = 16 := by omega
          go_wp2_with (first
            | (refine wpList_load_row rfl 25 _ (by rfl) w.heap.size (by rfl) _ _ _ _ bx.here Tryd.underlying25 rfl (by kernel_rfl) ?_)
            | (go_at_call 18; refine hh.mono ?_; rintro e w3 ⟨rfl, g3⟩; have b3 := bx.below g3; have e1 := b3.c1; have e2 := b3.c2)
            | fail)
          go_ret
          exact ⟨by rw [← HD.out]; simp [k3], keep_trans HK.out.2.2 g3⟩
      · have k2i : ¬ (S ≤ 60) := k2
        go_wp2_with (first
          | (refine wpList_load_row rfl 25 _ (by rfl) w.heap.size (by rfl) _ _ _ _ bx.here Tryd.underlying25 rfl (by kernel_rfl) ?_)
          | (go_at_call 18; refine hh.mono ?_; rintro e w3 ⟨rfl, g3⟩; have b3 := bx.below g3; have e1 := b3.c1; have e2 := b3.c2)
          | fail)
        go_ret
        exact ⟨by rw [← HD.out, decide_eq_false (fun h => by have := h.1; omega)]; rfl, keep_trans HK.out.2.2 g3⟩
set_option maxHeartbeats 4000000 in
set_option maxRecDepth 100000 in
theorem clvs_any (ts : List (Int × Int)) (tv : Value) (ia sa : Option Addr) (il ic sl sc : Nat) (w : World) (ht : TrS w tv ts) :
    Calls Tryd.prog 11 #[.agg #[tv, .slice ia il ic, .slice sa sl sc]] w fun e w' => e = .returned (.int .u64 ((if FitK ts il sl then lvN ts else 0 : Nat) : Int)) ∧ Below w.heap.size w w' := by
  have hfk := fun y (h : Below w.heap.size w y) => cfitK_any ts tv ia sa il ic sl sc y (ht.below h)
  have hhg := fun y (k : Below w.heap.size w y) => chgt_any ts tv ia sa il ic sl sc y (ht.below k)
  have hl8 : FitK ts il sl → ts.length ≤ 8 := fun h => h.2.1
  obtain ⟨ta, tc, rfl, t1, t2, tcell⟩ := ht
  generalize ts.length = N at *
  have b0 := BxK.new w (.slice ta N tc) (.slice ia il ic) (.slice sa sl sc)
  have hb0 := keep_alloc w (.cells #[.slice ta N tc, .slice ia il ic, .slice sa sl sc] 25)
  by_cases hK : FitK ts il sl
  · rw [if_pos hK]
    rw [decide_eq_true hK] at hfk
    have hl := lvN_lt hK.2.2.2.1
    have hs := sumH_le ts hK.2.2.1
    unfold lvN at hl ⊢
    obtain ⟨S, hS⟩ : ∃ S : Nat, S = (sumH ts).toNat := ⟨_, rfl⟩
    have hSi : sumH ts = (S : Int) := by omega
    rw [← hS] at hl ⊢
    have hS60 : (S : Int) < 64 := by have := hK.2.2.2.1; omega
    obtain ⟨M, hM⟩ : ∃ M, M = 2 ^ S := ⟨_, rfl⟩
    have e_M : (2 : Int) ^ S = (M : Int) := by rw [hM]; norm_cast
    rw [← hM] at hl ⊢
    have s_M : IntKind.u64.wrap (M : Int) = (M : Int) := by rw [IntKind.wrap_u64]; omega
    have hh := fun y (k : Below w.heap.size w y) => hhg y k (hl8 hK) hK.2.2.1
    rw [hSi] at hh
    clear hK tcell hhg hs hS hSi hM hl t1 t2
    go_enter Tryd.func11, Tryd.ntmps11
    go_wp2_with (first
      | (refine wpList_load_row rfl 25 _ (by rfl) w.heap.size (by rfl) _ _ _ _ b0.here Tryd.underlying25 rfl (by kernel_rfl) ?_)
      | (go_at_call 9; refine (hfk _ hb0).mono ?_; rintro e w1 ⟨rfl, g1⟩; have b1 := b0.below g1; have k1 := keep_trans hb0 g1; clear b0)
      | (refine wpList_load_row rfl 25 _ (by rfl) w.heap.size (by rfl) _ _ _ _ b1.here Tryd.underlying25 rfl (by kernel_rfl) ?_)
      | (go_at_call 18; refine (hh _ k1).mono ?_; rintro e w2 ⟨rfl, g2⟩)
      | fail)
    go_ret
    exact ⟨rfl, keep_trans k1 g2⟩
  · rw [if_neg hK]
    rw [decide_eq_false hK] at hfk
    clear hK tcell hhg
    go_enter Tryd.func11, Tryd.ntmps11
    go_wp2_with (first
      | (refine wpList_load_row rfl 25 _ (by rfl) w.heap.size (by rfl) _ _ _ _ b0.here Tryd.underlying25 rfl (by kernel_rfl) ?_)
      | (go_at_call 9; refine (hfk _ hb0).mono ?_; rintro e w1 ⟨rfl, g1⟩)
      | fail)
    go_ret
    exact ⟨rfl, keep_trans hb0 g1⟩
set_option maxHeartbeats 4000000 in
set_option maxRecDepth 100000 in
theorem chasK_any (ts : List (Int × Int)) (tv : Value) (ia sa : Option Addr) (il ic sl sc n : Nat) (w : World) (ht : TrS w tv ts) (hn : n < 18446744073709551616) :
    Calls Tryd.prog 15 #[.agg #[tv, .slice ia il ic, .slice sa sl sc], .int .u64 (n : Int)] w fun e w' => e = .returned (.int .i64 (vcE ts il sl n)) ∧ Below w.heap.size w w' := by
  have hfk := fun y (h : Below w.heap.size w y) => cfitK_any ts tv ia sa il ic sl sc y (ht.below h)
  have hlv := fun y (h : Below w.heap.size w y) => clvs_any ts tv ia sa il ic sl sc y (ht.below h)
  obtain ⟨ta, tc, rfl, t1, t2, tcell⟩ := ht
  generalize ts.length = N at *
  have b0 := BxK.new w (.slice ta N tc) (.slice ia il ic) (.slice sa sl sc)
  have hb0 := keep_alloc w (.cells #[.slice ta N tc, .slice ia il ic, .slice sa sl sc] 25)
  unfold vcE
  clear tcell t1 t2
  by_cases hK : FitK ts il sl
  · rw [if_neg (by simpa using hK)]
    rw [decide_eq_true hK] at hfk
    rw [if_pos hK] at hlv
    have hl := lvN_lt hK.2.2.2.1
    generalize lvN ts = L at *
    clear hK
    by_cases hL : L ≤ n
    · rw [if_pos hL]
      have hL' : (n : Int) ≥ (L : Int) := by omega
      have hL'' : (L : Int) ≤ (n : Int) := by omega
      go_enter Tryd.func15, Tryd.ntmps15
      go_wp2_with (first
        | (refine wpList_load_row rfl 25 _ (by rfl) w.heap.size (by rfl) _ _ _ _ b0.here Tryd.underlying25 rfl (by kernel_rfl) ?_)
        | (go_at_call 9; refine (hfk _ hb0).mono ?_; rintro e w1 ⟨rfl, g1⟩; have b1 := b0.below g1; have k1 := keep_trans hb0 g1; clear b0)
        | (refine wpList_load_row rfl 25 _ (by rfl) w.heap.size (by rfl) _ _ _ _ b1.here Tryd.underlying25 rfl (by kernel_rfl) ?_)
        | (go_at_call 11; refine (hlv _ k1).mono ?_; rintro e w2 ⟨rfl, g2⟩)
        | fail)
      go_ret
      exact ⟨rfl, keep_trans k1 g2⟩
    · rw [if_neg hL]
      have hL' : ¬ ((n : Int) ≥ (L : Int)) := by omega
      have hL'' : ¬ ((L : Int) ≤ (n : Int)) := by omega
      go_enter Tryd.func15, Tryd.ntmps15
      go_wp2_with (first
        | (refine wpList_load_row rfl 25 _ (by rfl) w.heap.size (by rfl) _ _ _ _ b0.here Tryd.underlying25 rfl (by kernel_rfl) ?_)
        | (go_at_call 9; refine (hfk _ hb0).mono ?_; rintro e w1 ⟨rfl, g1⟩; have b1 := b0.below g1; have k1 := keep_trans hb0 g1; clear b0)
        | (refine wpList_load_row rfl 25 _ (by rfl) w.heap.size (by rfl) _ _ _ _ b1.here Tryd.underlying25 rfl (by kernel_rfl) ?_)
        | (go_at_call 11; refine (hlv _ k1).mono ?_; rintro e w2 ⟨rfl, g2⟩)
        | fail)
      go_ret
      exact ⟨rfl, keep_trans k1 g2⟩
  · rw [if_pos hK]
    rw [decide_eq_false hK] at hfk
    go_enter Tryd.func15, Tryd.ntmps15
    go_wp2_with (first
      | (refine wpList_load_row rfl 25 _ (by rfl) w.heap.size (by rfl) _ _ _ _ b0.here Tryd.underlying25 rfl (by kernel_rfl) ?_)
      | (go_at_call 9; refine (hfk _ hb0).mono ?_; rintro e w1 ⟨rfl, g1⟩)
      | fail)
    go_ret
    exact ⟨rfl, keep_trans hb0 g1⟩
end Go.Proofs.YtogiballdmgcpaaDoor

/- Trees of trees: the id and the seed of the tree below a leaf. -/
namespace Go.Proofs.YtogiballdmgcpaaDoor
open Go.RowKit
set_option linter.unusedVariables false
set_option linter.unusedSimpArgs false

/-- the id and the seed of the tree below a leaf -/
def idB (id seed : List Nat) (q : Nat) : List Nat := (lmX shaL (preL id q) 65535 255 seed).take 16
def sdB (id seed : List Nat) (q : Nat) : List Nat := lmX shaL (preL id q) 65534 255 seed
theorem idB_len (id seed : List Nat) (q : Nat) : (idB id seed q).length = 16 := by unfold idB; rw [List.length_take, show (lmX shaL (preL id q) 65535 255 seed).length = 32 from shaL_len _]; decide
theorem sdB_len (id seed : List Nat) (q : Nat) : (sdB id seed q).length = 32 := shaL_len _
end Go.Proofs.YtogiballdmgcpaaDoor

/- Trees of leaves that sign once: the document's Public. -/
namespace Go.Proofs.YtogiballdmgcpaaDoor
open Go.RowKit
set_option linter.unusedVariables false
set_option linter.unusedSimpArgs false

theorem pow_le_1024 {h : Nat} (hh : h ≤ 10) : 2 ^ h ≤ 1024 := by
  have := Nat.pow_le_pow_right (n := 2) (by decide) hh
  simpa using this
end Go.Proofs.YtogiballdmgcpaaDoor

/- Trees of leaves that sign once: the document's Public where it answers, by a plan. -/
namespace Go.Proofs.YtogiballdmgcpaaDoor
open Go.RowKit
set_option linter.unusedVariables false
set_option linter.unusedSimpArgs false

theorem Bx2T.range {W : World} {B : Nat} {v0 v1 : Value} (h : Bx2T W B v0 v1) : W.rangeAt B 0 [v0, v1] := fun j v hv => by
  match j, hv with
  | 0, hv => simp at hv; subst hv; exact h.c0
  | 1, hv => simp at hv; subst hv; exact h.c1
section
variable {P : Program} {ops : Array Oper} {Q : Exit → Act → World → Prop} {K : Act → World → Prop}
end
end Go.Proofs.YtogiballdmgcpaaDoor

/- Steps of a plan behind a guard, apart from keccak's. -/
namespace Go.Proofs.YtogiballdmgcpaaDoor
open Go.RowKit
set_option linter.unusedVariables false
set_option linter.unusedSimpArgs false
section
variable {ops : Array Oper} {Q : Exit → Act → World → Prop} {S : World → Prop} {K : Act → World → Prop}
theorem y_toG {o : Oper} {a : Act} {x y : Operand} {aa : Option Addr} {n c F : Nat} (hw : Region.wanted o (yielded ops a.tmps) = true) (ho : o.op = .slice 23 x none (some y) none) (hx : a.eval x = .slice aa n c) (hy : a.eval y = .int .i64 (F : Int)) (hF : F ≤ c) : YieldsIf Tryd.prog ops S o (.slice aa F c) a := by
  refine y_ofG hw fun w _ => ?_
  have h := slice_to aa n c F hF w
  unfold execOp
  simp only [ho, hx, Option.map_none, Option.map_some, hy]
  simp [Instr.sliceAt, Sem.run_bind, h, run_underlying Tryd.underlying23, go_sem]
end
end Go.Proofs.YtogiballdmgcpaaDoor

/- Trees of leaves that sign once: the document's Verify where it comes to the sums. -/
namespace Go.Proofs.YtogiballdmgcpaaDoor
open Go.RowKit
set_option linter.unusedVariables false
set_option linter.unusedSimpArgs false

/-- what a kind of leaf has -/
def nK (k : Nat) : Nat := if k = 1 then 256 else if k = 2 then 128 else if k = 4 then 64 else 32
def mK (k : Nat) : Nat := if k = 1 then 9 else if k = 2 then 5 else if k = 4 then 3 else 2
def sK (k : Nat) : Nat := if k = 1 then 7 else if k = 2 then 6 else if k = 4 then 4 else 0
def cK (k : Nat) : Nat := if k = 1 then 1 else if k = 2 then 2 else if k = 4 then 3 else 4
theorem Kd.is {k n m s c : Nat} (h : Kd k n m s c) : n = nK k ∧ m = mK k ∧ s = sK k ∧ c = cK k := by cases h <;> exact ⟨rfl, rfl, rfl, rfl⟩
theorem Kd.size {k n m s c : Nat} (h : Kd k n m s c) : szW (k : Int) = 36 + 32 * (n + m) := by cases h <;> rfl
end Go.Proofs.YtogiballdmgcpaaDoor

/- Trees of trees: the document's Public. -/
namespace Go.Proofs.YtogiballdmgcpaaDoor
open Go.RowKit
set_option linter.unusedVariables false
set_option linter.unusedSimpArgs false

theorem FitG.kd {t : Int × Int} (h : FitG t) : ∃ k : Nat, t.2 = (k : Int) ∧ Kd k (nK k) (mK k) (sK k) (cK k) := by
  rcases kd_or t.2 with hn | ⟨k, n, m, s, c, e, hk⟩
  · refine absurd ?_ h.1.2
    unfold szW NoK at *
    rw [if_neg hn.1, if_neg hn.2.1, if_neg hn.2.2.1, if_neg hn.2.2.2]
  · obtain ⟨e1, e2, e3, e4⟩ := hk.is
    exact ⟨k, e, by rw [← e1, ← e2, ← e3, ← e4]; exact hk⟩
end Go.Proofs.YtogiballdmgcpaaDoor

/- Trees of trees: the document's Sign. -/
namespace Go.Proofs.YtogiballdmgcpaaDoor
open Go.RowKit
set_option linter.unusedVariables false
set_option linter.unusedSimpArgs false

/-- the ids and seeds of the trees that a number goes through -/
def stH (vs : List Nat) (id seed : List Nat) : Nat → List Nat × List Nat
  | 0 => (id, seed)
  | i + 1 => (idB (stH vs id seed i).1 (stH vs id seed i).2 (el vs i), sdB (stH vs id seed i).1 (stH vs id seed i).2 (el vs i))
theorem stH_len {vs id seed : List Nat} (h1 : id.length = 16) (h2 : seed.length = 32) : ∀ i, (stH vs id seed i).1.length = 16 ∧ (stH vs id seed i).2.length = 32
  | 0 => ⟨h1, h2⟩
  | i + 1 => ⟨idB_len _ _ _, sdB_len _ _ _⟩
theorem vecF_el : ∀ {ts : List (Int × Int)} {i : Nat} (n : Nat), i < ts.length → el (vecF ts n) i < 2 ^ (trA ts i).1.toNat
  | [], i, n, h => absurd h (by simp)
  | t :: ts, 0, n, h => Nat.mod_lt _ (Nat.pow_pos (by decide))
  | t :: ts, i + 1, n, h => by
    show el (vecF ts n) i < 2 ^ (trA ts i).1.toNat
    exact vecF_el n (by simpa using h)
end Go.Proofs.YtogiballdmgcpaaDoor

/- Trees of trees: each number has leaves of its own (P16.5), plain; where Public and Sign refuse. -/
namespace Go.Proofs.YtogiballdmgcpaaDoor
open Go.RowKit
set_option linter.unusedVariables false
set_option linter.unusedSimpArgs false

theorem vecF_at : ∀ {ts : List (Int × Int)} {i : Nat} (n : Nat), i < ts.length → el (vecF ts n) i = n / lvN (ts.drop (i + 1)) % 2 ^ (trA ts i).1.toNat
  | [], i, n, h => absurd h (by simp)
  | t :: ts, 0, n, h => rfl
  | t :: ts, i + 1, n, h => by
    show el (vecF ts n) i = n / lvN (ts.drop (i + 1)) % 2 ^ (trA ts i).1.toNat
    exact vecF_at n (by simpa using h)
/-- a leaf more of a number -/
theorem vec_join {ts : List (Int × Int)} (h : ∀ t ∈ ts, FitG t) {i : Nat} (hi : i < ts.length) (n : Nat) : n / lvN (ts.drop i) * 2 ^ (trA ts i).1.toNat + el (vecF ts n) i = n / lvN (ts.drop (i + 1)) := by
  rw [vecF_at n hi, ← (vec_step h hi n).2, Nat.mul_comm]
  exact Nat.div_add_mod _ _
theorem lvN_nil : lvN [] = 1 := rfl
/-- P16.5: unlike numbers have unlike leaves -/
theorem vecF_inj {ts : List (Int × Int)} (h : ∀ t ∈ ts, FitG t) {n m : Nat} (hn : n < lvN ts) (hm : m < lvN ts) (he : vecF ts n = vecF ts m) : n = m := by
  have key : ∀ i, i ≤ ts.length → n / lvN (ts.drop i) = m / lvN (ts.drop i) := by
    intro i
    induction i with
    | zero => intro _; rw [List.drop_zero, Nat.div_eq_of_lt hn, Nat.div_eq_of_lt hm]
    | succ i ih =>
      intro hi
      rw [← vec_join h (i := i) (by omega) n, ← vec_join h (i := i) (by omega) m, ih (by omega), he]
  have := key ts.length (Nat.le_refl _)
  rw [List.drop_length, lvN_nil, Nat.div_one, Nat.div_one] at this
  exact this
end Go.Proofs.YtogiballdmgcpaaDoor

/- Steps of a plan: five texts written out as a list; one byte written out as a text. -/
namespace Go.Proofs.YtogiballdmgcpaaDoor
open Go.RowKit
set_option linter.unusedVariables false
set_option linter.unusedSimpArgs false

theorem p_b5 {ops : Array Oper} {Q : Exit → Act → World → Prop} {K : Act → World → Prop} {i : Nat} {o : Oper} {a : Act} {w : World} {t e : TypeId} {p q r s m : Operand} {adp adq adr ads adm : Option Addr} {np cp nq cq nr cr ns cs nm cm : Nat} {d : Option Nat} {z : TypeInfo} (hi : ops[i]? = some o) (hw : Region.wanted o (yielded ops a.tmps) = true) (ho : o.op = .buildSlice t 5 #[(0, p), (1, q), (2, r), (3, s), (4, m)]) (hp : a.eval p = .slice adp np cp) (hq : a.eval q = .slice adq nq cq) (hr : a.eval r = .slice adr nr cr) (hs : a.eval s = .slice ads ns cs) (hm : a.eval m = .slice adm nm cm) (hd : o.dst = d)
    (hu : Tryd.prog.underlying t = some (.slice e)) (hz : Tryd.prog.info? e = some z) (hsz : z.size = 1) (hz0 : z.zero = some (.slice none 0 0)) (h : K (a.put d (.slice (some ⟨w.heap.size, 0, none⟩) 5 5)) (w.alloc (.cells #[.slice adp np cp, .slice adq nq cq, .slice adr nr cr, .slice ads ns cs, .slice adm nm cm] e))) : wpOp Tryd.prog ops Q i K a w := by
  have hr : (execOp a.eval o).run Tryd.prog w = .ok (.value (.slice (some ⟨w.heap.size, 0, none⟩) 5 5)) (w.alloc (.cells #[.slice adp np cp, .slice adq nq cq, .slice adr nr cr, .slice ads ns cs, .slice adm nm cm] e)) := by
    unfold execOp
    simp only [ho, List.map_toArray, List.map_cons, List.map_nil, hp, hq, hr, hs, hm]
    simp [Sem.run_bind, run_underlying hu, sizeOf, typeInfo, zeroValue, hz, hsz, hz0, go_sem]
  unfold wpOp
  simp only [hi]
  rw [if_pos hw]
  left
  unfold Oper.wp
  rw [hr]
  show K (a.put o.dst _) _
  rw [hd]
  exact h
theorem p_byte1 {ops : Array Oper} {Q : Exit → Act → World → Prop} {K : Act → World → Prop} {i : Nat} {o : Oper} {a : Act} {w : World} {t e : TypeId} {p : Operand} {n : Int} {d : Option Nat} {z : TypeInfo} (hi : ops[i]? = some o) (hw : Region.wanted o (yielded ops a.tmps) = true) (ho : o.op = .buildSlice t 1 #[(0, p)]) (hp : a.eval p = .int .u8 n) (hd : o.dst = d)
    (hu : Tryd.prog.underlying t = some (.slice e)) (hz : Tryd.prog.info? e = some z) (hsz : z.size = 1) (hz0 : z.zero = some (.int .u8 0)) (h : K (a.put d (.slice (some ⟨w.heap.size, 0, none⟩) 1 1)) (w.alloc (.cells #[.int .u8 n] e))) : wpOp Tryd.prog ops Q i K a w := by
  have hr : (execOp a.eval o).run Tryd.prog w = .ok (.value (.slice (some ⟨w.heap.size, 0, none⟩) 1 1)) (w.alloc (.cells #[.int .u8 n] e)) := by
    unfold execOp
    simp only [ho, List.map_toArray, List.map_cons, List.map_nil, hp]
    simp [Sem.run_bind, run_underlying hu, sizeOf, typeInfo, zeroValue, hz, hsz, hz0, go_sem]
  unfold wpOp
  simp only [hi]
  rw [if_pos hw]
  left
  unfold Oper.wp
  rw [hr]
  show K (a.put o.dst _) _
  rw [hd]
  exact h
end Go.Proofs.YtogiballdmgcpaaDoor

/- A loop over an iterator that is made of another: the contract and the law that serve here. -/
namespace Go.Proofs.YtogiballdmgcpaaDoor
open Go.RowKit Go.Shelf
set_option linter.unusedVariables false
set_option linter.unusedSimpArgs false

/-- all blocks from lo on are as they were -/
structure Kept (lo : Nat) (W W' : World) : Prop where
  size : W.heap.size ≤ W'.heap.size
  block : ∀ k, lo ≤ k → k < W.heap.size → W'.heap[k]? = W.heap[k]?
theorem Kept.trans {lo : Nat} {A B C : World} (h : Kept lo A B) (k : Kept lo B C) : Kept lo A C := ⟨Nat.le_trans h.size k.size, fun i h1 h2 => (k.block i h1 (Nat.lt_of_lt_of_le h2 h.size)).trans (h.block i h1 h2)⟩
theorem Kept.mono {lo lo' : Nat} {A B : World} (h : Kept lo A B) (hl : lo ≤ lo') : Kept lo' A B := ⟨h.size, fun i h1 h2 => h.block i (by omega) h2⟩
theorem Kept.at {lo : Nat} {A B : World} (h : Kept lo A B) {k : Nat} {o : Obj} (hk : lo ≤ k) (h0 : A.heap[k]? = some o) : B.heap[k]? = some o := (h.block k hk (Array.getElem?_eq_some_iff.1 h0).1).trans h0
theorem kept_put {lo : Nat} {W : World} {l : Nat} (o : Obj) (h : l < lo) : Kept lo W (W.putObj l o) := ⟨by simp [World.putObj], fun k h1 h2 => World.putObj_heap_other (by omega)⟩
end Go.Proofs.YtogiballdmgcpaaDoor

/- Leaves that sign once, the program's own: sum. -/
namespace Go.Proofs.YtogiballdmgcpaaDoor
open Go.RowKit
set_option linter.unusedVariables false
set_option linter.unusedSimpArgs false

/-- an operation of a plan, by its own law -/
theorem p_wpG {P : Program} {ops : Array Oper} {Q : Exit → Act → World → Prop} {K : Act → World → Prop} {i : Nat} {o : Oper} {a : Act} {w : World} (hi : ops[i]? = some o) (hw : Region.wanted o (yielded ops a.tmps) = true) (h : o.wp P a w K Q) : wpOp P ops Q i K a w := by
  unfold wpOp
  simp only [hi]
  rw [if_pos hw]
  left
  exact h
end Go.Proofs.YtogiballdmgcpaaDoor

/- Leaves that sign once, the program's own: drawn, along. -/
namespace Go.Proofs.YtogiballdmgcpaaDoor
open Go.RowKit
set_option linter.unusedVariables false
set_option linter.unusedSimpArgs false

theorem conv_u32u64 (n : Nat) (h : n < 4294967296) (w : World) : (convert 39 26 (.int .u32 (n : Int))).run Tryd.prog w = .ok (.int .u64 (n : Int)) w := by
  have : IntKind.u64.wrap (n : Int) = (n : Int) := by rw [IntKind.wrap_u64]; omega
  simp [go_sem, convert, this]
end Go.Proofs.YtogiballdmgcpaaDoor
