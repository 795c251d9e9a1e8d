/- Trees of trees, the program's own: how high, whether fit, how many leaves. -/
import Derived.Test.YtogiballdmgcpaaGreatDoorHkM
import Derived.Test.YtogiballdmgcpaaGreatDoorLsA
import Derived.Test.YtogiballdmgcpaaGreatDoorLmM
import Derived.Test.YtogiballdmgcpaaGreatDoorHEnd
import Derived.Deep.AppendLies
import Derived.Deep.RegionHeld3
import Derived.Test.YtogiballdmgcpaaGreatDoorPlan3
import Derived.Test.YtogiballdmgcpaaGreatDoorHSl
namespace Go.Proofs.YtogiballdmgcpaaGreatDoor
open Go.RowKit
set_option linter.unusedVariables false
set_option linter.unusedSimpArgs false

/-- where the sum of heights stands -/
def HgL (w : World) (ts : List (Int × Int)) (vn vi : Value) (wr : World) : Prop := ∃ i : Nat, i ≤ ts.length ∧ vi = .int .i64 (i : Int) ∧ vn = .int .i64 (sumH (ts.take i)) ∧ Below w.heap.size w wr
set_option maxHeartbeats 4000000 in
set_option maxRecDepth 100000 in
theorem chgt_any (ts : List (Int × Int)) (tv : Value) (ia sa : Option Addr) (il ic sl sc : Nat) (w : World) (ht : TrS w tv ts) (h8 : ts.length ≤ 8) (hf : ∀ t ∈ ts, FitG t) :
    Calls Tryz.prog 39 #[.agg #[tv, .slice ia il ic, .slice sa sl sc]] w fun e w' => e = .returned (.int .i64 (sumH ts)) ∧ Below w.heap.size w w' := by
  obtain ⟨ta, tc, rfl, t1, t2, tcell⟩ := ht
  have b0 := BxK.new w (.slice ta ts.length tc) (.slice ia il ic) (.slice sa sl sc)
  have hb0 := keep_alloc w (.cells #[.slice ta ts.length tc, .slice ia il ic, .slice sa sl sc] 25)
  have c0 := b0.c0
  obtain ⟨N, hN⟩ : ∃ N, ts.length = N := ⟨_, rfl⟩
  rw [hN] at b0 hb0 c0 ⊢
  have h0 : HgL w ts (.int .i64 0) (.int .i64 0) (w.alloc (.cells #[.slice ta N tc, .slice ia il ic, .slice sa sl sc] 25)) := ⟨0, Nat.zero_le _, rfl, rfl, hb0⟩
  have H0 := hide h0
  have HT := hide (And.intro tcell (And.intro hN (And.intro h8 hf)))
  clear h0 tcell b0 hb0 hf h8
  obtain ⟨R, hR⟩ : ∃ R, sumH ts = R := ⟨_, rfl⟩
  rw [hR]
  have HR := hide hR
  clear hR
  go_enter Tryz.func39, Tryz.ntmps39
  go_wp2
  go_loopw [3, 9] (fun vn vi wr => HgL w ts vn vi wr) (fun _ vi _ => N - (intOf vi).toNat)
  case atStart => exact H0.out
  case round =>
    obtain ⟨i, hi, rfl, rfl, hbr⟩ := hrel
    clear H0
    obtain ⟨tcell, hN, h8, hf⟩ := HT.out
    by_cases hlt : i < N
    · have hlt' : (i : Int) < (N : Int) := by omega
      have hge' : ¬ ((N : Int) ≤ (i : Int)) := by omega
      obtain ⟨tb, to, rfl, tcc⟩ := tcell (by omega)
      obtain ⟨x1, x2⟩ := tcc i (by omega)
      have y1 : wr.cell? ⟨tb, to + i * 2, none⟩ = some (.int .i64 (trA ts i).1) := keep_cell x1 hbr
      have y2 : wr.cell? ⟨tb, to + i * 2 + 1, none⟩ = some (.int .i64 (trA ts i).2) := keep_cell x2 hbr
      have htk := tr_take (ts := ts) (i := i) (by omega)
      have hp := (hf _ (trA_mem (ts := ts) (i := i) (by omega))).pos
      obtain ⟨hs1, hs2⟩ := sumH_le (ts.take i) (fun t h => hf t (List.mem_of_mem_take h))
      have hsl : ((ts.take i).length : Int) ≤ (i : Int) := by rw [List.length_take]; omega
      obtain ⟨S, hS⟩ : ∃ S, sumH (ts.take i) = S := ⟨_, rfl⟩
      rw [hS] at hs1 hs2 ⊢
      obtain ⟨th, hth⟩ : ∃ t, (trA ts i).1 = t := ⟨_, rfl⟩
      obtain ⟨tw, htw⟩ : ∃ t, (trA ts i).2 = t := ⟨_, rfl⟩
      rw [hth] at y1 hp
      rw [htw] at y2
      obtain ⟨S2, hS2⟩ : ∃ S2, S + th = S2 := ⟨_, rfl⟩
      obtain ⟨Q, hQ⟩ : ∃ Q : Nat, i + 1 = Q := ⟨_, rfl⟩
      have e_Q : (i : Int) + 1 = (Q : Int) := by omega
      have s_Q : IntKind.i64.wrap (Q : Int) = (Q : Int) := by rw [IntKind.wrap_i64]; omega
      have s_S : IntKind.i64.wrap S2 = S2 := by rw [IntKind.wrap_i64]; omega
      have HQ := hide (And.intro hS (And.intro htk (And.intro hth (And.intro hN (And.intro hbr (And.intro hQ hS2))))))
      clear hS htk hth htw hN hbr tcell tcc x1 x2 hQ hp hs1 hs2 hsl hf h8
      go_wp2
      obtain ⟨hS, htk, hth, hN, hbr, hQ, hS2⟩ := HQ.out
      refine ⟨⟨Q, by omega, rfl, ?_, keep_trans hbr (keep_alloc _ _)⟩, by simp [intOf]; omega⟩
      rw [← hQ, htk, sumH_snoc, hS, hth, hS2]
    · obtain rfl : i = N := by omega
      have hge : ¬ ((i : Int) < (i : Int)) := by omega
      have htk : ts.take i = ts := List.take_of_length_le (by omega)
      rw [htk, HR.out]
      have HK := hide hbr
      clear hN tcell hbr htk hf h8
      go_wp2
      go_ret
      exact ⟨rfl, HK.out⟩
/-- where Fit stands -/
def HfL (w : World) (B : Nat) (v0 v1 v2 : Value) (ts : List (Int × Int)) (vi : Value) (wr : World) : Prop := ∃ i : Nat, i ≤ ts.length ∧ vi = .int .i64 (i : Int) ∧ (∀ t ∈ ts.take i, FitG t) ∧ BxK wr B v0 v1 v2 ∧ Below w.heap.size w wr
set_option maxHeartbeats 4000000 in
set_option maxRecDepth 100000 in
theorem cfitK_any (ts : List (Int × Int)) (tv : Value) (ia sa : Option Addr) (il ic sl sc : Nat) (w : World) (ht : TrS w tv ts) :
    Calls Tryz.prog 19 #[.agg #[tv, .slice ia il ic, .slice sa sl sc]] w fun e w' => e = .returned (.bool (decide (FitK ts il sl))) ∧ Below w.heap.size w w' := by
  have hhg := fun y (k : Below w.heap.size w y) => chgt_any ts tv ia sa il ic sl sc y (ht.below k)
  obtain ⟨ta, tc, rfl, t1, t2, tcell⟩ := ht
  have b0 := BxK.new w (.slice ta ts.length tc) (.slice ia il ic) (.slice sa sl sc)
  have hb0 := keep_alloc w (.cells #[.slice ta ts.length tc, .slice ia il ic, .slice sa sl sc] 25)
  obtain ⟨N, hN⟩ : ∃ N, ts.length = N := ⟨_, rfl⟩
  rw [hN] at b0 hb0 hhg ⊢
  obtain ⟨RB, hRB⟩ : ∃ R, decide (FitK ts il sl) = R := ⟨_, rfl⟩
  rw [hRB]
  have HR := hide hRB
  clear hRB
  have c0 := b0.c0
  by_cases hN1 : N < 1
  · have hN1' : (N : Int) < 1 := by omega
    have hd : false = RB := by rw [← HR.out, decide_eq_false (fun h => by have := h.1; omega)]
    have HD := hide (And.intro hd hb0)
    clear hd hb0 b0 hhg tcell t1 t2 HR hN
    go_enter Tryz.func19, Tryz.ntmps19
    go_wp2
    go_ret
    exact ⟨by rw [← HD.out.1]; rfl, HD.out.2⟩
  have hN1' : ¬ ((N : Int) < 1) := by omega
  by_cases hN8 : 8 < N
  · have hN8' : (8 : Int) < (N : Int) := by omega
    have hN8'' : (N : Int) > 8 := by omega
    have hd : false = RB := by rw [← HR.out, decide_eq_false (fun h => by have := h.2.1; omega)]
    have HD := hide (And.intro hd hb0)
    clear hd hb0 b0 hhg tcell t1 t2 HR hN
    go_enter Tryz.func19, Tryz.ntmps19
    go_wp2
    go_ret
    exact ⟨by rw [← HD.out.1]; rfl, HD.out.2⟩
  have hN8' : ¬ ((8 : Int) < (N : Int)) := by omega
  have hN8'' : ¬ ((N : Int) > 8) := by omega
  have h0 : HfL w w.heap.size (.slice ta N tc) (.slice ia il ic) (.slice sa sl sc) ts (.int .i64 0) (w.alloc (.cells #[.slice ta N tc, .slice ia il ic, .slice sa sl sc] 25)) := ⟨0, Nat.zero_le _, rfl, fun t h => by simp at h, b0, hb0⟩
  have H0 := hide h0
  have HT := hide (And.intro tcell (And.intro hN (And.intro hN1 hN8)))
  clear h0 tcell b0 hb0 hN1 hN8
  go_enter Tryz.func19, Tryz.ntmps19
  go_wp2
  go_loopw [18] (fun vi wr => HfL w w.heap.size (.slice ta N tc) (.slice ia il ic) (.slice sa sl sc) ts vi wr) (fun vi _ => N - (intOf vi).toNat)
  case atStart => exact H0.out
  case round =>
    obtain ⟨i, hi, rfl, hfit, bx, hbr⟩ := hrel
    clear H0
    have c0 := bx.c0
    have c1 := bx.c1
    have c2 := bx.c2
    obtain ⟨tcell, hN, hN1, hN8⟩ := HT.out
    by_cases hlt : i < N
    · have hlt' : (i : Int) < (N : Int) := by omega
      obtain ⟨tb, to, rfl, tcc⟩ := tcell (by omega)
      obtain ⟨x1, x2⟩ := tcc i (by omega)
      have y1 : wr.cell? ⟨tb, to + i * 2, none⟩ = some (.int .i64 (trA ts i).1) := keep_cell x1 hbr
      have y2 : wr.cell? ⟨tb, to + i * 2 + 1, none⟩ = some (.int .i64 (trA ts i).2) := keep_cell x2 hbr
      have htk := tr_take (ts := ts) (i := i) (by omega)
      have hmem := trA_mem (ts := ts) (i := i) (by omega)
      have hf := fun y => cfitT_any (trA ts i).1 (trA ts i).2 y
      obtain ⟨th, hth⟩ : ∃ t, (trA ts i).1 = t := ⟨_, rfl⟩
      obtain ⟨tw, htw⟩ : ∃ t, (trA ts i).2 = t := ⟨_, rfl⟩
      rw [hth] at y1 hf
      rw [htw] at y2 hf
      have d5 := Bx2T.new wr (.int .i64 th) (.int .i64 tw)
      have kd := keep_alloc wr (.cells #[.int .i64 th, .int .i64 tw] 45)
      have HQ := hide (And.intro htk (And.intro hmem (And.intro hfit (And.intro hth (And.intro htw (And.intro hN (And.intro bx (And.intro hbr (And.intro hi kd)))))))))
      clear htk hmem hfit hth htw hN bx hbr tcell tcc x1 x2 hhg kd hN1 hN8
      have d50 := d5.c0
      have d51 := d5.c1
      by_cases hL : FitL th tw
      · rw [decide_eq_true hL] at hf
        have HL := hide hL
        clear hL
        by_cases h10 : 10 < th
        · have h10' : th > 10 := by omega
          go_wp2_with (first
          | (go_at_call 41; refine (hf _).mono ?_; rintro e w2 ⟨rfl, g2⟩; have e5 := d5.below g2; have e50 := e5.c0; have e51 := e5.c1)
          | fail)
          go_ret
          obtain ⟨htk, hmem, hfit, hth, htw, hN, bx, hbr, hi, kd⟩ := HQ.out
          refine ⟨?_, keep_trans (keep_trans hbr kd) g2⟩
          rw [← HR.out, decide_eq_false (fun h => by have := (h.2.2.1 _ hmem).2; omega)]
          rfl
        · have h10' : ¬ (th > 10) := by omega
          obtain ⟨Q, hQ⟩ : ∃ Q : Nat, i + 1 = Q := ⟨_, rfl⟩
          have e_Q : (i : Int) + 1 = (Q : Int) := by omega
          have s_Q : IntKind.i64.wrap (Q : Int) = (Q : Int) := by rw [IntKind.wrap_i64]; have := HT.out.2.2.2; omega
          have hg : FitG (th, tw) := ⟨HL.out, by show th ≤ 10; omega⟩
          have HG := hide (And.intro hg hQ)
          clear hg hQ
          go_wp2_with (first
          | (go_at_call 41; refine (hf _).mono ?_; rintro e w2 ⟨rfl, g2⟩; have e5 := d5.below g2; have e50 := e5.c0; have e51 := e5.c1)
          | fail)
          obtain ⟨htk, hmem, hfit, hth, htw, hN, bx, hbr, hi, kd⟩ := HQ.out
          obtain ⟨hg, hQ⟩ := HG.out
          refine ⟨⟨Q, by omega, rfl, ?_, (bx.below kd).below g2, keep_trans (keep_trans hbr kd) g2⟩, by simp [intOf]; omega⟩
          rw [← hQ, htk]
          intro t ht
          rcases List.mem_append.1 ht with h | h
          · exact hfit t h
          · have : t = trA ts i := by simpa using h
            rw [this]
            have e : trA ts i = (th, tw) := by rw [← hth, ← htw]
            rw [e]
            exact hg
      · rw [decide_eq_false hL] at hf
        have HL := hide hL
        clear hL
        go_wp2_with (first
          | (go_at_call 41; refine (hf _).mono ?_; rintro e w2 ⟨rfl, g2⟩; have e5 := d5.below g2; have e50 := e5.c0; have e51 := e5.c1)
          | fail)
        go_ret
        obtain ⟨htk, hmem, hfit, hth, htw, hN, bx, hbr, hi, kd⟩ := HQ.out
        refine ⟨?_, keep_trans (keep_trans hbr kd) g2⟩
        rw [← HR.out, decide_eq_false (fun h => by have := (h.2.2.1 _ hmem).1; rw [hth, htw] at this; exact HL.out this)]
        rfl
    · obtain rfl : i = N := by omega
      have hge : ¬ ((i : Int) < (i : Int)) := by omega
      have htk : ts.take i = ts := List.take_of_length_le (by omega)
      rw [htk] at hfit
      have hh := hhg wr hbr (by omega) hfit
      have HK := hide (And.intro hfit (And.intro hN hbr))
      have hRd : decide (sumH ts ≤ 60 ∧ il = 16 ∧ sl = 32) = RB := by
        rw [← HR.out]
        apply decide_eq_decide.2
        constructor
        · rintro ⟨h2, h3, h4⟩; exact ⟨by omega, by omega, hfit, h2, h3, h4⟩
        · rintro ⟨h1, h2, h3, h4, h5, h6⟩; exact ⟨h4, h5, h6⟩
      clear hfit htk tcell hhg hN hbr
      obtain ⟨S, hS⟩ : ∃ S, sumH ts = S := ⟨_, rfl⟩
      rw [hS] at hRd hh
      have HD := hide hRd
      clear hRd hS
      by_cases k2 : S ≤ 60
      · by_cases k3 : il = 16
        · subst k3
          by_cases k4 : sl = 32
          · subst k4
            go_wp2_with (first
              | (refine wpList_load_row rfl 25 _ (by rfl) w.heap.size (by rfl) _ _ _ _ bx.here Tryz.underlying25 rfl (by kernel_rfl) ?_)
              | (go_at_call 39; refine hh.mono ?_; rintro e w3 ⟨rfl, g3⟩; have b3 := bx.below g3; have e1 := b3.c1; have e2 := b3.c2)
              | fail)
            go_ret
            exact ⟨by rw [← HD.out]; simp [k2], keep_trans HK.out.2.2 g3⟩
          · have k4' : ((sl : Int) == 32) = false := by simp; omega
            have k4i : ¬ (sl : Int) = 32 := by omega
            go_wp2_with (first
              | (refine wpList_load_row rfl 25 _ (by rfl) w.heap.size (by rfl) _ _ _ _ bx.here Tryz.underlying25 rfl (by kernel_rfl) ?_)
              | (go_at_call 39; refine hh.mono ?_; rintro e w3 ⟨rfl, g3⟩; have b3 := bx.below g3; have e1 := b3.c1; have e2 := b3.c2)
              | fail)
            go_ret
            exact ⟨by rw [← HD.out]; simp [k4], keep_trans HK.out.2.2 g3⟩
        · have k3' : ((il : Int) == 16) = false := by simp; omega
          have k3i : ¬ (il : Int) = 16 := by omega
          go_wp2_with (first
            | (refine wpList_load_row rfl 25 _ (by rfl) w.heap.size (by rfl) _ _ _ _ bx.here Tryz.underlying25 rfl (by kernel_rfl) ?_)
            | (go_at_call 39; refine hh.mono ?_; rintro e w3 ⟨rfl, g3⟩; have b3 := bx.below g3; have e1 := b3.c1; have e2 := b3.c2)
            | fail)
          go_ret
          exact ⟨by rw [← HD.out]; simp [k3], keep_trans HK.out.2.2 g3⟩
      · have k2i : ¬ (S ≤ 60) := k2
        go_wp2_with (first
          | (refine wpList_load_row rfl 25 _ (by rfl) w.heap.size (by rfl) _ _ _ _ bx.here Tryz.underlying25 rfl (by kernel_rfl) ?_)
          | (go_at_call 39; refine hh.mono ?_; rintro e w3 ⟨rfl, g3⟩; have b3 := bx.below g3; have e1 := b3.c1; have e2 := b3.c2)
          | fail)
        go_ret
        exact ⟨by rw [← HD.out, decide_eq_false (fun h => by have := h.1; omega)]; rfl, keep_trans HK.out.2.2 g3⟩
set_option maxHeartbeats 4000000 in
set_option maxRecDepth 100000 in
theorem clvs_any (ts : List (Int × Int)) (tv : Value) (ia sa : Option Addr) (il ic sl sc : Nat) (w : World) (ht : TrS w tv ts) :
    Calls Tryz.prog 16 #[.agg #[tv, .slice ia il ic, .slice sa sl sc]] w fun e w' => e = .returned (.int .u64 ((if FitK ts il sl then lvN ts else 0 : Nat) : Int)) ∧ Below w.heap.size w w' := by
  have hfk := fun y (h : Below w.heap.size w y) => cfitK_any ts tv ia sa il ic sl sc y (ht.below h)
  have hhg := fun y (k : Below w.heap.size w y) => chgt_any ts tv ia sa il ic sl sc y (ht.below k)
  have hl8 : FitK ts il sl → ts.length ≤ 8 := fun h => h.2.1
  obtain ⟨ta, tc, rfl, t1, t2, tcell⟩ := ht
  generalize ts.length = N at *
  have b0 := BxK.new w (.slice ta N tc) (.slice ia il ic) (.slice sa sl sc)
  have hb0 := keep_alloc w (.cells #[.slice ta N tc, .slice ia il ic, .slice sa sl sc] 25)
  by_cases hK : FitK ts il sl
  · rw [if_pos hK]
    rw [decide_eq_true hK] at hfk
    have hl := lvN_lt hK.2.2.2.1
    have hs := sumH_le ts hK.2.2.1
    unfold lvN at hl ⊢
    obtain ⟨S, hS⟩ : ∃ S : Nat, S = (sumH ts).toNat := ⟨_, rfl⟩
    have hSi : sumH ts = (S : Int) := by omega
    rw [← hS] at hl ⊢
    have hS60 : (S : Int) < 64 := by have := hK.2.2.2.1; omega
    obtain ⟨M, hM⟩ : ∃ M, M = 2 ^ S := ⟨_, rfl⟩
    have e_M : (2 : Int) ^ S = (M : Int) := by rw [hM]; norm_cast
    rw [← hM] at hl ⊢
    have s_M : IntKind.u64.wrap (M : Int) = (M : Int) := by rw [IntKind.wrap_u64]; omega
    have hh := fun y (k : Below w.heap.size w y) => hhg y k (hl8 hK) hK.2.2.1
    rw [hSi] at hh
    clear hK tcell hhg hs hS hSi hM hl t1 t2
    go_enter Tryz.func16, Tryz.ntmps16
    go_wp2_with (first
      | (refine wpList_load_row rfl 25 _ (by rfl) w.heap.size (by rfl) _ _ _ _ b0.here Tryz.underlying25 rfl (by kernel_rfl) ?_)
      | (go_at_call 19; refine (hfk _ hb0).mono ?_; rintro e w1 ⟨rfl, g1⟩; have b1 := b0.below g1; have k1 := keep_trans hb0 g1; clear b0)
      | (refine wpList_load_row rfl 25 _ (by rfl) w.heap.size (by rfl) _ _ _ _ b1.here Tryz.underlying25 rfl (by kernel_rfl) ?_)
      | (go_at_call 39; refine (hh _ k1).mono ?_; rintro e w2 ⟨rfl, g2⟩)
      | fail)
    go_ret
    exact ⟨rfl, keep_trans k1 g2⟩
  · rw [if_neg hK]
    rw [decide_eq_false hK] at hfk
    clear hK tcell hhg
    go_enter Tryz.func16, Tryz.ntmps16
    go_wp2_with (first
      | (refine wpList_load_row rfl 25 _ (by rfl) w.heap.size (by rfl) _ _ _ _ b0.here Tryz.underlying25 rfl (by kernel_rfl) ?_)
      | (go_at_call 19; refine (hfk _ hb0).mono ?_; rintro e w1 ⟨rfl, g1⟩)
      | fail)
    go_ret
    exact ⟨rfl, keep_trans hb0 g1⟩
set_option maxHeartbeats 4000000 in
set_option maxRecDepth 100000 in
theorem chasK_any (ts : List (Int × Int)) (tv : Value) (ia sa : Option Addr) (il ic sl sc n : Nat) (w : World) (ht : TrS w tv ts) (hn : n < 18446744073709551616) :
    Calls Tryz.prog 25 #[.agg #[tv, .slice ia il ic, .slice sa sl sc], .int .u64 (n : Int)] w fun e w' => e = .returned (.int .i64 (vcE ts il sl n)) ∧ Below w.heap.size w w' := by
  have hfk := fun y (h : Below w.heap.size w y) => cfitK_any ts tv ia sa il ic sl sc y (ht.below h)
  have hlv := fun y (h : Below w.heap.size w y) => clvs_any ts tv ia sa il ic sl sc y (ht.below h)
  obtain ⟨ta, tc, rfl, t1, t2, tcell⟩ := ht
  generalize ts.length = N at *
  have b0 := BxK.new w (.slice ta N tc) (.slice ia il ic) (.slice sa sl sc)
  have hb0 := keep_alloc w (.cells #[.slice ta N tc, .slice ia il ic, .slice sa sl sc] 25)
  unfold vcE
  clear tcell t1 t2
  by_cases hK : FitK ts il sl
  · rw [if_neg (by simpa using hK)]
    rw [decide_eq_true hK] at hfk
    rw [if_pos hK] at hlv
    have hl := lvN_lt hK.2.2.2.1
    generalize lvN ts = L at *
    clear hK
    by_cases hL : L ≤ n
    · rw [if_pos hL]
      have hL' : (n : Int) ≥ (L : Int) := by omega
      have hL'' : (L : Int) ≤ (n : Int) := by omega
      go_enter Tryz.func25, Tryz.ntmps25
      go_wp2_with (first
        | (refine wpList_load_row rfl 25 _ (by rfl) w.heap.size (by rfl) _ _ _ _ b0.here Tryz.underlying25 rfl (by kernel_rfl) ?_)
        | (go_at_call 19; refine (hfk _ hb0).mono ?_; rintro e w1 ⟨rfl, g1⟩; have b1 := b0.below g1; have k1 := keep_trans hb0 g1; clear b0)
        | (refine wpList_load_row rfl 25 _ (by rfl) w.heap.size (by rfl) _ _ _ _ b1.here Tryz.underlying25 rfl (by kernel_rfl) ?_)
        | (go_at_call 16; refine (hlv _ k1).mono ?_; rintro e w2 ⟨rfl, g2⟩)
        | fail)
      go_ret
      exact ⟨rfl, keep_trans k1 g2⟩
    · rw [if_neg hL]
      have hL' : ¬ ((n : Int) ≥ (L : Int)) := by omega
      have hL'' : ¬ ((L : Int) ≤ (n : Int)) := by omega
      go_enter Tryz.func25, Tryz.ntmps25
      go_wp2_with (first
        | (refine wpList_load_row rfl 25 _ (by rfl) w.heap.size (by rfl) _ _ _ _ b0.here Tryz.underlying25 rfl (by kernel_rfl) ?_)
        | (go_at_call 19; refine (hfk _ hb0).mono ?_; rintro e w1 ⟨rfl, g1⟩; have b1 := b0.below g1; have k1 := keep_trans hb0 g1; clear b0)
        | (refine wpList_load_row rfl 25 _ (by rfl) w.heap.size (by rfl) _ _ _ _ b1.here Tryz.underlying25 rfl (by kernel_rfl) ?_)
        | (go_at_call 16; refine (hlv _ k1).mono ?_; rintro e w2 ⟨rfl, g2⟩)
        | fail)
      go_ret
      exact ⟨rfl, keep_trans k1 g2⟩
  · rw [if_pos hK]
    rw [decide_eq_false hK] at hfk
    go_enter Tryz.func25, Tryz.ntmps25
    go_wp2_with (first
      | (refine wpList_load_row rfl 25 _ (by rfl) w.heap.size (by rfl) _ _ _ _ b0.here Tryz.underlying25 rfl (by kernel_rfl) ?_)
      | (go_at_call 19; refine (hfk _ hb0).mono ?_; rintro e w1 ⟨rfl, g1⟩)
      | fail)
    go_ret
    exact ⟨rfl, keep_trans hb0 g1⟩
end Go.Proofs.YtogiballdmgcpaaGreatDoor

/- Trees of trees: the id and the seed of the tree below a leaf. -/
namespace Go.Proofs.YtogiballdmgcpaaGreatDoor
open Go.RowKit
set_option linter.unusedVariables false
set_option linter.unusedSimpArgs false

/-- the id and the seed of the tree below a leaf -/
def idB (id seed : List Nat) (q : Nat) : List Nat := (lmX shaL (preL id q) 65535 255 seed).take 16
def sdB (id seed : List Nat) (q : Nat) : List Nat := lmX shaL (preL id q) 65534 255 seed
theorem idB_len (id seed : List Nat) (q : Nat) : (idB id seed q).length = 16 := by unfold idB; rw [List.length_take, show (lmX shaL (preL id q) 65535 255 seed).length = 32 from shaL_len _]; decide
theorem sdB_len (id seed : List Nat) (q : Nat) : (sdB id seed q).length = 32 := shaL_len _
end Go.Proofs.YtogiballdmgcpaaGreatDoor

/- Trees of leaves that sign once: the document's knots. -/
namespace Go.Proofs.YtogiballdmgcpaaGreatDoor
open Go.RowKit
set_option linter.unusedVariables false
set_option linter.unusedSimpArgs false

/-- from place i on, texts lie in block H of N places -/
def KnS (wr : World) (H N i : Nat) (f : Nat → List Nat) : Prop := ∃ us : Array Value, us.size = N ∧ wr.heap[H]? = some (.cells us 23 (0, 0)) ∧ ∀ j, i ≤ j → j < N → ∃ u, us[j]? = some u ∧ Row .u8 256 wr u (f j) ∧ Tidy u ∧ ∀ q, u.ownBlock = some q → H < q
theorem KnS.lt {wr : World} {H N i : Nat} {f : Nat → List Nat} (h : KnS wr H N i f) : H < wr.heap.size := by
  obtain ⟨us, _, h1, _⟩ := h
  exact (Array.getElem?_eq_some_iff.1 h1).1
theorem KnS.below {wr w' : World} {H N i : Nat} {f : Nat → List Nat} (h : KnS wr H N i f) (hb : Below wr.heap.size wr w') : KnS w' H N i f := by
  have hl := h.lt
  obtain ⟨us, h1, h2, h3⟩ := h
  refine ⟨us, h1, (hb.block _ hl).trans h2, fun j k1 k2 => ?_⟩
  obtain ⟨u, e1, e2, e3, e4⟩ := h3 j k1 k2
  exact ⟨u, e1, e2.below hb, e3, e4⟩
theorem KnS.frozen {wr : World} {H N i : Nat} {f : Nat → List Nat} (h : KnS wr H N i f) (j : Nat) : wr.frozen? ⟨H, j, none⟩ = false := by
  obtain ⟨us, _, h1, _⟩ := h
  simp [World.frozen?, h1]
theorem KnS.any {wr : World} {H N i : Nat} {f : Nat → List Nat} (h : KnS wr H N i f) {j : Nat} (hj : j < N) : ∃ u, wr.cell? ⟨H, j, none⟩ = some u := by
  obtain ⟨us, h0, h1, _⟩ := h
  refine ⟨us[j]'(by omega), ?_⟩
  rw [cell_of_row wr H j _ _ (0, 0) h1]
  exact Array.getElem?_eq_getElem (by omega)
theorem KnS.cell {wr : World} {H N i : Nat} {f : Nat → List Nat} (h : KnS wr H N i f) {j : Nat} (k1 : i ≤ j) (k2 : j < N) : ∃ u, wr.cell? ⟨H, j, none⟩ = some u ∧ Row .u8 256 wr u (f j) ∧ Tidy u := by
  obtain ⟨us, h0, h1, h2⟩ := h
  obtain ⟨u, e1, e2, e3, _⟩ := h2 j k1 k2
  exact ⟨u, by rw [cell_of_row wr H j _ _ (0, 0) h1]; exact e1, e2, e3⟩
theorem KnS.store {wr : World} {H N i : Nat} {f : Nat → List Nat} {v : Value} (h : KnS wr H N (i + 1) f) (hi : i < N) (hv : Row .u8 256 wr v (f i)) (tv : Tidy v) (hn : ∀ q, v.ownBlock = some q → H < q) : KnS (wr.setCell ⟨H, i, none⟩ v) H N i f := by
  obtain ⟨us, h0, h1, h2⟩ := h
  have hB : But H wr (wr.setCell ⟨H, i, none⟩ v) := (But.refl H wr).setCell i v
  have rw' : ∀ {u : Value} {l : List Nat}, Row .u8 256 wr u l → (∀ q, u.ownBlock = some q → q ≠ H) → Row .u8 256 (wr.setCell ⟨H, i, none⟩ v) u l := fun {u l} hu hq => by
    obtain ⟨a, cap, rfl, k1, k2, k3, k4⟩ := hu
    refine ⟨a, cap, rfl, k1, k2, fun hl => ?_, k4⟩
    obtain ⟨b, off, rfl, hc⟩ := k3 hl
    exact ⟨b, off, rfl, fun j hj => But.cell (hc j hj) hB (hq b (by simp [Value.ownBlock]))⟩
  refine ⟨us.setIfInBounds i v, by simp [h0], ?_, fun j k1 k2 => ?_⟩
  · rw [setCell_eq_setRow wr H i _ 23 (0, 0) _ h1]
    exact setRow_heap wr H _ _ 23 _ h1
  · by_cases e : j = i
    · subst e
      exact ⟨v, by rw [Array.getElem?_setIfInBounds_self_of_lt (by omega)], rw' hv (fun q hq => by have := hn q hq; omega), tv, hn⟩
    · obtain ⟨u, e1, e2, e3, e4⟩ := h2 j (by omega) k2
      exact ⟨u, by rw [Array.getElem?_setIfInBounds_ne (fun x => e x.symm)]; exact e1, rw' e2 (fun q hq => by have := e4 q hq; omega), e3, e4⟩
theorem KnS.made {w : World} {base g n : Nat} {xs : List Value} (f : Nat → List Nat) (h : w.ownsRow base 23 1 (.slice (some ⟨g, 0, none⟩) n n) n xs) : KnS w g n n f := by
  obtain ⟨_, ⟨h1, _⟩ | ⟨g', cap, cur, h1, _, h3, _, _, h4, h5⟩⟩ := h
  · cases h1
  · simp only [Value.slice.injEq, Option.some.injEq, Addr.mk.injEq] at h1
    obtain ⟨⟨rfl, _⟩, rfl⟩ : (g = g' ∧ True) ∧ n = cap := ⟨⟨h1.1.1, trivial⟩, h1.2.2⟩
    exact ⟨cur, by omega, h3, fun j k1 k2 => by omega⟩
end Go.Proofs.YtogiballdmgcpaaGreatDoor

/- Texts that are laid into a slice of the call's own, which grows. -/
namespace Go.Proofs.YtogiballdmgcpaaGreatDoor
open Go.RowKit
set_option linter.unusedVariables false
set_option linter.unusedSimpArgs false

/-- u lies apart from the slice vo -/
def Apart1 (w : World) (vo u : Value) : Prop := ∀ q, u.ownBlock = some q → q < w.heap.size ∧ vo.ownBlock ≠ some q
/-- vo is a slice of the call's own; the texts in it lie apart from it -/
structure GrT (w : World) (B : Nat) (vo : Value) (ls : List (List Nat)) : Prop where
  ex : ∃ us, w.ownsRow B 23 1 vo ls.length us ∧ Texts w us ls ∧ ∀ u ∈ us, Apart1 w vo u
theorem GrT.nil (w : World) (B : Nat) : GrT w B (.slice none 0 0) [] := ⟨⟨[], World.ownsRow_nil _ _ _ _, Texts.nil _, fun u h => by cases h⟩⟩
theorem GrT.rows {w : World} {B : Nat} {vo : Value} {ls : List (List Nat)} (h : GrT w B vo ls) : Rows2 w vo ls := by
  obtain ⟨us, h1, h2, _⟩ := h.ex
  exact h2.rows2 h1
theorem GrT.below {w w' : World} {B : Nat} {vo : Value} {ls : List (List Nat)} (h : GrT w B vo ls) (hb : Below w.heap.size w w') : GrT w' B vo ls := by
  obtain ⟨us, h1, h2, h3⟩ := h.ex
  refine ⟨⟨us, h1.kept (row := none) ⟨hb.os, hb.tape, hb.output, hb.size, fun k hk _ => hb.block k hk⟩ ?_, h2.below hb, fun u hu q hq => ?_⟩⟩
  · cases hvo : vo.ownBlock with
    | none => exact .inl rfl
    | some q => exact .inr (by simp)
  · obtain ⟨k1, k2⟩ := h3 u hu q hq
    exact ⟨Nat.lt_of_lt_of_le k1 hb.size, k2⟩
theorem GrT.slice {w : World} {B : Nat} {vo : Value} {ls : List (List Nat)} (h : GrT w B vo ls) : ∃ a c, vo = .slice a ls.length c := by
  obtain ⟨us, h1, _, _⟩ := h.ex
  rcases h1.2 with ⟨rfl, h0⟩ | ⟨g, cap, cur, rfl, _⟩
  · exact ⟨none, 0, by rw [h0]⟩
  · exact ⟨_, _, rfl⟩
theorem row_grownT {w w' : World} {row : Option Nat} {u : Value} {l : List Nat} (h : Row .u8 256 w u l) (hg : w.grownBy w' row) (hn : ∀ q, u.ownBlock = some q → some q ≠ row) : Row .u8 256 w' u l := by
  obtain ⟨a, cap, rfl, h1, h2, h3, h4⟩ := h
  refine ⟨a, cap, rfl, h1, h2, fun hl => ?_, h4⟩
  obtain ⟨b, off, rfl, hc⟩ := h3 hl
  refine ⟨b, off, rfl, fun i hi => hg.cell (hc i hi) (hn b (by simp [Value.ownBlock]))⟩
/-- a text more -/
theorem GrT.push {w w' : World} {B g cap : Nat} {vo u : Value} {ls : List (List Nat)} {x : List Nat} {us : List Value} (ht : Texts w us ls) (ha : ∀ u ∈ us, Apart1 w vo u) (hu : Row .u8 256 w u x) (tu : Tidy u) (au : Apart1 w vo u)
    (hown : w'.ownsRow B 23 1 (.slice (some ⟨g, 0, none⟩) (ls.length + 1) cap) (ls.length + 1) (us ++ [u])) (hg : w.grownBy w' vo.ownBlock) (hl : vo.ownBlock = some g ∨ g = w.heap.size) : GrT w' B (.slice (some ⟨g, 0, none⟩) (ls.length + 1) cap) (ls ++ [x]) := by
  have ap : ∀ v, Apart1 w vo v → Apart1 w' (.slice (some ⟨g, 0, none⟩) (ls.length + 1) cap) v := fun v hv q hq => by
    obtain ⟨k1, k2⟩ := hv q hq
    refine ⟨Nat.lt_of_lt_of_le k1 hg.size, fun e => ?_⟩
    have eg : g = q := by simpa [Value.ownBlock] using e
    rcases hl with h | h
    · exact k2 (by rw [h, eg])
    · omega
  refine ⟨⟨us ++ [u], by rw [List.length_append]; exact hown, ?_, fun v hv => ?_⟩⟩
  · have h1 : Texts w' us ls := ⟨ht.1, fun i hi => by
      obtain ⟨v, k1, k2, k3⟩ := ht.2 i hi
      exact ⟨v, k1, row_grownT k2 hg (fun q hq e => (ha v (List.mem_of_getElem? k1) q hq).2 e.symm), k3⟩⟩
    exact h1.append (Texts.one (row_grownT hu hg (fun q hq e => (au q hq).2 e.symm)) tu)
  · rcases List.mem_append.1 hv with h | h
    · exact ap v (ha v h)
    · have : v = u := by simpa using h
      rw [this]
      exact ap u au
theorem Apart1.below {w w' : World} {vo u : Value} (h : Apart1 w vo u) (hs : w.heap.size ≤ w'.heap.size) : Apart1 w' vo u := fun q hq => ⟨Nat.lt_of_lt_of_le (h q hq).1 hs, (h q hq).2⟩
end Go.Proofs.YtogiballdmgcpaaGreatDoor

/- Trees of leaves that sign once: the document's Public. -/
namespace Go.Proofs.YtogiballdmgcpaaGreatDoor
open Go.RowKit
set_option linter.unusedVariables false
set_option linter.unusedSimpArgs false

/-- a leaf's key -/
def pkT (k n m : Nat) (id seed : List Nat) (q : Nat) : List Nat := pubH shaL (preL id q) (2 ^ k - 1) (n + m) seed
theorem pkT_len (k n m : Nat) (id seed : List Nat) (q : Nat) : (pkT k n m id seed q).length = 32 := shaL_len _
/-- the knots of a tree -/
def knT (k n m h : Nat) (id seed : List Nat) : Nat → List Nat := knA (ovL id) (fun i => lfS id i (pkT k n m id seed (i - 2 ^ h))) h
theorem knT_len (k n m h : Nat) (id seed : List Nat) (i : Nat) : (knT k n m h id seed i).length = 32 := knA_32 (fun _ _ _ => shaL_len _) (fun _ => shaL_len _) _ _
theorem pow_le_1024 {h : Nat} (hh : h ≤ 10) : 2 ^ h ≤ 1024 := by
  have := Nat.pow_le_pow_right (n := 2) (by decide) hh
  simpa using this
end Go.Proofs.YtogiballdmgcpaaGreatDoor

/- Trees of leaves that sign once: the document's Public where it answers, by a plan. -/
namespace Go.Proofs.YtogiballdmgcpaaGreatDoor
open Go.RowKit
set_option linter.unusedVariables false
set_option linter.unusedSimpArgs false

theorem Bx2T.range {W : World} {B : Nat} {v0 v1 : Value} (h : Bx2T W B v0 v1) : W.rangeAt B 0 [v0, v1] := fun j v hv => by
  match j, hv with
  | 0, hv => simp at hv; subst hv; exact h.c0
  | 1, hv => simp at hv; subst hv; exact h.c1
section
variable {P : Program} {ops : Array Oper} {Q : Exit → Act → World → Prop} {K : Act → World → Prop}
end
end Go.Proofs.YtogiballdmgcpaaGreatDoor

/- Trees of leaves that sign once: the document's Cut. -/
namespace Go.Proofs.YtogiballdmgcpaaGreatDoor
open Go.RowKit
set_option linter.unusedVariables false
set_option linter.unusedSimpArgs false

theorem Bx2T.load4 {P : Program} {W : World} {B : Nat} {v0 v1 : Value} (h : Bx2T W B v0 v1) {fn : Func} {s p u v : Tmp} (hr : fn.results = #[.tmp s, .cell p 45, .tmp u, .tmp v]) (hP : P = Tryz.prog) (tmps : Array Value) (hp : tmps.getD p undef = .pointer (some ⟨B, 0, none⟩)) :
    (results fn tmps).run P W = .ok (.tuple #[tmps.getD s undef, .agg #[v0, v1], tmps.getD u undef, tmps.getD v undef]) W := by
  subst hP
  have hp' : tmps[p]?.getD undef = .pointer (some ⟨B, 0, none⟩) := by simpa using hp
  simp [results, hr, hp', asAddr, run_loadVar_row W B 45 45 #[v0, v1] (0, 0) _ h.here Tryz.underlying45 rfl (by kernel_rfl)]
end Go.Proofs.YtogiballdmgcpaaGreatDoor

/- Trees of leaves that sign once: the document's Cut where it answers. -/
namespace Go.Proofs.YtogiballdmgcpaaGreatDoor
open Go.RowKit
set_option linter.unusedVariables false
set_option linter.unusedSimpArgs false

section
variable {ops : Array Oper} {S : World → Prop}
end
theorem ctE_zero {b : List Nat} (h : ctE b = 0) : 8 ≤ b.length ∧ ctW b ≠ 0 ∧ ctA b + 4 ≤ b.length ∧ ctH b ≠ 0 ∧ ctN b ≤ b.length := by
  unfold ctE at h
  by_cases h1 : b.length < 8
  · rw [if_pos h1] at h; exact absurd h (by decide)
  rw [if_neg h1] at h
  by_cases h2 : ctW b = 0
  · rw [if_pos h2] at h; exact absurd h (by decide)
  rw [if_neg h2] at h
  by_cases h3 : b.length < ctA b + 4
  · rw [if_pos h3] at h; exact absurd h (by decide)
  rw [if_neg h3] at h
  by_cases h4 : ctH b = 0
  · rw [if_pos h4] at h; exact absurd h (by decide)
  rw [if_neg h4] at h
  by_cases h5 : b.length < ctN b
  · rw [if_pos h5] at h; exact absurd h (by decide)
  exact ⟨by omega, h2, by omega, h4, by omega⟩
end Go.Proofs.YtogiballdmgcpaaGreatDoor

/- Leaves that sign once: the document's Sign. -/
namespace Go.Proofs.YtogiballdmgcpaaGreatDoor
open Go.RowKit
set_option linter.unusedVariables false
set_option linter.unusedSimpArgs false

theorem el_le_of {K : Nat} {l : List Nat} (h : ∀ x ∈ l, x < 2 ^ K) (i : Nat) : el l i ≤ 2 ^ K - 1 := by
  by_cases hi : i < l.length
  · rw [el_at hi]; have := h _ (List.getElem_mem hi); omega
  · unfold el; rw [List.getElem?_eq_none (by omega)]; exact Nat.zero_le _
end Go.Proofs.YtogiballdmgcpaaGreatDoor

/- Trees of leaves that sign once: the document's Sign. -/
namespace Go.Proofs.YtogiballdmgcpaaGreatDoor
open Go.RowKit
set_option linter.unusedVariables false
set_option linter.unusedSimpArgs false

/-- a leaf's signature -/
def sgT (k n m s c : Nat) (id seed text : List Nat) (q : Nat) : List Nat := sgnH shaL (preL id q) c (digsL k n m s (digH shaL (preL id q) (lmCn shaL (preL id q) seed) text)) seed
theorem sgT_len (k n m s c : Nat) (id seed text : List Nat) (q : Nat) : (sgT k n m s c id seed text q).length = 36 + 32 * (n + m) := by unfold sgT; rw [sgnH_len, digs_len]; exact fun _ => shaL_len _
theorem lev_div {h n : Nat} (hn : Lev h n) : ∀ i, i ≤ h → Lev (h - i) (n / 2 ^ i)
  | 0, _ => by rw [Nat.pow_zero, Nat.div_one]; exact hn
  | i + 1, hi => by
    have := lev_div hn i (by omega)
    rw [show h - i = (h - (i + 1)) + 1 by omega] at this
    rw [Nat.pow_succ, ← Nat.div_div_eq_div_mul]
    exact this.up
section
variable {ops : Array Oper} {S : World → Prop}
end
end Go.Proofs.YtogiballdmgcpaaGreatDoor

/- Trees of leaves that sign once: the document's Sign where it answers. -/
namespace Go.Proofs.YtogiballdmgcpaaGreatDoor
open Go.RowKit
set_option linter.unusedVariables false
set_option linter.unusedSimpArgs false

theorem pthA_len {f : Nat → List Nat} : ∀ k n, (pthA f k n).length = k
  | 0, n => rfl
  | k + 1, n => by rw [pthA_snoc, List.length_append, pthA_len k n]; rfl
theorem pthA_flat {f : Nat → List Nat} (hf : ∀ i, (f i).length = 32) : ∀ k n, (pthA f k n).flatten.length = 32 * k
  | 0, n => rfl
  | k + 1, n => by rw [pthA_snoc, List.flatten_append, List.length_append, pthA_flat hf k n]; simp [hf]; omega
end Go.Proofs.YtogiballdmgcpaaGreatDoor
