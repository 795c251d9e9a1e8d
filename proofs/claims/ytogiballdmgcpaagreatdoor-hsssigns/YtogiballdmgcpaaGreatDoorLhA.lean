/- Trees of trees, the program's own: how high, whether fit, how many leaves. -/
import Derived.Test.YtogiballdmgcpaaGreatDoorHkV
import Derived.Test.YtogiballdmgcpaaGreatDoorLcD
import Derived.Test.YtogiballdmgcpaaGreatDoorLmR
namespace Go.Proofs.YtogiballdmgcpaaGreatDoor
open Go.RowKit
set_option linter.unusedVariables false
set_option linter.unusedSimpArgs false

/-- where the sum of heights stands -/
def HgL (w : World) (ts : List (Int × Int)) (vn vi : Value) (wr : World) : Prop := ∃ i : Nat, i ≤ ts.length ∧ vi = .int .i64 (i : Int) ∧ vn = .int .i64 (sumH (ts.take i)) ∧ Below w.heap.size w wr
set_option maxHeartbeats 4000000 in
set_option maxRecDepth 100000 in
theorem chgt_any (ts : List (Int × Int)) (tv : Value) (ia sa : Option Addr) (il ic sl sc : Nat) (w : World) (ht : TrS w tv ts) (h8 : ts.length ≤ 8) (hf : ∀ t ∈ ts, FitG t) :
    Calls Tryz.prog 39 #[.agg #[tv, .slice ia il ic, .slice sa sl sc]] w fun e w' => e = .returned (.int .i64 (sumH ts)) ∧ Below w.heap.size w w' := by
  obtain ⟨ta, tc, rfl, t1, t2, tcell⟩ := ht
  have b0 := BxK.new w (.slice ta ts.length tc) (.slice ia il ic) (.slice sa sl sc)
  have hb0 := keep_alloc w (.cells #[.slice ta ts.length tc, .slice ia il ic, .slice sa sl sc] 25)
  have c0 := b0.c0
  obtain ⟨N, hN⟩ : ∃ N, ts.length = N := ⟨_, rfl⟩
  rw [hN] at b0 hb0 c0 ⊢
  have h0 : HgL w ts (.int .i64 0) (.int .i64 0) (w.alloc (.cells #[.slice ta N tc, .slice ia il ic, .slice sa sl sc] 25)) := ⟨0, Nat.zero_le _, rfl, rfl, hb0⟩
  have H0 := hide h0
  have HT := hide (And.intro tcell (And.intro hN (And.intro h8 hf)))
  clear h0 tcell b0 hb0 hf h8
  obtain ⟨R, hR⟩ : ∃ R, sumH ts = R := ⟨_, rfl⟩
  rw [hR]
  have HR := hide hR
  clear hR
  go_enter Tryz.func39, Tryz.ntmps39
  go_wp2
  go_loopw [3, 9] (fun vn vi wr => HgL w ts vn vi wr) (fun _ vi _ => N - (intOf vi).toNat)
  case atStart => exact H0.out
  case round =>
    obtain ⟨i, hi, rfl, rfl, hbr⟩ := hrel
    clear H0
    obtain ⟨tcell, hN, h8, hf⟩ := HT.out
    by_cases hlt : i < N
    · have hlt' : (i : Int) < (N : Int) := by omega
      have hge' : ¬ ((N : Int) ≤ (i : Int)) := by omega
      obtain ⟨tb, to, rfl, tcc⟩ := tcell (by omega)
      obtain ⟨x1, x2⟩ := tcc i (by omega)
      have y1 : wr.cell? ⟨tb, to + i * 2, none⟩ = some (.int .i64 (trA ts i).1) := keep_cell x1 hbr
      have y2 : wr.cell? ⟨tb, to + i * 2 + 1, none⟩ = some (.int .i64 (trA ts i).2) := keep_cell x2 hbr
      have htk := tr_take (ts := ts) (i := i) (by omega)
      have hp := (hf _ (trA_mem (ts := ts) (i := i) (by omega))).pos
      obtain ⟨hs1, hs2⟩ := sumH_le (ts.take i) (fun t h => hf t (List.mem_of_mem_take h))
      have hsl : ((ts.take i).length : Int) ≤ (i : Int) := by rw [List.length_take]; omega
      obtain ⟨S, hS⟩ : ∃ S, sumH (ts.take i) = S := ⟨_, rfl⟩
      rw [hS] at hs1 hs2 ⊢
      obtain ⟨th, hth⟩ : ∃ t, (trA ts i).1 = t := ⟨_, rfl⟩
      obtain ⟨tw, htw⟩ : ∃ t, (trA ts i).2 = t := ⟨_, rfl⟩
      rw [hth] at y1 hp
      rw [htw] at y2
      obtain ⟨S2, hS2⟩ : ∃ S2, S + th = S2 := ⟨_, rfl⟩
      obtain ⟨Q, hQ⟩ : ∃ Q : Nat, i + 1 = Q := ⟨_, rfl⟩
      have e_Q : (i : Int) + 1 = (Q : Int) := by omega
      have s_Q : IntKind.i64.wrap (Q : Int) = (Q : Int) := by rw [IntKind.wrap_i64]; omega
      have s_S : IntKind.i64.wrap S2 = S2 := by rw [IntKind.wrap_i64]; omega
      have HQ := hide (And.intro hS (And.intro htk (And.intro hth (And.intro hN (And.intro hbr (And.intro hQ hS2))))))
      clear hS htk hth htw hN hbr tcell tcc x1 x2 hQ hp hs1 hs2 hsl hf h8
      go_wp2
      obtain ⟨hS, htk, hth, hN, hbr, hQ, hS2⟩ := HQ.out
      refine ⟨⟨Q, by omega, rfl, ?_, keep_trans hbr (keep_alloc _ _)⟩, by simp [intOf]; omega⟩
      rw [← hQ, htk, sumH_snoc, hS, hth, hS2]
    · obtain rfl : i = N := by omega
      have hge : ¬ ((i : Int) < (i : Int)) := by omega
      have htk : ts.take i = ts := List.take_of_length_le (by omega)
      rw [htk, HR.out]
      have HK := hide hbr
      clear hN tcell hbr htk hf h8
      go_wp2
      go_ret
      exact ⟨rfl, HK.out⟩
/-- where Fit stands -/
def HfL (w : World) (B : Nat) (v0 v1 v2 : Value) (ts : List (Int × Int)) (vi : Value) (wr : World) : Prop := ∃ i : Nat, i ≤ ts.length ∧ vi = .int .i64 (i : Int) ∧ (∀ t ∈ ts.take i, FitG t) ∧ BxK wr B v0 v1 v2 ∧ Below w.heap.size w wr
set_option maxHeartbeats 4000000 in
set_option maxRecDepth 100000 in
theorem cfitK_any (ts : List (Int × Int)) (tv : Value) (ia sa : Option Addr) (il ic sl sc : Nat) (w : World) (ht : TrS w tv ts) :
    Calls Tryz.prog 19 #[.agg #[tv, .slice ia il ic, .slice sa sl sc]] w fun e w' => e = .returned (.bool (decide (FitK ts il sl))) ∧ Below w.heap.size w w' := by
  have hhg := fun y (k : Below w.heap.size w y) => chgt_any ts tv ia sa il ic sl sc y (ht.below k)
  obtain ⟨ta, tc, rfl, t1, t2, tcell⟩ := ht
  have b0 := BxK.new w (.slice ta ts.length tc) (.slice ia il ic) (.slice sa sl sc)
  have hb0 := keep_alloc w (.cells #[.slice ta ts.length tc, .slice ia il ic, .slice sa sl sc] 25)
  obtain ⟨N, hN⟩ : ∃ N, ts.length = N := ⟨_, rfl⟩
  rw [hN] at b0 hb0 hhg ⊢
  obtain ⟨RB, hRB⟩ : ∃ R, decide (FitK ts il sl) = R := ⟨_, rfl⟩
  rw [hRB]
  have HR := hide hRB
  clear hRB
  have c0 := b0.c0
  by_cases hN1 : N < 1
  · have hN1' : (N : Int) < 1 := by omega
    have hd : false = RB := by rw [← HR.out, decide_eq_false (fun h => by have := h.1; omega)]
    have HD := hide (And.intro hd hb0)
    clear hd hb0 b0 hhg tcell t1 t2 HR hN
    go_enter Tryz.func19, Tryz.ntmps19
    go_wp2
    go_ret
    exact ⟨by rw [← HD.out.1]; rfl, HD.out.2⟩
  have hN1' : ¬ ((N : Int) < 1) := by omega
  by_cases hN8 : 8 < N
  · have hN8' : (8 : Int) < (N : Int) := by omega
    have hN8'' : (N : Int) > 8 := by omega
    have hd : false = RB := by rw [← HR.out, decide_eq_false (fun h => by have := h.2.1; omega)]
    have HD := hide (And.intro hd hb0)
    clear hd hb0 b0 hhg tcell t1 t2 HR hN
    go_enter Tryz.func19, Tryz.ntmps19
    go_wp2
    go_ret
    exact ⟨by rw [← HD.out.1]; rfl, HD.out.2⟩
  have hN8' : ¬ ((8 : Int) < (N : Int)) := by omega
  have hN8'' : ¬ ((N : Int) > 8) := by omega
  have h0 : HfL w w.heap.size (.slice ta N tc) (.slice ia il ic) (.slice sa sl sc) ts (.int .i64 0) (w.alloc (.cells #[.slice ta N tc, .slice ia il ic, .slice sa sl sc] 25)) := ⟨0, Nat.zero_le _, rfl, fun t h => by simp at h, b0, hb0⟩
  have H0 := hide h0
  have HT := hide (And.intro tcell (And.intro hN (And.intro hN1 hN8)))
  clear h0 tcell b0 hb0 hN1 hN8
  go_enter Tryz.func19, Tryz.ntmps19
  go_wp2
  go_loopw [18] (fun vi wr => HfL w w.heap.size (.slice ta N tc) (.slice ia il ic) (.slice sa sl sc) ts vi wr) (fun vi _ => N - (intOf vi).toNat)
  case atStart => exact H0.out
  case round =>
    obtain ⟨i, hi, rfl, hfit, bx, hbr⟩ := hrel
    clear H0
    have c0 := bx.c0
    have c1 := bx.c1
    have c2 := bx.c2
    obtain ⟨tcell, hN, hN1, hN8⟩ := HT.out
    by_cases hlt : i < N
    · have hlt' : (i : Int) < (N : Int) := by omega
      obtain ⟨tb, to, rfl, tcc⟩ := tcell (by omega)
      obtain ⟨x1, x2⟩ := tcc i (by omega)
      have y1 : wr.cell? ⟨tb, to + i * 2, none⟩ = some (.int .i64 (trA ts i).1) := keep_cell x1 hbr
      have y2 : wr.cell? ⟨tb, to + i * 2 + 1, none⟩ = some (.int .i64 (trA ts i).2) := keep_cell x2 hbr
      have htk := tr_take (ts := ts) (i := i) (by omega)
      have hmem := trA_mem (ts := ts) (i := i) (by omega)
      have hf := fun y => cfitT_any (trA ts i).1 (trA ts i).2 y
      obtain ⟨th, hth⟩ : ∃ t, (trA ts i).1 = t := ⟨_, rfl⟩
      obtain ⟨tw, htw⟩ : ∃ t, (trA ts i).2 = t := ⟨_, rfl⟩
      rw [hth] at y1 hf
      rw [htw] at y2 hf
      have d5 := Bx2T.new wr (.int .i64 th) (.int .i64 tw)
      have kd := keep_alloc wr (.cells #[.int .i64 th, .int .i64 tw] 45)
      have HQ := hide (And.intro htk (And.intro hmem (And.intro hfit (And.intro hth (And.intro htw (And.intro hN (And.intro bx (And.intro hbr (And.intro hi kd)))))))))
      clear htk hmem hfit hth htw hN bx hbr tcell tcc x1 x2 hhg kd hN1 hN8
      have d50 := d5.c0
      have d51 := d5.c1
      by_cases hL : FitL th tw
      · rw [decide_eq_true hL] at hf
        have HL := hide hL
        clear hL
        by_cases h10 : 10 < th
        · have h10' : th > 10 := by omega
          go_wp2_with (first
          | (go_at_call 41; refine (hf _).mono ?_; rintro e w2 ⟨rfl, g2⟩; have e5 := d5.below g2; have e50 := e5.c0; have e51 := e5.c1)
          | fail)
          go_ret
          obtain ⟨htk, hmem, hfit, hth, htw, hN, bx, hbr, hi, kd⟩ := HQ.out
          refine ⟨?_, keep_trans (keep_trans hbr kd) g2⟩
          rw [← HR.out, decide_eq_false (fun h => by have := (h.2.2.1 _ hmem).2; omega)]
          rfl
        · have h10' : ¬ (th > 10) := by omega
          obtain ⟨Q, hQ⟩ : ∃ Q : Nat, i + 1 = Q := ⟨_, rfl⟩
          have e_Q : (i : Int) + 1 = (Q : Int) := by omega
          have s_Q : IntKind.i64.wrap (Q : Int) = (Q : Int) := by rw [IntKind.wrap_i64]; have := HT.out.2.2.2; omega
          have hg : FitG (th, tw) := ⟨HL.out, by show th ≤ 10; omega⟩
          have HG := hide (And.intro hg hQ)
          clear hg hQ
          go_wp2_with (first
          | (go_at_call 41; refine (hf _).mono ?_; rintro e w2 ⟨rfl, g2⟩; have e5 := d5.below g2; have e50 := e5.c0; have e51 := e5.c1)
          | fail)
          obtain ⟨htk, hmem, hfit, hth, htw, hN, bx, hbr, hi, kd⟩ := HQ.out
          obtain ⟨hg, hQ⟩ := HG.out
          refine ⟨⟨Q, by omega, rfl, ?_, (bx.below kd).below g2, keep_trans (keep_trans hbr kd) g2⟩, by simp [intOf]; omega⟩
          rw [← hQ, htk]
          intro t ht
          rcases List.mem_append.1 ht with h | h
          · exact hfit t h
          · have : t = trA ts i := by simpa using h
            rw [this]
            have e : trA ts i = (th, tw) := by rw [← hth, ← htw]
            rw [e]
            exact hg
      · rw [decide_eq_false hL] at hf
        have HL := hide hL
        clear hL
        go_wp2_with (first
          | (go_at_call 41; refine (hf _).mono ?_; rintro e w2 ⟨rfl, g2⟩; have e5 := d5.below g2; have e50 := e5.c0; have e51 := e5.c1)
          | fail)
        go_ret
        obtain ⟨htk, hmem, hfit, hth, htw, hN, bx, hbr, hi, kd⟩ := HQ.out
        refine ⟨?_, keep_trans (keep_trans hbr kd) g2⟩
        rw [← HR.out, decide_eq_false (fun h => by have := (h.2.2.1 _ hmem).1; rw [hth, htw] at this; exact HL.out this)]
        rfl
    · obtain rfl : i = N := by omega
      have hge : ¬ ((i : Int) < (i : Int)) := by omega
      have htk : ts.take i = ts := List.take_of_length_le (by omega)
      rw [htk] at hfit
      have hh := hhg wr hbr (by omega) hfit
      have HK := hide (And.intro hfit (And.intro hN hbr))
      have hRd : decide (sumH ts ≤ 60 ∧ il = 16 ∧ sl = 32) = RB := by
        rw [← HR.out]
        apply decide_eq_decide.2
        constructor
        · rintro ⟨h2, h3, h4⟩; exact ⟨by omega, by omega, hfit, h2, h3, h4⟩
        · rintro ⟨h1, h2, h3, h4, h5, h6⟩; exact ⟨h4, h5, h6⟩
      clear hfit htk tcell hhg hN hbr
      obtain ⟨S, hS⟩ : ∃ S, sumH ts = S := ⟨_, rfl⟩
      rw [hS] at hRd hh
      have HD := hide hRd
      clear hRd hS
      by_cases k2 : S ≤ 60
      · by_cases k3 : il = 16
        · subst k3
          by_cases k4 : sl = 32
          · subst k4
            go_wp2_with (first
              | (refine wpList_load_row rfl 25 _ (by rfl) w.heap.size (by rfl) _ _ _ _ bx.here Tryz.underlying25 rfl (by kernel_rfl) ?_)
              | (go_at_call 39; refine hh.mono ?_; rintro e w3 ⟨rfl, g3⟩; have b3 := bx.below g3; have e1 := b3.c1; have e2 := b3.c2)
              | fail)
            go_ret
            exact ⟨by rw [← HD.out]; simp [k2], keep_trans HK.out.2.2 g3⟩
          · have k4' : ((sl : Int) == 32) = false := by simp; omega
            have k4i : ¬ (sl : Int) = 32 := by omega
            go_wp2_with (first
              | (refine wpList_load_row rfl 25 _ (by rfl) w.heap.size (by rfl) _ _ _ _ bx.here Tryz.underlying25 rfl (by kernel_rfl) ?_)
              | (go_at_call 39; refine hh.mono ?_; rintro e w3 ⟨rfl, g3⟩; have b3 := bx.below g3; have e1 := b3.c1; have e2 := b3.c2)
              | fail)
            go_ret
            exact ⟨by rw [← HD.out]; simp [k4], keep_trans HK.out.2.2 g3⟩
        · have k3' : ((il : Int) == 16) = false := by simp; omega
          have k3i : ¬ (il : Int) = 16 := by omega
          go_wp2_with (first
            | (refine wpList_load_row rfl 25 _ (by rfl) w.heap.size (by rfl) _ _ _ _ bx.here Tryz.underlying25 rfl (by kernel_rfl) ?_)
            | (go_at_call 39; refine hh.mono ?_; rintro e w3 ⟨rfl, g3⟩; have b3 := bx.below g3; have e1 := b3.c1; have e2 := b3.c2)
            | fail)
          go_ret
          exact ⟨by rw [← HD.out]; simp [k3], keep_trans HK.out.2.2 g3⟩
      · have k2i : ¬ (S ≤ 60) := k2
        go_wp2_with (first
          | (refine wpList_load_row rfl 25 _ (by rfl) w.heap.size (by rfl) _ _ _ _ bx.here Tryz.underlying25 rfl (by kernel_rfl) ?_)
          | (go_at_call 39; refine hh.mono ?_; rintro e w3 ⟨rfl, g3⟩; have b3 := bx.below g3; have e1 := b3.c1; have e2 := b3.c2)
          | fail)
        go_ret
        exact ⟨by rw [← HD.out, decide_eq_false (fun h => by have := h.1; omega)]; rfl, keep_trans HK.out.2.2 g3⟩
set_option maxHeartbeats 4000000 in
set_option maxRecDepth 100000 in
theorem clvs_any (ts : List (Int × Int)) (tv : Value) (ia sa : Option Addr) (il ic sl sc : Nat) (w : World) (ht : TrS w tv ts) :
    Calls Tryz.prog 16 #[.agg #[tv, .slice ia il ic, .slice sa sl sc]] w fun e w' => e = .returned (.int .u64 ((if FitK ts il sl then lvN ts else 0 : Nat) : Int)) ∧ Below w.heap.size w w' := by
  have hfk := fun y (h : Below w.heap.size w y) => cfitK_any ts tv ia sa il ic sl sc y (ht.below h)
  have hhg := fun y (k : Below w.heap.size w y) => chgt_any ts tv ia sa il ic sl sc y (ht.below k)
  have hl8 : FitK ts il sl → ts.length ≤ 8 := fun h => h.2.1
  obtain ⟨ta, tc, rfl, t1, t2, tcell⟩ := ht
  generalize ts.length = N at *
  have b0 := BxK.new w (.slice ta N tc) (.slice ia il ic) (.slice sa sl sc)
  have hb0 := keep_alloc w (.cells #[.slice ta N tc, .slice ia il ic, .slice sa sl sc] 25)
  by_cases hK : FitK ts il sl
  · rw [if_pos hK]
    rw [decide_eq_true hK] at hfk
    have hl := lvN_lt hK.2.2.2.1
    have hs := sumH_le ts hK.2.2.1
    unfold lvN at hl ⊢
    obtain ⟨S, hS⟩ : ∃ S : Nat, S = (sumH ts).toNat := ⟨_, rfl⟩
    have hSi : sumH ts = (S : Int) := by omega
    rw [← hS] at hl ⊢
    have hS60 : (S : Int) < 64 := by have := hK.2.2.2.1; omega
    obtain ⟨M, hM⟩ : ∃ M, M = 2 ^ S := ⟨_, rfl⟩
    have e_M : (2 : Int) ^ S = (M : Int) := by rw [hM]; norm_cast
    rw [← hM] at hl ⊢
    have s_M : IntKind.u64.wrap (M : Int) = (M : Int) := by rw [IntKind.wrap_u64]; omega
    have hh := fun y (k : Below w.heap.size w y) => hhg y k (hl8 hK) hK.2.2.1
    rw [hSi] at hh
    clear hK tcell hhg hs hS hSi hM hl t1 t2
    go_enter Tryz.func16, Tryz.ntmps16
    go_wp2_with (first
      | (refine wpList_load_row rfl 25 _ (by rfl) w.heap.size (by rfl) _ _ _ _ b0.here Tryz.underlying25 rfl (by kernel_rfl) ?_)
      | (go_at_call 19; refine (hfk _ hb0).mono ?_; rintro e w1 ⟨rfl, g1⟩; have b1 := b0.below g1; have k1 := keep_trans hb0 g1; clear b0)
      | (refine wpList_load_row rfl 25 _ (by rfl) w.heap.size (by rfl) _ _ _ _ b1.here Tryz.underlying25 rfl (by kernel_rfl) ?_)
      | (go_at_call 39; refine (hh _ k1).mono ?_; rintro e w2 ⟨rfl, g2⟩)
      | fail)
    go_ret
    exact ⟨rfl, keep_trans k1 g2⟩
  · rw [if_neg hK]
    rw [decide_eq_false hK] at hfk
    clear hK tcell hhg
    go_enter Tryz.func16, Tryz.ntmps16
    go_wp2_with (first
      | (refine wpList_load_row rfl 25 _ (by rfl) w.heap.size (by rfl) _ _ _ _ b0.here Tryz.underlying25 rfl (by kernel_rfl) ?_)
      | (go_at_call 19; refine (hfk _ hb0).mono ?_; rintro e w1 ⟨rfl, g1⟩)
      | fail)
    go_ret
    exact ⟨rfl, keep_trans hb0 g1⟩
set_option maxHeartbeats 4000000 in
set_option maxRecDepth 100000 in
theorem chasK_any (ts : List (Int × Int)) (tv : Value) (ia sa : Option Addr) (il ic sl sc n : Nat) (w : World) (ht : TrS w tv ts) (hn : n < 18446744073709551616) :
    Calls Tryz.prog 25 #[.agg #[tv, .slice ia il ic, .slice sa sl sc], .int .u64 (n : Int)] w fun e w' => e = .returned (.int .i64 (vcE ts il sl n)) ∧ Below w.heap.size w w' := by
  have hfk := fun y (h : Below w.heap.size w y) => cfitK_any ts tv ia sa il ic sl sc y (ht.below h)
  have hlv := fun y (h : Below w.heap.size w y) => clvs_any ts tv ia sa il ic sl sc y (ht.below h)
  obtain ⟨ta, tc, rfl, t1, t2, tcell⟩ := ht
  generalize ts.length = N at *
  have b0 := BxK.new w (.slice ta N tc) (.slice ia il ic) (.slice sa sl sc)
  have hb0 := keep_alloc w (.cells #[.slice ta N tc, .slice ia il ic, .slice sa sl sc] 25)
  unfold vcE
  clear tcell t1 t2
  by_cases hK : FitK ts il sl
  · rw [if_neg (by simpa using hK)]
    rw [decide_eq_true hK] at hfk
    rw [if_pos hK] at hlv
    have hl := lvN_lt hK.2.2.2.1
    generalize lvN ts = L at *
    clear hK
    by_cases hL : L ≤ n
    · rw [if_pos hL]
      have hL' : (n : Int) ≥ (L : Int) := by omega
      have hL'' : (L : Int) ≤ (n : Int) := by omega
      go_enter Tryz.func25, Tryz.ntmps25
      go_wp2_with (first
        | (refine wpList_load_row rfl 25 _ (by rfl) w.heap.size (by rfl) _ _ _ _ b0.here Tryz.underlying25 rfl (by kernel_rfl) ?_)
        | (go_at_call 19; refine (hfk _ hb0).mono ?_; rintro e w1 ⟨rfl, g1⟩; have b1 := b0.below g1; have k1 := keep_trans hb0 g1; clear b0)
        | (refine wpList_load_row rfl 25 _ (by rfl) w.heap.size (by rfl) _ _ _ _ b1.here Tryz.underlying25 rfl (by kernel_rfl) ?_)
        | (go_at_call 16; refine (hlv _ k1).mono ?_; rintro e w2 ⟨rfl, g2⟩)
        | fail)
      go_ret
      exact ⟨rfl, keep_trans k1 g2⟩
    · rw [if_neg hL]
      have hL' : ¬ ((n : Int) ≥ (L : Int)) := by omega
      have hL'' : ¬ ((L : Int) ≤ (n : Int)) := by omega
      go_enter Tryz.func25, Tryz.ntmps25
      go_wp2_with (first
        | (refine wpList_load_row rfl 25 _ (by rfl) w.heap.size (by rfl) _ _ _ _ b0.here Tryz.underlying25 rfl (by kernel_rfl) ?_)
        | (go_at_call 19; refine (hfk _ hb0).mono ?_; rintro e w1 ⟨rfl, g1⟩; have b1 := b0.below g1; have k1 := keep_trans hb0 g1; clear b0)
        | (refine wpList_load_row rfl 25 _ (by rfl) w.heap.size (by rfl) _ _ _ _ b1.here Tryz.underlying25 rfl (by kernel_rfl) ?_)
        | (go_at_call 16; refine (hlv _ k1).mono ?_; rintro e w2 ⟨rfl, g2⟩)
        | fail)
      go_ret
      exact ⟨rfl, keep_trans k1 g2⟩
  · rw [if_pos hK]
    rw [decide_eq_false hK] at hfk
    go_enter Tryz.func25, Tryz.ntmps25
    go_wp2_with (first
      | (refine wpList_load_row rfl 25 _ (by rfl) w.heap.size (by rfl) _ _ _ _ b0.here Tryz.underlying25 rfl (by kernel_rfl) ?_)
      | (go_at_call 19; refine (hfk _ hb0).mono ?_; rintro e w1 ⟨rfl, g1⟩)
      | fail)
    go_ret
    exact ⟨rfl, keep_trans hb0 g1⟩
end Go.Proofs.YtogiballdmgcpaaGreatDoor

/- Trees of trees: the id and the seed of the tree below a leaf. -/
namespace Go.Proofs.YtogiballdmgcpaaGreatDoor
open Go.RowKit
set_option linter.unusedVariables false
set_option linter.unusedSimpArgs false

/-- the id and the seed of the tree below a leaf -/
def idB (id seed : List Nat) (q : Nat) : List Nat := (lmX shaL (preL id q) 65535 255 seed).take 16
def sdB (id seed : List Nat) (q : Nat) : List Nat := lmX shaL (preL id q) 65534 255 seed
theorem idB_len (id seed : List Nat) (q : Nat) : (idB id seed q).length = 16 := by unfold idB; rw [List.length_take, show (lmX shaL (preL id q) 65535 255 seed).length = 32 from shaL_len _]; decide
theorem sdB_len (id seed : List Nat) (q : Nat) : (sdB id seed q).length = 32 := shaL_len _
set_option maxHeartbeats 4000000 in
set_option maxRecDepth 100000 in
theorem rbelow_any (id seed : List Nat) (q : Nat) (idv sv : Value) (w : World) (hi : Row .u8 256 w idv id) (ti : Tidy idv) (hs : Row .u8 256 w sv seed) (ts : Tidy sv) (hq : q < 4294967296) (hl : id.length + seed.length ≤ 10000) :
    Calls Tryz.prog 29 #[idv, sv, .int .u32 (q : Int)] w fun e w' => ∃ u v, e = .returned (.tuple #[u, v]) ∧ Row .u8 256 w' u (idB id seed q) ∧ Row .u8 256 w' v (sdB id seed q) ∧ Tidy u ∧ Tidy v ∧ New w.heap.size u ∧ New w.heap.size v ∧ Below w.heap.size w w' := by
  obtain ⟨ia, ic, rfl, _⟩ := hi.opens rfl
  obtain ⟨sa, sc, rfl, _⟩ := hs.opens rfl
  have u_q : IntKind.u64.wrap (q : Int) = (q : Int) := by rw [IntKind.wrap_u64]; omega
  have h4 := fun y => rbe4 q y (by omega)
  have h2 := fun y => rbe2 65535 y (by omega)
  have g2 := fun y => rbe2 65534 y (by omega)
  have hfl : ∀ i, [id, be4 q, be2 i, [255], seed].flatten = preL id q ++ (be2 i ++ ([255] ++ seed)) := fun i => by simp [preL]
  have hH := fun y lv (r : Rows2 y lv [id, be4 q, be2 65535, [255], seed]) => rH_any lv _ y r (by rw [hfl]; simp only [List.length_append, len_pre, be2_len, List.length_singleton]; omega)
  have gH := fun y lv (r : Rows2 y lv [id, be4 q, be2 65534, [255], seed]) => rH_any lv _ y r (by rw [hfl]; simp only [List.length_append, len_pre, be2_len, List.length_singleton]; omega)
  rw [hfl] at hH gH
  have hA32 : (lmX shaL (preL id q) 65535 255 seed).length = 32 := shaL_len _
  have hB32 : (lmX shaL (preL id q) 65534 255 seed).length = 32 := shaL_len _
  unfold idB sdB
  unfold lmX at hA32 hB32 ⊢
  generalize shaL = HH at *
  clear hfl
  obtain ⟨RA, hRA⟩ : ∃ R, HH (preL id q ++ (be2 65535 ++ ([255] ++ seed))) = R := ⟨_, rfl⟩
  obtain ⟨RB, hRB⟩ : ∃ R, HH (preL id q ++ (be2 65534 ++ ([255] ++ seed))) = R := ⟨_, rfl⟩
  rw [hRA] at hH hA32 ⊢
  rw [hRB] at gH hB32 ⊢
  clear hRA hRB
  go_enter Tryz.func29, Tryz.ntmps29
  go_wp2_with (first
    | (go_at_call_of 24 (Value.int .i64 4); refine (h4 _).mono ?_; rintro e w1 ⟨v1, rfl, o1, hb1⟩; obtain ⟨a1, c1, rfl⟩ := o1.row.form)
    | (go_at_call_of 24 (#[Value.int .u64 65535, Value.int .i64 2]); refine (h2 _).mono ?_; rintro e w2 ⟨v2, rfl, o2, hb2⟩; obtain ⟨a2, c2, rfl⟩ := o2.row.form; have hb12 := keep_trans hb1 hb2; have hb13 := keep_trans hb12 (keep_alloc w2 (.cells #[.int .u8 255] 5)); have hx := one_byte w2 255 (by decide); have hT := hH _ _ (rows_litL (B := w2.heap.size + 1) (k := 5) (texts_cons (hi.below hb13) ti (texts_cons (o1.row.below (keep_trans hb2 (keep_alloc _ _))) o1.tidy (texts_cons (o2.row.below (keep_alloc _ _)) o2.tidy (texts_cons hx.1 hx.2 (texts_cons (hs.below hb13) ts (Texts.nil _)))))) (by simp) rfl (by decide)))
    | (go_at_call_of 24 (#[Value.int .u64 65534, Value.int .i64 2]); refine (g2 _).mono ?_; rintro e w2 ⟨v2, rfl, o2, hb2⟩; obtain ⟨a2, c2, rfl⟩ := o2.row.form; have hb12 := keep_trans hb1 hb2; have hb13 := keep_trans hb12 (keep_alloc w2 (.cells #[.int .u8 255] 5)); have hx := one_byte w2 255 (by decide); have hT2 := gH _ _ (rows_litL (B := w2.heap.size + 1) (k := 5) (texts_cons (hi.below (keep_trans hbA hb13)) ti (texts_cons (o1.row.below (keep_trans hb2 (keep_alloc _ _))) o1.tidy (texts_cons (o2.row.below (keep_alloc _ _)) o2.tidy (texts_cons hx.1 hx.2 (texts_cons (hs.below (keep_trans hbA hb13)) ts (Texts.nil _)))))) (by simp) rfl (by decide)))
    | (go_at_call 54; have hu := hT; clear hT; refine hu.mono ?_; rintro e w3 ⟨v3, rfl, r3, n3, hb3⟩; have hbA := keep_trans (keep_trans hb13 (keep_alloc _ _)) hb3; obtain ⟨a3, c3, rfl, l3, _, _⟩ := r3.opens hA32; have n3' := n3.mono (keep_trans hb13 (keep_alloc _ _)).size; have l3' : (16 : Int) ≤ (c3 : Int) := by omega)
    | (go_at_call 54; have hu := hT2; clear hT2; refine hu.mono ?_; rintro e w4 ⟨v4, rfl, r4, n4, hb4⟩; obtain ⟨a4, c4, rfl, _⟩ := r4.opens hB32)
    | fail)
  go_ret2
  have hbB := keep_trans (keep_trans hb13 (keep_alloc _ _)) hb4
  have rA := r3.below hbB
  have tA := row_tidyA r3 (by omega)
  refine ⟨_, _, rfl, rA.cut (M := 16) (by omega), r4, tA.to (by omega), row_tidyA r4 (by omega), ?_, ?_, keep_trans hbA hbB⟩
  · exact fun q hq => n3' q (by rw [own_any _ _ _ 16 c3]; exact hq)
  · exact n4.mono (keep_trans hbA (keep_trans hb13 (keep_alloc _ _))).size
end Go.Proofs.YtogiballdmgcpaaGreatDoor
