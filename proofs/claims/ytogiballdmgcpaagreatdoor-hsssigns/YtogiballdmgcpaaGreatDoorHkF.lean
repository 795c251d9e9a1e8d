/- Trees of trees: the document's Fit and Leaves. -/
import Derived.Test.YtogiballdmgcpaaGreatDoorLtR2
import Derived.Test.YtogiballdmgcpaaGreatDoorNumLe
import Derived.Test.YtogiballdmgcpaaGreatDoorLmR
import Derived.Test.YtogiballdmgcpaaGreatDoorHN1
namespace Go.Proofs.YtogiballdmgcpaaGreatDoor
open Go.RowKit
set_option linter.unusedVariables false
set_option linter.unusedSimpArgs false

/-- a key's box -/
structure BxK (W : World) (B : Nat) (v0 v1 v2 : Value) : Prop where
  here : W.heap[B]? = some (.cells #[v0, v1, v2] 25 (0, 0))
theorem BxK.lt {W : World} {B : Nat} {v0 v1 v2 : Value} (h : BxK W B v0 v1 v2) : B < W.heap.size := (Array.getElem?_eq_some_iff.1 h.here).1
theorem BxK.c0 {W : World} {B : Nat} {v0 v1 v2 : Value} (h : BxK W B v0 v1 v2) : W.cell? ⟨B, 0, none⟩ = some v0 := by simp [World.cell?, h.here]
theorem BxK.c1 {W : World} {B : Nat} {v0 v1 v2 : Value} (h : BxK W B v0 v1 v2) : W.cell? ⟨B, 1, none⟩ = some v1 := by simp [World.cell?, h.here]
theorem BxK.c2 {W : World} {B : Nat} {v0 v1 v2 : Value} (h : BxK W B v0 v1 v2) : W.cell? ⟨B, 2, none⟩ = some v2 := by simp [World.cell?, h.here]
theorem BxK.below {W W' : World} {B : Nat} {v0 v1 v2 : Value} (h : BxK W B v0 v1 v2) (hb : Below W.heap.size W W') : BxK W' B v0 v1 v2 := ⟨(hb.block _ h.lt).trans h.here⟩
theorem BxK.new (W : World) (v0 v1 v2 : Value) : BxK (W.alloc (.cells #[v0, v1, v2] 25)) W.heap.size v0 v1 v2 := ⟨heap_alloc_new W _⟩
/-- where Fit stands -/
def KfL (w : World) (B : Nat) (v0 v1 v2 : Value) (ts : List (Int × Int)) (vn vi : Value) (wr : World) : Prop := ∃ i : Nat, i ≤ ts.length ∧ i ≤ 8 ∧ vi = .int .i64 (i : Int) ∧ vn = .int .i64 (sumH (ts.take i)) ∧ (∀ t ∈ ts.take i, FitG t) ∧ BxK wr B v0 v1 v2 ∧ Below w.heap.size w wr
set_option maxHeartbeats 4000000 in
set_option maxRecDepth 100000 in
theorem rfitK_any (ts : List (Int × Int)) (tv : Value) (ia sa : Option Addr) (il ic sl sc : Nat) (w : World) (ht : TrS w tv ts) :
    Calls Tryz.prog 17 #[.agg #[tv, .slice ia il ic, .slice sa sl sc]] w fun e w' => e = .returned (.bool (decide (FitK ts il sl))) ∧ Below w.heap.size w w' := by
  have ht' := ht
  obtain ⟨ta, tc, rfl, t1, t2, tcell⟩ := ht'
  have b0 := BxK.new w (.slice ta ts.length tc) (.slice ia il ic) (.slice sa sl sc)
  have hb0 := keep_alloc w (.cells #[.slice ta ts.length tc, .slice ia il ic, .slice sa sl sc] 25)
  obtain ⟨N, hN⟩ : ∃ N, ts.length = N := ⟨_, rfl⟩
  rw [hN] at b0 hb0 ⊢
  have h0 : KfL w w.heap.size (.slice ta N tc) (.slice ia il ic) (.slice sa sl sc) ts (.int .i64 0) (.int .i64 0) (w.alloc (.cells #[.slice ta N tc, .slice ia il ic, .slice sa sl sc] 25)) := ⟨0, Nat.zero_le _, Nat.zero_le _, rfl, rfl, fun t h => by simp at h, b0, hb0⟩
  have H0 := hide h0
  have HT := hide (And.intro ht (And.intro tcell hN))
  clear h0 ht tcell b0 hb0
  obtain ⟨RB, hRB⟩ : ∃ R, decide (FitK ts il sl) = R := ⟨_, rfl⟩
  rw [hRB]
  have HR := hide hRB
  clear hRB
  go_enter Tryz.func17, Tryz.ntmps17
  go_wp2
  go_loopw [3, 4] (fun vn vi wr => KfL w w.heap.size (.slice ta N tc) (.slice ia il ic) (.slice sa sl sc) ts vn vi wr) (fun _ vi _ => N - (intOf vi).toNat)
  case atStart => exact H0.out
  case round =>
    obtain ⟨i, hi, hi8, rfl, rfl, hfit, bx, hbr⟩ := hrel
    clear H0
    have c0 := bx.c0
    have c1 := bx.c1
    have c2 := bx.c2
    obtain ⟨ht, tcell, hN⟩ := HT.out
    by_cases hlt : i < N
    · have hlt' : (i : Int) < (N : Int) := by omega
      obtain ⟨tb, to, rfl, tcc⟩ := tcell (by omega)
      obtain ⟨x1, x2⟩ := tcc i (by omega)
      have y1 : wr.cell? ⟨tb, to + i * 2, none⟩ = some (.int .i64 (trA ts i).1) := by rw [hbr.cell (p := ⟨tb, to + i * 2, none⟩) (World.block_lt_of_cell? _ _ x1)]; exact x1
      have y2 : wr.cell? ⟨tb, to + i * 2 + 1, none⟩ = some (.int .i64 (trA ts i).2) := by rw [hbr.cell (p := ⟨tb, to + i * 2 + 1, none⟩) (World.block_lt_of_cell? _ _ x2)]; exact x2
      have htk := tr_take (ts := ts) (i := i) (by omega)
      have hmem := trA_mem (ts := ts) (i := i) (by omega)
      have hf := fun y => rfitT_any (trA ts i).1 (trA ts i).2 y
      obtain ⟨hs1, hs2⟩ := sumH_le _ hfit
      have hsl : ((ts.take i).length : Int) ≤ (i : Int) := by rw [List.length_take]; omega
      obtain ⟨S, hS⟩ : ∃ S, sumH (ts.take i) = S := ⟨_, rfl⟩
      rw [hS] at hs1 hs2 ⊢
      obtain ⟨th, hth⟩ : ∃ t, (trA ts i).1 = t := ⟨_, rfl⟩
      obtain ⟨tw, htw⟩ : ∃ t, (trA ts i).2 = t := ⟨_, rfl⟩
      rw [hth] at y1 hf
      rw [htw] at y2 hf
      have HQ := hide (And.intro hS (And.intro htk (And.intro hmem (And.intro hfit (And.intro hth (And.intro htw (And.intro hN (And.intro bx (And.intro hbr hi)))))))))
      clear hS htk hmem hfit hth htw hN bx hbr tcell tcc x1 x2 ht
      by_cases h8 : 8 ≤ i
      · have h8' : (8 : Int) ≤ (i : Int) := by omega
        go_wp2
        go_ret
        obtain ⟨hS, htk, hmem, hfit, hth, htw, hN, bx, hbr, hi⟩ := HQ.out
        refine ⟨?_, keep_trans hbr (keep_alloc _ _)⟩
        rw [← HR.out, decide_eq_false (fun h => by have := h.2.1; omega)]
        rfl
      have h8' : ¬ ((8 : Int) ≤ (i : Int)) := by omega
      by_cases hL : FitL th tw
      · rw [decide_eq_true hL] at hf
        have HL := hide hL
        clear hL
        by_cases h10 : 10 < th
        · go_wp2_with (first
          | (go_at_call 40; refine (hf _).mono ?_; rintro e w2 ⟨rfl, g2⟩; have d5 := (Bx2T.new wr (.int .i64 th) (.int .i64 tw)).below g2; have d50 := d5.c0; have d51 := d5.c1)
          | fail)
          go_ret
          obtain ⟨hS, htk, hmem, hfit, hth, htw, hN, bx, hbr, hi⟩ := HQ.out
          refine ⟨?_, keep_trans (keep_trans hbr (keep_alloc _ _)) g2⟩
          rw [← HR.out, decide_eq_false (fun h => by have := (h.2.2.1 _ hmem).2; omega)]
          rfl
        · obtain ⟨S2, hS2⟩ : ∃ S2, S + th = S2 := ⟨_, rfl⟩
          obtain ⟨Q, hQ⟩ : ∃ Q : Nat, i + 1 = Q := ⟨_, rfl⟩
          have e_Q : (i : Int) + 1 = (Q : Int) := by omega
          have s_Q : IntKind.i64.wrap (Q : Int) = (Q : Int) := by rw [IntKind.wrap_i64]; omega
          have hg : FitG (th, tw) := ⟨HL.out, by show th ≤ 10; omega⟩
          have hgp := hg.pos
          have s_S : IntKind.i64.wrap S2 = S2 := by rw [IntKind.wrap_i64]; have h1 : 1 ≤ th := hgp.1; have h2 : th ≤ 10 := hgp.2; omega
          have HG := hide (And.intro hg (And.intro hS2 hQ))
          clear hg hgp hQ
          go_wp2_with (first
          | (go_at_call 40; refine (hf _).mono ?_; rintro e w2 ⟨rfl, g2⟩; have d5 := (Bx2T.new wr (.int .i64 th) (.int .i64 tw)).below g2; have d50 := d5.c0; have d51 := d5.c1)
          | fail)
          obtain ⟨hS, htk, hmem, hfit, hth, htw, hN, bx, hbr, hi⟩ := HQ.out
          obtain ⟨hg, hS2, hQ⟩ := HG.out
          refine ⟨⟨Q, by omega, by omega, rfl, ?_, ?_, (bx.below (keep_alloc _ _)).below g2, keep_trans (keep_trans hbr (keep_alloc _ _)) g2⟩, by simp [intOf]; omega⟩
          · rw [← hQ, htk, sumH_snoc, hS, hth, hS2]
          · rw [← hQ, htk]
            intro t ht
            rcases List.mem_append.1 ht with h | h
            · exact hfit t h
            · have : t = trA ts i := by simpa using h
              rw [this]
              have e : trA ts i = (th, tw) := by rw [← hth, ← htw]
              rw [e]
              exact hg
      · rw [decide_eq_false hL] at hf
        have HL := hide hL
        clear hL
        go_wp2_with (first
          | (go_at_call 40; refine (hf _).mono ?_; rintro e w2 ⟨rfl, g2⟩; have d5 := (Bx2T.new wr (.int .i64 th) (.int .i64 tw)).below g2; have d50 := d5.c0; have d51 := d5.c1)
          | fail)
        go_ret
        obtain ⟨hS, htk, hmem, hfit, hth, htw, hN, bx, hbr, hi⟩ := HQ.out
        refine ⟨?_, keep_trans (keep_trans hbr (keep_alloc _ _)) g2⟩
        rw [← HR.out, decide_eq_false (fun h => by have := (h.2.2.1 _ hmem).1; rw [hth, htw] at this; exact HL.out this)]
        rfl
    · obtain rfl : i = N := by omega
      have hge : ¬ ((i : Int) < (i : Int)) := by omega
      have htk : ts.take i = ts := List.take_of_length_le (by omega)
      rw [htk] at hfit ⊢
      have HK := hide (And.intro hfit (And.intro hN hbr))
      have hRd : decide (1 ≤ i ∧ sumH ts ≤ 60 ∧ il = 16 ∧ sl = 32) = RB := by
        rw [← HR.out]
        apply decide_eq_decide.2
        constructor
        · rintro ⟨h1, h2, h3, h4⟩; exact ⟨by omega, by omega, hfit, h2, h3, h4⟩
        · rintro ⟨h1, h2, h3, h4, h5, h6⟩; exact ⟨by omega, h4, h5, h6⟩
      clear hfit htk ht tcell bx
      obtain ⟨S, hS⟩ : ∃ S, sumH ts = S := ⟨_, rfl⟩
      rw [hS] at hRd ⊢
      have HD := hide hRd
      clear hRd hS
      by_cases k1 : 1 ≤ i
      · have k1' : (1 : Int) ≤ (i : Int) := by omega
        by_cases k2 : S ≤ 60
        · by_cases k3 : il = 16
          · subst k3
            by_cases k4 : sl = 32
            · subst k4
              go_wp2
              go_ret
              exact ⟨by rw [← HD.out]; simp [k1, k2], HK.out.2.2⟩
            · have k4' : ((sl : Int) == 32) = false := by simp; omega
              have k4i : ¬ (sl : Int) = 32 := by omega
              go_wp2
              go_ret
              exact ⟨by rw [← HD.out]; simp [k4], HK.out.2.2⟩
          · have k3' : ((il : Int) == 16) = false := by simp; omega
            have k3i : ¬ (il : Int) = 16 := by omega
            go_wp2
            go_ret
            exact ⟨by rw [← HD.out]; simp [k3], HK.out.2.2⟩
        · go_wp2
          go_ret
          exact ⟨by rw [← HD.out, decide_eq_false (fun h => by have := h.2.1; omega)]; rfl, HK.out.2.2⟩
      · have k1' : ¬ ((1 : Int) ≤ (i : Int)) := by omega
        go_wp2
        go_ret
        exact ⟨by rw [← HD.out, decide_eq_false (fun h => k1 h.1)]; rfl, HK.out.2.2⟩
/-- where Leaves stands -/
def KlL (w : World) (B : Nat) (v0 v1 v2 : Value) (ts : List (Int × Int)) (vn vi : Value) (wr : World) : Prop := ∃ i : Nat, i ≤ ts.length ∧ vi = .int .i64 (i : Int) ∧ vn = .int .u64 ((lvN (ts.take i) : Nat) : Int) ∧ BxK wr B v0 v1 v2 ∧ Below w.heap.size w wr
theorem lvN_snoc {ts : List (Int × Int)} {t : Int × Int} (h1 : 0 ≤ sumH ts) (h2 : 0 ≤ t.1) : lvN (ts ++ [t]) = lvN ts * 2 ^ t.1.toNat := by
  unfold lvN
  rw [sumH_snoc, show (sumH ts + t.1).toNat = (sumH ts).toNat + t.1.toNat by omega, Nat.pow_add]
theorem sumH_take {ts : List (Int × Int)} (h : ∀ t ∈ ts, FitG t) (i : Nat) : 0 ≤ sumH (ts.take i) ∧ sumH (ts.take i) ≤ sumH ts := by
  have h1 := sumH_le (ts.take i) (fun t ht => h t (List.mem_of_mem_take ht))
  refine ⟨h1.1, ?_⟩
  induction ts generalizing i with
  | nil => simp
  | cons x ts ih =>
    cases i with
    | zero => exact (sumH_le (x :: ts) h).1
    | succ i =>
      show x.1 + sumH (ts.take i) ≤ x.1 + sumH ts
      have := ih (fun t ht => h t (List.mem_cons_of_mem _ ht)) i (sumH_le _ (fun t ht => h t (List.mem_cons_of_mem _ (List.mem_of_mem_take ht))))
      omega
theorem lvN_lt {ts : List (Int × Int)} (h : sumH ts ≤ 60) : lvN ts ≤ 1152921504606846976 := by
  unfold lvN
  exact Nat.le_trans (Nat.pow_le_pow_right (by decide) (show (sumH ts).toNat ≤ 60 by omega)) (by decide)
set_option maxHeartbeats 4000000 in
set_option maxRecDepth 100000 in
theorem rlvs_any (ts : List (Int × Int)) (tv : Value) (ia sa : Option Addr) (il ic sl sc : Nat) (w : World) (ht : TrS w tv ts) :
    Calls Tryz.prog 53 #[.agg #[tv, .slice ia il ic, .slice sa sl sc]] w fun e w' => e = .returned (.int .u64 ((if FitK ts il sl then lvN ts else 0 : Nat) : Int)) ∧ Below w.heap.size w w' := by
  have hfk := fun y (h : Below w.heap.size w y) => rfitK_any ts tv ia sa il ic sl sc y (ht.below h)
  have ht' := ht
  obtain ⟨ta, tc, rfl, t1, t2, tcell⟩ := ht'
  have b0 := BxK.new w (.slice ta ts.length tc) (.slice ia il ic) (.slice sa sl sc)
  have hb0 := keep_alloc w (.cells #[.slice ta ts.length tc, .slice ia il ic, .slice sa sl sc] 25)
  by_cases hK : FitK ts il sl
  · rw [if_pos hK]
    rw [decide_eq_true hK] at hfk
    obtain ⟨N, hN⟩ : ∃ N, ts.length = N := ⟨_, rfl⟩
    rw [hN] at b0 hb0 hfk ⊢
    have HT := hide (And.intro hK (And.intro tcell hN))
    clear hK tcell ht
    obtain ⟨LV, hLV⟩ : ∃ L, lvN ts = L := ⟨_, rfl⟩
    rw [hLV]
    have HL := hide hLV
    clear hLV
    go_enter Tryz.func53, Tryz.ntmps53
    go_wp2_with (first
      | (go_at_call 17; refine (hfk _ hb0).mono ?_; rintro e w1 ⟨rfl, g1⟩; have b1 := b0.below g1; have HB := hide (And.intro b1 (keep_trans hb0 g1)); clear b1)
      | fail)
    clear b0 hb0 hfk
    go_loopw [3, 4] (fun vn vi wr => KlL w w.heap.size (.slice ta N tc) (.slice ia il ic) (.slice sa sl sc) ts vn vi wr) (fun _ vi _ => N - (intOf vi).toNat)
    case atStart => exact ⟨0, Nat.zero_le _, rfl, rfl, HB.out.1, HB.out.2⟩
    case round =>
      obtain ⟨i, hi, rfl, rfl, bx, hbr⟩ := hrel
      have c0 := bx.c0
      obtain ⟨hK, tcell, hN⟩ := HT.out
      by_cases hlt : i < N
      · have hlt' : (i : Int) < (N : Int) := by omega
        obtain ⟨tb, to, rfl, tcc⟩ := tcell (by omega)
        obtain ⟨x1, x2⟩ := tcc i (by omega)
        have y1 : wr.cell? ⟨tb, to + i * 2, none⟩ = some (.int .i64 (trA ts i).1) := by rw [hbr.cell (p := ⟨tb, to + i * 2, none⟩) (World.block_lt_of_cell? _ _ x1)]; exact x1
        have htk := tr_take (ts := ts) (i := i) (by omega)
        have hp := (hK.2.2.1 _ (trA_mem (ts := ts) (i := i) (by omega))).pos
        have hs1 := sumH_take hK.2.2.1 i
        have hs2 := sumH_take hK.2.2.1 (i + 1)
        have hl1 := lvN_lt (ts := ts.take i) (by have := hK.2.2.2.1; omega)
        have hl2 := lvN_lt (ts := ts.take (i + 1)) (by have := hK.2.2.2.1; omega)
        have hm := lvN_snoc (ts := ts.take i) (t := trA ts i) hs1.1 (by omega)
        obtain ⟨th, hth⟩ : ∃ t : Nat, (trA ts i).1 = (t : Int) := ⟨(trA ts i).1.toNat, by omega⟩
        rw [hth] at y1 hp hm
        rw [← htk, Int.toNat_natCast] at hm
        obtain ⟨A, hA⟩ : ∃ A, lvN (ts.take i) = A := ⟨_, rfl⟩
        obtain ⟨A2, hA2⟩ : ∃ A, lvN (ts.take (i + 1)) = A := ⟨_, rfl⟩
        rw [hA] at hm hl1 ⊢
        rw [hA2] at hm hl2
        obtain ⟨M, hM⟩ : ∃ M, 2 ^ th = M := ⟨_, rfl⟩
        rw [hM] at hm
        have e_M : (2 : Int) ^ th = (M : Int) := by rw [← hM]; norm_cast
        have e_A : (A : Int) * (M : Int) = (A2 : Int) := by rw [hm]; norm_cast
        have s_A : IntKind.u64.wrap (A2 : Int) = (A2 : Int) := by rw [IntKind.wrap_u64]; omega
        have th64 : (th : Int) < 64 := by omega
        obtain ⟨Q, hQ⟩ : ∃ Q : Nat, i + 1 = Q := ⟨_, rfl⟩
        have e_Q : (i : Int) + 1 = (Q : Int) := by omega
        have s_Q : IntKind.i64.wrap (Q : Int) = (Q : Int) := by rw [IntKind.wrap_i64]; have := hK.2.1; omega
        have HQ := hide (And.intro hA2 (And.intro hQ (And.intro bx (And.intro hbr hN))))
        clear hA hA2 hM hm htk hs1 hs2 tcc x1 x2 hth hK hN tcell bx hbr hQ hl1 hl2
        go_wp2
        obtain ⟨hA2, hQ, bx, hbr, hN⟩ := HQ.out
        exact ⟨⟨Q, by omega, rfl, by rw [← hQ, hA2], bx, hbr⟩, by simp [intOf]; omega⟩
      · obtain rfl : i = N := by omega
        have hge : ¬ ((i : Int) < (i : Int)) := by omega
        have htk : ts.take i = ts := List.take_of_length_le (by omega)
        rw [htk, HL.out]
        have HK := hide hbr
        clear hK htk tcell bx hbr hN
        go_wp2
        go_ret
        exact ⟨rfl, HK.out⟩
  · rw [if_neg hK]
    rw [decide_eq_false hK] at hfk
    clear hK tcell ht
    generalize ts.length = N at *
    go_enter Tryz.func53, Tryz.ntmps53
    go_wp2_with (first
      | (go_at_call 17; refine (hfk _ hb0).mono ?_; rintro e w1 ⟨rfl, g1⟩)
      | fail)
    go_ret
    exact ⟨rfl, keep_trans hb0 g1⟩
end Go.Proofs.YtogiballdmgcpaaGreatDoor

/- Contract of apostilleref01.Digits. -/
namespace Go.Proofs.YtogiballdmgcpaaGreatDoor
open Go.RowKit
set_option linter.unusedVariables false

/-- a bit of a byte -/
theorem bit_and (x s : Nat) (hx : x < 256) : bits .and .u8 ((x : Int) / 2 ^ s) 1 = ((x / 2 ^ s % 2 : Nat) : Int) := by
  have h1 : x / 2 ^ s < 256 := Nat.lt_of_le_of_lt (Nat.div_le_self _ _) hx
  rw [show ((x : Int) / 2 ^ s) = ((x / 2 ^ s : Nat) : Int) from by simp, show (1 : Int) = ((1 : Nat) : Int) from rfl, u8_and_nat _ 1 h1 (by decide), nat_mask1]

set_option maxHeartbeats 1000000 in
theorem rdig_any (va : Value) (l : List Nat) (x c : Int) (w : World) (ha : Row .u8 256 w va l) (hl : l.length ≤ 1000000) :
    Calls Tryz.prog 113 #[va, .int .i64 x, .int .i64 c] w fun e w' => ∃ v, e = .returned v ∧ Own 52 .u32 4294967296 w' w.heap.size v (digS l x c) ∧ Below w.heap.size w w' := by
  have ha' := ha
  obtain ⟨a, ca, rfl, ha1, ha2, ha3, ha4⟩ := ha
  unfold maxLen at ha2
  cases hok : okB l.length x c with
  | false =>
    have hS : digS l x c = [] := by unfold digS; rw [if_neg (by rw [hok]; decide)]
    rw [hS]; clear hS
    go_enter Tryz.func113, Tryz.ntmps113
    go_wp2_with (go_at_call 124; refine (such_any _ l x c _ ha' (by omega)).mono ?_; rintro e w' ⟨rfl, rfl⟩)
    go_ret
    exact ⟨_, rfl, dig_nil _ _ _ _ _, Below.refl _ _⟩
  | true =>
    have hS : digS l x c = digL l x.toNat c.toNat := by unfold digS; rw [if_pos hok]
    rw [hS]; clear hS
    obtain ⟨W, C, rfl, rfl, hW1, hW2, hCW⟩ := okB_of hok
    rw [Int.toNat_natCast, Int.toNat_natCast]
    have hC : C ≤ 8000000 := by
      have : C * 1 ≤ C * W := Nat.mul_le_mul_left C hW1
      omega
    obtain ⟨i0, hi, hz0, hz1, hz2⟩ := info_parts Tryz.info52
    go_enter Tryz.func113, Tryz.ntmps113
    go_wp2_with fail
    refine (such_any _ l W C _ ha' (by omega)).mono ?_
    rintro e w' ⟨rfl, hw'⟩
    rw [hw', hok]
    clear hok hw'
    go_wp2
    go_loopw [7, 8] (fun v i wr => ∃ k : Nat, k ≤ C ∧ i = .int .i64 k ∧
        wr.ownsRow w.heap.size 52 1 v k (vals .u32 (digL l W k)) ∧ Below w.heap.size w wr) (fun _ i _ => C - (intOf i).toNat)
    case atStart => exact ⟨0, Nat.zero_le _, rfl, World.ownsRow_nil _ _ _ _, Below.refl _ _⟩
    case round =>
      obtain ⟨k, hk, rfl, how, hbr⟩ := hrel
      by_cases hlt : k < C
      · have hq : (k + 1) * W ≤ C * W := Nat.mul_le_mul_right W (by omega)
        rw [Nat.add_mul, Nat.one_mul] at hq
        have hPl : k * W + W ≤ 8 * l.length := by omega
        clear hq hCW
        have hPl' : (k : Int) * (W : Int) + W ≤ 8 * l.length := by
          have : ((k * W : Nat) : Int) = (k : Int) * W := by simp
          omega
        have hP0 : 0 ≤ (k : Int) * (W : Int) := Int.mul_nonneg (by omega) (by omega)
        have hc0' := ha3.below hbr (Nat.le_refl _)
        go_wp2
        go_loop [9, 10] (fun n j => ∃ t : Nat, t ≤ W ∧ j = .int .i64 t ∧ n = .int .u32 (digTo l W k t : Nat)) (fun _ j => W - (intOf j).toNat)
        case atStart => exact ⟨0, Nat.zero_le _, rfl, by rw [digTo_zero]; rfl⟩
        case round =>
          obtain ⟨t, ht, rfl, rfl⟩ := hrel
          by_cases hlt2 : t < W
          · have hpl : k * W + t < 8 * l.length := by omega
            obtain ⟨ba, oa, rfl, hca⟩ := hc0' (by omega)
            have c1 := hca ((k * W + t) / 8) (by omega)
            have hx := el_lt ha4 (by decide) ((k * W + t) / 8)
            clear hca
            have hN := digTo_lt l W k t
            have hN2 : digTo l W k t < 16777216 := by
              have := Nat.pow_le_pow_right (show 0 < 2 by decide) (show t ≤ 24 by omega)
              have e : (2 : Nat) ^ 24 = 16777216 := by decide
              omega
            clear hN
            go_wp2
            go_round
            case rel =>
              refine ⟨t + 1, by omega, by go_num, vint ?_⟩
              have hs := digTo_succ l ha4 W k t hpl
              rw [bit_and _ _ hx, ← hs]
              have h2 : el l ((k * W + t) / 8) / 2 ^ (7 - (k * W + t) % 8) % 2 < 2 := Nat.mod_lt _ (by decide)
              generalize el l ((k * W + t) / 8) / 2 ^ (7 - (k * W + t) % 8) % 2 = b at *
              omega
            case measure => simp [intOf]; omega
          · have e : t = W := by omega
            subst e
            rw [digTo_full]
            have hsz := hbr.size
            generalize hD : dig l t k = D at *
            have HD := hide hD
            clear hD
            go_wp2_with (first | (at_builtin; refine wpList_append_own _ rfl _ _ 49 rfl w.heap.size 52 i0 (.int .u32 0) 1 4 Tryz.underlying49 hi hz0 hz1 hz2 rfl (by decide) _ _ _ rfl (how.alloc _) ⟨wr.heap.size, 0, none⟩ 1 1 [.int .u32 D] rfl rfl (cells_new _ _ _) (one_new _ _) (by unfold maxLen; omega) (by omega) (by simp; omega) ?_; intro v' w3 how' hgrow _) | fail)
            have hb3 := below_append hbr hsz how _ hgrow
            clear how hgrow hbr
            go_roundw
            case rel => exact ⟨k + 1, by omega, by go_num, by rw [digL_succ, vals_append, HD.out]; exact how', hb3⟩
            case measure => simp [intOf]; omega
      · go_wp2
        go_ret
        have e : k = C := by omega
        subst e
        exact ⟨_, rfl, ⟨by rw [digL_length]; exact how, digL_under _ _ _ hW2⟩, hbr⟩
end Go.Proofs.YtogiballdmgcpaaGreatDoor

/- Texts of the call's own in a slice of the call's own. -/
namespace Go.Proofs.YtogiballdmgcpaaGreatDoor
open Go.RowKit
set_option linter.unusedVariables false
set_option linter.unusedSimpArgs false

theorem own_tidyG {e : TypeId} {k : IntKind} {m : Nat} {w : World} {B : Nat} {v : Value} {l : List Nat} (h : Own e k m w B v l) : Tidy v := by
  rcases h.1.2 with ⟨rfl, _⟩ | ⟨g, cap, cur, rfl, _⟩
  · intro n c e; cases e; exact ⟨rfl, rfl⟩
  · intro n c e; cases e
theorem ownsRow_base {w : World} {B B' n : Nat} {e : TypeId} {v : Value} {xs : List Value} (h : w.ownsRow B e 1 v n xs) (hB : B' ≤ B) : w.ownsRow B' e 1 v n xs := by
  obtain ⟨h1, h2⟩ := h
  refine ⟨h1, ?_⟩
  rcases h2 with h2 | ⟨g, cap, cur, rfl, h3, h4⟩
  · exact .inl h2
  · exact .inr ⟨g, cap, cur, rfl, by omega, h4⟩
end Go.Proofs.YtogiballdmgcpaaGreatDoor
