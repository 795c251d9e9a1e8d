/- How a key of trees in trees that came in is read. -/
import Derived.Test.YtogiballdmgcpaaDoorPgF
import Derived.Test.YtogiballdmgcpaaDoorHEnd
import Derived.Test.YtogiballdmgcpaaDoorHTak32
import Derived.Test.YtogiballdmgcpaaDoorHKi2
import Derived.Test.YtogiballdmgcpaaDoorBase
namespace Go.Proofs.YtogiballdmgcpaaDoor
open Go.ChangeShapes Go.WideShapes Go.ChangeAt Go.RowKit Go.Deep
set_option linter.unusedVariables false
set_option linter.unusedSimpArgs false

theorem Tryd.cellsKyH : Tryd.prog.cellsOf 25 = 3 := by kernel_rfl
theorem Tryd.cellsTsH : Tryd.prog.cellsOf 22 = 1 := by kernel_rfl
theorem add_addH (a : Addr) (m n : Nat) : (a.add m).add n = a.add (m + n) := by
  unfold Addr.add
  split <;> split <;> simp_all [Nat.add_assoc]
/-- a slice of trees that is read -/
theorem read_treesH {H : Type} {enc : TypeId × Value → H} {W : World} {fuel : Nat} {v : Value} {x : DataW H × List MemPlace}
    (h : DataW.trod enc Tryd.prog W 0 (fun _ => true) true fuel 22 [v] = some x) : ∃ ts, TrS W v ts := by
  rcases DataW.trod_slice Tryd.underlying22 h with ⟨hcs, _⟩ | ⟨a, len, cap, elems, rest, m, hfm, hcs, _, _, hl, hm, hel, hx, _⟩
  · simp at hcs
    subst hcs
    exact ⟨[], none, 0, rfl, Nat.le_refl _, Nat.zero_le _, fun h => by simp at h⟩
  · simp at hcs
    subst hcs
    rw [Tryd.cellsTrS] at hx
    have each : ∀ i, i < len → ∃ q : Int × Int, W.cell? (a.add (i * 2)) = some (.int .i64 q.1) ∧ W.cell? (a.add (i * 2 + 1)) = some (.int .i64 q.2) := by
      intro i hi
      have h1 := hx i hi
      rw [List.getElem?_eq_getElem (by omega)] at h1
      obtain ⟨cs', h2, h3⟩ := Option.bind_eq_some_iff.1 h1
      obtain ⟨_, hcl, hcell⟩ := World.cells?_some h2
      match cs', hcl with
      | [k0, k1], _ =>
        obtain ⟨th, tw, hT⟩ := read_treeS (cs := #[k0, k1]) h3
        have e := hT.is
        simp at e
        obtain ⟨rfl, rfl⟩ := e
        have e0 := hcell 0 (by omega)
        have e1 := hcell 1 (by omega)
        rw [add_addH] at e0 e1
        exact ⟨(th, tw), by simpa using e0, by simpa using e1⟩
    obtain ⟨q, hq⟩ := choose_lt (α := Int × Int) each
    have hkl : ((List.range len).map q).length = len := by simp
    refine ⟨(List.range len).map q, some a, cap, by rw [hkl], by rw [hkl]; exact hl, hm, fun hp => ?_⟩
    rw [hkl] at hp
    obtain ⟨b0, off, spot⟩ := a
    have h0 := (hq 0 hp).1
    have hspot : spot = none := by simpa [Addr.add] using World.cell?_spot h0
    subst hspot
    refine ⟨b0, off, rfl, fun i hi => ?_⟩
    rw [hkl] at hi
    obtain ⟨h0, h1⟩ := hq i hi
    rw [Addr.add_lit] at h0 h1
    have e : trA ((List.range len).map q) i = q i := by unfold trA; simp [hi]
    rw [e]
    exact ⟨h0, by rw [← Nat.add_assoc] at h1; exact h1⟩
/-- a key, as it came in -/
structure HkIs (w : World) (cs : Array Value) (tv : Value) (ts : List (Int × Int)) (iv : Value) (il : List Nat) (sv : Value) (sl : List Nat) : Prop where
  is : cs = #[tv, iv, sv]
  tr : TrS w tv ts
  ri : Row .u8 256 w iv il
  ti : Tidy iv
  rs : Row .u8 256 w sv sl
  tis : Tidy sv
set_option maxRecDepth 100000 in
theorem read_keyH {H : Type} {enc : TypeId × Value → H} {W : World} {fuel : Nat} {cs : Array Value} {x : DataW H × List MemPlace}
    (h : DataW.trod enc Tryd.prog W 0 (fun _ => true) true fuel 25 cs.toList = some x) : ∃ tv ts iv il sv sl, HkIs W cs tv ts iv il sv sl := by
  obtain ⟨l⟩ := cs
  obtain ⟨xs, n, _, _, hcl, hlen, hf⟩ := DataW.trod_struct Tryd.underlying25 h
  rw [Tryd.cellsKyH] at hcl
  match l, hcl with
  | [c0, c1, c2], _ =>
    have hlen' : xs.length = 3 := hlen
    match xs, hlen' with
    | [y0, y1, y2], _ =>
      have g0 := hf 0 _ rfl
      have g1 := hf 1 _ rfl
      have g2 := hf 2 _ rfl
      simp [Tryd.cellsTsH, Tryd.cells23] at g0 g1 g2
      obtain ⟨ts, hts⟩ := read_treesH g0
      obtain ⟨il, hri, hti⟩ := read_text g1
      obtain ⟨sl, hrs, hts2⟩ := read_text g2
      exact ⟨c0, ts, c1, il, c2, sl, ⟨rfl, hts, hri, hti, hrs, hts2⟩⟩
end Go.Proofs.YtogiballdmgcpaaDoor

/- Trees of trees: the document's Fit and Leaves. -/
namespace Go.Proofs.YtogiballdmgcpaaDoor
open Go.RowKit
set_option linter.unusedVariables false
set_option linter.unusedSimpArgs false

/-- a key's box -/
structure BxK (W : World) (B : Nat) (v0 v1 v2 : Value) : Prop where
  here : W.heap[B]? = some (.cells #[v0, v1, v2] 25 (0, 0))
theorem BxK.lt {W : World} {B : Nat} {v0 v1 v2 : Value} (h : BxK W B v0 v1 v2) : B < W.heap.size := (Array.getElem?_eq_some_iff.1 h.here).1
theorem BxK.c0 {W : World} {B : Nat} {v0 v1 v2 : Value} (h : BxK W B v0 v1 v2) : W.cell? ⟨B, 0, none⟩ = some v0 := by simp [World.cell?, h.here]
theorem BxK.c1 {W : World} {B : Nat} {v0 v1 v2 : Value} (h : BxK W B v0 v1 v2) : W.cell? ⟨B, 1, none⟩ = some v1 := by simp [World.cell?, h.here]
theorem BxK.c2 {W : World} {B : Nat} {v0 v1 v2 : Value} (h : BxK W B v0 v1 v2) : W.cell? ⟨B, 2, none⟩ = some v2 := by simp [World.cell?, h.here]
theorem BxK.below {W W' : World} {B : Nat} {v0 v1 v2 : Value} (h : BxK W B v0 v1 v2) (hb : Below W.heap.size W W') : BxK W' B v0 v1 v2 := ⟨(hb.block _ h.lt).trans h.here⟩
theorem BxK.new (W : World) (v0 v1 v2 : Value) : BxK (W.alloc (.cells #[v0, v1, v2] 25)) W.heap.size v0 v1 v2 := ⟨heap_alloc_new W _⟩
/-- where Fit stands -/
def KfL (w : World) (B : Nat) (v0 v1 v2 : Value) (ts : List (Int × Int)) (vn vi : Value) (wr : World) : Prop := ∃ i : Nat, i ≤ ts.length ∧ i ≤ 8 ∧ vi = .int .i64 (i : Int) ∧ vn = .int .i64 (sumH (ts.take i)) ∧ (∀ t ∈ ts.take i, FitG t) ∧ BxK wr B v0 v1 v2 ∧ Below w.heap.size w wr
set_option maxHeartbeats 4000000 in
set_option maxRecDepth 100000 in
theorem rfitK_any (ts : List (Int × Int)) (tv : Value) (ia sa : Option Addr) (il ic sl sc : Nat) (w : World) (ht : TrS w tv ts) :
    Calls Tryd.prog 10 #[.agg #[tv, .slice ia il ic, .slice sa sl sc]] w fun e w' => e = .returned (.bool (decide (FitK ts il sl))) ∧ Below w.heap.size w w' := by
  have ht' := ht
  obtain ⟨ta, tc, rfl, t1, t2, tcell⟩ := ht'
  have b0 := BxK.new w (.slice ta ts.length tc) (.slice ia il ic) (.slice sa sl sc)
  have hb0 := keep_alloc w (.cells #[.slice ta ts.length tc, .slice ia il ic, .slice sa sl sc] 25)
  obtain ⟨N, hN⟩ : ∃ N, ts.length = N := ⟨_, rfl⟩
  rw [hN] at b0 hb0 ⊢
  have h0 : KfL w w.heap.size (.slice ta N tc) (.slice ia il ic) (.slice sa sl sc) ts (.int .i64 0) (.int .i64 0) (w.alloc (.cells #[.slice ta N tc, .slice ia il ic, .slice sa sl sc] 25)) := ⟨0, Nat.zero_le _, Nat.zero_le _, rfl, rfl, fun t h => by simp at h, b0, hb0⟩
  have H0 := hide h0
  have HT := hide (And.intro ht (And.intro tcell hN))
  clear h0 ht tcell b0 hb0
  obtain ⟨RB, hRB⟩ : ∃ R, decide (FitK ts il sl) = R := ⟨_, rfl⟩
  rw [hRB]
  have HR := hide hRB
  clear hRB
  go_enter Tryd.func10, Tryd.ntmps10
  go_wp2
  go_loopw [3, 4] (fun vn vi wr => KfL w w.heap.size (.slice ta N tc) (.slice ia il ic) (.slice sa sl sc) ts vn vi wr) (fun _ vi _ => N - (intOf vi).toNat)
  case atStart => exact H0.out
  case round =>
    obtain ⟨i, hi, hi8, rfl, rfl, hfit, bx, hbr⟩ := hrel
    clear H0
    have c0 := bx.c0
    have c1 := bx.c1
    have c2 := bx.c2
    obtain ⟨ht, tcell, hN⟩ := HT.out
    by_cases hlt : i < N
    · have hlt' : (i : Int) < (N : Int) := by omega
      obtain ⟨tb, to, rfl, tcc⟩ := tcell (by omega)
      obtain ⟨x1, x2⟩ := tcc i (by omega)
      have y1 : wr.cell? ⟨tb, to + i * 2, none⟩ = some (.int .i64 (trA ts i).1) := by rw [hbr.cell (p := ⟨tb, to + i * 2, none⟩) (World.block_lt_of_cell? _ _ x1)]; exact x1
      have y2 : wr.cell? ⟨tb, to + i * 2 + 1, none⟩ = some (.int .i64 (trA ts i).2) := by rw [hbr.cell (p := ⟨tb, to + i * 2 + 1, none⟩) (World.block_lt_of_cell? _ _ x2)]; exact x2
      have htk := tr_take (ts := ts) (i := i) (by omega)
      have hmem := trA_mem (ts := ts) (i := i) (by omega)
      have hf := fun y => rfitT_any (trA ts i).1 (trA ts i).2 y
      obtain ⟨hs1, hs2⟩ := sumH_le _ hfit
      have hsl : ((ts.take i).length : Int) ≤ (i : Int) := by rw [List.length_take]; omega
      obtain ⟨S, hS⟩ : ∃ S, sumH (ts.take i) = S := ⟨_, rfl⟩
      rw [hS] at hs1 hs2 ⊢
      obtain ⟨th, hth⟩ : ∃ t, (trA ts i).1 = t := ⟨_, rfl⟩
      obtain ⟨tw, htw⟩ : ∃ t, (trA ts i).2 = t := ⟨_, rfl⟩
      rw [hth] at y1 hf
      rw [htw] at y2 hf
      have HQ := hide (And.intro hS (And.intro htk (And.intro hmem (And.intro hfit (And.intro hth (And.intro htw (And.intro hN (And.intro bx (And.intro hbr hi)))))))))
      clear hS htk hmem hfit hth htw hN bx hbr tcell tcc x1 x2 ht
      by_cases h8 : 8 ≤ i
      · have h8' : (8 : Int) ≤ (i : Int) := by omega
        go_wp2
        go_ret
        obtain ⟨hS, htk, hmem, hfit, hth, htw, hN, bx, hbr, hi⟩ := HQ.out
        refine ⟨?_, keep_trans hbr (keep_alloc _ _)⟩
        rw [← HR.out, decide_eq_false (fun h => by have := h.2.1; omega)]
        rfl
      have h8' : ¬ ((8 : Int) ≤ (i : Int)) := by omega
      by_cases hL : FitL th tw
      · rw [decide_eq_true hL] at hf
        have HL := hide hL
        clear hL
        by_cases h10 : 10 < th
        · go_wp2_with (first
          | (go_at_call 19; refine (hf _).mono ?_; rintro e w2 ⟨rfl, g2⟩; have d5 := (Bx2T.new wr (.int .i64 th) (.int .i64 tw)).below g2; have d50 := d5.c0; have d51 := d5.c1)
          | fail)
          go_ret
          obtain ⟨hS, htk, hmem, hfit, hth, htw, hN, bx, hbr, hi⟩ := HQ.out
          refine ⟨?_, keep_trans (keep_trans hbr (keep_alloc _ _)) g2⟩
          rw [← HR.out, decide_eq_false (fun h => by have := (h.2.2.1 _ hmem).2; omega)]
          rfl
        · obtain ⟨S2, hS2⟩ : ∃ S2, S + th = S2 := ⟨_, rfl⟩
          obtain ⟨Q, hQ⟩ : ∃ Q : Nat, i + 1 = Q := ⟨_, rfl⟩
          have e_Q : (i : Int) + 1 = (Q : Int) := by omega
          have s_Q : IntKind.i64.wrap (Q : Int) = (Q : Int) := by rw [IntKind.wrap_i64]; omega
          have hg : FitG (th, tw) := ⟨HL.out, by show th ≤ 10; omega⟩
          have hgp := hg.pos
          have s_S : IntKind.i64.wrap S2 = S2 := by rw [IntKind.wrap_i64]; have h1 : 1 ≤ th := hgp.1; have h2 : th ≤ 10 := hgp.2; omega
          have HG := hide (And.intro hg (And.intro hS2 hQ))
          clear hg hgp hQ
          go_wp2_with (first
          | (go_at_call 19; refine (hf _).mono ?_; rintro e w2 ⟨rfl, g2⟩; have d5 := (Bx2T.new wr (.int .i64 th) (.int .i64 tw)).below g2; have d50 := d5.c0; have d51 := d5.c1)
          | fail)
          obtain ⟨hS, htk, hmem, hfit, hth, htw, hN, bx, hbr, hi⟩ := HQ.out
          obtain ⟨hg, hS2, hQ⟩ := HG.out
          refine ⟨⟨Q, by omega, by omega, rfl, ?_, ?_, (bx.below (keep_alloc _ _)).below g2, keep_trans (keep_trans hbr (keep_alloc _ _)) g2⟩, by simp [intOf]; omega⟩
          · rw [← hQ, htk, sumH_snoc, hS, hth, hS2]
          · rw [← hQ, htk]
            intro t ht
            rcases List.mem_append.1 ht with h | h
            · exact hfit t h
            · have : t = trA ts i := by simpa using h
              rw [this]
              have e : trA ts i = (th, tw) := by rw [← hth, ← htw]
              rw [e]
              exact hg
      · rw [decide_eq_false hL] at hf
        have HL := hide hL
        clear hL
        go_wp2_with (first
          | (go_at_call 19; refine (hf _).mono ?_; rintro e w2 ⟨rfl, g2⟩; have d5 := (Bx2T.new wr (.int .i64 th) (.int .i64 tw)).below g2; have d50 := d5.c0; have d51 := d5.c1)
          | fail)
        go_ret
        obtain ⟨hS, htk, hmem, hfit, hth, htw, hN, bx, hbr, hi⟩ := HQ.out
        refine ⟨?_, keep_trans (keep_trans hbr (keep_alloc _ _)) g2⟩
        rw [← HR.out, decide_eq_false (fun h => by have := (h.2.2.1 _ hmem).1; rw [hth, htw] at this; exact HL.out this)]
        rfl
    · obtain rfl : i = N := by omega
      have hge : ¬ ((i : Int) < (i : Int)) := by omega
      have htk : ts.take i = ts := List.take_of_length_le (by omega)
      rw [htk] at hfit ⊢
      have HK := hide (And.intro hfit (And.intro hN hbr))
      have hRd : decide (1 ≤ i ∧ sumH ts ≤ 60 ∧ il = 16 ∧ sl = 32) = RB := by
        rw [← HR.out]
        apply decide_eq_decide.2
        constructor
        · rintro ⟨h1, h2, h3, h4⟩; exact ⟨by omega, by omega, hfit, h2, h3, h4⟩
        · rintro ⟨h1, h2, h3, h4, h5, h6⟩; exact ⟨by omega, h4, h5, h6⟩
      clear hfit htk ht tcell bx
      obtain ⟨S, hS⟩ : ∃ S, sumH ts = S := ⟨_, rfl⟩
      rw [hS] at hRd ⊢
      have HD := hide hRd
      clear hRd hS
      by_cases k1 : 1 ≤ i
      · have k1' : (1 : Int) ≤ (i : Int) := by omega
        by_cases k2 : S ≤ 60
        · by_cases k3 : il = 16
          · subst k3
            by_cases k4 : sl = 32
            · subst k4
              go_wp2
              go_ret
              exact ⟨by rw [← HD.out]; simp [k1, k2], HK.out.2.2⟩
            · have k4' : ((sl : Int) == 32) = false := by simp; omega
              have k4i : ¬ (sl : Int) = 32 := by omega
              go_wp2
              go_ret
              exact ⟨by rw [← HD.out]; simp [k4], HK.out.2.2⟩
          · have k3' : ((il : Int) == 16) = false := by simp; omega
            have k3i : ¬ (il : Int) = 16 := by omega
            go_wp2
            go_ret
            exact ⟨by rw [← HD.out]; simp [k3], HK.out.2.2⟩
        · go_wp2
          go_ret
          exact ⟨by rw [← HD.out, decide_eq_false (fun h => by have := h.2.1; omega)]; rfl, HK.out.2.2⟩
      · have k1' : ¬ ((1 : Int) ≤ (i : Int)) := by omega
        go_wp2
        go_ret
        exact ⟨by rw [← HD.out, decide_eq_false (fun h => k1 h.1)]; rfl, HK.out.2.2⟩
/-- where Leaves stands -/
def KlL (w : World) (B : Nat) (v0 v1 v2 : Value) (ts : List (Int × Int)) (vn vi : Value) (wr : World) : Prop := ∃ i : Nat, i ≤ ts.length ∧ vi = .int .i64 (i : Int) ∧ vn = .int .u64 ((lvN (ts.take i) : Nat) : Int) ∧ BxK wr B v0 v1 v2 ∧ Below w.heap.size w wr
theorem lvN_snoc {ts : List (Int × Int)} {t : Int × Int} (h1 : 0 ≤ sumH ts) (h2 : 0 ≤ t.1) : lvN (ts ++ [t]) = lvN ts * 2 ^ t.1.toNat := by
  unfold lvN
  rw [sumH_snoc, show (sumH ts + t.1).toNat = (sumH ts).toNat + t.1.toNat by omega, Nat.pow_add]
theorem sumH_take {ts : List (Int × Int)} (h : ∀ t ∈ ts, FitG t) (i : Nat) : 0 ≤ sumH (ts.take i) ∧ sumH (ts.take i) ≤ sumH ts := by
  have h1 := sumH_le (ts.take i) (fun t ht => h t (List.mem_of_mem_take ht))
  refine ⟨h1.1, ?_⟩
  induction ts generalizing i with
  | nil => simp
  | cons x ts ih =>
    cases i with
    | zero => exact (sumH_le (x :: ts) h).1
    | succ i =>
      show x.1 + sumH (ts.take i) ≤ x.1 + sumH ts
      have := ih (fun t ht => h t (List.mem_cons_of_mem _ ht)) i (sumH_le _ (fun t ht => h t (List.mem_cons_of_mem _ (List.mem_of_mem_take ht))))
      omega
theorem lvN_lt {ts : List (Int × Int)} (h : sumH ts ≤ 60) : lvN ts ≤ 1152921504606846976 := by
  unfold lvN
  exact Nat.le_trans (Nat.pow_le_pow_right (by decide) (show (sumH ts).toNat ≤ 60 by omega)) (by decide)
set_option maxHeartbeats 4000000 in
set_option maxRecDepth 100000 in
theorem rlvs_any (ts : List (Int × Int)) (tv : Value) (ia sa : Option Addr) (il ic sl sc : Nat) (w : World) (ht : TrS w tv ts) :
    Calls Tryd.prog 12 #[.agg #[tv, .slice ia il ic, .slice sa sl sc]] w fun e w' => e = .returned (.int .u64 ((if FitK ts il sl then lvN ts else 0 : Nat) : Int)) ∧ Below w.heap.size w w' := by
  have hfk := fun y (h : Below w.heap.size w y) => rfitK_any ts tv ia sa il ic sl sc y (ht.below h)
  have ht' := ht
  obtain ⟨ta, tc, rfl, t1, t2, tcell⟩ := ht'
  have b0 := BxK.new w (.slice ta ts.length tc) (.slice ia il ic) (.slice sa sl sc)
  have hb0 := keep_alloc w (.cells #[.slice ta ts.length tc, .slice ia il ic, .slice sa sl sc] 25)
  by_cases hK : FitK ts il sl
  · rw [if_pos hK]
    rw [decide_eq_true hK] at hfk
    obtain ⟨N, hN⟩ : ∃ N, ts.length = N := ⟨_, rfl⟩
    rw [hN] at b0 hb0 hfk ⊢
    have HT := hide (And.intro hK (And.intro tcell hN))
    clear hK tcell ht
    obtain ⟨LV, hLV⟩ : ∃ L, lvN ts = L := ⟨_, rfl⟩
    rw [hLV]
    have HL := hide hLV
    clear hLV
    go_enter Tryd.func12, Tryd.ntmps12
    go_wp2_with (first
      | (go_at_call 10; refine (hfk _ hb0).mono ?_; rintro e w1 ⟨rfl, g1⟩; have b1 := b0.below g1; have HB := hide (And.intro b1 (keep_trans hb0 g1)); clear b1)
      | fail)
    clear b0 hb0 hfk
    go_loopw [3, 4] (fun vn vi wr => KlL w w.heap.size (.slice ta N tc) (.slice ia il ic) (.slice sa sl sc) ts vn vi wr) (fun _ vi _ => N - (intOf vi).toNat)
    case atStart => exact ⟨0, Nat.zero_le _, rfl, rfl, HB.out.1, HB.out.2⟩
    case round =>
      obtain ⟨i, hi, rfl, rfl, bx, hbr⟩ := hrel
      have c0 := bx.c0
      obtain ⟨hK, tcell, hN⟩ := HT.out
      by_cases hlt : i < N
      · have hlt' : (i : Int) < (N : Int) := by omega
        obtain ⟨tb, to, rfl, tcc⟩ := tcell (by omega)
        obtain ⟨x1, x2⟩ := tcc i (by omega)
        have y1 : wr.cell? ⟨tb, to + i * 2, none⟩ = some (.int .i64 (trA ts i).1) := by rw [hbr.cell (p := ⟨tb, to + i * 2, none⟩) (World.block_lt_of_cell? _ _ x1)]; exact x1
        have htk := tr_take (ts := ts) (i := i) (by omega)
        have hp := (hK.2.2.1 _ (trA_mem (ts := ts) (i := i) (by omega))).pos
        have hs1 := sumH_take hK.2.2.1 i
        have hs2 := sumH_take hK.2.2.1 (i + 1)
        have hl1 := lvN_lt (ts := ts.take i) (by have := hK.2.2.2.1; omega)
        have hl2 := lvN_lt (ts := ts.take (i + 1)) (by have := hK.2.2.2.1; omega)
        have hm := lvN_snoc (ts := ts.take i) (t := trA ts i) hs1.1 (by omega)
        obtain ⟨th, hth⟩ : ∃ t : Nat, (trA ts i).1 = (t : Int) := ⟨(trA ts i).1.toNat, by omega⟩
        rw [hth] at y1 hp hm
        rw [← htk, Int.toNat_natCast] at hm
        obtain ⟨A, hA⟩ : ∃ A, lvN (ts.take i) = A := ⟨_, rfl⟩
        obtain ⟨A2, hA2⟩ : ∃ A, lvN (ts.take (i + 1)) = A := ⟨_, rfl⟩
        rw [hA] at hm hl1 ⊢
        rw [hA2] at hm hl2
        obtain ⟨M, hM⟩ : ∃ M, 2 ^ th = M := ⟨_, rfl⟩
        rw [hM] at hm
        have e_M : (2 : Int) ^ th = (M : Int) := by rw [← hM]; norm_cast
        have e_A : (A : Int) * (M : Int) = (A2 : Int) := by rw [hm]; norm_cast
        have s_A : IntKind.u64.wrap (A2 : Int) = (A2 : Int) := by rw [IntKind.wrap_u64]; omega
        have th64 : (th : Int) < 64 := by omega
        obtain ⟨Q, hQ⟩ : ∃ Q : Nat, i + 1 = Q := ⟨_, rfl⟩
        have e_Q : (i : Int) + 1 = (Q : Int) := by omega
        have s_Q : IntKind.i64.wrap (Q : Int) = (Q : Int) := by rw [IntKind.wrap_i64]; have := hK.2.1; omega
        have HQ := hide (And.intro hA2 (And.intro hQ (And.intro bx (And.intro hbr hN))))
        clear hA hA2 hM hm htk hs1 hs2 tcc x1 x2 hth hK hN tcell bx hbr hQ hl1 hl2
        go_wp2
        obtain ⟨hA2, hQ, bx, hbr, hN⟩ := HQ.out
        exact ⟨⟨Q, by omega, rfl, by rw [← hQ, hA2], bx, hbr⟩, by simp [intOf]; omega⟩
      · obtain rfl : i = N := by omega
        have hge : ¬ ((i : Int) < (i : Int)) := by omega
        have htk : ts.take i = ts := List.take_of_length_le (by omega)
        rw [htk, HL.out]
        have HK := hide hbr
        clear hK htk tcell bx hbr hN
        go_wp2
        go_ret
        exact ⟨rfl, HK.out⟩
  · rw [if_neg hK]
    rw [decide_eq_false hK] at hfk
    clear hK tcell ht
    generalize ts.length = N at *
    go_enter Tryd.func12, Tryd.ntmps12
    go_wp2_with (first
      | (go_at_call 10; refine (hfk _ hb0).mono ?_; rintro e w1 ⟨rfl, g1⟩)
      | fail)
    go_ret
    exact ⟨rfl, keep_trans hb0 g1⟩
end Go.Proofs.YtogiballdmgcpaaDoor

/- Texts of the call's own in a slice of the call's own. -/
namespace Go.Proofs.YtogiballdmgcpaaDoor
open Go.RowKit
set_option linter.unusedVariables false
set_option linter.unusedSimpArgs false

theorem ownsRow_base {w : World} {B B' n : Nat} {e : TypeId} {v : Value} {xs : List Value} (h : w.ownsRow B e 1 v n xs) (hB : B' ≤ B) : w.ownsRow B' e 1 v n xs := by
  obtain ⟨h1, h2⟩ := h
  refine ⟨h1, ?_⟩
  rcases h2 with h2 | ⟨g, cap, cur, rfl, h3, h4⟩
  · exact .inl h2
  · exact .inr ⟨g, cap, cur, rfl, by omega, h4⟩
end Go.Proofs.YtogiballdmgcpaaDoor

/- Trees of trees: the document's Vector. -/
namespace Go.Proofs.YtogiballdmgcpaaDoor
open Go.RowKit
set_option linter.unusedVariables false
set_option linter.unusedSimpArgs false

/-- a number's leaves -/
def vecF : List (Int × Int) → Nat → List Nat
  | [], _ => []
  | t :: ts, n => n / lvN ts % 2 ^ t.1.toNat :: vecF ts n
theorem vecF_len : ∀ (ts : List (Int × Int)) (n : Nat), (vecF ts n).length = ts.length
  | [], _ => rfl
  | t :: ts, n => by show (vecF ts n).length + 1 = _; rw [vecF_len ts n]; rfl
theorem tr_drop {ts : List (Int × Int)} {i : Nat} (h : i < ts.length) : ts.drop i = trA ts i :: ts.drop (i + 1) := by
  rw [List.drop_eq_getElem_cons h]
  unfold trA
  rw [List.getD_eq_getElem?_getD, List.getElem?_eq_getElem h]
  rfl
theorem lvN_cons {ts : List (Int × Int)} {t : Int × Int} (h1 : 0 ≤ sumH ts) (h2 : 0 ≤ t.1) : lvN (t :: ts) = 2 ^ t.1.toNat * lvN ts := by
  unfold lvN
  show 2 ^ (t.1 + sumH ts).toNat = _
  rw [show (t.1 + sumH ts).toNat = t.1.toNat + (sumH ts).toNat by omega, Nat.pow_add]
theorem sumH_drop {ts : List (Int × Int)} (h : ∀ t ∈ ts, FitG t) (i : Nat) : 0 ≤ sumH (ts.drop i) := (sumH_le (ts.drop i) (fun t ht => h t (List.mem_of_mem_drop ht))).1
/-- one leaf more, from the last on -/
theorem vec_step {ts : List (Int × Int)} (h : ∀ t ∈ ts, FitG t) {i : Nat} (hi : i < ts.length) (n : Nat) :
    vecF (ts.drop i) n = n / lvN (ts.drop (i + 1)) % 2 ^ (trA ts i).1.toNat :: vecF (ts.drop (i + 1)) n ∧ n / lvN (ts.drop (i + 1)) / 2 ^ (trA ts i).1.toNat = n / lvN (ts.drop i) := by
  have hp := (h _ (trA_mem hi)).pos
  rw [tr_drop hi]
  refine ⟨rfl, ?_⟩
  rw [lvN_cons (sumH_drop h (i + 1)) (by omega), Nat.div_div_eq_div_mul, Nat.mul_comm]
theorem set_rep (i x : Nat) (ds : List Nat) : (List.replicate (i + 1) 0 ++ ds).set i x = List.replicate i 0 ++ x :: ds := by
  rw [List.set_append_left _ _ (by simp), List.replicate_succ', List.set_append_right _ _ (by simp)]
  simp
/-- what is wrong with a number -/
def vcE (ts : List (Int × Int)) (il sl n : Nat) : Int := if ¬ FitK ts il sl then 10 else if lvN ts ≤ n then 13 else 0
theorem made_u32 (n : Nat) : (madeCells (Value.int .u32 0).cells (n * 1)).toList = vals .u32 (List.replicate n 0) := by
  rw [Nat.mul_one]
  show (madeCells #[Value.int .u32 0] n).toList = _
  rw [toList_madeCells_one]
  simp [vals]
theorem vecF_under {ts : List (Int × Int)} (h : ∀ t ∈ ts, FitG t) (n : Nat) : Under 4294967296 (vecF ts n) := by
  induction ts with
  | nil => intro x hx; cases hx
  | cons t ts ih =>
    intro x hx
    rcases List.mem_cons.1 hx with rfl | hx
    · have hp := (h t (by simp)).pos
      refine Nat.lt_of_lt_of_le (Nat.mod_lt _ (Nat.pow_pos (by decide))) (Nat.le_trans (Nat.pow_le_pow_right (by decide) (show t.1.toNat ≤ 10 by omega)) (by decide))
    · exact ih (fun t ht => h t (List.mem_cons_of_mem _ ht)) x hx
/-- where Vector stands -/
def KvL (w : World) (B O : Nat) (N : Nat) (v0 v1 v2 : Value) (ts : List (Int × Int)) (n : Nat) (vn vi : Value) (wr : World) : Prop := ∃ i : Nat, i ≤ N ∧ vi = .int .i64 ((i : Int) - 1) ∧ vn = .int .u64 ((n / lvN (ts.drop i) : Nat) : Int) ∧ wr.ownsRow O 39 1 (.slice (some ⟨O, 0, none⟩) N N) N (vals .u32 (List.replicate i 0 ++ vecF (ts.drop i) n)) ∧ BxK wr B v0 v1 v2 ∧ Below w.heap.size w wr
set_option maxHeartbeats 4000000 in
set_option maxRecDepth 100000 in
theorem rvec_ok (ts : List (Int × Int)) (tv : Value) (ia sa : Option Addr) (il ic sl sc n : Nat) (w : World) (ht : TrS w tv ts) (hK : FitK ts il sl) (hn : n < lvN ts) :
    Calls Tryd.prog 8 #[.agg #[tv, .slice ia il ic, .slice sa sl sc], .int .u64 (n : Int)] w fun e w' => ∃ v, e = .returned (.tuple #[v, .int .i64 0]) ∧ Own 39 .u32 4294967296 w' w.heap.size v (vecF ts n) ∧ Below w.heap.size w w' := by
  have hfk := fun y (h : Below w.heap.size w y) => rfitK_any ts tv ia sa il ic sl sc y (ht.below h)
  have hlk := fun y (h : Below w.heap.size w y) => rlvs_any ts tv ia sa il ic sl sc y (ht.below h)
  have ht' := ht
  obtain ⟨ta, tc, rfl, t1, t2, tcell⟩ := ht'
  have b0 := BxK.new w (.slice ta ts.length tc) (.slice ia il ic) (.slice sa sl sc)
  have hb0 := keep_alloc w (.cells #[.slice ta ts.length tc, .slice ia il ic, .slice sa sl sc] 25)
  rw [decide_eq_true hK] at hfk
  rw [if_pos hK] at hlk
  obtain ⟨N, hN⟩ : ∃ N, ts.length = N := ⟨_, rfl⟩
  rw [hN] at b0 hb0 hfk hlk ⊢
  have hll := lvN_lt hK.2.2.2.1
  obtain ⟨LV, hLV⟩ : ∃ L, lvN ts = L := ⟨_, rfl⟩
  rw [hLV] at hlk hn hll
  have hnl : ¬ ((LV : Int) ≤ (n : Int)) := by omega
  have hN8 : N ≤ 8 ∧ 1 ≤ N := ⟨by have := hK.2.1; omega, by have := hK.1; omega⟩
  have HT := hide (And.intro hK (And.intro tcell (And.intro hN (And.intro hLV hn))))
  clear hK tcell ht hLV hn hll
  obtain ⟨i0, hi, hz0, hz1, hz2⟩ := info_parts Tryd.info39
  obtain ⟨N1, hN1⟩ : ∃ x : Nat, x + 1 = N := ⟨N - 1, by omega⟩
  have e_N : (N : Int) - 1 = (N1 : Int) := by omega
  have s_N : IntKind.i64.wrap (N1 : Int) = (N1 : Int) := by rw [IntKind.wrap_i64]; omega
  have HN := hide hN1
  clear hN1
  go_enter Tryd.func8, Tryd.ntmps8
  go_wp2_with (first
    | (go_at_call 10; refine (hfk _ hb0).mono ?_; rintro e w1 ⟨rfl, g1⟩; have b1 := b0.below g1; have k1 := keep_trans hb0 g1; have q0 := b1.c0; have q1 := b1.c1; have q2 := b1.c2)
    | (go_at_call 12; refine (hlk _ k1).mono ?_; rintro e w2 ⟨rfl, g2⟩; have b2 := b1.below g2; have k2 := keep_trans k1 g2; have p0 := b2.c0; have p1 := b2.c1; have p2 := b2.c2)
    | (at_make; refine wpList_make_full _ rfl _ _ 29 rfl w2.heap.size 39 i0 (.int .u32 0) 1 Tryd.underlying29 hi hz0 hz1 _ _ _ _ N rfl rfl rfl rfl (by rw [hz2]; omega) (by unfold maxLen; omega) (Nat.le_refl _) ?_; intro w3 hown hgrow; rw [made_u32] at hown; have g3 := (Below.refl w2.heap.size w2).grown hgrow (Nat.le_refl _) (fun k h => by cases h); have b3 := b2.below g3; have r0 := b3.c0)
    | fail)
  have h0 : KvL w w.heap.size w2.heap.size N (.slice ta N tc) (.slice ia il ic) (.slice sa sl sc) ts n (.int .u64 (n : Int)) (.int .i64 (N1 : Int)) w3 := by
    obtain ⟨hK, tcell, hN, hLV, hn⟩ := HT.out
    refine ⟨N, Nat.le_refl _, by have := HN.out; rw [← this]; congr 1; omega, ?_, ?_, b3, keep_trans k2 g3⟩
    · rw [List.drop_of_length_le (by omega)]; show Value.int .u64 (n : Int) = .int .u64 ((n / 2 ^ 0 : Nat) : Int); rw [Nat.pow_zero, Nat.div_one]
    · rw [List.drop_of_length_le (by omega)]; show w3.ownsRow _ _ _ _ _ (vals .u32 (List.replicate N 0 ++ [])); rw [List.append_nil]; exact hown
  have H0 := hide h0
  have O_le : w.heap.size ≤ w2.heap.size := k2.size
  have O_lt := b2.lt
  clear h0 hown hgrow g3 b3 r0 b2 p0 p1 p2 b1 q0 q1 q2 b0 hfk hlk
  go_loopw [1, 7] (fun vn vi wr => KvL w w.heap.size w2.heap.size N (.slice ta N tc) (.slice ia il ic) (.slice sa sl sc) ts n vn vi wr) (fun _ vi _ => (intOf vi + 1).toNat)
  case atStart => exact H0.out
  case round =>
    obtain ⟨i, hi, rfl, rfl, how, bx, hbr⟩ := hrel
    have c0 := bx.c0
    obtain ⟨hK, tcell, hN, hLV, hn⟩ := HT.out
    by_cases hlt : 1 ≤ i
    · obtain ⟨J, rfl⟩ : ∃ J, i = J + 1 := ⟨i - 1, by omega⟩
      obtain ⟨tb, to, rfl, tcc⟩ := tcell (by omega)
      obtain ⟨x1, x2⟩ := tcc J (by omega)
      have y1 : wr.cell? ⟨tb, to + J * 2, none⟩ = some (.int .i64 (trA ts J).1) := by rw [hbr.cell (p := ⟨tb, to + J * 2, none⟩) (World.block_lt_of_cell? _ _ x1)]; exact x1
      have htb : tb < w.heap.size := World.block_lt_of_cell? _ _ x1
      have ntb : ¬ tb = w2.heap.size := by omega
      have ntb2 : ¬ w2.heap.size = tb := by omega
      have hp := (hK.2.2.1 _ (trA_mem (ts := ts) (i := J) (by omega))).pos
      obtain ⟨v1, v2⟩ := vec_step hK.2.2.1 (i := J) (by omega) n
      obtain ⟨th, hth⟩ : ∃ t : Nat, (trA ts J).1 = (t : Int) := ⟨(trA ts J).1.toNat, by omega⟩
      rw [hth, Int.toNat_natCast] at v1 v2
      rw [hth] at y1 hp
      have hn60 : n < 1152921504606846976 := by have := lvN_lt hK.2.2.2.1; omega
      obtain ⟨A, hA⟩ : ∃ A, n / lvN (ts.drop (J + 1)) = A := ⟨_, rfl⟩
      have hAn : A ≤ n := by rw [← hA]; exact Nat.div_le_self _ _
      obtain ⟨A2, hA2⟩ : ∃ A, n / lvN (ts.drop J) = A := ⟨_, rfl⟩
      rw [hA] at v1 v2 ⊢
      rw [hA2] at v2
      obtain ⟨M, hM⟩ : ∃ M, 2 ^ th = M := ⟨_, rfl⟩
      have hM0 : 0 < M := by rw [← hM]; exact Nat.pow_pos (by decide)
      have hM2 : M ≤ 1024 := by rw [← hM]; exact Nat.le_trans (Nat.pow_le_pow_right (by decide) (show th ≤ 10 by omega)) (by decide)
      rw [hM] at v1 v2
      have e_M : (2 : Int) ^ th = (M : Int) := by rw [← hM]; norm_cast
      have s_M : IntKind.u64.wrap (M : Int) = (M : Int) := by rw [IntKind.wrap_u64]; omega
      have n_M : ¬ (M : Int) = 0 := by omega
      obtain ⟨D, hD⟩ : ∃ D, A % M = D := ⟨_, rfl⟩
      have hDl : D < M := by rw [← hD]; exact Nat.mod_lt _ hM0
      have e_D : (A : Int) % (M : Int) = (D : Int) := by rw [← hD]; norm_cast
      have s_D : IntKind.u64.wrap (D : Int) = (D : Int) := by rw [IntKind.wrap_u64]; omega
      have s_D2 : IntKind.u32.wrap (D : Int) = (D : Int) := by rw [IntKind.wrap_u32]; omega
      have e_A : (A : Int) / (M : Int) = (A2 : Int) := by rw [← v2]; norm_cast
      have th64 : (th : Int) < 64 := by omega
      have e_J : ((J + 1 : Nat) : Int) - 1 = (J : Int) := by omega
      have g_J : (0 : Int) ≤ (J : Int) := by omega
      rw [e_J]
      obtain ⟨K, hKk⟩ : ∃ K : Int, (J : Int) - 1 = K := ⟨_, rfl⟩
      have s_K : IntKind.i64.wrap K = K := by rw [IntKind.wrap_i64]; omega
      rw [hD] at v1
      have hJN : J < N := by omega
      have cJ : wr.cell? ⟨w2.heap.size, J, none⟩ = some (.int .u32 (0 : Int)) := by
        rw [how.cellAt J (by omega), vals_get _ _ _ (by rw [List.length_append, List.length_replicate]; omega)]
        rw [show el (List.replicate (J + 1) 0 ++ vecF (ts.drop (J + 1)) n) J = 0 by unfold el; rw [List.getElem?_append_left (by simp), List.getElem?_replicate]; simp]
        rfl
      have fJ := how.frozenAt J
      have HQ := hide (And.intro v1 (And.intro hA2 (And.intro hKk (And.intro how (And.intro bx (And.intro hbr hN))))))
      have HJ := hide hJN
      have hbO : w.heap.size ≤ w2.heap.size := O_le
      clear v1 hA hA2 hM v2 hD hKk how bx hbr hN hth x1 x2 tcc tcell hK hLV hn hlt hi
      go_wp2
      obtain ⟨v1, hA2, hKk, how, bx, hbr, hN⟩ := HQ.out
      have st := (how.stored J (.int .u32 (D : Int))).1
      rw [vals_set, set_rep, ← v1] at st
      refine ⟨⟨J, by omega, by rw [hKk], by rw [hA2], st, ⟨(But.refl w2.heap.size wr |>.setCell J (.int .u32 (D : Int))).block _ bx.lt ?_ |>.trans bx.here⟩, hbr.setCell (p := ⟨w2.heap.size, J, none⟩) (by simpa using hbO) _⟩, ?_⟩
      · omega
      · simp [intOf]
    · obtain rfl : i = 0 := by omega
      have HK := hide (And.intro how (And.intro hbr hK))
      clear hK hN hLV hn how bx hbr tcell
      go_wp2
      go_ret2
      obtain ⟨how, hbr, hK⟩ := HK.out
      refine ⟨_, rfl, ⟨?_, vecF_under hK.2.2.1 n⟩, hbr⟩
      rw [vecF_len, HT.out.2.2.1]
      exact ownsRow_base how O_le
set_option maxHeartbeats 4000000 in
set_option maxRecDepth 100000 in
theorem rvec_no (ts : List (Int × Int)) (tv : Value) (ia sa : Option Addr) (il ic sl sc n : Nat) (w : World) (ht : TrS w tv ts) (hE : vcE ts il sl n ≠ 0) (hn : n < 18446744073709551616) :
    Calls Tryd.prog 8 #[.agg #[tv, .slice ia il ic, .slice sa sl sc], .int .u64 (n : Int)] w fun e w' => e = .returned (.tuple #[.slice none 0 0, .int .i64 (vcE ts il sl n)]) ∧ Below w.heap.size w w' := by
  have hfk := fun y (h : Below w.heap.size w y) => rfitK_any ts tv ia sa il ic sl sc y (ht.below h)
  have hlk := fun y (h : Below w.heap.size w y) => rlvs_any ts tv ia sa il ic sl sc y (ht.below h)
  have ht' := ht
  obtain ⟨ta, tc, rfl, t1, t2, tcell⟩ := ht'
  have b0 := BxK.new w (.slice ta ts.length tc) (.slice ia il ic) (.slice sa sl sc)
  have hb0 := keep_alloc w (.cells #[.slice ta ts.length tc, .slice ia il ic, .slice sa sl sc] 25)
  by_cases hK : FitK ts il sl
  · rw [decide_eq_true hK] at hfk
    rw [if_pos hK] at hlk
    have hl : lvN ts ≤ n := by
      refine Decidable.byContradiction fun h => hE ?_
      unfold vcE
      rw [if_neg (by simp [hK]), if_neg h]
    have he : vcE ts il sl n = 13 := by unfold vcE; rw [if_neg (by simp [hK]), if_pos hl]
    rw [he]
    generalize ts.length = N at *
    generalize lvN ts = LV at *
    have hnl : (LV : Int) ≤ (n : Int) := by omega
    clear hK tcell ht hE he hl
    go_enter Tryd.func8, Tryd.ntmps8
    go_wp2_with (first
      | (go_at_call 10; refine (hfk _ hb0).mono ?_; rintro e w1 ⟨rfl, g1⟩; have b1 := b0.below g1; have k1 := keep_trans hb0 g1; have q0 := b1.c0; have q1 := b1.c1; have q2 := b1.c2)
      | (go_at_call 12; refine (hlk _ k1).mono ?_; rintro e w2 ⟨rfl, g2⟩)
      | fail)
    go_ret2
    exact ⟨rfl, keep_trans k1 g2⟩
  · rw [decide_eq_false hK] at hfk
    have he : vcE ts il sl n = 10 := by unfold vcE; rw [if_pos hK]
    rw [he]
    generalize ts.length = N at *
    clear hK tcell ht hE he hlk
    go_enter Tryd.func8, Tryd.ntmps8
    go_wp2_with (first
      | (go_at_call 10; refine (hfk _ hb0).mono ?_; rintro e w1 ⟨rfl, g1⟩)
      | fail)
    go_ret2
    exact ⟨rfl, keep_trans hb0 g1⟩
end Go.Proofs.YtogiballdmgcpaaDoor

/- Leaves that sign once, the program's own: kindOf, and a kind's code, size, top. -/
namespace Go.Proofs.YtogiballdmgcpaaDoor
open Go.RowKit
set_option linter.unusedVariables false
set_option linter.unusedSimpArgs false

theorem cbe2 (a : Nat) (w : World) (ha : a < 18446744073709551616) : Calls Tryd.prog 60 #[.int .u64 (a : Int), .int .i64 2] w fun e w' => ∃ v, e = .returned v ∧ Own 5 .u8 256 w' w.heap.size v (be2 a) ∧ Below w.heap.size w w' := by
  have := be_any a 2 w ha (by decide) (by decide)
  rw [leS_2] at this
  exact this
theorem cbe4 (a : Nat) (w : World) (ha : a < 18446744073709551616) : Calls Tryd.prog 60 #[.int .u64 (a : Int), .int .i64 4] w fun e w' => ∃ v, e = .returned v ∧ Own 5 .u8 256 w' w.heap.size v (be4 a) ∧ Below w.heap.size w w' := by
  have := be_any a 4 w ha (by decide) (by decide)
  rw [leS_4] at this
  exact this
end Go.Proofs.YtogiballdmgcpaaDoor
