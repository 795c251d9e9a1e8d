/- Trees of trees: the document's Public. -/
import Derived.Test.YtogiballdmgcpaaGreatDoorLhA
import Derived.Test.YtogiballdmgcpaaGreatDoorLtP2
import Derived.Test.YtogiballdmgcpaaGreatDoorLtS
import Derived.Test.YtogiballdmgcpaaGreatDoorPlan
import Derived.RangeFuncBox
import Derived.RangeFuncNested
import Derived.RangeFuncBound
import Derived.RangeFuncCalls
import Derived.RangeFuncLeaves
import Derived.Shelf.Abstract
import Derived.OwnWalkIn
import Derived.Test.YtogiballdmgcpaaGreatDoorProg
namespace Go.Proofs.YtogiballdmgcpaaGreatDoor
open Go.RowKit
set_option linter.unusedVariables false
set_option linter.unusedSimpArgs false

/-- a tree's key, and its signature by a leaf -/
def pubG (t : Int × Int) (id seed : List Nat) : List Nat := (be4 (lmCode t.1) ++ be4 (cK t.2.toNat)) ++ (id ++ knT t.2.toNat (nK t.2.toNat) (mK t.2.toNat) t.1.toNat id seed 1)
def sigG (t : Int × Int) (id seed : List Nat) (q : Nat) (text : List Nat) : List Nat :=
  ([be4 q, sgT t.2.toNat (nK t.2.toNat) (mK t.2.toNat) (sK t.2.toNat) (cK t.2.toNat) id seed text q, be4 (lmCode t.1)] ++ pthA (knT t.2.toNat (nK t.2.toNat) (mK t.2.toNat) t.1.toNat id seed) t.1.toNat (2 ^ t.1.toNat + q)).flatten
theorem FitG.kd {t : Int × Int} (h : FitG t) : ∃ k : Nat, t.2 = (k : Int) ∧ Kd k (nK k) (mK k) (sK k) (cK k) := by
  rcases kd_or t.2 with hn | ⟨k, n, m, s, c, e, hk⟩
  · refine absurd ?_ h.1.2
    unfold szW NoK at *
    rw [if_neg hn.1, if_neg hn.2.1, if_neg hn.2.2.1, if_neg hn.2.2.2]
  · obtain ⟨e1, e2, e3, e4⟩ := hk.is
    exact ⟨k, e, by rw [← e1, ← e2, ← e3, ← e4]; exact hk⟩
theorem FitG.wrg {t : Int × Int} (h : FitG t) : wrgT t.1 t.2 16 32 = 0 := by
  unfold wrgT
  rw [if_pos h.1, if_pos ⟨rfl, rfl⟩, if_neg (by have := h.2; omega)]
theorem pubG_len (t : Int × Int) (id seed : List Nat) (hid : id.length = 16) : (pubG t id seed).length = 56 := by
  unfold pubG
  rw [List.length_append, List.length_append, be4_len, be4_len, List.length_append, hid, knT_len]
theorem rpubG {t : Int × Int} (hg : FitG t) (h8 : t.2 ≠ 8) (id seed : List Nat) (idv sv : Value) (w : World) (hi : Row .u8 256 w idv id) (ti : Tidy idv) (hs : Row .u8 256 w sv seed) (ts : Tidy sv) (hl : id.length = 16) (hsl : seed.length = 32) :
    Calls Tryz.prog 23 #[.agg #[.int .i64 t.1, .int .i64 t.2], idv, sv] w fun e w' => ∃ v, e = .returned (.tuple #[v, .int .i64 0]) ∧ Row .u8 256 w' v (pubG t id seed) ∧ New w.heap.size v ∧ Tidy v ∧ Below w.heap.size w w' := by
  obtain ⟨k, hk, kd⟩ := hg.kd
  have hp := hg.pos
  have hw := hg.wrg
  obtain ⟨h, x⟩ := t
  simp only at hk hp hw h8
  subst hk
  obtain ⟨H, rfl⟩ : ∃ H : Nat, h = (H : Int) := ⟨h.toNat, by omega⟩
  have := rpubT_ok kd (by omega) H (by omega) (by omega) id seed idv sv w hi ti hs ts (by rw [hl, hsl]; exact hw) hl hsl
  unfold pubG
  simp only [Int.toNat_natCast]
  exact this
theorem rsgnG {t : Int × Int} (hg : FitG t) (h8 : t.2 ≠ 8) (id seed text : List Nat) (q : Nat) (idv sv tv : Value) (w : World) (hi : Row .u8 256 w idv id) (ti : Tidy idv) (hs : Row .u8 256 w sv seed) (ts : Tidy sv) (ht : Row .u8 256 w tv text) (tt : Tidy tv) (hl : id.length = 16) (hsl : seed.length = 32) (htl : text.length ≤ 10000) (hq : q < 2 ^ t.1.toNat) :
    Calls Tryz.prog 30 #[.agg #[.int .i64 t.1, .int .i64 t.2], idv, sv, .int .u32 (q : Int), tv] w fun e w' => ∃ v, e = .returned (.tuple #[v, .int .i64 0]) ∧ Own 5 .u8 256 w' w.heap.size v (sigG t id seed q text) ∧ Below w.heap.size w w' := by
  obtain ⟨k, hk, kd⟩ := hg.kd
  have hp := hg.pos
  have hw := hg.wrg
  obtain ⟨h, x⟩ := t
  simp only at hk hp hw h8
  subst hk
  obtain ⟨H, rfl⟩ : ∃ H : Nat, h = (H : Int) := ⟨h.toNat, by omega⟩
  have := rsignT_ok kd (by omega) H (by omega) id seed text q idv sv tv w hi ti hs ts ht tt (by rw [hl, hsl]; exact hw) hl hsl htl (by simpa using hq)
  unfold sigG
  simp only [Int.toNat_natCast]
  exact this
theorem tr_range {y : World} {b o : Nat} {u v : Value} (h1 : y.cell? ⟨b, o, none⟩ = some u) (h2 : y.cell? ⟨b, o + 1, none⟩ = some v) : y.rangeAt b o [u, v] := fun j x hx => by
  match j, hx with
  | 0, hx => simp at hx; subst hx; exact h1
  | 1, hx => simp at hx; subst hx; exact h2
def pk3lt : List Lt := [(0, some 10, [1]), (1, some 11, [10]), (2, some 12, [11]), (4, some 13, [12]), (0, some 14, [1]), (16, some 15, [14]), (0, some 16, [1]), (64, some 17, [16]), (168, some 18, [13, 15, 17]), (256, some 9, [18]), (512, some 19, [9]), (512, some 20, [9]), (2047, some 4, [19]), (8191, some 5, [20])]
theorem pk3reg : Reg (opsA (cLA (cRA (cRA (Tryz.f10.body.getD .skip))))) pk3lt := ⟨by kernel_rfl, by kernel_rfl⟩
set_option maxHeartbeats 4000000 in
set_option maxRecDepth 100000 in
theorem rpubH_ok (ts : List (Int × Int)) (tv iv sv : Value) (id seed : List Nat) (w : World) (ht : TrS w tv ts) (hi : Row .u8 256 w iv id) (ti : Tidy iv) (hs : Row .u8 256 w sv seed) (tis : Tidy sv) (hK : FitK ts id.length seed.length) (h8 : (trA ts 0).2 ≠ 8) :
    Calls Tryz.prog 10 #[.agg #[tv, iv, sv]] w fun e w' => ∃ v, e = .returned (.tuple #[v, .int .i64 0]) ∧ Own 5 .u8 256 w' w.heap.size v (be4 ts.length ++ pubG (trA ts 0) id seed) ∧ Below w.heap.size w w' := by
  have hid := hK.2.2.2.2.1
  have hsd := hK.2.2.2.2.2
  have hg := hK.2.2.1 _ (trA_mem (ts := ts) (i := 0) (by have := hK.1; omega))
  have hpb0 := fun y (h : Below w.heap.size w y) => rpubG hg h8 id seed iv sv y (hi.below h) ti (hs.below h) tis hid hsd
  have hp56 := pubG_len (trA ts 0) id seed hid
  obtain ⟨ia, ic, rfl, _⟩ := hi.opens hid
  obtain ⟨sa, sc, rfl, _⟩ := hs.opens hsd
  have hfk := fun y (h : Below w.heap.size w y) => rfitK_any ts tv ia sa 16 ic 32 sc y (ht.below h)
  rw [decide_eq_true (by rw [hid, hsd] at hK; exact hK)] at hfk
  have ht' := ht
  obtain ⟨ta, tc, rfl, t1, t2, tcell⟩ := ht'
  obtain ⟨tb, to, rfl, tcc⟩ := tcell hK.1
  obtain ⟨x1, x2⟩ := tcc 0 hK.1
  have b0 := BxK.new w (.slice (some ⟨tb, to, none⟩) ts.length tc) (.slice ia 16 ic) (.slice sa 32 sc)
  have hb0 := keep_alloc w (.cells #[.slice (some ⟨tb, to, none⟩) ts.length tc, .slice ia 16 ic, .slice sa 32 sc] 25)
  obtain ⟨N, hN⟩ : ∃ N, ts.length = N := ⟨_, rfl⟩
  have hN0 : 0 < N := by have := hK.1; omega
  have hN8 : N ≤ 8 := by have := hK.2.1; omega
  rw [hN] at b0 hb0 hfk ⊢
  have h4 := fun y => rbe4 N y (by omega)
  have s_N : IntKind.u64.wrap (N : Int) = (N : Int) := by rw [IntKind.wrap_u64]; omega
  generalize pubG (trA ts 0) id seed = PK at *
  obtain ⟨th, hth⟩ : ∃ t, (trA ts 0).1 = t := ⟨_, rfl⟩
  obtain ⟨tw, htw⟩ : ∃ t, (trA ts 0).2 = t := ⟨_, rfl⟩
  rw [hth] at x1 hpb0
  rw [htw] at x2 hpb0
  clear hK ht tcell tcc hi hs hg h8 hth htw hid hsd
  go_enter Tryz.func10, Tryz.ntmps10
  go_wp2_with (first
    | (go_at_call 17; refine (hfk _ hb0).mono ?_; rintro e w1 ⟨rfl, g1⟩)
    | fail)
  have b1 := b0.below g1
  have k1 := keep_trans hb0 g1
  have y1 := keep_cell x1 k1
  have y2 := keep_cell x2 k1
  have hbd : Below w1.heap.size w1 w1.drew := (Below.refl _ _).drew
  have hpb := fun y (h : Below w1.heap.size w1 y) => hpb0 y (keep_trans k1 h)
  refine at_begin (ops := opsA (cLA (cRA (cRA (Tryz.f10.body.getD .skip))))) (n := 14) (fun y => Below w1.heap.size w1 y) (by kernel_rfl) (by kernel_rfl) ?_
  refine at_takeD (i := 0) (m' := 1) (d := some 10) (v := .pointer (some ⟨w.heap.size, 0, none⟩)) pk3reg rfl (by decide) rfl rfl (y_fieldG (wanted_free rfl) rfl rfl (fun w => by simp [go_sem])) hbd ?_
  simp only [Act.put, List.setIfInBounds_toArray, List.set_cons_zero, List.set_cons_succ]
  refine at_takeD (i := 1) (m' := 3) (d := some 11) (v := .slice (some ⟨tb, to, none⟩) N tc) pk3reg rfl (by decide) rfl rfl (y_plainG (wanted_free rfl) rfl rfl Tryz.underlying22 rfl (fun _ h => (b1.below h).c0)) hbd ?_
  simp only [Act.put, List.setIfInBounds_toArray, List.set_cons_zero, List.set_cons_succ]
  refine at_takeD (i := 2) (m' := 7) (d := some 12) (v := .pointer (some ⟨tb, to + 0 * 2, none⟩)) pk3reg rfl (by decide) rfl rfl (y_indexG (m := 2) (i := 0) (wanted_free rfl) rfl rfl rfl Tryz.underlying22 (by kernel_rfl) hN0) hbd ?_
  simp only [Act.put, List.setIfInBounds_toArray, List.set_cons_zero, List.set_cons_succ]
  refine at_takeD (i := 3) (m' := 15) (d := some 13) (v := .agg #[.int .i64 th, .int .i64 tw]) pk3reg rfl (by decide) rfl rfl (y_rowG (cs := [.int .i64 th, .int .i64 tw]) (wanted_free rfl) rfl rfl Tryz.underlying45 rfl (by kernel_rfl) (fun y h => tr_range (keep_cell y1 h) (keep_cell y2 h))) hbd ?_
  simp only [Act.put, List.setIfInBounds_toArray, List.set_cons_zero, List.set_cons_succ]
  refine at_takeD (i := 4) (m' := 31) (d := some 14) (v := .pointer (some ⟨w.heap.size, 1, none⟩)) pk3reg rfl (by decide) rfl rfl (y_fieldG (wanted_free rfl) rfl rfl (fun w => by simp [go_sem])) hbd ?_
  simp only [Act.put, List.setIfInBounds_toArray, List.set_cons_zero, List.set_cons_succ]
  refine at_takeD (i := 5) (m' := 63) (d := some 15) (v := .slice ia 16 ic) pk3reg rfl (by decide) rfl rfl (y_plainG (wanted_free rfl) rfl rfl Tryz.underlying23 rfl (fun _ h => (b1.below h).c1)) hbd ?_
  simp only [Act.put, List.setIfInBounds_toArray, List.set_cons_zero, List.set_cons_succ]
  refine at_takeD (i := 6) (m' := 127) (d := some 16) (v := .pointer (some ⟨w.heap.size, 2, none⟩)) pk3reg rfl (by decide) rfl rfl (y_fieldG (wanted_free rfl) rfl rfl (fun w => by simp [go_sem])) hbd ?_
  simp only [Act.put, List.setIfInBounds_toArray, List.set_cons_zero, List.set_cons_succ]
  refine at_takeD (i := 7) (m' := 255) (d := some 17) (v := .slice sa 32 sc) pk3reg rfl (by decide) rfl rfl (y_plainG (wanted_free rfl) rfl rfl Tryz.underlying23 rfl (fun _ h => (b1.below h).c2)) hbd ?_
  simp only [Act.put, List.setIfInBounds_toArray, List.set_cons_zero, List.set_cons_succ]
  refine at_one (i := 8) (m' := 511) pk3reg (by decide) rfl ?_
  refine p_callG (args := #[.agg #[.int .i64 th, .int .i64 tw], .slice ia 16 ic, .slice sa 32 sc]) (d := some 18) rfl (wanted_free rfl) rfl (by simp only [List.map_toArray, List.map_cons, List.map_nil]; rfl) rfl Tryz.call23 ((hpb w1.drew hbd).mono ?_)
  rintro e y9 ⟨pv, rfl, rp, np, tp, g9⟩
  obtain ⟨pa, pc, rfl, _⟩ := rp.opens hp56
  have hb9 := keep_trans hbd g9
  refine ⟨_, rfl, hb9, ?_⟩
  simp only [Act.put, List.setIfInBounds_toArray, List.set_cons_zero, List.set_cons_succ]
  refine at_takeD (i := 9) (m' := 1023) (d := some 9) (v := .tuple #[.slice pa 56 pc, .int .i64 0]) pk3reg rfl (by decide) rfl rfl (y_moveG (wanted_free rfl) rfl rfl) hb9 ?_
  simp only [Act.put, List.setIfInBounds_toArray, List.set_cons_zero, List.set_cons_succ]
  refine at_takeD (i := 10) (m' := 2047) (d := some 19) (v := .slice pa 56 pc) pk3reg rfl (by decide) rfl rfl (y_extractG (wanted_free rfl) rfl rfl rfl) hb9 ?_
  simp only [Act.put, List.setIfInBounds_toArray, List.set_cons_zero, List.set_cons_succ]
  refine at_takeD (i := 11) (m' := 4095) (d := some 20) (v := .int .i64 0) pk3reg rfl (by decide) rfl rfl (y_extractG (wanted_free rfl) rfl rfl rfl) hb9 ?_
  simp only [Act.put, List.setIfInBounds_toArray, List.set_cons_zero, List.set_cons_succ]
  refine at_takeD (i := 12) (m' := 8191) (d := some 4) (v := .slice pa 56 pc) pk3reg rfl (by decide) rfl rfl (y_assignG (wanted_free rfl) rfl rfl) hb9 ?_
  simp only [Act.put, List.setIfInBounds_toArray, List.set_cons_zero, List.set_cons_succ]
  refine at_takeD (i := 13) (m' := 16383) (d := some 5) (v := .int .i64 0) pk3reg rfl (by decide) rfl rfl (y_assignG (wanted_free rfl) rfl rfl) hb9 ?_
  simp only [Act.put, List.setIfInBounds_toArray, List.set_cons_zero, List.set_cons_succ]
  refine at_done pk3reg (by decide) ?_
  have b2 := b1.below hb9
  have c0 := b2.c0
  go_wp2_with (first
    | (go_at_call 24; refine (h4 _).mono ?_; rintro e w3 ⟨v3, rfl, o3, g3⟩)
    | (at_builtin; refine wpList_appA rfl _ _ rfl w.heap.size _ _ 4 (be4 N) PK rfl (ownsRow_base o3.1 ((keep_trans k1 hb9).size)) rfl (rp.below g3) tp (by decide) (by omega) (keep_trans (keep_trans k1 hb9) g3).size ?_; intro v4 w4 how4 hg4)
    | fail)
  go_ret2
  have kk := keep_trans (keep_trans k1 hb9) g3
  refine ⟨_, rfl, ⟨by rw [List.length_append, be4_len, hp56]; rw [hp56] at how4; exact how4, (be4_under N).append rp.under⟩, below_append' kk kk.size (ownsRow_base o3.1 ((keep_trans k1 hb9).size)) hg4⟩
end Go.Proofs.YtogiballdmgcpaaGreatDoor

/- Trees of trees: the document's Sign. -/
namespace Go.Proofs.YtogiballdmgcpaaGreatDoor
open Go.RowKit
set_option linter.unusedVariables false
set_option linter.unusedSimpArgs false

/-- the ids and seeds of the trees that a number goes through -/
def stH (vs : List Nat) (id seed : List Nat) : Nat → List Nat × List Nat
  | 0 => (id, seed)
  | i + 1 => (idB (stH vs id seed i).1 (stH vs id seed i).2 (el vs i), sdB (stH vs id seed i).1 (stH vs id seed i).2 (el vs i))
theorem stH_len {vs id seed : List Nat} (h1 : id.length = 16) (h2 : seed.length = 32) : ∀ i, (stH vs id seed i).1.length = 16 ∧ (stH vs id seed i).2.length = 32
  | 0 => ⟨h1, h2⟩
  | i + 1 => ⟨idB_len _ _ _, sdB_len _ _ _⟩
/-- what is put out ahead of the last tree's signature -/
def hsO (ts : List (Int × Int)) (vs id seed : List Nat) : Nat → List (List Nat)
  | 0 => [be4 (ts.length - 1)]
  | i + 1 => hsO ts vs id seed i ++ [sigG (trA ts i) (stH vs id seed i).1 (stH vs id seed i).2 (el vs i) (pubG (trA ts (i + 1)) (stH vs id seed (i + 1)).1 (stH vs id seed (i + 1)).2), pubG (trA ts (i + 1)) (stH vs id seed (i + 1)).1 (stH vs id seed (i + 1)).2]
theorem hsO_len (ts : List (Int × Int)) (vs id seed : List Nat) : ∀ i, (hsO ts vs id seed i).length = 1 + 2 * i
  | 0 => rfl
  | i + 1 => by show (hsO ts vs id seed i ++ _).length = _; rw [List.length_append, hsO_len ts vs id seed i]; simp; omega
def hsSig (ts : List (Int × Int)) (vs id seed text : List Nat) : List Nat := (hsO ts vs id seed (ts.length - 1) ++ [sigG (trA ts (ts.length - 1)) (stH vs id seed (ts.length - 1)).1 (stH vs id seed (ts.length - 1)).2 (el vs (ts.length - 1)) text]).flatten
theorem nm_le (k : Nat) : nK k + mK k ≤ 265 := by
  unfold nK mK
  repeat' split
  all_goals omega
theorem sigG_len (t : Int × Int) (id seed : List Nat) (q : Nat) (text : List Nat) : (sigG t id seed q text).length = 8 + (36 + 32 * (nK t.2.toNat + mK t.2.toNat)) + 32 * t.1.toNat := by
  unfold sigG
  rw [List.flatten_append, List.length_append, pthA_flat (fun i => knT_len _ _ _ _ _ _ i)]
  simp only [List.flatten_cons, List.flatten_nil, List.append_nil, List.length_append, be4_len, sgT_len]
  omega
theorem sigG_le {t : Int × Int} (h : FitG t) (id seed : List Nat) (q : Nat) (text : List Nat) : (sigG t id seed q text).length ≤ 9000 := by
  have h1 := sigG_len t id seed q text
  have h2 := nm_le t.2.toNat
  have h3 := h.pos
  omega
theorem hsO_flat {ts : List (Int × Int)} (hK : ∀ t ∈ ts, FitG t) (vs : List Nat) {id seed : List Nat} (h1 : id.length = 16) (h2 : seed.length = 32) : ∀ i, i < ts.length → (hsO ts vs id seed i).flatten.length ≤ 4 + 9056 * i
  | 0, _ => by show ([be4 (ts.length - 1)] : List (List Nat)).flatten.length ≤ _; simp [be4_len]
  | i + 1, hi => by
    show (hsO ts vs id seed i ++ _).flatten.length ≤ _
    have h3 := hsO_flat hK vs h1 h2 i (by omega)
    have h4 := sigG_le (hK _ (trA_mem (ts := ts) (i := i) (by omega))) (stH vs id seed i).1 (stH vs id seed i).2 (el vs i) (pubG (trA ts (i + 1)) (stH vs id seed (i + 1)).1 (stH vs id seed (i + 1)).2)
    have h5 := pubG_len (trA ts (i + 1)) (stH vs id seed (i + 1)).1 (stH vs id seed (i + 1)).2 (stH_len h1 h2 (i + 1)).1
    simp only [List.flatten_append, List.length_append, List.flatten_cons, List.flatten_nil, List.append_nil]
    omega
theorem vecF_el : ∀ {ts : List (Int × Int)} {i : Nat} (n : Nat), i < ts.length → el (vecF ts n) i < 2 ^ (trA ts i).1.toNat
  | [], i, n, h => absurd h (by simp)
  | t :: ts, 0, n, h => Nat.mod_lt _ (Nat.pow_pos (by decide))
  | t :: ts, i + 1, n, h => by
    show el (vecF ts n) i < 2 ^ (trA ts i).1.toNat
    exact vecF_el n (by simpa using h)
/-- texts more -/
theorem GrT.pushL {w w' : World} {B g cap : Nat} {vo : Value} {ls xs : List (List Nat)} {us vs : List Value} (ht : Texts w us ls) (ha : ∀ u ∈ us, Apart1 w vo u) (hv : Texts w vs xs) (hva : ∀ u ∈ vs, Apart1 w vo u)
    (hown : w'.ownsRow B 23 1 (.slice (some ⟨g, 0, none⟩) (ls.length + xs.length) cap) (ls.length + xs.length) (us ++ vs)) (hg : w.grownBy w' vo.ownBlock) (hl : vo.ownBlock = some g ∨ g = w.heap.size) : GrT w' B (.slice (some ⟨g, 0, none⟩) (ls.length + xs.length) cap) (ls ++ xs) := by
  have ap : ∀ v, Apart1 w vo v → Apart1 w' (.slice (some ⟨g, 0, none⟩) (ls.length + xs.length) cap) v := fun v hv q hq => by
    obtain ⟨k1, k2⟩ := hv q hq
    refine ⟨Nat.lt_of_lt_of_le k1 hg.size, fun e => ?_⟩
    have eg : g = q := by simpa [Value.ownBlock] using e
    rcases hl with h | h
    · exact k2 (by rw [h, eg])
    · omega
  have mv : ∀ {us : List Value} {ls : List (List Nat)}, Texts w us ls → (∀ u ∈ us, Apart1 w vo u) → Texts w' us ls := fun ht ha => ⟨ht.1, fun i hi => by
      obtain ⟨v, k1, k2, k3⟩ := ht.2 i hi
      exact ⟨v, k1, row_grownT k2 hg (fun q hq e => (ha v (List.mem_of_getElem? k1) q hq).2 e.symm), k3⟩⟩
  refine ⟨⟨us ++ vs, by rw [List.length_append]; exact hown, (mv ht ha).append (mv hv hva), fun v hv => ?_⟩⟩
  rcases List.mem_append.1 hv with h | h
  · exact ap v (ha v h)
  · exact ap v (hva v h)
theorem GrT.lit1 {w : World} {B : Nat} {u : Value} {a : List Nat} (hu : Row .u8 256 w u a) (tu : Tidy u) (la : 0 < a.length) (hB : B ≤ w.heap.size) : GrT (w.alloc (.cells #[u] 23)) B (.slice (some ⟨w.heap.size, 0, none⟩) 1 1) [a] := by
  refine ⟨⟨[u], World.ownsRow_lit (base := B) (e := 23) (size := 1) w #[u] 1 hB (by decide) rfl, Texts.one (hu.below (keep_alloc _ _)) tu, fun x hx q hq => ?_⟩⟩
  have e : x = u := by simpa using hx
  subst e
  have h1 := hu.old la hq
  refine ⟨by rw [World.size_alloc]; omega, fun e => ?_⟩
  have : w.heap.size = q := by simpa [Value.ownBlock] using e
  omega
theorem cells_two_new (w : World) (x y : Value) (t : TypeId) : ∀ j u, [x, y][j]? = some u → (w.alloc (.cells #[x, y] t)).cell? ((⟨w.heap.size, 0, none⟩ : Addr).add j) = some u := by
  intro j u hj
  match j, hj with
  | 0, hj => simp at hj; subst hj; simp [Addr.add]
  | 1, hj => simp at hj; subst hj; simp [Addr.add]
end Go.Proofs.YtogiballdmgcpaaGreatDoor

/- Trees of trees: each number has leaves of its own (P16.5), plain; where Public and Sign refuse. -/
namespace Go.Proofs.YtogiballdmgcpaaGreatDoor
open Go.RowKit
set_option linter.unusedVariables false
set_option linter.unusedSimpArgs false

theorem vecF_at : ∀ {ts : List (Int × Int)} {i : Nat} (n : Nat), i < ts.length → el (vecF ts n) i = n / lvN (ts.drop (i + 1)) % 2 ^ (trA ts i).1.toNat
  | [], i, n, h => absurd h (by simp)
  | t :: ts, 0, n, h => rfl
  | t :: ts, i + 1, n, h => by
    show el (vecF ts n) i = n / lvN (ts.drop (i + 1)) % 2 ^ (trA ts i).1.toNat
    exact vecF_at n (by simpa using h)
set_option maxHeartbeats 4000000 in
set_option maxRecDepth 100000 in
theorem rpubH_no (ts : List (Int × Int)) (tv : Value) (ia sa : Option Addr) (il ic sl sc : Nat) (w : World) (ht : TrS w tv ts) (hK : ¬ FitK ts il sl) :
    Calls Tryz.prog 10 #[.agg #[tv, .slice ia il ic, .slice sa sl sc]] w fun e w' => e = .returned (.tuple #[.slice none 0 0, .int .i64 10]) ∧ Below w.heap.size w w' := by
  have hfk := fun y (h : Below w.heap.size w y) => rfitK_any ts tv ia sa il ic sl sc y (ht.below h)
  rw [decide_eq_false hK] at hfk
  obtain ⟨ta, tc, rfl, t1, t2, tcell⟩ := ht
  have hb0 := keep_alloc w (.cells #[.slice ta ts.length tc, .slice ia il ic, .slice sa sl sc] 25)
  generalize ts.length = N at *
  clear tcell hK
  go_enter Tryz.func10, Tryz.ntmps10
  go_wp2_with (first
    | (go_at_call 17; refine (hfk _ hb0).mono ?_; rintro e w1 ⟨rfl, g1⟩)
    | fail)
  go_ret2
  exact ⟨rfl, keep_trans hb0 g1⟩
set_option maxHeartbeats 4000000 in
set_option maxRecDepth 100000 in
theorem rsgnH_no (ts : List (Int × Int)) (tv tv2 : Value) (ia sa : Option Addr) (il ic sl sc n : Nat) (w : World) (ht : TrS w tv ts) (hE : vcE ts il sl n ≠ 0) (hn : n < 18446744073709551616) :
    Calls Tryz.prog 12 #[.agg #[tv, .slice ia il ic, .slice sa sl sc], .int .u64 (n : Int), tv2] w fun e w' => e = .returned (.tuple #[.slice none 0 0, .int .i64 (vcE ts il sl n)]) ∧ Below w.heap.size w w' := by
  have hvc := fun y (h : Below w.heap.size w y) => rvec_no ts tv ia sa il ic sl sc n y (ht.below h) hE hn
  obtain ⟨ta, tc, rfl, t1, t2, tcell⟩ := ht
  have hb0 := keep_alloc w (.cells #[.slice ta ts.length tc, .slice ia il ic, .slice sa sl sc] 25)
  generalize vcE ts il sl n = E at *
  have hEb : (E == 0) = false := beq_eq_false_iff_ne.2 hE
  have hEn : (E != 0) = true := by simp [bne, hEb]
  generalize ts.length = N at *
  clear tcell
  go_enter Tryz.func12, Tryz.ntmps12
  go_wp2_with (first
    | (go_at_call 28; refine (hvc _ hb0).mono ?_; rintro e w1 ⟨rfl, g1⟩)
    | fail)
  go_ret2
  exact ⟨rfl, keep_trans hb0 g1⟩
end Go.Proofs.YtogiballdmgcpaaGreatDoor

/- Steps of a plan: one, three, four texts written out as a list. -/
namespace Go.Proofs.YtogiballdmgcpaaGreatDoor
open Go.RowKit
set_option linter.unusedVariables false
set_option linter.unusedSimpArgs false

theorem p_b1 {ops : Array Oper} {Q : Exit → Act → World → Prop} {K : Act → World → Prop} {i : Nat} {o : Oper} {a : Act} {w : World} {t e : TypeId} {p : Operand} {adp : Option Addr} {np cp : Nat} {d : Option Nat} {z : TypeInfo} (hi : ops[i]? = some o) (hw : Region.wanted o (yielded ops a.tmps) = true) (ho : o.op = .buildSlice t 1 #[(0, p)]) (hp : a.eval p = .slice adp np cp) (hd : o.dst = d)
    (hu : Tryz.prog.underlying t = some (.slice e)) (hz : Tryz.prog.info? e = some z) (hsz : z.size = 1) (hz0 : z.zero = some (.slice none 0 0)) (h : K (a.put d (.slice (some ⟨w.heap.size, 0, none⟩) 1 1)) (w.alloc (.cells #[.slice adp np cp] e))) : wpOp Tryz.prog ops Q i K a w := by
  have hr : (execOp a.eval o).run Tryz.prog w = .ok (.value (.slice (some ⟨w.heap.size, 0, none⟩) 1 1)) (w.alloc (.cells #[.slice adp np cp] e)) := by
    unfold execOp
    simp only [ho, List.map_toArray, List.map_cons, List.map_nil, hp]
    simp [Sem.run_bind, run_underlying hu, sizeOf, typeInfo, zeroValue, hz, hsz, hz0, go_sem]
  unfold wpOp
  simp only [hi]
  rw [if_pos hw]
  left
  unfold Oper.wp
  rw [hr]
  show K (a.put o.dst _) _
  rw [hd]
  exact h
theorem p_b3 {ops : Array Oper} {Q : Exit → Act → World → Prop} {K : Act → World → Prop} {i : Nat} {o : Oper} {a : Act} {w : World} {t e : TypeId} {p q r : Operand} {adp adq adr : Option Addr} {np cp nq cq nr cr : Nat} {d : Option Nat} {z : TypeInfo} (hi : ops[i]? = some o) (hw : Region.wanted o (yielded ops a.tmps) = true) (ho : o.op = .buildSlice t 3 #[(0, p), (1, q), (2, r)]) (hp : a.eval p = .slice adp np cp) (hq : a.eval q = .slice adq nq cq) (hr : a.eval r = .slice adr nr cr) (hd : o.dst = d)
    (hu : Tryz.prog.underlying t = some (.slice e)) (hz : Tryz.prog.info? e = some z) (hsz : z.size = 1) (hz0 : z.zero = some (.slice none 0 0)) (h : K (a.put d (.slice (some ⟨w.heap.size, 0, none⟩) 3 3)) (w.alloc (.cells #[.slice adp np cp, .slice adq nq cq, .slice adr nr cr] e))) : wpOp Tryz.prog ops Q i K a w := by
  have hr : (execOp a.eval o).run Tryz.prog w = .ok (.value (.slice (some ⟨w.heap.size, 0, none⟩) 3 3)) (w.alloc (.cells #[.slice adp np cp, .slice adq nq cq, .slice adr nr cr] e)) := by
    unfold execOp
    simp only [ho, List.map_toArray, List.map_cons, List.map_nil, hp, hq, hr]
    simp [Sem.run_bind, run_underlying hu, sizeOf, typeInfo, zeroValue, hz, hsz, hz0, go_sem]
  unfold wpOp
  simp only [hi]
  rw [if_pos hw]
  left
  unfold Oper.wp
  rw [hr]
  show K (a.put o.dst _) _
  rw [hd]
  exact h
theorem p_b4 {ops : Array Oper} {Q : Exit → Act → World → Prop} {K : Act → World → Prop} {i : Nat} {o : Oper} {a : Act} {w : World} {t e : TypeId} {p q r s : Operand} {adp adq adr ads : Option Addr} {np cp nq cq nr cr ns cs : Nat} {d : Option Nat} {z : TypeInfo} (hi : ops[i]? = some o) (hw : Region.wanted o (yielded ops a.tmps) = true) (ho : o.op = .buildSlice t 4 #[(0, p), (1, q), (2, r), (3, s)]) (hp : a.eval p = .slice adp np cp) (hq : a.eval q = .slice adq nq cq) (hr : a.eval r = .slice adr nr cr) (hs : a.eval s = .slice ads ns cs) (hd : o.dst = d)
    (hu : Tryz.prog.underlying t = some (.slice e)) (hz : Tryz.prog.info? e = some z) (hsz : z.size = 1) (hz0 : z.zero = some (.slice none 0 0)) (h : K (a.put d (.slice (some ⟨w.heap.size, 0, none⟩) 4 4)) (w.alloc (.cells #[.slice adp np cp, .slice adq nq cq, .slice adr nr cr, .slice ads ns cs] e))) : wpOp Tryz.prog ops Q i K a w := by
  have hr : (execOp a.eval o).run Tryz.prog w = .ok (.value (.slice (some ⟨w.heap.size, 0, none⟩) 4 4)) (w.alloc (.cells #[.slice adp np cp, .slice adq nq cq, .slice adr nr cr, .slice ads ns cs] e)) := by
    unfold execOp
    simp only [ho, List.map_toArray, List.map_cons, List.map_nil, hp, hq, hr, hs]
    simp [Sem.run_bind, run_underlying hu, sizeOf, typeInfo, zeroValue, hz, hsz, hz0, go_sem]
  unfold wpOp
  simp only [hi]
  rw [if_pos hw]
  left
  unfold Oper.wp
  rw [hr]
  show K (a.put o.dst _) _
  rw [hd]
  exact h
end Go.Proofs.YtogiballdmgcpaaGreatDoor

/- Steps of a plan: five texts written out as a list; one byte written out as a text. -/
namespace Go.Proofs.YtogiballdmgcpaaGreatDoor
open Go.RowKit
set_option linter.unusedVariables false
set_option linter.unusedSimpArgs false

theorem p_b5 {ops : Array Oper} {Q : Exit → Act → World → Prop} {K : Act → World → Prop} {i : Nat} {o : Oper} {a : Act} {w : World} {t e : TypeId} {p q r s m : Operand} {adp adq adr ads adm : Option Addr} {np cp nq cq nr cr ns cs nm cm : Nat} {d : Option Nat} {z : TypeInfo} (hi : ops[i]? = some o) (hw : Region.wanted o (yielded ops a.tmps) = true) (ho : o.op = .buildSlice t 5 #[(0, p), (1, q), (2, r), (3, s), (4, m)]) (hp : a.eval p = .slice adp np cp) (hq : a.eval q = .slice adq nq cq) (hr : a.eval r = .slice adr nr cr) (hs : a.eval s = .slice ads ns cs) (hm : a.eval m = .slice adm nm cm) (hd : o.dst = d)
    (hu : Tryz.prog.underlying t = some (.slice e)) (hz : Tryz.prog.info? e = some z) (hsz : z.size = 1) (hz0 : z.zero = some (.slice none 0 0)) (h : K (a.put d (.slice (some ⟨w.heap.size, 0, none⟩) 5 5)) (w.alloc (.cells #[.slice adp np cp, .slice adq nq cq, .slice adr nr cr, .slice ads ns cs, .slice adm nm cm] e))) : wpOp Tryz.prog ops Q i K a w := by
  have hr : (execOp a.eval o).run Tryz.prog w = .ok (.value (.slice (some ⟨w.heap.size, 0, none⟩) 5 5)) (w.alloc (.cells #[.slice adp np cp, .slice adq nq cq, .slice adr nr cr, .slice ads ns cs, .slice adm nm cm] e)) := by
    unfold execOp
    simp only [ho, List.map_toArray, List.map_cons, List.map_nil, hp, hq, hr, hs, hm]
    simp [Sem.run_bind, run_underlying hu, sizeOf, typeInfo, zeroValue, hz, hsz, hz0, go_sem]
  unfold wpOp
  simp only [hi]
  rw [if_pos hw]
  left
  unfold Oper.wp
  rw [hr]
  show K (a.put o.dst _) _
  rw [hd]
  exact h
theorem p_byte1 {ops : Array Oper} {Q : Exit → Act → World → Prop} {K : Act → World → Prop} {i : Nat} {o : Oper} {a : Act} {w : World} {t e : TypeId} {p : Operand} {n : Int} {d : Option Nat} {z : TypeInfo} (hi : ops[i]? = some o) (hw : Region.wanted o (yielded ops a.tmps) = true) (ho : o.op = .buildSlice t 1 #[(0, p)]) (hp : a.eval p = .int .u8 n) (hd : o.dst = d)
    (hu : Tryz.prog.underlying t = some (.slice e)) (hz : Tryz.prog.info? e = some z) (hsz : z.size = 1) (hz0 : z.zero = some (.int .u8 0)) (h : K (a.put d (.slice (some ⟨w.heap.size, 0, none⟩) 1 1)) (w.alloc (.cells #[.int .u8 n] e))) : wpOp Tryz.prog ops Q i K a w := by
  have hr : (execOp a.eval o).run Tryz.prog w = .ok (.value (.slice (some ⟨w.heap.size, 0, none⟩) 1 1)) (w.alloc (.cells #[.int .u8 n] e)) := by
    unfold execOp
    simp only [ho, List.map_toArray, List.map_cons, List.map_nil, hp]
    simp [Sem.run_bind, run_underlying hu, sizeOf, typeInfo, zeroValue, hz, hsz, hz0, go_sem]
  unfold wpOp
  simp only [hi]
  rw [if_pos hw]
  left
  unfold Oper.wp
  rw [hr]
  show K (a.put o.dst _) _
  rw [hd]
  exact h
end Go.Proofs.YtogiballdmgcpaaGreatDoor

/- A loop over an iterator that is made of another: the contract and the law that serve here. -/
namespace Go.Proofs.YtogiballdmgcpaaGreatDoor
open Go.RowKit Go.Shelf
set_option linter.unusedVariables false
set_option linter.unusedSimpArgs false

/-- all blocks from lo on are as they were -/
structure Kept (lo : Nat) (W W' : World) : Prop where
  size : W.heap.size ≤ W'.heap.size
  block : ∀ k, lo ≤ k → k < W.heap.size → W'.heap[k]? = W.heap[k]?
theorem Kept.trans {lo : Nat} {A B C : World} (h : Kept lo A B) (k : Kept lo B C) : Kept lo A C := ⟨Nat.le_trans h.size k.size, fun i h1 h2 => (k.block i h1 (Nat.lt_of_lt_of_le h2 h.size)).trans (h.block i h1 h2)⟩
theorem Kept.mono {lo lo' : Nat} {A B : World} (h : Kept lo A B) (hl : lo ≤ lo') : Kept lo' A B := ⟨h.size, fun i h1 h2 => h.block i (by omega) h2⟩
theorem Kept.at {lo : Nat} {A B : World} (h : Kept lo A B) {k : Nat} {o : Obj} (hk : lo ≤ k) (h0 : A.heap[k]? = some o) : B.heap[k]? = some o := (h.block k hk (Array.getElem?_eq_some_iff.1 h0).1).trans h0
theorem kept_put {lo : Nat} {W : World} {l : Nat} (o : Obj) (h : l < lo) : Kept lo W (W.putObj l o) := ⟨by simp [World.putObj], fun k h1 h2 => World.putObj_heap_other (by omega)⟩
/-- what a round's body must leave -/
def goesOn (B : Nat) (W : World) (R : World → Prop) : Exit → Act → World → Prop
  | .normal, _, W' => Kept B W W' ∧ R W'
  | _, _, _ => False
end Go.Proofs.YtogiballdmgcpaaGreatDoor
