/- Trees of trees: the document's Sign, the walk. -/
import Derived.Test.YtogiballdmgcpaaGreatDoorHkP
namespace Go.Proofs.YtogiballdmgcpaaGreatDoor
open Go.RowKit
set_option linter.unusedVariables false
set_option linter.unusedSimpArgs false

def sg13lt : List Lt := [(0, some 72, [3]), (1, some 73, [72]), (0, some 74, [14]), (6, some 75, [73, 74]), (8, some 76, [75]), (0, some 77, [12]), (0, some 78, [13]), (0, some 79, [8]), (0, some 80, [14]), (384, some 81, [79, 80]), (512, some 82, [81]), (0, some 83, [17]), (3184, some 84, [76, 77, 78, 82, 83]), (4096, some 71, [84]), (8192, some 85, [71]), (8192, some 86, [71]), (32767, some 19, [85]), (131071, some 20, [86])]
theorem sg13reg : Reg (opsA (cLA (cRA (cRA (cBA (cLA (cRA (cLpA (cBA (cRA (cLA (cRA (cRA (cRA (cRA (cRA (cRA (cRA (Tryz.f12.body.getD .skip))))))))))))))))))) sg13lt := ⟨by kernel_rfl, by kernel_rfl⟩
def sg17lt : List Lt := [(0, some 95, [3]), (1, some 96, [95]), (0, some 97, [10]), (6, some 98, [96, 97]), (8, some 99, [98]), (0, some 100, [12]), (0, some 101, [13]), (0, some 102, [8]), (0, some 103, [10]), (384, some 104, [102, 103]), (512, some 105, [104]), (0, some 106, [2]), (3184, some 107, [99, 100, 101, 105, 106]), (4096, some 94, [107]), (8192, some 108, [94]), (8192, some 109, [94]), (32767, some 21, [108]), (131071, some 22, [109])]
theorem sg17reg : Reg (opsA (cLA (cRA (cRA (cRA (cRA (cRA (cRA (cRA (cRA (Tryz.f12.body.getD .skip))))))))))) sg17lt := ⟨by kernel_rfl, by kernel_rfl⟩
/-- where Sign stands -/
structure HsI (w : World) (ts : List (Int × Int)) (vs id seed : List Nat) (i : Nat) (vo iv sv : Value) (wr : World) : Prop where
  le : i < ts.length
  gr : GrT wr w.heap.size vo (hsO ts vs id seed i)
  ri : Row .u8 256 wr iv (stH vs id seed i).1
  ti : Tidy iv
  rs : Row .u8 256 wr sv (stH vs id seed i).2
  tis : Tidy sv
  bel : Below w.heap.size w wr
def HsL (w : World) (ts : List (Int × Int)) (vs id seed : List Nat) (vo iv sv vi : Value) (wr : World) : Prop := ∃ i : Nat, vi = .int .i64 (i : Int) ∧ HsI w ts vs id seed i vo iv sv wr
set_option maxHeartbeats 8000000 in
set_option maxRecDepth 100000 in
theorem rsgnH_ok (ts : List (Int × Int)) (tv iv0 sv0 tv2 : Value) (id seed text : List Nat) (n : Nat) (w : World) (ht : TrS w tv ts) (hi : Row .u8 256 w iv0 id) (ti : Tidy iv0) (hs : Row .u8 256 w sv0 seed) (tis : Tidy sv0) (htx : Row .u8 256 w tv2 text) (ttx : Tidy tv2) (htl : text.length ≤ 10000) (hK : FitK ts id.length seed.length) (h8 : ∀ t ∈ ts, t.2 ≠ 8) (hn : n < lvN ts) :
    Calls Tryz.prog 12 #[.agg #[tv, iv0, sv0], .int .u64 (n : Int), tv2] w fun e w' => ∃ v, e = .returned (.tuple #[v, .int .i64 0]) ∧ Own 5 .u8 256 w' w.heap.size v (hsSig ts (vecF ts n) id seed text) ∧ Below w.heap.size w w' := by
  have hid := hK.2.2.2.2.1
  have hsd := hK.2.2.2.2.2
  obtain ⟨ia, ic, rfl, _⟩ := hi.opens hid
  obtain ⟨sa, sc, rfl, _⟩ := hs.opens hsd
  have hvc := fun y (h : Below w.heap.size w y) => rvec_ok ts tv ia sa 16 ic 32 sc n y (ht.below h) (by rw [hid, hsd] at hK; exact hK) hn
  have hvl := vecF_len ts n
  have hvu := fun i (h : i < ts.length) => vecF_el (ts := ts) (i := i) n h
  have ht' := ht
  obtain ⟨ta, tc, rfl, t1, t2, tcell⟩ := ht'
  obtain ⟨tb, to, rfl, tcc⟩ := tcell hK.1
  have b0 := BxK.new w (.slice (some ⟨tb, to, none⟩) ts.length tc) (.slice ia 16 ic) (.slice sa 32 sc)
  have hb0 := keep_alloc w (.cells #[.slice (some ⟨tb, to, none⟩) ts.length tc, .slice ia 16 ic, .slice sa 32 sc] 25)
  obtain ⟨N, hN⟩ : ∃ N, ts.length = N := ⟨_, rfl⟩
  have hN8 : 1 ≤ N ∧ N ≤ 8 := ⟨by have := hK.1; omega, by have := hK.2.1; omega⟩
  obtain ⟨N1, hN1⟩ : ∃ x : Nat, N - 1 = x := ⟨_, rfl⟩
  have e_N : (N : Int) - 1 = (N1 : Int) := by omega
  have s_N : IntKind.i64.wrap (N1 : Int) = (N1 : Int) := by rw [IntKind.wrap_i64]; omega
  have s_N2 : IntKind.u64.wrap (N1 : Int) = (N1 : Int) := by rw [IntKind.wrap_u64]; omega
  have h4 := fun y => rbe4 N1 y (by omega)
  obtain ⟨RS, hRS⟩ : ∃ R, hsSig ts (vecF ts n) id seed text = R := ⟨_, rfl⟩
  rw [hRS]
  rw [hN] at b0 hb0 hvc ⊢
  have hvN : (vecF ts n).length = N := hvl.trans hN
  generalize vecF ts n = vs at *
  have HV := hide hvN
  clear hvN
  have HF := hide (And.intro hK (And.intro h8 (And.intro hN (And.intro hN1 (And.intro tcc (And.intro hi (And.intro ti (And.intro hs (And.intro tis (And.intro htx (And.intro ttx (And.intro hRS (And.intro hvl (And.intro hvu (And.intro hid hsd)))))))))))))))
  clear hK h8 hN hN1 tcc hi ti hs tis htx ttx hRS hvl hvu hid hsd ht tcell hn
  go_enter Tryz.func12, Tryz.ntmps12
  go_wp2_with (first
    | (go_at_call 28; refine (hvc _ hb0).mono ?_; rintro e w1 ⟨vv, rfl, ov, g1⟩; obtain ⟨va, vc, rfl, _⟩ := ov.row.opens HV.out; have b1 := b0.below g1; have k1 := keep_trans hb0 g1; have c0 := b1.c0; have c1 := b1.c1; have c2 := b1.c2)
    | (go_at_call 24; refine (h4 _).mono ?_; rintro e w2 ⟨v2, rfl, o2, g2⟩; obtain ⟨a2, q2, rfl, _⟩ := o2.row.opens (be4_len N1); have b2 := (b1.below g2).below (keep_alloc w2 (.cells #[.slice a2 4 q2] 23)); have d0 := b2.c0; have d1 := b2.c1; have d2 := b2.c2)
    | fail)
  have h0 : HsL w2 ts vs id seed (.slice (some ⟨w2.heap.size, 0, none⟩) 1 1) (.slice ia 16 ic) (.slice sa 32 sc) (.int .i64 0) (w2.alloc (.cells #[.slice a2 4 q2] 23)) := by
    obtain ⟨hK, h8, hN, hN1, tcc, hi, ti, hs, tis, htx, ttx, hRS, hvl, hvu, hid, hsd⟩ := HF.out
    have kk := keep_trans (keep_trans k1 g2) (keep_alloc w2 (.cells #[.slice a2 4 q2] 23))
    refine ⟨0, rfl, by omega, ?_, hi.below kk, ti, hs.below kk, tis, keep_alloc _ _⟩
    show GrT _ _ _ [be4 (ts.length - 1)]
    rw [hN, hN1]
    exact GrT.lit1 o2.row (own_tidyG o2) (by rw [be4_len]; decide) (Nat.le_refl _)
  have H0 := hide h0
  have H2 := hide (And.intro (b1.below g2) (And.intro (ov.row.below g2) (keep_trans k1 g2)))
  clear h0 b2 d0 d1 d2 c0 c1 c2 b1 o2 g2 b0 hb0 ov g1 k1 hvc
  go_loopw [11, 12, 13, 14] (fun vo iv sv vi wr => HsL w2 ts vs id seed vo iv sv vi wr) (fun _ _ _ vi _ => N - (intOf vi).toNat)
  case atStart => exact H0.out
  case round =>
    obtain ⟨i, rfl, P⟩ := hrel
    clear H0
    obtain ⟨hK, h8, hN, hN1, tcc, hi, ti, hs, tis, htx, ttx, hRS, hvl, hvu, hid, hsd⟩ := HF.out
    have hiN : i < N := by have := P.le; omega
    have hg1 := hK.2.2.1 _ (trA_mem (ts := ts) (i := i) (by omega))
    have h81 := h8 _ (trA_mem (ts := ts) (i := i) (by omega))
    obtain ⟨x1, x2⟩ := tcc i (by omega)
    have hq := hvu i (by omega)
    have hq32 : el vs i < 4294967296 := by
      have := hg1.pos
      exact Nat.lt_of_lt_of_le hq (Nat.le_trans (Nat.pow_le_pow_right (by decide) (show (trA ts i).1.toNat ≤ 10 by omega)) (by decide))
    obtain ⟨b2, vec2, kw2⟩ := H2.out
    have Pbx := b2.below P.bel
    have Pvec := vec2.below P.bel
    have kww := keep_trans kw2 P.bel
    have hvec := Pvec
    obtain ⟨_, _, hve, _, _, hvc, _⟩ := hvec
    obtain ⟨vb, vof, hvb, hvcell⟩ := hvc (by omega)
    simp only [Value.slice.injEq] at hve
    have hva := hve.1
    clear hve
    rw [hvb] at hva
    subst hva
    have v3 := hvcell i (by omega)
    have hst := stH_len (vs := vs) hid hsd i
    obtain ⟨oa, oc, hvo⟩ := P.gr.slice
    rw [hsO_len] at hvo
    subst hvo
    have z1 := keep_cell x1 kww
    have z2 := keep_cell x2 kww
    have c0 := Pbx.c0
    by_cases hlt1 : i < N1
    · have hlt' : (i : Int) < (N1 : Int) := by omega
      have hg2 := hK.2.2.1 _ (trA_mem (ts := ts) (i := i + 1) (by omega))
      have h82 := h8 _ (trA_mem (ts := ts) (i := i + 1) (by omega))
      obtain ⟨x3, x4⟩ := tcc (i + 1) (by omega)
      have z5 := keep_cell x3 kww
      have z6 := keep_cell x4 kww
      have hst2 := stH_len (vs := vs) hid hsd (i + 1)
      have hbl := rbelow_any (stH vs id seed i).1 (stH vs id seed i).2 (el vs i) u12 u13 wr P.ri P.ti P.rs P.tis hq32 (by omega)
      have hpu : ∀ (u v : Value) (y : World), Row .u8 256 y u (idB (stH vs id seed i).1 (stH vs id seed i).2 (el vs i)) → Row .u8 256 y v (sdB (stH vs id seed i).1 (stH vs id seed i).2 (el vs i)) → Tidy u → Tidy v → _ := fun u v y r1 r2 t1 t2 => rpubG hg2 h82 (stH vs id seed (i + 1)).1 (stH vs id seed (i + 1)).2 u v y r1 t1 r2 t2 hst2.1 hst2.2
      have hp56 := pubG_len (trA ts (i + 1)) (stH vs id seed (i + 1)).1 (stH vs id seed (i + 1)).2 hst2.1
      have hsg0 := fun (pv : Value) (y : World) (h : Below wr.heap.size wr y) (r : Row .u8 256 y pv (pubG (trA ts (i + 1)) (stH vs id seed (i + 1)).1 (stH vs id seed (i + 1)).2)) (t : Tidy pv) => rsgnG hg1 h81 (stH vs id seed i).1 (stH vs id seed i).2 _ (el vs i) u12 u13 pv y (P.ri.below h) P.ti (P.rs.below h) P.tis r t hst.1 hst.2 (by rw [hp56]; decide) hq
      have hnx : hsO ts vs id seed (i + 1) = hsO ts vs id seed i ++ [sigG (trA ts i) (stH vs id seed i).1 (stH vs id seed i).2 (el vs i) (pubG (trA ts (i + 1)) (stH vs id seed (i + 1)).1 (stH vs id seed (i + 1)).2), pubG (trA ts (i + 1)) (stH vs id seed (i + 1)).1 (stH vs id seed (i + 1)).2] := rfl
      have hsl9 := sigG_le hg1 (stH vs id seed i).1 (stH vs id seed i).2 (el vs i) (pubG (trA ts (i + 1)) (stH vs id seed (i + 1)).1 (stH vs id seed (i + 1)).2)
      have hsl0 : 0 < (sigG (trA ts i) (stH vs id seed i).1 (stH vs id seed i).2 (el vs i) (pubG (trA ts (i + 1)) (stH vs id seed (i + 1)).1 (stH vs id seed (i + 1)).2)).length := by rw [sigG_len]; omega
      have hst3 : stH vs id seed (i + 1) = (idB (stH vs id seed i).1 (stH vs id seed i).2 (el vs i), sdB (stH vs id seed i).1 (stH vs id seed i).2 (el vs i)) := rfl
      generalize pubG (trA ts (i + 1)) (stH vs id seed (i + 1)).1 (stH vs id seed (i + 1)).2 = PK at *
      generalize sigG (trA ts i) (stH vs id seed i).1 (stH vs id seed i).2 (el vs i) PK = SG at *
      generalize idB (stH vs id seed i).1 (stH vs id seed i).2 (el vs i) = NI at *
      generalize sdB (stH vs id seed i).1 (stH vs id seed i).2 (el vs i) = NS at *
      obtain ⟨SL, hSL⟩ : ∃ x, SG.length = x := ⟨_, rfl⟩
      obtain ⟨th, hth⟩ : ∃ t, (trA ts i).1 = t := ⟨_, rfl⟩
      obtain ⟨tw, htw⟩ : ∃ t, (trA ts i).2 = t := ⟨_, rfl⟩
      obtain ⟨th2, hth2⟩ : ∃ t, (trA ts (i + 1)).1 = t := ⟨_, rfl⟩
      obtain ⟨tw2, htw2⟩ : ∃ t, (trA ts (i + 1)).2 = t := ⟨_, rfl⟩
      rw [hth] at z1 hsg0
      rw [htw] at z2 hsg0
      rw [hth2] at z5 hpu
      rw [htw2] at z6 hpu
      obtain ⟨q, hqe⟩ : ∃ q, el vs i = q := ⟨_, rfl⟩
      rw [hqe] at v3 hbl hsg0
      obtain ⟨Q, hQ⟩ : ∃ Q : Nat, i + 1 = Q := ⟨_, rfl⟩
      have e_Q : (i : Int) + 1 = (Q : Int) := by omega
      have s_Q : IntKind.i64.wrap (Q : Int) = (Q : Int) := by rw [IntKind.wrap_i64]; omega
      have hQN : Q < N := by omega
      rw [hQ] at z5 z6 hnx hst3
      have hni : (NI : List Nat).length = 16 := by have := hst2.1; rw [hQ, hst3] at this; exact this
      have hns : (NS : List Nat).length = 32 := by have := hst2.2; rw [hQ, hst3] at this; exact this
      have HG := hide (And.intro P (And.intro hnx (And.intro hst3 (And.intro hsl0 (And.intro hsl9 (And.intro hSL (And.intro hp56 (And.intro hQ (And.intro hni hns)))))))))
      have HP56 := hide hp56
      clear hK h8 hN hN1 tcc hi ti hs tis htx ttx hRS hvl hvu hid hsd hg1 h81 x1 x2 hq hq32 hvc hvb hvcell hst hg2 h82 x3 x4 hst2 hth htw hth2 htw2 hqe hnx hst3 hsl0 hsl9 hp56 P hQ hni hns
      go_wp2_with (first
        | (go_at_call 29; refine hbl.mono ?_; rintro e y1 ⟨nu, nv, rfl, rnu, rnv, tnu, tnv, nnu, nnv, gy1⟩; have z7 := keep_cell z5 gy1; have z8 := keep_cell z6 gy1; have c3 := keep_cell c0 gy1)
        | (go_at_call 23; refine (hpu nu nv _ rnu rnv tnu tnv).mono ?_; rintro e y2 ⟨pv, rfl, rp, np, tp, gy2⟩; obtain ⟨pa, pc, rfl, _⟩ := rp.opens HP56.out)
        | fail)
      have bx2 := (Pbx.below gy1).below gy2
      have kyy := keep_trans gy1 gy2
      replace z1 := keep_cell z1 kyy
      replace z2 := keep_cell z2 kyy
      have z3 : y2.cell? ⟨vb, vof + i * 1, none⟩ = some (.int .u32 (q : Int)) := by rw [Nat.mul_one]; exact keep_cell v3 kyy
      have hlt := hiN
      have hbd : Below y2.heap.size y2 y2.drew := (Below.refl _ _).drew
      have hsg := fun y (h : Below y2.heap.size y2 y) => hsg0 (.slice pa 56 pc) y (keep_trans kyy h) (rp.below h) tp
      refine at_begin (ops := opsA (cLA (cRA (cRA (cBA (cLA (cRA (cLpA (cBA (cRA (cLA (cRA (cRA (cRA (cRA (cRA (cRA (cRA (Tryz.f12.body.getD .skip))))))))))))))))))) (n := 18) (fun y => Below y2.heap.size y2 y) (by kernel_rfl) (by kernel_rfl) ?_
      refine at_takeD (i := 0) (m' := 1) (d := some 72) (v := .pointer (some ⟨w.heap.size, 0, none⟩)) sg13reg rfl (by decide) rfl rfl (y_fieldG (wanted_free rfl) rfl rfl (fun w => by simp [go_sem])) hbd ?_
      simp only [Act.put, List.setIfInBounds_toArray, List.set_cons_zero, List.set_cons_succ]
      refine at_takeD (i := 1) (m' := 3) (d := some 73) (v := .slice (some ⟨tb, to, none⟩) N tc) sg13reg rfl (by decide) rfl rfl (y_plainG (wanted_free rfl) rfl rfl Tryz.underlying22 rfl (fun _ h => (bx2.below h).c0)) hbd ?_
      simp only [Act.put, List.setIfInBounds_toArray, List.set_cons_zero, List.set_cons_succ]
      refine at_takeD (i := 2) (m' := 7) (d := some 74) (v := .int .i64 (i : Int)) sg13reg rfl (by decide) rfl rfl (y_moveG (wanted_free rfl) rfl rfl) hbd ?_
      simp only [Act.put, List.setIfInBounds_toArray, List.set_cons_zero, List.set_cons_succ]
      refine at_takeD (i := 3) (m' := 15) (d := some 75) (v := .pointer (some ⟨tb, to + i * 2, none⟩)) sg13reg rfl (by decide) rfl rfl (y_indexG (m := 2) (i := i) (wanted_free rfl) rfl rfl rfl Tryz.underlying22 (by kernel_rfl) hlt) hbd ?_
      simp only [Act.put, List.setIfInBounds_toArray, List.set_cons_zero, List.set_cons_succ]
      refine at_takeD (i := 4) (m' := 31) (d := some 76) (v := .agg #[.int .i64 th, .int .i64 tw]) sg13reg rfl (by decide) rfl rfl (y_rowG (cs := [.int .i64 th, .int .i64 tw]) (wanted_free rfl) rfl rfl Tryz.underlying45 rfl (by kernel_rfl) (fun y h => tr_range (keep_cell z1 h) (keep_cell z2 h))) hbd ?_
      simp only [Act.put, List.setIfInBounds_toArray, List.set_cons_zero, List.set_cons_succ]
      refine at_takeD (i := 5) (m' := 63) (d := some 77) (v := u12) sg13reg rfl (by decide) rfl rfl (y_moveG (wanted_free rfl) rfl rfl) hbd ?_
      simp only [Act.put, List.setIfInBounds_toArray, List.set_cons_zero, List.set_cons_succ]
      refine at_takeD (i := 6) (m' := 127) (d := some 78) (v := u13) sg13reg rfl (by decide) rfl rfl (y_moveG (wanted_free rfl) rfl rfl) hbd ?_
      simp only [Act.put, List.setIfInBounds_toArray, List.set_cons_zero, List.set_cons_succ]
      refine at_takeD (i := 7) (m' := 255) (d := some 79) (v := .slice (some ⟨vb, vof, none⟩) N vc) sg13reg rfl (by decide) rfl rfl (y_moveG (wanted_free rfl) rfl rfl) hbd ?_
      simp only [Act.put, List.setIfInBounds_toArray, List.set_cons_zero, List.set_cons_succ]
      refine at_takeD (i := 8) (m' := 511) (d := some 80) (v := .int .i64 (i : Int)) sg13reg rfl (by decide) rfl rfl (y_moveG (wanted_free rfl) rfl rfl) hbd ?_
      simp only [Act.put, List.setIfInBounds_toArray, List.set_cons_zero, List.set_cons_succ]
      refine at_takeD (i := 9) (m' := 1023) (d := some 81) (v := .pointer (some ⟨vb, vof + i * 1, none⟩)) sg13reg rfl (by decide) rfl rfl (y_indexG (m := 1) (i := i) (wanted_free rfl) rfl rfl rfl Tryz.underlying49 (by kernel_rfl) hlt) hbd ?_
      simp only [Act.put, List.setIfInBounds_toArray, List.set_cons_zero, List.set_cons_succ]
      refine at_takeD (i := 10) (m' := 2047) (d := some 82) (v := .int .u32 (q : Int)) sg13reg rfl (by decide) rfl rfl (y_plainG (wanted_free rfl) rfl rfl Tryz.underlying52 rfl (fun y h => keep_cell z3 h)) hbd ?_
      simp only [Act.put, List.setIfInBounds_toArray, List.set_cons_zero, List.set_cons_succ]
      refine at_takeD (i := 11) (m' := 4095) (d := some 83) (v := .slice pa 56 pc) sg13reg rfl (by decide) rfl rfl (y_moveG (wanted_free rfl) rfl rfl) hbd ?_
      simp only [Act.put, List.setIfInBounds_toArray, List.set_cons_zero, List.set_cons_succ]
      refine at_one (i := 12) (m' := 8191) sg13reg (by decide) rfl ?_
      refine p_callG (args := #[.agg #[.int .i64 th, .int .i64 tw], u12, u13, .int .u32 (q : Int), .slice pa 56 pc]) (d := some 84) rfl (wanted_free rfl) rfl (by simp only [List.map_toArray, List.map_cons, List.map_nil]; rfl) rfl Tryz.call30 ((hsg y2.drew hbd).mono ?_)
      rintro e y13 ⟨sg, rfl, og, g13⟩
      obtain ⟨ga, gc, rfl, _⟩ := og.row.opens hSL
      have hb13 := keep_trans hbd g13
      refine ⟨_, rfl, hb13, ?_⟩
      simp only [Act.put, List.setIfInBounds_toArray, List.set_cons_zero, List.set_cons_succ]
      refine at_takeD (i := 13) (m' := 16383) (d := some 71) (v := .tuple #[.slice ga SL gc, .int .i64 0]) sg13reg rfl (by decide) rfl rfl (y_moveG (wanted_free rfl) rfl rfl) hb13 ?_
      simp only [Act.put, List.setIfInBounds_toArray, List.set_cons_zero, List.set_cons_succ]
      refine at_takeD (i := 14) (m' := 32767) (d := some 85) (v := .slice ga SL gc) sg13reg rfl (by decide) rfl rfl (y_extractG (wanted_free rfl) rfl rfl rfl) hb13 ?_
      simp only [Act.put, List.setIfInBounds_toArray, List.set_cons_zero, List.set_cons_succ]
      refine at_takeD (i := 15) (m' := 65535) (d := some 86) (v := .int .i64 0) sg13reg rfl (by decide) rfl rfl (y_extractG (wanted_free rfl) rfl rfl rfl) hb13 ?_
      simp only [Act.put, List.setIfInBounds_toArray, List.set_cons_zero, List.set_cons_succ]
      refine at_takeD (i := 16) (m' := 131071) (d := some 19) (v := .slice ga SL gc) sg13reg rfl (by decide) rfl rfl (y_assignG (wanted_free rfl) rfl rfl) hb13 ?_
      simp only [Act.put, List.setIfInBounds_toArray, List.set_cons_zero, List.set_cons_succ]
      refine at_takeD (i := 17) (m' := 262143) (d := some 20) (v := .int .i64 0) sg13reg rfl (by decide) rfl rfl (y_assignG (wanted_free rfl) rfl rfl) hb13 ?_
      simp only [Act.put, List.setIfInBounds_toArray, List.set_cons_zero, List.set_cons_succ]
      refine at_done sg13reg (by decide) ?_
      obtain ⟨us, hown, htxt, hap⟩ := HG.out.1.gr.ex
      rw [hsO_len] at hown
      have kw := keep_trans kyy hb13
      have ka := keep_alloc y13 (.cells #[.slice ga SL gc, .slice pa 56 pc] 23)
      have how2 := own_belowA hown (keep_trans kw ka)
      obtain ⟨i0, hi0, hz0, hz1, hz2⟩ := info_text
      have hsz : w2.heap.size ≤ (y13.alloc (.cells #[.slice ga SL gc, .slice pa 56 pc] 23)).heap.size := (keep_trans HG.out.1.bel (keep_trans kw ka)).size
      clear hown c3 z7 z8 z5 z6
      go_wp2_with (first
        | (at_builtin; refine wpList_append_lies _ rfl _ _ 48 rfl w2.heap.size 23 i0 (.slice none 0 0) 1 24 Tryz.underlying48 hi0 hz0 hz1 hz2 rfl (by decide) (.slice oa (1 + 2 * i) oc) (1 + 2 * i) us rfl how2 ⟨y13.heap.size, 0, none⟩ 2 2 [.slice ga SL gc, .slice pa 56 pc] rfl rfl (cells_two_new _ _ _ _) (by simp [Value.oneCell']) (by decide) (by unfold maxLen; omega) (by omega) hsz _ rfl ?_; intro g6 cap6 w6 how6 hg6 hl6 hlt6)
        | fail)
      obtain ⟨P, hnx, hst3, hsl0, hsl9, hSL', hp56, hQ, hni, hns⟩ := HG.out
      have hvlt : ∀ q, (Value.slice oa (1 + 2 * i) oc).ownBlock = some q → w2.heap.size ≤ q ∧ q < wr.heap.size := fun q hq => by
        obtain ⟨us', hown', _, _⟩ := P.gr.ex
        exact hown'.lt q hq
      have kW := keep_trans kw ka
      have nuN : ∀ (u : Value), New wr.heap.size u → ∀ q, u.ownBlock = some q → some q ≠ (Value.slice oa (1 + 2 * i) oc).ownBlock := fun u hu q hq e => by
        have h1 := hu q hq
        have h2 := (hvlt q e.symm).2
        omega
      have aS : Apart1 (y13.alloc (.cells #[.slice ga SL gc, .slice pa 56 pc] 23)) (.slice oa (1 + 2 * i) oc) (.slice ga SL gc) := fun q hq => ⟨(og.row.below ka).old hsl0 hq, fun e => by have h1 := og.new q hq; have h2 := (hvlt q e).2; have h3 := kyy.size; have h4 := hbd.size; omega⟩
      have aP : Apart1 (y13.alloc (.cells #[.slice ga SL gc, .slice pa 56 pc] 23)) (.slice oa (1 + 2 * i) oc) (.slice pa 56 pc) := fun q hq => ⟨((rp.below hb13).below ka).old (by rw [hp56]; decide) hq, fun e => by have h1 := np q hq; have h2 := (hvlt q e).2; have h3 := gy1.size; omega⟩
      have hgr := GrT.pushL (xs := [SG, PK]) (htxt.below kW) (fun u hu => (hap u hu).below kW.size) ((Texts.one (og.row.below ka) (own_tidyG og)).append (Texts.one ((rp.below hb13).below ka) tp)) (fun u hu => by
        simp only [List.cons_append, List.nil_append, List.mem_cons, List.not_mem_nil, or_false] at hu
        rcases hu with rfl | rfl
        · exact aS
        · exact aP) (by rw [hsO_len]; exact how6) hg6 hl6
      rw [hsO_len] at hgr
      refine ⟨⟨Q, rfl, by have := HF.out.2.2.1; omega, by rw [hnx]; exact hgr, ?_, tnu, ?_, tnv, ?_⟩, by simp [intOf]; omega⟩
      · rw [hst3]; exact row_grownT (rnu.below (keep_trans (keep_trans gy2 hb13) ka)) hg6 (nuN nu nnu)
      · rw [hst3]; exact row_grownT (rnv.below (keep_trans (keep_trans gy2 hb13) ka)) hg6 (nuN nv nnv)
      · exact (keep_trans P.bel kW).grown hg6 (keep_trans P.bel kW).size (fun q hq => (hvlt q hq).1)
    · obtain rfl : i = N1 := by omega
      have hge : ¬ ((i : Int) < (i : Int)) := by omega
      have hsg := fun (y : World) (h : Below wr.heap.size wr y) => rsgnG hg1 h81 (stH vs id seed i).1 (stH vs id seed i).2 text (el vs i) u12 u13 tv2 y (P.ri.below h) P.ti (P.rs.below h) P.tis (htx.below (keep_trans kww h)) ttx hst.1 hst.2 htl hq
      have hsl9 := sigG_le hg1 (stH vs id seed i).1 (stH vs id seed i).2 (el vs i) text
      have hsl0 : 0 < (sigG (trA ts i) (stH vs id seed i).1 (stH vs id seed i).2 (el vs i) text).length := by rw [sigG_len]; omega
      have hfin : hsO ts vs id seed i ++ [sigG (trA ts i) (stH vs id seed i).1 (stH vs id seed i).2 (el vs i) text] = hsO ts vs id seed (ts.length - 1) ++ [sigG (trA ts (ts.length - 1)) (stH vs id seed (ts.length - 1)).1 (stH vs id seed (ts.length - 1)).2 (el vs (ts.length - 1)) text] := by rw [show ts.length - 1 = i by omega]
      have hRS' : (hsO ts vs id seed i ++ [sigG (trA ts i) (stH vs id seed i).1 (stH vs id seed i).2 (el vs i) text]).flatten = RS := by rw [hfin]; exact hRS
      have hfl := hsO_flat hK.2.2.1 vs hid hsd i (by omega)
      generalize sigG (trA ts i) (stH vs id seed i).1 (stH vs id seed i).2 (el vs i) text = SG at *
      obtain ⟨SL, hSL⟩ : ∃ x, SG.length = x := ⟨_, rfl⟩
      obtain ⟨th, hth⟩ : ∃ t, (trA ts i).1 = t := ⟨_, rfl⟩
      obtain ⟨tw, htw⟩ : ∃ t, (trA ts i).2 = t := ⟨_, rfl⟩
      rw [hth] at z1 hsg
      rw [htw] at z2 hsg
      obtain ⟨q, hqe⟩ : ∃ q, el vs i = q := ⟨_, rfl⟩
      rw [hqe] at v3 hsg
      have hflen : (hsO ts vs id seed i ++ [SG]).flatten.length ≤ 2000000 := by
        simp only [List.flatten_append, List.length_append, List.flatten_cons, List.flatten_nil, List.append_nil]
        omega
      have HG := hide (And.intro P (And.intro hsl0 (And.intro hsl9 (And.intro hSL (And.intro hRS' hflen)))))
      have bx := Pbx
      have z3 : wr.cell? ⟨vb, vof + i * 1, none⟩ = some (.int .u32 (q : Int)) := by rw [Nat.mul_one]; exact v3
      have hlt := hiN
      have hbd : Below wr.heap.size wr wr.drew := (Below.refl _ _).drew
      clear hK h8 hN hN1 tcc hi ti hs tis htx ttx hRS hvl hvu hid hsd hg1 h81 x1 x2 hq hq32 hvc hvb hvcell hst hth htw hqe hsl0 hsl9 P hfin hRS' hfl hflen
      go_wp2
      refine at_begin (ops := opsA (cLA (cRA (cRA (cRA (cRA (cRA (cRA (cRA (cRA (Tryz.f12.body.getD .skip))))))))))) (n := 18) (fun y => Below wr.heap.size wr y) (by kernel_rfl) (by kernel_rfl) ?_
      refine at_takeD (i := 0) (m' := 1) (d := some 95) (v := .pointer (some ⟨w.heap.size, 0, none⟩)) sg17reg rfl (by decide) rfl rfl (y_fieldG (wanted_free rfl) rfl rfl (fun w => by simp [go_sem])) hbd ?_
      simp only [Act.put, List.setIfInBounds_toArray, List.set_cons_zero, List.set_cons_succ]
      refine at_takeD (i := 1) (m' := 3) (d := some 96) (v := .slice (some ⟨tb, to, none⟩) N tc) sg17reg rfl (by decide) rfl rfl (y_plainG (wanted_free rfl) rfl rfl Tryz.underlying22 rfl (fun _ h => (bx.below h).c0)) hbd ?_
      simp only [Act.put, List.setIfInBounds_toArray, List.set_cons_zero, List.set_cons_succ]
      refine at_takeD (i := 2) (m' := 7) (d := some 97) (v := .int .i64 (i : Int)) sg17reg rfl (by decide) rfl rfl (y_moveG (wanted_free rfl) rfl rfl) hbd ?_
      simp only [Act.put, List.setIfInBounds_toArray, List.set_cons_zero, List.set_cons_succ]
      refine at_takeD (i := 3) (m' := 15) (d := some 98) (v := .pointer (some ⟨tb, to + i * 2, none⟩)) sg17reg rfl (by decide) rfl rfl (y_indexG (m := 2) (i := i) (wanted_free rfl) rfl rfl rfl Tryz.underlying22 (by kernel_rfl) hlt) hbd ?_
      simp only [Act.put, List.setIfInBounds_toArray, List.set_cons_zero, List.set_cons_succ]
      refine at_takeD (i := 4) (m' := 31) (d := some 99) (v := .agg #[.int .i64 th, .int .i64 tw]) sg17reg rfl (by decide) rfl rfl (y_rowG (cs := [.int .i64 th, .int .i64 tw]) (wanted_free rfl) rfl rfl Tryz.underlying45 rfl (by kernel_rfl) (fun y h => tr_range (keep_cell z1 h) (keep_cell z2 h))) hbd ?_
      simp only [Act.put, List.setIfInBounds_toArray, List.set_cons_zero, List.set_cons_succ]
      refine at_takeD (i := 5) (m' := 63) (d := some 100) (v := u12) sg17reg rfl (by decide) rfl rfl (y_moveG (wanted_free rfl) rfl rfl) hbd ?_
      simp only [Act.put, List.setIfInBounds_toArray, List.set_cons_zero, List.set_cons_succ]
      refine at_takeD (i := 6) (m' := 127) (d := some 101) (v := u13) sg17reg rfl (by decide) rfl rfl (y_moveG (wanted_free rfl) rfl rfl) hbd ?_
      simp only [Act.put, List.setIfInBounds_toArray, List.set_cons_zero, List.set_cons_succ]
      refine at_takeD (i := 7) (m' := 255) (d := some 102) (v := .slice (some ⟨vb, vof, none⟩) N vc) sg17reg rfl (by decide) rfl rfl (y_moveG (wanted_free rfl) rfl rfl) hbd ?_
      simp only [Act.put, List.setIfInBounds_toArray, List.set_cons_zero, List.set_cons_succ]
      refine at_takeD (i := 8) (m' := 511) (d := some 103) (v := .int .i64 (i : Int)) sg17reg rfl (by decide) rfl rfl (y_moveG (wanted_free rfl) rfl rfl) hbd ?_
      simp only [Act.put, List.setIfInBounds_toArray, List.set_cons_zero, List.set_cons_succ]
      refine at_takeD (i := 9) (m' := 1023) (d := some 104) (v := .pointer (some ⟨vb, vof + i * 1, none⟩)) sg17reg rfl (by decide) rfl rfl (y_indexG (m := 1) (i := i) (wanted_free rfl) rfl rfl rfl Tryz.underlying49 (by kernel_rfl) hlt) hbd ?_
      simp only [Act.put, List.setIfInBounds_toArray, List.set_cons_zero, List.set_cons_succ]
      refine at_takeD (i := 10) (m' := 2047) (d := some 105) (v := .int .u32 (q : Int)) sg17reg rfl (by decide) rfl rfl (y_plainG (wanted_free rfl) rfl rfl Tryz.underlying52 rfl (fun y h => keep_cell z3 h)) hbd ?_
      simp only [Act.put, List.setIfInBounds_toArray, List.set_cons_zero, List.set_cons_succ]
      refine at_takeD (i := 11) (m' := 4095) (d := some 106) (v := tv2) sg17reg rfl (by decide) rfl rfl (y_moveG (wanted_free rfl) rfl rfl) hbd ?_
      simp only [Act.put, List.setIfInBounds_toArray, List.set_cons_zero, List.set_cons_succ]
      refine at_one (i := 12) (m' := 8191) sg17reg (by decide) rfl ?_
      refine p_callG (args := #[.agg #[.int .i64 th, .int .i64 tw], u12, u13, .int .u32 (q : Int), tv2]) (d := some 107) rfl (wanted_free rfl) rfl (by simp only [List.map_toArray, List.map_cons, List.map_nil]; rfl) rfl Tryz.call30 ((hsg wr.drew hbd).mono ?_)
      rintro e y13 ⟨sg, rfl, og, g13⟩
      obtain ⟨ga, gc, rfl, _⟩ := og.row.opens hSL
      have hb13 := keep_trans hbd g13
      refine ⟨_, rfl, hb13, ?_⟩
      simp only [Act.put, List.setIfInBounds_toArray, List.set_cons_zero, List.set_cons_succ]
      refine at_takeD (i := 13) (m' := 16383) (d := some 94) (v := .tuple #[.slice ga SL gc, .int .i64 0]) sg17reg rfl (by decide) rfl rfl (y_moveG (wanted_free rfl) rfl rfl) hb13 ?_
      simp only [Act.put, List.setIfInBounds_toArray, List.set_cons_zero, List.set_cons_succ]
      refine at_takeD (i := 14) (m' := 32767) (d := some 108) (v := .slice ga SL gc) sg17reg rfl (by decide) rfl rfl (y_extractG (wanted_free rfl) rfl rfl rfl) hb13 ?_
      simp only [Act.put, List.setIfInBounds_toArray, List.set_cons_zero, List.set_cons_succ]
      refine at_takeD (i := 15) (m' := 65535) (d := some 109) (v := .int .i64 0) sg17reg rfl (by decide) rfl rfl (y_extractG (wanted_free rfl) rfl rfl rfl) hb13 ?_
      simp only [Act.put, List.setIfInBounds_toArray, List.set_cons_zero, List.set_cons_succ]
      refine at_takeD (i := 16) (m' := 131071) (d := some 21) (v := .slice ga SL gc) sg17reg rfl (by decide) rfl rfl (y_assignG (wanted_free rfl) rfl rfl) hb13 ?_
      simp only [Act.put, List.setIfInBounds_toArray, List.set_cons_zero, List.set_cons_succ]
      refine at_takeD (i := 17) (m' := 262143) (d := some 22) (v := .int .i64 0) sg17reg rfl (by decide) rfl rfl (y_assignG (wanted_free rfl) rfl rfl) hb13 ?_
      simp only [Act.put, List.setIfInBounds_toArray, List.set_cons_zero, List.set_cons_succ]
      refine at_done sg17reg (by decide) ?_
      obtain ⟨us, hown, htxt, hap⟩ := HG.out.1.gr.ex
      rw [hsO_len] at hown
      have kw : Below wr.heap.size wr y13 := hb13
      have ka := keep_alloc y13 (.cells #[.slice ga SL gc] 23)
      have how2 := own_belowA hown (keep_trans kw ka)
      obtain ⟨i0, hi0, hz0, hz1, hz2⟩ := info_text
      have hsz : w2.heap.size ≤ (y13.alloc (.cells #[.slice ga SL gc] 23)).heap.size := (keep_trans HG.out.1.bel (keep_trans kw ka)).size
      clear hown
      have hjn : ∀ (g6 cap6 : Nat) (w6 : World), w6.ownsRow w2.heap.size 23 1 (.slice (some ⟨g6, 0, none⟩) (1 + 2 * i + 1) cap6) (1 + 2 * i + 1) (us ++ [.slice ga SL gc]) → (y13.alloc (.cells #[.slice ga SL gc] 23)).grownBy w6 (Value.slice oa (1 + 2 * i) oc).ownBlock → ((Value.slice oa (1 + 2 * i) oc).ownBlock = some g6 ∨ g6 = (y13.alloc (.cells #[.slice ga SL gc] 23)).heap.size) →
          Below w2.heap.size w2 w6 ∧ Calls Tryz.prog 31 #[.slice (some ⟨g6, 0, none⟩) (1 + 2 * i + 1) cap6] w6 fun e w' => ∃ v, e = .returned v ∧ Own 5 .u8 256 w' w6.heap.size v RS ∧ Below w6.heap.size w6 w' := fun g6 cap6 w6 how6 hg6 hl6 => by
        obtain ⟨P, hsl0, hsl9, hSL', hRS', hflen⟩ := HG.out
        have hvlt : ∀ q, (Value.slice oa (1 + 2 * i) oc).ownBlock = some q → w2.heap.size ≤ q ∧ q < wr.heap.size := fun q hq => by
          obtain ⟨us', hown', _, _⟩ := P.gr.ex
          exact hown'.lt q hq
        have kW := keep_trans kw ka
        have aS : Apart1 (y13.alloc (.cells #[.slice ga SL gc] 23)) (.slice oa (1 + 2 * i) oc) (.slice ga SL gc) := fun q hq => ⟨(og.row.below ka).old hsl0 hq, fun e => by have h1 := og.new q hq; have h2 := (hvlt q e).2; have h4 := hbd.size; omega⟩
        have hgr := GrT.pushL (xs := [SG]) (htxt.below kW) (fun u hu => (hap u hu).below kW.size) (Texts.one (og.row.below ka) (own_tidyG og)) (fun u hu => by
          simp only [List.mem_cons, List.not_mem_nil, or_false] at hu
          rw [hu]
          exact aS) (by rw [hsO_len]; exact how6) hg6 hl6
        rw [hsO_len] at hgr
        refine ⟨(keep_trans P.bel kW).grown hg6 (keep_trans P.bel kW).size (fun q hq => (hvlt q hq).1), ?_⟩
        have := rjoin_any _ _ w6 hgr.rows hflen
        rw [hRS'] at this
        exact this
      go_wp2_with (first
        | (at_builtin; refine wpList_append_lies _ rfl _ _ 48 rfl w2.heap.size 23 i0 (.slice none 0 0) 1 24 Tryz.underlying48 hi0 hz0 hz1 hz2 rfl (by decide) (.slice oa (1 + 2 * i) oc) (1 + 2 * i) us rfl how2 ⟨y13.heap.size, 0, none⟩ 1 1 [.slice ga SL gc] rfl rfl (cell_one_new _ _ _) (by simp [Value.oneCell']) (by decide) (by unfold maxLen; omega) (by omega) hsz _ rfl ?_; intro g6 cap6 w6 how6 hg6 hl6 hlt6; obtain ⟨kk6, hj6⟩ := hjn g6 cap6 w6 how6 hg6 hl6)
        | (go_at_call 31; refine hj6.mono ?_; rintro e w7 ⟨v7, rfl, o7, g7⟩)
        | fail)
      go_ret2
      exact ⟨_, rfl, o7.mono (keep_trans kw2 kk6).size, keep_trans (keep_trans kw2 kk6) g7⟩
end Go.Proofs.YtogiballdmgcpaaGreatDoor
