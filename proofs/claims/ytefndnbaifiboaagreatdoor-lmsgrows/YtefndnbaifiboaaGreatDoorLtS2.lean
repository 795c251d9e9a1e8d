/- Trees of leaves that sign once: the document's Sign where it answers. -/
import Derived.Test.YtefndnbaifiboaaGreatDoorLtS
import Derived.Test.YtefndnbaifiboaaGreatDoorLcG
namespace Go.Proofs.YtefndnbaifiboaaGreatDoor
open Go.RowKit
set_option linter.unusedVariables false
set_option linter.unusedSimpArgs false

theorem xor1_i64 (n : Nat) (hn : n < 1048576) : bits .xor .i64 (n : Int) 1 = ((n ^^^ 1 : Nat) : Int) := by
  show IntKind.i64.wrap ((BitVec.ofInt 64 (n : Int) ^^^ BitVec.ofInt 64 ((1 : Nat) : Int)).toNat : Int) = _
  rw [BitVec.toNat_xor, ofInt_u64 _ (by omega), ofInt_u64 _ (by omega), IntKind.wrap_i64]
  have : n ^^^ 1 < 2 ^ 20 := Nat.xor_lt_two_pow (by omega) (by decide)
  omega
theorem row_tidyT {k : IntKind} {m : Nat} {w : World} {v : Value} {l : List Nat} (h : Row k m w v l) (hl : 0 < l.length) : Tidy v := by
  obtain ⟨a, c, rfl, _, _, h3, _⟩ := h
  obtain ⟨b, off, rfl, _⟩ := h3 hl
  exact fun n c he => by simp at he
theorem GrT.monoT {w : World} {B B' : Nat} {vo : Value} {ls : List (List Nat)} (h : GrT w B vo ls) (hB : B' ≤ B) : GrT w B' vo ls := by
  obtain ⟨us, h1, h2, h3⟩ := h
  refine ⟨us, ⟨h1.1, ?_⟩, h2, h3⟩
  rcases h1.2 with h4 | ⟨g, cap, cur, e1, e2, e3⟩
  · exact .inl h4
  · exact .inr ⟨g, cap, cur, e1, Nat.le_trans hB e2, e3⟩
theorem pthA_len {f : Nat → List Nat} : ∀ k n, (pthA f k n).length = k
  | 0, n => rfl
  | k + 1, n => by rw [pthA_snoc, List.length_append, pthA_len k n]; rfl
theorem pthA_flat {f : Nat → List Nat} (hf : ∀ i, (f i).length = 32) : ∀ k n, (pthA f k n).flatten.length = 32 * k
  | 0, n => rfl
  | k + 1, n => by rw [pthA_snoc, List.flatten_append, List.length_append, pthA_flat hf k n]; simp [hf]; omega
/-- a text more, from among the knots -/
theorem sgl_next {w wD wr w6 : World} {gO h n i g cap : Nat} {pf : List (List Nat)} {f : Nat → List Nat} {vo u : Value} {us : List Value} (hi : i < h)
    (hown : wr.ownsRow w.heap.size 24 1 vo (pf ++ pthA f i n).length us) (ht : Texts wr us (pf ++ pthA f i n)) (hap : ∀ u ∈ us, Apart1 wr vo u) (hB : But gO wD wr) (hvo : ∀ g, vo.ownBlock = some g → g = gO ∨ wD.heap.size ≤ g) (hb : Below w.heap.size w wr)
    (ru : Row .u8 256 wD u (f ((n / 2 ^ i) ^^^ 1))) (hul : 0 < (f ((n / 2 ^ i) ^^^ 1)).length) (tu : Tidy u) (hu : ∀ q, u.ownBlock = some q → gO < q) (hgO : w.heap.size ≤ gO) (hDs : w.heap.size ≤ wD.heap.size)
    (hown6 : w6.ownsRow w.heap.size 24 1 (.slice (some ⟨g, 0, none⟩) ((pf ++ pthA f i n).length + 1) cap) ((pf ++ pthA f i n).length + 1) (us ++ [u])) (hg6 : (wr.alloc (.cells #[u] 24)).grownBy w6 vo.ownBlock) (hl6 : vo.ownBlock = some g ∨ g = (wr.alloc (.cells #[u] 24)).heap.size) :
    SgL w wD gO h n pf f (.slice (some ⟨g, 0, none⟩) ((pf ++ pthA f i n).length + 1) cap) (.int .i64 ((n / 2 ^ (i + 1) : Nat) : Int)) w6 := by
  have hba := keep_alloc wr (.cells #[u] 24)
  have ruw : Row .u8 256 wr u (f ((n / 2 ^ i) ^^^ 1)) := ru.but (fun _ q hq => by have := hu q hq; omega) hB
  have au : Apart1 wr vo u := fun q hq => by
    have h1 := ru.old hul hq
    have h2 := hu q hq
    refine ⟨Nat.lt_of_lt_of_le h1 hB.size, fun e => ?_⟩
    rcases hvo q e with h | h <;> omega
  have hgr := GrT.push (ht.below hba) (fun u hu => (hap u hu).below hba.size) (ruw.below hba) tu (au.below hba.size) hown6 hg6 hl6
  have hgs := hg6.size
  rw [World.size_alloc] at hgs
  refine ⟨i + 1, by omega, rfl, ?_, ?_, ?_, ?_⟩
  · rw [pthA_snoc, ← List.append_assoc]
    exact hgr
  · refine ⟨hg6.os.trans hB.os, hg6.tape.trans hB.tape, hg6.output.trans hB.output, by have := hB.size; omega, fun k hk hn => ?_⟩
    have hkr : k < wr.heap.size := Nat.lt_of_lt_of_le hk hB.size
    refine (hg6.block k (by rw [World.size_alloc]; omega) fun e => ?_).trans ((hba.block k hkr).trans (hB.block k hk hn))
    rcases hvo k e.symm with h | h
    · exact hn h
    · omega
  · intro g' hg'
    have : g = g' := by simpa [Value.ownBlock] using hg'
    subst this
    rcases hl6 with h | h
    · exact hvo g h
    · rw [World.size_alloc] at h; have := hB.size; omega
  · refine (hb.trans (hba.mono hb.size)).grown hg6 (Nat.le_trans hb.size hba.size) fun j ej => ?_
    rcases hvo j ej with h | h <;> omega
set_option maxHeartbeats 8000000 in
set_option maxRecDepth 100000 in
theorem rsignT_ok {k n m s c : Nat} (hk : Kd k n m s c) (h8 : k ≠ 8) (h : Nat) (hh : h ≤ 10) (id seed text : List Nat) (q : Nat) (idv sv tv : Value) (w : World) (hi : Row .u8 256 w idv id) (ti : Tidy idv) (hs : Row .u8 256 w sv seed) (ts : Tidy sv) (ht : Row .u8 256 w tv text) (tt : Tidy tv) (hne : wrgT (h : Int) (k : Int) id.length seed.length = 0) (hl : id.length = 16) (hsl : seed.length = 32) (htl : text.length ≤ 10000) (hq : q < 2 ^ h) :
    Calls Tryz.prog 11 #[.agg #[.int .i64 (h : Int), .int .i64 (k : Int)], idv, sv, .int .u32 (q : Int), tv] w fun e w' => ∃ v, e = .returned (.tuple #[v, .int .i64 0]) ∧ Own 5 .u8 256 w' w.heap.size v ([be4 q, sgT k n m s c id seed text q, be4 (lmCode h)] ++ pthA (knT k n m h id seed) h (2 ^ h + q)).flatten ∧ Below w.heap.size w w' := by
  have hw := rwrongT_any (h : Int) (k : Int) id seed idv sv (w.alloc (.cells #[.int .i64 (h : Int), .int .i64 (k : Int)] 23)) (hi.below (keep_alloc _ _)) (hs.below (keep_alloc _ _))
  rw [hne] at hw
  have hMb := pow_le_1024 hh
  have hsg := fun y (hb : Below w.heap.size w y) => rsgnK hk h8 id seed text q idv sv tv y (hi.below hb) ti (hs.below hb) ts (ht.below hb) tt (by omega) hl hsl htl
  have hkn := fun y (hb : Below w.heap.size w y) => rknotsK hk h8 h hh id seed idv sv y (hi.below hb) ti (hs.below hb) ts hl hsl
  have hfl := knT_len k n m h id seed
  have hgl := sgT_len k n m s c id seed text q
  have hgl2 : (sgT k n m s c id seed text q).length ≤ 10000 := by rw [hgl]; cases hk <;> decide
  have hgl3 : 0 < (sgT k n m s c id seed text q).length := by rw [hgl]; omega
  have hlev := lev_leaf hq
  obtain ⟨M, hM⟩ : ∃ M, M = 2 ^ h := ⟨_, rfl⟩
  rw [← hM] at hkn hq hMb hlev ⊢
  obtain ⟨Nn, hNn⟩ : ∃ x, x = M + q := ⟨_, rfl⟩
  rw [← hNn] at hlev ⊢
  generalize knT k n m h id seed = f at *
  generalize sgT k n m s c id seed text q = sg at *
  obtain ⟨ia, ic, rfl, _⟩ := hi.opens hl
  obtain ⟨sa, sc, rfl, _⟩ := hs.opens hsl
  obtain ⟨ta, tc, rfl, _⟩ := ht.opens (N := text.length) rfl
  have bN := Bx2T.new w (.int .i64 (h : Int)) (.int .i64 (k : Int))
  have e_M : (2 : Int) ^ h = (M : Int) := by rw [hM]; norm_cast
  have s_M : IntKind.u64.wrap (M : Int) = (M : Int) := by rw [IntKind.wrap_u64]; omega
  have s_M2 : IntKind.i64.wrap (M : Int) = (M : Int) := by rw [IntKind.wrap_i64]; omega
  have s_q : IntKind.u64.wrap (q : Int) = (q : Int) := by rw [IntKind.wrap_u64]; omega
  have s_q2 : IntKind.i64.wrap (q : Int) = (q : Int) := by rw [IntKind.wrap_i64]; omega
  have h_q : ¬ (M : Int) ≤ (q : Int) := by omega
  have g_q : ¬ (q : Int) ≥ (M : Int) := by omega
  have e_N : (M : Int) + (q : Int) = (Nn : Int) := by omega
  have s_N : IntKind.i64.wrap (Nn : Int) = (Nn : Int) := by rw [IntKind.wrap_i64]; omega
  have HM := hide (And.intro hM (And.intro hNn (And.intro hq (And.intro hMb (And.intro hlev (And.intro hfl (And.intro hgl2 hgl3)))))))
  clear hM hNn hne hi hs ht ti ts tt hl hsl htl hk hgl hgl2 hgl3 hq hMb hlev hfl h8
  go_enter Tryz.func11, Tryz.ntmps11
  go_wp2_with (first
    | (go_at_call 25; refine hw.mono ?_; rintro e w1 ⟨rfl, hb1⟩; have b1 := bN.below hb1; have c0 := b1.c0; have c1 := b1.c1; have k1 := keep_trans (keep_alloc w (.cells #[.int .i64 (h : Int), .int .i64 (k : Int)] 23)) hb1)
    | (go_at_call 34; refine (hsg _ k1).mono ?_; rintro e w2 ⟨v2, rfl, r2, n2, hb2⟩; have k2 := keep_trans k1 hb2; have b2 := b1.below hb2; obtain ⟨a2, c2, rfl, _⟩ := r2.opens (N := sg.length) rfl)
    | fail)
  obtain ⟨i0, hi0, hz0, hz1, hz2⟩ := info_text
  have hbd : Below w2.heap.size w2 w2.drew := (Below.refl _ _).drew
  have hSf : ∀ y, Below w2.heap.size w2 y → y.cell? ⟨w.heap.size, 0, none⟩ = some (.int .i64 (h : Int)) := fun y hy => (b2.below hy).c0
  have hS0 := hSf _ hbd
  have hq32 : q < 4294967296 := by have := HM.out; omega
  refine at_begin (ops := (opsA (cLA (cRA (cRA (cRA (cRA (cRA (Tryz.f11.body.getD .skip))))))))) (n := 10) (fun y => y.cell? ⟨w.heap.size, 0, none⟩ = some (.int .i64 (h : Int))) (by kernel_rfl) (by kernel_rfl) ?_
  refine at_takeD (i := 0) (m' := 1) (d := some 41) (v := .int .u32 (q : Int)) sgreg rfl (by decide) rfl rfl (y_move rfl rfl rfl) hS0 ?_
  simp only [Act.put, List.setIfInBounds_toArray, List.set_cons_zero, List.set_cons_succ]
  refine at_takeD (i := 1) (m' := 3) (d := some 42) (v := .int .u64 (q : Int)) sgreg rfl (by decide) rfl rfl (y_convT rfl rfl rfl hq32) hS0 ?_
  simp only [Act.put, List.setIfInBounds_toArray, List.set_cons_zero, List.set_cons_succ]
  refine at_takeD (i := 3) (m' := 11) (d := some 44) (v := .slice a2 sg.length c2) sgreg rfl (by decide) rfl rfl (y_move rfl rfl rfl) hS0 ?_
  simp only [Act.put, List.setIfInBounds_toArray, List.set_cons_zero, List.set_cons_succ]
  refine at_takeD (i := 4) (m' := 27) (d := some 45) (v := .pointer (some ⟨w.heap.size, 0, none⟩)) sgreg rfl (by decide) rfl rfl (y_fieldT rfl rfl rfl (fT0 _)) hS0 ?_
  simp only [Act.put, List.setIfInBounds_toArray, List.set_cons_zero, List.set_cons_succ]
  refine at_takeD (i := 5) (m' := 59) (d := some 46) (v := .int .i64 (h : Int)) sgreg rfl (by decide) rfl rfl (y_load_plain rfl rfl rfl Tryz.underlying3 rfl (fun _ h => h)) hS0 ?_
  simp only [Act.put, List.setIfInBounds_toArray, List.set_cons_zero, List.set_cons_succ]
  refine at_one (i := 2) (m' := 63) sgreg (by decide) rfl ?_
  refine p_call2 (u := .int .u64 (q : Int)) (v := .int .i64 4) (d := some 43) rfl rfl rfl rfl rfl rfl Tryz.call35 ((rbe4 q _ (by omega)).mono ?_)
  rintro e y1 ⟨v3, rfl, o3, e1⟩
  obtain ⟨a3, c3, rfl, _⟩ := o3.row.opens (be4_len q)
  have kd1 := keep_trans hbd e1
  refine ⟨_, rfl, hSf _ kd1, ?_⟩
  simp only [Act.put, List.setIfInBounds_toArray, List.set_cons_zero, List.set_cons_succ]
  refine at_one (i := 6) (m' := 127) sgreg (by decide) rfl ?_
  refine p_call1 (u := .int .i64 (h : Int)) (d := some 47) rfl rfl rfl rfl rfl Tryz.call36 ((rcode_any (h : Int) _).mono ?_)
  rintro e y1' ⟨rfl, hy⟩
  obtain rfl := hy.symm
  refine ⟨_, rfl, hSf _ kd1, ?_⟩
  simp only [Act.put, List.setIfInBounds_toArray, List.set_cons_zero, List.set_cons_succ]
  have hcd : lmCode (h : Int) < 18446744073709551616 := by have := lmCode_32 (h : Int); omega
  refine at_one (i := 7) (m' := 255) sgreg (by decide) rfl ?_
  refine p_call2 (u := .int .u64 ((lmCode (h : Int) : Nat) : Int)) (v := .int .i64 4) (d := some 48) rfl rfl rfl rfl rfl rfl Tryz.call35 ((rbe4 _ _ hcd).mono ?_)
  rintro e y2 ⟨v4, rfl, o4, e2⟩
  obtain ⟨a4, c4, rfl, _⟩ := o4.row.opens (be4_len _)
  have kd2 := keep_trans kd1 e2
  refine ⟨_, rfl, hSf _ kd2, ?_⟩
  simp only [Act.put, List.setIfInBounds_toArray, List.set_cons_zero, List.set_cons_succ]
  have e3 := keep_alloc y2 (.cells #[.slice a3 4 c3, .slice a2 sg.length c2, .slice a4 4 c4] 24)
  have kd3 := keep_trans kd2 e3
  refine at_one (i := 8) (m' := 511) sgreg (by decide) rfl ?_
  refine p_build3 (d := some 49) rfl rfl rfl rfl rfl rfl rfl Tryz.underlying46 hi0 hz1 hz0 ⟨hSf _ kd3, ?_⟩
  simp only [Act.put, List.setIfInBounds_toArray, List.set_cons_zero, List.set_cons_succ]
  refine at_takeD (i := 9) (m' := 1023) (d := some 15) (v := .slice (some ⟨y2.heap.size, 0, none⟩) 3 3) sgreg rfl (by decide) rfl rfl (y_assignA rfl rfl rfl) (hSf _ kd3) ?_
  simp only [Act.put, List.setIfInBounds_toArray, List.set_cons_zero, List.set_cons_succ]
  refine at_done sgreg (by decide) ?_
  have hG0 := GrT.lit3 (o3.row.below e2) (row_tidyT o3.row (by rw [be4_len]; decide)) (r2.below kd2) (row_tidyT r2 HM.out.2.2.2.2.2.2.2) o4.row (row_tidyT o4.row (by rw [be4_len]; decide)) (by rw [be4_len]; decide) HM.out.2.2.2.2.2.2.2 (by rw [be4_len]; decide)
  have b3 := b2.below kd3
  have k3 := keep_trans k2 kd3
  have hy2 : w.heap.size ≤ y2.heap.size := (keep_trans k2 kd2).size
  have hy3 : (y2.alloc (.cells #[.slice a3 4 c3, .slice a2 sg.length c2, .slice a4 4 c4] 24)).heap.size = y2.heap.size + 1 := by simp
  generalize y2.alloc (.cells #[.slice a3 4 c3, .slice a2 sg.length c2, .slice a4 4 c4] 24) = y3 at *
  generalize y2.heap.size = gO at *
  clear kd1 kd2 kd3 e1 e2 e3 o3 o4 r2 n2 hSf hS0 hcd hsg hb2 b2 hbd b1 c0 c1 hb1 k1
  have cH := b3.c0
  have hkn3 := hkn _ k3
  go_wp2_with (first
    | (refine wpList_load_row rfl 23 _ (by rfl) w.heap.size (by rfl) _ _ _ _ b3.here Tryz.underlying23 rfl (by kernel_rfl) ?_)
    | (go_at_call 28; refine hkn3.mono ?_; rintro e wD ⟨H, rfl, kD, hH, hbD⟩; have b4 := b3.below hbD; have cD := b4.c0)
    | fail)
  have h0 : SgL w wD gO h Nn [be4 q, sg, be4 (lmCode (h : Int))] f (.slice (some ⟨gO, 0, none⟩) 3 3) (.int .i64 (Nn : Int)) wD := by
    refine ⟨0, Nat.zero_le _, by rw [Nat.pow_zero, Nat.div_one], ?_, But.refl _ _, fun g hg => .inl ?_, keep_trans k3 hbD⟩
    · exact (hG0.below hbD).monoT hy2
    · have : gO = g := by simpa [Value.ownBlock] using hg
      exact this.symm
  have hHg : gO < H := by omega
  have hDs : w.heap.size ≤ wD.heap.size := (keep_trans k3 hbD).size
  have hMN : 2 * M ≤ 2048 := by have := HM.out; omega
  have HK := hide (And.intro kD (And.intro hHg (And.intro hDs (And.intro hy2 hMN))))
  have H0 := hide h0
  clear h0 hG0 kD hHg hDs hkn hkn3 b3 b4 cH cD hbD k3 hH hy3 hMN hy2
  go_loopw [15, 17] (fun vo vi wr => SgL w wD gO h Nn [be4 q, sg, be4 (lmCode (h : Int))] f vo vi wr) (fun _ vi _ => (intOf vi).toNat)
  case atStart => exact H0.out
  case round =>
    obtain ⟨i, hih, rfl, hG, hB, hvo, hbr⟩ := hrel
    clear H0
    have hL := lev_div HM.out.2.2.2.2.1 i hih
    by_cases hlt : i < h
    · obtain ⟨P, hP⟩ : ∃ P, P = Nn / 2 ^ i := ⟨_, rfl⟩
      obtain ⟨Q, hQ⟩ : ∃ Q, Q = Nn / 2 ^ (i + 1) := ⟨_, rfl⟩
      have hPQ : Q = P / 2 := by rw [hQ, hP, Nat.pow_succ, Nat.div_div_eq_div_mul]
      rw [← hP] at hL ⊢
      obtain ⟨d, hd⟩ : ∃ d, h - i = d + 1 := ⟨h - i - 1, by omega⟩
      rw [hd] at hL
      have hL2 := hL.next
      obtain ⟨j, hj⟩ : ∃ j, j = P ^^^ 1 := ⟨_, rfl⟩
      rw [← hj] at hL2
      have p1 : 2 ^ (d + 1) ≥ 2 := by rw [Nat.pow_succ]; have := Nat.two_pow_pos d; omega
      have p2 : 2 ^ (d + 1 + 1) ≤ 2 * M := by
        have := Nat.pow_le_pow_right (n := 2) (by decide) (show d + 1 + 1 ≤ h + 1 by omega)
        rw [HM.out.1]
        rw [Nat.pow_succ 2 h] at this
        omega
      have hP2 : 2 ≤ P := Nat.le_trans p1 hL.1
      have hPN : P < 2 * M := Nat.lt_of_lt_of_le hL.2 p2
      have hj1 : 1 ≤ j := by have := hL2.1; omega
      have hj2 : j < 2 * M := Nat.lt_of_lt_of_le hL2.2 p2
      obtain ⟨kD, hHg, hDs, hy2, hMN⟩ := HK.out
      obtain ⟨u, cu, ru, tu, hu⟩ := kD.cell2 hj1 hj2
      have cu2 := But.cell cu hB (by show H ≠ gO; omega)
      have hfl := HM.out.2.2.2.2.2.1 j
      obtain ⟨ua, uc, rfl, _⟩ := ru.opens hfl
      have hG' := hG
      obtain ⟨us, how, htx, hap⟩ := hG'
      obtain ⟨oa, oc, rfl⟩ := hG.slice
      have hxo := xor1_i64 P (by omega)
      rw [← hj] at hxo
      have gP : (P : Int) > 1 := by omega
      have gP2 : (1 : Int) < (P : Int) := by omega
      have z_j : (0 : Int) ≤ (j : Int) := Int.natCast_nonneg _
      have l_j : (j : Int) < ((2 * M : Nat) : Int) := by omega
      have e_Q : (P : Int).tdiv 2 = (Q : Int) := by rw [Int.tdiv_eq_ediv_of_nonneg (by omega)]; omega
      have e_Q2 : (P : Int) / 2 = (Q : Int) := by omega
      have s_Q : IntKind.i64.wrap (Q : Int) = (Q : Int) := by rw [IntKind.wrap_i64]; omega
      have hll : ([be4 q, sg, be4 (lmCode (h : Int))] ++ pthA f i Nn).length ≤ 1000 := by rw [List.length_append, pthA_len]; simp; omega
      obtain ⟨LL, hLL⟩ : ∃ LL, ([be4 q, sg, be4 (lmCode (h : Int))] ++ pthA f i Nn).length = LL := ⟨_, rfl⟩
      obtain ⟨NN, hNN⟩ : ∃ NN, 2 * M = NN := ⟨_, rfl⟩
      rw [hNN] at l_j ⊢
      rw [hj, hP] at ru hfl
      have HR := hide (And.intro hlt (And.intro how (And.intro htx (And.intro hap (And.intro hB (And.intro hvo (And.intro hbr (And.intro ru (And.intro hfl (And.intro tu hu))))))))))
      have HS := hide (And.intro hHg (And.intro hDs (And.intro hy2 (And.intro hLL (And.intro hll (And.intro hPQ (And.intro hQ (And.intro hP2 hP))))))))
      have how2 := how.alloc (.cells #[.slice ua 32 uc] 24)
      rw [hLL] at how2 ⊢
      clear hG how htx hap hB hvo hbr ru hfl tu hu hHg hDs hy2 hMN kD cu hL hL2 hd hj hP hQ hPQ p1 p2 hP2 hPN hj1 hj2 hlt hih hLL hll hNN
      go_wp2_with (first
        | (at_builtin; refine wpList_append_lies _ rfl _ _ 46 rfl w.heap.size 24 i0 (.slice none 0 0) 1 24 Tryz.underlying46 hi0 hz0 hz1 hz2 rfl (by decide) (.slice oa LL oc) LL us rfl how2 ⟨wr.heap.size, 0, none⟩ 1 1 [.slice ua 32 uc] rfl rfl (cell_one_new _ _ _) (by simp [Value.oneCell']) (by decide) (by have := HS.out; unfold maxLen; omega) (by have := HS.out; omega) (by have := HR.out.2.2.2.2.2.2.1.size; rw [World.size_alloc]; omega) _ rfl ?_; intro g6 cap6 w6 how6 hg6 hl6 hlt6)
        | fail)
      go_roundw
      case rel =>
        obtain ⟨hlt, how, htx, hap, hB, hvo, hbr, ru, hfl, tu, hu⟩ := HR.out
        obtain ⟨hHg, hDs, hy2, hLL, hll, hPQ, hQ, hP2, hP⟩ := HS.out
        subst hLL
        have := sgl_next (cap := cap6) hlt how htx hap hB hvo hbr ru (by rw [hfl]; decide) tu (fun q hq => by have := hu q hq; omega) hy2 hDs how6 hg6 hl6
        rw [← hQ] at this
        exact this
      case measure => have := HS.out; simp [intOf]; omega
    · obtain rfl : i = h := by omega
      obtain ⟨P, hP⟩ : ∃ P, P = Nn / 2 ^ i := ⟨_, rfl⟩
      rw [← hP] at hL ⊢
      rw [Nat.sub_self] at hL
      have hP1 : P = 1 := by have h1 := hL.1; have h2 := hL.2; simp at h1 h2; omega
      subst hP1
      have hrw := hG.rows
      have hfl := pthA_flat HM.out.2.2.2.2.2.1 i Nn
      have hj := rjoin_any _ _ _ hrw (by rw [List.flatten_append, List.length_append, hfl]; have := HM.out.2.2.2.2.2.2.1; simp [be4_len]; omega)
      obtain ⟨oa, oc, rfl⟩ := hG.slice
      obtain ⟨LS, hLS⟩ : ∃ LS, ([be4 q, sg, be4 (lmCode (i : Int))] ++ pthA f i Nn) = LS := ⟨_, rfl⟩
      rw [hLS] at hj ⊢
      have gP : ¬ ((1 : Nat) : Int) > 1 := by decide
      have gP2 : ¬ (1 : Int) < ((1 : Nat) : Int) := by decide
      have HB := hide (And.intro hbr hLS)
      clear hG hrw hB hvo hbr hL hfl hlt hih hP hLS
      go_wp2_with (first
        | (go_at_call 26; refine hj.mono ?_; rintro e y9 ⟨v9, rfl, o9, e9⟩)
        | fail)
      go_ret2
      exact ⟨_, rfl, by have hz := o9.mono HB.out.1.size; rw [← HB.out.2] at hz; exact hz, keep_trans HB.out.1 e9⟩
end Go.Proofs.YtefndnbaifiboaaGreatDoor

/- Trees of leaves that sign once, the program's own: Sign. -/
namespace Go.Proofs.YtefndnbaifiboaaGreatDoor
open Go.RowKit Go.Shelf
set_option linter.unusedVariables false
set_option linter.unusedSimpArgs false

set_option maxHeartbeats 4000000 in
set_option maxRecDepth 100000 in
theorem csignT_no (h x : Int) (q il sl : Nat) (ia sa ta : Option Addr) (ic sc tn tc : Nat) (w : World) (hne : wrgT h x il sl ≠ 0) :
    Calls Tryz.prog 10 #[.agg #[.int .i64 h, .int .i64 x], .slice ia il ic, .slice sa sl sc, .int .u32 (q : Int), .slice ta tn tc] w fun e w' => e = .returned (.tuple #[.slice none 0 0, .int .i64 (wrgT h x il sl)]) ∧ Below w.heap.size w w' := by
  have hg := fun y => cgrow_no h x il sl ia sa ic sc y hne
  generalize wrgT h x il sl = E at *
  have hEb : (E != 0) = true := by simp [hne]
  go_enter Tryz.func10, Tryz.ntmps10
  go_wp2_with (first
    | (go_at_call 21; refine (hg _).mono ?_; rintro e w1 ⟨rfl, g1⟩)
    | fail)
  go_ret2
  exact ⟨rfl, keep_trans (keep_trans (keep_alloc _ _) g1) (keep_alloc _ _)⟩
set_option maxHeartbeats 4000000 in
set_option maxRecDepth 100000 in
theorem csignT_spent (h q : Nat) (x : Int) (ia sa ta : Option Addr) (ic sc tn tc : Nat) (w : World) (hne : wrgT (h : Int) x 16 32 = 0) (hq : 2 ^ h ≤ q) (hq2 : q < 4294967296) :
    Calls Tryz.prog 10 #[.agg #[.int .i64 (h : Int), .int .i64 x], .slice ia 16 ic, .slice sa 32 sc, .int .u32 (q : Int), .slice ta tn tc] w fun e w' => e = .returned (.tuple #[.slice none 0 0, .int .i64 13]) ∧ Below w.heap.size w w' := by
  obtain ⟨_, _, _, h10⟩ := wrgT_zero hne
  have hg := fun y => cgrower_ok h x ia sa ic sc (fun _ => []) y hne
  have hha := fun y => chas h q (.int .i64 x) (.slice ia 16 ic) y (by omega) hq2 ⟨_, rfl⟩ ⟨_, _, _, rfl⟩
  rw [decide_eq_false (by omega)] at hha
  generalize 2 * 2 ^ h = N at *
  clear hne h10 hq
  go_enter Tryz.func10, Tryz.ntmps10
  go_wp2_with (first
    | (go_at_call 21; refine (hg _).mono ?_; rintro e w1 ⟨H, rfl, kp, hH, g1⟩; have bg := BxW.new w1 (.int .i64 (h : Int)) (.int .i64 x) (.slice ia 16 ic) (.slice sa 32 sc) (.slice (some ⟨H, 0, none⟩) N N))
    | (refine wpList_load_mid rfl 48 _ (by rfl) w1.heap.size 0 (by rfl) [.int .i64 (h : Int), .int .i64 x, .slice ia 16 ic] _ bg.range3 Tryz.underlying48 rfl (by kernel_rfl) ?_)
    | (go_at_call 29; refine (hha _).mono ?_; rintro e w2 ⟨rfl, g2⟩)
    | fail)
  go_ret2
  exact ⟨rfl, keep_trans (keep_trans (keep_trans (keep_alloc _ _) g1) (keep_alloc _ _)) g2⟩
def si11lt : List Lt := [(0, some 50, [3]), (1, some 51, [50]), (2, some 52, [51]), (0, some 53, [14]), (0, some 54, [15]), (0, some 55, [12]), (0, some 56, [3]), (100, some 57, [55, 56]), (128, some 58, [57]), (284, some 59, [52, 53, 54, 58]), (768, some 60, [59]), (2047, some 10, [60]), (4095, some 11, [])]
theorem si11reg : Reg (opsA (cLA (cRA (cRA (cRA (cRA (cRA (cRA (cRA (cRA (Tryz.f10.body.getD .skip))))))))))) si11lt := ⟨by kernel_rfl, by kernel_rfl⟩
set_option maxHeartbeats 8000000 in
set_option maxRecDepth 100000 in
theorem csignT_ok {k n m s c : Nat} (hk : Kd k n m s c) (h q : Nat) (id seed text : List Nat) (idv sv tv : Value) (w : World) (hT : Roots w) (ri : Row .u8 256 w idv id) (ti : Tidy idv) (rs : Row .u8 256 w sv seed) (ts : Tidy sv) (rt : Row .u8 256 w tv text) (tt : Tidy tv) (hil : id.length = 16) (hsl : seed.length = 32) (htl : text.length ≤ 10000) (hne : wrgT (h : Int) (k : Int) 16 32 = 0) (hq : q < 2 ^ h) :
    Calls Tryz.prog 10 #[.agg #[.int .i64 (h : Int), .int .i64 (k : Int)], idv, sv, .int .u32 (q : Int), tv] w fun e w' => ∃ v, e = .returned (.tuple #[v, .int .i64 0]) ∧ Own 5 .u8 256 w' w.heap.size v ([be4 q, sgT k n m s c id seed text q, be4 (lmCode h)] ++ pthA (knT k n m h id seed) h (2 ^ h + q)).flatten ∧ Below w.heap.size w w' := by
  obtain ⟨hfit, _, _, h10⟩ := wrgT_zero hne
  have hp := hfit.pos
  have hM10 := pow_le_1024 (h := h) (by omega)
  have hq2 : q < 4294967296 := by omega
  have hsg := fun y (kb : Below w.heap.size w y) => csgn_ok hk rfl q id seed text idv sv tv y (hT.below kb) (ri.below kb) ti (rs.below kb) ts (rt.below kb) tt hil hsl htl hq2
  rw [show sgnH shaL (preL id q) c (digsL k n m s (digH shaL (preL id q) (lmCn shaL (preL id q) seed) text)) seed = sgT k n m s c id seed text q from rfl] at hsg
  have hsgl := sgT_len k n m s c id seed text q
  obtain ⟨ia, ic, rfl, _⟩ := ri.opens hil
  obtain ⟨sa, sc, rfl, _⟩ := rs.opens hsl
  obtain ⟨TL, hTL⟩ : ∃ TL, text.length = TL := ⟨_, rfl⟩
  obtain ⟨ta, tc, rfl, _⟩ := rt.opens hTL
  have hg := fun y => cgrower_ok h (k : Int) ia sa ic sc (knT k n m h id seed) y hne
  have hgw := fun y H (kv : Below w.heap.size w y) (hv : w.heap.size ≤ H) kp => cgrow_any hk h H id seed _ _ w y hT (by omega) (by omega) ri ti hil rs ts hsl kv hv kp
  have hfl : ∀ i, (knT k n m h id seed i).length = 32 := fun i => knT_len _ _ _ _ _ _ _
  have hbs := fun y H kp => cbeside h q H (2 * 2 ^ h) (k : Int) (knT k n m h id seed) ia sa ic 32 sc y (by omega) hq rfl kp hfl
  have hpl : (pthA (knT k n m h id seed) h (2 ^ h + q)).flatten.length = 32 * h := pthA_flat hfl _ _
  have hj1 := fun y v (r : Rows2 y v (pthA (knT k n m h id seed) h (2 ^ h + q))) => join_any v _ y r (by omega)
  have hha := fun y => chas h q (.int .i64 (k : Int)) (.slice ia 16 ic) y (by omega) hq2 ⟨_, rfl⟩ ⟨_, _, _, rfl⟩
  rw [decide_eq_true hq] at hha
  have hhc := fun y => chc_b (h : Int) y
  have hcl := lmCode_32 (h : Int)
  have h4c := fun y => cbe4 (lmCode (h : Int)) y (by omega)
  have h4q := fun y => cbe4 q y (by omega)
  have hsz : n + m ≤ 300 := by cases hk <;> decide
  have hfin : [be4 q, sgT k n m s c id seed text q, be4 (lmCode h), (pthA (knT k n m h id seed) h (2 ^ h + q)).flatten].flatten = ([be4 q, sgT k n m s c id seed text q, be4 (lmCode h)] ++ pthA (knT k n m h id seed) h (2 ^ h + q)).flatten := by simp
  have hj2 := fun y v (r : Rows2 y v [be4 q, sgT k n m s c id seed text q, be4 (lmCode h), (pthA (knT k n m h id seed) h (2 ^ h + q)).flatten]) => join_any v _ y r (by simp only [List.flatten_cons, List.flatten_nil, List.length_append, List.append_nil, be4_len]; omega)
  rw [hfin] at hj2
  generalize hJ : ([be4 q, sgT k n m s c id seed text q, be4 (lmCode h)] ++ pthA (knT k n m h id seed) h (2 ^ h + q)).flatten = JN at *
  generalize (pthA (knT k n m h id seed) h (2 ^ h + q)).flatten = PF at *
  generalize pthA (knT k n m h id seed) h (2 ^ h + q) = PS at *
  generalize knT k n m h id seed = f at *
  generalize sgT k n m s c id seed text q = SG at *
  generalize lmCode (h : Int) = LC at *
  obtain ⟨LG, hLG⟩ : ∃ LG, LG = 36 + 32 * (n + m) := ⟨_, rfl⟩
  rw [← hLG] at hsgl
  obtain ⟨LP, hLP⟩ : ∃ LP, LP = 32 * h := ⟨_, rfl⟩
  rw [← hLP] at hpl
  generalize 2 * 2 ^ h = N at *
  obtain ⟨i0, hi0, hz0, hz1, hz2⟩ := info_text
  have bT := Bx2T.new w (.int .i64 (h : Int)) (.int .i64 (k : Int))
  have k0 := keep_alloc w (.cells #[.int .i64 (h : Int), .int .i64 (k : Int)] 23)
  have hHid := hide hJ
  have cT := bT.c1
  clear hJ hfit hp hne hfin h10 hLP hLG hfl hM10 hq hcl hsz htl hT hTL
  go_enter Tryz.func10, Tryz.ntmps10
  go_wp2_with (first
    | (go_at_call 21; refine (hg _).mono ?_; rintro e w1 ⟨H, rfl, kp, hH, g1⟩; have kp1 := kp.below (keep_alloc w1 (.cells #[.int .i64 (h : Int), .int .i64 (k : Int), .slice ia 16 ic, .slice sa 32 sc, .slice (some ⟨H, 0, none⟩) N N] 50)); have k1 := keep_trans (keep_trans k0 g1) (keep_alloc w1 (.cells #[.int .i64 (h : Int), .int .i64 (k : Int), .slice ia 16 ic, .slice sa 32 sc, .slice (some ⟨H, 0, none⟩) N N] 50)); have bg := BxW.new w1 (.int .i64 (h : Int)) (.int .i64 (k : Int)) (.slice ia 16 ic) (.slice sa 32 sc) (.slice (some ⟨H, 0, none⟩) N N); have bT1 := (bT.below g1).below (keep_alloc w1 (.cells #[.int .i64 (h : Int), .int .i64 (k : Int), .slice ia 16 ic, .slice sa 32 sc, .slice (some ⟨H, 0, none⟩) N N] 50)); have hH2 : w.heap.size < H := (by rw [World.size_alloc] at hH; omega); have hwH : w.heap.size ≠ H := (by omega); have hHl : w1.heap.size ≠ H := (by have := kp.lt; omega))
    | (refine wpList_load_mid rfl 48 _ (by rfl) w1.heap.size 0 (by rfl) [.int .i64 (h : Int), .int .i64 (k : Int), .slice ia 16 ic] _ bg.range3 Tryz.underlying48 rfl (by kernel_rfl) ?_)
    | (go_at_call 29; refine (hha _).mono ?_; rintro e w2 ⟨rfl, g2⟩; have bg2 := bg.below g2; have bT2 := bT1.below g2; have kp2 := kp1.below g2; have k2 := keep_trans k1 g2; have cT2 := bT2.c1)
    | (go_at_call 30; refine (hsg _ k2).mono ?_; rintro e w3 ⟨v3, rfl, o3, g3⟩; obtain ⟨la, lc, rfl, _⟩ := o3.row.opens hsgl; have rl3 := o3.row; have tl3 := o3.tidy; have bg3 := bg2.below g3; have bT3 := bT2.below g3; have kp3 := kp2.below g3; have k3 := keep_trans k2 g3)
    | (refine wpList_load_row rfl 50 _ (by rfl) w1.heap.size (by rfl) _ _ _ _ bg3.here Tryz.underlying50 rfl (by kernel_rfl) ?_)
    | (go_at_call 22; refine (hgw _ H k3 (Nat.le_of_lt hH2) kp3).mono ?_; rintro e w4 ⟨rfl, b4, kp4⟩; have bg4 := bg3.but b4 hHl; have bT4 := bT3.but b4 hwH; have cT4 := bT4.c0; have k4 : Below w.heap.size w w4 := k3.trans (b4.below (Nat.le_of_lt hH2) k3.size); have rl4 := rl3.but (fun _ z e => (by have := o3.new z e; have := kp2.lt; omega)) b4)
    | (go_at_call 32; refine (hhc _).mono ?_; rintro e w5 ⟨rfl, g5⟩)
    | (go_at_call 31; refine (h4c _).mono ?_; rintro e w6 ⟨v6, rfl, o6, g6⟩; obtain ⟨ca, cc, rfl, _⟩ := o6.row.opens (be4_len _))
    | fail)
  have g56 := keep_trans g5 g6
  have bg6 := bg4.below g56
  have kp6 := kp4.below g56
  have k6 := keep_trans k4 g56
  have rl6 := rl4.below g56
  have rc6 := o6.row
  have tc6 := o6.tidy
  generalize w1.heap.size = Y at *
  have hbd : Below w6.heap.size w6 w6.drew := (Below.refl _ _).drew
  refine at_begin (ops := opsA (cLA (cRA (cRA (cRA (cRA (cRA (cRA (cRA (cRA (Tryz.f10.body.getD .skip))))))))))) (n := 13) (fun y => Below w6.heap.size w6 y) (by kernel_rfl) (by kernel_rfl) ?_
  refine at_takeD (i := 0) (m' := 1) (d := some 50) (v := .int .u32 (q : Int)) si11reg rfl (by decide) rfl rfl (y_moveG (wanted_free rfl) rfl rfl) hbd ?_
  simp only [Act.put, List.setIfInBounds_toArray, List.set_cons_zero, List.set_cons_succ]
  refine at_takeD (i := 1) (m' := 3) (d := some 51) (v := .int .u64 (q : Int)) si11reg rfl (by decide) rfl rfl (y_convI (wanted_free rfl) rfl rfl (conv_u32u64 q (by omega))) hbd ?_
  simp only [Act.put, List.setIfInBounds_toArray, List.set_cons_zero, List.set_cons_succ]
  refine at_takeD (i := 3) (m' := 11) (d := some 53) (v := .slice la LG lc) si11reg rfl (by decide) rfl rfl (y_moveG (wanted_free rfl) rfl rfl) hbd ?_
  simp only [Act.put, List.setIfInBounds_toArray, List.set_cons_zero, List.set_cons_succ]
  refine at_takeD (i := 4) (m' := 27) (d := some 54) (v := .slice ca 4 cc) si11reg rfl (by decide) rfl rfl (y_moveG (wanted_free rfl) rfl rfl) hbd ?_
  simp only [Act.put, List.setIfInBounds_toArray, List.set_cons_zero, List.set_cons_succ]
  refine at_takeD (i := 5) (m' := 59) (d := some 55) (v := .agg #[.int .i64 (h : Int), .int .i64 (k : Int), .slice ia 16 ic, .slice sa 32 sc, .slice (some ⟨H, 0, none⟩) N N]) si11reg rfl (by decide) rfl rfl (y_rowG (cs := [.int .i64 (h : Int), .int .i64 (k : Int), .slice ia 16 ic, .slice sa 32 sc, .slice (some ⟨H, 0, none⟩) N N]) (wanted_free rfl) rfl rfl Tryz.underlying50 rfl (by kernel_rfl) (fun _ h => (bg6.below h).range)) hbd ?_
  simp only [Act.put, List.setIfInBounds_toArray, List.set_cons_zero, List.set_cons_succ]
  refine at_takeD (i := 6) (m' := 123) (d := some 56) (v := .int .u32 (q : Int)) si11reg rfl (by decide) rfl rfl (y_moveG (wanted_free rfl) rfl rfl) hbd ?_
  simp only [Act.put, List.setIfInBounds_toArray, List.set_cons_zero, List.set_cons_succ]
  refine at_one (i := 2) (m' := 127) si11reg (by decide) rfl ?_
  refine p_callG (args := #[.int .u64 (q : Int), .int .i64 4]) (d := some 52) rfl (wanted_free rfl) rfl (by simp only [List.map_toArray, List.map_cons, List.map_nil]; rfl) rfl Tryz.call31 ((h4q w6.drew).mono ?_)
  rintro e y7 ⟨bv, rfl, ob, g7⟩
  have rb := ob.row
  have tb := ob.tidy
  obtain ⟨ba, bc, rfl, _⟩ := ob.row.opens (be4_len q)
  have hb7 := keep_trans hbd g7
  refine ⟨_, rfl, hb7, ?_⟩
  simp only [Act.put, List.setIfInBounds_toArray, List.set_cons_zero, List.set_cons_succ]
  refine at_one (i := 7) (m' := 255) si11reg (by decide) rfl ?_
  refine p_callG (args := #[.agg #[.int .i64 (h : Int), .int .i64 (k : Int), .slice ia 16 ic, .slice sa 32 sc, .slice (some ⟨H, 0, none⟩) N N], .int .u32 (q : Int)]) (d := some 57) rfl (wanted_free rfl) rfl (by simp only [List.map_toArray, List.map_cons, List.map_nil]; rfl) rfl Tryz.call33 ((hbs y7 H (kp6.below hb7)).mono ?_)
  rintro e y8 ⟨ev, rfl, re, g8⟩
  replace rb := rb.below g8
  have re0 := re
  obtain ⟨ea, ec, rfl, _⟩ := re0
  have hb8 := keep_trans hb7 g8
  refine ⟨_, rfl, hb8, ?_⟩
  simp only [Act.put, List.setIfInBounds_toArray, List.set_cons_zero, List.set_cons_succ]
  refine at_one (i := 8) (m' := 511) si11reg (by decide) rfl ?_
  refine p_callG (args := #[.slice ea PS.length ec]) (d := some 58) rfl (wanted_free rfl) rfl (by simp only [List.map_toArray, List.map_cons, List.map_nil]; rfl) rfl Tryz.call23 ((hj1 y8 _ re).mono ?_)
  rintro e y9 ⟨jv, rfl, oj, g9⟩
  replace rb := rb.below g9
  obtain ⟨ja, jc, rfl, _⟩ := oj.row.opens hpl
  have hb9 := keep_trans hb8 g9
  refine ⟨_, rfl, hb9, ?_⟩
  simp only [Act.put, List.setIfInBounds_toArray, List.set_cons_zero, List.set_cons_succ]
  refine at_one (i := 9) (m' := 1023) si11reg (by decide) rfl ?_
  refine p_b4 (d := some 59) rfl (wanted_free rfl) rfl rfl rfl rfl rfl rfl Tryz.underlying46 hi0 hz1 hz0 ?_
  have rr := fun hB => rows_litL (B := (y9).heap.size) (k := 4) (texts_cons rb tb (texts_cons (rl6.below hb9) tl3 (texts_cons (rc6.below hb9) tc6 (texts_cons oj.row oj.tidy (Texts.nil _))))) hB rfl (by decide)
  replace rr := rr rfl
  obtain ⟨Gq10, hGq10⟩ : ∃ q : Nat, (y9).heap.size = q := ⟨_, rfl⟩
  obtain ⟨z10, hz10⟩ : ∃ z : World, z = (y9).alloc (.cells #[.slice ba 4 bc, .slice la LG lc, .slice ca 4 cc, .slice ja LP jc] 24) := ⟨_, rfl⟩
  have kz10 : Below (y9).heap.size y9 z10 := by rw [hz10]; exact keep_alloc _ _
  have hb10 := keep_trans hb9 kz10
  rw [← hz10] at rr ⊢
  rw [hGq10] at rr ⊢
  clear hz10 hGq10
  refine ⟨hb10, ?_⟩
  simp only [Act.put, List.setIfInBounds_toArray, List.set_cons_zero, List.set_cons_succ]
  refine at_one (i := 10) (m' := 2047) si11reg (by decide) rfl ?_
  refine p_callG (args := #[.slice (some ⟨Gq10, 0, none⟩) 4 4]) (d := some 60) rfl (wanted_free rfl) rfl (by simp only [List.map_toArray, List.map_cons, List.map_nil]; rfl) rfl Tryz.call23 ((hj2 z10 _ rr).mono ?_)
  rintro e y11 ⟨fv, rfl, of, g11⟩
  have kpre := hb10
  obtain ⟨fa, fc, rfl, _⟩ := of.row.opens rfl
  have hb11 := keep_trans hb10 g11
  refine ⟨_, rfl, hb11, ?_⟩
  simp only [Act.put, List.setIfInBounds_toArray, List.set_cons_zero, List.set_cons_succ]
  refine at_takeD (i := 11) (m' := 4095) (d := some 10) (v := .slice fa JN.length fc) si11reg rfl (by decide) rfl rfl (y_assignG (wanted_free rfl) rfl rfl) hb11 ?_
  simp only [Act.put, List.setIfInBounds_toArray, List.set_cons_zero, List.set_cons_succ]
  refine at_takeD (i := 12) (m' := 8191) (d := some 11) (v := .int .i64 0) si11reg rfl (by decide) rfl rfl (y_assignG (wanted_free rfl) rfl rfl) hb11 ?_
  simp only [Act.put, List.setIfInBounds_toArray, List.set_cons_zero, List.set_cons_succ]
  refine at_done si11reg (by decide) ?_
  go_wp2
  go_ret2
  exact ⟨_, rfl, of.mono (keep_trans k6 kpre).size, keep_trans k6 hb11⟩
end Go.Proofs.YtefndnbaifiboaaGreatDoor
