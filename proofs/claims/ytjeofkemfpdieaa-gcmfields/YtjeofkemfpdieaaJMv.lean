/- The code's moved. -/
import Derived.Test.YtjeofkemfpdieaaJGa
import Derived.Test.YtjeofkemfpdieaaAApp
import Derived.Test.YtjeofkemfpdieaaBe
import Derived.Test.YtjeofkemfpdieaaAMul
namespace Go.Proofs.Ytjeofkemfpdieaa
open Go.RowKit
set_option linter.unusedVariables false
set_option linter.unusedSimpArgs false

/-- a column of bytes taken from four -/
def mvF (T s : List Nat) (B n : Nat) : Nat := wd (el T (el s (4 * n))) (el T (el s (4 * ((n + B) % 4) + 1))) (el T (el s (4 * ((n + 2 * B) % 4) + 2))) (el T (el s (4 * ((n + 3 * B) % 4) + 3)))
theorem mv_left {T s : List Nat} : upd (mvF T s 1) (zA 4) 4 = sw (rowsL (eachL T s)) := upd_sw (zA_len 4) fun i hi => by rw [col_left hi]; rfl
theorem mv_right {T s : List Nat} : upd (mvF T s 3) (zA 4) 4 = sw (eachL T (rowsR s)) := upd_sw (zA_len 4) fun i hi => by rw [col_right hi]; rfl
/-- what holds while a column is made -/
def MvS (H : Nat) (U : List Nat) (n : Nat) (wr y : World) : Prop := LiesX .u32 81 y (H + 1) U n ∧ But (H + 1) wr y
set_option maxHeartbeats 4000000 in
set_option maxRecDepth 100000 in
theorem moved_any (g o : Nat) (T s : List Nat) (B : Nat) (w : World) (hB3z : B ≤ 3) (hs : B16 s) (hT : Under 256 T) (hw : Tab w g o T) (hgw : g < w.heap.size) :
    Calls Try.prog 73 #[.agg (arr .u32 (sw s)), .pointer (some ⟨g, o, none⟩), .int .i64 (B : Int)] w fun e w' => e = .returned (.agg (arr .u32 (upd (mvF T s B) (zA 4) 4))) ∧ Below w.heap.size w w' := by
  have hz := zero4
  have L0 := (Lies.new .u32 81 w (sw s)).alloc (.cells (arr .u32 (zA 4)) 81)
  have L2 := Lies.new .u32 81 (w.alloc (.cells (arr .u32 (sw s)) 81)) (zA 4)
  have hb0 := keep_trans (keep_alloc w (.cells (arr .u32 (sw s)) 81)) (keep_alloc _ (.cells (arr .u32 (zA 4)) 81))
  simp only [World.size_alloc, Nat.add_assoc, Nat.reduceAdd] at L2
  have T0 := hw.below hb0
  have lA := sw_len s
  have eA := fun k => sw_el s (c := k)
  have uA := col_lt hs.2
  have HE := hide (And.intro eA (And.intro uA lA))
  clear eA uA lA hw
  generalize sw s = A at *
  go_enter Try.func73, Try.ntmps73
  go_wp2
  clear hz
  generalize (w.alloc (.cells (arr .u32 A) 81)).alloc (.cells (arr .u32 (zA 4)) 81) = x1 at *
  go_loopw [8] (fun i wr => ∃ n : Nat, n ≤ 4 ∧ i = .int .i64 n ∧ Lies .u32 81 wr (w.heap.size + 1) (upd (mvF T s B) (zA 4) n) ∧ But (w.heap.size + 1) x1 wr) (fun i _ => 4 - (intOf i).toNat)
  case atStart => exact ⟨0, Nat.zero_le _, rfl, L2, But.refl _ _⟩
  case round =>
    obtain ⟨n, hn, rfl, hU, hB⟩ := hrel
    by_cases hlt : n < 4
    · obtain ⟨eA, uA, lA⟩ := HE.out
      have h0 := L0.but hB (by omega)
      have T1 : Tab wr.drew g o T := fun c hc => But.cell (T0 c hc) hB.drew (by show g ≠ _; omega)
      obtain ⟨B1, hB1⟩ : ∃ x : Nat, x = B := ⟨_, rfl⟩
      obtain ⟨q1, hq1⟩ : ∃ x : Nat, x = n + B1 := ⟨_, rfl⟩
      have eq1 : (n : Int) + (B : Int) = (q1 : Int) := by omega
      have sq1 : IntKind.i64.wrap (q1 : Int) = (q1 : Int) := by rw [IntKind.wrap_i64]; omega
      obtain ⟨n1, hn1⟩ : ∃ x : Nat, x = q1 % 4 := ⟨_, rfl⟩
      have en1 : (q1 : Int) % 4 = (n1 : Int) := by omega
      have tn1 : (q1 : Int).tmod 4 = (n1 : Int) := by rw [Int.tmod_eq_emod_of_nonneg (by omega)]; exact en1
      have ln1 : n1 < 4 := by omega
      have lz1 : (0 : Int) ≤ (n1 : Int) := Int.natCast_nonneg _
      have li1 : (n1 : Int) < 4 := by omega
      have c1 := h0.cell (i := n1) (by rw [lA]; exact ln1)
      rw [eA n1 ln1] at c1
      obtain ⟨B2, hB2⟩ : ∃ x : Nat, x = 2 * B := ⟨_, rfl⟩
      have eB2 : 2 * (B : Int) = (B2 : Int) := by omega
      have sB2 : IntKind.i64.wrap (B2 : Int) = (B2 : Int) := by rw [IntKind.wrap_i64]; omega
      obtain ⟨q2, hq2⟩ : ∃ x : Nat, x = n + B2 := ⟨_, rfl⟩
      have eq2 : (n : Int) + (B2 : Int) = (q2 : Int) := by omega
      have sq2 : IntKind.i64.wrap (q2 : Int) = (q2 : Int) := by rw [IntKind.wrap_i64]; omega
      obtain ⟨n2, hn2⟩ : ∃ x : Nat, x = q2 % 4 := ⟨_, rfl⟩
      have en2 : (q2 : Int) % 4 = (n2 : Int) := by omega
      have tn2 : (q2 : Int).tmod 4 = (n2 : Int) := by rw [Int.tmod_eq_emod_of_nonneg (by omega)]; exact en2
      have ln2 : n2 < 4 := by omega
      have lz2 : (0 : Int) ≤ (n2 : Int) := Int.natCast_nonneg _
      have li2 : (n2 : Int) < 4 := by omega
      have c2 := h0.cell (i := n2) (by rw [lA]; exact ln2)
      rw [eA n2 ln2] at c2
      obtain ⟨B3, hB3'⟩ : ∃ x : Nat, x = 3 * B := ⟨_, rfl⟩
      have eB3 : 3 * (B : Int) = (B3 : Int) := by omega
      have sB3 : IntKind.i64.wrap (B3 : Int) = (B3 : Int) := by rw [IntKind.wrap_i64]; omega
      obtain ⟨q3, hq3⟩ : ∃ x : Nat, x = n + B3 := ⟨_, rfl⟩
      have eq3 : (n : Int) + (B3 : Int) = (q3 : Int) := by omega
      have sq3 : IntKind.i64.wrap (q3 : Int) = (q3 : Int) := by rw [IntKind.wrap_i64]; omega
      obtain ⟨n3, hn3⟩ : ∃ x : Nat, x = q3 % 4 := ⟨_, rfl⟩
      have en3 : (q3 : Int) % 4 = (n3 : Int) := by omega
      have tn3 : (q3 : Int).tmod 4 = (n3 : Int) := by rw [Int.tmod_eq_emod_of_nonneg (by omega)]; exact en3
      have ln3 : n3 < 4 := by omega
      have lz3 : (0 : Int) ≤ (n3 : Int) := Int.natCast_nonneg _
      have li3 : (n3 : Int) < 4 := by omega
      have c3 := h0.cell (i := n3) (by rw [lA]; exact ln3)
      rw [eA n3 ln3] at c3
      have c0 := h0.cell (i := n) (by rw [lA]; exact hlt)
      rw [eA n hlt] at c0
      have hV : mvF T s B n = wd (el T (el s (4 * n))) (el T (el s (4 * n1 + 1))) (el T (el s (4 * n2 + 2))) (el T (el s (4 * n3 + 3))) := by
        rw [hn1, hn2, hn3, hq1, hq2, hq3, hB1, hB2, hB3']; rfl
      have e := fun i => hs.el i
      have hcall := gath_any g o T (col s n) (col s n1) (col s n2) (col s n3) (el s (4 * n)) (el s (4 * n1 + 1)) (el s (4 * n2 + 2)) (el s (4 * n3 + 3)) hT (uA _) (uA _) (uA _) (uA _) (wd_0 (e _) (e _) (e _) (e _)) (wd_1 (e _) (e _) (e _) (e _)) (wd_2 (e _) (e _) (e _) (e _)) (wd_3 (e _) (e _) (e _) (e _)) wr.drew T1
      rw [← hV] at hcall
      have hlu : (upd (mvF T s B) (zA 4) n).length = 4 := by rw [upd_len, zA_len]
      have hst : ∀ y, Lies .u32 81 y (w.heap.size + 1) (upd (mvF T s B) (zA 4) n) → Lies .u32 81 (y.setCell ⟨w.heap.size + 1, n, none⟩ (.int .u32 (mvF T s B n : Nat))) (w.heap.size + 1) (upd (mvF T s B) (zA 4) (n + 1)) := fun y hy => hy.set n _
      have HST := hide hst
      clear hst hV e eA uA lA hq1 hq2 hq3 hn1 hn2 hn3 hB1 hB2 hB3'
      have i0 : (0 : Int) ≤ (n : Int) := Int.natCast_nonneg _
      have i1 : (n : Int) < 4 := by omega
      generalize upd (mvF T s B) (zA 4) n = U at *
      generalize mvF T s B n = V at *
      generalize col s n = W0 at *
      generalize col s n1 = W1 at *
      generalize col s n2 = W2 at *
      generalize col s n3 = W3 at *
      have HX := hide (hU.toX (T := n) (by rw [hlu]; exact hlt))
      have hmk : ∀ y, MvS w.heap.size U n wr y → y.cell? ⟨w.heap.size, n, none⟩ = some (.int .u32 (W0 : Int)) ∧ y.cell? ⟨w.heap.size, n1, none⟩ = some (.int .u32 (W1 : Int)) ∧ y.cell? ⟨w.heap.size, n2, none⟩ = some (.int .u32 (W2 : Int)) ∧ y.cell? ⟨w.heap.size, n3, none⟩ = some (.int .u32 (W3 : Int)) ∧ y.cell? ⟨w.heap.size + 1, n, none⟩ = some (rdc y ⟨w.heap.size + 1, n, none⟩) ∧ y.frozen? ⟨w.heap.size + 1, n, none⟩ = false ∧ MvS w.heap.size U n wr y := fun y hy =>
        ⟨But.cell c0 hy.2 (by show w.heap.size ≠ _; omega), But.cell c1 hy.2 (by show w.heap.size ≠ _; omega), But.cell c2 hy.2 (by show w.heap.size ≠ _; omega), But.cell c3 hy.2 (by show w.heap.size ≠ _; omega), hy.1.here (by rw [hlu]; exact hlt), hy.1.frozen n, hy⟩
      have HMK := hide hmk
      have HU := hide (And.intro hU hB)
      clear hmk hU hlu c0 c1 c2 c3 T1 h0
      go_wp2
      go_region_held3 (fun y => y.cell? ⟨w.heap.size, n, none⟩ = some (.int .u32 (W0 : Int)) ∧ y.cell? ⟨w.heap.size, n1, none⟩ = some (.int .u32 (W1 : Int)) ∧ y.cell? ⟨w.heap.size, n2, none⟩ = some (.int .u32 (W2 : Int)) ∧ y.cell? ⟨w.heap.size, n3, none⟩ = some (.int .u32 (W3 : Int)) ∧ y.cell? ⟨w.heap.size + 1, n, none⟩ = some (rdc y ⟨w.heap.size + 1, n, none⟩) ∧ y.frozen? ⟨w.heap.size + 1, n, none⟩ = false ∧ MvS w.heap.size U n wr y)
        (first
          | exact HMK.out _ ⟨HX.out, But.refl _ _⟩
          | exact HMK.out _ ⟨HX.out, (But.refl _ _).drew⟩
          | (exact HMK.out _ ⟨LiesX.below (w := wr.drew) HX.out hb7, But.trans (But.refl _ _).drew (But.of_below hb7)⟩)
          | (exact HMK.out _ ⟨LiesX.set (LiesX.below (w := wr.drew) HX.out hb7) _, But.setCell (But.trans (But.refl _ _).drew (But.of_below hb7)) _ _⟩))
        (first
          | (go_at_call 78; refine hcall.mono ?_; rintro e w7 ⟨rfl, hb7⟩))
      go_wp2_with fail
      obtain ⟨hU, hB⟩ := HU.out
      have hU7 : Lies .u32 81 w7 (w.heap.size + 1) U := Lies.below (w := wr.drew) hU hb7
      exact ⟨⟨n + 1, by omega, by go_num, HST.out _ hU7, (hB.trans (But.trans (But.refl _ _).drew (But.of_below hb7))).setCell n _⟩, by simp [intOf]; omega⟩
    · obtain rfl : n = 4 := by omega
      have hsl : (upd (mvF T s B) (zA 4) 4).length = 4 := by rw [upd_len, zA_len]
      have hbr := hb0.trans (hB.below (by omega) hb0.size)
      generalize hX : upd (mvF T s B) (zA 4) 4 = X at hU hsl
      have HX := hide hX
      clear hX
      have hOf : Lies .u32 81 (wr.setRow (w.heap.size + 1) (arr .u32 X)) (w.heap.size + 1) X := hU.row
      have hbf := hbr.trans ((But.setRow (But.refl (w.heap.size + 1) _) (arr .u32 X)).below (by omega) hbr.size)
      go_wp2_with (first
        | (refine wpList_load_row rfl 81 _ (by rfl) (w.heap.size + 1) (by rfl) _ _ _ (.array 4 69) hU (by kernel_rfl) rfl (by rw [arr_size, hsl]; kernel_rfl) ?_)
        | (refine wpList_store_row rfl 81 _ _ (by rfl) (w.heap.size + 1) (arr .u32 X) (by rfl) (by rfl) _ _ hU (by rw [arr_size, hsl]; kernel_rfl) rfl (arr_one _ _) ?_)
        | fail)
      refine bodyPost_ret (v := .agg (arr .u32 X)) ?_ rfl ⟨by rw [HX.out], hbf⟩
      exact results_cell_row Try.results73 _ _ (w.heap.size + 1) _ _ _ (.array 4 69) (by rfl) hOf (by kernel_rfl) rfl (by rw [arr_size, hsl]; kernel_rfl)
end Go.Proofs.Ytjeofkemfpdieaa

/- The code's read, onto. -/
namespace Go.Proofs.Ytjeofkemfpdieaa
open Go.RowKit
set_option linter.unusedVariables false
set_option linter.unusedSimpArgs false

theorem num_4 (a b c d : Nat) (ha : a < 256) (hb : b < 256) (hc : c < 256) (hd : d < 256) : numL [a, b, c, d] = wd a b c d := by
  unfold numL wd
  simp only [List.foldl_cons, List.foldl_nil]
  omega
theorem num_col {s : List Nat} {i : Nat} (hs : Under 256 s) (h : 4 * i + 4 ≤ s.length) : numL ((s.drop (4 * i)).take 4) = col s i := by
  have e : (s.drop (4 * i)).take 4 = [el s (4 * i), el s (4 * i + 1), el s (4 * i + 2), el s (4 * i + 3)] := by
    rw [drop_el (by omega), drop_el (by omega), drop_el (by omega), drop_el (by omega)]
    rfl
  rw [e, num_4 _ _ _ _ (el_lt hs (by decide) _) (el_lt hs (by decide) _) (el_lt hs (by decide) _) (el_lt hs (by decide) _)]
  rfl
/-- the number of four bytes of a text -/
theorem num_part {w : World} {b o n c : Nat} {l : List Nat} (h : Row .u8 256 w (.slice (some ⟨b, o, none⟩) n c) l) {i P Q : Nat} (hP : P = 4 * i) (hQ : Q = P + 4) (hl : 4 * i + 4 ≤ l.length) :
    Calls Try.prog 34 #[.slice (some ⟨b, o + P, none⟩) 4 (c - P)] w fun e w' => e = .returned (.int .u64 (col l i : Nat)) ∧ w' = w := by
  have hm := h.mid (i := P) (j := Q) (by omega) (by omega)
  rw [show Q - P = 4 by omega] at hm
  have := num_any _ _ w hm
  rw [hP, num_col h.under hl] at this
  rw [hP]
  exact this
set_option maxHeartbeats 4000000 in
set_option maxRecDepth 100000 in
theorem read_any (bv : Value) (s : List Nat) (w : World) (hs : s.length = 16) (rs : Row .u8 256 w bv s) :
    Calls Try.prog 61 #[bv] w fun e w' => e = .returned (.agg (arr .u32 (sw s))) ∧ Below w.heap.size w w' := by
  have hz := zero4
  have L0 := Lies.new .u32 81 w (zA 4)
  have hb0 := keep_alloc w (.cells (arr .u32 (zA 4)) 81)
  have hu := rs.under
  obtain ⟨sa, sc, rfl, g1, g2, g3⟩ := rs.opens hs
  obtain ⟨sb, so, rfl, hc⟩ := g3 (by decide)
  have hsb : sb < w.heap.size := World.block_lt_of_cell? _ _ (hc 0 (by decide))
  have rs0 := rs.below hb0
  have hfin : upd (fun i => col s i) (zA 4) 4 = sw s := upd_sw (zA_len 4) fun i hi => rfl
  have HF := hide hfin
  clear hfin hc g3
  go_enter Try.func61, Try.ntmps61
  go_wp2
  clear hz
  generalize w.alloc (.cells (arr .u32 (zA 4)) 81) = x1 at *
  go_loopw [4] (fun i wr => ∃ n : Nat, n ≤ 4 ∧ i = .int .i64 n ∧ Lies .u32 81 wr w.heap.size (upd (fun i => col s i) (zA 4) n) ∧ But w.heap.size x1 wr) (fun i _ => 4 - (intOf i).toNat)
  case atStart => exact ⟨0, Nat.zero_le _, rfl, L0, But.refl _ _⟩
  case round =>
    obtain ⟨n, hn, rfl, hA, hB⟩ := hrel
    by_cases hlt : n < 4
    · have rs1 := rs0.but (fun _ q hq => by simp [Value.ownBlock] at hq; omega) hB
      obtain ⟨P, hP⟩ : ∃ x : Nat, x = 4 * n := ⟨_, rfl⟩
      obtain ⟨Q, hQ⟩ : ∃ x : Nat, x = P + 4 := ⟨_, rfl⟩
      have hnum := num_part rs1 hP hQ (by omega)
      have e_P : 4 * (n : Int) = (P : Int) := by omega
      have s_P : IntKind.i64.wrap (P : Int) = (P : Int) := by rw [IntKind.wrap_i64]; omega
      have e_Q : (P : Int) + 4 = (Q : Int) := by omega
      have s_Q : IntKind.i64.wrap (Q : Int) = (Q : Int) := by rw [IntKind.wrap_i64]; omega
      have l_PQ : (P : Int) ≤ (Q : Int) := by omega
      have l_Qc : (Q : Int) ≤ (sc : Int) := by omega
      have d_QP : Q - P = 4 := by omega
      have f1 := hA.frozen n
      have c1 := hA.cell (i := n) (by rw [upd_len, zA_len]; exact hlt)
      have hst : ∀ y, Lies .u32 81 y w.heap.size (upd (fun i => col s i) (zA 4) n) → Lies .u32 81 (y.setCell ⟨w.heap.size, n, none⟩ (.int .u32 (col s n : Nat))) w.heap.size (upd (fun i => col s i) (zA 4) (n + 1)) := fun y hy => hy.set n _
      have HST := hide hst
      have hcl := col_lt hu n
      have s_W : IntKind.u32.wrap (col s n : Int) = (col s n : Int) := by rw [IntKind.wrap_u32]; omega
      have m_W : (col s n : Int) % 4294967296 = (col s n : Int) := by omega
      have i1 : (n : Int) < 4 := by omega
      clear hst hP hQ
      generalize col s n = W at *
      go_wp2_with (first | (go_at_call 34; refine hnum.mono ?_; rintro e y ⟨rfl, hy⟩; obtain rfl := hy.symm) | fail)
      exact ⟨⟨n + 1, by omega, by go_num, HST.out _ hA, hB.setCell n _⟩, by simp [intOf]; omega⟩
    · obtain rfl : n = 4 := by omega
      rw [HF.out] at hA
      have hsl : (sw s).length = 4 := rfl
      have hbr := hb0.trans (hB.below (by omega) hb0.size)
      generalize hX : sw s = X at hA hsl
      have HX := hide hX
      clear hX HF
      have hOf : Lies .u32 81 (wr.setRow w.heap.size (arr .u32 X)) w.heap.size X := hA.row
      have hbf := hbr.trans ((But.setRow (But.refl w.heap.size _) (arr .u32 X)).below (by omega) hbr.size)
      go_wp2_with (first
        | (refine wpList_load_row rfl 81 _ (by rfl) w.heap.size (by rfl) _ _ _ (.array 4 69) hA (by kernel_rfl) rfl (by rw [arr_size, hsl]; kernel_rfl) ?_)
        | (refine wpList_store_row rfl 81 _ _ (by rfl) w.heap.size (arr .u32 X) (by rfl) (by rfl) _ _ hA (by rw [arr_size, hsl]; kernel_rfl) rfl (arr_one _ _) ?_)
        | fail)
      refine bodyPost_ret (v := .agg (arr .u32 X)) ?_ rfl ⟨by rw [HX.out], hbf⟩
      exact results_cell_row Try.results61 _ _ w.heap.size _ _ _ (.array 4 69) (by rfl) hOf (by kernel_rfl) rfl (by rw [arr_size, hsl]; kernel_rfl)
theorem cells_newsA {w : World} {y : Addr} {n c : Nat} {l : List Nat} (h : Row .u8 256 w (.slice (some y) n c) l) : ∀ j u, (vals .u8 l)[j]? = some u → w.cell? (y.add j) = some u := by
  obtain ⟨a, cap, he, _, _, h3, _⟩ := h
  simp at he
  obtain ⟨rfl, _, _⟩ := he
  exact cells_news h3
theorem four {s : List Nat} {n : Nat} (h : 4 * n + 4 ≤ s.length) : s.take (4 * (n + 1)) = s.take (4 * n) ++ [el s (4 * n), el s (4 * n + 1), el s (4 * n + 2), el s (4 * n + 3)] := by
  rw [show 4 * (n + 1) = 4 * n + 1 + 1 + 1 + 1 by omega, take_el (by omega), take_el (by omega), take_el (by omega), take_el (by omega)]
  simp
theorem under4 {a b c d : Nat} (ha : a < 256) (hb : b < 256) (hc : c < 256) (hd : d < 256) : Under 256 [a, b, c, d] := by
  intro x hx
  simp only [List.mem_cons, List.not_mem_nil, or_false] at hx
  omega
/-- the bytes of a word, in the walk's spelling -/
theorem bytes_of {a b c d : Nat} (ha : a < 256) (hb : b < 256) (hc : c < 256) (hd : d < 256) (W : Nat) (hW : W = wd a b c d) :
    IntKind.u8.wrap ((W : Int) / 16777216) = (a : Int) ∧ IntKind.u8.wrap ((W : Int) / 65536) = (b : Int) ∧ IntKind.u8.wrap ((W : Int) / 256) = (c : Int) ∧ IntKind.u8.wrap (W : Int) = (d : Int) ∧ (W : Int) / 16777216 = (a : Int) := by
  have e0 := wd_0 ha hb hc hd
  have e1 := wd_1 ha hb hc hd
  have e2 := wd_2 ha hb hc hd
  have e3 := wd_3 ha hb hc hd
  rw [← hW] at e0 e1 e2 e3
  refine ⟨?_, ?_, ?_, ?_, ?_⟩
  · rw [IntKind.wrap_u8]; omega
  · rw [IntKind.wrap_u8]; omega
  · rw [IntKind.wrap_u8]; omega
  · rw [IntKind.wrap_u8]; omega
  · omega
set_option maxHeartbeats 4000000 in
set_option maxRecDepth 100000 in
theorem onto_nil (s : List Nat) (w : World) (hs : B16 s) :
    Calls Try.prog 62 #[.agg (arr .u32 (sw s)), .slice none 0 0] w fun e w' => ∃ v, e = .returned v ∧ Own 5 .u8 256 w' w.heap.size v s ∧ Below w.heap.size w w' := by
  have L0 := Lies.new .u32 81 w (sw s)
  have hb0 := keep_alloc w (.cells (arr .u32 (sw s)) 81)
  have lA := sw_len s
  have eA := fun k => sw_el s (c := k)
  have HE := hide eA
  clear eA
  generalize sw s = A at *
  go_enter Try.func62, Try.ntmps62
  go_wp2_with (first
    | (refine wpList_load_row rfl 81 _ (by rfl) w.heap.size (by rfl) _ _ _ (.array 4 69) L0 (by kernel_rfl) rfl (by rw [arr_size, lA]; kernel_rfl) ?_)
    | fail)
  clear L0
  generalize w.alloc (.cells (arr .u32 A) 81) = x1 at *
  go_loopw [1, 8] (fun v i wr => ∃ n : Nat, n ≤ 4 ∧ i = .int .i64 n ∧ wr.ownsRow w.heap.size 5 1 v (4 * n) (vals .u8 (s.take (4 * n))) ∧ Below w.heap.size w wr) (fun _ i _ => 4 - (intOf i).toNat)
  case atStart => exact ⟨0, Nat.zero_le _, rfl, World.ownsRow_nil _ _ _ _, hb0⟩
  case round =>
    obtain ⟨n, hn, rfl, how, hbr⟩ := hrel
    by_cases hlt : n < 4
    · have b0 := hs.el (4 * n)
      have b1 := hs.el (4 * n + 1)
      have b2 := hs.el (4 * n + 2)
      have b3 := hs.el (4 * n + 3)
      have hix := fun y => ix4 A lA n hlt y
      rw [HE.out n hlt] at hix
      have ecol : col s n = wd (el s (4 * n)) (el s (4 * n + 1)) (el s (4 * n + 2)) (el s (4 * n + 3)) := rfl
      rw [ecol] at hix
      have hf := four (s := s) (n := n) (by rw [hs.1]; omega)
      have HFo := hide hf
      clear hf ecol
      generalize el s (4 * n) = a at *
      generalize el s (4 * n + 1) = b at *
      generalize el s (4 * n + 2) = c at *
      generalize el s (4 * n + 3) = d at *
      obtain ⟨y0, y1, y2, y3, y4⟩ := bytes_of b0 b1 b2 b3 _ rfl
      have hWl := wd_lt b0 b1 b2 b3
      generalize wd a b c d = W at *
      have hlit : Row .u8 256 (wr.alloc (.cells #[.int .u8 (a : Int), .int .u8 (b : Int), .int .u8 (c : Int), .int .u8 (d : Int)] 5)) (.slice (some ⟨wr.heap.size, 0, none⟩) 4 4) [a, b, c, d] := lit_row .u8 256 wr [a, b, c, d] 5 (under4 b0 b1 b2 b3) (by show 4 ≤ maxLen; decide)
      have how2 := own_belowA how (keep_alloc wr (.cells #[.int .u8 (a : Int), .int .u8 (b : Int), .int .u8 (c : Int), .int .u8 (d : Int)] 5))
      have hbr2 := keep_trans hbr (keep_alloc wr (.cells #[.int .u8 (a : Int), .int .u8 (b : Int), .int .u8 (c : Int), .int .u8 (d : Int)] 5))
      have HB2 := hide (And.intro hbr2 how)
      have i1 : (n : Int) < 4 := by omega
      obtain ⟨n4, hn4⟩ : ∃ x : Nat, x = 4 * n := ⟨_, rfl⟩
      have ln4 : n4 ≤ 1000000 := by omega
      rw [← hn4] at how how2
      have HN4 := hide hn4
      clear hn4 hbr2
      obtain ⟨va, vc, rfl⟩ := own_sliceA how
      have hsz : w.heap.size ≤ (wr.alloc (.cells #[.int .u8 (a : Int), .int .u8 (b : Int), .int .u8 (c : Int), .int .u8 (d : Int)] 5)).heap.size := HB2.out.1.size
      have HSZ := hide hsz
      clear how hsz
      go_wp2_with (first
        | (at_builtin; refine wpList_appA rfl _ _ rfl w.heap.size _ _ n4 _ [a, b, c, d] rfl how2 rfl hlit (tidy_atA _ _ _) ln4 (show 4 ≤ 1000000 by decide) HSZ.out ?_; intro v1 w1 how3 hg1)
        | fail)
      refine ⟨⟨n + 1, by omega, by go_num, ?_, ?_⟩, by simp [intOf]; omega⟩
      · rw [HFo.out, show 4 * (n + 1) = n4 + 4 by have := HN4.out; omega, ← HN4.out]
        exact how3
      · exact HB2.out.1.grown hg1 HSZ.out (fun k h => (how2.lt k h).1)
    · obtain rfl : n = 4 := by omega
      rw [show 4 * 4 = 16 from rfl, List.take_of_length_le (by rw [hs.1]; exact Nat.le_refl _)] at how
      go_wp2
      go_ret
      exact ⟨_, rfl, ⟨by rw [hs.1]; exact how, hs.2⟩, hbr⟩
set_option maxHeartbeats 4000000 in
set_option maxRecDepth 100000 in
theorem onto_fit (s l : List Nat) (B g N cap : Nat) (w : World) (hs : B16 s) (hl : l.length = N) (how0 : w.ownsRow B 5 1 (.slice (some ⟨g, 0, none⟩) N cap) N (vals .u8 l)) (hcap : N + 16 ≤ cap) :
    Calls Try.prog 62 #[.agg (arr .u32 (sw s)), .slice (some ⟨g, 0, none⟩) N cap] w fun e w' => e = .returned (.slice (some ⟨g, 0, none⟩) (N + 16) cap) ∧ w'.ownsRow B 5 1 (.slice (some ⟨g, 0, none⟩) (N + 16) cap) (N + 16) (vals .u8 (l ++ s)) ∧ But g w w' := by
  obtain ⟨i0, hi, hz0, hz1, hz2⟩ := info_parts Try.info5
  have L0 := Lies.new .u32 81 w (sw s)
  have hb0 := keep_alloc w (.cells (arr .u32 (sw s)) 81)
  have lA := sw_len s
  have eA := fun k => sw_el s (c := k)
  have HE := hide eA
  clear eA
  generalize sw s = A at *
  have how1 := own_belowA how0 hb0
  have hgw : g < w.heap.size := (how0.lt g rfl).2
  have HC := hide hcap
  clear hcap
  go_enter Try.func62, Try.ntmps62
  go_wp2_with (first
    | (refine wpList_load_row rfl 81 _ (by rfl) w.heap.size (by rfl) _ _ _ (.array 4 69) L0 (by kernel_rfl) rfl (by rw [arr_size, lA]; kernel_rfl) ?_)
    | fail)
  clear L0
  generalize w.alloc (.cells (arr .u32 A) 81) = x1 at *
  go_loopw [1, 8] (fun v i wr => ∃ n : Nat, n ≤ 4 ∧ i = .int .i64 n ∧ v = .slice (some ⟨g, 0, none⟩) (N + 4 * n) cap ∧ wr.ownsRow B 5 1 v (N + 4 * n) (vals .u8 (l ++ s.take (4 * n))) ∧ But g w wr) (fun _ i _ => 4 - (intOf i).toNat)
  case atStart => exact ⟨0, Nat.zero_le _, rfl, rfl, by simpa using how1, But.of_below hb0⟩
  case round =>
    obtain ⟨n, hn, rfl, rfl, how, hbr⟩ := hrel
    by_cases hlt : n < 4
    · have b0 := hs.el (4 * n)
      have b1 := hs.el (4 * n + 1)
      have b2 := hs.el (4 * n + 2)
      have b3 := hs.el (4 * n + 3)
      have hix := fun y => ix4 A lA n hlt y
      rw [HE.out n hlt] at hix
      have ecol : col s n = wd (el s (4 * n)) (el s (4 * n + 1)) (el s (4 * n + 2)) (el s (4 * n + 3)) := rfl
      rw [ecol] at hix
      have hf := four (s := s) (n := n) (by rw [hs.1]; omega)
      have HFo := hide hf
      clear hf ecol
      generalize el s (4 * n) = a at *
      generalize el s (4 * n + 1) = b at *
      generalize el s (4 * n + 2) = c at *
      generalize el s (4 * n + 3) = d at *
      obtain ⟨y0, y1, y2, y3, y4⟩ := bytes_of b0 b1 b2 b3 _ rfl
      have hWl := wd_lt b0 b1 b2 b3
      generalize wd a b c d = W at *
      have hnews : ∀ j u, (vals .u8 [a, b, c, d])[j]? = some u → (wr.alloc (.cells #[.int .u8 (a : Int), .int .u8 (b : Int), .int .u8 (c : Int), .int .u8 (d : Int)] 5)).cell? ((⟨wr.heap.size, 0, none⟩ : Addr).add j) = some u :=
        cells_newsA (lit_row .u8 256 wr [a, b, c, d] 5 (under4 b0 b1 b2 b3) (by show 4 ≤ maxLen; decide))
      have how2 := own_belowA how (keep_alloc wr (.cells #[.int .u8 (a : Int), .int .u8 (b : Int), .int .u8 (c : Int), .int .u8 (d : Int)] 5))
      have hbr2 := hbr.alloc (.cells #[.int .u8 (a : Int), .int .u8 (b : Int), .int .u8 (c : Int), .int .u8 (d : Int)] 5)
      have HB2 := hide hbr2
      have i1 : (n : Int) < 4 := by omega
      obtain ⟨n4, hn4⟩ : ∃ x : Nat, x = N + 4 * n := ⟨_, rfl⟩
      have ln4 : n4 + 4 ≤ cap := by have := HC.out; omega
      rw [← hn4] at how2 ⊢
      have HN4 := hide hn4
      clear hn4 hbr2 how
      go_wp2_with (first
        | (at_builtin; refine wpList_append_fits _ rfl _ _ 22 rfl B 5 i0 1 Try.underlying22 hi hz1 g n4 cap _ rfl how2 ⟨wr.heap.size, 0, none⟩ 4 4 (vals .u8 [a, b, c, d]) rfl rfl hnews (vals_one _ _) ln4 ?_; intro w1 how3 hg1)
        | fail)
      refine ⟨⟨n + 1, by omega, by go_num, ?_, ?_, ?_⟩, by simp [intOf]; omega⟩
      · rw [show N + 4 * (n + 1) = n4 + 4 by have := HN4.out; omega]
      · rw [HFo.out, show N + 4 * (n + 1) = n4 + 4 by have := HN4.out; omega, ← List.append_assoc, vals_append]
        exact how3
      · exact HB2.out.trans ⟨hg1.os, hg1.tape, hg1.output, hg1.size, fun k hk hne => hg1.block k hk (by simpa using hne)⟩
    · obtain rfl : n = 4 := by omega
      rw [show 4 * 4 = 16 from rfl, List.take_of_length_le (by rw [hs.1]; exact Nat.le_refl _)] at how
      go_wp2
      go_ret
      exact ⟨rfl, how, hbr⟩
end Go.Proofs.Ytjeofkemfpdieaa

/- The document's rows. -/
namespace Go.Proofs.Ytjeofkemfpdieaa
open Go.RowKit
set_option linter.unusedVariables false
set_option linter.unusedSimpArgs false

/-- whence the byte at a place comes -/
def ixW (W : Int) (c r : Nat) : Nat := 4 * (((c : Int) + W * (r : Int) + 4) % 4).toNat + r
theorem rowsL_w (s : List Nat) : rowsL s = of16 fun i => el s (ixW 1 (i / 4) (i % 4)) := ext16 (of16_len _) (of16_len _) fun i hi => by
  unfold rowsL
  rw [of16_el _ hi, of16_el _ hi]
  congr 1
  exact (by decide : ∀ i, i < 16 → 4 * ((i / 4 + i % 4) % 4) + i % 4 = ixW 1 (i / 4) (i % 4)) i hi
theorem rowsR_w (s : List Nat) : rowsR s = of16 fun i => el s (ixW (-1) (i / 4) (i % 4)) := ext16 (of16_len _) (of16_len _) fun i hi => by
  unfold rowsR
  rw [of16_el _ hi, of16_el _ hi]
  congr 1
  exact (by decide : ∀ i, i < 16 → 4 * ((i / 4 + 4 - i % 4) % 4) + i % 4 = ixW (-1) (i / 4) (i % 4)) i hi
/-- where the outer loop stands -/
def RoL (w1 : World) (H : Nat) (f : Nat → Nat) (vi : Value) (wr : World) : Prop := ∃ k : Nat, k ≤ 4 ∧ vi = .int .i64 (k : Int) ∧ Lies .u8 5 wr H (fill16 f (4 * k)) ∧ But H w1 wr
/-- where the inner loop stands -/
def RiL (w1 : World) (H c : Nat) (f : Nat → Nat) (vi : Value) (wr : World) : Prop := ∃ k : Nat, k ≤ 4 ∧ vi = .int .i64 (k : Int) ∧ Lies .u8 5 wr H (fill16 f (4 * c + k)) ∧ But H w1 wr

set_option maxHeartbeats 4000000 in
set_option maxRecDepth 100000 in
theorem rrows_any (W : Int) (hW : W = 1 ∨ W = -1) (s : List Nat) (sv : Value) (w : World) (hs : B16 s) (rs : Row .u8 256 w sv s) :
    Calls Try.prog 65 #[sv, .int .i64 W] w fun e w' => ∃ v, e = .returned v ∧ Own 5 .u8 256 w' w.heap.size v (of16 fun i => el s (ixW W (i / 4) (i % 4))) ∧ Below w.heap.size w w' := by
  obtain ⟨i0, hi, hz0, hz1, hz2⟩ := info_parts Try.info5
  obtain ⟨sa, sc, rfl, g1, g2, g3⟩ := rs.opens hs.1
  obtain ⟨sb, so, rfl, hc⟩ := g3 (by decide)
  have hsb : sb < w.heap.size := World.block_lt_of_cell? _ _ (hc 0 (by decide))
  go_enter Try.func65, Try.ntmps65
  go_wp2_with (first | (at_make; refine wpList_make_full _ rfl _ _ 22 rfl w.heap.size 5 i0 (.int .u8 0) 1 Try.underlying22 hi hz0 hz1 _ _ _ _ 16 rfl rfl rfl rfl (by rw [hz2]; decide) (by unfold maxLen; decide) (Nat.le_refl _) ?_; intro w1 hown hgrow) | fail)
  rw [made_u8, ← fill16_zero (fun i => el s (ixW W (i / 4) (i % 4)))] at hown
  have hL1 := lies_own hown (fill16_len _ _)
  have hb1 := (Below.refl w.heap.size w).grown hgrow (Nat.le_refl _) (fun k h => by cases h)
  have hc1 : ∀ i, i < 16 → w1.cell? ⟨sb, so + i, none⟩ = some (.int .u8 (el s i)) := fun i hi => keep_cell (hc i hi) hb1
  clear hown hgrow g3 rs hc
  have HC1 := hide hc1
  clear hc1
  go_loopw [6] (fun vi wr => RoL w1 w.heap.size (fun i => el s (ixW W (i / 4) (i % 4))) vi wr) (fun vi _ => 4 - (intOf vi).toNat)
  case atStart => exact ⟨0, by decide, rfl, hL1, But.refl _ _⟩
  case round =>
    obtain ⟨c, hk, rfl, hL, hB⟩ := hrel
    by_cases hlt : c < 4
    · have hli : (c : Int) < 4 := by omega
      rename World => wo
      have H0 : Hid (RiL w1 w.heap.size c (fun i => el s (ixW W (i / 4) (i % 4))) (.int .i64 0) wo) := hide ⟨0, by decide, rfl, hL, hB⟩
      clear hL1 hL hB
      go_wp2
      go_loopw [7] (fun vi wr => RiL w1 w.heap.size c (fun i => el s (ixW W (i / 4) (i % 4))) vi wr) (fun vi _ => 4 - (intOf vi).toNat)
      case atStart => exact H0.out
      case round =>
        obtain ⟨r, hr, rfl, hL, hB⟩ := hrel
        clear H0
        by_cases hr4 : r < 4
        · have hri : (r : Int) < 4 := by omega
          obtain ⟨q, hq⟩ : ∃ z : Int, z = W * (r : Int) := ⟨_, rfl⟩
          have hq2 : q = (r : Int) ∨ q = - (r : Int) := by rcases hW with h | h <;> subst h <;> omega
          obtain ⟨m, hm⟩ := Int.eq_ofNat_of_zero_le (show 0 ≤ (c : Int) + q + 4 by omega)
          obtain ⟨p2, hp2⟩ : ∃ z : Int, z = (c : Int) + q := ⟨_, rfl⟩
          obtain ⟨z, hz⟩ : ∃ z : Nat, z = m % 4 := ⟨_, rfl⟩
          obtain ⟨y, hy⟩ : ∃ x : Nat, x = 4 * z := ⟨_, rfl⟩
          obtain ⟨ix, hix⟩ : ∃ x : Nat, x = y + r := ⟨_, rfl⟩
          obtain ⟨d, hd⟩ : ∃ x : Nat, x = 4 * c := ⟨_, rfl⟩
          obtain ⟨o, ho⟩ : ∃ x : Nat, x = d + r := ⟨_, rfl⟩
          have hfo : (fun i => el s (ixW W (i / 4) (i % 4))) o = el s ix := by
            show el s (ixW W (o / 4) (o % 4)) = el s ix
            congr 1
            unfold ixW
            rw [show o / 4 = c by omega, show o % 4 = r by omega, ← hq, hm]
            omega
          have lix : ix < 16 := by omega
          have lo : o < 16 := by omega
          have eo : 4 * c + r = o := by omega
          have eo1 : 4 * c + (r + 1) = o + 1 := by omega
          rw [eo] at hL
          have hst := hL.set o ((fun i => el s (ixW W (i / 4) (i % 4))) o)
          rw [fill16_set _ lo, hfo] at hst
          have c1 := But.cell (HC1.out ix lix) hB (by show sb ≠ w.heap.size; omega)
          have c3 := hL.cell (i := o) (by rw [fill16_len]; exact lo)
          have c4 := hL.frozen o
          have e_q : W * (r : Int) = q := hq.symm
          have s_q : IntKind.i64.wrap q = q := by rw [IntKind.wrap_i64]; omega
          have e_p : (c : Int) + q = p2 := hp2.symm
          have s_p : IntKind.i64.wrap p2 = p2 := by rw [IntKind.wrap_i64]; omega
          have e_m : p2 + 4 = (m : Int) := by omega
          have s_m : IntKind.i64.wrap (m : Int) = (m : Int) := by rw [IntKind.wrap_i64]; omega
          have e_z : (m : Int) % 4 = (z : Int) := by omega
          have t_z : (m : Int).tmod 4 = (z : Int) := by rw [Int.tmod_eq_emod_of_nonneg (by omega)]; exact e_z
          have s_z : IntKind.i64.wrap (z : Int) = (z : Int) := by rw [IntKind.wrap_i64]; omega
          have e_y : 4 * (z : Int) = (y : Int) := by omega
          have s_y : IntKind.i64.wrap (y : Int) = (y : Int) := by rw [IntKind.wrap_i64]; omega
          have e_ix : (y : Int) + (r : Int) = (ix : Int) := by omega
          have s_ix : IntKind.i64.wrap (ix : Int) = (ix : Int) := by rw [IntKind.wrap_i64]; omega
          have e_d : 4 * (c : Int) = (d : Int) := by omega
          have s_d : IntKind.i64.wrap (d : Int) = (d : Int) := by rw [IntKind.wrap_i64]; omega
          have e_o : (d : Int) + (r : Int) = (o : Int) := by omega
          have s_o : IntKind.i64.wrap (o : Int) = (o : Int) := by rw [IntKind.wrap_i64]; omega
          have lixi : (ix : Int) < 16 := by omega
          have loi : (o : Int) < 16 := by omega
          have HST := hide hst
          have HEO := hide eo1
          clear hq hq2 hm hp2 hz hy hix hd ho hfo eo eo1 hst hL
          generalize el s ix = u at *
          go_wp2
          exact ⟨⟨r + 1, by omega, by go_num, by rw [HEO.out]; exact HST.out, hB.setCell o _⟩, by simp [intOf]; omega⟩
        · obtain rfl : r = 4 := by omega
          go_wp2
          exact ⟨⟨c + 1, by omega, by go_num, by rw [show 4 * (c + 1) = 4 * c + 4 by omega]; exact hL, hB⟩, by simp [intOf]; omega⟩
    · obtain rfl : c = 4 := by omega
      rw [show 4 * 4 = 16 from rfl, fill16_all] at hL
      go_wp2
      go_ret
      have hbx : B16 (of16 fun i => el s (ixW W (i / 4) (i % 4))) := of16_b fun i _ => hs.el _
      exact ⟨_, rfl, ⟨by rw [of16_len]; exact own_lies hL (Nat.le_refl _) (of16_len _) (by unfold maxLen; decide), hbx.2⟩, hb1.trans (hB.below (Nat.le_refl _) hb1.size)⟩
end Go.Proofs.Ytjeofkemfpdieaa
