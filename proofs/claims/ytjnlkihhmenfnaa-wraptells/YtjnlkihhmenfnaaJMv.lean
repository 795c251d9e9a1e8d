/- The code's moved. -/
import Derived.Test.YtjnlkihhmenfnaaJXo
import Derived.Test.YtjnlkihhmenfnaaAEch
import Derived.Deep.AppendLies
import Derived.Laws.AppendOwnNone
import Derived.ArgAppend
namespace Go.Proofs.Ytjnlkihhmenfnaa
open Go.RowKit
set_option linter.unusedVariables false
set_option linter.unusedSimpArgs false

/-- a column of bytes taken from four -/
def mvF (T s : List Nat) (B n : Nat) : Nat := wd (el T (el s (4 * n))) (el T (el s (4 * ((n + B) % 4) + 1))) (el T (el s (4 * ((n + 2 * B) % 4) + 2))) (el T (el s (4 * ((n + 3 * B) % 4) + 3)))
theorem mv_left {T s : List Nat} : upd (mvF T s 1) (zA 4) 4 = sw (rowsL (eachL T s)) := upd_sw (zA_len 4) fun i hi => by rw [col_left hi]; rfl
theorem mv_right {T s : List Nat} : upd (mvF T s 3) (zA 4) 4 = sw (eachL T (rowsR s)) := upd_sw (zA_len 4) fun i hi => by rw [col_right hi]; rfl
/-- what holds while a column is made -/
def MvS (H : Nat) (U : List Nat) (n : Nat) (wr y : World) : Prop := LiesX .u32 58 y (H + 1) U n ∧ But (H + 1) wr y
set_option maxHeartbeats 4000000 in
set_option maxRecDepth 100000 in
theorem moved_any (g o : Nat) (T s : List Nat) (B : Nat) (w : World) (hB3z : B ≤ 3) (hs : B16 s) (hT : Under 256 T) (hw : Tab w g o T) (hgw : g < w.heap.size) :
    Calls Try.prog 58 #[.agg (arr .u32 (sw s)), .pointer (some ⟨g, o, none⟩), .int .i64 (B : Int)] w fun e w' => e = .returned (.agg (arr .u32 (upd (mvF T s B) (zA 4) 4))) ∧ Below w.heap.size w w' := by
  have hz := zero4
  have L0 := (Lies.new .u32 58 w (sw s)).alloc (.cells (arr .u32 (zA 4)) 58)
  have L2 := Lies.new .u32 58 (w.alloc (.cells (arr .u32 (sw s)) 58)) (zA 4)
  have hb0 := keep_trans (keep_alloc w (.cells (arr .u32 (sw s)) 58)) (keep_alloc _ (.cells (arr .u32 (zA 4)) 58))
  simp only [World.size_alloc, Nat.add_assoc, Nat.reduceAdd] at L2
  have T0 := hw.below hb0
  have lA := sw_len s
  have eA := fun k => sw_el s (c := k)
  have uA := col_lt hs.2
  have HE := hide (And.intro eA (And.intro uA lA))
  clear eA uA lA hw
  generalize sw s = A at *
  go_enter Try.func58, Try.ntmps58
  go_wp2
  clear hz
  generalize (w.alloc (.cells (arr .u32 A) 58)).alloc (.cells (arr .u32 (zA 4)) 58) = x1 at *
  go_loopw [8] (fun i wr => ∃ n : Nat, n ≤ 4 ∧ i = .int .i64 n ∧ Lies .u32 58 wr (w.heap.size + 1) (upd (mvF T s B) (zA 4) n) ∧ But (w.heap.size + 1) x1 wr) (fun i _ => 4 - (intOf i).toNat)
  case atStart => exact ⟨0, Nat.zero_le _, rfl, L2, But.refl _ _⟩
  case round =>
    obtain ⟨n, hn, rfl, hU, hB⟩ := hrel
    by_cases hlt : n < 4
    · obtain ⟨eA, uA, lA⟩ := HE.out
      have h0 := L0.but hB (by omega)
      have T1 : Tab wr.drew g o T := fun c hc => But.cell (T0 c hc) hB.drew (by show g ≠ _; omega)
      obtain ⟨B1, hB1⟩ : ∃ x : Nat, x = B := ⟨_, rfl⟩
      obtain ⟨q1, hq1⟩ : ∃ x : Nat, x = n + B1 := ⟨_, rfl⟩
      have eq1 : (n : Int) + (B : Int) = (q1 : Int) := by omega
      have sq1 : IntKind.i64.wrap (q1 : Int) = (q1 : Int) := by rw [IntKind.wrap_i64]; omega
      obtain ⟨n1, hn1⟩ : ∃ x : Nat, x = q1 % 4 := ⟨_, rfl⟩
      have en1 : (q1 : Int) % 4 = (n1 : Int) := by omega
      have tn1 : (q1 : Int).tmod 4 = (n1 : Int) := by rw [Int.tmod_eq_emod_of_nonneg (by omega)]; exact en1
      have ln1 : n1 < 4 := by omega
      have lz1 : (0 : Int) ≤ (n1 : Int) := Int.natCast_nonneg _
      have li1 : (n1 : Int) < 4 := by omega
      have c1 := h0.cell (i := n1) (by rw [lA]; exact ln1)
      rw [eA n1 ln1] at c1
      obtain ⟨B2, hB2⟩ : ∃ x : Nat, x = 2 * B := ⟨_, rfl⟩
      have eB2 : 2 * (B : Int) = (B2 : Int) := by omega
      have sB2 : IntKind.i64.wrap (B2 : Int) = (B2 : Int) := by rw [IntKind.wrap_i64]; omega
      obtain ⟨q2, hq2⟩ : ∃ x : Nat, x = n + B2 := ⟨_, rfl⟩
      have eq2 : (n : Int) + (B2 : Int) = (q2 : Int) := by omega
      have sq2 : IntKind.i64.wrap (q2 : Int) = (q2 : Int) := by rw [IntKind.wrap_i64]; omega
      obtain ⟨n2, hn2⟩ : ∃ x : Nat, x = q2 % 4 := ⟨_, rfl⟩
      have en2 : (q2 : Int) % 4 = (n2 : Int) := by omega
      have tn2 : (q2 : Int).tmod 4 = (n2 : Int) := by rw [Int.tmod_eq_emod_of_nonneg (by omega)]; exact en2
      have ln2 : n2 < 4 := by omega
      have lz2 : (0 : Int) ≤ (n2 : Int) := Int.natCast_nonneg _
      have li2 : (n2 : Int) < 4 := by omega
      have c2 := h0.cell (i := n2) (by rw [lA]; exact ln2)
      rw [eA n2 ln2] at c2
      obtain ⟨B3, hB3'⟩ : ∃ x : Nat, x = 3 * B := ⟨_, rfl⟩
      have eB3 : 3 * (B : Int) = (B3 : Int) := by omega
      have sB3 : IntKind.i64.wrap (B3 : Int) = (B3 : Int) := by rw [IntKind.wrap_i64]; omega
      obtain ⟨q3, hq3⟩ : ∃ x : Nat, x = n + B3 := ⟨_, rfl⟩
      have eq3 : (n : Int) + (B3 : Int) = (q3 : Int) := by omega
      have sq3 : IntKind.i64.wrap (q3 : Int) = (q3 : Int) := by rw [IntKind.wrap_i64]; omega
      obtain ⟨n3, hn3⟩ : ∃ x : Nat, x = q3 % 4 := ⟨_, rfl⟩
      have en3 : (q3 : Int) % 4 = (n3 : Int) := by omega
      have tn3 : (q3 : Int).tmod 4 = (n3 : Int) := by rw [Int.tmod_eq_emod_of_nonneg (by omega)]; exact en3
      have ln3 : n3 < 4 := by omega
      have lz3 : (0 : Int) ≤ (n3 : Int) := Int.natCast_nonneg _
      have li3 : (n3 : Int) < 4 := by omega
      have c3 := h0.cell (i := n3) (by rw [lA]; exact ln3)
      rw [eA n3 ln3] at c3
      have c0 := h0.cell (i := n) (by rw [lA]; exact hlt)
      rw [eA n hlt] at c0
      have hV : mvF T s B n = wd (el T (el s (4 * n))) (el T (el s (4 * n1 + 1))) (el T (el s (4 * n2 + 2))) (el T (el s (4 * n3 + 3))) := by
        rw [hn1, hn2, hn3, hq1, hq2, hq3, hB1, hB2, hB3']; rfl
      have e := fun i => hs.el i
      have hcall := gath_any g o T (col s n) (col s n1) (col s n2) (col s n3) (el s (4 * n)) (el s (4 * n1 + 1)) (el s (4 * n2 + 2)) (el s (4 * n3 + 3)) hT (uA _) (uA _) (uA _) (uA _) (wd_0 (e _) (e _) (e _) (e _)) (wd_1 (e _) (e _) (e _) (e _)) (wd_2 (e _) (e _) (e _) (e _)) (wd_3 (e _) (e _) (e _) (e _)) wr.drew T1
      rw [← hV] at hcall
      have hlu : (upd (mvF T s B) (zA 4) n).length = 4 := by rw [upd_len, zA_len]
      have hst : ∀ y, Lies .u32 58 y (w.heap.size + 1) (upd (mvF T s B) (zA 4) n) → Lies .u32 58 (y.setCell ⟨w.heap.size + 1, n, none⟩ (.int .u32 (mvF T s B n : Nat))) (w.heap.size + 1) (upd (mvF T s B) (zA 4) (n + 1)) := fun y hy => hy.set n _
      have HST := hide hst
      clear hst hV e eA uA lA hq1 hq2 hq3 hn1 hn2 hn3 hB1 hB2 hB3'
      have i0 : (0 : Int) ≤ (n : Int) := Int.natCast_nonneg _
      have i1 : (n : Int) < 4 := by omega
      generalize upd (mvF T s B) (zA 4) n = U at *
      generalize mvF T s B n = V at *
      generalize col s n = W0 at *
      generalize col s n1 = W1 at *
      generalize col s n2 = W2 at *
      generalize col s n3 = W3 at *
      have HX := hide (hU.toX (T := n) (by rw [hlu]; exact hlt))
      have hmk : ∀ y, MvS w.heap.size U n wr y → y.cell? ⟨w.heap.size, n, none⟩ = some (.int .u32 (W0 : Int)) ∧ y.cell? ⟨w.heap.size, n1, none⟩ = some (.int .u32 (W1 : Int)) ∧ y.cell? ⟨w.heap.size, n2, none⟩ = some (.int .u32 (W2 : Int)) ∧ y.cell? ⟨w.heap.size, n3, none⟩ = some (.int .u32 (W3 : Int)) ∧ y.cell? ⟨w.heap.size + 1, n, none⟩ = some (rdc y ⟨w.heap.size + 1, n, none⟩) ∧ y.frozen? ⟨w.heap.size + 1, n, none⟩ = false ∧ MvS w.heap.size U n wr y := fun y hy =>
        ⟨But.cell c0 hy.2 (by show w.heap.size ≠ _; omega), But.cell c1 hy.2 (by show w.heap.size ≠ _; omega), But.cell c2 hy.2 (by show w.heap.size ≠ _; omega), But.cell c3 hy.2 (by show w.heap.size ≠ _; omega), hy.1.here (by rw [hlu]; exact hlt), hy.1.frozen n, hy⟩
      have HMK := hide hmk
      have HU := hide (And.intro hU hB)
      clear hmk hU hlu c0 c1 c2 c3 T1 h0
      go_wp2
      go_region_held3 (fun y => y.cell? ⟨w.heap.size, n, none⟩ = some (.int .u32 (W0 : Int)) ∧ y.cell? ⟨w.heap.size, n1, none⟩ = some (.int .u32 (W1 : Int)) ∧ y.cell? ⟨w.heap.size, n2, none⟩ = some (.int .u32 (W2 : Int)) ∧ y.cell? ⟨w.heap.size, n3, none⟩ = some (.int .u32 (W3 : Int)) ∧ y.cell? ⟨w.heap.size + 1, n, none⟩ = some (rdc y ⟨w.heap.size + 1, n, none⟩) ∧ y.frozen? ⟨w.heap.size + 1, n, none⟩ = false ∧ MvS w.heap.size U n wr y)
        (first
          | exact HMK.out _ ⟨HX.out, But.refl _ _⟩
          | exact HMK.out _ ⟨HX.out, (But.refl _ _).drew⟩
          | (exact HMK.out _ ⟨LiesX.below (w := wr.drew) HX.out hb7, But.trans (But.refl _ _).drew (But.of_below hb7)⟩)
          | (exact HMK.out _ ⟨LiesX.set (LiesX.below (w := wr.drew) HX.out hb7) _, But.setCell (But.trans (But.refl _ _).drew (But.of_below hb7)) _ _⟩))
        (first
          | (go_at_call 74; refine hcall.mono ?_; rintro e w7 ⟨rfl, hb7⟩))
      go_wp2_with fail
      obtain ⟨hU, hB⟩ := HU.out
      have hU7 : Lies .u32 58 w7 (w.heap.size + 1) U := Lies.below (w := wr.drew) hU hb7
      exact ⟨⟨n + 1, by omega, by go_num, HST.out _ hU7, (hB.trans (But.trans (But.refl _ _).drew (But.of_below hb7))).setCell n _⟩, by simp [intOf]; omega⟩
    · obtain rfl : n = 4 := by omega
      have hsl : (upd (mvF T s B) (zA 4) 4).length = 4 := by rw [upd_len, zA_len]
      have hbr := hb0.trans (hB.below (by omega) hb0.size)
      generalize hX : upd (mvF T s B) (zA 4) 4 = X at hU hsl
      have HX := hide hX
      clear hX
      have hOf : Lies .u32 58 (wr.setRow (w.heap.size + 1) (arr .u32 X)) (w.heap.size + 1) X := hU.row
      have hbf := hbr.trans ((But.setRow (But.refl (w.heap.size + 1) _) (arr .u32 X)).below (by omega) hbr.size)
      go_wp2_with (first
        | (refine wpList_load_row rfl 58 _ (by rfl) (w.heap.size + 1) (by rfl) _ _ _ (.array 4 56) hU (by kernel_rfl) rfl (by rw [arr_size, hsl]; kernel_rfl) ?_)
        | (refine wpList_store_row rfl 58 _ _ (by rfl) (w.heap.size + 1) (arr .u32 X) (by rfl) (by rfl) _ _ hU (by rw [arr_size, hsl]; kernel_rfl) rfl (arr_one _ _) ?_)
        | fail)
      refine bodyPost_ret (v := .agg (arr .u32 X)) ?_ rfl ⟨by rw [HX.out], hbf⟩
      exact results_cell_row Try.results58 _ _ (w.heap.size + 1) _ _ _ (.array 4 56) (by rfl) hOf (by kernel_rfl) rfl (by rw [arr_size, hsl]; kernel_rfl)
end Go.Proofs.Ytjnlkihhmenfnaa

/- append of whatever row, apart from mac's. -/
namespace Go.Proofs.Ytjnlkihhmenfnaa
open Go.RowKit
set_option linter.unusedVariables false
set_option linter.unusedSimpArgs false

theorem tidy_atA (x : Addr) (n c : Nat) : Tidy (.slice (some x) n c) := fun n c he => by simp at he
theorem own_belowA {w w' : World} {base : Nat} {e : TypeId} {size : Nat} {v : Value} {n : Nat} {xs : List Value} (h : w.ownsRow base e size v n xs) (hb : Below w.heap.size w w') : w'.ownsRow base e size v n xs := by
  obtain ⟨h1, h2⟩ := h
  refine ⟨h1, ?_⟩
  rcases h2 with h2 | ⟨g, cap, cur, rfl, h3, h4, h5⟩
  · exact .inl h2
  · refine .inr ⟨g, cap, cur, rfl, h3, ?_, h5⟩
    rw [hb.block g (by
      rcases Nat.lt_or_ge g w.heap.size with hlt | hge
      · exact hlt
      · rw [Array.getElem?_eq_none hge] at h4; cases h4)]
    exact h4
theorem own_sliceA {w : World} {base : Nat} {e : TypeId} {v : Value} {n : Nat} {xs : List Value} (h : w.ownsRow base e 1 v n xs) : ∃ a c, v = .slice a n c := by
  obtain ⟨_, ⟨rfl, h0⟩ | ⟨g, cap, cur, rfl, _⟩⟩ := h
  · exact ⟨none, 0, by rw [h0]⟩
  · exact ⟨_, _, rfl⟩
theorem row_tidyA {k : IntKind} {m : Nat} {w : World} {v : Value} {l : List Nat} (h : Row k m w v l) (hl : 0 < l.length) : Tidy v := by
  obtain ⟨a, c, rfl, _, _, h3, _⟩ := h
  obtain ⟨b, off, rfl, _⟩ := h3 hl
  exact tidy_atA _ _ _
/-- append of whatever row onto one of the call's own -/
theorem wpList_appA {w : World} {ops : Array Oper} {rest : List Oper} {o : Oper} {a : Act} {Q : Exit → Act → World → Prop} (hgd : o.guard = none) (s x : Operand) (ho : o.op = .call { callee := .builtin .append, args := #[s, x], argTypes := #[22, 22] })
    (base : Nat) (v bv : Value) (n : Nat) (l b : List Nat) (hs : a.eval s = v) (hown : w.ownsRow base 5 1 v n (vals .u8 l)) (hx : a.eval x = bv) (rb : Row .u8 256 w bv b) (tb : Tidy bv) (hn : n ≤ 1000000) (hb : b.length ≤ 1000000) (hbase : base ≤ w.heap.size)
    (h : ∀ v' w', w'.ownsRow base 5 1 v' (n + b.length) (vals .u8 (l ++ b)) → w.grownBy w' v.ownBlock → wpList Try.prog ops Q rest (a.put o.dst v') w') : wpList Try.prog ops Q (o :: rest) a w := by
  obtain ⟨i0, hi, hz0, hz1, hz2⟩ := info_parts Try.info5
  obtain ⟨ba, bc, rfl, h1, h2, h3, h4⟩ := rb
  cases ba with
  | none =>
    obtain ⟨h0, rfl⟩ := tb _ _ rfl
    obtain rfl := List.eq_nil_of_length_eq_zero h0
    refine wpList_append_own_none hgd s x 22 ho base 5 i0 1 Try.underlying22 hi _ _ _ hs hown hx ?_
    exact h v w (by rw [List.append_nil]; exact hown) ⟨rfl, rfl, rfl, Nat.le_refl _, fun _ _ _ => rfl⟩
  | some y =>
    refine wpList_append_own _ hgd s x 22 ho base 5 i0 (.int .u8 0) 1 1 Try.underlying22 hi hz0 hz1 hz2 rfl (by decide) _ _ _ hs hown y b.length bc (vals .u8 b) hx (by rw [vals_length, Nat.mul_one]) (cells_news h3) (vals_one _ _) (by unfold maxLen; omega) (by omega) hbase ?_
    intro v' w3 how' hgrow _
    exact h v' w3 (by rw [vals_append]; exact how') hgrow
/-- a row of the call's own that is not empty -/
theorem own_at {w : World} {base : Nat} {e : TypeId} {v : Value} {n : Nat} {k : IntKind} {l : List Nat} (h : w.ownsRow base e 1 v n (vals k l)) (hn : 0 < n) (hl : l.length = n) :
    ∃ g c, v = .slice (some ⟨g, 0, none⟩) n c ∧ base ≤ g ∧ g < w.heap.size ∧ n ≤ c ∧ c ≤ maxLen ∧ ∀ i, i < n → w.cell? ⟨g, i, none⟩ = some (.int k (el l i : Nat)) := by
  have h' := h
  obtain ⟨_, ⟨_, h0⟩ | ⟨g, cap, cur, rfl, h1, h2, h3, h4, _⟩⟩ := h
  · omega
  · refine ⟨g, cap, rfl, h1, (h'.lt g (by simp [Value.ownBlock])).2, h3, h4, fun i hi => ?_⟩
    rw [h'.cellAt i (by rw [Nat.mul_one]; exact hi), vals_get k l i (by omega)]
theorem run_append_keepsA {P : Program} (w : World) (t ty : TypeId) (base : Nat) (e : TypeId) (i : TypeInfo) (z : Value) (bytes : Nat) (ht : P.underlying t = some (.slice e)) (hi : P.info? e = some i) (hz : i.zero = some z)
    (hsize : i.size = 1) (hby : i.bytes = bytes) (hzs : z.cells.size = 1)
    (g0 n cap0 : Nat) (xs : List Value) (hown : w.ownsRow base e 1 (.slice (some ⟨g0, 0, none⟩) n cap0) n xs)
    (ad : Addr) (m c : Nat) (news : List Value) (hl : news.length = m) (hnews : ∀ j u, news[j]? = some u → w.cell? (ad.add j) = some u) (h1 : ∀ u ∈ news, u.oneCell' = true)
    (hm : 0 < m) (h63 : n + m ≤ maxLen) (hbytes : (n + m) * bytes ≤ 140737488355328) (hbase : base ≤ w.heap.size) :
    ∃ g cap w', (Builtin.append_ #[t, t] ty #[.slice (some ⟨g0, 0, none⟩) n cap0, .slice (some ad) m c]).run P w = .ok (.slice (some ⟨g, 0, none⟩) (n + m) cap) w' ∧
      w'.ownsRow base e 1 (.slice (some ⟨g, 0, none⟩) (n + m) cap) (n + m) (xs ++ news) ∧ w.grownBy w' (some g0) ∧ (g0 = g ∨ g = w.heap.size) ∧ ∀ j, j < n → w'.cell? ⟨g0, j, none⟩ = w.cell? ⟨g0, j, none⟩ := by
  obtain ⟨g, cap, w', hr, h2, h3, h4, h5⟩ := run_append_lies (P := P) w t ty base e i z 1 bytes ht hi hz hsize hby hzs (by decide) _ n xs hown ad m c news (by rw [hl, Nat.mul_one]) hnews h1 hm h63 hbytes hbase _ rfl
  refine ⟨g, cap, w', hr, h2, h3, h4.imp (fun h => by simpa [Value.ownBlock] using h) id, fun j hj => ?_⟩
  have hown' := hown
  obtain ⟨hlen, ⟨he, _⟩ | ⟨q, cq, cur, he, hB, hg, hn, hc, hcs, htk⟩⟩ := hown
  · cases he
  · obtain ⟨rfl, rfl⟩ : g0 = q ∧ cap0 = cq := by simpa using he
    by_cases hroom : n + m ≤ cap0
    · have hrr := run_append_room_cells (P := P) w t ty e i ht hi g0 0 n cap0 ad m c news (by rw [hl, hsize, Nat.mul_one]) hnews h1 hroom
        (fun j hj => by rw [cell_of_row w g0 _ cur e (0, 0) hg, hsize]; simp; omega)
        (fun j hj => by simp [World.frozen?, hg])
      rw [hr] at hrr
      obtain rfl : w' = w.setCells g0 (0 + n * i.size) news := (Result.ok.inj hrr).2
      exact World.cell?_setCells_out g0 news _ w ⟨g0, j, none⟩ (fun _ _ => .inl (by show j < 0 + n * i.size; rw [hsize]; omega))
    · obtain ⟨v2, w2, hr2, _, hg2⟩ := run_append_arg_grows (P := P) w t ty e i z 1 bytes ht hi hz hsize hby hzs (by decide) ⟨g0, 0, none⟩ n cap0 xs hlen
        (fun j u hu => by
          have hjx : j < xs.length := (List.getElem?_eq_some_iff.1 hu).1
          rw [Addr.add_lit, Nat.zero_add, hown'.cellAt j (by omega)]; exact hu) ad m c news (by rw [hl, Nat.mul_one]) hnews (by omega) h63 hbytes
      rw [hr] at hr2
      obtain rfl : w' = w2 := (Result.ok.inj hr2).2
      exact World.cell?_of_block (hg2.block g0 (by rcases Nat.lt_or_ge g0 w.heap.size with h' | h'
                                                   · exact h'
                                                   · rw [Array.getElem?_eq_none h'] at hg; cases hg) (by simp))

theorem step_append_keepsA {P : Program} {w : World} {ops : Array Oper} {o : Oper} {a : Act} {K : Act → World → Prop} {Q : Exit → Act → World → Prop} {E : Prop} (hgd : o.guard = none) (s x : Operand) (t : TypeId)
    (ho : o.op = .call { callee := .builtin .append, args := #[s, x], argTypes := #[t, t] })
    (base : Nat) (e : TypeId) (i : TypeInfo) (z : Value) (bytes : Nat) (ht : P.underlying t = some (.slice e)) (hi : P.info? e = some i) (hz : i.zero = some z)
    (hsize : i.size = 1) (hby : i.bytes = bytes) (hzs : z.cells.size = 1)
    (g0 n cap0 : Nat) (xs : List Value) (hs : a.eval s = .slice (some ⟨g0, 0, none⟩) n cap0) (hown : w.ownsRow base e 1 (.slice (some ⟨g0, 0, none⟩) n cap0) n xs)
    (ad : Addr) (m c : Nat) (news : List Value) (hx : a.eval x = .slice (some ad) m c) (hl : news.length = m) (hnews : ∀ j u, news[j]? = some u → w.cell? (ad.add j) = some u) (h1 : ∀ u ∈ news, u.oneCell' = true)
    (hm : 0 < m) (h63 : n + m ≤ maxLen) (hbytes : (n + m) * bytes ≤ 140737488355328) (hbase : base ≤ w.heap.size)
    (h : ∀ g cap w', w'.ownsRow base e 1 (.slice (some ⟨g, 0, none⟩) (n + m) cap) (n + m) (xs ++ news) → w.grownBy w' (some g0) → (g0 = g ∨ g = w.heap.size) → (∀ j, j < n → w'.cell? ⟨g0, j, none⟩ = w.cell? ⟨g0, j, none⟩) → K (a.put o.dst (.slice (some ⟨g, 0, none⟩) (n + m) cap)) w') :
    if Region.wanted o (yielded ops a.tmps) = true then Oper.wp P o a w K Q else E := by
  have hw : Region.wanted o (yielded ops a.tmps) = true := by simp [Region.wanted, hgd]
  rw [if_pos hw]
  obtain ⟨g, cap, w', hr, h2, h3, h4, h5⟩ := run_append_keepsA (P := P) w t o.type base e i z bytes ht hi hz hsize hby hzs g0 n cap0 xs hown ad m c news hl hnews h1 hm h63 hbytes hbase
  unfold Oper.wp execOp
  simp only [ho, resolve, invoke, builtin, Sem.run_bind, Sem.run_pure, Result.andThen_ok, List.map_toArray, List.map_cons, List.map_nil, hs, hx, hr]
  exact h g cap w' h2 h3 h4 h5
end Go.Proofs.Ytjnlkihhmenfnaa
