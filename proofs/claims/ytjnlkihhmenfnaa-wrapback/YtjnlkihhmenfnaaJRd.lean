/- The code's read, onto. -/
import Derived.Test.YtjnlkihhmenfnaaJXo
import Derived.Test.YtjnlkihhmenfnaaJMv
import Derived.Test.YtjnlkihhmenfnaaLe
import Derived.Test.YtjnlkihhmenfnaaAEch
namespace Go.Proofs.Ytjnlkihhmenfnaa
open Go.RowKit
set_option linter.unusedVariables false
set_option linter.unusedSimpArgs false

theorem num_4 (a b c d : Nat) (ha : a < 256) (hb : b < 256) (hc : c < 256) (hd : d < 256) : numL [a, b, c, d] = wd a b c d := by
  unfold numL wd
  simp only [List.foldl_cons, List.foldl_nil]
  omega
theorem num_col {s : List Nat} {i : Nat} (hs : Under 256 s) (h : 4 * i + 4 ≤ s.length) : numL ((s.drop (4 * i)).take 4) = col s i := by
  have e : (s.drop (4 * i)).take 4 = [el s (4 * i), el s (4 * i + 1), el s (4 * i + 2), el s (4 * i + 3)] := by
    rw [drop_el (by omega), drop_el (by omega), drop_el (by omega), drop_el (by omega)]
    rfl
  rw [e, num_4 _ _ _ _ (el_lt hs (by decide) _) (el_lt hs (by decide) _) (el_lt hs (by decide) _) (el_lt hs (by decide) _)]
  rfl
/-- the number of four bytes of a text -/
theorem num_part {w : World} {b o n c : Nat} {l : List Nat} (h : Row .u8 256 w (.slice (some ⟨b, o, none⟩) n c) l) {i P Q : Nat} (hP : P = 4 * i) (hQ : Q = P + 4) (hl : 4 * i + 4 ≤ l.length) :
    Calls Try.prog 53 #[.slice (some ⟨b, o + P, none⟩) 4 (c - P)] w fun e w' => e = .returned (.int .u64 (col l i : Nat)) ∧ w' = w := by
  have hm := h.mid (i := P) (j := Q) (by omega) (by omega)
  rw [show Q - P = 4 by omega] at hm
  have := num_any _ _ w hm
  rw [hP, num_col h.under hl] at this
  rw [hP]
  exact this
set_option maxHeartbeats 4000000 in
set_option maxRecDepth 100000 in
theorem read_any (bv : Value) (s : List Nat) (w : World) (hs : s.length = 16) (rs : Row .u8 256 w bv s) :
    Calls Try.prog 36 #[bv] w fun e w' => e = .returned (.agg (arr .u32 (sw s))) ∧ Below w.heap.size w w' := by
  have hz := zero4
  have L0 := Lies.new .u32 58 w (zA 4)
  have hb0 := keep_alloc w (.cells (arr .u32 (zA 4)) 58)
  have hu := rs.under
  obtain ⟨sa, sc, rfl, g1, g2, g3⟩ := rs.opens hs
  obtain ⟨sb, so, rfl, hc⟩ := g3 (by decide)
  have hsb : sb < w.heap.size := World.block_lt_of_cell? _ _ (hc 0 (by decide))
  have rs0 := rs.below hb0
  have hfin : upd (fun i => col s i) (zA 4) 4 = sw s := upd_sw (zA_len 4) fun i hi => rfl
  have HF := hide hfin
  clear hfin hc g3
  go_enter Try.func36, Try.ntmps36
  go_wp2
  clear hz
  generalize w.alloc (.cells (arr .u32 (zA 4)) 58) = x1 at *
  go_loopw [4] (fun i wr => ∃ n : Nat, n ≤ 4 ∧ i = .int .i64 n ∧ Lies .u32 58 wr w.heap.size (upd (fun i => col s i) (zA 4) n) ∧ But w.heap.size x1 wr) (fun i _ => 4 - (intOf i).toNat)
  case atStart => exact ⟨0, Nat.zero_le _, rfl, L0, But.refl _ _⟩
  case round =>
    obtain ⟨n, hn, rfl, hA, hB⟩ := hrel
    by_cases hlt : n < 4
    · have rs1 := rs0.but (fun _ q hq => by simp [Value.ownBlock] at hq; omega) hB
      obtain ⟨P, hP⟩ : ∃ x : Nat, x = 4 * n := ⟨_, rfl⟩
      obtain ⟨Q, hQ⟩ : ∃ x : Nat, x = P + 4 := ⟨_, rfl⟩
      have hnum := num_part rs1 hP hQ (by omega)
      have e_P : 4 * (n : Int) = (P : Int) := by omega
      have s_P : IntKind.i64.wrap (P : Int) = (P : Int) := by rw [IntKind.wrap_i64]; omega
      have e_Q : (P : Int) + 4 = (Q : Int) := by omega
      have s_Q : IntKind.i64.wrap (Q : Int) = (Q : Int) := by rw [IntKind.wrap_i64]; omega
      have l_PQ : (P : Int) ≤ (Q : Int) := by omega
      have l_Qc : (Q : Int) ≤ (sc : Int) := by omega
      have d_QP : Q - P = 4 := by omega
      have f1 := hA.frozen n
      have c1 := hA.cell (i := n) (by rw [upd_len, zA_len]; exact hlt)
      have hst : ∀ y, Lies .u32 58 y w.heap.size (upd (fun i => col s i) (zA 4) n) → Lies .u32 58 (y.setCell ⟨w.heap.size, n, none⟩ (.int .u32 (col s n : Nat))) w.heap.size (upd (fun i => col s i) (zA 4) (n + 1)) := fun y hy => hy.set n _
      have HST := hide hst
      have hcl := col_lt hu n
      have s_W : IntKind.u32.wrap (col s n : Int) = (col s n : Int) := by rw [IntKind.wrap_u32]; omega
      have m_W : (col s n : Int) % 4294967296 = (col s n : Int) := by omega
      have i1 : (n : Int) < 4 := by omega
      clear hst hP hQ
      generalize col s n = W at *
      go_wp2_with (first | (go_at_call 53; refine hnum.mono ?_; rintro e y ⟨rfl, hy⟩; obtain rfl := hy.symm) | fail)
      exact ⟨⟨n + 1, by omega, by go_num, HST.out _ hA, hB.setCell n _⟩, by simp [intOf]; omega⟩
    · obtain rfl : n = 4 := by omega
      rw [HF.out] at hA
      have hsl : (sw s).length = 4 := rfl
      have hbr := hb0.trans (hB.below (by omega) hb0.size)
      generalize hX : sw s = X at hA hsl
      have HX := hide hX
      clear hX HF
      have hOf : Lies .u32 58 (wr.setRow w.heap.size (arr .u32 X)) w.heap.size X := hA.row
      have hbf := hbr.trans ((But.setRow (But.refl w.heap.size _) (arr .u32 X)).below (by omega) hbr.size)
      go_wp2_with (first
        | (refine wpList_load_row rfl 58 _ (by rfl) w.heap.size (by rfl) _ _ _ (.array 4 56) hA (by kernel_rfl) rfl (by rw [arr_size, hsl]; kernel_rfl) ?_)
        | (refine wpList_store_row rfl 58 _ _ (by rfl) w.heap.size (arr .u32 X) (by rfl) (by rfl) _ _ hA (by rw [arr_size, hsl]; kernel_rfl) rfl (arr_one _ _) ?_)
        | fail)
      refine bodyPost_ret (v := .agg (arr .u32 X)) ?_ rfl ⟨by rw [HX.out], hbf⟩
      exact results_cell_row Try.results36 _ _ w.heap.size _ _ _ (.array 4 56) (by rfl) hOf (by kernel_rfl) rfl (by rw [arr_size, hsl]; kernel_rfl)
theorem cells_newsA {w : World} {y : Addr} {n c : Nat} {l : List Nat} (h : Row .u8 256 w (.slice (some y) n c) l) : ∀ j u, (vals .u8 l)[j]? = some u → w.cell? (y.add j) = some u := by
  obtain ⟨a, cap, he, _, _, h3, _⟩ := h
  simp at he
  obtain ⟨rfl, _, _⟩ := he
  exact cells_news h3
theorem four {s : List Nat} {n : Nat} (h : 4 * n + 4 ≤ s.length) : s.take (4 * (n + 1)) = s.take (4 * n) ++ [el s (4 * n), el s (4 * n + 1), el s (4 * n + 2), el s (4 * n + 3)] := by
  rw [show 4 * (n + 1) = 4 * n + 1 + 1 + 1 + 1 by omega, take_el (by omega), take_el (by omega), take_el (by omega), take_el (by omega)]
  simp
theorem under4 {a b c d : Nat} (ha : a < 256) (hb : b < 256) (hc : c < 256) (hd : d < 256) : Under 256 [a, b, c, d] := by
  intro x hx
  simp only [List.mem_cons, List.not_mem_nil, or_false] at hx
  omega
/-- the bytes of a word, in the walk's spelling -/
theorem bytes_of {a b c d : Nat} (ha : a < 256) (hb : b < 256) (hc : c < 256) (hd : d < 256) (W : Nat) (hW : W = wd a b c d) :
    IntKind.u8.wrap ((W : Int) / 16777216) = (a : Int) ∧ IntKind.u8.wrap ((W : Int) / 65536) = (b : Int) ∧ IntKind.u8.wrap ((W : Int) / 256) = (c : Int) ∧ IntKind.u8.wrap (W : Int) = (d : Int) ∧ (W : Int) / 16777216 = (a : Int) := by
  have e0 := wd_0 ha hb hc hd
  have e1 := wd_1 ha hb hc hd
  have e2 := wd_2 ha hb hc hd
  have e3 := wd_3 ha hb hc hd
  rw [← hW] at e0 e1 e2 e3
  refine ⟨?_, ?_, ?_, ?_, ?_⟩
  · rw [IntKind.wrap_u8]; omega
  · rw [IntKind.wrap_u8]; omega
  · rw [IntKind.wrap_u8]; omega
  · rw [IntKind.wrap_u8]; omega
  · omega
set_option maxHeartbeats 4000000 in
set_option maxRecDepth 100000 in
theorem onto_nil (s : List Nat) (w : World) (hs : B16 s) :
    Calls Try.prog 37 #[.agg (arr .u32 (sw s)), .slice none 0 0] w fun e w' => ∃ v, e = .returned v ∧ Own 5 .u8 256 w' w.heap.size v s ∧ Below w.heap.size w w' := by
  have L0 := Lies.new .u32 58 w (sw s)
  have hb0 := keep_alloc w (.cells (arr .u32 (sw s)) 58)
  have lA := sw_len s
  have eA := fun k => sw_el s (c := k)
  have HE := hide eA
  clear eA
  generalize sw s = A at *
  go_enter Try.func37, Try.ntmps37
  go_wp2_with (first
    | (refine wpList_load_row rfl 58 _ (by rfl) w.heap.size (by rfl) _ _ _ (.array 4 56) L0 (by kernel_rfl) rfl (by rw [arr_size, lA]; kernel_rfl) ?_)
    | fail)
  clear L0
  generalize w.alloc (.cells (arr .u32 A) 58) = x1 at *
  go_loopw [1, 8] (fun v i wr => ∃ n : Nat, n ≤ 4 ∧ i = .int .i64 n ∧ wr.ownsRow w.heap.size 5 1 v (4 * n) (vals .u8 (s.take (4 * n))) ∧ Below w.heap.size w wr) (fun _ i _ => 4 - (intOf i).toNat)
  case atStart => exact ⟨0, Nat.zero_le _, rfl, World.ownsRow_nil _ _ _ _, hb0⟩
  case round =>
    obtain ⟨n, hn, rfl, how, hbr⟩ := hrel
    by_cases hlt : n < 4
    · have b0 := hs.el (4 * n)
      have b1 := hs.el (4 * n + 1)
      have b2 := hs.el (4 * n + 2)
      have b3 := hs.el (4 * n + 3)
      have hix := fun y => ix4 A lA n hlt y
      rw [HE.out n hlt] at hix
      have ecol : col s n = wd (el s (4 * n)) (el s (4 * n + 1)) (el s (4 * n + 2)) (el s (4 * n + 3)) := rfl
      rw [ecol] at hix
      have hf := four (s := s) (n := n) (by rw [hs.1]; omega)
      have HFo := hide hf
      clear hf ecol
      generalize el s (4 * n) = a at *
      generalize el s (4 * n + 1) = b at *
      generalize el s (4 * n + 2) = c at *
      generalize el s (4 * n + 3) = d at *
      obtain ⟨y0, y1, y2, y3, y4⟩ := bytes_of b0 b1 b2 b3 _ rfl
      have hWl := wd_lt b0 b1 b2 b3
      generalize wd a b c d = W at *
      have hlit : Row .u8 256 (wr.alloc (.cells #[.int .u8 (a : Int), .int .u8 (b : Int), .int .u8 (c : Int), .int .u8 (d : Int)] 5)) (.slice (some ⟨wr.heap.size, 0, none⟩) 4 4) [a, b, c, d] := lit_row .u8 256 wr [a, b, c, d] 5 (under4 b0 b1 b2 b3) (by show 4 ≤ maxLen; decide)
      have how2 := own_belowA how (keep_alloc wr (.cells #[.int .u8 (a : Int), .int .u8 (b : Int), .int .u8 (c : Int), .int .u8 (d : Int)] 5))
      have hbr2 := keep_trans hbr (keep_alloc wr (.cells #[.int .u8 (a : Int), .int .u8 (b : Int), .int .u8 (c : Int), .int .u8 (d : Int)] 5))
      have HB2 := hide (And.intro hbr2 how)
      have i1 : (n : Int) < 4 := by omega
      obtain ⟨n4, hn4⟩ : ∃ x : Nat, x = 4 * n := ⟨_, rfl⟩
      have ln4 : n4 ≤ 1000000 := by omega
      rw [← hn4] at how how2
      have HN4 := hide hn4
      clear hn4 hbr2
      obtain ⟨va, vc, rfl⟩ := own_sliceA how
      have hsz : w.heap.size ≤ (wr.alloc (.cells #[.int .u8 (a : Int), .int .u8 (b : Int), .int .u8 (c : Int), .int .u8 (d : Int)] 5)).heap.size := HB2.out.1.size
      have HSZ := hide hsz
      clear how hsz
      go_wp2_with (first
        | (at_builtin; refine wpList_appA rfl _ _ rfl w.heap.size _ _ n4 _ [a, b, c, d] rfl how2 rfl hlit (tidy_atA _ _ _) ln4 (show 4 ≤ 1000000 by decide) HSZ.out ?_; intro v1 w1 how3 hg1)
        | fail)
      refine ⟨⟨n + 1, by omega, by go_num, ?_, ?_⟩, by simp [intOf]; omega⟩
      · rw [HFo.out, show 4 * (n + 1) = n4 + 4 by have := HN4.out; omega, ← HN4.out]
        exact how3
      · exact HB2.out.1.grown hg1 HSZ.out (fun k h => (how2.lt k h).1)
    · obtain rfl : n = 4 := by omega
      rw [show 4 * 4 = 16 from rfl, List.take_of_length_le (by rw [hs.1]; exact Nat.le_refl _)] at how
      go_wp2
      go_ret
      exact ⟨_, rfl, ⟨by rw [hs.1]; exact how, hs.2⟩, hbr⟩
set_option maxHeartbeats 4000000 in
set_option maxRecDepth 100000 in
theorem onto_fit (s l : List Nat) (B g N cap : Nat) (w : World) (hs : B16 s) (hl : l.length = N) (how0 : w.ownsRow B 5 1 (.slice (some ⟨g, 0, none⟩) N cap) N (vals .u8 l)) (hcap : N + 16 ≤ cap) :
    Calls Try.prog 37 #[.agg (arr .u32 (sw s)), .slice (some ⟨g, 0, none⟩) N cap] w fun e w' => e = .returned (.slice (some ⟨g, 0, none⟩) (N + 16) cap) ∧ w'.ownsRow B 5 1 (.slice (some ⟨g, 0, none⟩) (N + 16) cap) (N + 16) (vals .u8 (l ++ s)) ∧ But g w w' := by
  obtain ⟨i0, hi, hz0, hz1, hz2⟩ := info_parts Try.info5
  have L0 := Lies.new .u32 58 w (sw s)
  have hb0 := keep_alloc w (.cells (arr .u32 (sw s)) 58)
  have lA := sw_len s
  have eA := fun k => sw_el s (c := k)
  have HE := hide eA
  clear eA
  generalize sw s = A at *
  have how1 := own_belowA how0 hb0
  have hgw : g < w.heap.size := (how0.lt g rfl).2
  have HC := hide hcap
  clear hcap
  go_enter Try.func37, Try.ntmps37
  go_wp2_with (first
    | (refine wpList_load_row rfl 58 _ (by rfl) w.heap.size (by rfl) _ _ _ (.array 4 56) L0 (by kernel_rfl) rfl (by rw [arr_size, lA]; kernel_rfl) ?_)
    | fail)
  clear L0
  generalize w.alloc (.cells (arr .u32 A) 58) = x1 at *
  go_loopw [1, 8] (fun v i wr => ∃ n : Nat, n ≤ 4 ∧ i = .int .i64 n ∧ v = .slice (some ⟨g, 0, none⟩) (N + 4 * n) cap ∧ wr.ownsRow B 5 1 v (N + 4 * n) (vals .u8 (l ++ s.take (4 * n))) ∧ But g w wr) (fun _ i _ => 4 - (intOf i).toNat)
  case atStart => exact ⟨0, Nat.zero_le _, rfl, rfl, by simpa using how1, But.of_below hb0⟩
  case round =>
    obtain ⟨n, hn, rfl, rfl, how, hbr⟩ := hrel
    by_cases hlt : n < 4
    · have b0 := hs.el (4 * n)
      have b1 := hs.el (4 * n + 1)
      have b2 := hs.el (4 * n + 2)
      have b3 := hs.el (4 * n + 3)
      have hix := fun y => ix4 A lA n hlt y
      rw [HE.out n hlt] at hix
      have ecol : col s n = wd (el s (4 * n)) (el s (4 * n + 1)) (el s (4 * n + 2)) (el s (4 * n + 3)) := rfl
      rw [ecol] at hix
      have hf := four (s := s) (n := n) (by rw [hs.1]; omega)
      have HFo := hide hf
      clear hf ecol
      generalize el s (4 * n) = a at *
      generalize el s (4 * n + 1) = b at *
      generalize el s (4 * n + 2) = c at *
      generalize el s (4 * n + 3) = d at *
      obtain ⟨y0, y1, y2, y3, y4⟩ := bytes_of b0 b1 b2 b3 _ rfl
      have hWl := wd_lt b0 b1 b2 b3
      generalize wd a b c d = W at *
      have hnews : ∀ j u, (vals .u8 [a, b, c, d])[j]? = some u → (wr.alloc (.cells #[.int .u8 (a : Int), .int .u8 (b : Int), .int .u8 (c : Int), .int .u8 (d : Int)] 5)).cell? ((⟨wr.heap.size, 0, none⟩ : Addr).add j) = some u :=
        cells_newsA (lit_row .u8 256 wr [a, b, c, d] 5 (under4 b0 b1 b2 b3) (by show 4 ≤ maxLen; decide))
      have how2 := own_belowA how (keep_alloc wr (.cells #[.int .u8 (a : Int), .int .u8 (b : Int), .int .u8 (c : Int), .int .u8 (d : Int)] 5))
      have hbr2 := hbr.alloc (.cells #[.int .u8 (a : Int), .int .u8 (b : Int), .int .u8 (c : Int), .int .u8 (d : Int)] 5)
      have HB2 := hide hbr2
      have i1 : (n : Int) < 4 := by omega
      obtain ⟨n4, hn4⟩ : ∃ x : Nat, x = N + 4 * n := ⟨_, rfl⟩
      have ln4 : n4 + 4 ≤ cap := by have := HC.out; omega
      rw [← hn4] at how2 ⊢
      have HN4 := hide hn4
      clear hn4 hbr2 how
      go_wp2_with (first
        | (at_builtin; refine wpList_append_fits _ rfl _ _ 22 rfl B 5 i0 1 Try.underlying22 hi hz1 g n4 cap _ rfl how2 ⟨wr.heap.size, 0, none⟩ 4 4 (vals .u8 [a, b, c, d]) rfl rfl hnews (vals_one _ _) ln4 ?_; intro w1 how3 hg1)
        | fail)
      refine ⟨⟨n + 1, by omega, by go_num, ?_, ?_, ?_⟩, by simp [intOf]; omega⟩
      · rw [show N + 4 * (n + 1) = n4 + 4 by have := HN4.out; omega]
      · rw [HFo.out, show N + 4 * (n + 1) = n4 + 4 by have := HN4.out; omega, ← List.append_assoc, vals_append]
        exact how3
      · exact HB2.out.trans ⟨hg1.os, hg1.tape, hg1.output, hg1.size, fun k hk hne => hg1.block k hk (by simpa using hne)⟩
    · obtain rfl : n = 4 := by omega
      rw [show 4 * 4 = 16 from rfl, List.take_of_length_le (by rw [hs.1]; exact Nat.le_refl _)] at how
      go_wp2
      go_ret
      exact ⟨rfl, how, hbr⟩
end Go.Proofs.Ytjnlkihhmenfnaa

/- The document's rows. -/
namespace Go.Proofs.Ytjnlkihhmenfnaa
open Go.RowKit
set_option linter.unusedVariables false
set_option linter.unusedSimpArgs false

/-- whence the byte at a place comes -/
def ixW (W : Int) (c r : Nat) : Nat := 4 * (((c : Int) + W * (r : Int) + 4) % 4).toNat + r
theorem rowsL_w (s : List Nat) : rowsL s = of16 fun i => el s (ixW 1 (i / 4) (i % 4)) := ext16 (of16_len _) (of16_len _) fun i hi => by
  unfold rowsL
  rw [of16_el _ hi, of16_el _ hi]
  congr 1
  exact (by decide : ∀ i, i < 16 → 4 * ((i / 4 + i % 4) % 4) + i % 4 = ixW 1 (i / 4) (i % 4)) i hi
theorem rowsR_w (s : List Nat) : rowsR s = of16 fun i => el s (ixW (-1) (i / 4) (i % 4)) := ext16 (of16_len _) (of16_len _) fun i hi => by
  unfold rowsR
  rw [of16_el _ hi, of16_el _ hi]
  congr 1
  exact (by decide : ∀ i, i < 16 → 4 * ((i / 4 + 4 - i % 4) % 4) + i % 4 = ixW (-1) (i / 4) (i % 4)) i hi
/-- where the outer loop stands -/
def RoL (w1 : World) (H : Nat) (f : Nat → Nat) (vi : Value) (wr : World) : Prop := ∃ k : Nat, k ≤ 4 ∧ vi = .int .i64 (k : Int) ∧ Lies .u8 5 wr H (fill16 f (4 * k)) ∧ But H w1 wr
/-- where the inner loop stands -/
def RiL (w1 : World) (H c : Nat) (f : Nat → Nat) (vi : Value) (wr : World) : Prop := ∃ k : Nat, k ≤ 4 ∧ vi = .int .i64 (k : Int) ∧ Lies .u8 5 wr H (fill16 f (4 * c + k)) ∧ But H w1 wr

set_option maxHeartbeats 4000000 in
set_option maxRecDepth 100000 in
theorem rrows_any (W : Int) (hW : W = 1 ∨ W = -1) (s : List Nat) (sv : Value) (w : World) (hs : B16 s) (rs : Row .u8 256 w sv s) :
    Calls Try.prog 64 #[sv, .int .i64 W] w fun e w' => ∃ v, e = .returned v ∧ Own 5 .u8 256 w' w.heap.size v (of16 fun i => el s (ixW W (i / 4) (i % 4))) ∧ Below w.heap.size w w' := by
  obtain ⟨i0, hi, hz0, hz1, hz2⟩ := info_parts Try.info5
  obtain ⟨sa, sc, rfl, g1, g2, g3⟩ := rs.opens hs.1
  obtain ⟨sb, so, rfl, hc⟩ := g3 (by decide)
  have hsb : sb < w.heap.size := World.block_lt_of_cell? _ _ (hc 0 (by decide))
  go_enter Try.func64, Try.ntmps64
  go_wp2_with (first | (at_make; refine wpList_make_full _ rfl _ _ 22 rfl w.heap.size 5 i0 (.int .u8 0) 1 Try.underlying22 hi hz0 hz1 _ _ _ _ 16 rfl rfl rfl rfl (by rw [hz2]; decide) (by unfold maxLen; decide) (Nat.le_refl _) ?_; intro w1 hown hgrow) | fail)
  rw [made_u8, ← fill16_zero (fun i => el s (ixW W (i / 4) (i % 4)))] at hown
  have hL1 := lies_own hown (fill16_len _ _)
  have hb1 := (Below.refl w.heap.size w).grown hgrow (Nat.le_refl _) (fun k h => by cases h)
  have hc1 : ∀ i, i < 16 → w1.cell? ⟨sb, so + i, none⟩ = some (.int .u8 (el s i)) := fun i hi => keep_cell (hc i hi) hb1
  clear hown hgrow g3 rs hc
  have HC1 := hide hc1
  clear hc1
  go_loopw [6] (fun vi wr => RoL w1 w.heap.size (fun i => el s (ixW W (i / 4) (i % 4))) vi wr) (fun vi _ => 4 - (intOf vi).toNat)
  case atStart => exact ⟨0, by decide, rfl, hL1, But.refl _ _⟩
  case round =>
    obtain ⟨c, hk, rfl, hL, hB⟩ := hrel
    by_cases hlt : c < 4
    · have hli : (c : Int) < 4 := by omega
      rename World => wo
      have H0 : Hid (RiL w1 w.heap.size c (fun i => el s (ixW W (i / 4) (i % 4))) (.int .i64 0) wo) := hide ⟨0, by decide, rfl, hL, hB⟩
      clear hL1 hL hB
      go_wp2
      go_loopw [7] (fun vi wr => RiL w1 w.heap.size c (fun i => el s (ixW W (i / 4) (i % 4))) vi wr) (fun vi _ => 4 - (intOf vi).toNat)
      case atStart => exact H0.out
      case round =>
        obtain ⟨r, hr, rfl, hL, hB⟩ := hrel
        clear H0
        by_cases hr4 : r < 4
        · have hri : (r : Int) < 4 := by omega
          obtain ⟨q, hq⟩ : ∃ z : Int, z = W * (r : Int) := ⟨_, rfl⟩
          have hq2 : q = (r : Int) ∨ q = - (r : Int) := by rcases hW with h | h <;> subst h <;> omega
          obtain ⟨m, hm⟩ := Int.eq_ofNat_of_zero_le (show 0 ≤ (c : Int) + q + 4 by omega)
          obtain ⟨p2, hp2⟩ : ∃ z : Int, z = (c : Int) + q := ⟨_, rfl⟩
          obtain ⟨z, hz⟩ : ∃ z : Nat, z = m % 4 := ⟨_, rfl⟩
          obtain ⟨y, hy⟩ : ∃ x : Nat, x = 4 * z := ⟨_, rfl⟩
          obtain ⟨ix, hix⟩ : ∃ x : Nat, x = y + r := ⟨_, rfl⟩
          obtain ⟨d, hd⟩ : ∃ x : Nat, x = 4 * c := ⟨_, rfl⟩
          obtain ⟨o, ho⟩ : ∃ x : Nat, x = d + r := ⟨_, rfl⟩
          have hfo : (fun i => el s (ixW W (i / 4) (i % 4))) o = el s ix := by
            show el s (ixW W (o / 4) (o % 4)) = el s ix
            congr 1
            unfold ixW
            rw [show o / 4 = c by omega, show o % 4 = r by omega, ← hq, hm]
            omega
          have lix : ix < 16 := by omega
          have lo : o < 16 := by omega
          have eo : 4 * c + r = o := by omega
          have eo1 : 4 * c + (r + 1) = o + 1 := by omega
          rw [eo] at hL
          have hst := hL.set o ((fun i => el s (ixW W (i / 4) (i % 4))) o)
          rw [fill16_set _ lo, hfo] at hst
          have c1 := But.cell (HC1.out ix lix) hB (by show sb ≠ w.heap.size; omega)
          have c3 := hL.cell (i := o) (by rw [fill16_len]; exact lo)
          have c4 := hL.frozen o
          have e_q : W * (r : Int) = q := hq.symm
          have s_q : IntKind.i64.wrap q = q := by rw [IntKind.wrap_i64]; omega
          have e_p : (c : Int) + q = p2 := hp2.symm
          have s_p : IntKind.i64.wrap p2 = p2 := by rw [IntKind.wrap_i64]; omega
          have e_m : p2 + 4 = (m : Int) := by omega
          have s_m : IntKind.i64.wrap (m : Int) = (m : Int) := by rw [IntKind.wrap_i64]; omega
          have e_z : (m : Int) % 4 = (z : Int) := by omega
          have t_z : (m : Int).tmod 4 = (z : Int) := by rw [Int.tmod_eq_emod_of_nonneg (by omega)]; exact e_z
          have s_z : IntKind.i64.wrap (z : Int) = (z : Int) := by rw [IntKind.wrap_i64]; omega
          have e_y : 4 * (z : Int) = (y : Int) := by omega
          have s_y : IntKind.i64.wrap (y : Int) = (y : Int) := by rw [IntKind.wrap_i64]; omega
          have e_ix : (y : Int) + (r : Int) = (ix : Int) := by omega
          have s_ix : IntKind.i64.wrap (ix : Int) = (ix : Int) := by rw [IntKind.wrap_i64]; omega
          have e_d : 4 * (c : Int) = (d : Int) := by omega
          have s_d : IntKind.i64.wrap (d : Int) = (d : Int) := by rw [IntKind.wrap_i64]; omega
          have e_o : (d : Int) + (r : Int) = (o : Int) := by omega
          have s_o : IntKind.i64.wrap (o : Int) = (o : Int) := by rw [IntKind.wrap_i64]; omega
          have lixi : (ix : Int) < 16 := by omega
          have loi : (o : Int) < 16 := by omega
          have HST := hide hst
          have HEO := hide eo1
          clear hq hq2 hm hp2 hz hy hix hd ho hfo eo eo1 hst hL
          generalize el s ix = u at *
          go_wp2
          exact ⟨⟨r + 1, by omega, by go_num, by rw [HEO.out]; exact HST.out, hB.setCell o _⟩, by simp [intOf]; omega⟩
        · obtain rfl : r = 4 := by omega
          go_wp2
          exact ⟨⟨c + 1, by omega, by go_num, by rw [show 4 * (c + 1) = 4 * c + 4 by omega]; exact hL, hB⟩, by simp [intOf]; omega⟩
    · obtain rfl : c = 4 := by omega
      rw [show 4 * 4 = 16 from rfl, fill16_all] at hL
      go_wp2
      go_ret
      have hbx : B16 (of16 fun i => el s (ixW W (i / 4) (i % 4))) := of16_b fun i _ => hs.el _
      exact ⟨_, rfl, ⟨by rw [of16_len]; exact own_lies hL (Nat.le_refl _) (of16_len _) (by unfold maxLen; decide), hbx.2⟩, hb1.trans (hB.below (Nat.le_refl _) hb1.size)⟩
end Go.Proofs.Ytjnlkihhmenfnaa

/- The document's columns. -/
namespace Go.Proofs.Ytjnlkihhmenfnaa
open Go.RowKit
set_option linter.unusedVariables false
set_option linter.unusedSimpArgs false

def accC (m s : List Nat) (c r : Nat) : Nat → Nat
  | 0 => 0
  | j + 1 => accC m s c r j ^^^ mulB (el m j) (el s (4 * c + (r + j) % 4))
def colsW (m s : List Nat) : List Nat := of16 fun i => accC m s (i / 4) (i % 4) 4
theorem accC_lt {m s : List Nat} (hm : Under 256 m) (c r : Nat) : ∀ j, accC m s c r j < 256
  | 0 => by show 0 < 256; decide
  | j + 1 => xor_8 (accC_lt hm c r j) (mulB_lt (el_lt hm (by decide) j))
theorem colsL_w (a b c d : Nat) (s : List Nat) : colsW [a, b, c, d] s = colsL a b c d s := ext16 (of16_len _) (of16_len _) fun i hi => by
  unfold colsW colsL
  rw [of16_el _ hi, of16_el _ hi]
  have e0 : el [a, b, c, d] 0 = a := rfl
  have e1 : el [a, b, c, d] 1 = b := rfl
  have e2 : el [a, b, c, d] 2 = c := rfl
  have e3 : el [a, b, c, d] 3 = d := rfl
  simp only [accC, e0, e1, e2, e3, Nat.zero_xor, Nat.add_zero, Nat.mod_mod]
/-- where the innermost loop stands -/
def CjL (wi : World) (m s : List Nat) (c r : Nat) (vx vj : Value) (wr : World) : Prop := ∃ j q : Nat, j ≤ 4 ∧ vx = .int .u8 (accC m s c r j : Nat) ∧ vj = .int .i64 (j : Int) ∧ wr = wi.drewN q

set_option maxHeartbeats 4000000 in
set_option maxRecDepth 100000 in
theorem rcols_any (m s : List Nat) (sv : Value) (w : World) (hm : m.length = 4) (hmu : Under 256 m) (hs : B16 s) (rs : Row .u8 256 w sv s) :
    Calls Try.prog 66 #[sv, .agg (arr .u8 m)] w fun e w' => ∃ v, e = .returned v ∧ Own 5 .u8 256 w' w.heap.size v (colsW m s) ∧ Below w.heap.size w w' := by
  obtain ⟨i0, hi, hz0, hz1, hz2⟩ := info_parts Try.info5
  have hA := Lies.new .u8 91 w m
  have hb0 := keep_alloc w (.cells (arr .u8 m) 91)
  obtain ⟨sa, sc, rfl, g1, g2, g3⟩ := rs.opens hs.1
  obtain ⟨sb, so, rfl, hc⟩ := g3 (by decide)
  have hsb : sb < w.heap.size := World.block_lt_of_cell? _ _ (hc 0 (by decide))
  go_enter Try.func66, Try.ntmps66
  go_wp2_with (first | (at_make; refine wpList_make_full _ rfl _ _ 22 rfl (w.heap.size + 1) 5 i0 (.int .u8 0) 1 Try.underlying22 hi hz0 hz1 _ _ _ _ 16 rfl rfl rfl rfl (by rw [hz2]; decide) (by unfold maxLen; decide) (by simp) ?_; intro w1 hown hgrow) | fail)
  rw [made_u8, ← fill16_zero (fun i => accC m s (i / 4) (i % 4) 4)] at hown
  have hL1 := lies_own hown (fill16_len _ _)
  have hb1 := (Below.refl (w.alloc (.cells (arr .u8 m) 91)).heap.size (w.alloc (.cells (arr .u8 m) 91))).grown hgrow (Nat.le_refl _) (fun k h => by cases h)
  have hA1 := hA.below hb1
  have hbw := keep_trans hb0 hb1
  rw [World.size_alloc] at hL1
  have hc1 : ∀ i, i < 16 → w1.cell? ⟨sb, so + i, none⟩ = some (.int .u8 (el s i)) := fun i hi => keep_cell (hc i hi) hbw
  clear hown hgrow g3 rs hc hA
  have HC1 := hide hc1
  have HA1 := hide hA1
  clear hc1 hA1
  go_loopw [6] (fun vi wr => RoL w1 (w.heap.size + 1) (fun i => accC m s (i / 4) (i % 4) 4) vi wr) (fun vi _ => 4 - (intOf vi).toNat)
  case atStart => exact ⟨0, by decide, rfl, hL1, But.refl _ _⟩
  case round =>
    obtain ⟨c, hk, rfl, hL, hB⟩ := hrel
    by_cases hlt : c < 4
    · have hli : (c : Int) < 4 := by omega
      rename World => wo
      have H0 : Hid (RiL w1 (w.heap.size + 1) c (fun i => accC m s (i / 4) (i % 4) 4) (.int .i64 0) wo) := hide ⟨0, by decide, rfl, hL, hB⟩
      clear hL1 hL hB
      go_wp2
      go_loopw [7] (fun vi wr => RiL w1 (w.heap.size + 1) c (fun i => accC m s (i / 4) (i % 4) 4) vi wr) (fun vi _ => 4 - (intOf vi).toNat)
      case atStart => exact H0.out
      case round =>
        obtain ⟨r, hr, rfl, hL, hB⟩ := hrel
        clear H0
        by_cases hr4 : r < 4
        · have hri : (r : Int) < 4 := by omega
          rename World => wi
          have J0 : Hid (CjL wi m s c r (.int .u8 0) (.int .i64 0) wi) := hide ⟨0, 0, by decide, rfl, rfl, rfl⟩
          have HL := hide hL
          have HB := hide hB
          clear hL hB
          go_wp2
          go_loopw [8, 9] (fun vx vj wr => CjL wi m s c r vx vj wr) (fun _ vj _ => 4 - (intOf vj).toNat)
          case atStart => exact J0.out
          case round =>
            obtain ⟨j, q, hj, rfl, rfl, rfl⟩ := hrel
            clear J0
            by_cases hj4 : j < 4
            · have hji : (j : Int) < 4 := by omega
              obtain ⟨d, hd⟩ : ∃ x : Nat, x = 4 * c := ⟨_, rfl⟩
              obtain ⟨a, ha⟩ : ∃ x : Nat, x = r + j := ⟨_, rfl⟩
              obtain ⟨b, hb⟩ : ∃ x : Nat, x = a % 4 := ⟨_, rfl⟩
              obtain ⟨ix, hix⟩ : ∃ x : Nat, x = d + b := ⟨_, rfl⟩
              have lix : ix < 16 := by omega
              have hacc : accC m s c r (j + 1) = accC m s c r j ^^^ mulB (el m j) (el s ix) := by
                show accC m s c r j ^^^ mulB (el m j) (el s (4 * c + (r + j) % 4)) = _
                rw [show 4 * c + (r + j) % 4 = ix by omega]
              have c1 := But.cell (HC1.out ix lix) HB.out (by show sb ≠ w.heap.size + 1; omega)
              have c2 := (HA1.out.but HB.out (by omega)).cell (i := j) (by omega)
              have la := accC_lt (s := s) hmu c r j
              have lm := el_lt hmu (by decide) j
              have ls := hs.el ix
              have hmul := fun y => rmul_any (el m j) (el s ix) lm ls y
              have lp := mulB_lt (b := el s ix) lm
              have fx := u8_xor_nat (accC m s c r j) (mulB (el m j) (el s ix)) la lp
              have HACC := hide hacc
              have e_d : 4 * (c : Int) = (d : Int) := by omega
              have s_d : IntKind.i64.wrap (d : Int) = (d : Int) := by rw [IntKind.wrap_i64]; omega
              have e_a : (r : Int) + (j : Int) = (a : Int) := by omega
              have s_a : IntKind.i64.wrap (a : Int) = (a : Int) := by rw [IntKind.wrap_i64]; omega
              have e_b : (a : Int) % 4 = (b : Int) := by omega
              have t_b : (a : Int).tmod 4 = (b : Int) := by rw [Int.tmod_eq_emod_of_nonneg (by omega)]; exact e_b
              have s_b : IntKind.i64.wrap (b : Int) = (b : Int) := by rw [IntKind.wrap_i64]; omega
              have e_ix : (d : Int) + (b : Int) = (ix : Int) := by omega
              have s_ix : IntKind.i64.wrap (ix : Int) = (ix : Int) := by rw [IntKind.wrap_i64]; omega
              have lixi : (ix : Int) < 16 := by omega
              clear hacc hd ha hb hix la lp
              generalize hAJ : accC m s c r j = AJ at *
              generalize hPM : mulB (el m j) (el s ix) = PM at *
              have HAJ := hide hAJ
              clear hAJ hPM
              generalize el m j = mj at *
              generalize el s ix = sx at *
              go_wp2
              go_quiet (first | (go_at_call 67; exact (hmul _).mono (by rintro e w' ⟨rfl, rfl⟩; exact ⟨rfl, _, rfl⟩)) | fail)
              go_wp2
              exact ⟨⟨j + 1, q + nq, by omega, by rw [HACC.out], by go_num, rfl⟩, by simp [intOf]; omega⟩
            · obtain rfl : j = 4 := by omega
              obtain ⟨d, hd⟩ : ∃ x : Nat, x = 4 * c := ⟨_, rfl⟩
              obtain ⟨o, ho⟩ : ∃ x : Nat, x = d + r := ⟨_, rfl⟩
              have lo : o < 16 := by omega
              have eo : 4 * c + r = o := by omega
              have eo1 : 4 * c + (r + 1) = o + 1 := by omega
              have hL : Lies .u8 5 (wi.drewN q) (w.heap.size + 1) (fill16 (fun i => accC m s (i / 4) (i % 4) 4) o) := by rw [← eo]; exact HL.out.drewN q
              have hB : But (w.heap.size + 1) w1 (wi.drewN q) := HB.out.drewN q
              have hfo : (fun i => accC m s (i / 4) (i % 4) 4) o = accC m s c r 4 := by
                show accC m s (o / 4) (o % 4) 4 = _
                rw [show o / 4 = c by omega, show o % 4 = r by omega]
              have hst := hL.set o ((fun i => accC m s (i / 4) (i % 4) 4) o)
              rw [fill16_set _ lo, hfo] at hst
              have c3 := HL.out.cell (i := o) (by rw [fill16_len]; exact lo)
              have c4 := HL.out.frozen o
              have e_d : 4 * (c : Int) = (d : Int) := by omega
              have s_d : IntKind.i64.wrap (d : Int) = (d : Int) := by rw [IntKind.wrap_i64]; omega
              have e_o : (d : Int) + (r : Int) = (o : Int) := by omega
              have s_o : IntKind.i64.wrap (o : Int) = (o : Int) := by rw [IntKind.wrap_i64]; omega
              have loi : (o : Int) < 16 := by omega
              have HST := hide hst
              have HEO := hide eo1
              have HBB := hide hB
              clear hd ho eo eo1 hst hL hB hfo
              generalize accC m s c r 4 = x4 at *
              go_wp2
              exact ⟨⟨r + 1, by omega, by go_num, by rw [HEO.out]; exact HST.out, HBB.out.setCell o _⟩, by simp [intOf]; omega⟩
        · obtain rfl : r = 4 := by omega
          go_wp2
          exact ⟨⟨c + 1, by omega, by go_num, by rw [show 4 * (c + 1) = 4 * c + 4 by omega]; exact hL, hB⟩, by simp [intOf]; omega⟩
    · obtain rfl : c = 4 := by omega
      rw [show 4 * 4 = 16 from rfl, fill16_all] at hL
      go_wp2
      go_ret
      have hbx : B16 (colsW m s) := of16_b fun i _ => accC_lt hmu _ _ _
      exact ⟨_, rfl, ⟨by rw [hbx.1]; exact own_lies hL (by omega) (of16_len _) (by unfold maxLen; decide), hbx.2⟩, hbw.trans (hB.below (by omega) hbw.size)⟩
end Go.Proofs.Ytjnlkihhmenfnaa
