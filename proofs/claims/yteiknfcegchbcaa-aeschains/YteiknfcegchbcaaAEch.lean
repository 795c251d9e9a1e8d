/- The document's each, rows, columns. -/
import Derived.Test.YteiknfcegchbcaaABox
import Derived.Test.YteiknfcegchbcaaJGa
import Derived.Deep.AppendLies
import Derived.Laws.AppendOwnNone
import Derived.ArgAppend
import Derived.Test.YteiknfcegchbcaaJDb
namespace Go.Proofs.Yteiknfcegchbcaa
open Go.RowKit
set_option linter.unusedVariables false
set_option linter.unusedSimpArgs false

/-- sixteen places, the first k of them filled -/
def fill16 (f : Nat → Nat) (k : Nat) : List Nat := of16 fun i => if i < k then f i else 0
theorem fill16_len (f : Nat → Nat) (k : Nat) : (fill16 f k).length = 16 := of16_len _
theorem fill16_all (f : Nat → Nat) : fill16 f 16 = of16 f := ext16 (of16_len _) (of16_len _) fun i hi => by
  unfold fill16
  rw [of16_el _ hi, of16_el _ hi, if_pos hi]
theorem fill16_zero (f : Nat → Nat) : fill16 f 0 = List.replicate 16 0 := ext16 (of16_len _) List.length_replicate fun i hi => by
  unfold fill16
  rw [of16_el _ hi, el_at (by simpa using hi), List.getElem_replicate, if_neg (by omega)]
theorem fill16_set (f : Nat → Nat) {k : Nat} (hk : k < 16) : (fill16 f k).set k (f k) = fill16 f (k + 1) := ext16 (by rw [List.length_set, fill16_len]) (of16_len _) fun i hi => by
  rw [el_at (by rw [List.length_set, fill16_len]; exact hi), List.getElem_set]
  by_cases h : k = i
  · subst h
    rw [if_pos rfl]
    unfold fill16
    rw [of16_el _ hi, if_pos (by omega)]
  · rw [if_neg h, ← el_at]
    unfold fill16
    rw [of16_el _ hi, of16_el _ hi]
    by_cases h2 : i < k
    · rw [if_pos h2, if_pos (by omega)]
    · rw [if_neg h2, if_neg (by omega)]
/-- a row of the call's own that lies in a whole block -/
theorem lies_own {k : IntKind} {e : TypeId} {w : World} {base g n : Nat} {l : List Nat} (h : w.ownsRow base e 1 (.slice (some ⟨g, 0, none⟩) n n) n (vals k l)) (hl : l.length = n) : Lies k e w g l := by
  obtain ⟨_, ⟨h1, _⟩ | ⟨g', cap, cur, h1, _, h3, _, _, h4, h5⟩⟩ := h
  · cases h1
  · simp only [Value.slice.injEq, Option.some.injEq, Addr.mk.injEq] at h1
    obtain ⟨⟨rfl, _⟩, rfl⟩ : (g = g' ∧ True) ∧ n = cap := ⟨⟨h1.1.1, trivial⟩, h1.2.2⟩
    have e1 : cur.toList = vals k l := by
      rw [List.take_of_length_le (by rw [Array.length_toList, h4]; exact Nat.le_refl _)] at h5
      exact h5
    unfold Lies
    rw [h3]
    have : cur = arr k l := by
      apply Array.toList_inj.1
      rw [e1]
      simp [arr, vals]
    rw [this]
theorem own_lies {k : IntKind} {e : TypeId} {w : World} {base g n : Nat} {l : List Nat} (h : Lies k e w g l) (hb : base ≤ g) (hl : l.length = n) (hm : n ≤ maxLen) : w.ownsRow base e 1 (.slice (some ⟨g, 0, none⟩) n n) n (vals k l) := by
  refine ⟨by rw [vals_length, hl, Nat.mul_one], .inr ⟨g, n, arr k l, rfl, hb, h, Nat.le_refl _, hm, by rw [arr_size, hl, Nat.mul_one], ?_⟩⟩
  rw [List.take_of_length_le (by rw [Array.length_toList, arr_size, hl, Nat.mul_one]; exact Nat.le_refl _)]
  simp [arr, vals]
/-- where the loop stands -/
def EcL (w1 : World) (H : Nat) (f : Nat → Nat) (vi : Value) (wr : World) : Prop := ∃ k : Nat, k ≤ 16 ∧ vi = .int .i64 (k : Int) ∧ Lies .u8 5 wr (H + 1) (fill16 f k) ∧ But (H + 1) w1 wr

set_option maxHeartbeats 2000000 in
set_option maxRecDepth 100000 in
theorem reach_any (T s : List Nat) (sv : Value) (w : World) (hT : T.length = 256) (hTu : Under 256 T) (hs : B16 s) (rs : Row .u8 256 w sv s) :
    Calls Try.prog 49 #[sv, .agg (arr .u8 T)] w fun e w' => ∃ v, e = .returned v ∧ Own 5 .u8 256 w' w.heap.size v (eachL T s) ∧ Below w.heap.size w w' := by
  obtain ⟨i0, hi, hz0, hz1, hz2⟩ := info_parts Try.info5
  have hA := Lies.new .u8 47 w T
  have hb0 := keep_alloc w (.cells (arr .u8 T) 47)
  have rs0 := rs.below hb0
  obtain ⟨sa, sc, rfl, g1, g2, g3⟩ := rs.opens hs.1
  go_enter Try.func49, Try.ntmps49
  go_wp2_with (first | (at_make; refine wpList_make_full _ rfl _ _ 22 rfl (w.heap.size + 1) 5 i0 (.int .u8 0) 1 Try.underlying22 hi hz0 hz1 _ _ _ _ 16 rfl rfl rfl rfl (by rw [hz2]; decide) (by unfold maxLen; decide) (by simp) ?_; intro w1 hown hgrow) | fail)
  rw [made_u8, ← fill16_zero (fun i => el T (el s i))] at hown
  have hL1 := lies_own hown (fill16_len _ _)
  have hb1 := (Below.refl (w.alloc (.cells (arr .u8 T) 47)).heap.size (w.alloc (.cells (arr .u8 T) 47))).grown hgrow (Nat.le_refl _) (fun k h => by cases h)
  have hA1 := hA.below hb1
  have rs1 := rs0.below hb1
  have hbw := keep_trans hb0 hb1
  rw [World.size_alloc] at hL1
  obtain ⟨_, _, he, _, _, g4⟩ := rs1.opens hs.1
  obtain ⟨rfl, rfl⟩ := by simpa using he
  obtain ⟨sb, so, rfl, hc⟩ := g4 (by decide)
  have hsb : sb < (w.alloc (.cells (arr .u8 T) 47)).heap.size := by
    obtain ⟨_, _, he2, _, _, g5⟩ := rs0.opens hs.1
    obtain ⟨b', o', h1, h2⟩ := g5 (by decide)
    simp at he2
    have := World.block_lt_of_cell? _ _ (h2 0 (by decide))
    rw [h1] at he2
    simp at he2
    obtain ⟨⟨rfl, _⟩, _⟩ := he2
    exact this
  rw [World.size_alloc] at hsb
  clear hown hgrow he g3 g4 rs rs0 rs1 hA
  go_loopw [6] (fun vi wr => EcL w1 w.heap.size (fun i => el T (el s i)) vi wr) (fun vi _ => 16 - (intOf vi).toNat)
  case atStart => exact ⟨0, by decide, rfl, hL1, But.refl _ _⟩
  case round =>
    obtain ⟨k, hk, rfl, hL, hB⟩ := hrel
    by_cases hlt : k < 16
    · have hli : (k : Int) < 16 := by omega
      have c1 := But.cell (hc k hlt) hB (by show sb ≠ w.heap.size + 1; omega)
      have ck := hs.el k
      have hA2 := hA1.but hB (by omega)
      have c2 := hA2.cell (i := el s k) (by omega)
      have c3 := hL.cell (i := k) (by rw [fill16_len]; exact hlt)
      have c4 := hL.frozen k
      have cl := el_lt hTu (by decide) (el s k)
      have hst := hL.set k (el T (el s k))
      rw [fill16_set (fun i => el T (el s i)) hlt] at hst
      have HST := hide hst
      generalize el T (el s k) = t at *
      generalize el s k = u at *
      have ui : (u : Int) < 256 := by omega
      clear hst hL
      go_wp2
      exact ⟨⟨k + 1, by omega, by go_num, HST.out, hB.setCell k _⟩, by simp [intOf]; omega⟩
    · obtain rfl : k = 16 := by omega
      rw [fill16_all] at hL
      go_wp2
      go_ret
      have ho : Own 5 .u8 256 wr w.heap.size (.slice (some ⟨w.heap.size + 1, 0, none⟩) 16 16) (eachL T s) := ⟨by rw [show (eachL T s).length = 16 from of16_len _]; exact own_lies hL (by omega) (of16_len _) (by unfold maxLen; decide), (eachL_b (fun c h => el_lt hTu (by decide) c) hs).2⟩
      exact ⟨_, rfl, ho, hbw.trans (hB.below (by omega) hbw.size)⟩
end Go.Proofs.Yteiknfcegchbcaa

/- append of whatever row, apart from mac's. -/
namespace Go.Proofs.Yteiknfcegchbcaa
open Go.RowKit
set_option linter.unusedVariables false
set_option linter.unusedSimpArgs false

theorem tidy_atA (x : Addr) (n c : Nat) : Tidy (.slice (some x) n c) := fun n c he => by simp at he
theorem own_belowA {w w' : World} {base : Nat} {e : TypeId} {size : Nat} {v : Value} {n : Nat} {xs : List Value} (h : w.ownsRow base e size v n xs) (hb : Below w.heap.size w w') : w'.ownsRow base e size v n xs := by
  obtain ⟨h1, h2⟩ := h
  refine ⟨h1, ?_⟩
  rcases h2 with h2 | ⟨g, cap, cur, rfl, h3, h4, h5⟩
  · exact .inl h2
  · refine .inr ⟨g, cap, cur, rfl, h3, ?_, h5⟩
    rw [hb.block g (by
      rcases Nat.lt_or_ge g w.heap.size with hlt | hge
      · exact hlt
      · rw [Array.getElem?_eq_none hge] at h4; cases h4)]
    exact h4
theorem own_sliceA {w : World} {base : Nat} {e : TypeId} {v : Value} {n : Nat} {xs : List Value} (h : w.ownsRow base e 1 v n xs) : ∃ a c, v = .slice a n c := by
  obtain ⟨_, ⟨rfl, h0⟩ | ⟨g, cap, cur, rfl, _⟩⟩ := h
  · exact ⟨none, 0, by rw [h0]⟩
  · exact ⟨_, _, rfl⟩
theorem row_tidyA {k : IntKind} {m : Nat} {w : World} {v : Value} {l : List Nat} (h : Row k m w v l) (hl : 0 < l.length) : Tidy v := by
  obtain ⟨a, c, rfl, _, _, h3, _⟩ := h
  obtain ⟨b, off, rfl, _⟩ := h3 hl
  exact tidy_atA _ _ _
/-- append of whatever row onto one of the call's own -/
theorem wpList_appA {w : World} {ops : Array Oper} {rest : List Oper} {o : Oper} {a : Act} {Q : Exit → Act → World → Prop} (hgd : o.guard = none) (s x : Operand) (ho : o.op = .call { callee := .builtin .append, args := #[s, x], argTypes := #[22, 22] })
    (base : Nat) (v bv : Value) (n : Nat) (l b : List Nat) (hs : a.eval s = v) (hown : w.ownsRow base 5 1 v n (vals .u8 l)) (hx : a.eval x = bv) (rb : Row .u8 256 w bv b) (tb : Tidy bv) (hn : n ≤ 1000000) (hb : b.length ≤ 1000000) (hbase : base ≤ w.heap.size)
    (h : ∀ v' w', w'.ownsRow base 5 1 v' (n + b.length) (vals .u8 (l ++ b)) → w.grownBy w' v.ownBlock → wpList Try.prog ops Q rest (a.put o.dst v') w') : wpList Try.prog ops Q (o :: rest) a w := by
  obtain ⟨i0, hi, hz0, hz1, hz2⟩ := info_parts Try.info5
  obtain ⟨ba, bc, rfl, h1, h2, h3, h4⟩ := rb
  cases ba with
  | none =>
    obtain ⟨h0, rfl⟩ := tb _ _ rfl
    obtain rfl := List.eq_nil_of_length_eq_zero h0
    refine wpList_append_own_none hgd s x 22 ho base 5 i0 1 Try.underlying22 hi _ _ _ hs hown hx ?_
    exact h v w (by rw [List.append_nil]; exact hown) ⟨rfl, rfl, rfl, Nat.le_refl _, fun _ _ _ => rfl⟩
  | some y =>
    refine wpList_append_own _ hgd s x 22 ho base 5 i0 (.int .u8 0) 1 1 Try.underlying22 hi hz0 hz1 hz2 rfl (by decide) _ _ _ hs hown y b.length bc (vals .u8 b) hx (by rw [vals_length, Nat.mul_one]) (cells_news h3) (vals_one _ _) (by unfold maxLen; omega) (by omega) hbase ?_
    intro v' w3 how' hgrow _
    exact h v' w3 (by rw [vals_append]; exact how') hgrow
/-- a row of the call's own that is not empty -/
theorem own_at {w : World} {base : Nat} {e : TypeId} {v : Value} {n : Nat} {k : IntKind} {l : List Nat} (h : w.ownsRow base e 1 v n (vals k l)) (hn : 0 < n) (hl : l.length = n) :
    ∃ g c, v = .slice (some ⟨g, 0, none⟩) n c ∧ base ≤ g ∧ g < w.heap.size ∧ n ≤ c ∧ c ≤ maxLen ∧ ∀ i, i < n → w.cell? ⟨g, i, none⟩ = some (.int k (el l i : Nat)) := by
  have h' := h
  obtain ⟨_, ⟨_, h0⟩ | ⟨g, cap, cur, rfl, h1, h2, h3, h4, _⟩⟩ := h
  · omega
  · refine ⟨g, cap, rfl, h1, (h'.lt g (by simp [Value.ownBlock])).2, h3, h4, fun i hi => ?_⟩
    rw [h'.cellAt i (by rw [Nat.mul_one]; exact hi), vals_get k l i (by omega)]
theorem run_append_keepsA {P : Program} (w : World) (t ty : TypeId) (base : Nat) (e : TypeId) (i : TypeInfo) (z : Value) (bytes : Nat) (ht : P.underlying t = some (.slice e)) (hi : P.info? e = some i) (hz : i.zero = some z)
    (hsize : i.size = 1) (hby : i.bytes = bytes) (hzs : z.cells.size = 1)
    (g0 n cap0 : Nat) (xs : List Value) (hown : w.ownsRow base e 1 (.slice (some ⟨g0, 0, none⟩) n cap0) n xs)
    (ad : Addr) (m c : Nat) (news : List Value) (hl : news.length = m) (hnews : ∀ j u, news[j]? = some u → w.cell? (ad.add j) = some u) (h1 : ∀ u ∈ news, u.oneCell' = true)
    (hm : 0 < m) (h63 : n + m ≤ maxLen) (hbytes : (n + m) * bytes ≤ 140737488355328) (hbase : base ≤ w.heap.size) :
    ∃ g cap w', (Builtin.append_ #[t, t] ty #[.slice (some ⟨g0, 0, none⟩) n cap0, .slice (some ad) m c]).run P w = .ok (.slice (some ⟨g, 0, none⟩) (n + m) cap) w' ∧
      w'.ownsRow base e 1 (.slice (some ⟨g, 0, none⟩) (n + m) cap) (n + m) (xs ++ news) ∧ w.grownBy w' (some g0) ∧ (g0 = g ∨ g = w.heap.size) ∧ ∀ j, j < n → w'.cell? ⟨g0, j, none⟩ = w.cell? ⟨g0, j, none⟩ := by
  obtain ⟨g, cap, w', hr, h2, h3, h4, h5⟩ := run_append_lies (P := P) w t ty base e i z 1 bytes ht hi hz hsize hby hzs (by decide) _ n xs hown ad m c news (by rw [hl, Nat.mul_one]) hnews h1 hm h63 hbytes hbase _ rfl
  refine ⟨g, cap, w', hr, h2, h3, h4.imp (fun h => by simpa [Value.ownBlock] using h) id, fun j hj => ?_⟩
  have hown' := hown
  obtain ⟨hlen, ⟨he, _⟩ | ⟨q, cq, cur, he, hB, hg, hn, hc, hcs, htk⟩⟩ := hown
  · cases he
  · obtain ⟨rfl, rfl⟩ : g0 = q ∧ cap0 = cq := by simpa using he
    by_cases hroom : n + m ≤ cap0
    · have hrr := run_append_room_cells (P := P) w t ty e i ht hi g0 0 n cap0 ad m c news (by rw [hl, hsize, Nat.mul_one]) hnews h1 hroom
        (fun j hj => by rw [cell_of_row w g0 _ cur e (0, 0) hg, hsize]; simp; omega)
        (fun j hj => by simp [World.frozen?, hg])
      rw [hr] at hrr
      obtain rfl : w' = w.setCells g0 (0 + n * i.size) news := (Result.ok.inj hrr).2
      exact World.cell?_setCells_out g0 news _ w ⟨g0, j, none⟩ (fun _ _ => .inl (by show j < 0 + n * i.size; rw [hsize]; omega))
    · obtain ⟨v2, w2, hr2, _, hg2⟩ := run_append_arg_grows (P := P) w t ty e i z 1 bytes ht hi hz hsize hby hzs (by decide) ⟨g0, 0, none⟩ n cap0 xs hlen
        (fun j u hu => by
          have hjx : j < xs.length := (List.getElem?_eq_some_iff.1 hu).1
          rw [Addr.add_lit, Nat.zero_add, hown'.cellAt j (by omega)]; exact hu) ad m c news (by rw [hl, Nat.mul_one]) hnews (by omega) h63 hbytes
      rw [hr] at hr2
      obtain rfl : w' = w2 := (Result.ok.inj hr2).2
      exact World.cell?_of_block (hg2.block g0 (by rcases Nat.lt_or_ge g0 w.heap.size with h' | h'
                                                   · exact h'
                                                   · rw [Array.getElem?_eq_none h'] at hg; cases hg) (by simp))

theorem step_append_keepsA {P : Program} {w : World} {ops : Array Oper} {o : Oper} {a : Act} {K : Act → World → Prop} {Q : Exit → Act → World → Prop} {E : Prop} (hgd : o.guard = none) (s x : Operand) (t : TypeId)
    (ho : o.op = .call { callee := .builtin .append, args := #[s, x], argTypes := #[t, t] })
    (base : Nat) (e : TypeId) (i : TypeInfo) (z : Value) (bytes : Nat) (ht : P.underlying t = some (.slice e)) (hi : P.info? e = some i) (hz : i.zero = some z)
    (hsize : i.size = 1) (hby : i.bytes = bytes) (hzs : z.cells.size = 1)
    (g0 n cap0 : Nat) (xs : List Value) (hs : a.eval s = .slice (some ⟨g0, 0, none⟩) n cap0) (hown : w.ownsRow base e 1 (.slice (some ⟨g0, 0, none⟩) n cap0) n xs)
    (ad : Addr) (m c : Nat) (news : List Value) (hx : a.eval x = .slice (some ad) m c) (hl : news.length = m) (hnews : ∀ j u, news[j]? = some u → w.cell? (ad.add j) = some u) (h1 : ∀ u ∈ news, u.oneCell' = true)
    (hm : 0 < m) (h63 : n + m ≤ maxLen) (hbytes : (n + m) * bytes ≤ 140737488355328) (hbase : base ≤ w.heap.size)
    (h : ∀ g cap w', w'.ownsRow base e 1 (.slice (some ⟨g, 0, none⟩) (n + m) cap) (n + m) (xs ++ news) → w.grownBy w' (some g0) → (g0 = g ∨ g = w.heap.size) → (∀ j, j < n → w'.cell? ⟨g0, j, none⟩ = w.cell? ⟨g0, j, none⟩) → K (a.put o.dst (.slice (some ⟨g, 0, none⟩) (n + m) cap)) w') :
    if Region.wanted o (yielded ops a.tmps) = true then Oper.wp P o a w K Q else E := by
  have hw : Region.wanted o (yielded ops a.tmps) = true := by simp [Region.wanted, hgd]
  rw [if_pos hw]
  obtain ⟨g, cap, w', hr, h2, h3, h4, h5⟩ := run_append_keepsA (P := P) w t o.type base e i z bytes ht hi hz hsize hby hzs g0 n cap0 xs hown ad m c news hl hnews h1 hm h63 hbytes hbase
  unfold Oper.wp execOp
  simp only [ho, resolve, invoke, builtin, Sem.run_bind, Sem.run_pure, Result.andThen_ok, List.map_toArray, List.map_cons, List.map_nil, hs, hx, hr]
  exact h g cap w' h2 h3 h4 h5
end Go.Proofs.Yteiknfcegchbcaa

/- The code's read, onto. -/
namespace Go.Proofs.Yteiknfcegchbcaa
open Go.RowKit
set_option linter.unusedVariables false
set_option linter.unusedSimpArgs false

theorem num_4 (a b c d : Nat) (ha : a < 256) (hb : b < 256) (hc : c < 256) (hd : d < 256) : numL [a, b, c, d] = wd a b c d := by
  unfold numL wd
  simp only [List.foldl_cons, List.foldl_nil]
  omega
theorem num_col {s : List Nat} {i : Nat} (hs : Under 256 s) (h : 4 * i + 4 ≤ s.length) : numL ((s.drop (4 * i)).take 4) = col s i := by
  have e : (s.drop (4 * i)).take 4 = [el s (4 * i), el s (4 * i + 1), el s (4 * i + 2), el s (4 * i + 3)] := by
    rw [drop_el (by omega), drop_el (by omega), drop_el (by omega), drop_el (by omega)]
    rfl
  rw [e, num_4 _ _ _ _ (el_lt hs (by decide) _) (el_lt hs (by decide) _) (el_lt hs (by decide) _) (el_lt hs (by decide) _)]
  rfl
/-- the number of four bytes of a text -/
theorem num_part {w : World} {b o n c : Nat} {l : List Nat} (h : Row .u8 256 w (.slice (some ⟨b, o, none⟩) n c) l) {i P Q : Nat} (hP : P = 4 * i) (hQ : Q = P + 4) (hl : 4 * i + 4 ≤ l.length) :
    Calls Try.prog 42 #[.slice (some ⟨b, o + P, none⟩) 4 (c - P)] w fun e w' => e = .returned (.int .u64 (col l i : Nat)) ∧ w' = w := by
  have hm := h.mid (i := P) (j := Q) (by omega) (by omega)
  rw [show Q - P = 4 by omega] at hm
  have := num_any _ _ w hm
  rw [hP, num_col h.under hl] at this
  rw [hP]
  exact this
set_option maxHeartbeats 4000000 in
set_option maxRecDepth 100000 in
theorem read_any (bv : Value) (s : List Nat) (w : World) (hs : s.length = 16) (rs : Row .u8 256 w bv s) :
    Calls Try.prog 24 #[bv] w fun e w' => e = .returned (.agg (arr .u32 (sw s))) ∧ Below w.heap.size w w' := by
  have hz := zero4
  have L0 := Lies.new .u32 40 w (zA 4)
  have hb0 := keep_alloc w (.cells (arr .u32 (zA 4)) 40)
  have hu := rs.under
  obtain ⟨sa, sc, rfl, g1, g2, g3⟩ := rs.opens hs
  obtain ⟨sb, so, rfl, hc⟩ := g3 (by decide)
  have hsb : sb < w.heap.size := World.block_lt_of_cell? _ _ (hc 0 (by decide))
  have rs0 := rs.below hb0
  have hfin : upd (fun i => col s i) (zA 4) 4 = sw s := upd_sw (zA_len 4) fun i hi => rfl
  have HF := hide hfin
  clear hfin hc g3
  go_enter Try.func24, Try.ntmps24
  go_wp2
  clear hz
  generalize w.alloc (.cells (arr .u32 (zA 4)) 40) = x1 at *
  go_loopw [4] (fun i wr => ∃ n : Nat, n ≤ 4 ∧ i = .int .i64 n ∧ Lies .u32 40 wr w.heap.size (upd (fun i => col s i) (zA 4) n) ∧ But w.heap.size x1 wr) (fun i _ => 4 - (intOf i).toNat)
  case atStart => exact ⟨0, Nat.zero_le _, rfl, L0, But.refl _ _⟩
  case round =>
    obtain ⟨n, hn, rfl, hA, hB⟩ := hrel
    by_cases hlt : n < 4
    · have rs1 := rs0.but (fun _ q hq => by simp [Value.ownBlock] at hq; omega) hB
      obtain ⟨P, hP⟩ : ∃ x : Nat, x = 4 * n := ⟨_, rfl⟩
      obtain ⟨Q, hQ⟩ : ∃ x : Nat, x = P + 4 := ⟨_, rfl⟩
      have hnum := num_part rs1 hP hQ (by omega)
      have e_P : 4 * (n : Int) = (P : Int) := by omega
      have s_P : IntKind.i64.wrap (P : Int) = (P : Int) := by rw [IntKind.wrap_i64]; omega
      have e_Q : (P : Int) + 4 = (Q : Int) := by omega
      have s_Q : IntKind.i64.wrap (Q : Int) = (Q : Int) := by rw [IntKind.wrap_i64]; omega
      have l_PQ : (P : Int) ≤ (Q : Int) := by omega
      have l_Qc : (Q : Int) ≤ (sc : Int) := by omega
      have d_QP : Q - P = 4 := by omega
      have f1 := hA.frozen n
      have c1 := hA.cell (i := n) (by rw [upd_len, zA_len]; exact hlt)
      have hst : ∀ y, Lies .u32 40 y w.heap.size (upd (fun i => col s i) (zA 4) n) → Lies .u32 40 (y.setCell ⟨w.heap.size, n, none⟩ (.int .u32 (col s n : Nat))) w.heap.size (upd (fun i => col s i) (zA 4) (n + 1)) := fun y hy => hy.set n _
      have HST := hide hst
      have hcl := col_lt hu n
      have s_W : IntKind.u32.wrap (col s n : Int) = (col s n : Int) := by rw [IntKind.wrap_u32]; omega
      have m_W : (col s n : Int) % 4294967296 = (col s n : Int) := by omega
      have i1 : (n : Int) < 4 := by omega
      clear hst hP hQ
      generalize col s n = W at *
      go_wp2_with (first | (go_at_call 42; refine hnum.mono ?_; rintro e y ⟨rfl, hy⟩; obtain rfl := hy.symm) | fail)
      exact ⟨⟨n + 1, by omega, by go_num, HST.out _ hA, hB.setCell n _⟩, by simp [intOf]; omega⟩
    · obtain rfl : n = 4 := by omega
      rw [HF.out] at hA
      have hsl : (sw s).length = 4 := rfl
      have hbr := hb0.trans (hB.below (by omega) hb0.size)
      generalize hX : sw s = X at hA hsl
      have HX := hide hX
      clear hX HF
      have hOf : Lies .u32 40 (wr.setRow w.heap.size (arr .u32 X)) w.heap.size X := hA.row
      have hbf := hbr.trans ((But.setRow (But.refl w.heap.size _) (arr .u32 X)).below (by omega) hbr.size)
      go_wp2_with (first
        | (refine wpList_load_row rfl 40 _ (by rfl) w.heap.size (by rfl) _ _ _ (.array 4 38) hA (by kernel_rfl) rfl (by rw [arr_size, hsl]; kernel_rfl) ?_)
        | (refine wpList_store_row rfl 40 _ _ (by rfl) w.heap.size (arr .u32 X) (by rfl) (by rfl) _ _ hA (by rw [arr_size, hsl]; kernel_rfl) rfl (arr_one _ _) ?_)
        | fail)
      refine bodyPost_ret (v := .agg (arr .u32 X)) ?_ rfl ⟨by rw [HX.out], hbf⟩
      exact results_cell_row Try.results24 _ _ w.heap.size _ _ _ (.array 4 38) (by rfl) hOf (by kernel_rfl) rfl (by rw [arr_size, hsl]; kernel_rfl)
theorem cells_newsA {w : World} {y : Addr} {n c : Nat} {l : List Nat} (h : Row .u8 256 w (.slice (some y) n c) l) : ∀ j u, (vals .u8 l)[j]? = some u → w.cell? (y.add j) = some u := by
  obtain ⟨a, cap, he, _, _, h3, _⟩ := h
  simp at he
  obtain ⟨rfl, _, _⟩ := he
  exact cells_news h3
theorem four {s : List Nat} {n : Nat} (h : 4 * n + 4 ≤ s.length) : s.take (4 * (n + 1)) = s.take (4 * n) ++ [el s (4 * n), el s (4 * n + 1), el s (4 * n + 2), el s (4 * n + 3)] := by
  rw [show 4 * (n + 1) = 4 * n + 1 + 1 + 1 + 1 by omega, take_el (by omega), take_el (by omega), take_el (by omega), take_el (by omega)]
  simp
theorem under4 {a b c d : Nat} (ha : a < 256) (hb : b < 256) (hc : c < 256) (hd : d < 256) : Under 256 [a, b, c, d] := by
  intro x hx
  simp only [List.mem_cons, List.not_mem_nil, or_false] at hx
  omega
/-- the bytes of a word, in the walk's spelling -/
theorem bytes_of {a b c d : Nat} (ha : a < 256) (hb : b < 256) (hc : c < 256) (hd : d < 256) (W : Nat) (hW : W = wd a b c d) :
    IntKind.u8.wrap ((W : Int) / 16777216) = (a : Int) ∧ IntKind.u8.wrap ((W : Int) / 65536) = (b : Int) ∧ IntKind.u8.wrap ((W : Int) / 256) = (c : Int) ∧ IntKind.u8.wrap (W : Int) = (d : Int) ∧ (W : Int) / 16777216 = (a : Int) := by
  have e0 := wd_0 ha hb hc hd
  have e1 := wd_1 ha hb hc hd
  have e2 := wd_2 ha hb hc hd
  have e3 := wd_3 ha hb hc hd
  rw [← hW] at e0 e1 e2 e3
  refine ⟨?_, ?_, ?_, ?_, ?_⟩
  · rw [IntKind.wrap_u8]; omega
  · rw [IntKind.wrap_u8]; omega
  · rw [IntKind.wrap_u8]; omega
  · rw [IntKind.wrap_u8]; omega
  · omega
set_option maxHeartbeats 4000000 in
set_option maxRecDepth 100000 in
theorem onto_nil (s : List Nat) (w : World) (hs : B16 s) :
    Calls Try.prog 25 #[.agg (arr .u32 (sw s)), .slice none 0 0] w fun e w' => ∃ v, e = .returned v ∧ Own 5 .u8 256 w' w.heap.size v s ∧ Below w.heap.size w w' := by
  have L0 := Lies.new .u32 40 w (sw s)
  have hb0 := keep_alloc w (.cells (arr .u32 (sw s)) 40)
  have lA := sw_len s
  have eA := fun k => sw_el s (c := k)
  have HE := hide eA
  clear eA
  generalize sw s = A at *
  go_enter Try.func25, Try.ntmps25
  go_wp2_with (first
    | (refine wpList_load_row rfl 40 _ (by rfl) w.heap.size (by rfl) _ _ _ (.array 4 38) L0 (by kernel_rfl) rfl (by rw [arr_size, lA]; kernel_rfl) ?_)
    | fail)
  clear L0
  generalize w.alloc (.cells (arr .u32 A) 40) = x1 at *
  go_loopw [1, 8] (fun v i wr => ∃ n : Nat, n ≤ 4 ∧ i = .int .i64 n ∧ wr.ownsRow w.heap.size 5 1 v (4 * n) (vals .u8 (s.take (4 * n))) ∧ Below w.heap.size w wr) (fun _ i _ => 4 - (intOf i).toNat)
  case atStart => exact ⟨0, Nat.zero_le _, rfl, World.ownsRow_nil _ _ _ _, hb0⟩
  case round =>
    obtain ⟨n, hn, rfl, how, hbr⟩ := hrel
    by_cases hlt : n < 4
    · have b0 := hs.el (4 * n)
      have b1 := hs.el (4 * n + 1)
      have b2 := hs.el (4 * n + 2)
      have b3 := hs.el (4 * n + 3)
      have hix := fun y => ix4 A lA n hlt y
      rw [HE.out n hlt] at hix
      have ecol : col s n = wd (el s (4 * n)) (el s (4 * n + 1)) (el s (4 * n + 2)) (el s (4 * n + 3)) := rfl
      rw [ecol] at hix
      have hf := four (s := s) (n := n) (by rw [hs.1]; omega)
      have HFo := hide hf
      clear hf ecol
      generalize el s (4 * n) = a at *
      generalize el s (4 * n + 1) = b at *
      generalize el s (4 * n + 2) = c at *
      generalize el s (4 * n + 3) = d at *
      obtain ⟨y0, y1, y2, y3, y4⟩ := bytes_of b0 b1 b2 b3 _ rfl
      have hWl := wd_lt b0 b1 b2 b3
      generalize wd a b c d = W at *
      have hlit : Row .u8 256 (wr.alloc (.cells #[.int .u8 (a : Int), .int .u8 (b : Int), .int .u8 (c : Int), .int .u8 (d : Int)] 5)) (.slice (some ⟨wr.heap.size, 0, none⟩) 4 4) [a, b, c, d] := lit_row .u8 256 wr [a, b, c, d] 5 (under4 b0 b1 b2 b3) (by show 4 ≤ maxLen; decide)
      have how2 := own_belowA how (keep_alloc wr (.cells #[.int .u8 (a : Int), .int .u8 (b : Int), .int .u8 (c : Int), .int .u8 (d : Int)] 5))
      have hbr2 := keep_trans hbr (keep_alloc wr (.cells #[.int .u8 (a : Int), .int .u8 (b : Int), .int .u8 (c : Int), .int .u8 (d : Int)] 5))
      have HB2 := hide (And.intro hbr2 how)
      have i1 : (n : Int) < 4 := by omega
      obtain ⟨n4, hn4⟩ : ∃ x : Nat, x = 4 * n := ⟨_, rfl⟩
      have ln4 : n4 ≤ 1000000 := by omega
      rw [← hn4] at how how2
      have HN4 := hide hn4
      clear hn4 hbr2
      obtain ⟨va, vc, rfl⟩ := own_sliceA how
      have hsz : w.heap.size ≤ (wr.alloc (.cells #[.int .u8 (a : Int), .int .u8 (b : Int), .int .u8 (c : Int), .int .u8 (d : Int)] 5)).heap.size := HB2.out.1.size
      have HSZ := hide hsz
      clear how hsz
      go_wp2_with (first
        | (at_builtin; refine wpList_appA rfl _ _ rfl w.heap.size _ _ n4 _ [a, b, c, d] rfl how2 rfl hlit (tidy_atA _ _ _) ln4 (show 4 ≤ 1000000 by decide) HSZ.out ?_; intro v1 w1 how3 hg1)
        | fail)
      refine ⟨⟨n + 1, by omega, by go_num, ?_, ?_⟩, by simp [intOf]; omega⟩
      · rw [HFo.out, show 4 * (n + 1) = n4 + 4 by have := HN4.out; omega, ← HN4.out]
        exact how3
      · exact HB2.out.1.grown hg1 HSZ.out (fun k h => (how2.lt k h).1)
    · obtain rfl : n = 4 := by omega
      rw [show 4 * 4 = 16 from rfl, List.take_of_length_le (by rw [hs.1]; exact Nat.le_refl _)] at how
      go_wp2
      go_ret
      exact ⟨_, rfl, ⟨by rw [hs.1]; exact how, hs.2⟩, hbr⟩
set_option maxHeartbeats 4000000 in
set_option maxRecDepth 100000 in
theorem onto_fit (s l : List Nat) (B g N cap : Nat) (w : World) (hs : B16 s) (hl : l.length = N) (how0 : w.ownsRow B 5 1 (.slice (some ⟨g, 0, none⟩) N cap) N (vals .u8 l)) (hcap : N + 16 ≤ cap) :
    Calls Try.prog 25 #[.agg (arr .u32 (sw s)), .slice (some ⟨g, 0, none⟩) N cap] w fun e w' => e = .returned (.slice (some ⟨g, 0, none⟩) (N + 16) cap) ∧ w'.ownsRow B 5 1 (.slice (some ⟨g, 0, none⟩) (N + 16) cap) (N + 16) (vals .u8 (l ++ s)) ∧ But g w w' := by
  obtain ⟨i0, hi, hz0, hz1, hz2⟩ := info_parts Try.info5
  have L0 := Lies.new .u32 40 w (sw s)
  have hb0 := keep_alloc w (.cells (arr .u32 (sw s)) 40)
  have lA := sw_len s
  have eA := fun k => sw_el s (c := k)
  have HE := hide eA
  clear eA
  generalize sw s = A at *
  have how1 := own_belowA how0 hb0
  have hgw : g < w.heap.size := (how0.lt g rfl).2
  have HC := hide hcap
  clear hcap
  go_enter Try.func25, Try.ntmps25
  go_wp2_with (first
    | (refine wpList_load_row rfl 40 _ (by rfl) w.heap.size (by rfl) _ _ _ (.array 4 38) L0 (by kernel_rfl) rfl (by rw [arr_size, lA]; kernel_rfl) ?_)
    | fail)
  clear L0
  generalize w.alloc (.cells (arr .u32 A) 40) = x1 at *
  go_loopw [1, 8] (fun v i wr => ∃ n : Nat, n ≤ 4 ∧ i = .int .i64 n ∧ v = .slice (some ⟨g, 0, none⟩) (N + 4 * n) cap ∧ wr.ownsRow B 5 1 v (N + 4 * n) (vals .u8 (l ++ s.take (4 * n))) ∧ But g w wr) (fun _ i _ => 4 - (intOf i).toNat)
  case atStart => exact ⟨0, Nat.zero_le _, rfl, rfl, by simpa using how1, But.of_below hb0⟩
  case round =>
    obtain ⟨n, hn, rfl, rfl, how, hbr⟩ := hrel
    by_cases hlt : n < 4
    · have b0 := hs.el (4 * n)
      have b1 := hs.el (4 * n + 1)
      have b2 := hs.el (4 * n + 2)
      have b3 := hs.el (4 * n + 3)
      have hix := fun y => ix4 A lA n hlt y
      rw [HE.out n hlt] at hix
      have ecol : col s n = wd (el s (4 * n)) (el s (4 * n + 1)) (el s (4 * n + 2)) (el s (4 * n + 3)) := rfl
      rw [ecol] at hix
      have hf := four (s := s) (n := n) (by rw [hs.1]; omega)
      have HFo := hide hf
      clear hf ecol
      generalize el s (4 * n) = a at *
      generalize el s (4 * n + 1) = b at *
      generalize el s (4 * n + 2) = c at *
      generalize el s (4 * n + 3) = d at *
      obtain ⟨y0, y1, y2, y3, y4⟩ := bytes_of b0 b1 b2 b3 _ rfl
      have hWl := wd_lt b0 b1 b2 b3
      generalize wd a b c d = W at *
      have hnews : ∀ j u, (vals .u8 [a, b, c, d])[j]? = some u → (wr.alloc (.cells #[.int .u8 (a : Int), .int .u8 (b : Int), .int .u8 (c : Int), .int .u8 (d : Int)] 5)).cell? ((⟨wr.heap.size, 0, none⟩ : Addr).add j) = some u :=
        cells_newsA (lit_row .u8 256 wr [a, b, c, d] 5 (under4 b0 b1 b2 b3) (by show 4 ≤ maxLen; decide))
      have how2 := own_belowA how (keep_alloc wr (.cells #[.int .u8 (a : Int), .int .u8 (b : Int), .int .u8 (c : Int), .int .u8 (d : Int)] 5))
      have hbr2 := hbr.alloc (.cells #[.int .u8 (a : Int), .int .u8 (b : Int), .int .u8 (c : Int), .int .u8 (d : Int)] 5)
      have HB2 := hide hbr2
      have i1 : (n : Int) < 4 := by omega
      obtain ⟨n4, hn4⟩ : ∃ x : Nat, x = N + 4 * n := ⟨_, rfl⟩
      have ln4 : n4 + 4 ≤ cap := by have := HC.out; omega
      rw [← hn4] at how2 ⊢
      have HN4 := hide hn4
      clear hn4 hbr2 how
      go_wp2_with (first
        | (at_builtin; refine wpList_append_fits _ rfl _ _ 22 rfl B 5 i0 1 Try.underlying22 hi hz1 g n4 cap _ rfl how2 ⟨wr.heap.size, 0, none⟩ 4 4 (vals .u8 [a, b, c, d]) rfl rfl hnews (vals_one _ _) ln4 ?_; intro w1 how3 hg1)
        | fail)
      refine ⟨⟨n + 1, by omega, by go_num, ?_, ?_, ?_⟩, by simp [intOf]; omega⟩
      · rw [show N + 4 * (n + 1) = n4 + 4 by have := HN4.out; omega]
      · rw [HFo.out, show N + 4 * (n + 1) = n4 + 4 by have := HN4.out; omega, ← List.append_assoc, vals_append]
        exact how3
      · exact HB2.out.trans ⟨hg1.os, hg1.tape, hg1.output, hg1.size, fun k hk hne => hg1.block k hk (by simpa using hne)⟩
    · obtain rfl : n = 4 := by omega
      rw [show 4 * 4 = 16 from rfl, List.take_of_length_le (by rw [hs.1]; exact Nat.le_refl _)] at how
      go_wp2
      go_ret
      exact ⟨rfl, how, hbr⟩
end Go.Proofs.Yteiknfcegchbcaa
