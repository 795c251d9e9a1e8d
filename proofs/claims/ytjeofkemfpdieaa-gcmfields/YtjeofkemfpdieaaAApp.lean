/- append of whatever row, apart from mac's. -/
import Derived.Test.YtjeofkemfpdieaaAMul
import Derived.Deep.AppendLies
import Derived.Laws.AppendOwnNone
import Derived.ArgAppend
import Derived.Test.YtjeofkemfpdieaaGfB
import Derived.Laws.ShiftsVarLaws
namespace Go.Proofs.Ytjeofkemfpdieaa
open Go.RowKit
set_option linter.unusedVariables false
set_option linter.unusedSimpArgs false

theorem tidy_atA (x : Addr) (n c : Nat) : Tidy (.slice (some x) n c) := fun n c he => by simp at he
theorem own_belowA {w w' : World} {base : Nat} {e : TypeId} {size : Nat} {v : Value} {n : Nat} {xs : List Value} (h : w.ownsRow base e size v n xs) (hb : Below w.heap.size w w') : w'.ownsRow base e size v n xs := by
  obtain ⟨h1, h2⟩ := h
  refine ⟨h1, ?_⟩
  rcases h2 with h2 | ⟨g, cap, cur, rfl, h3, h4, h5⟩
  · exact .inl h2
  · refine .inr ⟨g, cap, cur, rfl, h3, ?_, h5⟩
    rw [hb.block g (by
      rcases Nat.lt_or_ge g w.heap.size with hlt | hge
      · exact hlt
      · rw [Array.getElem?_eq_none hge] at h4; cases h4)]
    exact h4
theorem own_sliceA {w : World} {base : Nat} {e : TypeId} {v : Value} {n : Nat} {xs : List Value} (h : w.ownsRow base e 1 v n xs) : ∃ a c, v = .slice a n c := by
  obtain ⟨_, ⟨rfl, h0⟩ | ⟨g, cap, cur, rfl, _⟩⟩ := h
  · exact ⟨none, 0, by rw [h0]⟩
  · exact ⟨_, _, rfl⟩
theorem row_tidyA {k : IntKind} {m : Nat} {w : World} {v : Value} {l : List Nat} (h : Row k m w v l) (hl : 0 < l.length) : Tidy v := by
  obtain ⟨a, c, rfl, _, _, h3, _⟩ := h
  obtain ⟨b, off, rfl, _⟩ := h3 hl
  exact tidy_atA _ _ _
/-- append of whatever row onto one of the call's own -/
theorem wpList_appA {w : World} {ops : Array Oper} {rest : List Oper} {o : Oper} {a : Act} {Q : Exit → Act → World → Prop} (hgd : o.guard = none) (s x : Operand) (ho : o.op = .call { callee := .builtin .append, args := #[s, x], argTypes := #[22, 22] })
    (base : Nat) (v bv : Value) (n : Nat) (l b : List Nat) (hs : a.eval s = v) (hown : w.ownsRow base 5 1 v n (vals .u8 l)) (hx : a.eval x = bv) (rb : Row .u8 256 w bv b) (tb : Tidy bv) (hn : n ≤ 1000000) (hb : b.length ≤ 1000000) (hbase : base ≤ w.heap.size)
    (h : ∀ v' w', w'.ownsRow base 5 1 v' (n + b.length) (vals .u8 (l ++ b)) → w.grownBy w' v.ownBlock → wpList Try.prog ops Q rest (a.put o.dst v') w') : wpList Try.prog ops Q (o :: rest) a w := by
  obtain ⟨i0, hi, hz0, hz1, hz2⟩ := info_parts Try.info5
  obtain ⟨ba, bc, rfl, h1, h2, h3, h4⟩ := rb
  cases ba with
  | none =>
    obtain ⟨h0, rfl⟩ := tb _ _ rfl
    obtain rfl := List.eq_nil_of_length_eq_zero h0
    refine wpList_append_own_none hgd s x 22 ho base 5 i0 1 Try.underlying22 hi _ _ _ hs hown hx ?_
    exact h v w (by rw [List.append_nil]; exact hown) ⟨rfl, rfl, rfl, Nat.le_refl _, fun _ _ _ => rfl⟩
  | some y =>
    refine wpList_append_own _ hgd s x 22 ho base 5 i0 (.int .u8 0) 1 1 Try.underlying22 hi hz0 hz1 hz2 rfl (by decide) _ _ _ hs hown y b.length bc (vals .u8 b) hx (by rw [vals_length, Nat.mul_one]) (cells_news h3) (vals_one _ _) (by unfold maxLen; omega) (by omega) hbase ?_
    intro v' w3 how' hgrow _
    exact h v' w3 (by rw [vals_append]; exact how') hgrow
/-- a row of the call's own that is not empty -/
theorem own_at {w : World} {base : Nat} {e : TypeId} {v : Value} {n : Nat} {k : IntKind} {l : List Nat} (h : w.ownsRow base e 1 v n (vals k l)) (hn : 0 < n) (hl : l.length = n) :
    ∃ g c, v = .slice (some ⟨g, 0, none⟩) n c ∧ base ≤ g ∧ g < w.heap.size ∧ n ≤ c ∧ c ≤ maxLen ∧ ∀ i, i < n → w.cell? ⟨g, i, none⟩ = some (.int k (el l i : Nat)) := by
  have h' := h
  obtain ⟨_, ⟨_, h0⟩ | ⟨g, cap, cur, rfl, h1, h2, h3, h4, _⟩⟩ := h
  · omega
  · refine ⟨g, cap, rfl, h1, (h'.lt g (by simp [Value.ownBlock])).2, h3, h4, fun i hi => ?_⟩
    rw [h'.cellAt i (by rw [Nat.mul_one]; exact hi), vals_get k l i (by omega)]
theorem run_append_keepsA {P : Program} (w : World) (t ty : TypeId) (base : Nat) (e : TypeId) (i : TypeInfo) (z : Value) (bytes : Nat) (ht : P.underlying t = some (.slice e)) (hi : P.info? e = some i) (hz : i.zero = some z)
    (hsize : i.size = 1) (hby : i.bytes = bytes) (hzs : z.cells.size = 1)
    (g0 n cap0 : Nat) (xs : List Value) (hown : w.ownsRow base e 1 (.slice (some ⟨g0, 0, none⟩) n cap0) n xs)
    (ad : Addr) (m c : Nat) (news : List Value) (hl : news.length = m) (hnews : ∀ j u, news[j]? = some u → w.cell? (ad.add j) = some u) (h1 : ∀ u ∈ news, u.oneCell' = true)
    (hm : 0 < m) (h63 : n + m ≤ maxLen) (hbytes : (n + m) * bytes ≤ 140737488355328) (hbase : base ≤ w.heap.size) :
    ∃ g cap w', (Builtin.append_ #[t, t] ty #[.slice (some ⟨g0, 0, none⟩) n cap0, .slice (some ad) m c]).run P w = .ok (.slice (some ⟨g, 0, none⟩) (n + m) cap) w' ∧
      w'.ownsRow base e 1 (.slice (some ⟨g, 0, none⟩) (n + m) cap) (n + m) (xs ++ news) ∧ w.grownBy w' (some g0) ∧ (g0 = g ∨ g = w.heap.size) ∧ ∀ j, j < n → w'.cell? ⟨g0, j, none⟩ = w.cell? ⟨g0, j, none⟩ := by
  obtain ⟨g, cap, w', hr, h2, h3, h4, h5⟩ := run_append_lies (P := P) w t ty base e i z 1 bytes ht hi hz hsize hby hzs (by decide) _ n xs hown ad m c news (by rw [hl, Nat.mul_one]) hnews h1 hm h63 hbytes hbase _ rfl
  refine ⟨g, cap, w', hr, h2, h3, h4.imp (fun h => by simpa [Value.ownBlock] using h) id, fun j hj => ?_⟩
  have hown' := hown
  obtain ⟨hlen, ⟨he, _⟩ | ⟨q, cq, cur, he, hB, hg, hn, hc, hcs, htk⟩⟩ := hown
  · cases he
  · obtain ⟨rfl, rfl⟩ : g0 = q ∧ cap0 = cq := by simpa using he
    by_cases hroom : n + m ≤ cap0
    · have hrr := run_append_room_cells (P := P) w t ty e i ht hi g0 0 n cap0 ad m c news (by rw [hl, hsize, Nat.mul_one]) hnews h1 hroom
        (fun j hj => by rw [cell_of_row w g0 _ cur e (0, 0) hg, hsize]; simp; omega)
        (fun j hj => by simp [World.frozen?, hg])
      rw [hr] at hrr
      obtain rfl : w' = w.setCells g0 (0 + n * i.size) news := (Result.ok.inj hrr).2
      exact World.cell?_setCells_out g0 news _ w ⟨g0, j, none⟩ (fun _ _ => .inl (by show j < 0 + n * i.size; rw [hsize]; omega))
    · obtain ⟨v2, w2, hr2, _, hg2⟩ := run_append_arg_grows (P := P) w t ty e i z 1 bytes ht hi hz hsize hby hzs (by decide) ⟨g0, 0, none⟩ n cap0 xs hlen
        (fun j u hu => by
          have hjx : j < xs.length := (List.getElem?_eq_some_iff.1 hu).1
          rw [Addr.add_lit, Nat.zero_add, hown'.cellAt j (by omega)]; exact hu) ad m c news (by rw [hl, Nat.mul_one]) hnews (by omega) h63 hbytes
      rw [hr] at hr2
      obtain rfl : w' = w2 := (Result.ok.inj hr2).2
      exact World.cell?_of_block (hg2.block g0 (by rcases Nat.lt_or_ge g0 w.heap.size with h' | h'
                                                   · exact h'
                                                   · rw [Array.getElem?_eq_none h'] at hg; cases hg) (by simp))

theorem step_append_keepsA {P : Program} {w : World} {ops : Array Oper} {o : Oper} {a : Act} {K : Act → World → Prop} {Q : Exit → Act → World → Prop} {E : Prop} (hgd : o.guard = none) (s x : Operand) (t : TypeId)
    (ho : o.op = .call { callee := .builtin .append, args := #[s, x], argTypes := #[t, t] })
    (base : Nat) (e : TypeId) (i : TypeInfo) (z : Value) (bytes : Nat) (ht : P.underlying t = some (.slice e)) (hi : P.info? e = some i) (hz : i.zero = some z)
    (hsize : i.size = 1) (hby : i.bytes = bytes) (hzs : z.cells.size = 1)
    (g0 n cap0 : Nat) (xs : List Value) (hs : a.eval s = .slice (some ⟨g0, 0, none⟩) n cap0) (hown : w.ownsRow base e 1 (.slice (some ⟨g0, 0, none⟩) n cap0) n xs)
    (ad : Addr) (m c : Nat) (news : List Value) (hx : a.eval x = .slice (some ad) m c) (hl : news.length = m) (hnews : ∀ j u, news[j]? = some u → w.cell? (ad.add j) = some u) (h1 : ∀ u ∈ news, u.oneCell' = true)
    (hm : 0 < m) (h63 : n + m ≤ maxLen) (hbytes : (n + m) * bytes ≤ 140737488355328) (hbase : base ≤ w.heap.size)
    (h : ∀ g cap w', w'.ownsRow base e 1 (.slice (some ⟨g, 0, none⟩) (n + m) cap) (n + m) (xs ++ news) → w.grownBy w' (some g0) → (g0 = g ∨ g = w.heap.size) → (∀ j, j < n → w'.cell? ⟨g0, j, none⟩ = w.cell? ⟨g0, j, none⟩) → K (a.put o.dst (.slice (some ⟨g, 0, none⟩) (n + m) cap)) w') :
    if Region.wanted o (yielded ops a.tmps) = true then Oper.wp P o a w K Q else E := by
  have hw : Region.wanted o (yielded ops a.tmps) = true := by simp [Region.wanted, hgd]
  rw [if_pos hw]
  obtain ⟨g, cap, w', hr, h2, h3, h4, h5⟩ := run_append_keepsA (P := P) w t o.type base e i z bytes ht hi hz hsize hby hzs g0 n cap0 xs hown ad m c news hl hnews h1 hm h63 hbytes hbase
  unfold Oper.wp execOp
  simp only [ho, resolve, invoke, builtin, Sem.run_bind, Sem.run_pure, Result.andThen_ok, List.map_toArray, List.map_cons, List.map_nil, hs, hx, hr]
  exact h g cap w' h2 h3 h4 h5
end Go.Proofs.Ytjeofkemfpdieaa

/- The document's products of blocks. -/
namespace Go.Proofs.Ytjeofkemfpdieaa
open Go.RowKit
set_option linter.unusedVariables false
set_option linter.unusedSimpArgs false

set_option maxHeartbeats 4000000 in
set_option maxRecDepth 100000 in
theorem rbit_any (b : List Nat) (bv : Value) (i : Nat) (w : World) (rb : Row .u8 256 w bv b) (hb : B16 b) (hi : i < 128) :
    Calls Try.prog 23 #[bv, .int .i64 (i : Int)] w fun e w' => e = .returned (.int .u8 (bitB b i : Nat)) ∧ w' = w := by
  obtain ⟨ba, bc, rfl, lc1, lc2, hop⟩ := rb.opens hb.1
  obtain ⟨bb, bo, rfl, hc⟩ := hop (by decide)
  obtain ⟨q, hq⟩ : ∃ x : Nat, x = i / 8 := ⟨_, rfl⟩
  obtain ⟨m, hm⟩ : ∃ x : Nat, x = i % 8 := ⟨_, rfl⟩
  obtain ⟨s, hs⟩ : ∃ x : Nat, x = 7 - m := ⟨_, rfl⟩
  have e_q : (i : Int) / 8 = (q : Int) := by omega
  have t_q : (i : Int).tdiv 8 = (q : Int) := by rw [Int.tdiv_eq_ediv_of_nonneg (by omega)]; exact e_q
  have s_q : IntKind.i64.wrap (q : Int) = (q : Int) := by rw [IntKind.wrap_i64]; omega
  have e_m : (i : Int) % 8 = (m : Int) := by omega
  have t_m : (i : Int).tmod 8 = (m : Int) := by rw [Int.tmod_eq_emod_of_nonneg (by omega)]; exact e_m
  have s_m : IntKind.i64.wrap (m : Int) = (m : Int) := by rw [IntKind.wrap_i64]; omega
  have e_s : 7 - (m : Int) = (s : Int) := by omega
  have s_s : IntKind.i64.wrap (s : Int) = (s : Int) := by rw [IntKind.wrap_i64]; omega
  have l_q : (q : Int) < 16 := by omega
  have z_q : (0 : Int) ≤ (q : Int) := Int.natCast_nonneg _
  have z_s : (0 : Int) ≤ (s : Int) := Int.natCast_nonneg _
  have cq := hc q (by omega)
  have hx := hb.el q
  have hbit : bitB b i = el b q / 2 ^ s % 2 := by unfold bitB; rw [hq, hs, hm]
  rw [hbit]
  have HH := hide (And.intro hq (And.intro hm hs))
  have f_and : bits BinOp.and IntKind.u8 ((el b q : Int) / 2 ^ s) 1 = ((el b q / 2 ^ s % 2 : Nat) : Int) := by
    have hy : el b q / 2 ^ s < 256 := Nat.lt_of_le_of_lt (Nat.div_le_self _ _) hx
    rw [show ((el b q : Int) / 2 ^ s) = ((el b q / 2 ^ s : Nat) : Int) by simp, show (1 : Int) = ((1 : Nat) : Int) from rfl, u8_and_nat _ _ hy (by decide), Nat.and_one_is_mod]
  clear hq hm hs hc hop hbit hi
  generalize el b q = x at *
  go_enter Try.func23, Try.ntmps23
  go_wp2
  go_ret
  exact ⟨rfl, rfl⟩
/-- where the loops stand -/
def GmL (w1 : World) (g : Nat) (N : Nat → Nat) (vi : Value) (wr : World) : Prop := ∃ i : Nat, i ≤ 128 ∧ vi = .int .i64 (i : Int) ∧ Lies .u8 5 wr g (bitsL 255 (N i)) ∧ But g w1 wr
def GrL (w1 : World) (g P : Nat) (vk : Value) (wr : World) : Prop := ∃ q y : Nat, q ≤ 127 ∧ vk = .int .i64 ((127 + q : Nat) : Int) ∧ Lies .u8 5 wr g (bitsL 255 y) ∧ redG q (y % 2 ^ (128 + q)) = P ∧ But g w1 wr
def GoL (w2 : World) (g : Nat) (y : Nat) (vi : Value) (wr : World) : Prop := ∃ i : Nat, i ≤ 128 ∧ vi = .int .i64 (i : Int) ∧ Lies .u8 5 wr g (outK (fun k => y / 2 ^ k % 2) i) ∧ But g w2 wr
set_option maxHeartbeats 20000000 in
set_option maxRecDepth 100000 in
theorem rmulG_ok (a b : List Nat) (av bv : Value) (w : World) (ra : Row .u8 256 w av a) (rb : Row .u8 256 w bv b) (ha : B16 a) (hb : B16 b) :
    Calls Try.prog 11 #[av, bv] w fun e w' => ∃ v, e = .returned v ∧ Own 5 .u8 256 w' w.heap.size v (mulP a b) ∧ Below w.heap.size w w' := by
  obtain ⟨i0, hi, hz0, hz1, hz2⟩ := info_parts Try.info5
  obtain ⟨aa, ac, rfl, _⟩ := ra.opens ha.1
  obtain ⟨ba, bc, rfl, _⟩ := rb.opens hb.1
  have hA := polB_lt a
  have hB := polB_lt b
  have hbA := fun y i (h : Below w.heap.size w y) (hi : i < 128) => rbit_any a _ i y (ra.below h) ha hi
  have hbB := fun y i (h : Below w.heap.size w y) (hi : i < 128) => rbit_any b _ i y (rb.below h) hb hi
  have hbiA := fun k (h : k < 128) => (polB_bit a h).symm
  have hbiB := fun k (h : k < 128) => (polB_bit b h).symm
  have hmp : mulP a b = blkP (mulG (polB a) (polB b)) := rfl
  have HA := hide (And.intro hA (And.intro hB (And.intro hbA (And.intro hbB (And.intro hbiA (And.intro hbiB hmp))))))
  clear hA hB hbA hbB hbiA hbiB hmp
  generalize polB a = A at *
  generalize polB b = B at *
  go_enter Try.func11, Try.ntmps11
  go_wp2_with (first | (at_make; refine wpList_make_full _ rfl _ _ 22 rfl w.heap.size 5 i0 (.int .u8 0) 1 Try.underlying22 hi hz0 hz1 _ _ _ _ 255 rfl rfl rfl rfl (by rw [hz2]; decide) (by unfold maxLen; decide) (by simp) ?_; intro w1 hown hgrow) | fail)
  have h00 : prG A B 0 0 = 0 := by rw [prG_zero, Nat.pow_zero, Nat.mod_one, cl_zero]
  rw [made_u8, show List.replicate 255 0 = bitsL 255 (prG A B 0 0) by rw [h00, bitsL_zero]] at hown
  have hL1 := lies_own hown (bitsL_len _ _)
  have hb1 := (Below.refl w.heap.size w).grown hgrow (Nat.le_refl _) (fun k h => by cases h)
  have H0 : Hid (GmL w1 w.heap.size (fun i => prG A B i 0) (.int .i64 0) w1) := hide ⟨0, by decide, rfl, hL1, But.refl _ _⟩
  have HB1 := hide hb1
  clear hown hgrow hL1 hb1 h00
  go_loopw [6] (fun vi wr => GmL w1 w.heap.size (fun i => prG A B i 0) vi wr) (fun vi _ => 128 - (intOf vi).toNat)
  case atStart => exact H0.out
  case round =>
    obtain ⟨i, hi128, rfl, hL, hBt⟩ := hrel
    clear H0
    rename World => wo
    by_cases hlt : i < 128
    · have hli : (i : Int) < 128 := by omega
      have H0 : Hid (GmL w1 w.heap.size (fun j => prG A B i j) (.int .i64 0) wo) := hide ⟨0, by decide, rfl, hL, hBt⟩
      have HI := hide hlt
      clear hL hBt hlt hi128
      go_wp2
      go_loopw [7] (fun vj wr => GmL w1 w.heap.size (fun j => prG A B i j) vj wr) (fun vj _ => 128 - (intOf vj).toNat)
      case atStart => exact H0.out
      case round =>
        obtain ⟨j, hj128, rfl, hL, hBt⟩ := hrel
        clear H0
        rename World => wi
        have hlt := HI.out
        by_cases hltj : j < 128
        · have hlj : (j : Int) < 128 := by omega
          obtain ⟨k, hk⟩ : ∃ x : Nat, x = i + j := ⟨_, rfl⟩
          have e_k : (i : Int) + (j : Int) = (k : Int) := by omega
          have s_k : IntKind.i64.wrap (k : Int) = (k : Int) := by rw [IntKind.wrap_i64]; omega
          have l_k : (k : Int) < 255 := by omega
          have z_k : (0 : Int) ≤ (k : Int) := Int.natCast_nonneg _
          have hbel := HB1.out.trans (hBt.below (Nat.le_refl _) HB1.out.size)
          have hbA := HA.out.2.2.1 wi.drew i (hbel.drew) hlt
          have hbB := HA.out.2.2.2.1 wi.drew j (hbel.drew) hltj
          rw [HA.out.2.2.2.2.1 i hlt] at hbA
          rw [HA.out.2.2.2.2.2.1 j hltj] at hbB
          have hst := prG_step A B i j
          have c0 := hL.cell (i := k) (by rw [bitsL_len]; omega)
          have z0 := hL.frozen k
          rw [bitsL_el (by omega)] at c0
          have hu : A / 2 ^ i % 2 < 2 := Nat.mod_lt _ (by decide)
          have hv : B / 2 ^ j % 2 < 2 := Nat.mod_lt _ (by decide)
          have huv : (A / 2 ^ i % 2) &&& (B / 2 ^ j % 2) = (A / 2 ^ i % 2) * (B / 2 ^ j % 2) := by
            rcases bit_one hu with h | h <;> rcases bit_one hv with h' | h' <;> rw [h, h'] <;> rfl
          have he2 : (A / 2 ^ i % 2) * (B / 2 ^ j % 2) < 2 := by rcases bit_one hu with h | h <;> rcases bit_one hv with h' | h' <;> rw [h, h'] <;> decide
          have fa := u8_and_nat (A / 2 ^ i % 2) (B / 2 ^ j % 2) (by omega) (by omega)
          rw [huv] at fa
          rw [← hk] at hst
          have hset := bitsL_set (n := 255) (x := prG A B i j) (k := k) (by omega) he2
          rw [← hst] at hset
          generalize A / 2 ^ i % 2 = u at *
          generalize B / 2 ^ j % 2 = v at *
          generalize hE : u * v = E at *
          have hp2 : prG A B i j / 2 ^ k % 2 < 2 := Nat.mod_lt _ (by decide)
          have fx := u8_xor_nat (prG A B i j / 2 ^ k % 2) E (by omega) (by omega)
          have hLs := hL.set k ((prG A B i j / 2 ^ k % 2) ^^^ E)
          rw [hset] at hLs
          have hBs := hBt.setCell k (.int .u8 (((prG A B i j / 2 ^ k % 2) ^^^ E : Nat) : Int))
          generalize prG A B i j / 2 ^ k % 2 = X at *
          generalize X ^^^ E = XE at *
          have HLs := hide (And.intro hLs (And.intro hBs hltj))
          clear hLs hBs hset hst hL hBt hk hbel huv he2 hu hv hp2 hE hlt hltj hj128
          go_wp2
          go_region_with (first
            | (go_at_call_of 23 (Value.int IntKind.i64 (i : Int)); refine hbA.mono ?_; rintro e yy ⟨rfl, hy⟩; obtain rfl := hy.symm)
            | (go_at_call_of 23 (Value.int IntKind.i64 (j : Int)); refine hbB.mono ?_; rintro e yy ⟨rfl, hy⟩; obtain rfl := hy.symm)
            | fail)
          all_goals
            go_wp2
            exact ⟨⟨j + 1, by have := HLs.out.2.2; omega, by go_num, HLs.out.1, HLs.out.2.1.drew⟩, by have := HLs.out.2.2; simp [intOf]; omega⟩
        · obtain rfl : j = 128 := by omega
          have HL := hide (And.intro hL hBt)
          clear hL hBt hlt hltj hj128
          go_wp2
          exact ⟨⟨i + 1, by have := HI.out; omega, by go_num, by have := HL.out.1; show Lies _ _ _ _ (bitsL 255 (prG A B (i + 1) 0)); rw [← prG_row A B i HA.out.2.1]; exact this, HL.out.2⟩, by have := HI.out; simp [intOf]; omega⟩
    · obtain rfl : i = 128 := by omega
      have hge : ¬ ((128 : Int) < 128) := by decide
      have R0 : Hid (GrL w1 w.heap.size (mulG A B) (.int .i64 254) wo) := hide ⟨127, cl A B, Nat.le_refl _, rfl, by have := hL; dsimp only at this; rw [prG_all A B HA.out.1] at this; exact this, by rw [Nat.mod_eq_of_lt (cl_255 HA.out.1 HA.out.2.1)]; rfl, hBt⟩
      clear hL hBt hlt hi128
      go_wp2
      go_loopw [8] (fun vk wr => GrL w1 w.heap.size (mulG A B) vk wr) (fun vk _ => (intOf vk).toNat)
      case atStart => exact R0.out
      case round =>
        obtain ⟨q, y, hq, rfl, hL, hrd, hBt⟩ := hrel
        clear R0
        rename World => wr
        by_cases hq0 : q = 0
        · subst hq0
          have HL := hide (And.intro hL (And.intro hrd hBt))
          clear hL hrd hBt hq
          have hge : ¬ ((128 : Int) ≤ 127) := by decide
          go_wp2_with (first | (at_make; refine wpList_make_full _ rfl _ _ 22 rfl w.heap.size 5 i0 (.int .u8 0) 1 Try.underlying22 hi hz0 hz1 _ _ _ _ 16 rfl rfl rfl rfl (by rw [hz2]; decide) (by unfold maxLen; decide) (by have := HB1.out.size; have := HL.out.2.2.size; omega) ?_; intro w2 hown hgrow) | fail)
          rw [made_u8, ← outK_zero (fun k => y / 2 ^ k % 2)] at hown
          have hL2 := lies_own hown (of16_len _)
          have hb2 := (Below.refl wr.heap.size wr).grown hgrow (Nat.le_refl _) (fun k h => by cases h)
          have hP := HL.out.1.below hb2
          have hgl := HL.out.1.lt
          have O0 : Hid (GoL w2 wr.heap.size y (.int .i64 0) w2) := hide ⟨0, by decide, rfl, hL2, But.refl _ _⟩
          have HP := hide (And.intro hP (And.intro hb2 hgl))
          clear hown hgrow hL2 hb2 hP hgl
          go_loopw [10] (fun vi wk => GoL w2 wr.heap.size y vi wk) (fun vi _ => 128 - (intOf vi).toNat)
          case atStart => exact O0.out
          case round =>
            obtain ⟨i, hi128, rfl, hO, hBo⟩ := hrel
            clear O0
            rename World => wk
            by_cases hlt : i < 128
            · have hli : (i : Int) < 128 := by omega
              obtain ⟨t, ht⟩ : ∃ x : Nat, x = i / 8 := ⟨_, rfl⟩
              obtain ⟨m, hm⟩ : ∃ x : Nat, x = i % 8 := ⟨_, rfl⟩
              obtain ⟨s, hs⟩ : ∃ x : Nat, x = 7 - m := ⟨_, rfl⟩
              have e_t : (i : Int) / 8 = (t : Int) := by omega
              have t_t : (i : Int).tdiv 8 = (t : Int) := by rw [Int.tdiv_eq_ediv_of_nonneg (by omega)]; exact e_t
              have s_t : IntKind.i64.wrap (t : Int) = (t : Int) := by rw [IntKind.wrap_i64]; omega
              have e_m : (i : Int) % 8 = (m : Int) := by omega
              have t_m : (i : Int).tmod 8 = (m : Int) := by rw [Int.tmod_eq_emod_of_nonneg (by omega)]; exact e_m
              have s_m : IntKind.i64.wrap (m : Int) = (m : Int) := by rw [IntKind.wrap_i64]; omega
              have e_s : 7 - (m : Int) = (s : Int) := by omega
              have s_s : IntKind.i64.wrap (s : Int) = (s : Int) := by rw [IntKind.wrap_i64]; omega
              have z_s : (0 : Int) ≤ (s : Int) := Int.natCast_nonneg _
              have l_t : (t : Int) < 16 := by omega
              have l_i : (i : Int) < 255 := by omega
              have z_t : (0 : Int) ≤ (t : Int) := Int.natCast_nonneg _
              have z_i : (0 : Int) ≤ (i : Int) := Int.natCast_nonneg _
              have hPk := HP.out.1.but hBo (by have := HP.out.2.2; omega)
              have c1 := hPk.cell (i := i) (by rw [bitsL_len]; omega)
              rw [bitsL_el (by omega)] at c1
              have c2 := hO.cell (i := t) (by rw [show (outK (fun k => y / 2 ^ k % 2) i).length = 16 from of16_len _]; omega)
              have z2 := hO.frozen t
              have hst := outK_step (f := fun k => y / 2 ^ k % 2) (fun k => Nat.mod_lt _ (by decide)) hlt
              rw [← ht, ← hm, ← hs] at hst
              have hv : y / 2 ^ i % 2 < 2 := Nat.mod_lt _ (by decide)
              have hvs : y / 2 ^ i % 2 * 2 ^ s < 256 := by
                have h1 : y / 2 ^ i % 2 * 2 ^ s ≤ 1 * 2 ^ s := Nat.mul_le_mul_right _ (by omega)
                have h2 : 2 ^ s ≤ 2 ^ 7 := Nat.pow_le_pow_right (by decide) (by omega)
                omega
              have hob : el (outK (fun k => y / 2 ^ k % 2) i) t < 256 := by
                unfold outK
                rw [of16_el _ (by omega)]
                obtain ⟨_, _, h⟩ := bytK_mul (f := fun k => y / 2 ^ k % 2) (fun k => Nat.mod_lt _ (by decide)) t (min 8 (i - 8 * t)) (by omega)
                exact h
              have hLs := hO.set t (el (outK (fun k => y / 2 ^ k % 2) i) t ||| y / 2 ^ i % 2 * 2 ^ s)
              rw [hst] at hLs
              have hBs := hBo.setCell t (.int .u8 ((el (outK (fun k => y / 2 ^ k % 2) i) t ||| y / 2 ^ i % 2 * 2 ^ s : Nat) : Int))
              generalize el (outK (fun k => y / 2 ^ k % 2) i) t = X at *
              generalize y / 2 ^ i % 2 = v at *
              have fs : IntKind.u8.wrap ((v : Int) * 2 ^ s) = ((v * 2 ^ s : Nat) : Int) := by
                rw [show ((v : Int) * 2 ^ s) = ((v * 2 ^ s : Nat) : Int) by simp, IntKind.wrap_u8]
                omega
              have fo := u8_or_nat X (v * 2 ^ s) hob hvs
              generalize hV : v * 2 ^ s = V at *
              generalize X ||| V = XV at *
              have HLs := hide (And.intro hLs (And.intro hBs hlt))
              clear hLs hBs hst hO hBo hPk hv hvs hob ht hm hs hlt hi128 hV
              go_wp2
              go_region_with fail
              all_goals
                go_wp2
                exact ⟨⟨i + 1, by have := HLs.out.2.2; omega, by go_num, HLs.out.1, HLs.out.2.1.drew⟩, by have := HLs.out.2.2; simp [intOf]; omega⟩
            · obtain rfl : i = 128 := by omega
              rw [outK_all] at hO
              have hfin : mulP a b = blkP y := by
                rw [HA.out.2.2.2.2.2.2, ← HL.out.2.1, ← blkP_mod y]
                rfl
              have hbw := HB1.out.trans (HL.out.2.2.below (Nat.le_refl _) HB1.out.size)
              have hbb := hbw.trans ((HP.out.2.1.mono hbw.size).trans (hBo.below (B := w.heap.size) hbw.size (by have := HP.out.2.1.size; have := hbw.size; omega)))
              have HF := hide (And.intro hO (And.intro hfin (And.intro hbb hbw.size)))
              clear hO hfin hbw hbb hBo hlt hi128
              go_wp2
              go_ret
              rw [HF.out.2.1]
              exact ⟨_, rfl, ⟨by rw [(blkP_b y).1]; exact own_lies HF.out.1 HF.out.2.2.2 (blkP_b y).1 (by unfold maxLen; decide), (blkP_b y).2⟩, HF.out.2.2.1⟩
        · obtain ⟨p, rfl⟩ : ∃ p, q = p + 1 := ⟨q - 1, by omega⟩
          rw [red_down] at hrd
          obtain ⟨K, hK⟩ : ∃ x : Nat, x = 127 + (p + 1) := ⟨_, rfl⟩
          rw [← hK]
          have hK2 : 128 + p = K := by omega
          rw [hK2] at hrd
          have i_K : (128 : Int) ≤ (K : Int) := by omega
          have l_K : (K : Int) < 255 := by omega
          have z_K : (0 : Int) ≤ (K : Int) := Int.natCast_nonneg _
          obtain ⟨K1, hK1⟩ : ∃ x : Nat, x = 127 + p := ⟨_, rfl⟩
          have e_K1 : (K : Int) - 1 = (K1 : Int) := by omega
          have s_K1 : IntKind.i64.wrap (K1 : Int) = (K1 : Int) := by rw [IntKind.wrap_i64]; omega
          have cK := hL.cell (i := K) (by rw [bitsL_len]; omega)
          rw [bitsL_el (by omega)] at cK
          have hb2 : y / 2 ^ K % 2 < 2 := Nat.mod_lt _ (by decide)
          by_cases hbit : y / 2 ^ K % 2 = 1
          · rw [if_pos hbit] at hrd
            rw [hbit] at cK
            obtain ⟨p1, hp1⟩ : ∃ x : Nat, x = p + 1 := ⟨_, rfl⟩
            obtain ⟨p2, hp2⟩ : ∃ x : Nat, x = p + 2 := ⟨_, rfl⟩
            obtain ⟨p7, hp7⟩ : ∃ x : Nat, x = p + 7 := ⟨_, rfl⟩
            have e_0 : (K : Int) - 128 = (p : Int) := by omega
            have e_1 : (K : Int) - 127 = (p1 : Int) := by omega
            have e_2 : (K : Int) - 126 = (p2 : Int) := by omega
            have e_7 : (K : Int) - 121 = (p7 : Int) := by omega
            have s_0 : IntKind.i64.wrap (p : Int) = (p : Int) := by rw [IntKind.wrap_i64]; omega
            have s_1 : IntKind.i64.wrap (p1 : Int) = (p1 : Int) := by rw [IntKind.wrap_i64]; omega
            have s_2 : IntKind.i64.wrap (p2 : Int) = (p2 : Int) := by rw [IntKind.wrap_i64]; omega
            have s_7 : IntKind.i64.wrap (p7 : Int) = (p7 : Int) := by rw [IntKind.wrap_i64]; omega
            have z_0 : (0 : Int) ≤ (p : Int) := Int.natCast_nonneg _
            have z_1 : (0 : Int) ≤ (p1 : Int) := Int.natCast_nonneg _
            have z_2 : (0 : Int) ≤ (p2 : Int) := Int.natCast_nonneg _
            have z_7 : (0 : Int) ≤ (p7 : Int) := Int.natCast_nonneg _
            have l_0 : (p : Int) < 255 := by omega
            have l_1 : (p1 : Int) < 255 := by omega
            have l_2 : (p2 : Int) < 255 := by omega
            have l_7 : (p7 : Int) < 255 := by omega
            have hfl : ∀ (W : World) (x k : Nat), Lies .u8 5 W w.heap.size (bitsL 255 x) → k < 255 → ∃ v u : Nat, v < 2 ∧ bits .xor .u8 (v : Int) 1 = (u : Int) ∧ W.cell? ⟨w.heap.size, k, none⟩ = some (.int .u8 (v : Int)) ∧ W.frozen? ⟨w.heap.size, k, none⟩ = false ∧ Lies .u8 5 (W.setCell ⟨w.heap.size, k, none⟩ (.int .u8 (u : Int))) w.heap.size (bitsL 255 (x ^^^ 1 * 2 ^ k)) := fun W x k h hk => by
              have hv : x / 2 ^ k % 2 < 2 := Nat.mod_lt _ (by decide)
              have c := h.cell (i := k) (by rw [bitsL_len]; exact hk)
              rw [bitsL_el hk] at c
              have hs := h.set k ((x / 2 ^ k % 2) ^^^ 1)
              rw [bitsL_set hk (by decide)] at hs
              exact ⟨_, _, hv, u8_xor_nat _ 1 (by omega) (by decide), c, h.frozen k, hs⟩
            obtain ⟨v0, u0, _, f0, c0, z0, L1⟩ := hfl _ _ p hL (by omega)
            obtain ⟨v1, u1, _, f1, c1, z1, L2⟩ := hfl _ _ p1 L1 (by omega)
            obtain ⟨v2, u2, _, f2, c2, z2, L3⟩ := hfl _ _ p2 L2 (by omega)
            obtain ⟨v7, u7, _, f7, c7, z7, L4⟩ := hfl _ _ p7 L3 (by omega)
            rw [hp1, hp2, hp7, four_G, ← hp1, ← hp2, ← hp7] at L4
            have hB4 := (((hBt.setCell p (.int .u8 (u0 : Int))).setCell p1 (.int .u8 (u1 : Int))).setCell p2 (.int .u8 (u2 : Int))).setCell p7 (.int .u8 (u7 : Int))
            have HE := hide (And.intro L4 (And.intro hB4 (And.intro hrd (And.intro hK1 (And.intro hq hK2)))))
            clear L1 L2 L3 L4 hB4 hL hBt hrd hfl hbit hb2 hK hK1 hK2 hp1 hp2 hp7 hq hq0
            go_wp2
            obtain ⟨g1, g2, g3, g4, g5, g6⟩ := HE.out
            rw [← g6] at g3
            exact ⟨⟨p, _, by omega, vint (by omega), g1, g3, g2⟩, by simp [intOf]; omega⟩
          · rw [if_neg hbit] at hrd
            have hv0 : y / 2 ^ K % 2 = 0 := by omega
            rw [hv0] at cK
            have HE := hide (And.intro hL (And.intro hBt (And.intro hrd (And.intro hK1 (And.intro hq hK2)))))
            clear hL hBt hrd hbit hb2 hK hK1 hK2 hq hq0 hv0
            go_wp2
            obtain ⟨g1, g2, g3, g4, g5, g6⟩ := HE.out
            rw [← g6] at g3
            exact ⟨⟨p, y, by omega, vint (by omega), g1, g3, g2⟩, by simp [intOf]; omega⟩
end Go.Proofs.Ytjeofkemfpdieaa
