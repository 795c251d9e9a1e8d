/- append of whatever row, apart from mac's and aes'. -/
import Derived.Test.YtefndnbaifiboaaGreatDoorHRes32
import Derived.Test.YtefndnbaifiboaaGreatDoorBase
import Derived.Deep.AppendLies
import Derived.Laws.AppendOwnNone
import Derived.ArgAppend
import Derived.Test.YtefndnbaifiboaaGreatDoorLmR
import Derived.BigQuiet
import Derived.Test.YtefndnbaifiboaaGreatDoorHSl
import Derived.Test.YtefndnbaifiboaaGreatDoorHPlF
import Derived.Test.YtefndnbaifiboaaGreatDoorPlan3
namespace Go.Proofs.YtefndnbaifiboaaGreatDoor
open Go.RowKit
set_option linter.unusedVariables false
set_option linter.unusedSimpArgs false

theorem tidy_atA (x : Addr) (n c : Nat) : Tidy (.slice (some x) n c) := fun n c he => by simp at he
theorem own_belowA {w w' : World} {base : Nat} {e : TypeId} {size : Nat} {v : Value} {n : Nat} {xs : List Value} (h : w.ownsRow base e size v n xs) (hb : Below w.heap.size w w') : w'.ownsRow base e size v n xs := by
  obtain ⟨h1, h2⟩ := h
  refine ⟨h1, ?_⟩
  rcases h2 with h2 | ⟨g, cap, cur, rfl, h3, h4, h5⟩
  · exact .inl h2
  · refine .inr ⟨g, cap, cur, rfl, h3, ?_, h5⟩
    rw [hb.block g (by
      rcases Nat.lt_or_ge g w.heap.size with hlt | hge
      · exact hlt
      · rw [Array.getElem?_eq_none hge] at h4; cases h4)]
    exact h4
theorem own_sliceA {w : World} {base : Nat} {e : TypeId} {v : Value} {n : Nat} {xs : List Value} (h : w.ownsRow base e 1 v n xs) : ∃ a c, v = .slice a n c := by
  obtain ⟨_, ⟨rfl, h0⟩ | ⟨g, cap, cur, rfl, _⟩⟩ := h
  · exact ⟨none, 0, by rw [h0]⟩
  · exact ⟨_, _, rfl⟩
theorem row_tidyA {k : IntKind} {m : Nat} {w : World} {v : Value} {l : List Nat} (h : Row k m w v l) (hl : 0 < l.length) : Tidy v := by
  obtain ⟨a, c, rfl, _, _, h3, _⟩ := h
  obtain ⟨b, off, rfl, _⟩ := h3 hl
  exact tidy_atA _ _ _
/-- append of whatever row onto one of the call's own -/
theorem wpList_appA {w : World} {ops : Array Oper} {rest : List Oper} {o : Oper} {a : Act} {Q : Exit → Act → World → Prop} (hgd : o.guard = none) (s x : Operand) (ho : o.op = .call { callee := .builtin .append, args := #[s, x], argTypes := #[24, 24] })
    (base : Nat) (v bv : Value) (n : Nat) (l b : List Nat) (hs : a.eval s = v) (hown : w.ownsRow base 5 1 v n (vals .u8 l)) (hx : a.eval x = bv) (rb : Row .u8 256 w bv b) (tb : Tidy bv) (hn : n ≤ 1000000) (hb : b.length ≤ 1000000) (hbase : base ≤ w.heap.size)
    (h : ∀ v' w', w'.ownsRow base 5 1 v' (n + b.length) (vals .u8 (l ++ b)) → w.grownBy w' v.ownBlock → wpList Tryz.prog ops Q rest (a.put o.dst v') w') : wpList Tryz.prog ops Q (o :: rest) a w := by
  obtain ⟨i0, hi, hz0, hz1, hz2⟩ := info_parts Tryz.info5
  obtain ⟨ba, bc, rfl, h1, h2, h3, h4⟩ := rb
  cases ba with
  | none =>
    obtain ⟨h0, rfl⟩ := tb _ _ rfl
    obtain rfl := List.eq_nil_of_length_eq_zero h0
    refine wpList_append_own_none hgd s x 24 ho base 5 i0 1 Tryz.underlying24 hi _ _ _ hs hown hx ?_
    exact h v w (by rw [List.append_nil]; exact hown) ⟨rfl, rfl, rfl, Nat.le_refl _, fun _ _ _ => rfl⟩
  | some y =>
    refine wpList_append_own _ hgd s x 24 ho base 5 i0 (.int .u8 0) 1 1 Tryz.underlying24 hi hz0 hz1 hz2 rfl (by decide) _ _ _ hs hown y b.length bc (vals .u8 b) hx (by rw [vals_length, Nat.mul_one]) (cells_news h3) (vals_one _ _) (by unfold maxLen; omega) (by omega) hbase ?_
    intro v' w3 how' hgrow _
    exact h v' w3 (by rw [vals_append]; exact how') hgrow
/-- a row of the call's own that is not empty -/
theorem own_at {w : World} {base : Nat} {e : TypeId} {v : Value} {n : Nat} {k : IntKind} {l : List Nat} (h : w.ownsRow base e 1 v n (vals k l)) (hn : 0 < n) (hl : l.length = n) :
    ∃ g c, v = .slice (some ⟨g, 0, none⟩) n c ∧ base ≤ g ∧ g < w.heap.size ∧ n ≤ c ∧ c ≤ maxLen ∧ ∀ i, i < n → w.cell? ⟨g, i, none⟩ = some (.int k (el l i : Nat)) := by
  have h' := h
  obtain ⟨_, ⟨_, h0⟩ | ⟨g, cap, cur, rfl, h1, h2, h3, h4, _⟩⟩ := h
  · omega
  · refine ⟨g, cap, rfl, h1, (h'.lt g (by simp [Value.ownBlock])).2, h3, h4, fun i hi => ?_⟩
    rw [h'.cellAt i (by rw [Nat.mul_one]; exact hi), vals_get k l i (by omega)]
theorem run_append_keepsA {P : Program} (w : World) (t ty : TypeId) (base : Nat) (e : TypeId) (i : TypeInfo) (z : Value) (bytes : Nat) (ht : P.underlying t = some (.slice e)) (hi : P.info? e = some i) (hz : i.zero = some z)
    (hsize : i.size = 1) (hby : i.bytes = bytes) (hzs : z.cells.size = 1)
    (g0 n cap0 : Nat) (xs : List Value) (hown : w.ownsRow base e 1 (.slice (some ⟨g0, 0, none⟩) n cap0) n xs)
    (ad : Addr) (m c : Nat) (news : List Value) (hl : news.length = m) (hnews : ∀ j u, news[j]? = some u → w.cell? (ad.add j) = some u) (h1 : ∀ u ∈ news, u.oneCell' = true)
    (hm : 0 < m) (h63 : n + m ≤ maxLen) (hbytes : (n + m) * bytes ≤ 140737488355328) (hbase : base ≤ w.heap.size) :
    ∃ g cap w', (Builtin.append_ #[t, t] ty #[.slice (some ⟨g0, 0, none⟩) n cap0, .slice (some ad) m c]).run P w = .ok (.slice (some ⟨g, 0, none⟩) (n + m) cap) w' ∧
      w'.ownsRow base e 1 (.slice (some ⟨g, 0, none⟩) (n + m) cap) (n + m) (xs ++ news) ∧ w.grownBy w' (some g0) ∧ (g0 = g ∨ g = w.heap.size) ∧ ∀ j, j < n → w'.cell? ⟨g0, j, none⟩ = w.cell? ⟨g0, j, none⟩ := by
  obtain ⟨g, cap, w', hr, h2, h3, h4, h5⟩ := run_append_lies (P := P) w t ty base e i z 1 bytes ht hi hz hsize hby hzs (by decide) _ n xs hown ad m c news (by rw [hl, Nat.mul_one]) hnews h1 hm h63 hbytes hbase _ rfl
  refine ⟨g, cap, w', hr, h2, h3, h4.imp (fun h => by simpa [Value.ownBlock] using h) id, fun j hj => ?_⟩
  have hown' := hown
  obtain ⟨hlen, ⟨he, _⟩ | ⟨q, cq, cur, he, hB, hg, hn, hc, hcs, htk⟩⟩ := hown
  · cases he
  · obtain ⟨rfl, rfl⟩ : g0 = q ∧ cap0 = cq := by simpa using he
    by_cases hroom : n + m ≤ cap0
    · have hrr := run_append_room_cells (P := P) w t ty e i ht hi g0 0 n cap0 ad m c news (by rw [hl, hsize, Nat.mul_one]) hnews h1 hroom
        (fun j hj => by rw [cell_of_row w g0 _ cur e (0, 0) hg, hsize]; simp; omega)
        (fun j hj => by simp [World.frozen?, hg])
      rw [hr] at hrr
      obtain rfl : w' = w.setCells g0 (0 + n * i.size) news := (Result.ok.inj hrr).2
      exact World.cell?_setCells_out g0 news _ w ⟨g0, j, none⟩ (fun _ _ => .inl (by show j < 0 + n * i.size; rw [hsize]; omega))
    · obtain ⟨v2, w2, hr2, _, hg2⟩ := run_append_arg_grows (P := P) w t ty e i z 1 bytes ht hi hz hsize hby hzs (by decide) ⟨g0, 0, none⟩ n cap0 xs hlen
        (fun j u hu => by
          have hjx : j < xs.length := (List.getElem?_eq_some_iff.1 hu).1
          rw [Addr.add_lit, Nat.zero_add, hown'.cellAt j (by omega)]; exact hu) ad m c news (by rw [hl, Nat.mul_one]) hnews (by omega) h63 hbytes
      rw [hr] at hr2
      obtain rfl : w' = w2 := (Result.ok.inj hr2).2
      exact World.cell?_of_block (hg2.block g0 (by rcases Nat.lt_or_ge g0 w.heap.size with h' | h'
                                                   · exact h'
                                                   · rw [Array.getElem?_eq_none h'] at hg; cases hg) (by simp))

theorem step_append_keepsA {P : Program} {w : World} {ops : Array Oper} {o : Oper} {a : Act} {K : Act → World → Prop} {Q : Exit → Act → World → Prop} {E : Prop} (hgd : o.guard = none) (s x : Operand) (t : TypeId)
    (ho : o.op = .call { callee := .builtin .append, args := #[s, x], argTypes := #[t, t] })
    (base : Nat) (e : TypeId) (i : TypeInfo) (z : Value) (bytes : Nat) (ht : P.underlying t = some (.slice e)) (hi : P.info? e = some i) (hz : i.zero = some z)
    (hsize : i.size = 1) (hby : i.bytes = bytes) (hzs : z.cells.size = 1)
    (g0 n cap0 : Nat) (xs : List Value) (hs : a.eval s = .slice (some ⟨g0, 0, none⟩) n cap0) (hown : w.ownsRow base e 1 (.slice (some ⟨g0, 0, none⟩) n cap0) n xs)
    (ad : Addr) (m c : Nat) (news : List Value) (hx : a.eval x = .slice (some ad) m c) (hl : news.length = m) (hnews : ∀ j u, news[j]? = some u → w.cell? (ad.add j) = some u) (h1 : ∀ u ∈ news, u.oneCell' = true)
    (hm : 0 < m) (h63 : n + m ≤ maxLen) (hbytes : (n + m) * bytes ≤ 140737488355328) (hbase : base ≤ w.heap.size)
    (h : ∀ g cap w', w'.ownsRow base e 1 (.slice (some ⟨g, 0, none⟩) (n + m) cap) (n + m) (xs ++ news) → w.grownBy w' (some g0) → (g0 = g ∨ g = w.heap.size) → (∀ j, j < n → w'.cell? ⟨g0, j, none⟩ = w.cell? ⟨g0, j, none⟩) → K (a.put o.dst (.slice (some ⟨g, 0, none⟩) (n + m) cap)) w') :
    if Region.wanted o (yielded ops a.tmps) = true then Oper.wp P o a w K Q else E := by
  have hw : Region.wanted o (yielded ops a.tmps) = true := by simp [Region.wanted, hgd]
  rw [if_pos hw]
  obtain ⟨g, cap, w', hr, h2, h3, h4, h5⟩ := run_append_keepsA (P := P) w t o.type base e i z bytes ht hi hz hsize hby hzs g0 n cap0 xs hown ad m c news hl hnews h1 hm h63 hbytes hbase
  unfold Oper.wp execOp
  simp only [ho, resolve, invoke, builtin, Sem.run_bind, Sem.run_pure, Result.andThen_ok, List.map_toArray, List.map_cons, List.map_nil, hs, hx, hr]
  exact h g cap w' h2 h3 h4 h5
end Go.Proofs.YtefndnbaifiboaaGreatDoor

/- Trees of leaves that sign once: the document's over, leafSum, Fit, Size, wrong, head. -/
namespace Go.Proofs.YtefndnbaifiboaaGreatDoor
open Go.RowKit
set_option linter.unusedVariables false
set_option linter.unusedSimpArgs false

/-- the sums of a knot and of a leaf -/
def ovL (id : List Nat) (n : Nat) (a b : List Nat) : List Nat := shaL (id ++ (be4 n ++ (be2 33667 ++ (a ++ b))))
def lfS (id : List Nat) (n : Nat) (k : List Nat) : List Nat := shaL (id ++ (be4 n ++ (be2 33410 ++ k)))
set_option maxHeartbeats 4000000 in
set_option maxRecDepth 100000 in
theorem rover_any (id a b : List Nat) (n : Nat) (idv av bv : Value) (w : World) (hi : Row .u8 256 w idv id) (ti : Tidy idv) (ha : Row .u8 256 w av a) (ta : Tidy av) (hb : Row .u8 256 w bv b) (tb : Tidy bv) (hn : n < 18446744073709551616) (hl : id.length + a.length + b.length ≤ 50000) :
    Calls Tryz.prog 52 #[idv, .int .u64 (n : Int), av, bv] w fun e w' => ∃ v, e = .returned v ∧ Row .u8 256 w' v (ovL id n a b) ∧ New w.heap.size v ∧ Below w.heap.size w w' := by
  obtain ⟨ia, ic, rfl, _⟩ := hi.opens rfl
  obtain ⟨aa, ac, rfl, _⟩ := ha.opens rfl
  obtain ⟨ba, bc, rfl, _⟩ := hb.opens rfl
  have h4 := fun y => rbe4 n y hn
  have h2 := fun y => rbe2 33667 y (by decide)
  have hfl : [id, be4 n, be2 33667, a, b].flatten = id ++ (be4 n ++ (be2 33667 ++ (a ++ b))) := by simp
  have hH := fun y lv (r : Rows2 y lv [id, be4 n, be2 33667, a, b]) => rH_any lv _ y r (by rw [hfl]; simp only [List.length_append, be4_len, be2_len]; omega)
  rw [hfl] at hH
  unfold ovL
  generalize shaL = HH at *
  clear hfl
  go_enter Tryz.func52, Tryz.ntmps52
  go_wp2_with (first
    | (go_at_call_of 35 (Value.int .i64 4); refine (h4 _).mono ?_; rintro e w1 ⟨v1, rfl, o1, hb1⟩; obtain ⟨a1, c1, rfl⟩ := o1.row.form)
    | (go_at_call_of 35 (Value.int .i64 2); refine (h2 _).mono ?_; rintro e w2 ⟨v2, rfl, o2, hb2⟩; obtain ⟨a2, c2, rfl⟩ := o2.row.form; have hb12 := keep_trans hb1 hb2; have hT := hH _ _ (rows_litL (B := w2.heap.size) (k := 5) (texts_cons (hi.below hb12) ti (texts_cons (o1.row.below hb2) o1.tidy (texts_cons o2.row o2.tidy (texts_cons (ha.below hb12) ta (texts_cons (hb.below hb12) tb (Texts.nil _)))))) rfl rfl (by decide)))
    | (go_at_call 84; refine hT.mono ?_; rintro e w4 ⟨v4, rfl, r4, n4, hb4⟩)
    | fail)
  go_ret
  exact ⟨_, rfl, r4, n4.mono (keep_trans hb12 (keep_alloc _ _)).size, keep_trans (keep_trans hb12 (keep_alloc _ _)) hb4⟩
set_option maxHeartbeats 4000000 in
set_option maxRecDepth 100000 in
theorem rleaf_any (id k : List Nat) (n : Nat) (idv kv : Value) (w : World) (hi : Row .u8 256 w idv id) (ti : Tidy idv) (ha : Row .u8 256 w kv k) (ta : Tidy kv) (hn : n < 18446744073709551616) (hl : id.length + k.length ≤ 50000) :
    Calls Tryz.prog 51 #[idv, .int .u64 (n : Int), kv] w fun e w' => ∃ v, e = .returned v ∧ Row .u8 256 w' v (lfS id n k) ∧ New w.heap.size v ∧ Below w.heap.size w w' := by
  obtain ⟨ia, ic, rfl, _⟩ := hi.opens rfl
  obtain ⟨aa, ac, rfl, _⟩ := ha.opens rfl
  have h4 := fun y => rbe4 n y hn
  have h2 := fun y => rbe2 33410 y (by decide)
  have hfl : [id, be4 n, be2 33410, k].flatten = id ++ (be4 n ++ (be2 33410 ++ k)) := by simp
  have hH := fun y lv (r : Rows2 y lv [id, be4 n, be2 33410, k]) => rH_any lv _ y r (by rw [hfl]; simp only [List.length_append, be4_len, be2_len]; omega)
  rw [hfl] at hH
  unfold lfS
  generalize shaL = HH at *
  clear hfl
  go_enter Tryz.func51, Tryz.ntmps51
  go_wp2_with (first
    | (go_at_call_of 35 (Value.int .i64 4); refine (h4 _).mono ?_; rintro e w1 ⟨v1, rfl, o1, hb1⟩; obtain ⟨a1, c1, rfl⟩ := o1.row.form)
    | (go_at_call_of 35 (Value.int .i64 2); refine (h2 _).mono ?_; rintro e w2 ⟨v2, rfl, o2, hb2⟩; obtain ⟨a2, c2, rfl⟩ := o2.row.form; have hb12 := keep_trans hb1 hb2; have hT := hH _ _ (rows_litL (B := w2.heap.size) (k := 4) (texts_cons (hi.below hb12) ti (texts_cons (o1.row.below hb2) o1.tidy (texts_cons o2.row o2.tidy (texts_cons (ha.below hb12) ta (Texts.nil _))))) rfl rfl (by decide)))
    | (go_at_call 84; refine hT.mono ?_; rintro e w4 ⟨v4, rfl, r4, n4, hb4⟩)
    | fail)
  go_ret
  exact ⟨_, rfl, r4, n4.mono (keep_trans hb12 (keep_alloc _ _)).size, keep_trans (keep_trans hb12 (keep_alloc _ _)) hb4⟩
/-- how many bytes a leaf's signature has; 0: there is no such kind -/
def szW (x : Int) : Nat := if x = 1 then 8516 else if x = 2 then 4292 else if x = 4 then 2180 else if x = 8 then 1124 else 0
theorem rsizeW (x : Int) (w : World) : Calls Tryz.prog 38 #[.int .i64 x] w fun e w' => e = .returned (.int .i64 (szW x : Nat)) ∧ w' = w := by
  rcases kd_or x with h | ⟨k, n, m, s, c, rfl, h⟩
  · have e0 : szW x = 0 := by
      obtain ⟨h1, h2, h4, h8⟩ := h
      unfold szW
      rw [if_neg h1, if_neg h2, if_neg h4, if_neg h8]
    rw [e0]
    exact rsize_no x w h
  · have e0 : szW (k : Int) = 36 + 32 * (n + m) := by cases h <;> rfl
    rw [e0]
    exact rsize_ok w h
/-- a tree is fit -/
def FitL (h x : Int) : Prop := lmCode h ≠ 0 ∧ szW x ≠ 0
instance (h x : Int) : Decidable (FitL h x) := by unfold FitL; infer_instance
structure Bx2T (W : World) (B : Nat) (v0 v1 : Value) : Prop where
  here : W.heap[B]? = some (.cells #[v0, v1] 23 (0, 0))
theorem Bx2T.lt {W : World} {B : Nat} {v0 v1 : Value} (h : Bx2T W B v0 v1) : B < W.heap.size := (Array.getElem?_eq_some_iff.1 h.here).1
theorem Bx2T.c0 {W : World} {B : Nat} {v0 v1 : Value} (h : Bx2T W B v0 v1) : W.cell? ⟨B, 0, none⟩ = some v0 := by simp [World.cell?, h.here]
theorem Bx2T.c1 {W : World} {B : Nat} {v0 v1 : Value} (h : Bx2T W B v0 v1) : W.cell? ⟨B, 1, none⟩ = some v1 := by simp [World.cell?, h.here]
theorem Bx2T.below {W W' : World} {B : Nat} {v0 v1 : Value} (h : Bx2T W B v0 v1) (hb : Below W.heap.size W W') : Bx2T W' B v0 v1 := ⟨(hb.block _ h.lt).trans h.here⟩
theorem Bx2T.new (W : World) (v0 v1 : Value) : Bx2T (W.alloc (.cells #[v0, v1] 23)) W.heap.size v0 v1 := ⟨heap_alloc_new W _⟩
set_option maxHeartbeats 4000000 in
set_option maxRecDepth 100000 in
theorem rfitT_any (h x : Int) (w : World) : Calls Tryz.prog 13 #[.agg #[.int .i64 h, .int .i64 x]] w fun e w' => e = .returned (.bool (decide (FitL h x))) ∧ Below w.heap.size w w' := by
  have hc := fun y => rcode_any h y
  have hs := fun y => rsizeW x y
  by_cases h1 : lmCode h = 0
  · have hd : decide (FitL h x) = false := decide_eq_false fun hh => hh.1 h1
    rw [hd]
    rw [h1] at hc
    clear hd h1
    go_enter Tryz.func13, Tryz.ntmps13
    go_wp2_with (first | (go_at_call 36; refine (hc _).mono ?_; rintro e yy ⟨rfl, hy⟩; obtain rfl := hy.symm) | fail)
    go_ret
    exact ⟨rfl, keep_alloc _ _⟩
  · obtain ⟨C, hC⟩ : ∃ C, C = lmCode h := ⟨_, rfl⟩
    obtain ⟨Z, hZ⟩ : ∃ Z, Z = szW x := ⟨_, rfl⟩
    have hCb : ((C : Int) != 0) = true := by have : C ≠ 0 := by rw [hC]; exact h1
                                             simp [this]
    have hd : decide (FitL h x) = ((Z : Int) != 0) := by
      by_cases hz : Z = 0
      · rw [decide_eq_false (fun hh => hh.2 (by rw [← hZ]; exact hz))]; simp [hz]
      · rw [decide_eq_true ⟨h1, by rw [← hZ]; exact hz⟩]; simp [hz]
    rw [hd]
    rw [← hC] at hc
    rw [← hZ] at hs
    clear hd h1 hC hZ
    go_enter Tryz.func13, Tryz.ntmps13
    go_wp2_with (first
      | (go_at_call 36; refine (hc _).mono ?_; rintro e yy ⟨rfl, hy⟩; obtain rfl := hy.symm)
      | (go_at_call 38; refine (hs _).mono ?_; rintro e yy ⟨rfl, hy⟩; obtain rfl := hy.symm)
      | fail)
    go_ret
    exact ⟨rfl, keep_alloc _ _⟩
set_option maxHeartbeats 4000000 in
set_option maxRecDepth 100000 in
theorem rhead_any {k n m s c : Nat} (h : Int) (w : World) (hk : Kd k n m s c) : Calls Tryz.prog 27 #[.agg #[.int .i64 h, .int .i64 (k : Int)]] w fun e w' => ∃ v, e = .returned v ∧ Row .u8 256 w' v (be4 (lmCode h) ++ be4 c) ∧ New w.heap.size v ∧ Tidy v ∧ Below w.heap.size w w' := by
  have hc := fun y => rcode_any h y
  have hkk := fun y => rkind_ok y hk
  have hcl := lmCode_32 h
  obtain ⟨C, hC⟩ : ∃ C, C = lmCode h := ⟨_, rfl⟩
  rw [← hC] at hc hcl ⊢
  have h4 := fun y => rbe4 C y (by omega)
  have h4c := fun y => rbe4 c y (by have := hk.pos; omega)
  obtain ⟨P, hP⟩ : ∃ P : Nat, P = n + m := ⟨_, rfl⟩
  rw [← hP] at hkk
  obtain ⟨i0, hi0, hz0, hz1, hz2⟩ := info_byte
  clear hC hP hk hcl
  go_enter Tryz.func27, Tryz.ntmps27
  go_wp2_with (first
    | (go_at_call 58; refine (hkk _).mono ?_; rintro e yy ⟨rfl, hy⟩; obtain rfl := hy.symm)
    | (go_at_call 36; refine (hc _).mono ?_; rintro e yy ⟨rfl, hy⟩; obtain rfl := hy.symm)
    | (go_at_call_of 35 (Value.int .u64 (C : Int)); refine (h4 _).mono ?_; rintro e w1 ⟨v1, rfl, o1, hb1⟩; have r1 := o1.row; obtain ⟨a1, c1, rfl, _⟩ := r1.opens (be4_len _))
    | (go_at_call_of 35 (Value.int .u64 (c : Int)); refine (h4c _).mono ?_; rintro e w2 ⟨v2, rfl, o2, hb2⟩; have r2 := o2.row; obtain ⟨a2, c2, rfl, _, _, g2⟩ := r2.opens (be4_len _); obtain ⟨b2, f2, rfl, _⟩ := g2 (by decide); have hb12 := keep_trans hb1 hb2; have o1' := own_belowA o1.1 hb2; rw [be4_len] at o1')
    | (at_builtin; refine wpList_appA rfl _ _ rfl (w.alloc (.cells #[.int .i64 h, .int .i64 (k : Int)] 23)).heap.size _ _ 4 _ (be4 c) rfl o1' rfl r2 (tidy_atA _ _ _) (by decide) (by rw [be4_len]; decide) hb12.size ?_; intro v3 w3 how3 hg3)
    | fail)
  go_ret
  have hbw := keep_trans (keep_alloc w (.cells #[.int .i64 h, .int .i64 (k : Int)] 23)) hb12
  have oW : Own 5 .u8 256 w3 (w.alloc (.cells #[.int .i64 h, .int .i64 (k : Int)] 23)).heap.size v3 (be4 C ++ be4 c) := ⟨by rw [List.length_append, be4_len, be4_len]; exact how3, Under.append (be4_under _) (be4_under _)⟩
  have oN := oW.mono (B' := w.heap.size) (by rw [World.size_alloc]; omega)
  exact ⟨_, rfl, oN.row, oN.new, oN.tidy, hbw.grown hg3 hbw.size (fun q hq => by have h1 := (o1'.lt q hq).1; rw [World.size_alloc] at h1; omega)⟩
end Go.Proofs.YtefndnbaifiboaaGreatDoor

/- Trees of leaves that sign once: the document's Size, wrong. -/
namespace Go.Proofs.YtefndnbaifiboaaGreatDoor
open Go.RowKit
set_option linter.unusedVariables false
set_option linter.unusedSimpArgs false

theorem FitL.pos {h x : Int} (hf : FitL h x) : 1 ≤ h ∧ h ≤ 25 ∧ 1124 ≤ szW x ∧ szW x ≤ 8516 := by
  obtain ⟨h1, h2⟩ := hf
  refine ⟨?_, ?_, ?_, ?_⟩
  · unfold lmCode at h1; split at h1; · omega
    split at h1 <;> omega
  · unfold lmCode at h1; split at h1; · omega
    split at h1 <;> omega
  · unfold szW at h2 ⊢; repeat' split
    all_goals first | omega | (exfalso; simp_all)
  · unfold szW; repeat' split
    all_goals omega
/-- how many bytes a signature has -/
def szT (h x : Int) : Nat := if FitL h x then 8 + 32 * h.toNat + szW x else 0
set_option maxHeartbeats 4000000 in
set_option maxRecDepth 100000 in
theorem rsizeT_any (h x : Int) (w : World) : Calls Tryz.prog 15 #[.agg #[.int .i64 h, .int .i64 x]] w fun e w' => e = .returned (.int .i64 (szT h x : Nat)) ∧ Below w.heap.size w w' := by
  have hf := fun y => rfitT_any h x y
  have hs := fun y => rsizeW x y
  by_cases hh : FitL h x
  · have hp := hh.pos
    rw [decide_eq_true hh] at hf
    obtain ⟨n, rfl⟩ : ∃ n : Nat, h = (n : Int) := ⟨h.toNat, by omega⟩
    have e0 : szT (n : Int) x = 8 + 32 * n + szW x := by unfold szT; rw [if_pos hh]; rfl
    rw [e0]
    obtain ⟨Z, hZ⟩ : ∃ Z, Z = szW x := ⟨_, rfl⟩
    rw [← hZ] at hs hp ⊢
    obtain ⟨A, hA⟩ : ∃ A : Nat, A = 32 * n := ⟨_, rfl⟩
    obtain ⟨B, hB⟩ : ∃ B : Nat, B = 8 + A := ⟨_, rfl⟩
    obtain ⟨C, hC⟩ : ∃ C : Nat, C = B + Z := ⟨_, rfl⟩
    have e_A : (32 : Int) * (n : Int) = (A : Int) := by omega
    have s_A : IntKind.i64.wrap (A : Int) = (A : Int) := by rw [IntKind.wrap_i64]; omega
    have e_B : (8 : Int) + (A : Int) = (B : Int) := by omega
    have s_B : IntKind.i64.wrap (B : Int) = (B : Int) := by rw [IntKind.wrap_i64]; omega
    have e_C : (B : Int) + (Z : Int) = (C : Int) := by omega
    have s_C : IntKind.i64.wrap (C : Int) = (C : Int) := by rw [IntKind.wrap_i64]; omega
    rw [← hA, ← hB, ← hC]
    clear e0 hh hp hZ hA hB hC
    go_enter Tryz.func15, Tryz.ntmps15
    go_wp2_with (first
      | (go_at_call 13; refine (hf _).mono ?_; rintro e w1 ⟨rfl, hb1⟩; have b1 := (Bx2T.new w (.int .i64 (n : Int)) (.int .i64 x)).below hb1; have c0 := b1.c0; have c1 := b1.c1)
      | fail)
    go_quiet (first | (go_at_call 38; exact Calls.quiet_of_same (hs _)) | fail)
    go_wp2
    go_ret
    exact ⟨rfl, below_drewN (keep_trans (keep_alloc _ _) hb1) nq⟩
  · rw [decide_eq_false hh] at hf
    have e0 : szT h x = 0 := if_neg hh
    rw [e0]
    clear e0 hh
    go_enter Tryz.func15, Tryz.ntmps15
    go_wp2_with (first | (go_at_call 13; refine (hf _).mono ?_; rintro e w1 ⟨rfl, hb1⟩) | fail)
    go_ret
    exact ⟨rfl, keep_trans (keep_alloc _ _) hb1⟩
/-- what is wrong with a tree's kind, an id, a seed -/
def wrgT (h x : Int) (a b : Nat) : Int := if FitL h x then (if a = 16 ∧ b = 32 then (if 10 < h then 8 else 0) else 14) else 9
set_option maxHeartbeats 4000000 in
set_option maxRecDepth 100000 in
theorem rwrongT_any (h x : Int) (id seed : List Nat) (idv sv : Value) (w : World) (hi : Row .u8 256 w idv id) (hs : Row .u8 256 w sv seed) :
    Calls Tryz.prog 25 #[.agg #[.int .i64 h, .int .i64 x], idv, sv] w fun e w' => e = .returned (.int .i64 (wrgT h x id.length seed.length)) ∧ Below w.heap.size w w' := by
  have hf := fun y => rfitT_any h x y
  obtain ⟨ia, ic, rfl, _⟩ := hi.opens rfl
  obtain ⟨sa, sc, rfl, _⟩ := hs.opens rfl
  have bN := Bx2T.new w (.int .i64 h) (.int .i64 x)
  by_cases hh : FitL h x
  · rw [decide_eq_true hh] at hf
    have e0 : wrgT h x id.length seed.length = if id.length = 16 ∧ seed.length = 32 then (if 10 < h then 8 else 0) else 14 := if_pos hh
    rw [e0]
    clear e0 hh
    by_cases h1 : id.length = 16
    · have h1i : (id.length : Int) = 16 := by omega
      by_cases h2 : seed.length = 32
      · have h2i : (seed.length : Int) = 32 := by omega
        rw [if_pos ⟨h1, h2⟩]
        clear h1 h2
        generalize id.length = A at *
        generalize seed.length = B at *
        by_cases h10 : 10 < h
        · rw [if_pos h10]
          go_enter Tryz.func25, Tryz.ntmps25
          go_wp2_with (first | (go_at_call 13; refine (hf _).mono ?_; rintro e w1 ⟨rfl, hb1⟩; have b1 := bN.below hb1; have c0 := b1.c0; have c1 := b1.c1) | fail)
          go_ret
          exact ⟨rfl, keep_trans (keep_alloc _ _) hb1⟩
        · rw [if_neg h10]
          go_enter Tryz.func25, Tryz.ntmps25
          go_wp2_with (first | (go_at_call 13; refine (hf _).mono ?_; rintro e w1 ⟨rfl, hb1⟩; have b1 := bN.below hb1; have c0 := b1.c0; have c1 := b1.c1) | fail)
          go_ret
          exact ⟨rfl, keep_trans (keep_alloc _ _) hb1⟩
      · have h2i : ¬ (seed.length : Int) = 32 := by omega
        rw [if_neg (fun h => h2 h.2)]
        clear h1 h2
        generalize id.length = A at *
        generalize seed.length = B at *
        go_enter Tryz.func25, Tryz.ntmps25
        go_wp2_with (first | (go_at_call 13; refine (hf _).mono ?_; rintro e w1 ⟨rfl, hb1⟩) | fail)
        go_ret
        exact ⟨rfl, keep_trans (keep_alloc _ _) hb1⟩
    · have h1i : ¬ (id.length : Int) = 16 := by omega
      rw [if_neg (fun h => h1 h.1)]
      clear h1
      generalize id.length = A at *
      go_enter Tryz.func25, Tryz.ntmps25
      go_wp2_with (first | (go_at_call 13; refine (hf _).mono ?_; rintro e w1 ⟨rfl, hb1⟩) | fail)
      go_ret
      exact ⟨rfl, keep_trans (keep_alloc _ _) hb1⟩
  · rw [decide_eq_false hh] at hf
    have e0 : wrgT h x id.length seed.length = 9 := if_neg hh
    rw [e0]
    clear e0 hh
    go_enter Tryz.func25, Tryz.ntmps25
    go_wp2_with (first | (go_at_call 13; refine (hf _).mono ?_; rintro e w1 ⟨rfl, hb1⟩) | fail)
    go_ret
    exact ⟨rfl, keep_trans (keep_alloc _ _) hb1⟩
end Go.Proofs.YtefndnbaifiboaaGreatDoor

/- Tapes: plain facts. A tape is n bytes and a place among them. -/
namespace Go.Proofs.YtefndnbaifiboaaGreatDoor
open Go.RowKit
set_option linter.unusedVariables false
set_option linter.unusedSimpArgs false

/-- a tape is fit -/
def FitT (n : Nat) (x : Int) : Prop := n ≤ 1048576 ∧ 0 ≤ x ∧ x ≤ (n : Int)
instance (n : Nat) (x : Int) : Decidable (FitT n x) := by unfold FitT; infer_instance
def leftT (n : Nat) (x : Int) : Int := if FitT n x then (n : Int) - x else 0
/-- what is wrong with a take of k; 0: nothing is -/
def tkC (n : Nat) (x k : Int) : Int := if ¬ FitT n x then 1 else if k < 0 then 8 else if leftT n x < k then 13 else 0
/-- what is taken -/
def tkL (l : List Nat) (x k : Int) : List Nat := (l.drop x.toNat).take k.toNat
/-- parts: the first error; the texts; the place behind them -/
def ptC (n : Nat) : Int → List Int → Int
  | _, [] => 0
  | x, k :: ks => if tkC n x k = 0 then ptC n (x + k) ks else tkC n x k
def ptL (l : List Nat) : Int → List Int → List (List Nat)
  | _, [] => []
  | x, k :: ks => tkL l x k :: ptL l (x + k) ks
def ptA : Int → List Int → Int
  | x, [] => x
  | x, k :: ks => ptA (x + k) ks
theorem tk_ok {n : Nat} {x k : Int} (h : tkC n x k = 0) : FitT n x ∧ 0 ≤ k ∧ x + k ≤ (n : Int) := by
  unfold tkC at h
  by_cases h1 : FitT n x
  · rw [if_neg (by simp [h1])] at h
    by_cases h2 : k < 0
    · rw [if_pos h2] at h; cases h
    · rw [if_neg h2] at h
      by_cases h3 : leftT n x < k
      · rw [if_pos h3] at h; cases h
      · unfold leftT at h3
        rw [if_pos h1] at h3
        exact ⟨h1, by omega, by omega⟩
  · rw [if_pos h1] at h; cases h
theorem tk_next {n : Nat} {x k : Int} (h : tkC n x k = 0) : FitT n (x + k) := by
  obtain ⟨h1, h2, h3⟩ := tk_ok h
  unfold FitT at *
  omega
theorem tk_mk {n : Nat} {x k : Int} (h : FitT n x) (h2 : 0 ≤ k) (h3 : x + k ≤ (n : Int)) : tkC n x k = 0 := by
  unfold tkC leftT
  rw [if_neg (by simp [h]), if_neg (by omega), if_pos h, if_neg (by omega)]
theorem tkL_len {l : List Nat} {x k : Int} (h : tkC l.length x k = 0) : (tkL l x k).length = k.toNat := by
  obtain ⟨h1, h2, h3⟩ := tk_ok h
  unfold FitT at h1
  unfold tkL
  rw [List.length_take, List.length_drop]
  omega
/-- P13.3: what is taken in parts is what is taken at once -/
theorem tk_two {n : Nat} {x j k : Int} (hj : 0 ≤ j) (hk : 0 ≤ k) : tkC n x (j + k) = 0 ↔ tkC n x j = 0 ∧ tkC n (x + j) k = 0 := by
  constructor
  · intro h
    obtain ⟨h1, h2, h3⟩ := tk_ok h
    have e1 : tkC n x j = 0 := tk_mk h1 hj (by omega)
    exact ⟨e1, tk_mk (tk_next e1) hk (by omega)⟩
  · rintro ⟨h1, h2⟩
    obtain ⟨a1, a2, a3⟩ := tk_ok h1
    obtain ⟨b1, b2, b3⟩ := tk_ok h2
    exact tk_mk a1 (by omega) (by omega)
theorem tkL_two {l : List Nat} {x j k : Int} (h : tkC l.length x (j + k) = 0) (hj : 0 ≤ j) (hk : 0 ≤ k) : tkL l x (j + k) = tkL l x j ++ tkL l (x + j) k := by
  obtain ⟨h1, h2, h3⟩ := tk_ok h
  unfold FitT at h1
  unfold tkL
  rw [show (x + j).toNat = x.toNat + j.toNat by omega, show (j + k).toNat = j.toNat + k.toNat by omega, List.take_add, List.drop_drop]
theorem ptC_snoc (n : Nat) : ∀ (ks : List Int) (x k : Int), ptC n x ks = 0 → ptC n x (ks ++ [k]) = tkC n (ptA x ks) k
  | [], x, k, _ => by
    show (if tkC n x k = 0 then 0 else tkC n x k) = tkC n x k
    split
    · rename_i h; exact h.symm
    · rfl
  | j :: ks, x, k, h => by
    unfold ptC at h
    split at h
    · rename_i hj
      show (if tkC n x j = 0 then ptC n (x + j) (ks ++ [k]) else _) = _
      rw [if_pos hj]
      exact ptC_snoc n ks (x + j) k h
    · rename_i hj; exact absurd h hj
theorem ptC_bad (n : Nat) : ∀ (ks : List Int) (x : Int) (k : Int) (js : List Int), ptC n x ks = 0 → tkC n (ptA x ks) k ≠ 0 → ptC n x (ks ++ k :: js) = tkC n (ptA x ks) k
  | [], x, k, js, _, h => by
    show (if tkC n x k = 0 then _ else tkC n x k) = _
    exact if_neg h
  | j :: ks, x, k, js, h0, h => by
    unfold ptC at h0
    split at h0
    · rename_i hj
      show (if tkC n x j = 0 then ptC n (x + j) (ks ++ k :: js) else _) = _
      rw [if_pos hj]
      exact ptC_bad n ks (x + j) k js h0 h
    · rename_i hj; exact absurd h0 hj
theorem ptL_snoc (l : List Nat) : ∀ (ks : List Int) (x k : Int), ptL l x (ks ++ [k]) = ptL l x ks ++ [tkL l (ptA x ks) k]
  | [], x, k => rfl
  | j :: ks, x, k => by
    show tkL l x j :: ptL l (x + j) (ks ++ [k]) = _
    rw [ptL_snoc l ks (x + j) k]
    rfl
theorem ptA_snoc : ∀ (ks : List Int) (x k : Int), ptA x (ks ++ [k]) = ptA x ks + k
  | [], x, k => rfl
  | j :: ks, x, k => ptA_snoc ks (x + j) k
theorem ptL_len (l : List Nat) : ∀ (ks : List Int) (x : Int), (ptL l x ks).length = ks.length
  | [], x => rfl
  | j :: ks, x => by show (ptL l (x + j) ks).length + 1 = _; rw [ptL_len l ks (x + j)]; rfl
theorem ptA_fit (n : Nat) : ∀ (ks : List Int) (x : Int), ptC n x ks = 0 → ks = [] ∨ FitT n (ptA x ks)
  | [], x, _ => .inl rfl
  | j :: ks, x, h => by
    unfold ptC at h
    split at h
    · rename_i hj
      rcases ptA_fit n ks (x + j) h with rfl | h2
      · exact .inr (tk_next hj)
      · exact .inr h2
    · rename_i hj; exact absurd h hj
/-- a slice of ints -/
def RowI (w : World) (v : Value) (ks : List Int) : Prop :=
  ∃ a cap, v = .slice a ks.length cap ∧ ks.length ≤ cap ∧ cap ≤ maxLen ∧ (0 < ks.length → ∃ b off, a = some ⟨b, off, none⟩ ∧ ∀ i, i < ks.length → w.cell? ⟨b, off + i, none⟩ = some (.int .i64 (ks.getD i 0))) ∧ ∀ k ∈ ks, -9223372036854775808 ≤ k ∧ k ≤ 9223372036854775807
theorem RowI.below {w w' : World} {v : Value} {ks : List Int} (h : RowI w v ks) (hb : Below w.heap.size w w') : RowI w' v ks := by
  obtain ⟨a, cap, rfl, h1, h2, h3, h4⟩ := h
  refine ⟨a, cap, rfl, h1, h2, fun hl => ?_, h4⟩
  obtain ⟨b, off, rfl, hc⟩ := h3 hl
  refine ⟨b, off, rfl, fun i hi => ?_⟩
  have h5 := World.block_lt_of_cell? w _ (hc i hi)
  rw [hb.cell (p := ⟨b, off + i, none⟩) h5]
  exact hc i hi
/-- a tape as a value -/
def tpV (v : Value) (x : Int) : Value := .agg #[v, .int .i64 x]
end Go.Proofs.YtefndnbaifiboaaGreatDoor

/- The document's tapes: Fit, Left, Take, Same. -/
namespace Go.Proofs.YtefndnbaifiboaaGreatDoor
open Go.RowKit
set_option linter.unusedVariables false
set_option linter.unusedSimpArgs false

theorem set_here {W : World} {B i : Nat} {cs : Array Value} {t : TypeId} {fz : Nat × Nat} (u : Value) (h : W.heap[B]? = some (.cells cs t fz)) : (W.setCell ⟨B, i, none⟩ u).heap[B]? = some (.cells (cs.setIfInBounds i u) t fz) := by
  obtain ⟨hlt, hk⟩ := Array.getElem?_eq_some_iff.1 h
  show (W.heap.modify B _)[B]? = _
  rw [Array.getElem?_eq_getElem (by rw [Array.size_modify]; exact hlt), Array.getElem_modify_self, hk]
  rfl
theorem but_set2 (W : World) (B : Nat) (u0 u1 : Value) : But B W ((W.setCell ⟨B, 0, none⟩ u0).setCell ⟨B, 1, none⟩ u1) := ((But.refl B W).setCell 0 u0).setCell 1 u1
/-- u is the part of v from x on, of k bytes -/
def Part (v : Value) (x k : Int) (u : Value) : Prop := ∃ (a : Option Addr) (n c X M : Nat) (A : Option Addr), v = .slice a n c ∧ x = (X : Int) ∧ k = (M : Int) ∧ u = .slice A M (c - X) ∧ (A = a ∧ c = X ∨ A = a.map (·.add X))
theorem Part.row {w : World} {v u : Value} {l : List Nat} {x k : Int} (h : Part v x k u) (hv : Row .u8 256 w v l) (tv : Tidy v) (hk : tkC l.length x k = 0) : Row .u8 256 w u (tkL l x k) ∧ Tidy u := by
  obtain ⟨a, n, c, X, M, A, rfl, rfl, rfl, rfl, hA⟩ := h
  obtain ⟨h1, h2, h3⟩ := tk_ok hk
  have hn : l.length = n := by
    obtain ⟨_, _, he, _⟩ := hv
    simp at he
    omega
  unfold FitT at h1
  refine ⟨(hv.behind (F := X) (by omega) hA).cut (M := M) (by rw [List.length_drop]; omega), ?_⟩
  intro n' c' e
  simp only [Value.slice.injEq] at e
  obtain ⟨e1, e2, e3⟩ := e
  have ha : a = none := by
    rcases hA with ⟨e, _⟩ | e
    · rw [← e]; exact e1
    · rw [e] at e1; simpa using e1
  subst ha
  have := tv n c rfl
  omega
end Go.Proofs.YtefndnbaifiboaaGreatDoor

/- The document's Parts. -/
namespace Go.Proofs.YtefndnbaifiboaaGreatDoor
open Go.RowKit
set_option linter.unusedVariables false
set_option linter.unusedSimpArgs false

def ptlt : List Lt := [(0, some 21, [7]), (0, some 22, [1]), (0, some 23, [9]), (6, some 24, [22, 23]), (8, some 25, [24]), (17, some 26, [21, 25]), (32, some 20, [26]), (64, some 27, [20]), (64, some 28, [20]), (64, some 29, [20]), (0, some 10, []), (1279, none, [10, 27]), (3583, some 11, [28]), (8191, some 12, [29])]
theorem at_beginR {P : Program} {ops : Array Oper} {id k : Nat} {a : Act} {w : World} {Q : Exit → Act → World → Prop} {R : Act → World → Prop} (S : World → Prop) (hm : P.follows .mixedOrders = true) (hn : ops.size = k) (h : At P ops (onlyN R) S k 0 a w.drew) (hQ : ∀ a w, R a w → Q .normal a w) : (Code.region id ops true).wp P Q a w := by
  refine Code.wp_mono ?_ (at_begin S hm hn h)
  intro e a w hh
  cases e <;> first | exact hQ _ _ hh | exact (hh : False).elim
/-- an int read off a slice of ints -/
theorem y_index_at {P : Program} {ops : Array Oper} {S : World → Prop} {o : Oper} {a : Act} {x y : Operand} {t e : TypeId} {g f n c i : Nat} (hg : o.guard = none) (ho : o.op = .indexAddr t x y) (hx : a.eval x = .slice (some ⟨g, f, none⟩) n c) (hy : a.eval y = .int .i64 (i : Int)) (hu : P.underlying t = some (.slice e)) (hs : (P.info? e).map (·.size) = some 1) (hi : i < n) : YieldsIf P ops S o (.pointer (some ⟨g, f + i, none⟩)) a := by
  cases hq : P.info? e with
  | none => simp [hq] at hs
  | some z =>
    have hz : z.size = 1 := by simpa [hq] using hs
    refine y_of hg fun w _ => ?_
    unfold execOp
    simp only [ho, hx, hy]
    simp [Instr.indexAt, asIntOf, Sem.run_bind, run_underlying hu w, sizeOf, typeInfo, hq, hz, hi, Addr.add, go_sem]
    try omega
theorem p_alloc2 {P : Program} {ops : Array Oper} {K : Act → World → Prop} {Q : Exit → Act → World → Prop} {i : Nat} {o : Oper} {a : Act} {w : World} {t : TypeId} {d : Option Nat} {z : TypeInfo} {v0 v1 : Value} (hi : ops[i]? = some o) (hg : o.guard = none) (ho : o.op = .alloc t) (hd : o.dst = d) (hz : P.info? t = some z) (hz0 : z.zero = some (.agg #[v0, v1]))
    (h : K (a.put d (.pointer (some ⟨w.heap.size, 0, none⟩))) (w.alloc (.cells #[v0, v1] t))) : wpOp P ops Q i K a w := by
  have hr : (execOp a.eval o).run P w = .ok (.value (.pointer (some ⟨w.heap.size, 0, none⟩))) (w.alloc (.cells #[v0, v1] t)) := by
    unfold execOp
    simp only [ho]
    simp [Sem.run_bind, Instr.alloc, zeroValue, typeInfo, hz, hz0, go_sem]
  unfold wpOp
  simp only [hi]
  rw [if_pos (wanted_free hg)]
  left
  unfold Oper.wp
  rw [hr]
  show K (a.put o.dst _) _
  rw [hd]
  exact h
/-- Take, whatever comes -/
def tkY (n : Nat) (x k : Int) : Int := if tkC n x k = 0 then x + k else x
theorem keep_row {x y : World} {B : Nat} {c : Array Value} (h : Below x.heap.size x y) (hB : x.heap.size ≤ B) : Below x.heap.size x (y.setRow B c) := h.trans (((But.refl B y).setRow c).below hB h.size)
theorem own_set2 {W : World} {base B n : Nat} {e : TypeId} {v u0 u1 : Value} {xs : List Value} (h : W.ownsRow base e 1 v n xs) (hB : B < base) : ((W.setCell ⟨B, 0, none⟩ u0).setCell ⟨B, 1, none⟩ u1).ownsRow base e 1 v n xs := by
  have hb := but_set2 W B u0 u1
  refine h.kept (row := some B) ⟨hb.os, hb.tape, hb.output, hb.size, fun k hk hne => hb.block k hk fun e => hne (by rw [e])⟩ ?_
  cases hvo : v.ownBlock with
  | none => exact .inl rfl
  | some q => exact .inr fun e => by have := (h.lt q hvo).1; cases e; omega
theorem own_after {W : World} {base n : Nat} {e : TypeId} {v : Value} {xs : List Value} (h : W.ownsRow base e 1 v n xs) (W0 : World) (B : Nat) (u0 u1 : Value) (hB : B < base) (o : Obj) : (((W.setCell ⟨B, 0, none⟩ u0).setCell ⟨B, 1, none⟩ u1).alloc o).ownsRow base e 1 v n xs := (own_set2 h hB).alloc o
end Go.Proofs.YtefndnbaifiboaaGreatDoor
