/- An append whose second argument is a slice of another named type. -/
import Derived.Test.YtjkciheoknjfhaaDoorSame
import Derived.Test.YtjkciheoknjfhaaDoorBase
import Derived.Deep.Slices
import Derived.Test.YtjkciheoknjfhaaDoorOrM
import Derived.Test.YtjkciheoknjfhaaDoorETag
import Derived.Deep.AppendLies
namespace Go.Proofs.YtjkciheoknjfhaaDoor
open Go.RowKit
set_option linter.unusedVariables false

theorem append_types {P : Program} (w : World) (t tx ty e e' : TypeId) (ht : P.underlying t = some (.slice e)) (hx : P.underlying tx = some (.slice e')) (v x : Value) :
    (Builtin.append_ #[t, tx] ty #[v, x]).run P w = (Builtin.append_ #[t, t] ty #[v, x]).run P w := by
  unfold Builtin.append_
  simp only [List.getElem?_toArray, List.getElem?_cons_zero, List.getElem?_cons_succ, Sem.run_bind, run_underlying ht, Result.andThen_ok]
  cases v <;> try rfl
  simp only [Sem.run_bind]
  cases (sizeOf e).run P w
  · simp only [Result.andThen, run_underlying ht, run_underlying hx]
  all_goals rfl

theorem wpList_append_own2 {P : Program} (w : World) {ops : Array Oper} {rest : List Oper} {o : Oper} {a : Act} {Q : Exit → Act → World → Prop} (hgd : o.guard = none) (s x : Operand) (t tx e' : TypeId)
    (ho : o.op = .call { callee := .builtin .append, args := #[s, x], argTypes := #[t, tx] }) (htx : P.underlying tx = some (.slice e'))
    (base : Nat) (e : TypeId) (i : TypeInfo) (z : Value) (size bytes : Nat) (ht : P.underlying t = some (.slice e)) (hi : P.info? e = some i) (hz : i.zero = some z)
    (hsize : i.size = size) (hby : i.bytes = bytes) (hzs : z.cells.size = size) (hsz : 0 < size)
    (v : Value) (n : Nat) (xs : List Value) (hs : a.eval s = v) (hown : w.ownsRow base e size v n xs)
    (ad : Addr) (m c : Nat) (news : List Value) (hx : a.eval x = .slice (some ad) m c) (hl : news.length = m * size) (hnews : ∀ j u, news[j]? = some u → w.cell? (ad.add j) = some u) (h1 : ∀ u ∈ news, u.oneCell' = true)
    (h63 : n + m ≤ maxLen) (hbytes : (n + m) * bytes ≤ 140737488355328) (hbase : base ≤ w.heap.size)
    (h : ∀ v' w', w'.ownsRow base e size v' (n + m) (xs ++ news) → w.grownBy w' v.ownBlock → (v' = .slice none 0 0 ↔ v = .slice none 0 0 ∧ m = 0) → wpList P ops Q rest (a.put o.dst v') w') : wpList P ops Q (o :: rest) a w :=
  wpList_plain hgd fun _ hK => by
    obtain ⟨v', w', hr, h2, h3, h4⟩ := run_append_own (P := P) w base t o.type e i z size bytes ht hi hz hsize hby hzs hsz v n xs hown ad m c news hl hnews h1 h63 hbytes hbase
    rw [← append_types w t tx o.type e e' ht htx] at hr
    unfold Oper.wp execOp
    simp only [ho, resolve, invoke, builtin, Sem.run_bind, Sem.run_pure, Result.andThen_ok, List.map_toArray, List.map_cons, List.map_nil, hs, hx, hr]
    exact hK _ _ (h v' w' h2 h3 h4)
end Go.Proofs.YtjkciheoknjfhaaDoor

/- An append of a slice whatever it is (nil, empty or not); texts one behind the other. -/
namespace Go.Proofs.YtjkciheoknjfhaaDoor
open Go.RowKit Go.Deep
set_option linter.unusedVariables false

theorem run_append_none2 {P : Program} (w : World) (base : Nat) (t tx ty e e' : TypeId) (i : TypeInfo) (size : Nat) (ht : P.underlying t = some (.slice e)) (htx : P.underlying tx = some (.slice e')) (hi : P.info? e = some i)
    (v : Value) (n c : Nat) (xs : List Value) (hown : w.ownsRow base e size v n xs) : (Builtin.append_ #[t, tx] ty #[v, .slice none 0 c]).run P w = .ok v w := by
  rw [append_types w t tx ty e e' ht htx]
  rcases hown.2 with ⟨rfl, rfl⟩ | ⟨g, cap, cur, rfl, _, _, hnc, _⟩
  · simp [Builtin.append_, run_underlying ht, sizeOf, typeInfo, hi, Builtin.lenOf, Builtin.firstCells]
  · simp [Builtin.append_, run_underlying ht, sizeOf, typeInfo, hi, Builtin.lenOf, Builtin.firstCells, hnc, storeCells]
theorem grown_refl (w : World) (r : Option Nat) : w.grownBy w r := ⟨rfl, rfl, rfl, Nat.le_refl _, fun _ _ _ => rfl⟩

theorem run_append_rows {P : Program} (w : World) (t tx ty e' : TypeId) (htx : P.underlying tx = some (.slice e'))
    (base : Nat) (e : TypeId) (i : TypeInfo) (z : Value) (bytes : Nat) (ht : P.underlying t = some (.slice e)) (hi : P.info? e = some i) (hz : i.zero = some z)
    (hsize : i.size = 1) (hby : i.bytes = bytes) (hzs : z.cells.size = 1) (v : Value) (n : Nat) (xs : List Value) (hown : w.ownsRow base e 1 v n xs)
    (ad : Option Addr) (m c : Nat) (news : List Value) (hl : news.length = m)
    (hnews : 0 < m → ∃ b off, ad = some ⟨b, off, none⟩ ∧ ∀ j u, news[j]? = some u → w.cell? ⟨b, off + j, none⟩ = some u) (h1 : ∀ u ∈ news, u.oneCell' = true)
    (h63 : n + m ≤ maxLen) (hbytes : (n + m) * bytes ≤ 140737488355328) (hbase : base ≤ w.heap.size) :
    ∃ v' w', (Builtin.append_ #[t, tx] ty #[v, .slice ad m c]).run P w = .ok v' w' ∧ w'.ownsRow base e 1 v' (n + m) (xs ++ news) ∧ w.grownBy w' v.ownBlock := by
  cases ad with
  | none =>
    have hm : m = 0 := by
      rcases Nat.eq_zero_or_pos m with h0 | h0
      · exact h0
      · obtain ⟨_, _, h2, _⟩ := hnews h0; cases h2
    subst hm
    have hn0 : news = [] := List.eq_nil_of_length_eq_zero hl
    subst hn0
    exact ⟨v, w, run_append_none2 (P := P) w base t tx ty e e' i 1 ht htx hi v n c xs hown, by rw [List.append_nil]; exact hown, grown_refl _ _⟩
  | some x0 =>
    obtain ⟨v', w', hr, h2, h3, _⟩ := run_append_own (P := P) w base t ty e i z 1 bytes ht hi hz hsize hby hzs (by decide) v n xs hown x0 m c news (by rw [hl, Nat.mul_one]) (by
      intro j u hj
      have hj' : j < news.length := (List.getElem?_eq_some_iff.1 hj).1
      obtain ⟨b, off, h2, h3⟩ := hnews (by omega)
      obtain rfl := Option.some.inj h2
      rw [Addr.add_lit]
      exact h3 j u hj) h1 h63 hbytes hbase
    rw [← append_types w t tx ty e e' ht htx] at hr
    exact ⟨v', w', hr, h2, h3⟩
theorem wp_append_rows {P : Program} (w : World) {o : Oper} {a : Act} {K : Act → World → Prop} {Q : Exit → Act → World → Prop} (s x : Operand) (t tx e' : TypeId)
    (ho : o.op = .call { callee := .builtin .append, args := #[s, x], argTypes := #[t, tx] }) (htx : P.underlying tx = some (.slice e'))
    (base : Nat) (e : TypeId) (i : TypeInfo) (z : Value) (bytes : Nat) (ht : P.underlying t = some (.slice e)) (hi : P.info? e = some i) (hz : i.zero = some z)
    (hsize : i.size = 1) (hby : i.bytes = bytes) (hzs : z.cells.size = 1)
    (v : Value) (n : Nat) (xs : List Value) (hs : a.eval s = v) (hown : w.ownsRow base e 1 v n xs)
    (ad : Option Addr) (m c : Nat) (news : List Value) (hx : a.eval x = .slice ad m c) (hl : news.length = m)
    (hnews : 0 < m → ∃ b off, ad = some ⟨b, off, none⟩ ∧ ∀ j u, news[j]? = some u → w.cell? ⟨b, off + j, none⟩ = some u) (h1 : ∀ u ∈ news, u.oneCell' = true)
    (h63 : n + m ≤ maxLen) (hbytes : (n + m) * bytes ≤ 140737488355328) (hbase : base ≤ w.heap.size)
    (h : ∀ v' w', w'.ownsRow base e 1 v' (n + m) (xs ++ news) → w.grownBy w' v.ownBlock → K (a.put o.dst v') w') : o.wp P a w K Q := by
  obtain ⟨v', w', hr, h2, h3⟩ := run_append_rows (P := P) w t tx o.type e' htx base e i z bytes ht hi hz hsize hby hzs v n xs hown ad m c news hl hnews h1 h63 hbytes hbase
  unfold Oper.wp execOp
  simp only [ho, resolve, invoke, builtin, Sem.run_bind, Sem.run_pure, Result.andThen_ok, List.map_toArray, List.map_cons, List.map_nil, hs, hx, hr]
  exact h v' w' h2 h3
/-- an append to a row of the call's own, whatever is appended: elements of one cell each -/
theorem wpList_append_rows {P : Program} (w : World) {ops : Array Oper} {rest : List Oper} {o : Oper} {a : Act} {Q : Exit → Act → World → Prop} (hgd : o.guard = none) (s x : Operand) (t tx e' : TypeId)
    (ho : o.op = .call { callee := .builtin .append, args := #[s, x], argTypes := #[t, tx] }) (htx : P.underlying tx = some (.slice e'))
    (base : Nat) (e : TypeId) (i : TypeInfo) (z : Value) (bytes : Nat) (ht : P.underlying t = some (.slice e)) (hi : P.info? e = some i) (hz : i.zero = some z)
    (hsize : i.size = 1) (hby : i.bytes = bytes) (hzs : z.cells.size = 1)
    (v : Value) (n : Nat) (xs : List Value) (hs : a.eval s = v) (hown : w.ownsRow base e 1 v n xs)
    (ad : Option Addr) (m c : Nat) (news : List Value) (hx : a.eval x = .slice ad m c) (hl : news.length = m)
    (hnews : 0 < m → ∃ b off, ad = some ⟨b, off, none⟩ ∧ ∀ j u, news[j]? = some u → w.cell? ⟨b, off + j, none⟩ = some u) (h1 : ∀ u ∈ news, u.oneCell' = true)
    (h63 : n + m ≤ maxLen) (hbytes : (n + m) * bytes ≤ 140737488355328) (hbase : base ≤ w.heap.size)
    (h : ∀ v' w', w'.ownsRow base e 1 v' (n + m) (xs ++ news) → w.grownBy w' v.ownBlock → wpList P ops Q rest (a.put o.dst v') w') : wpList P ops Q (o :: rest) a w :=
  wpList_plain hgd fun _ hK => wp_append_rows w s x t tx e' ho htx base e i z bytes ht hi hz hsize hby hzs v n xs hs hown ad m c news hx hl hnews h1 h63 hbytes hbase fun v' w' k1 k2 => hK _ _ (h v' w' k1 k2)
/-- the same as a step of a region that draws its order -/
theorem step_append_rows {P : Program} (w : World) {ops : Array Oper} {o : Oper} {a : Act} {K : Act → World → Prop} {Q : Exit → Act → World → Prop} {E : Prop} (hgd : o.guard = none) (s x : Operand) (t tx e' : TypeId)
    (ho : o.op = .call { callee := .builtin .append, args := #[s, x], argTypes := #[t, tx] }) (htx : P.underlying tx = some (.slice e'))
    (base : Nat) (e : TypeId) (i : TypeInfo) (z : Value) (bytes : Nat) (ht : P.underlying t = some (.slice e)) (hi : P.info? e = some i) (hz : i.zero = some z)
    (hsize : i.size = 1) (hby : i.bytes = bytes) (hzs : z.cells.size = 1)
    (v : Value) (n : Nat) (xs : List Value) (hs : a.eval s = v) (hown : w.ownsRow base e 1 v n xs)
    (ad : Option Addr) (m c : Nat) (news : List Value) (hx : a.eval x = .slice ad m c) (hl : news.length = m)
    (hnews : 0 < m → ∃ b off, ad = some ⟨b, off, none⟩ ∧ ∀ j u, news[j]? = some u → w.cell? ⟨b, off + j, none⟩ = some u) (h1 : ∀ u ∈ news, u.oneCell' = true)
    (h63 : n + m ≤ maxLen) (hbytes : (n + m) * bytes ≤ 140737488355328) (hbase : base ≤ w.heap.size)
    (h : ∀ v' w', w'.ownsRow base e 1 v' (n + m) (xs ++ news) → w.grownBy w' v.ownBlock → K (a.put o.dst v') w') :
    if Region.wanted o (yielded ops a.tmps) = true then Oper.wp P o a w K Q else E := by
  have hw : Region.wanted o (yielded ops a.tmps) = true := by simp [Region.wanted, hgd]
  rw [if_pos hw]
  exact wp_append_rows w s x t tx e' ho htx base e i z bytes ht hi hz hsize hby hzs v n xs hs hown ad m c news hx hl hnews h1 h63 hbytes hbase h

theorem Tryd.infoT : (Tryd.prog.info? 22).map (fun i => (i.zero, i.size, i.bytes)) = some (some (.slice none 0 0), 1, 24) := by kernel_rfl
theorem info_text : ∃ i, Tryd.prog.info? 22 = some i ∧ i.zero = some (.slice none 0 0) ∧ i.size = 1 ∧ i.bytes = 24 := by
  have h := Tryd.infoT
  obtain ⟨i, hi, he⟩ := Option.map_eq_some_iff.1 h
  simp only [Prod.mk.injEq] at he
  exact ⟨i, hi, he.1, he.2.1, he.2.2⟩
theorem info_byte : ∃ i, Tryd.prog.info? 5 = some i ∧ i.zero = some (.int .u8 0) ∧ i.size = 1 ∧ i.bytes = 1 := by
  have h := Tryd.info5
  obtain ⟨i, hi, he⟩ := Option.map_eq_some_iff.1 h
  simp only [Prod.mk.injEq] at he
  exact ⟨i, hi, he.1, he.2.1, he.2.2⟩

/-- values that are texts of the world w -/
def Texts (w : World) (us : List Value) (l : List (List Nat)) : Prop := us.length = l.length ∧ ∀ i, i < l.length → ∃ u, us[i]? = some u ∧ Row .u8 256 w u (tx l i) ∧ Tidy u
theorem Texts.nil (w : World) : Texts w [] [] := ⟨rfl, fun i hi => by simp at hi⟩
theorem Texts.append {w : World} {us vs : List Value} {l m : List (List Nat)} (h : Texts w us l) (k : Texts w vs m) : Texts w (us ++ vs) (l ++ m) := by
  refine ⟨by rw [List.length_append, List.length_append, h.1, k.1], fun i hi => ?_⟩
  rw [List.length_append] at hi
  by_cases hl : i < l.length
  · obtain ⟨u, hu, hr⟩ := h.2 i hl
    refine ⟨u, by rw [List.getElem?_append_left (by rw [h.1]; exact hl)]; exact hu, ?_⟩
    have e : tx (l ++ m) i = tx l i := by unfold tx; rw [List.getElem?_append_left hl]
    rw [e]; exact hr
  · obtain ⟨u, hu, hr⟩ := k.2 (i - l.length) (by omega)
    refine ⟨u, by rw [List.getElem?_append_right (by rw [h.1]; omega), h.1]; exact hu, ?_⟩
    have e : tx (l ++ m) i = tx m (i - l.length) := by unfold tx; rw [List.getElem?_append_right (by omega)]
    rw [e]; exact hr
theorem Texts.one {w : World} {u : Value} {x : List Nat} (h : Row .u8 256 w u x) (ht : Tidy u) : Texts w [u] [x] := by
  refine ⟨rfl, fun i hi => ?_⟩
  have : i = 0 := by simp at hi; omega
  subst this
  exact ⟨u, rfl, h, ht⟩
theorem Texts.below {w w' : World} {us : List Value} {l : List (List Nat)} (h : Texts w us l) (hb : Below w.heap.size w w') : Texts w' us l :=
  ⟨h.1, fun i hi => by obtain ⟨u, hu, hr, ht⟩ := h.2 i hi; exact ⟨u, hu, hr.below hb, ht⟩⟩
theorem Row.one {k : IntKind} {m : Nat} {w : World} {u : Value} {l : List Nat} (h : Row k m w u l) : u.oneCell' = true := by
  obtain ⟨a, c, rfl, _⟩ := h
  rfl
theorem Texts.cells {w : World} {us : List Value} {l : List (List Nat)} (h : Texts w us l) : ∀ u ∈ us, u.oneCell' = true := by
  intro u hu
  obtain ⟨i, hi, rfl⟩ := List.getElem_of_mem hu
  obtain ⟨u', hu', hr, _⟩ := h.2 i (by rw [← h.1]; exact hi)
  rw [List.getElem?_eq_getElem hi] at hu'
  obtain rfl := Option.some.inj hu'
  exact hr.one
/-- a slice of texts, as the values that it holds -/
theorem Rows2.texts {w : World} {v : Value} {l : List (List Nat)} (h : Rows2 w v l) : ∃ us a cap, v = .slice a l.length cap ∧ l.length ≤ cap ∧ cap ≤ 9223372036854775807 ∧ Texts w us l ∧
    (0 < l.length → ∃ b off, a = some ⟨b, off, none⟩ ∧ ∀ j u, us[j]? = some u → w.cell? ⟨b, off + j, none⟩ = some u) := by
  obtain ⟨a, cap, rfl, h1, h2, h3⟩ := h
  unfold maxLen at h2
  by_cases hl : 0 < l.length
  · obtain ⟨b, off, rfl, hc⟩ := h3 hl
    have : Inhabited Value := ⟨undef⟩
    obtain ⟨f, hf⟩ := choose_lt (α := Value) hc
    refine ⟨(List.range l.length).map f, _, cap, rfl, h1, by omega, ⟨by simp, fun i hi => ⟨f i, by simp [hi], (hf i hi).2.1, (hf i hi).2.2⟩⟩, fun _ => ⟨b, off, rfl, fun j u hj => ?_⟩⟩
    have hj' : j < l.length := by have := (List.getElem?_eq_some_iff.1 hj).1; simpa using this
    simp [hj'] at hj
    subst hj
    exact (hf j hj').1
  · have h0 : l = [] := by cases l with | nil => rfl | cons x l => simp at hl
    subst h0
    exact ⟨[], a, cap, rfl, h1, by omega, Texts.nil _, fun h => by simp at h⟩
/-- a row of the call's own that holds texts -/
theorem Texts.rows2 {w : World} {B : Nat} {v : Value} {us : List Value} {l : List (List Nat)} (h : Texts w us l) (ho : w.ownsRow B 22 1 v l.length us) : Rows2 w v l := by
  have ho' := ho
  obtain ⟨h1, ⟨rfl, h2⟩ | ⟨g, cap, cur, rfl, h3, h4, h5, h6, h7, h8⟩⟩ := ho
  · exact ⟨none, 0, by rw [h2], by omega, Nat.zero_le _, fun hl => by omega⟩
  · refine ⟨_, cap, rfl, h5, h6, fun hl => ⟨g, 0, rfl, fun i hi => ?_⟩⟩
    obtain ⟨u, hu, hr⟩ := h.2 i hi
    refine ⟨u, ?_, hr⟩
    rw [Nat.zero_add, ho'.cellAt i (by omega)]
    exact hu
end Go.Proofs.YtjkciheoknjfhaaDoor

/- Texts of the call's own, one behind the other, in a slice of the call's own. -/
namespace Go.Proofs.YtjkciheoknjfhaaDoor
open Go.RowKit Go.Deep
set_option linter.unusedVariables false

/-- how long a slice is -/
def lenV : Value → Nat
  | .slice _ n _ => n
  | _ => 0
theorem own_len {w : World} {B : Nat} {e : TypeId} {v : Value} {n : Nat} {xs : List Value} (h : w.ownsRow B e 1 v n xs) : lenV v = n := by
  obtain ⟨_, ⟨rfl, h⟩ | ⟨g, cap, cur, rfl, _⟩⟩ := h
  · rw [h]; rfl
  · rfl
theorem own_other {w w' : World} {B : Nat} {e : TypeId} {v : Value} {n : Nat} {xs : List Value} (h : w.ownsRow B e 1 v n xs) (hb : ∀ k, B ≤ k → k < w.heap.size → w'.heap[k]? = w.heap[k]?) : w'.ownsRow B e 1 v n xs := by
  obtain ⟨h1, h2 | ⟨g, cap, cur, rfl, h3, h4, h5⟩⟩ := h
  · exact ⟨h1, .inl h2⟩
  · have hlt : g < w.heap.size := by
      rcases Nat.lt_or_ge g w.heap.size with hlt | hge
      · exact hlt
      · rw [Array.getElem?_eq_none hge] at h4; cases h4
    exact ⟨h1, .inr ⟨g, cap, cur, rfl, h3, by rw [hb g h3 hlt]; exact h4, h5⟩⟩
theorem own_unlike {w : World} {B C : Nat} {e f : TypeId} {u v : Value} {n m : Nat} {xs ys : List Value} (h : w.ownsRow B e 1 u n xs) (k : w.ownsRow C f 1 v m ys) (hef : e ≠ f) : u.ownBlock = none ∨ u.ownBlock ≠ v.ownBlock := by
  obtain ⟨_, ⟨rfl, _⟩ | ⟨g, cap, cur, rfl, _, h4, _⟩⟩ := h
  · exact .inl rfl
  · obtain ⟨_, ⟨rfl, _⟩ | ⟨g', cap', cur', rfl, _, h4', _⟩⟩ := k
    · exact .inr (fun e => by cases e)
    · refine .inr (fun e => ?_)
      have e' : g = g' := by simpa [Value.ownBlock] using e
      subst e'
      rw [h4] at h4'
      simp at h4'
      exact hef h4'.2
theorem own_tidy {w : World} {B : Nat} {e : TypeId} {v : Value} {n : Nat} {xs : List Value} (h : w.ownsRow B e 1 v n xs) : Tidy v := by
  intro a c he
  subst he
  obtain ⟨_, ⟨h, _⟩ | ⟨g, cap, cur, h, _⟩⟩ := h
  · simp at h; exact h
  · simp at h
theorem row_news {w : World} {a : Option Addr} {n cap : Nat} {l : List Nat} (h : Row .u8 256 w (.slice a n cap) l) : n = l.length ∧ (0 < n → ∃ b off, a = some ⟨b, off, none⟩ ∧ ∀ j u, (vals .u8 l)[j]? = some u → w.cell? ⟨b, off + j, none⟩ = some u) := by
  obtain ⟨a', cap', he, h1, h2, h3, h4⟩ := h
  simp at he
  obtain ⟨rfl, rfl, rfl⟩ := he
  refine ⟨rfl, fun hl => ?_⟩
  obtain ⟨b, off, rfl, hc⟩ := h3 hl
  refine ⟨b, off, rfl, fun j u hj => ?_⟩
  have hj' : j < l.length := by have := (List.getElem?_eq_some_iff.1 hj).1; rwa [vals_length] at this
  rw [vals_get _ _ _ hj'] at hj
  rw [hc j hj']
  exact hj

/-- texts of the call's own, in a slice of the call's own -/
def Outs (B : Nat) (w : World) (v : Value) (o : List (List Nat)) : Prop := ∃ us, w.ownsRow B 22 1 v o.length us ∧ us.length = o.length ∧ ∀ i, i < o.length → ∃ u, us[i]? = some u ∧ Own 5 .u8 256 w B u (tx o i)
theorem Outs.nil (B : Nat) (w : World) : Outs B w (.slice none 0 0) [] := ⟨[], World.ownsRow_nil _ _ _ _, rfl, fun i hi => by simp at hi⟩
theorem Outs.other {B : Nat} {w w' : World} {v : Value} {o : List (List Nat)} (h : Outs B w v o) (hb : ∀ k, B ≤ k → k < w.heap.size → w'.heap[k]? = w.heap[k]?) : Outs B w' v o := by
  obtain ⟨us, h1, h2, h3⟩ := h
  exact ⟨us, own_other h1 hb, h2, fun i hi => by obtain ⟨u, hu, ho, hn⟩ := h3 i hi; exact ⟨u, hu, own_other ho hb, hn⟩⟩
theorem Outs.texts {B : Nat} {w : World} {v : Value} {o : List (List Nat)} (h : Outs B w v o) : Rows2 w v o := by
  obtain ⟨us, h1, h2, h3⟩ := h
  exact Texts.rows2 ⟨h2, fun i hi => by obtain ⟨u, hu, ho⟩ := h3 i hi; exact ⟨u, hu, ho.row, own_tidy ho.1⟩⟩ h1
theorem grown_kept {w w' : World} {B : Nat} {e : TypeId} {u : Value} {n : Nat} {xs : List Value} {row : Option Nat} (h : w.ownsRow B e 1 u n xs) (hg : w.grownBy w' row) (hne : u.ownBlock = none ∨ u.ownBlock ≠ row) : w'.ownsRow B e 1 u n xs := h.kept hg hne
/-- a text more -/
theorem Outs.snoc {B : Nat} {w w1 w3 : World} {v t v' : Value} {o : List (List Nat)} {x : List Nat} {us : List Value} (how : w.ownsRow B 22 1 v o.length us) (hul : us.length = o.length)
    (hel : ∀ i, i < o.length → ∃ u, us[i]? = some u ∧ Own 5 .u8 256 w B u (tx o i)) (h1 : w.grownBy w1 none) (ho : Own 5 .u8 256 w1 B t x) (h3 : w3.ownsRow B 22 1 v' (o.length + 1) (us ++ [t]))
    (hg : (w1.alloc (.cells #[t] 22)).grownBy w3 v.ownBlock) : Outs B w3 v' (o ++ [x]) := by
  have how1 : w1.ownsRow B 22 1 v o.length us := how.kept h1 (by cases hv : v.ownBlock with | none => exact .inl rfl | some k => exact .inr (by simp))
  have how2 := how1.alloc (.cells #[t] 22)
  refine ⟨us ++ [t], by rw [List.length_append]; exact h3, by simp [hul], fun i hi => ?_⟩
  rw [List.length_append] at hi
  by_cases hl : i < o.length
  · obtain ⟨u, hu, hou, hun⟩ := hel i hl
    have a1 : w1.ownsRow B 5 1 u _ _ := hou.kept h1 (by cases hv : u.ownBlock with | none => exact .inl rfl | some k => exact .inr (by simp))
    have a2 := a1.alloc (.cells #[t] 22)
    have a3 := a2.kept hg (own_unlike a2 how2 (by decide))
    have e : tx (o ++ [x]) i = tx o i := by unfold tx; rw [List.getElem?_append_left hl]
    exact ⟨u, by rw [List.getElem?_append_left (by omega)]; exact hu, by rw [e]; exact ⟨a3, hun⟩⟩
  · have hi0 : i = o.length := by simp at hi; omega
    subst hi0
    have a2 := ho.1.alloc (.cells #[t] 22)
    have a3 := a2.kept hg (own_unlike a2 how2 (by decide))
    have e : tx (o ++ [x]) o.length = x := by unfold tx; simp
    exact ⟨t, by rw [List.getElem?_append_right (by omega), hul]; simp, by rw [e]; exact ⟨a3, ho.2⟩⟩

theorem own_slice {w : World} {B : Nat} {e : TypeId} {v : Value} {n : Nat} {xs : List Value} (h : w.ownsRow B e 1 v n xs) : ∃ a c, v = .slice a n c := by
  obtain ⟨_, ⟨rfl, h⟩ | ⟨g, cap, cur, rfl, _⟩⟩ := h
  · exact ⟨none, 0, by rw [h]⟩
  · exact ⟨_, _, rfl⟩
theorem cells_new1 (w : World) (x : Value) (t : TypeId) : ∀ j u, [x][j]? = some u → (w.alloc (.cells #[x] t)).cell? ⟨w.heap.size, 0 + j, none⟩ = some u := by
  intro j u hj
  have := cells_new w x t j u hj
  rwa [Addr.add_lit] at this
theorem none_kept {w w' : World} {B : Nat} {e : TypeId} {v : Value} {n : Nat} {xs : List Value} (h : w.ownsRow B e 1 v n xs) (hg : w.grownBy w' none) : w'.ownsRow B e 1 v n xs :=
  h.kept hg (by cases hv : v.ownBlock with | none => exact .inl rfl | some k => exact .inr (by simp))
end Go.Proofs.YtjkciheoknjfhaaDoor

/- Values in memory that lie in some blocks alone; rows of nodes of the call's own. -/
namespace Go.Proofs.YtjkciheoknjfhaaDoor
open Go.RowKit Go.Deep
set_option linter.unusedVariables false

/-- a slice that has elements lies in such a block -/
def ValIn (S : Nat → Prop) (v : Value) : Prop := ∀ b, 0 < lenV v → v.ownBlock = some b → S b
/-- three cells are a node, of at most so many layers, and all of it lies in such blocks -/
def NdIn (S : Nat → Prop) (w : World) : Nat → Value → Value → Value → Nd → Prop
  | 0, _, _, _, _ => False
  | d + 1, ct, cb, ck, .mk t b ks => ct = .int .i64 t ∧ I64 t ∧ Row .u8 256 w cb b ∧ Tidy cb ∧ Tidy ck ∧ ValIn S cb ∧ ValIn S ck ∧ KidsAt (NdIn S w d) w ck ks
theorem NdIn.at {S : Nat → Prop} {w : World} : ∀ (d : Nat) (c0 c1 c2 : Value) (x : Nd), NdIn S w d c0 c1 c2 x → NdAt w d c0 c1 c2 x := by
  intro d
  induction d with
  | zero => intro c0 c1 c2 x h; exact h.elim
  | succ d ih =>
    rintro c0 c1 c2 ⟨t, b, ks⟩ ⟨h1, h2, h3, h4, h5, _, _, a, cap, h6, h7, h8, h9⟩
    refine ⟨h1, h2, h3, h4, h5, a, cap, h6, h7, h8, fun hl => ?_⟩
    obtain ⟨bl, off, e, hc⟩ := h9 hl
    refine ⟨bl, off, e, fun i hi => ?_⟩
    obtain ⟨k0, k1, k2, k3, k4⟩ := hc i hi
    exact ⟨k0, k1, k2, k3, ih _ _ _ _ k4⟩
theorem Cell3.other {w w' : World} {b o : Nat} {c0 c1 c2 : Value} (h : Cell3 w b o c0 c1 c2) (hb : w'.heap[b]? = w.heap[b]?) : Cell3 w' b o c0 c1 c2 := by
  obtain ⟨h0, h1, h2⟩ := h
  refine ⟨?_, ?_, ?_⟩
  · rw [World.cell?_of_block (w := w) hb]; exact h0
  · rw [World.cell?_of_block (w := w) hb]; exact h1
  · rw [World.cell?_of_block (w := w) hb]; exact h2
theorem Row.otherIn {S : Nat → Prop} {w w' : World} {u : Value} {l : List Nat} (h : Row .u8 256 w u l) (hs : ValIn S u) (hb : ∀ b, S b → b < w.heap.size → w'.heap[b]? = w.heap[b]?) : Row .u8 256 w' u l := by
  obtain ⟨a, cap, rfl, h1, h2, h3, h4⟩ := h
  refine ⟨a, cap, rfl, h1, h2, fun hl => ?_, h4⟩
  obtain ⟨b, off, rfl, hc⟩ := h3 hl
  refine ⟨b, off, rfl, fun i hi => ?_⟩
  have c := hc i hi
  rw [World.cell?_of_block (w := w) (hb b (hs b hl rfl) (World.block_lt_of_cell? w _ c))]
  exact c
theorem NdIn.other {S : Nat → Prop} {w w' : World} (hb : ∀ b, S b → b < w.heap.size → w'.heap[b]? = w.heap[b]?) : ∀ (d : Nat) (c0 c1 c2 : Value) (x : Nd), NdIn S w d c0 c1 c2 x → NdIn S w' d c0 c1 c2 x := by
  intro d
  induction d with
  | zero => intro c0 c1 c2 x h; exact h.elim
  | succ d ih =>
    rintro c0 c1 c2 ⟨t, b, ks⟩ ⟨h1, h2, h3, h4, h5, s1, s2, a, cap, rfl, h7, h8, h9⟩
    refine ⟨h1, h2, h3.otherIn s1 hb, h4, h5, s1, s2, a, cap, rfl, h7, h8, fun hl => ?_⟩
    obtain ⟨bl, off, rfl, hc⟩ := h9 hl
    refine ⟨bl, off, rfl, fun i hi => ?_⟩
    obtain ⟨k0, k1, k2, k3, k4⟩ := hc i hi
    exact ⟨k0, k1, k2, k3.other (hb bl (s2 bl hl rfl) (World.block_lt_of_cell? w _ k3.1)), ih _ _ _ _ k4⟩
theorem NdIn.mono {S T : Nat → Prop} {w : World} (hST : ∀ b, S b → b < w.heap.size → T b) : ∀ (d : Nat) (c0 c1 c2 : Value) (x : Nd), NdIn S w d c0 c1 c2 x → NdIn T w d c0 c1 c2 x := by
  intro d
  induction d with
  | zero => intro c0 c1 c2 x h; exact h.elim
  | succ d ih =>
    rintro c0 c1 c2 ⟨t, b, ks⟩ ⟨h1, h2, h3, h4, h5, s1, s2, a, cap, rfl, h7, h8, h9⟩
    have h3' := h3
    obtain ⟨ba, bc, rfl, _, _, hcell, _⟩ := h3'
    refine ⟨h1, h2, h3, h4, h5, fun bb hp he => ?_, fun bb hp he => ?_, a, cap, rfl, h7, h8, fun hl => ?_⟩
    · obtain ⟨b0, o0, rfl, hc⟩ := hcell hp
      have c := hc 0 hp
      have e : b0 = bb := by simpa [Value.ownBlock] using he
      subst e
      exact hST _ (s1 _ hp rfl) (World.block_lt_of_cell? w _ c)
    · obtain ⟨b0, o0, rfl, hc⟩ := h9 hp
      obtain ⟨k0, k1, k2, k3, _⟩ := hc 0 hp
      have e : b0 = bb := by simpa [Value.ownBlock] using he
      subst e
      exact hST _ (s2 _ hp rfl) (World.block_lt_of_cell? w _ k3.1)
    · obtain ⟨bl, off, rfl, hc⟩ := h9 hl
      refine ⟨bl, off, rfl, fun i hi => ?_⟩
      obtain ⟨k0, k1, k2, k3, k4⟩ := hc i hi
      exact ⟨k0, k1, k2, k3, ih _ _ _ _ k4⟩
theorem NdIn.more {S : Nat → Prop} {w : World} : ∀ (d : Nat) (c0 c1 c2 : Value) (x : Nd), NdIn S w d c0 c1 c2 x → NdIn S w (d + 1) c0 c1 c2 x := by
  intro d
  induction d with
  | zero => intro c0 c1 c2 x h; exact h.elim
  | succ d ih =>
    rintro c0 c1 c2 ⟨t, b, ks⟩ ⟨h1, h2, h3, h4, h5, s1, s2, a, cap, h6, h7, h8, h9⟩
    refine ⟨h1, h2, h3, h4, h5, s1, s2, a, cap, h6, h7, h8, fun hl => ?_⟩
    obtain ⟨bl, off, e, hc⟩ := h9 hl
    refine ⟨bl, off, e, fun i hi => ?_⟩
    obtain ⟨k0, k1, k2, k3, k4⟩ := hc i hi
    exact ⟨k0, k1, k2, k3, ih _ _ _ _ k4⟩
/-- a node's three cells in a list of cells -/
def Trip (S : Nat → Prop) (w : World) (d : Nat) (cs : List Value) (ks : List Nd) : Prop :=
  cs.length = ks.length * 3 ∧ ∀ i, i < ks.length → ∃ c0 c1 c2, cs[i * 3]? = some c0 ∧ cs[i * 3 + 1]? = some c1 ∧ cs[i * 3 + 2]? = some c2 ∧ NdIn S w d c0 c1 c2 (kx ks i)
theorem Trip.nil (S : Nat → Prop) (w : World) (d : Nat) : Trip S w d [] [] := ⟨rfl, fun i hi => by simp at hi⟩
theorem Trip.snoc {S : Nat → Prop} {w : World} {d : Nat} {cs : List Value} {ks : List Nd} {c0 c1 c2 : Value} {x : Nd} (h : Trip S w d cs ks) (hx : NdIn S w d c0 c1 c2 x) : Trip S w d (cs ++ [c0, c1, c2]) (ks ++ [x]) := by
  obtain ⟨h1, h2⟩ := h
  refine ⟨by simp [h1]; omega, fun i hi => ?_⟩
  rw [List.length_append, List.length_singleton] at hi
  by_cases hl : i < ks.length
  · obtain ⟨k0, k1, k2, e0, e1, e2, hn⟩ := h2 i hl
    refine ⟨k0, k1, k2, by rw [List.getElem?_append_left (by omega)]; exact e0, by rw [List.getElem?_append_left (by omega)]; exact e1, by rw [List.getElem?_append_left (by omega)]; exact e2, ?_⟩
    have e : kx (ks ++ [x]) i = kx ks i := by unfold kx; rw [List.getElem?_append_left hl]
    rw [e]; exact hn
  · have hi0 : i = ks.length := by omega
    subst hi0
    refine ⟨c0, c1, c2, by rw [List.getElem?_append_right (by omega), h1]; simp, by rw [List.getElem?_append_right (by omega), h1, show ks.length * 3 + 1 - ks.length * 3 = 1 by omega]; rfl, by rw [List.getElem?_append_right (by omega), h1, show ks.length * 3 + 2 - ks.length * 3 = 2 by omega]; rfl, ?_⟩
    have e : kx (ks ++ [x]) ks.length = x := by unfold kx; simp
    rw [e]; exact hx
theorem Trip.map {S T : Nat → Prop} {w w' : World} {d d' : Nat} {cs : List Value} {ks : List Nd} (h : Trip S w d cs ks) (hm : ∀ c0 c1 c2 x, NdIn S w d c0 c1 c2 x → NdIn T w' d' c0 c1 c2 x) : Trip T w' d' cs ks :=
  ⟨h.1, fun i hi => by obtain ⟨k0, k1, k2, e0, e1, e2, hn⟩ := h.2 i hi; exact ⟨k0, k1, k2, e0, e1, e2, hm _ _ _ _ hn⟩⟩
/-- a row of nodes of the call's own is a slice of nodes -/
theorem Trip.kids {S : Nat → Prop} {w : World} {d B : Nat} {v : Value} {cs : List Value} {ks : List Nd} (h : Trip S w d cs ks) (ho : w.ownsRow B 26 3 v ks.length cs) : KidsAt (NdIn S w d) w v ks := by
  obtain ⟨h1, ⟨rfl, h2⟩ | ⟨g, cap, cur, rfl, h3, h4, h5, h6, h7, h8⟩⟩ := ho
  · exact ⟨none, 0, by rw [h2], by omega, Nat.zero_le _, fun hl => by omega⟩
  · refine ⟨_, cap, rfl, h5, h6, fun hl => ⟨g, 0, rfl, fun i hi => ?_⟩⟩
    obtain ⟨k0, k1, k2, e0, e1, e2, hn⟩ := h.2 i hi
    have key : ∀ j u, j < ks.length * 3 → cs[j]? = some u → w.cell? ⟨g, j, none⟩ = some u := by
      intro j u hj hu
      have : w.cell? ⟨g, j, none⟩ = cur[j]? := by simp [World.cell?, h4]
      rw [this, ← hu, ← h8, List.getElem?_take, if_pos hj]
      simp
    refine ⟨k0, k1, k2, ⟨?_, ?_, ?_⟩, hn⟩
    · rw [Nat.zero_add]; exact key _ _ (by omega) e0
    · rw [Nat.zero_add]; exact key _ _ (by omega) e1
    · rw [Nat.zero_add]; exact key _ _ (by omega) e2
end Go.Proofs.YtjkciheoknjfhaaDoor

/- The parts that were read so far, in rows of the call's own. -/
namespace Go.Proofs.YtjkciheoknjfhaaDoor
open Go.RowKit Go.Deep
set_option linter.unusedVariables false

/-- what was read first, ahead of what is read next -/
def preR {α : Type} (xs : List α) : Res (List α) → Res (List α)
  | .err e => .err e
  | .ok l => .ok (xs ++ l)
theorem preR_nil {α : Type} (r : Res (List α)) : preR [] r = r := by cases r <;> rfl
theorem preR_pre {α : Type} (xs ys : List α) (r : Res (List α)) : preR xs (preR ys r) = preR (xs ++ ys) r := by
  cases r with
  | err e => rfl
  | ok l => show Res.ok (xs ++ (ys ++ l)) = .ok (xs ++ ys ++ l); rw [List.append_assoc]
theorem rdk_nil (g : List Nat → Res (Nd × Nat)) (f : Nat) : rdk g f [] = .ok [] := by cases f <;> rfl
theorem rdk_err {g : List Nat → Res (Nd × Nat)} {f e : Nat} {J : List Nat} (h0 : 0 < J.length) (hf : J.length ≤ f) (hg : g J = .err e) : rdk g f J = .err e := by
  cases J with
  | nil => simp at h0
  | cons j J => cases f with
    | zero => simp at hf
    | succ f => rw [rdk, hg]
theorem rdk_ok {g : List Nat → Res (Nd × Nat)} {f m : Nat} {x : Nd} {J : List Nat} (h0 : 0 < J.length) (hf : J.length ≤ f) (hg : g J = .ok (x, m)) (hm : 0 < m) : ∃ f', (J.drop m).length ≤ f' ∧ rdk g f J = preR [(x, J.take m)] (rdk g f' (J.drop m)) := by
  cases J with
  | nil => simp at h0
  | cons j J => cases f with
    | zero => simp at hf
    | succ f =>
      refine ⟨f, by rw [List.length_drop]; simp at hf ⊢; omega, ?_⟩
      rw [rdk, hg]
      dsimp only
      cases rdk g f ((j :: J).drop m) with
      | err e => rfl
      | ok l => rfl

theorem NdIn.le {S : Nat → Prop} {w : World} {d d' : Nat} (h : d ≤ d') {c0 c1 c2 : Value} {x : Nd} (hx : NdIn S w d c0 c1 c2 x) : NdIn S w d' c0 c1 c2 x := by
  induction h with
  | refl => exact hx
  | step _ ih => exact NdIn.more _ _ _ _ _ ih
theorem NdIn.turn {S T : Nat → Prop} {w w' : World} {d : Nat} {c0 c1 c2 : Value} {x : Nd} (h : NdIn S w d c0 c1 c2 x) (hb : ∀ b, S b → b < w.heap.size → w'.heap[b]? = w.heap[b]? ∧ T b) : NdIn T w' d c0 c1 c2 x := by
  have h1 : NdIn (fun b => S b ∧ b < w.heap.size) w d c0 c1 c2 x := NdIn.mono (fun b hs hl => ⟨hs, hl⟩) _ _ _ _ _ h
  have h2 : NdIn (fun b => S b ∧ b < w.heap.size) w' d c0 c1 c2 x := NdIn.other (fun b hs hl => (hb b hs.1 hs.2).1) _ _ _ _ _ h1
  exact NdIn.mono (fun b hs _ => (hb b hs.1 hs.2).2) _ _ _ _ _ h2
theorem NdIn.forms {S : Nat → Prop} {w : World} {d : Nat} {c0 c1 c2 : Value} {x : Nd} (h : NdIn S w d c0 c1 c2 x) : ∃ t a1 n1 p1 a2 n2 p2, c0 = .int .i64 t ∧ c1 = .slice a1 n1 p1 ∧ c2 = .slice a2 n2 p2 := by
  cases d with
  | zero => exact h.elim
  | succ d =>
    obtain ⟨t, b, ks⟩ := x
    obtain ⟨rfl, _, ⟨a1, p1, rfl, _⟩, _, _, _, _, a2, p2, rfl, _⟩ := h
    exact ⟨_, _, _, _, _, _, _, rfl, rfl, rfl⟩
theorem own_others {w w' : World} {B size : Nat} {e : TypeId} {v : Value} {n : Nat} {xs : List Value} (h : w.ownsRow B e size v n xs) (hb : ∀ k, B ≤ k → k < w.heap.size → w'.heap[k]? = w.heap[k]?) : w'.ownsRow B e size v n xs := by
  obtain ⟨h1, h2 | ⟨g, cap, cur, rfl, h3, h4, h5⟩⟩ := h
  · exact ⟨h1, .inl h2⟩
  · have hlt : g < w.heap.size := by
      rcases Nat.lt_or_ge g w.heap.size with hlt | hge
      · exact hlt
      · rw [Array.getElem?_eq_none hge] at h4; cases h4
    exact ⟨h1, .inr ⟨g, cap, cur, rfl, h3, by rw [hb g h3 hlt]; exact h4, h5⟩⟩
theorem own_apart {w : World} {B C s r : Nat} {e f : TypeId} {u v : Value} {n m : Nat} {xs ys : List Value} (h : w.ownsRow B e s u n xs) (k : w.ownsRow C f r v m ys) (hef : e ≠ f) : u.ownBlock = none ∨ u.ownBlock ≠ v.ownBlock := by
  obtain ⟨_, ⟨rfl, _⟩ | ⟨g, cap, cur, rfl, _, h4, _⟩⟩ := h
  · exact .inl rfl
  · obtain ⟨_, ⟨rfl, _⟩ | ⟨g', cap', cur', rfl, _, h4', _⟩⟩ := k
    · exact .inr (fun e => by cases e)
    · refine .inr (fun e => ?_)
      have e' : g = g' := by simpa [Value.ownBlock] using e
      subst e'
      rw [h4] at h4'
      simp at h4'
      exact hef h4'.2
theorem own_tidys {w : World} {B s : Nat} {e : TypeId} {v : Value} {n : Nat} {xs : List Value} (h : w.ownsRow B e s v n xs) : Tidy v := by
  intro a c he
  subst he
  obtain ⟨_, ⟨h, _⟩ | ⟨g, cap, cur, h, _⟩⟩ := h
  · simp at h; exact h
  · simp at h

theorem own_slices {w : World} {B s : Nat} {e : TypeId} {v : Value} {n : Nat} {xs : List Value} (h : w.ownsRow B e s v n xs) : ∃ a c, v = .slice a n c := by
  obtain ⟨_, ⟨rfl, h⟩ | ⟨g, cap, cur, rfl, _⟩⟩ := h
  · exact ⟨none, 0, by rw [h]⟩
  · exact ⟨_, _, rfl⟩
theorem cell_at' {w : World} {g i : Nat} {cur : Array Value} {t : TypeId} (h : w.heap[g]? = some (.cells cur t)) : w.cell? ⟨g, i, none⟩ = cur[i]? := by simp [World.cell?, h]
theorem cells_new3 (w : World) (c0 c1 c2 : Value) (t : TypeId) {H : Nat} (hH : w.heap.size = H) : ∀ j u, [c0, c1, c2][j]? = some u → (w.alloc (.cells #[c0, c1, c2] t)).cell? ((⟨H, 0, none⟩ : Addr).add j) = some u := by
  subst hH
  intro j u hj
  have h : (w.alloc (.cells #[c0, c1, c2] t)).heap[w.heap.size]? = some (.cells #[c0, c1, c2] t) := heap_alloc_new w _
  rw [Addr.add_lit, Nat.zero_add]
  rw [cell_at' h, ← hj]
  simp
theorem Tryd.infoN : (Tryd.prog.info? 26).map (fun i => (i.zero, i.size, i.bytes)) = some (some (.agg #[.int .i64 0, .slice none 0 0, .slice none 0 0]), 3, 56) := by kernel_rfl
theorem info_node : ∃ i, Tryd.prog.info? 26 = some i ∧ i.zero = some (.agg #[.int .i64 0, .slice none 0 0, .slice none 0 0]) ∧ i.size = 3 ∧ i.bytes = 56 := by
  have h := Tryd.infoN
  obtain ⟨i, hi, he⟩ := Option.map_eq_some_iff.1 h
  simp only [Prod.mk.injEq] at he
  exact ⟨i, hi, he.1, he.2.1, he.2.2⟩

/-- neither in the one row nor in the other -/
def InS (B0 B : Nat) (kv tv : Value) (q : Nat) : Prop := (q < B0 ∨ B ≤ q) ∧ kv.ownBlock ≠ some q ∧ tv.ownBlock ≠ some q
def KidN (B0 B : Nat) (w : World) (kv tv : Value) (ks : List Nd) : Prop := ∃ d cs, w.ownsRow B 26 3 kv ks.length cs ∧ Trip (InS B0 B kv tv) w d cs ks
def KidT (B0 B : Nat) (w : World) (tv : Value) (ts : List (List Nat)) : Prop := ∃ us, w.ownsRow B 22 1 tv ts.length us ∧ Texts w us ts ∧ ∀ u ∈ us, ValIn (fun q => q < B0) u
theorem KidN.nil (B0 B : Nat) (w : World) (tv : Value) : KidN B0 B w (.slice none 0 0) tv [] := ⟨0, [], World.ownsRow_nil _ _ _ _, Trip.nil _ _ _⟩
theorem KidT.nil (B0 B : Nat) (w : World) : KidT B0 B w (.slice none 0 0) [] := ⟨[], World.ownsRow_nil _ _ _ _, Texts.nil _, fun u hu => by simp at hu⟩
theorem KidN.other {B0 B : Nat} {w w' : World} {kv tv : Value} {ks : List Nd} (h : KidN B0 B w kv tv ks) (hb : ∀ q, q < B0 ∨ B ≤ q → q < w.heap.size → w'.heap[q]? = w.heap[q]?) : KidN B0 B w' kv tv ks := by
  obtain ⟨d, cs, h1, h2⟩ := h
  exact ⟨d, cs, own_others h1 (fun k hk hl => hb k (.inr hk) hl), h2.map (fun _ _ _ _ hn => hn.turn (fun b hs hl => ⟨hb b hs.1 hl, hs⟩))⟩
theorem Texts.turn {B0 : Nat} {w w' : World} {us : List Value} {ts : List (List Nat)} (h : Texts w us ts) (hu : ∀ u ∈ us, ValIn (fun q => q < B0) u) (hb : ∀ q, q < B0 → q < w.heap.size → w'.heap[q]? = w.heap[q]?) : Texts w' us ts :=
  ⟨h.1, fun i hi => by obtain ⟨u, e, hr, ht⟩ := h.2 i hi; exact ⟨u, e, hr.otherIn (hu u (List.mem_of_getElem? e)) hb, ht⟩⟩
theorem KidT.other {B0 B : Nat} {w w' : World} {tv : Value} {ts : List (List Nat)} (h : KidT B0 B w tv ts) (hb : ∀ q, q < B0 ∨ B ≤ q → q < w.heap.size → w'.heap[q]? = w.heap[q]?) : KidT B0 B w' tv ts := by
  obtain ⟨us, h1, h2, h3⟩ := h
  exact ⟨us, own_others h1 (fun k hk hl => hb k (.inr hk) hl), h2.turn h3 (fun q hq hl => hb q (.inl hq) hl), h3⟩
/-- a node more -/
theorem KidN.snoc {B0 B L d d' g cap : Nat} {w w' : World} {kv tv c0 c1 c2 : Value} {o : Obj} {cs : List Value} {ks : List Nd} {x : Nd} (how : w.ownsRow B 26 3 kv ks.length cs) (htr : Trip (InS B0 B kv tv) w d cs ks)
    (hx : NdIn (fun q => q < B0 ∨ L ≤ q) w d' c0 c1 c2 x) (hB : B0 ≤ B) (hL : B ≤ L) (hkv : ∀ q, kv.ownBlock = some q → q < L) (htv : ∀ q, tv.ownBlock = some q → B ≤ q ∧ q < L)
    (hw' : w'.ownsRow B 26 3 (.slice (some ⟨g, 0, none⟩) (ks.length + 1) cap) (ks.length + 1) (cs ++ [c0, c1, c2])) (hg : (w.alloc o).grownBy w' kv.ownBlock) (hlie : kv.ownBlock = some g ∨ g = (w.alloc o).heap.size) :
    KidN B0 B w' (.slice (some ⟨g, 0, none⟩) (ks.length + 1) cap) tv (ks ++ [x]) := by
  have hblk : ∀ q, q < w.heap.size → kv.ownBlock ≠ some q → w'.heap[q]? = w.heap[q]? := fun q hq hne =>
    (hg.block q (by rw [World.size_alloc]; omega) (fun e => hne e.symm)).trans (heap_alloc_old w o hq)
  have hgq : ∀ q, q < w.heap.size → kv.ownBlock ≠ some q → g ≠ q := by
    intro q hq hne e
    rcases hlie with h | h
    · exact hne (by rw [h, e])
    · rw [World.size_alloc] at h; omega
  refine ⟨max d d', cs ++ [c0, c1, c2], by rw [List.length_append, List.length_singleton]; exact hw', Trip.snoc (htr.map (fun _ _ _ _ hn => (hn.le (Nat.le_max_left d d')).turn (fun b hs hl => ⟨hblk b hl hs.2.1, hs.1, ?_, hs.2.2⟩))) ((hx.le (Nat.le_max_right d d')).turn (fun b hs hl => ?_))⟩
  · intro e
    exact hgq b hl hs.2.1 (by simpa [Value.ownBlock] using e)
  · have hne : kv.ownBlock ≠ some b := by
      intro e
      have h1 := hkv b e
      have h2 := (how.lt b e).1
      rcases hs with h | h <;> omega
    refine ⟨hblk b hl hne, ?_, fun e => hgq b hl hne (by simpa [Value.ownBlock] using e), fun e => ?_⟩
    · rcases hs with h | h
      · exact .inl h
      · exact .inr (by omega)
    · obtain ⟨h1, h2⟩ := htv b e
      rcases hs with h | h <;> omega
/-- the other row has grown -/
theorem KidN.beside {B0 B g cap n m : Nat} {w w' : World} {kv tv : Value} {o : Obj} {us : List Value} {ks : List Nd} (h : KidN B0 B w kv tv ks) (hB : B0 ≤ B) (htv : w.ownsRow B 22 1 tv n us) (hg : (w.alloc o).grownBy w' tv.ownBlock) (hlie : tv.ownBlock = some g ∨ g = (w.alloc o).heap.size) :
    KidN B0 B w' kv (.slice (some ⟨g, 0, none⟩) m cap) ks := by
  obtain ⟨d, cs, h1, h2⟩ := h
  have hblk : ∀ q, q < w.heap.size → tv.ownBlock ≠ some q → w'.heap[q]? = w.heap[q]? := fun q hq hne =>
    (hg.block q (by rw [World.size_alloc]; omega) (fun e => hne e.symm)).trans (heap_alloc_old w o hq)
  have hgq : ∀ q, q < w.heap.size → tv.ownBlock ≠ some q → g ≠ q := by
    intro q hq hne e
    rcases hlie with h | h
    · exact hne (by rw [h, e])
    · rw [World.size_alloc] at h; omega
  refine ⟨d, cs, ((h1.alloc o).kept hg (own_apart h1 htv (by decide))), h2.map (fun _ _ _ _ hn => hn.turn (fun b hs hl => ⟨hblk b hl hs.2.2, hs.1, hs.2.1, fun e => hgq b hl hs.2.2 (by simpa [Value.ownBlock] using e)⟩))⟩
/-- a text more -/
theorem KidT.snoc {B0 B g cap : Nat} {w w' : World} {tv u : Value} {o : Obj} {us : List Value} {ts : List (List Nat)} {t : List Nat} (how : w.ownsRow B 22 1 tv ts.length us) (htx : Texts w us ts) (hvi : ∀ u ∈ us, ValIn (fun q => q < B0) u) (hB : B0 ≤ B)
    (hr : Row .u8 256 w u t) (ht : Tidy u) (hu : ValIn (fun q => q < B0) u) (hw' : w'.ownsRow B 22 1 (.slice (some ⟨g, 0, none⟩) (ts.length + 1) cap) (ts.length + 1) (us ++ [u])) (hg : (w.alloc o).grownBy w' tv.ownBlock) :
    KidT B0 B w' (.slice (some ⟨g, 0, none⟩) (ts.length + 1) cap) (ts ++ [t]) := by
  have hblk : ∀ q, q < B0 → q < w.heap.size → w'.heap[q]? = w.heap[q]? := fun q h0 hq =>
    (hg.block q (by rw [World.size_alloc]; omega) (fun e => by have := (how.lt q e.symm).1; omega)).trans (heap_alloc_old w o hq)
  have hall : ∀ v ∈ us ++ [u], ValIn (fun q => q < B0) v := by
    intro v hv
    rcases List.mem_append.1 hv with h | h
    · exact hvi v h
    · rw [List.mem_singleton] at h; rw [h]; exact hu
  exact ⟨us ++ [u], by rw [List.length_append, List.length_singleton]; exact hw', (htx.append (Texts.one hr ht)).turn hall hblk, hall⟩
theorem KidT.beside {B0 B n : Nat} {w w' : World} {kv tv : Value} {o : Obj} {cs : List Value} {ts : List (List Nat)} (h : KidT B0 B w tv ts) (hB : B0 ≤ B) (hkv : w.ownsRow B 26 3 kv n cs) (hg : (w.alloc o).grownBy w' kv.ownBlock) : KidT B0 B w' tv ts := by
  obtain ⟨us, h1, h2, h3⟩ := h
  exact ⟨us, ((h1.alloc o).kept hg (own_apart h1 hkv (by decide))), h2.turn h3 (fun q h0 hq => (hg.block q (by rw [World.size_alloc]; omega) (fun e => by have := (hkv.lt q e.symm).1; omega)).trans (heap_alloc_old w o hq)), h3⟩
/-- the node whose parts they are -/
theorem KidN.node {B0 B C : Nat} {w : World} {kv tv : Value} {ks : List Nd} (h : KidN B0 B w kv tv ks) (hC : C ≤ B) (t : Int) (ht : I64 t) : ∃ d, NdIn (fun q => q < B0 ∨ C ≤ q) w d (.int .i64 t) (.slice none 0 0) kv (.mk t [] ks) := by
  obtain ⟨d, cs, h1, h2⟩ := h
  have h3 : Trip (fun q => q < B0 ∨ C ≤ q) w d cs ks := h2.map (fun _ _ _ _ hn => hn.turn (fun b hs hl => ⟨rfl, by rcases hs.1 with h | h; exact .inl h; exact .inr (by omega)⟩))
  exact ⟨d + 1, rfl, ht, ⟨none, 0, rfl, Nat.le_refl _, Nat.zero_le _, fun h => by simp at h, fun x hx => by simp at hx⟩, fun a c he => by simp at he; omega, own_tidys h1, fun q hq => by simp [lenV] at hq, fun q _ hq => .inr (by have := (h1.lt q hq).1; omega), h3.kids h1⟩
theorem KidT.rows {B0 B : Nat} {w : World} {tv : Value} {ts : List (List Nat)} (h : KidT B0 B w tv ts) : Rows2 w tv ts := by
  obtain ⟨us, h1, h2, _⟩ := h
  exact h2.rows2 h1
end Go.Proofs.YtjkciheoknjfhaaDoor
