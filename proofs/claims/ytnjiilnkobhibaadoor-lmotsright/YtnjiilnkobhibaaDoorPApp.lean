/- An append of a slice whatever it is (nil, empty or not); texts one behind the other. -/
import Derived.Test.YtnjiilnkobhibaaDoorHSum
import Derived.Test.YtnjiilnkobhibaaDoorTex
import Derived.Deep.Slices
namespace Go.Proofs.YtnjiilnkobhibaaDoor
open Go.RowKit Go.Deep
set_option linter.unusedVariables false

theorem run_append_none2 {P : Program} (w : World) (base : Nat) (t tx ty e e' : TypeId) (i : TypeInfo) (size : Nat) (ht : P.underlying t = some (.slice e)) (htx : P.underlying tx = some (.slice e')) (hi : P.info? e = some i)
    (v : Value) (n c : Nat) (xs : List Value) (hown : w.ownsRow base e size v n xs) : (Builtin.append_ #[t, tx] ty #[v, .slice none 0 c]).run P w = .ok v w := by
  rw [append_types w t tx ty e e' ht htx]
  rcases hown.2 with ⟨rfl, rfl⟩ | ⟨g, cap, cur, rfl, _, _, hnc, _⟩
  · simp [Builtin.append_, run_underlying ht, sizeOf, typeInfo, hi, Builtin.lenOf, Builtin.firstCells]
  · simp [Builtin.append_, run_underlying ht, sizeOf, typeInfo, hi, Builtin.lenOf, Builtin.firstCells, hnc, storeCells]
theorem grown_refl (w : World) (r : Option Nat) : w.grownBy w r := ⟨rfl, rfl, rfl, Nat.le_refl _, fun _ _ _ => rfl⟩

theorem run_append_rows {P : Program} (w : World) (t tx ty e' : TypeId) (htx : P.underlying tx = some (.slice e'))
    (base : Nat) (e : TypeId) (i : TypeInfo) (z : Value) (bytes : Nat) (ht : P.underlying t = some (.slice e)) (hi : P.info? e = some i) (hz : i.zero = some z)
    (hsize : i.size = 1) (hby : i.bytes = bytes) (hzs : z.cells.size = 1) (v : Value) (n : Nat) (xs : List Value) (hown : w.ownsRow base e 1 v n xs)
    (ad : Option Addr) (m c : Nat) (news : List Value) (hl : news.length = m)
    (hnews : 0 < m → ∃ b off, ad = some ⟨b, off, none⟩ ∧ ∀ j u, news[j]? = some u → w.cell? ⟨b, off + j, none⟩ = some u) (h1 : ∀ u ∈ news, u.oneCell' = true)
    (h63 : n + m ≤ maxLen) (hbytes : (n + m) * bytes ≤ 140737488355328) (hbase : base ≤ w.heap.size) :
    ∃ v' w', (Builtin.append_ #[t, tx] ty #[v, .slice ad m c]).run P w = .ok v' w' ∧ w'.ownsRow base e 1 v' (n + m) (xs ++ news) ∧ w.grownBy w' v.ownBlock := by
  cases ad with
  | none =>
    have hm : m = 0 := by
      rcases Nat.eq_zero_or_pos m with h0 | h0
      · exact h0
      · obtain ⟨_, _, h2, _⟩ := hnews h0; cases h2
    subst hm
    have hn0 : news = [] := List.eq_nil_of_length_eq_zero hl
    subst hn0
    exact ⟨v, w, run_append_none2 (P := P) w base t tx ty e e' i 1 ht htx hi v n c xs hown, by rw [List.append_nil]; exact hown, grown_refl _ _⟩
  | some x0 =>
    obtain ⟨v', w', hr, h2, h3, _⟩ := run_append_own (P := P) w base t ty e i z 1 bytes ht hi hz hsize hby hzs (by decide) v n xs hown x0 m c news (by rw [hl, Nat.mul_one]) (by
      intro j u hj
      have hj' : j < news.length := (List.getElem?_eq_some_iff.1 hj).1
      obtain ⟨b, off, h2, h3⟩ := hnews (by omega)
      obtain rfl := Option.some.inj h2
      rw [Addr.add_lit]
      exact h3 j u hj) h1 h63 hbytes hbase
    rw [← append_types w t tx ty e e' ht htx] at hr
    exact ⟨v', w', hr, h2, h3⟩
theorem wp_append_rows {P : Program} (w : World) {o : Oper} {a : Act} {K : Act → World → Prop} {Q : Exit → Act → World → Prop} (s x : Operand) (t tx e' : TypeId)
    (ho : o.op = .call { callee := .builtin .append, args := #[s, x], argTypes := #[t, tx] }) (htx : P.underlying tx = some (.slice e'))
    (base : Nat) (e : TypeId) (i : TypeInfo) (z : Value) (bytes : Nat) (ht : P.underlying t = some (.slice e)) (hi : P.info? e = some i) (hz : i.zero = some z)
    (hsize : i.size = 1) (hby : i.bytes = bytes) (hzs : z.cells.size = 1)
    (v : Value) (n : Nat) (xs : List Value) (hs : a.eval s = v) (hown : w.ownsRow base e 1 v n xs)
    (ad : Option Addr) (m c : Nat) (news : List Value) (hx : a.eval x = .slice ad m c) (hl : news.length = m)
    (hnews : 0 < m → ∃ b off, ad = some ⟨b, off, none⟩ ∧ ∀ j u, news[j]? = some u → w.cell? ⟨b, off + j, none⟩ = some u) (h1 : ∀ u ∈ news, u.oneCell' = true)
    (h63 : n + m ≤ maxLen) (hbytes : (n + m) * bytes ≤ 140737488355328) (hbase : base ≤ w.heap.size)
    (h : ∀ v' w', w'.ownsRow base e 1 v' (n + m) (xs ++ news) → w.grownBy w' v.ownBlock → K (a.put o.dst v') w') : o.wp P a w K Q := by
  obtain ⟨v', w', hr, h2, h3⟩ := run_append_rows (P := P) w t tx o.type e' htx base e i z bytes ht hi hz hsize hby hzs v n xs hown ad m c news hl hnews h1 h63 hbytes hbase
  unfold Oper.wp execOp
  simp only [ho, resolve, invoke, builtin, Sem.run_bind, Sem.run_pure, Result.andThen_ok, List.map_toArray, List.map_cons, List.map_nil, hs, hx, hr]
  exact h v' w' h2 h3
/-- an append to a row of the call's own, whatever is appended: elements of one cell each -/
theorem wpList_append_rows {P : Program} (w : World) {ops : Array Oper} {rest : List Oper} {o : Oper} {a : Act} {Q : Exit → Act → World → Prop} (hgd : o.guard = none) (s x : Operand) (t tx e' : TypeId)
    (ho : o.op = .call { callee := .builtin .append, args := #[s, x], argTypes := #[t, tx] }) (htx : P.underlying tx = some (.slice e'))
    (base : Nat) (e : TypeId) (i : TypeInfo) (z : Value) (bytes : Nat) (ht : P.underlying t = some (.slice e)) (hi : P.info? e = some i) (hz : i.zero = some z)
    (hsize : i.size = 1) (hby : i.bytes = bytes) (hzs : z.cells.size = 1)
    (v : Value) (n : Nat) (xs : List Value) (hs : a.eval s = v) (hown : w.ownsRow base e 1 v n xs)
    (ad : Option Addr) (m c : Nat) (news : List Value) (hx : a.eval x = .slice ad m c) (hl : news.length = m)
    (hnews : 0 < m → ∃ b off, ad = some ⟨b, off, none⟩ ∧ ∀ j u, news[j]? = some u → w.cell? ⟨b, off + j, none⟩ = some u) (h1 : ∀ u ∈ news, u.oneCell' = true)
    (h63 : n + m ≤ maxLen) (hbytes : (n + m) * bytes ≤ 140737488355328) (hbase : base ≤ w.heap.size)
    (h : ∀ v' w', w'.ownsRow base e 1 v' (n + m) (xs ++ news) → w.grownBy w' v.ownBlock → wpList P ops Q rest (a.put o.dst v') w') : wpList P ops Q (o :: rest) a w :=
  wpList_plain hgd fun _ hK => wp_append_rows w s x t tx e' ho htx base e i z bytes ht hi hz hsize hby hzs v n xs hs hown ad m c news hx hl hnews h1 h63 hbytes hbase fun v' w' k1 k2 => hK _ _ (h v' w' k1 k2)
/-- the same as a step of a region that draws its order -/
theorem step_append_rows {P : Program} (w : World) {ops : Array Oper} {o : Oper} {a : Act} {K : Act → World → Prop} {Q : Exit → Act → World → Prop} {E : Prop} (hgd : o.guard = none) (s x : Operand) (t tx e' : TypeId)
    (ho : o.op = .call { callee := .builtin .append, args := #[s, x], argTypes := #[t, tx] }) (htx : P.underlying tx = some (.slice e'))
    (base : Nat) (e : TypeId) (i : TypeInfo) (z : Value) (bytes : Nat) (ht : P.underlying t = some (.slice e)) (hi : P.info? e = some i) (hz : i.zero = some z)
    (hsize : i.size = 1) (hby : i.bytes = bytes) (hzs : z.cells.size = 1)
    (v : Value) (n : Nat) (xs : List Value) (hs : a.eval s = v) (hown : w.ownsRow base e 1 v n xs)
    (ad : Option Addr) (m c : Nat) (news : List Value) (hx : a.eval x = .slice ad m c) (hl : news.length = m)
    (hnews : 0 < m → ∃ b off, ad = some ⟨b, off, none⟩ ∧ ∀ j u, news[j]? = some u → w.cell? ⟨b, off + j, none⟩ = some u) (h1 : ∀ u ∈ news, u.oneCell' = true)
    (h63 : n + m ≤ maxLen) (hbytes : (n + m) * bytes ≤ 140737488355328) (hbase : base ≤ w.heap.size)
    (h : ∀ v' w', w'.ownsRow base e 1 v' (n + m) (xs ++ news) → w.grownBy w' v.ownBlock → K (a.put o.dst v') w') :
    if Region.wanted o (yielded ops a.tmps) = true then Oper.wp P o a w K Q else E := by
  have hw : Region.wanted o (yielded ops a.tmps) = true := by simp [Region.wanted, hgd]
  rw [if_pos hw]
  exact wp_append_rows w s x t tx e' ho htx base e i z bytes ht hi hz hsize hby hzs v n xs hs hown ad m c news hx hl hnews h1 h63 hbytes hbase h

theorem Tryd.infoT : (Tryd.prog.info? 22).map (fun i => (i.zero, i.size, i.bytes)) = some (some (.slice none 0 0), 1, 24) := by kernel_rfl
theorem info_text : ∃ i, Tryd.prog.info? 22 = some i ∧ i.zero = some (.slice none 0 0) ∧ i.size = 1 ∧ i.bytes = 24 := by
  have h := Tryd.infoT
  obtain ⟨i, hi, he⟩ := Option.map_eq_some_iff.1 h
  simp only [Prod.mk.injEq] at he
  exact ⟨i, hi, he.1, he.2.1, he.2.2⟩
theorem info_byte : ∃ i, Tryd.prog.info? 5 = some i ∧ i.zero = some (.int .u8 0) ∧ i.size = 1 ∧ i.bytes = 1 := by
  have h := Tryd.info5
  obtain ⟨i, hi, he⟩ := Option.map_eq_some_iff.1 h
  simp only [Prod.mk.injEq] at he
  exact ⟨i, hi, he.1, he.2.1, he.2.2⟩

/-- values that are texts of the world w -/
def Texts (w : World) (us : List Value) (l : List (List Nat)) : Prop := us.length = l.length ∧ ∀ i, i < l.length → ∃ u, us[i]? = some u ∧ Row .u8 256 w u (tx l i) ∧ Tidy u
theorem Texts.nil (w : World) : Texts w [] [] := ⟨rfl, fun i hi => by simp at hi⟩
theorem Texts.append {w : World} {us vs : List Value} {l m : List (List Nat)} (h : Texts w us l) (k : Texts w vs m) : Texts w (us ++ vs) (l ++ m) := by
  refine ⟨by rw [List.length_append, List.length_append, h.1, k.1], fun i hi => ?_⟩
  rw [List.length_append] at hi
  by_cases hl : i < l.length
  · obtain ⟨u, hu, hr⟩ := h.2 i hl
    refine ⟨u, by rw [List.getElem?_append_left (by rw [h.1]; exact hl)]; exact hu, ?_⟩
    have e : tx (l ++ m) i = tx l i := by unfold tx; rw [List.getElem?_append_left hl]
    rw [e]; exact hr
  · obtain ⟨u, hu, hr⟩ := k.2 (i - l.length) (by omega)
    refine ⟨u, by rw [List.getElem?_append_right (by rw [h.1]; omega), h.1]; exact hu, ?_⟩
    have e : tx (l ++ m) i = tx m (i - l.length) := by unfold tx; rw [List.getElem?_append_right (by omega)]
    rw [e]; exact hr
theorem Texts.one {w : World} {u : Value} {x : List Nat} (h : Row .u8 256 w u x) (ht : Tidy u) : Texts w [u] [x] := by
  refine ⟨rfl, fun i hi => ?_⟩
  have : i = 0 := by simp at hi; omega
  subst this
  exact ⟨u, rfl, h, ht⟩
theorem Texts.below {w w' : World} {us : List Value} {l : List (List Nat)} (h : Texts w us l) (hb : Below w.heap.size w w') : Texts w' us l :=
  ⟨h.1, fun i hi => by obtain ⟨u, hu, hr, ht⟩ := h.2 i hi; exact ⟨u, hu, hr.below hb, ht⟩⟩
theorem Row.one {k : IntKind} {m : Nat} {w : World} {u : Value} {l : List Nat} (h : Row k m w u l) : u.oneCell' = true := by
  obtain ⟨a, c, rfl, _⟩ := h
  rfl
theorem Texts.cells {w : World} {us : List Value} {l : List (List Nat)} (h : Texts w us l) : ∀ u ∈ us, u.oneCell' = true := by
  intro u hu
  obtain ⟨i, hi, rfl⟩ := List.getElem_of_mem hu
  obtain ⟨u', hu', hr, _⟩ := h.2 i (by rw [← h.1]; exact hi)
  rw [List.getElem?_eq_getElem hi] at hu'
  obtain rfl := Option.some.inj hu'
  exact hr.one
/-- a slice of texts, as the values that it holds -/
theorem Rows2.texts {w : World} {v : Value} {l : List (List Nat)} (h : Rows2 w v l) : ∃ us a cap, v = .slice a l.length cap ∧ l.length ≤ cap ∧ cap ≤ 9223372036854775807 ∧ Texts w us l ∧
    (0 < l.length → ∃ b off, a = some ⟨b, off, none⟩ ∧ ∀ j u, us[j]? = some u → w.cell? ⟨b, off + j, none⟩ = some u) := by
  obtain ⟨a, cap, rfl, h1, h2, h3⟩ := h
  unfold maxLen at h2
  by_cases hl : 0 < l.length
  · obtain ⟨b, off, rfl, hc⟩ := h3 hl
    have : Inhabited Value := ⟨undef⟩
    obtain ⟨f, hf⟩ := choose_lt (α := Value) hc
    refine ⟨(List.range l.length).map f, _, cap, rfl, h1, by omega, ⟨by simp, fun i hi => ⟨f i, by simp [hi], (hf i hi).2.1, (hf i hi).2.2⟩⟩, fun _ => ⟨b, off, rfl, fun j u hj => ?_⟩⟩
    have hj' : j < l.length := by have := (List.getElem?_eq_some_iff.1 hj).1; simpa using this
    simp [hj'] at hj
    subst hj
    exact (hf j hj').1
  · have h0 : l = [] := by cases l with | nil => rfl | cons x l => simp at hl
    subst h0
    exact ⟨[], a, cap, rfl, h1, by omega, Texts.nil _, fun h => by simp at h⟩
/-- a row of the call's own that holds texts -/
theorem Texts.rows2 {w : World} {B : Nat} {v : Value} {us : List Value} {l : List (List Nat)} (h : Texts w us l) (ho : w.ownsRow B 22 1 v l.length us) : Rows2 w v l := by
  have ho' := ho
  obtain ⟨h1, ⟨rfl, h2⟩ | ⟨g, cap, cur, rfl, h3, h4, h5, h6, h7, h8⟩⟩ := ho
  · exact ⟨none, 0, by rw [h2], by omega, Nat.zero_le _, fun hl => by omega⟩
  · refine ⟨_, cap, rfl, h5, h6, fun hl => ⟨g, 0, rfl, fun i hi => ?_⟩⟩
    obtain ⟨u, hu, hr⟩ := h.2 i hi
    refine ⟨u, ?_, hr⟩
    rw [Nat.zero_add, ho'.cellAt i (by omega)]
    exact hu
end Go.Proofs.YtnjiilnkobhibaaDoor
