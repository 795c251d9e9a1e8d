/- An append of a slice whatever it is (nil, empty or not); texts one behind the other. -/
import Derived.Test.YtefndnbaifiboaaDoorHEnd
import Derived.Test.YtefndnbaifiboaaDoorHRes32
import Derived.Deep.Slices
import Derived.Test.YtefndnbaifiboaaDoorBase
import Derived.OrdersHeld
import Derived.Deep.RegionHeld3
namespace Go.Proofs.YtefndnbaifiboaaDoor
open Go.RowKit Go.Deep
set_option linter.unusedVariables false

theorem run_append_none2 {P : Program} (w : World) (base : Nat) (t tx ty e e' : TypeId) (i : TypeInfo) (size : Nat) (ht : P.underlying t = some (.slice e)) (htx : P.underlying tx = some (.slice e')) (hi : P.info? e = some i)
    (v : Value) (n c : Nat) (xs : List Value) (hown : w.ownsRow base e size v n xs) : (Builtin.append_ #[t, tx] ty #[v, .slice none 0 c]).run P w = .ok v w := by
  rw [append_types w t tx ty e e' ht htx]
  rcases hown.2 with ⟨rfl, rfl⟩ | ⟨g, cap, cur, rfl, _, _, hnc, _⟩
  · simp [Builtin.append_, run_underlying ht, sizeOf, typeInfo, hi, Builtin.lenOf, Builtin.firstCells]
  · simp [Builtin.append_, run_underlying ht, sizeOf, typeInfo, hi, Builtin.lenOf, Builtin.firstCells, hnc, storeCells]
theorem grown_refl (w : World) (r : Option Nat) : w.grownBy w r := ⟨rfl, rfl, rfl, Nat.le_refl _, fun _ _ _ => rfl⟩

theorem run_append_rows {P : Program} (w : World) (t tx ty e' : TypeId) (htx : P.underlying tx = some (.slice e'))
    (base : Nat) (e : TypeId) (i : TypeInfo) (z : Value) (bytes : Nat) (ht : P.underlying t = some (.slice e)) (hi : P.info? e = some i) (hz : i.zero = some z)
    (hsize : i.size = 1) (hby : i.bytes = bytes) (hzs : z.cells.size = 1) (v : Value) (n : Nat) (xs : List Value) (hown : w.ownsRow base e 1 v n xs)
    (ad : Option Addr) (m c : Nat) (news : List Value) (hl : news.length = m)
    (hnews : 0 < m → ∃ b off, ad = some ⟨b, off, none⟩ ∧ ∀ j u, news[j]? = some u → w.cell? ⟨b, off + j, none⟩ = some u) (h1 : ∀ u ∈ news, u.oneCell' = true)
    (h63 : n + m ≤ maxLen) (hbytes : (n + m) * bytes ≤ 140737488355328) (hbase : base ≤ w.heap.size) :
    ∃ v' w', (Builtin.append_ #[t, tx] ty #[v, .slice ad m c]).run P w = .ok v' w' ∧ w'.ownsRow base e 1 v' (n + m) (xs ++ news) ∧ w.grownBy w' v.ownBlock := by
  cases ad with
  | none =>
    have hm : m = 0 := by
      rcases Nat.eq_zero_or_pos m with h0 | h0
      · exact h0
      · obtain ⟨_, _, h2, _⟩ := hnews h0; cases h2
    subst hm
    have hn0 : news = [] := List.eq_nil_of_length_eq_zero hl
    subst hn0
    exact ⟨v, w, run_append_none2 (P := P) w base t tx ty e e' i 1 ht htx hi v n c xs hown, by rw [List.append_nil]; exact hown, grown_refl _ _⟩
  | some x0 =>
    obtain ⟨v', w', hr, h2, h3, _⟩ := run_append_own (P := P) w base t ty e i z 1 bytes ht hi hz hsize hby hzs (by decide) v n xs hown x0 m c news (by rw [hl, Nat.mul_one]) (by
      intro j u hj
      have hj' : j < news.length := (List.getElem?_eq_some_iff.1 hj).1
      obtain ⟨b, off, h2, h3⟩ := hnews (by omega)
      obtain rfl := Option.some.inj h2
      rw [Addr.add_lit]
      exact h3 j u hj) h1 h63 hbytes hbase
    rw [← append_types w t tx ty e e' ht htx] at hr
    exact ⟨v', w', hr, h2, h3⟩
theorem wp_append_rows {P : Program} (w : World) {o : Oper} {a : Act} {K : Act → World → Prop} {Q : Exit → Act → World → Prop} (s x : Operand) (t tx e' : TypeId)
    (ho : o.op = .call { callee := .builtin .append, args := #[s, x], argTypes := #[t, tx] }) (htx : P.underlying tx = some (.slice e'))
    (base : Nat) (e : TypeId) (i : TypeInfo) (z : Value) (bytes : Nat) (ht : P.underlying t = some (.slice e)) (hi : P.info? e = some i) (hz : i.zero = some z)
    (hsize : i.size = 1) (hby : i.bytes = bytes) (hzs : z.cells.size = 1)
    (v : Value) (n : Nat) (xs : List Value) (hs : a.eval s = v) (hown : w.ownsRow base e 1 v n xs)
    (ad : Option Addr) (m c : Nat) (news : List Value) (hx : a.eval x = .slice ad m c) (hl : news.length = m)
    (hnews : 0 < m → ∃ b off, ad = some ⟨b, off, none⟩ ∧ ∀ j u, news[j]? = some u → w.cell? ⟨b, off + j, none⟩ = some u) (h1 : ∀ u ∈ news, u.oneCell' = true)
    (h63 : n + m ≤ maxLen) (hbytes : (n + m) * bytes ≤ 140737488355328) (hbase : base ≤ w.heap.size)
    (h : ∀ v' w', w'.ownsRow base e 1 v' (n + m) (xs ++ news) → w.grownBy w' v.ownBlock → K (a.put o.dst v') w') : o.wp P a w K Q := by
  obtain ⟨v', w', hr, h2, h3⟩ := run_append_rows (P := P) w t tx o.type e' htx base e i z bytes ht hi hz hsize hby hzs v n xs hown ad m c news hl hnews h1 h63 hbytes hbase
  unfold Oper.wp execOp
  simp only [ho, resolve, invoke, builtin, Sem.run_bind, Sem.run_pure, Result.andThen_ok, List.map_toArray, List.map_cons, List.map_nil, hs, hx, hr]
  exact h v' w' h2 h3
/-- an append to a row of the call's own, whatever is appended: elements of one cell each -/
theorem wpList_append_rows {P : Program} (w : World) {ops : Array Oper} {rest : List Oper} {o : Oper} {a : Act} {Q : Exit → Act → World → Prop} (hgd : o.guard = none) (s x : Operand) (t tx e' : TypeId)
    (ho : o.op = .call { callee := .builtin .append, args := #[s, x], argTypes := #[t, tx] }) (htx : P.underlying tx = some (.slice e'))
    (base : Nat) (e : TypeId) (i : TypeInfo) (z : Value) (bytes : Nat) (ht : P.underlying t = some (.slice e)) (hi : P.info? e = some i) (hz : i.zero = some z)
    (hsize : i.size = 1) (hby : i.bytes = bytes) (hzs : z.cells.size = 1)
    (v : Value) (n : Nat) (xs : List Value) (hs : a.eval s = v) (hown : w.ownsRow base e 1 v n xs)
    (ad : Option Addr) (m c : Nat) (news : List Value) (hx : a.eval x = .slice ad m c) (hl : news.length = m)
    (hnews : 0 < m → ∃ b off, ad = some ⟨b, off, none⟩ ∧ ∀ j u, news[j]? = some u → w.cell? ⟨b, off + j, none⟩ = some u) (h1 : ∀ u ∈ news, u.oneCell' = true)
    (h63 : n + m ≤ maxLen) (hbytes : (n + m) * bytes ≤ 140737488355328) (hbase : base ≤ w.heap.size)
    (h : ∀ v' w', w'.ownsRow base e 1 v' (n + m) (xs ++ news) → w.grownBy w' v.ownBlock → wpList P ops Q rest (a.put o.dst v') w') : wpList P ops Q (o :: rest) a w :=
  wpList_plain hgd fun _ hK => wp_append_rows w s x t tx e' ho htx base e i z bytes ht hi hz hsize hby hzs v n xs hs hown ad m c news hx hl hnews h1 h63 hbytes hbase fun v' w' k1 k2 => hK _ _ (h v' w' k1 k2)
/-- the same as a step of a region that draws its order -/
theorem step_append_rows {P : Program} (w : World) {ops : Array Oper} {o : Oper} {a : Act} {K : Act → World → Prop} {Q : Exit → Act → World → Prop} {E : Prop} (hgd : o.guard = none) (s x : Operand) (t tx e' : TypeId)
    (ho : o.op = .call { callee := .builtin .append, args := #[s, x], argTypes := #[t, tx] }) (htx : P.underlying tx = some (.slice e'))
    (base : Nat) (e : TypeId) (i : TypeInfo) (z : Value) (bytes : Nat) (ht : P.underlying t = some (.slice e)) (hi : P.info? e = some i) (hz : i.zero = some z)
    (hsize : i.size = 1) (hby : i.bytes = bytes) (hzs : z.cells.size = 1)
    (v : Value) (n : Nat) (xs : List Value) (hs : a.eval s = v) (hown : w.ownsRow base e 1 v n xs)
    (ad : Option Addr) (m c : Nat) (news : List Value) (hx : a.eval x = .slice ad m c) (hl : news.length = m)
    (hnews : 0 < m → ∃ b off, ad = some ⟨b, off, none⟩ ∧ ∀ j u, news[j]? = some u → w.cell? ⟨b, off + j, none⟩ = some u) (h1 : ∀ u ∈ news, u.oneCell' = true)
    (h63 : n + m ≤ maxLen) (hbytes : (n + m) * bytes ≤ 140737488355328) (hbase : base ≤ w.heap.size)
    (h : ∀ v' w', w'.ownsRow base e 1 v' (n + m) (xs ++ news) → w.grownBy w' v.ownBlock → K (a.put o.dst v') w') :
    if Region.wanted o (yielded ops a.tmps) = true then Oper.wp P o a w K Q else E := by
  have hw : Region.wanted o (yielded ops a.tmps) = true := by simp [Region.wanted, hgd]
  rw [if_pos hw]
  exact wp_append_rows w s x t tx e' ho htx base e i z bytes ht hi hz hsize hby hzs v n xs hs hown ad m c news hx hl hnews h1 h63 hbytes hbase h

theorem Tryd.infoT : (Tryd.prog.info? 25).map (fun i => (i.zero, i.size, i.bytes)) = some (some (.slice none 0 0), 1, 24) := by kernel_rfl
theorem info_text : ∃ i, Tryd.prog.info? 25 = some i ∧ i.zero = some (.slice none 0 0) ∧ i.size = 1 ∧ i.bytes = 24 := by
  have h := Tryd.infoT
  obtain ⟨i, hi, he⟩ := Option.map_eq_some_iff.1 h
  simp only [Prod.mk.injEq] at he
  exact ⟨i, hi, he.1, he.2.1, he.2.2⟩
theorem info_byte : ∃ i, Tryd.prog.info? 5 = some i ∧ i.zero = some (.int .u8 0) ∧ i.size = 1 ∧ i.bytes = 1 := by
  have h := Tryd.info5
  obtain ⟨i, hi, he⟩ := Option.map_eq_some_iff.1 h
  simp only [Prod.mk.injEq] at he
  exact ⟨i, hi, he.1, he.2.1, he.2.2⟩

/-- values that are texts of the world w -/
def Texts (w : World) (us : List Value) (l : List (List Nat)) : Prop := us.length = l.length ∧ ∀ i, i < l.length → ∃ u, us[i]? = some u ∧ Row .u8 256 w u (tx l i) ∧ Tidy u
theorem Texts.nil (w : World) : Texts w [] [] := ⟨rfl, fun i hi => by simp at hi⟩
theorem Texts.append {w : World} {us vs : List Value} {l m : List (List Nat)} (h : Texts w us l) (k : Texts w vs m) : Texts w (us ++ vs) (l ++ m) := by
  refine ⟨by rw [List.length_append, List.length_append, h.1, k.1], fun i hi => ?_⟩
  rw [List.length_append] at hi
  by_cases hl : i < l.length
  · obtain ⟨u, hu, hr⟩ := h.2 i hl
    refine ⟨u, by rw [List.getElem?_append_left (by rw [h.1]; exact hl)]; exact hu, ?_⟩
    have e : tx (l ++ m) i = tx l i := by unfold tx; rw [List.getElem?_append_left hl]
    rw [e]; exact hr
  · obtain ⟨u, hu, hr⟩ := k.2 (i - l.length) (by omega)
    refine ⟨u, by rw [List.getElem?_append_right (by rw [h.1]; omega), h.1]; exact hu, ?_⟩
    have e : tx (l ++ m) i = tx m (i - l.length) := by unfold tx; rw [List.getElem?_append_right (by omega)]
    rw [e]; exact hr
theorem Texts.one {w : World} {u : Value} {x : List Nat} (h : Row .u8 256 w u x) (ht : Tidy u) : Texts w [u] [x] := by
  refine ⟨rfl, fun i hi => ?_⟩
  have : i = 0 := by simp at hi; omega
  subst this
  exact ⟨u, rfl, h, ht⟩
theorem Texts.below {w w' : World} {us : List Value} {l : List (List Nat)} (h : Texts w us l) (hb : Below w.heap.size w w') : Texts w' us l :=
  ⟨h.1, fun i hi => by obtain ⟨u, hu, hr, ht⟩ := h.2 i hi; exact ⟨u, hu, hr.below hb, ht⟩⟩
theorem Row.one {k : IntKind} {m : Nat} {w : World} {u : Value} {l : List Nat} (h : Row k m w u l) : u.oneCell' = true := by
  obtain ⟨a, c, rfl, _⟩ := h
  rfl
theorem Texts.cells {w : World} {us : List Value} {l : List (List Nat)} (h : Texts w us l) : ∀ u ∈ us, u.oneCell' = true := by
  intro u hu
  obtain ⟨i, hi, rfl⟩ := List.getElem_of_mem hu
  obtain ⟨u', hu', hr, _⟩ := h.2 i (by rw [← h.1]; exact hi)
  rw [List.getElem?_eq_getElem hi] at hu'
  obtain rfl := Option.some.inj hu'
  exact hr.one
/-- a slice of texts, as the values that it holds -/
theorem Rows2.texts {w : World} {v : Value} {l : List (List Nat)} (h : Rows2 w v l) : ∃ us a cap, v = .slice a l.length cap ∧ l.length ≤ cap ∧ cap ≤ 9223372036854775807 ∧ Texts w us l ∧
    (0 < l.length → ∃ b off, a = some ⟨b, off, none⟩ ∧ ∀ j u, us[j]? = some u → w.cell? ⟨b, off + j, none⟩ = some u) := by
  obtain ⟨a, cap, rfl, h1, h2, h3⟩ := h
  unfold maxLen at h2
  by_cases hl : 0 < l.length
  · obtain ⟨b, off, rfl, hc⟩ := h3 hl
    have : Inhabited Value := ⟨undef⟩
    obtain ⟨f, hf⟩ := choose_lt (α := Value) hc
    refine ⟨(List.range l.length).map f, _, cap, rfl, h1, by omega, ⟨by simp, fun i hi => ⟨f i, by simp [hi], (hf i hi).2.1, (hf i hi).2.2⟩⟩, fun _ => ⟨b, off, rfl, fun j u hj => ?_⟩⟩
    have hj' : j < l.length := by have := (List.getElem?_eq_some_iff.1 hj).1; simpa using this
    simp [hj'] at hj
    subst hj
    exact (hf j hj').1
  · have h0 : l = [] := by cases l with | nil => rfl | cons x l => simp at hl
    subst h0
    exact ⟨[], a, cap, rfl, h1, by omega, Texts.nil _, fun h => by simp at h⟩
/-- a row of the call's own that holds texts -/
theorem Texts.rows2 {w : World} {B : Nat} {v : Value} {us : List Value} {l : List (List Nat)} (h : Texts w us l) (ho : w.ownsRow B 25 1 v l.length us) : Rows2 w v l := by
  have ho' := ho
  obtain ⟨h1, ⟨rfl, h2⟩ | ⟨g, cap, cur, rfl, h3, h4, h5, h6, h7, h8⟩⟩ := ho
  · exact ⟨none, 0, by rw [h2], by omega, Nat.zero_le _, fun hl => by omega⟩
  · refine ⟨_, cap, rfl, h5, h6, fun hl => ⟨g, 0, rfl, fun i hi => ?_⟩⟩
    obtain ⟨u, hu, hr⟩ := h.2 i hi
    refine ⟨u, ?_, hr⟩
    rw [Nat.zero_add, ho'.cellAt i (by omega)]
    exact hu
end Go.Proofs.YtefndnbaifiboaaDoor

/- A drawn region by a plan: which operation is taken first, which runs because it alone may come up. The orders are asked by numbers (bits), the frame is known at the slots in use alone. -/
namespace Go.Proofs.YtefndnbaifiboaaDoor
open Go.RowKit
set_option linter.unusedVariables false
set_option linter.unusedSimpArgs false

/-- of an operation: for whom it waits (as bits), where it writes, what it looks at -/
abbrev Lt := Nat × Option Nat × List Nat
def aftM (o : Oper) : Nat := o.after.toList.foldl (fun s e => if Region.binds .any e then s ||| 2 ^ e.on else s) 0
def ltOf (ops : Array Oper) : List Lt := ops.toList.map fun o => (aftM o, o.dst, o.looksAt ops)
def apL (x y : Lt) : Bool :=
  (match x.2.1 with
   | some d => !y.2.2.contains d && y.2.1 != some d
   | none => true) &&
  (match y.2.1 with
   | some d => !x.2.2.contains d
   | none => true)
def rdL (x : Lt) (i m : Nat) : Bool := !m.testBit i && (x.1 &&& m == x.1)
/-- the plan holds, so far as the operations in m have come up -/
def goL (n : Nat) (lt : List Lt) : List (Nat × Bool) → Nat → Bool
  | [], m => m == 2 ^ n - 1
  | (i, t) :: r, m =>
    match lt[i]? with
    | none => false
    | some x => rdL x i m && lt.zipIdx.all (fun y => y.2 == i || m.testBit y.2 || bif t then y.1.1.testBit i || apL x y.1 else !(y.1.1 &&& m == y.1.1)) && goL n lt r (m ||| 2 ^ i)

theorem aft_bits (l : List Edge) (k : Nat) : ∀ s : Nat, (l.foldl (fun s e => if Region.binds .any e then s ||| 2 ^ e.on else s) s).testBit k = (s.testBit k || l.any (fun e => Region.binds .any e && e.on == k)) := by
  induction l with
  | nil => intro s; simp
  | cons e l ih =>
    intro s
    rw [List.foldl_cons, ih, List.any_cons]
    cases hb : Region.binds .any e
    · simp
    · simp only [if_true, Nat.testBit_or, Nat.testBit_two_pow, Bool.true_and, Bool.or_assoc]
      congr 2
theorem aftM_bit (o : Oper) (k : Nat) : (aftM o).testBit k = true ↔ ∃ e ∈ o.after, Region.binds .any e = true ∧ e.on = k := by
  unfold aftM
  rw [aft_bits]
  simp only [Nat.zero_testBit, Bool.false_or, List.any_eq_true, Bool.and_eq_true, beq_iff_eq, Array.mem_toList_iff]
theorem sub_bits (x m : Nat) : x &&& m = x ↔ ∀ k, x.testBit k = true → m.testBit k = true := by
  constructor
  · intro h k hk
    rw [← h, Nat.testBit_and, Bool.and_eq_true] at hk
    exact hk.2
  · intro h
    apply Nat.eq_of_testBit_eq
    intro k
    rw [Nat.testBit_and]
    cases hk : x.testBit k
    · rfl
    · rw [h k hk]; rfl
/-- what has come up, as bits -/
structure Lsd (n m : Nat) (listed : Array Bool) : Prop where
  size : listed.size = n
  bit : ∀ j (h : j < listed.size), listed[j] = m.testBit j
  lt : m < 2 ^ n
theorem Lsd.tru {n m : Nat} {listed : Array Bool} (h : Lsd n m listed) {j : Nat} (hj : j < n) : listed.getD j true = m.testBit j := by
  have hs : j < listed.size := by rw [h.size]; exact hj
  simp [Array.getD, hs, h.bit j hs]
theorem Lsd.fls {n m : Nat} {listed : Array Bool} (h : Lsd n m listed) (j : Nat) : listed.getD j false = m.testBit j := by
  by_cases hj : j < n
  · have hs : j < listed.size := by rw [h.size]; exact hj
    simp [Array.getD, hs, h.bit j hs]
  · have hs : ¬ j < listed.size := by rw [h.size]; exact hj
    rw [Nat.testBit_lt_two_pow (Nat.lt_of_lt_of_le h.lt (Nat.pow_le_pow_right (by decide) (by omega)))]
    simp [Array.getD, hs]
theorem Lsd.set {n m : Nat} {listed : Array Bool} (h : Lsd n m listed) {i : Nat} (hi : i < n) : Lsd n (m ||| 2 ^ i) (listed.setIfInBounds i true) := by
  refine ⟨by simp [h.size], fun j hj => ?_, Nat.or_lt_two_pow h.lt (Nat.pow_lt_pow_right (by decide) hi)⟩
  have hj' : j < listed.size := by simpa using hj
  rw [Nat.testBit_or, Nat.testBit_two_pow, Array.getElem_setIfInBounds]
  by_cases hij : i = j
  · simp [hij]
  · simp [hij, h.bit j hj']
  exact hj'
theorem Lsd.zero (n : Nat) : Lsd n 0 (Array.replicate n false) := ⟨by simp, fun j hj => by simp, Nat.two_pow_pos n⟩
section
variable {P : Program} {ops : Array Oper} {Q : Exit → Act → World → Prop} {S : World → Prop}
theorem lt_at {lt : List Lt} (hlt : ltOf ops = lt) {i : Nat} {x : Lt} (h : lt[i]? = some x) : ∃ o, ops[i]? = some o ∧ x = (aftM o, o.dst, o.looksAt ops) := by
  rw [← hlt] at h
  unfold ltOf at h
  rw [List.getElem?_map] at h
  cases ho : ops.toList[i]? with
  | none => rw [ho] at h; cases h
  | some o => rw [ho] at h; exact ⟨o, by simpa using ho, (Option.some.inj h).symm⟩
theorem at_lt {lt : List Lt} (hlt : ltOf ops = lt) {i : Nat} {o : Oper} (h : ops[i]? = some o) : lt[i]? = some (aftM o, o.dst, o.looksAt ops) := by
  rw [← hlt]
  unfold ltOf
  rw [List.getElem?_map, show ops.toList[i]? = some o by simpa using h]
  rfl
theorem ready_of {m : Nat} {listed : Array Bool} (h : Lsd ops.size m listed) {i : Nat} {o : Oper} (ho : ops[i]? = some o) : i ∈ Region.ready .any ops listed ↔ rdL (aftM o, o.dst, o.looksAt ops) i m = true := by
  have hi : i < ops.size := (Array.getElem?_eq_some_iff.1 ho).1
  rw [mem_ready, h.tru hi]
  unfold rdL
  simp only [Bool.and_eq_true, Bool.not_eq_true', beq_iff_eq]
  rw [sub_bits]
  constructor
  · rintro ⟨h1, o', ho', h2⟩
    obtain rfl := Option.some.inj (ho.symm.trans ho')
    refine ⟨h1, fun k hk => ?_⟩
    obtain ⟨e, he, hb, rfl⟩ := (aftM_bit o k).1 hk
    rw [← h.fls]
    exact h2 e he hb
  · rintro ⟨h1, h2⟩
    exact ⟨h1, o, ho, fun e he hb => by rw [h.fls]; exact h2 e.on ((aftM_bit o e.on).2 ⟨e, he, hb, rfl⟩)⟩
/-- the walk that a plan asks for -/
def wpPlan (P : Program) (ops : Array Oper) (Q : Exit → Act → World → Prop) (S : World → Prop) : List (Nat × Bool) → Act → World → Prop
  | [], a, w => Q .normal a w
  | (i, true) :: r, a, w => ∃ o v, ops[i]? = some o ∧ YieldsIf P ops S o v a ∧ wpPlan P ops Q S r (a.put o.dst v) w
  | (i, false) :: r, a, w => wpOp P ops Q i (fun a' w' => S w' ∧ wpPlan P ops Q S r a' w') a w
theorem plan_any {lt : List Lt} (hlt : ltOf ops = lt) (hs : Region.noSelect ops = true) (hQ : ∀ c a b w, Q (.panic c) a w → Q (.panic c) b w) :
    ∀ (plan : List (Nat × Bool)) (m : Nat) (listed : Array Bool) (a : Act) (w : World), Lsd ops.size m listed → goL ops.size lt plan m = true → S w → wpPlan P ops Q S plan a w → wpAnyH P .any ops Q S plan.length listed a w
  | [], m, listed, a, w, hL, hg, hS, h => by
    have hm : m = 2 ^ ops.size - 1 := by simpa [goL] using hg
    refine wpAnyH_done ?_ h _
    rw [List.eq_nil_iff_forall_not_mem]
    intro j hj
    obtain ⟨h1, o, ho, _⟩ := mem_ready.1 hj
    have hj' : j < ops.size := (Array.getElem?_eq_some_iff.1 ho).1
    rw [hL.tru hj', hm, Nat.testBit_two_pow_sub_one] at h1
    simp [hj'] at h1
  | (i, t) :: r, m, listed, a, w, hL, hg, hS, h => by
    unfold goL at hg
    split at hg
    · cases hg
    · rename_i x hx
      obtain ⟨o, ho, rfl⟩ := lt_at hlt hx
      simp only [Bool.and_eq_true] at hg
      obtain ⟨⟨hr, hall⟩, hgo⟩ := hg
      have hi : i < ops.size := (Array.getElem?_eq_some_iff.1 ho).1
      have hrd := (ready_of hL ho).2 hr
      have hall' : ∀ (j : Nat) (oj : Oper), ops[j]? = some oj → j ≠ i → listed.getD j true = false → (bif t then (aftM oj).testBit i || apL (aftM o, o.dst, o.looksAt ops) (aftM oj, oj.dst, oj.looksAt ops) else !(aftM oj &&& m == aftM oj)) = true := fun j oj hj hne hun => by
        have hj' : j < ops.size := (Array.getElem?_eq_some_iff.1 hj).1
        have hmem : ((aftM oj, oj.dst, oj.looksAt ops), j) ∈ lt.zipIdx := List.mem_zipIdx_iff_getElem?.2 (at_lt hlt hj)
        have := List.all_eq_true.1 hall _ hmem
        rw [hL.tru hj'] at hun
        simp only [hun, Bool.or_false] at this
        rw [show (j == i) = false from by rw [beq_eq_false_iff_ne]; exact hne, Bool.false_or] at this
        exact this
      cases t with
      | true =>
        obtain ⟨o', v, ho', hy, hrest⟩ := h
        obtain rfl := Option.some.inj (ho.symm.trans ho')
        refine wpAnyH_first ho (Region.noSelect_spec hs) (fun c a w => hQ c _ _ w) _ listed a w ?_ hrd hy hS (plan_any hlt hs hQ r _ _ _ w (hL.set hi) hgo hS hrest)
        intro j oj hj hne hun hno
        have := hall' j oj hj hne hun
        rw [cond_true, Bool.or_eq_true] at this
        rcases this with h1 | h1
        · obtain ⟨e, he, hb, hk⟩ := (aftM_bit oj i).1 h1
          exact absurd hk (hno e he hb)
        · exact h1
      | false =>
        show wpAnyH P .any ops Q S (r.length + 1) listed a w
        refine ⟨fun h0 => (by rw [h0] at hrd; cases hrd), fun j hj => ?_⟩
        obtain ⟨hun, oj, hoj, _⟩ := mem_ready.1 hj
        have hji : j = i := by
          rcases Decidable.em (j = i) with he | hne
          · exact he
          · have h1 := hall' j oj hoj hne hun
            have h2 := (ready_of hL hoj).1 hj
            unfold rdL at h2
            simp only [Bool.and_eq_true] at h2
            rw [cond_false, h2.2] at h1
            cases h1
        subst hji
        exact wpOp_mono (fun a' w' hh => ⟨hh.1, plan_any hlt hs hQ r _ _ _ w' (hL.set hi) hgo hh.1 hh.2⟩) h
/-- THE LAW -/
theorem wp_region_plan {id : Nat} {a : Act} {w : World} (S : World → Prop) (lt : List Lt) (plan : List (Nat × Bool)) (hm : P.follows .mixedOrders = true) (hlt : ltOf ops = lt) (hn : plan.length = ops.size) (hs : Region.noSelect ops = true)
    (hp : goL ops.size lt plan 0 = true) (hS : S w.drew) (h : wpPlan P ops (NoPanic Q) S plan a w.drew) : (Code.region id ops true).wp P Q a w := by
  refine wp_region_noPanic (wp_region_held (S := S) hm ?_)
  have := plan_any (Q := NoPanic Q) hlt hs (fun c a b w hh => hh) plan 0 (Array.replicate ops.size false) a w.drew (Lsd.zero _) hp hS h
  rw [hn] at this
  exact this
/-! ### the frame at the slots in use -/
theorem put_same {a : Act} {k : Nat} {v : Value} (h : k < a.tmps.size) : (a.put (some k) v).eval (.tmp k) = v := by simp [Act.put, Act.eval, h]
theorem put_else {a : Act} {k j : Nat} {v : Value} (h : k ≠ j) : (a.put (some k) v).eval (.tmp j) = a.eval (.tmp j) := by simp [Act.put, Act.eval, Array.getD_eq_getD_getElem?, Array.getElem?_setIfInBounds, h]
theorem put_size {a : Act} {d : Option Nat} {v : Value} : (a.put d v).tmps.size = a.tmps.size := by cases d <;> simp [Act.put]
theorem put_none {a : Act} {v : Value} : a.put none v = a := rfl
theorem ev_const {a : Act} {v : Value} : a.eval (.const v) = v := rfl
/-! ### operations -/
theorem wanted_free {o : Oper} (hg : o.guard = none) {f : Nat → Option Bool} : Region.wanted o f = true := by simp [Region.wanted, hg]
theorem y_of {o : Oper} {v : Value} {a : Act} (hg : o.guard = none) (h : ∀ w, S w → (execOp a.eval o).run P w = .ok (.value v) w) : YieldsIf P ops S o v a := .inl ⟨wanted_free hg, h⟩
theorem y_move {o : Oper} {v : Value} {a : Act} {x : Operand} (hg : o.guard = none) (ho : o.op = .move x) (hx : a.eval x = v) : YieldsIf P ops S o v a :=
  y_of hg fun w _ => by unfold execOp; simp only [ho, hx]; rfl
theorem y_extract {o : Oper} {v : Value} {a : Act} {x : Operand} {k : Nat} {vs : Array Value} (hg : o.guard = none) (ho : o.op = .extract x k) (hx : a.eval x = .tuple vs) (hk : vs[k]? = some v) : YieldsIf P ops S o v a :=
  y_of hg fun w _ => by unfold execOp; simp only [ho, hx, Instr.extract, hk]; rfl
theorem y_index {o : Oper} {a : Act} {x : Operand} {t e : TypeId} {n q i : Nat} (hg : o.guard = none) (ho : o.op = .indexAddr t x (.const (.int .i64 (i : Int)))) (hx : a.eval x = .pointer (some ⟨q, 0, none⟩)) (hu : P.underlying t = some (.array n e)) (hs : (P.info? e).map (·.size) = some 1) (hi : i < n) : YieldsIf P ops S o (.pointer (some ⟨q, i, none⟩)) a := by
  cases hq : P.info? e with
  | none => simp [hq] at hs
  | some y =>
    have hy : y.size = 1 := by simpa [hq] using hs
    refine y_of hg fun w _ => ?_
    unfold execOp
    simp only [ho, hx, ev_const]
    simp [Instr.indexAt, asIntOf, Sem.run_bind, run_underlying hu w, sizeOf, typeInfo, hq, hy, hi, Addr.add, go_sem]
    omega
theorem y_load {o : Oper} {v : Value} {a : Act} {x : Operand} {t : TypeId} {p : Addr} {k : IntKind} (hg : o.guard = none) (ho : o.op = .load t x) (hx : a.eval x = .pointer (some p)) (hu : P.underlying t = some (.int k)) (hc : ∀ w, S w → w.cell? p = some v) : YieldsIf P ops S o v a := by
  refine y_of hg fun w hw => ?_
  have c := hc w hw
  have hag : (isAgg t).run P w = .ok false w := by unfold isAgg; rw [Sem.run_bind, run_underlying hu w]; rfl
  unfold execOp
  simp only [ho, hx]
  simp [Instr.loadAt, Instr.sureAddr, Sem.run_bind, run_underlying hu w, hag, c, go_sem]
end
end Go.Proofs.YtefndnbaifiboaaDoor

/- Steps of a plan that run: a call, a store. -/
namespace Go.Proofs.YtefndnbaifiboaaDoor
open Go.RowKit
set_option linter.unusedVariables false
set_option linter.unusedSimpArgs false
section
variable {P : Program} {ops : Array Oper} {Q : Exit → Act → World → Prop} {K : Act → World → Prop}
theorem p_call {i : Nat} {o : Oper} {a : Act} {w : World} {f : FuncId} {xs : Array Operand} {ts : Array TypeId} {args : Array Value} (hi : ops[i]? = some o) (hg : o.guard = none)
    (ho : o.op = .call { callee := .value (.func f), args := xs, argTypes := ts }) (ha : xs.map a.eval = args) (hf : ∀ (args : Array Value) (w : World), (callFunc f args).run P w = .ok (.enter f args) w)
    (h : Calls P f args w fun e w' => ∃ v, e = .returned v ∧ K (a.put o.dst v) w') : wpOp P ops Q i K a w := by
  have hr : (execOp a.eval o).run P w = .ok (.enter f args) w := by
    unfold execOp
    simp only [ho]
    simp [resolve, ha, go_sem, hf]
  unfold wpOp
  simp only [hi]
  rw [if_pos (wanted_free hg)]
  left
  unfold Oper.wp
  rw [hr]
  refine h.mono ?_
  rintro e w' ⟨v, rfl, hk⟩
  exact hk
theorem p_store {i : Nat} {o : Oper} {a : Act} {w : World} {t : TypeId} {x y : Operand} {p : Addr} {k : IntKind} {z : Int} (hi : ops[i]? = some o) (hg : o.guard = none)
    (ho : o.op = .store t x y) (hd : o.dst = none) (hx : a.eval x = .pointer (some p)) (hy : a.eval y = .int k z) (hu : P.underlying t = some (.int k)) (hs : (P.info? t).map (·.size) = some 1) (hc : (w.cell? p).isSome = true) (hz : w.frozen? p = false)
    (h : K a (w.setCell p (.int k z))) : wpOp P ops Q i K a w := by
  obtain ⟨u, hc'⟩ := Option.isSome_iff_exists.1 hc
  have hr : (execOp a.eval o).run P w = .ok .skip (w.setCell p (.int k z)) := by
    have hag : (isAgg t).run P w = .ok false w := by unfold isAgg; rw [Sem.run_bind, run_underlying hu w]; rfl
    cases hq : P.info? t with
    | none => simp [hq] at hs
    | some m =>
      have hm : m.size = 1 := by simpa [hq] using hs
      unfold execOp
      simp only [ho, hx, hy]
      simp [Instr.storeAt, Instr.sureAddr, Sem.run_bind, hag, hc', hz, sizeOf, typeInfo, hq, hm, go_sem]
  unfold wpOp
  simp only [hi]
  rw [if_pos (wanted_free hg)]
  left
  unfold Oper.wp
  rw [hr]
  show K (a.put o.dst undef) _
  rw [hd]
  exact h
end
end Go.Proofs.YtefndnbaifiboaaDoor
