/- An append of a slice whatever it is (nil, empty or not); texts one behind the other. -/
import Derived.Test.YtjnlkihhmenfnaaAEch
import Derived.Test.YtjnlkihhmenfnaaTex
import Derived.Deep.Slices
import Derived.Test.YtjnlkihhmenfnaaHKit
namespace Go.Proofs.Ytjnlkihhmenfnaa
open Go.RowKit Go.Deep
set_option linter.unusedVariables false

theorem run_append_none2 {P : Program} (w : World) (base : Nat) (t tx ty e e' : TypeId) (i : TypeInfo) (size : Nat) (ht : P.underlying t = some (.slice e)) (htx : P.underlying tx = some (.slice e')) (hi : P.info? e = some i)
    (v : Value) (n c : Nat) (xs : List Value) (hown : w.ownsRow base e size v n xs) : (Builtin.append_ #[t, tx] ty #[v, .slice none 0 c]).run P w = .ok v w := by
  rw [append_types w t tx ty e e' ht htx]
  rcases hown.2 with ⟨rfl, rfl⟩ | ⟨g, cap, cur, rfl, _, _, hnc, _⟩
  · simp [Builtin.append_, run_underlying ht, sizeOf, typeInfo, hi, Builtin.lenOf, Builtin.firstCells]
  · simp [Builtin.append_, run_underlying ht, sizeOf, typeInfo, hi, Builtin.lenOf, Builtin.firstCells, hnc, storeCells]
theorem grown_refl (w : World) (r : Option Nat) : w.grownBy w r := ⟨rfl, rfl, rfl, Nat.le_refl _, fun _ _ _ => rfl⟩

theorem run_append_rows {P : Program} (w : World) (t tx ty e' : TypeId) (htx : P.underlying tx = some (.slice e'))
    (base : Nat) (e : TypeId) (i : TypeInfo) (z : Value) (bytes : Nat) (ht : P.underlying t = some (.slice e)) (hi : P.info? e = some i) (hz : i.zero = some z)
    (hsize : i.size = 1) (hby : i.bytes = bytes) (hzs : z.cells.size = 1) (v : Value) (n : Nat) (xs : List Value) (hown : w.ownsRow base e 1 v n xs)
    (ad : Option Addr) (m c : Nat) (news : List Value) (hl : news.length = m)
    (hnews : 0 < m → ∃ b off, ad = some ⟨b, off, none⟩ ∧ ∀ j u, news[j]? = some u → w.cell? ⟨b, off + j, none⟩ = some u) (h1 : ∀ u ∈ news, u.oneCell' = true)
    (h63 : n + m ≤ maxLen) (hbytes : (n + m) * bytes ≤ 140737488355328) (hbase : base ≤ w.heap.size) :
    ∃ v' w', (Builtin.append_ #[t, tx] ty #[v, .slice ad m c]).run P w = .ok v' w' ∧ w'.ownsRow base e 1 v' (n + m) (xs ++ news) ∧ w.grownBy w' v.ownBlock := by
  cases ad with
  | none =>
    have hm : m = 0 := by
      rcases Nat.eq_zero_or_pos m with h0 | h0
      · exact h0
      · obtain ⟨_, _, h2, _⟩ := hnews h0; cases h2
    subst hm
    have hn0 : news = [] := List.eq_nil_of_length_eq_zero hl
    subst hn0
    exact ⟨v, w, run_append_none2 (P := P) w base t tx ty e e' i 1 ht htx hi v n c xs hown, by rw [List.append_nil]; exact hown, grown_refl _ _⟩
  | some x0 =>
    obtain ⟨v', w', hr, h2, h3, _⟩ := run_append_own (P := P) w base t ty e i z 1 bytes ht hi hz hsize hby hzs (by decide) v n xs hown x0 m c news (by rw [hl, Nat.mul_one]) (by
      intro j u hj
      have hj' : j < news.length := (List.getElem?_eq_some_iff.1 hj).1
      obtain ⟨b, off, h2, h3⟩ := hnews (by omega)
      obtain rfl := Option.some.inj h2
      rw [Addr.add_lit]
      exact h3 j u hj) h1 h63 hbytes hbase
    rw [← append_types w t tx ty e e' ht htx] at hr
    exact ⟨v', w', hr, h2, h3⟩
theorem wp_append_rows {P : Program} (w : World) {o : Oper} {a : Act} {K : Act → World → Prop} {Q : Exit → Act → World → Prop} (s x : Operand) (t tx e' : TypeId)
    (ho : o.op = .call { callee := .builtin .append, args := #[s, x], argTypes := #[t, tx] }) (htx : P.underlying tx = some (.slice e'))
    (base : Nat) (e : TypeId) (i : TypeInfo) (z : Value) (bytes : Nat) (ht : P.underlying t = some (.slice e)) (hi : P.info? e = some i) (hz : i.zero = some z)
    (hsize : i.size = 1) (hby : i.bytes = bytes) (hzs : z.cells.size = 1)
    (v : Value) (n : Nat) (xs : List Value) (hs : a.eval s = v) (hown : w.ownsRow base e 1 v n xs)
    (ad : Option Addr) (m c : Nat) (news : List Value) (hx : a.eval x = .slice ad m c) (hl : news.length = m)
    (hnews : 0 < m → ∃ b off, ad = some ⟨b, off, none⟩ ∧ ∀ j u, news[j]? = some u → w.cell? ⟨b, off + j, none⟩ = some u) (h1 : ∀ u ∈ news, u.oneCell' = true)
    (h63 : n + m ≤ maxLen) (hbytes : (n + m) * bytes ≤ 140737488355328) (hbase : base ≤ w.heap.size)
    (h : ∀ v' w', w'.ownsRow base e 1 v' (n + m) (xs ++ news) → w.grownBy w' v.ownBlock → K (a.put o.dst v') w') : o.wp P a w K Q := by
  obtain ⟨v', w', hr, h2, h3⟩ := run_append_rows (P := P) w t tx o.type e' htx base e i z bytes ht hi hz hsize hby hzs v n xs hown ad m c news hl hnews h1 h63 hbytes hbase
  unfold Oper.wp execOp
  simp only [ho, resolve, invoke, builtin, Sem.run_bind, Sem.run_pure, Result.andThen_ok, List.map_toArray, List.map_cons, List.map_nil, hs, hx, hr]
  exact h v' w' h2 h3
/-- an append to a row of the call's own, whatever is appended: elements of one cell each -/
theorem wpList_append_rows {P : Program} (w : World) {ops : Array Oper} {rest : List Oper} {o : Oper} {a : Act} {Q : Exit → Act → World → Prop} (hgd : o.guard = none) (s x : Operand) (t tx e' : TypeId)
    (ho : o.op = .call { callee := .builtin .append, args := #[s, x], argTypes := #[t, tx] }) (htx : P.underlying tx = some (.slice e'))
    (base : Nat) (e : TypeId) (i : TypeInfo) (z : Value) (bytes : Nat) (ht : P.underlying t = some (.slice e)) (hi : P.info? e = some i) (hz : i.zero = some z)
    (hsize : i.size = 1) (hby : i.bytes = bytes) (hzs : z.cells.size = 1)
    (v : Value) (n : Nat) (xs : List Value) (hs : a.eval s = v) (hown : w.ownsRow base e 1 v n xs)
    (ad : Option Addr) (m c : Nat) (news : List Value) (hx : a.eval x = .slice ad m c) (hl : news.length = m)
    (hnews : 0 < m → ∃ b off, ad = some ⟨b, off, none⟩ ∧ ∀ j u, news[j]? = some u → w.cell? ⟨b, off + j, none⟩ = some u) (h1 : ∀ u ∈ news, u.oneCell' = true)
    (h63 : n + m ≤ maxLen) (hbytes : (n + m) * bytes ≤ 140737488355328) (hbase : base ≤ w.heap.size)
    (h : ∀ v' w', w'.ownsRow base e 1 v' (n + m) (xs ++ news) → w.grownBy w' v.ownBlock → wpList P ops Q rest (a.put o.dst v') w') : wpList P ops Q (o :: rest) a w :=
  wpList_plain hgd fun _ hK => wp_append_rows w s x t tx e' ho htx base e i z bytes ht hi hz hsize hby hzs v n xs hs hown ad m c news hx hl hnews h1 h63 hbytes hbase fun v' w' k1 k2 => hK _ _ (h v' w' k1 k2)
/-- the same as a step of a region that draws its order -/
theorem step_append_rows {P : Program} (w : World) {ops : Array Oper} {o : Oper} {a : Act} {K : Act → World → Prop} {Q : Exit → Act → World → Prop} {E : Prop} (hgd : o.guard = none) (s x : Operand) (t tx e' : TypeId)
    (ho : o.op = .call { callee := .builtin .append, args := #[s, x], argTypes := #[t, tx] }) (htx : P.underlying tx = some (.slice e'))
    (base : Nat) (e : TypeId) (i : TypeInfo) (z : Value) (bytes : Nat) (ht : P.underlying t = some (.slice e)) (hi : P.info? e = some i) (hz : i.zero = some z)
    (hsize : i.size = 1) (hby : i.bytes = bytes) (hzs : z.cells.size = 1)
    (v : Value) (n : Nat) (xs : List Value) (hs : a.eval s = v) (hown : w.ownsRow base e 1 v n xs)
    (ad : Option Addr) (m c : Nat) (news : List Value) (hx : a.eval x = .slice ad m c) (hl : news.length = m)
    (hnews : 0 < m → ∃ b off, ad = some ⟨b, off, none⟩ ∧ ∀ j u, news[j]? = some u → w.cell? ⟨b, off + j, none⟩ = some u) (h1 : ∀ u ∈ news, u.oneCell' = true)
    (h63 : n + m ≤ maxLen) (hbytes : (n + m) * bytes ≤ 140737488355328) (hbase : base ≤ w.heap.size)
    (h : ∀ v' w', w'.ownsRow base e 1 v' (n + m) (xs ++ news) → w.grownBy w' v.ownBlock → K (a.put o.dst v') w') :
    if Region.wanted o (yielded ops a.tmps) = true then Oper.wp P o a w K Q else E := by
  have hw : Region.wanted o (yielded ops a.tmps) = true := by simp [Region.wanted, hgd]
  rw [if_pos hw]
  exact wp_append_rows w s x t tx e' ho htx base e i z bytes ht hi hz hsize hby hzs v n xs hs hown ad m c news hx hl hnews h1 h63 hbytes hbase h

theorem Try.infoT : (Try.prog.info? 22).map (fun i => (i.zero, i.size, i.bytes)) = some (some (.slice none 0 0), 1, 24) := by kernel_rfl
theorem info_text : ∃ i, Try.prog.info? 22 = some i ∧ i.zero = some (.slice none 0 0) ∧ i.size = 1 ∧ i.bytes = 24 := by
  have h := Try.infoT
  obtain ⟨i, hi, he⟩ := Option.map_eq_some_iff.1 h
  simp only [Prod.mk.injEq] at he
  exact ⟨i, hi, he.1, he.2.1, he.2.2⟩
theorem info_byte : ∃ i, Try.prog.info? 5 = some i ∧ i.zero = some (.int .u8 0) ∧ i.size = 1 ∧ i.bytes = 1 := by
  have h := Try.info5
  obtain ⟨i, hi, he⟩ := Option.map_eq_some_iff.1 h
  simp only [Prod.mk.injEq] at he
  exact ⟨i, hi, he.1, he.2.1, he.2.2⟩

/-- values that are texts of the world w -/
def Texts (w : World) (us : List Value) (l : List (List Nat)) : Prop := us.length = l.length ∧ ∀ i, i < l.length → ∃ u, us[i]? = some u ∧ Row .u8 256 w u (tx l i) ∧ Tidy u
theorem Texts.nil (w : World) : Texts w [] [] := ⟨rfl, fun i hi => by simp at hi⟩
theorem Texts.append {w : World} {us vs : List Value} {l m : List (List Nat)} (h : Texts w us l) (k : Texts w vs m) : Texts w (us ++ vs) (l ++ m) := by
  refine ⟨by rw [List.length_append, List.length_append, h.1, k.1], fun i hi => ?_⟩
  rw [List.length_append] at hi
  by_cases hl : i < l.length
  · obtain ⟨u, hu, hr⟩ := h.2 i hl
    refine ⟨u, by rw [List.getElem?_append_left (by rw [h.1]; exact hl)]; exact hu, ?_⟩
    have e : tx (l ++ m) i = tx l i := by unfold tx; rw [List.getElem?_append_left hl]
    rw [e]; exact hr
  · obtain ⟨u, hu, hr⟩ := k.2 (i - l.length) (by omega)
    refine ⟨u, by rw [List.getElem?_append_right (by rw [h.1]; omega), h.1]; exact hu, ?_⟩
    have e : tx (l ++ m) i = tx m (i - l.length) := by unfold tx; rw [List.getElem?_append_right (by omega)]
    rw [e]; exact hr
theorem Texts.one {w : World} {u : Value} {x : List Nat} (h : Row .u8 256 w u x) (ht : Tidy u) : Texts w [u] [x] := by
  refine ⟨rfl, fun i hi => ?_⟩
  have : i = 0 := by simp at hi; omega
  subst this
  exact ⟨u, rfl, h, ht⟩
theorem Texts.below {w w' : World} {us : List Value} {l : List (List Nat)} (h : Texts w us l) (hb : Below w.heap.size w w') : Texts w' us l :=
  ⟨h.1, fun i hi => by obtain ⟨u, hu, hr, ht⟩ := h.2 i hi; exact ⟨u, hu, hr.below hb, ht⟩⟩
theorem Row.one {k : IntKind} {m : Nat} {w : World} {u : Value} {l : List Nat} (h : Row k m w u l) : u.oneCell' = true := by
  obtain ⟨a, c, rfl, _⟩ := h
  rfl
theorem Texts.cells {w : World} {us : List Value} {l : List (List Nat)} (h : Texts w us l) : ∀ u ∈ us, u.oneCell' = true := by
  intro u hu
  obtain ⟨i, hi, rfl⟩ := List.getElem_of_mem hu
  obtain ⟨u', hu', hr, _⟩ := h.2 i (by rw [← h.1]; exact hi)
  rw [List.getElem?_eq_getElem hi] at hu'
  obtain rfl := Option.some.inj hu'
  exact hr.one
/-- a slice of texts, as the values that it holds -/
theorem Rows2.texts {w : World} {v : Value} {l : List (List Nat)} (h : Rows2 w v l) : ∃ us a cap, v = .slice a l.length cap ∧ l.length ≤ cap ∧ cap ≤ 9223372036854775807 ∧ Texts w us l ∧
    (0 < l.length → ∃ b off, a = some ⟨b, off, none⟩ ∧ ∀ j u, us[j]? = some u → w.cell? ⟨b, off + j, none⟩ = some u) := by
  obtain ⟨a, cap, rfl, h1, h2, h3⟩ := h
  unfold maxLen at h2
  by_cases hl : 0 < l.length
  · obtain ⟨b, off, rfl, hc⟩ := h3 hl
    have : Inhabited Value := ⟨undef⟩
    obtain ⟨f, hf⟩ := choose_lt (α := Value) hc
    refine ⟨(List.range l.length).map f, _, cap, rfl, h1, by omega, ⟨by simp, fun i hi => ⟨f i, by simp [hi], (hf i hi).2.1, (hf i hi).2.2⟩⟩, fun _ => ⟨b, off, rfl, fun j u hj => ?_⟩⟩
    have hj' : j < l.length := by have := (List.getElem?_eq_some_iff.1 hj).1; simpa using this
    simp [hj'] at hj
    subst hj
    exact (hf j hj').1
  · have h0 : l = [] := by cases l with | nil => rfl | cons x l => simp at hl
    subst h0
    exact ⟨[], a, cap, rfl, h1, by omega, Texts.nil _, fun h => by simp at h⟩
/-- a row of the call's own that holds texts -/
theorem Texts.rows2 {w : World} {B : Nat} {v : Value} {us : List Value} {l : List (List Nat)} (h : Texts w us l) (ho : w.ownsRow B 22 1 v l.length us) : Rows2 w v l := by
  have ho' := ho
  obtain ⟨h1, ⟨rfl, h2⟩ | ⟨g, cap, cur, rfl, h3, h4, h5, h6, h7, h8⟩⟩ := ho
  · exact ⟨none, 0, by rw [h2], by omega, Nat.zero_le _, fun hl => by omega⟩
  · refine ⟨_, cap, rfl, h5, h6, fun hl => ⟨g, 0, rfl, fun i hi => ?_⟩⟩
    obtain ⟨u, hu, hr⟩ := h.2 i hi
    refine ⟨u, ?_, hr⟩
    rw [Nat.zero_add, ho'.cellAt i (by omega)]
    exact hu
end Go.Proofs.Ytjnlkihhmenfnaa

/- Wrapped keys: the code's split: a text's words of 8 bytes, by slices.Chunk and slices.Collect. -/
namespace Go.Proofs.Ytjnlkihhmenfnaa
open Go.RowKit Go.Shelf
set_option linter.unusedVariables false
set_option linter.unusedSimpArgs false
attribute [local go_sem] Oper.semAt_some

set_option maxRecDepth 100000 in
set_option maxHeartbeats 4000000 in
theorem chunk8_in (n : Nat) (hn : 1 ≤ n) (l lo hi Bs Bn xb xo xc N Z : Nat) (hZ : Z = 8 * N) (hZc : Z ≤ xc) (hZ6 : xc ≤ 9223372036854775807) (w0 : World) (hBs : lo ≤ Bs ∧ Bs < hi) (hBn : lo ≤ Bn ∧ Bn < hi) (J Jx : List (Fin N) → World → Prop)
    (hY : ∀ pre (x : Fin N) W, J pre W → pre.length < N → YieldAt Fence.wide (n - 1) Try.prog l #[.slice (some ⟨xb, xo + 8 * x.1, none⟩) 8 8] W fun e W' =>
      (e = .returned (.bool true) ∧ J (pre ++ [x]) W' ∧ KpC lo hi W W') ∨ (e = .returned (.bool false) ∧ Jx (pre ++ [x]) W'))
    (hJd : ∀ pre W q, J pre W → J pre (W.drewN q))
    (W : World) (hW : KpC lo hi w0 W) (hcs : w0.cell? ⟨Bs, 0, none⟩ = some (.slice (some ⟨xb, xo, none⟩) Z xc)) (hcn : w0.cell? ⟨Bn, 0, none⟩ = some (.int .i64 8)) (h0 : J [] W) :
    CallsIn Fence.wide n Try.prog 51 #[.func (.yield l) #[] #[], .pointer (some ⟨Bs, 0, none⟩), .pointer (some ⟨Bn, 0, none⟩)] W fun e W' => (∃ v, e = .returned v) ∧
      ((∃ ys, ys = finL N N ∧ J ys W') ∨ (∃ pre, pre <+: finL N N ∧ Jx pre W')) := by
  refine callsIn_of_wp Try.func51 rfl trivial ?_ rfl
  simp only [Try.ntmps51, List.size_toArray, List.length_cons, List.length_nil, Nat.reduceAdd, Nat.reduceSub, Array.replicate_succ, Array.replicate_zero, List.push_toArray, List.append_toArray, List.nil_append, List.cons_append]
  gi_wp2
  gi_loopw [4] (fun vi wr => ∃ k : Nat, k ≤ N ∧ vi = .int .i64 ((8 * k : Nat) : Int) ∧ J (finL N k) wr ∧ KpC lo hi w0 wr) (fun vi _ => Z - (intOf vi).toNat)
  case atStart => exact ⟨0, Nat.zero_le _, rfl, h0, hW⟩
  case round =>
    obtain ⟨k, hk, rfl, hJs, hbr⟩ := hrel
    have cs : wr.cell? ⟨Bs, 0, none⟩ = some (.slice (some ⟨xb, xo, none⟩) Z xc) := hbr.cell hBs.1 hBs.2 hcs
    have cn : wr.cell? ⟨Bn, 0, none⟩ = some (.int .i64 8) := hbr.cell hBn.1 hBn.2 hcn
    by_cases hlt : k < N
    · obtain ⟨P, hP⟩ : ∃ x : Nat, x = 8 * k := ⟨_, rfl⟩
      obtain ⟨Q, hQ⟩ : ∃ x : Nat, x = P + 8 := ⟨_, rfl⟩
      have hPZ : (P : Int) < (Z : Int) := by omega
      have z_P : (0 : Int) ≤ (P : Int) := Int.natCast_nonneg _
      have l_PZ : (P : Int) ≤ (Z : Int) := by omega
      have e_Q : (P : Int) + 8 = (Q : Int) := by omega
      have s_Q : IntKind.i64.wrap (Q : Int) = (Q : Int) := by rw [IntKind.wrap_i64]; omega
      have l_PQ : (P : Int) ≤ (Q : Int) := by omega
      have l_Qc : (Q : Int) ≤ (xc : Int) := by omega
      have d_QP : Q - P = 8 := by omega
      have n_cP : ¬ xc = P := by omega
      have n_QP : ¬ Q = P := by omega
      obtain ⟨R, hR⟩ : ∃ x : Nat, x = Z - P := ⟨_, rfl⟩
      have l_R : (8 : Int) ≤ (R : Int) := by omega
      have g_R : ¬ ((R : Int) < 8) := by omega
      have HX := hide (And.intro hP (And.intro hQ hR))
      rw [← hP]
      have e_R : Z - P = R := hR.symm
      have HZN := hide hZ
      clear hP hQ hR hZ
      have m_R : min (8 : Int) (R : Int) = 8 := by omega
      gi_wp2
      gi_quiet (fail)
      have hJ2 := hJd _ _ nq hJs
      have hb2 : KpC lo hi w0 (wr.drewN nq) := hbr
      have cs2 : (wr.drewN nq).cell? ⟨Bs, 0, none⟩ = some (.slice (some ⟨xb, xo, none⟩) Z xc) := cs
      have cn2 : (wr.drewN nq).cell? ⟨Bn, 0, none⟩ = some (.int .i64 8) := cn
      generalize wr.drewN nq = W2 at *
      obtain ⟨fn, tmps, assign, body, hy, hR⟩ := hY (finL N k) ⟨k, hlt⟩ W2 hJ2 (by rw [finL_len k hk]; exact hlt)
      have hy2 : (Instr.yield l #[.slice (some ⟨xb, xo + P, none⟩) 8 8]).run Try.prog W2 = .ok (.round l fn tmps assign body) W2 := by rw [HX.out.1]; exact hy
      clear hy cs cn
      gi_wp2
      refine hR.mono ?_
      rintro e W3 (⟨rfl, hJ3, hk3⟩ | ⟨rfl, hJx3⟩)
      · have hb3 := hb2.trans hk3
        have cn3 : W3.cell? ⟨Bn, 0, none⟩ = some (.int .i64 8) := hb3.cell hBn.1 hBn.2 hcn
        gi_wp2
        go_roundw
        case rel => exact ⟨k + 1, by omega, vint (by have := HX.out; omega), by rw [finL_next hlt]; exact hJ3, hb3⟩
        case measure => have := HX.out; simp [intOf]; omega
      · gi_wp2
        refine bodyPost_ret (results_none rfl _ _ _) rfl ?_
        exact ⟨⟨_, rfl⟩, .inr ⟨finL N k ++ [⟨k, hlt⟩], by rw [← finL_next hlt]; exact finL_pre N (Nat.le_refl _) (k + 1) (by omega), hJx3⟩⟩
    · obtain rfl : k = N := by omega
      obtain ⟨P, hP⟩ : ∃ x : Nat, x = 8 * k := ⟨_, rfl⟩
      have hge : ¬ ((P : Int) < (Z : Int)) := by omega
      rw [← hP]
      clear hP hZ
      gi_wp2
      go_end0
      exact ⟨⟨_, rfl⟩, .inl hJs⟩

set_option maxHeartbeats 2000000 in
set_option maxRecDepth 100000 in
theorem chunk8_make (xb xo xc Z : Nat) (w : World) :
    Calls Try.prog 29 #[.slice (some ⟨xb, xo, none⟩) Z xc, .int .i64 8] w fun e w' => e = .returned (.func (.func 51) #[] #[.pointer (some ⟨w.heap.size, 0, none⟩), .pointer (some ⟨w.heap.size + 1, 0, none⟩)]) ∧ w' = (w.alloc (.cells #[.slice (some ⟨xb, xo, none⟩) Z xc] 22)).alloc (.cells #[.int .i64 8] 3) := by
  go_enter Try.func29, Try.ntmps29
  go_wp2
  go_ret
  exact ⟨rfl, rfl⟩
theorem grown_drewN8 (W : World) (q : Nat) : W.grownBy (W.drewN q) none := ⟨rfl, rfl, rfl, Nat.le_refl _, fun _ _ _ => rfl⟩
theorem chunk8_stops (n : Nat) (hn : 1 ≤ n) (Bs Bn xb xo xc N Z : Nat) (hZ : Z = 8 * N) (hZc : Z ≤ xc) (hZ6 : xc ≤ 9223372036854775807) (w : World) (hBs : Bs < w.heap.size) (hBn : Bn < w.heap.size)
    (hcs : w.cell? ⟨Bs, 0, none⟩ = some (.slice (some ⟨xb, xo, none⟩) Z xc)) (hcn : w.cell? ⟨Bn, 0, none⟩ = some (.int .i64 8)) :
    SeqStopsK Fence.wide n Try.prog 51 #[.pointer (some ⟨Bs, 0, none⟩), .pointer (some ⟨Bn, 0, none⟩)] (fun x : Fin N => #[Value.slice (some ⟨xb, xo + 8 * x.1, none⟩) 8 8]) (KpC 0 w.heap.size) (fun ys => ys = finL N N) (fun pre => pre <+: finL N N) N w :=
  fun l J Jx W hW hJ hJx hY h0 => chunk8_in n hn l 0 w.heap.size Bs Bn xb xo xc N Z hZ hZc hZ6 w ⟨Nat.zero_le _, hBs⟩ ⟨Nat.zero_le _, hBn⟩ J Jx hY (fun pre W q h => hJ pre W _ none h (grown_drewN8 W q) (fun r e => by cases e)) W (fun k _ h2 => hW.block k h2) hcs hcn h0
/-- a word of a text, as a slice -/
def enc8 (xb xo i : Nat) : Value := .slice (some ⟨xb, xo + 8 * i, none⟩) 8 8
def enc8L (xb xo N : Nat) : List Value := (finL N N).map fun i => enc8 xb xo i.1
theorem cells_kept8 {A B : World} {row : Option Nat} (hg : A.grownBy B row) (hr : ∀ r, row = some r → ∃ o : Obj, A.heap[r]? = some o ∧ o.isCells = false) {k : Nat} {cs : Array Value} {t : TypeId} {fz : Nat × Nat} (h : A.heap[k]? = some (.cells cs t fz)) : B.heap[k]? = some (.cells cs t fz) := by
  refine (hg.block k (Array.getElem?_eq_some_iff.1 h).1 fun e => ?_).trans h
  obtain ⟨o, ho, hc⟩ := hr k e.symm
  rw [h] at ho
  cases ho
  cases hc
theorem owns_kept8 {A B : World} {row : Option Nat} {base : Nat} {e : TypeId} {v : Value} {n : Nat} {xs : List Value} (h : A.ownsRow base e 1 v n xs) (hg : A.grownBy B row) (hr : ∀ r, row = some r → ∃ o : Obj, A.heap[r]? = some o ∧ o.isCells = false) : B.ownsRow base e 1 v n xs := by
  refine h.kept hg ?_
  rcases h.2 with ⟨rfl, _⟩ | ⟨g, cap, cur, rfl, _, hgb, _⟩
  · exact .inl rfl
  · refine .inr fun e' => ?_
    obtain ⟨o, ho, hc⟩ := hr g (by simpa [Value.ownBlock] using e'.symm)
    rw [hgb] at ho; cases ho; cases hc
theorem owns_mono8 {w : World} {B B' : Nat} {e : TypeId} {v : Value} {n : Nat} {xs : List Value} (h : w.ownsRow B e 1 v n xs) (hB : B' ≤ B) : w.ownsRow B' e 1 v n xs := by
  obtain ⟨h1, h2⟩ := h
  refine ⟨h1, ?_⟩
  rcases h2 with h2 | ⟨g, cap, cur, h3, h4, h5⟩
  · exact .inl h2
  · exact .inr ⟨g, cap, cur, h3, Nat.le_trans hB h4, h5⟩
set_option maxHeartbeats 4000000 in
set_option maxRecDepth 100000 in
theorem appseq8 (n : Nat) (hn : 4 ≤ n) (Bs Bn xb xo xc N Z : Nat) (hZ : Z = 8 * N) (hN : N ≤ 100000) (hZc : Z ≤ xc) (hZ6 : xc ≤ 9223372036854775807) (w : World) (hBs : Bs < w.heap.size) (hBn : Bn < w.heap.size)
    (hcs : w.cell? ⟨Bs, 0, none⟩ = some (.slice (some ⟨xb, xo, none⟩) Z xc)) (hcn : w.cell? ⟨Bn, 0, none⟩ = some (.int .i64 8)) :
    CallsIn Fence.wide n Try.prog 50 #[.slice none 0 0, .func (.func 51) #[] #[.pointer (some ⟨Bs, 0, none⟩), .pointer (some ⟨Bn, 0, none⟩)]] w fun e w' => ∃ v, e = .returned v ∧ w'.ownsRow w.heap.size 22 1 v N (enc8L xb xo N) ∧ Below w.heap.size w w' := by
  obtain ⟨i0, hi, hz0, hz1, hz2⟩ := info_text
  have h1n : 1 ≤ n := by omega
  refine callsIn_of_wp_marks Try.func50 rfl trivial ?_ rfl
  simp only [Try.ntmps50, List.size_toArray, List.length_cons, List.length_nil, Nat.reduceAdd, Nat.reduceSub, Array.replicate_succ, Array.replicate_zero, List.push_toArray, List.append_toArray, List.nil_append, List.cons_append]
  gi_wp2
  have bO := Boxed.new w 33 (.slice none 0 0)
  have hB0 := keep_alloc w (.cells #[.slice none 0 0] 33)
  have ow0 : (w.alloc (.cells #[.slice none 0 0] 33)).ownsRow w.heap.size 22 1 (.slice none 0 0) 0 [] := World.ownsRow_nil _ _ _ _
  have szc : (w.alloc (.cells #[.slice none 0 0] 33)).heap.size = w.heap.size + 1 := by simp
  generalize w.alloc (.cells #[.slice none 0 0] 33) = Wc at *
  refine wpIn_rangeFunc_ownG rfl h1n (gf := 51) (lb := #[.pointer (some ⟨Bs, 0, none⟩), .pointer (some ⟨Bn, 0, none⟩)]) rfl trivial (enters_of Try.func51 (by kernel_rfl) rfl)
    (chunk8_stops (n - 1) (by omega) Bs Bn xb xo xc N Z hZ hZc hZ6 w hBs hBn hcs hcn) (fun h k => KpC.trans h k) (fun W' l' o o' hl' _ _ _ k h1 h2 => World.putObj_heap_other (by omega)) hB0 (fun _ => rfl)
    (fun pre W' => ∃ v, Boxed W' w.heap.size 33 v ∧ W'.ownsRow w.heap.size 22 1 v pre.length (pre.map fun i : Fin N => enc8 xb xo i.1) ∧ Below w.heap.size w W')
    (fun _ _ _ => False)
    (fun s A B row hs hg hr => by
      obtain ⟨v, h1, h2, h3⟩ := hs
      exact ⟨v, cells_kept8 hg (fun r e => (hr r e).2) h1, owns_kept8 h2 hg (fun r e => (hr r e).2), h3.grown hg h3.size (fun r e => by have := (hr r e).1; omega)⟩)
    (fun c s A B row hs hg hr => hs)
    ⟨_, bO, ow0, hB0⟩
    (fun x => { tmps := #[.slice none 0 0, .func (.func 51) #[] #[.pointer (some ⟨Bs, 0, none⟩), .pointer (some ⟨Bn, 0, none⟩)], .pointer (some ⟨w.heap.size, 0, none⟩), undef, .slice none 0 0, .slice (some ⟨xb, xo + 8 * x.1, none⟩) 8 8, .func (.func 51) #[] #[.pointer (some ⟨Bs, 0, none⟩), .pointer (some ⟨Bn, 0, none⟩)], .slice (some ⟨xb, xo + 8 * x.1, none⟩) 8 8, undef, undef, undef, undef, undef], defers := [] }) ?assign ?body ?done ?stop
  case assign =>
    intro l2 x W' K hK
    gi_wp2
    exact hK
  case body =>
    rintro l2 pre x W ⟨v, hv, hrow, hB⟩ hlt
    have hc := hv.cell
    have hsz := hB.size
    have hl : (pre.map fun i : Fin N => enc8 xb xo i.1).length = pre.length := List.length_map _
    have hmp : (pre ++ [x]).map (fun i : Fin N => enc8 xb xo i.1) = (pre.map fun i : Fin N => enc8 xb xo i.1) ++ [enc8 xb xo x.1] := by rw [List.map_append]; rfl
    have HM := hide hmp
    obtain ⟨va, vc, rfl⟩ : ∃ a c, v = .slice a pre.length c := by
      rcases hrow.2 with ⟨rfl, h0⟩ | ⟨g, cap, cur, rfl, _⟩
      · exact ⟨none, 0, by rw [h0]⟩
      · exact ⟨_, _, rfl⟩
    have HL := hide hlt
    clear hmp hl hlt hZ hZc hZ6 hcs hcn bO ow0
    gi_wp2_with (gi_at_builtin; refine wpListIn_append_own _ rfl _ _ 33 rfl w.heap.size 22 i0 (.slice none 0 0) 1 24 Try.underlying33 hi hz0 hz1 hz2 rfl (by decide) _ _ _ rfl (hrow.alloc _) ⟨W.heap.size, 0, none⟩ 1 1 [.slice (some ⟨xb, xo + 8 * x.1, none⟩) 8 8] rfl rfl (cell_one_new _ _ _) (by simp [Value.oneCell']) (by have := HL.out; unfold maxLen; omega) (by have := HL.out; omega) (by simp; omega) ?_; intro v' w1 hown' hgrow _; obtain ⟨g', cap', rfl⟩ := ownsRow_succ hown'; obtain ⟨hv1, hv2, hr2, hk2, hb2⟩ := hv.appended (by decide) hrow hB.size (Nat.le_refl _) hown' hgrow; have hc1 := hv1.cell; have hf1 := hv1.frozen)
    exact ⟨hk2.from _, fun k _ h2 => hb2.block k (by omega), _, hv2, by rw [HM.out, List.length_append]; exact hr2, hB.trans hb2⟩
  case done =>
    rintro D ys W2 hD rfl ⟨v, hv, hrow, hB⟩ hK
    have hc := hv.cell
    gi_wp2
    refine ⟨by simp, .inl ⟨_, _, rfl, run_takeDeferred hK, ?_⟩⟩
    rw [finL_len N (Nat.le_refl _)] at hrow
    exact ⟨_, results_tmp rfl _ _ _, v, rfl, ownsRow_putObj hrow _ hK rfl, hB.grown (grownBy_putObj' _ D _) hB.size (fun r e => by cases e; omega)⟩
  case stop =>
    rintro D c pre W2 hD hpre hF hK
    exact hF.elim
set_option maxHeartbeats 2000000 in
set_option maxRecDepth 100000 in
theorem split_any (xb xo xc N Z : Nat) (hZ : Z = 8 * N) (hN : N ≤ 100000) (hZc : Z ≤ xc) (hZ6 : xc ≤ 9223372036854775807) (w : World) :
    Calls Try.prog 13 #[.slice (some ⟨xb, xo, none⟩) Z xc] w fun e w' => ∃ v, e = .returned v ∧ w'.ownsRow w.heap.size 22 1 v N (enc8L xb xo N) ∧ Below w.heap.size w w' := by
  have hcol : ∀ y Bs Bn, Bs < y.heap.size → Bn < y.heap.size → y.cell? ⟨Bs, 0, none⟩ = some (.slice (some ⟨xb, xo, none⟩) Z xc) → y.cell? ⟨Bn, 0, none⟩ = some (.int .i64 8) →
      Calls Try.prog 28 #[.func (.func 51) #[] #[.pointer (some ⟨Bs, 0, none⟩), .pointer (some ⟨Bn, 0, none⟩)]] y fun e w' => ∃ v, e = .returned v ∧ w'.ownsRow y.heap.size 22 1 v N (enc8L xb xo N) ∧ Below y.heap.size y w' := by
    intro y Bs Bn h1 h2 h3 h4
    have ha := (callsIn_wide (n := 8)).1 (appseq8 8 (by decide) Bs Bn xb xo xc N Z hZ hN hZc hZ6 y h1 h2 h3 h4)
    clear hZ hZc hZ6 hN h1 h2 h3 h4
    go_enter Try.func28, Try.ntmps28
    go_wp2_with (first
      | (go_at_call 50; refine ha.mono ?_; rintro e w1 ⟨v1, rfl, o1, hb1⟩)
      | fail)
    go_ret
    exact ⟨_, rfl, o1, hb1⟩
  have bS0 := Boxed.new w 22 (.slice (some ⟨xb, xo, none⟩) Z xc)
  have bN0 := Boxed.new (w.alloc (.cells #[.slice (some ⟨xb, xo, none⟩) Z xc] 22)) 3 (.int .i64 8)
  rw [World.size_alloc] at bN0
  have bS := bS0.alloc (.cells #[.int .i64 8] 3)
  have hc := hcol _ _ _ bS.lt bN0.lt bS.cell bN0.cell
  clear hcol hZ hZc hZ6 hN
  go_enter Try.func13, Try.ntmps13
  go_wp2_with (first
    | (go_at_call 29; refine (chunk8_make xb xo xc Z _).mono ?_; rintro e w1 ⟨rfl, rfl⟩)
    | (go_at_call 28; refine hc.mono ?_; rintro e w2 ⟨v2, rfl, o2, hb2⟩)
    | fail)
  go_ret
  exact ⟨_, rfl, owns_mono8 o2 (by simp; omega), keep_trans (keep_trans (keep_alloc _ _) (keep_alloc _ _)) hb2⟩
end Go.Proofs.Ytjnlkihhmenfnaa
