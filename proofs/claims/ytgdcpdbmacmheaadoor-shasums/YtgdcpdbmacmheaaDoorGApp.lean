/- append onto a row of the call's own: its old cells stay as they were. -/
import Derived.Test.YtgdcpdbmacmheaaDoorTex
import Derived.Deep.AppendLies
import Derived.ArgAppend
namespace Go.Proofs.YtgdcpdbmacmheaaDoor
open Go.RowKit
set_option linter.unusedVariables false
set_option linter.unusedSimpArgs false

theorem run_append_keeps {P : Program} (w : World) (t ty : TypeId) (base : Nat) (e : TypeId) (i : TypeInfo) (z : Value) (bytes : Nat) (ht : P.underlying t = some (.slice e)) (hi : P.info? e = some i) (hz : i.zero = some z)
    (hsize : i.size = 1) (hby : i.bytes = bytes) (hzs : z.cells.size = 1)
    (g0 n cap0 : Nat) (xs : List Value) (hown : w.ownsRow base e 1 (.slice (some ⟨g0, 0, none⟩) n cap0) n xs)
    (ad : Addr) (m c : Nat) (news : List Value) (hl : news.length = m) (hnews : ∀ j u, news[j]? = some u → w.cell? (ad.add j) = some u) (h1 : ∀ u ∈ news, u.oneCell' = true)
    (hm : 0 < m) (h63 : n + m ≤ maxLen) (hbytes : (n + m) * bytes ≤ 140737488355328) (hbase : base ≤ w.heap.size) :
    ∃ g cap w', (Builtin.append_ #[t, t] ty #[.slice (some ⟨g0, 0, none⟩) n cap0, .slice (some ad) m c]).run P w = .ok (.slice (some ⟨g, 0, none⟩) (n + m) cap) w' ∧
      w'.ownsRow base e 1 (.slice (some ⟨g, 0, none⟩) (n + m) cap) (n + m) (xs ++ news) ∧ w.grownBy w' (some g0) ∧ ∀ j, j < n → w'.cell? ⟨g0, j, none⟩ = w.cell? ⟨g0, j, none⟩ := by
  obtain ⟨g, cap, w', hr, h2, h3, h4, h5⟩ := run_append_lies (P := P) w t ty base e i z 1 bytes ht hi hz hsize hby hzs (by decide) _ n xs hown ad m c news (by rw [hl, Nat.mul_one]) hnews h1 hm h63 hbytes hbase _ rfl
  refine ⟨g, cap, w', hr, h2, h3, fun j hj => ?_⟩
  have hown' := hown
  obtain ⟨hlen, ⟨he, _⟩ | ⟨q, cq, cur, he, hB, hg, hn, hc, hcs, htk⟩⟩ := hown
  · cases he
  · obtain ⟨rfl, rfl⟩ : g0 = q ∧ cap0 = cq := by simpa using he
    by_cases hroom : n + m ≤ cap0
    · have hrr := run_append_room_cells (P := P) w t ty e i ht hi g0 0 n cap0 ad m c news (by rw [hl, hsize, Nat.mul_one]) hnews h1 hroom
        (fun j hj => by rw [cell_of_row w g0 _ cur e (0, 0) hg, hsize]; simp; omega)
        (fun j hj => by simp [World.frozen?, hg])
      rw [hr] at hrr
      obtain rfl : w' = w.setCells g0 (0 + n * i.size) news := (Result.ok.inj hrr).2
      exact World.cell?_setCells_out g0 news _ w ⟨g0, j, none⟩ (fun _ _ => .inl (by show j < 0 + n * i.size; rw [hsize]; omega))
    · obtain ⟨v2, w2, hr2, _, hg2⟩ := run_append_arg_grows (P := P) w t ty e i z 1 bytes ht hi hz hsize hby hzs (by decide) ⟨g0, 0, none⟩ n cap0 xs hlen
        (fun j u hu => by
          have hjx : j < xs.length := (List.getElem?_eq_some_iff.1 hu).1
          rw [Addr.add_lit, Nat.zero_add, hown'.cellAt j (by omega)]; exact hu) ad m c news (by rw [hl, Nat.mul_one]) hnews (by omega) h63 hbytes
      rw [hr] at hr2
      obtain rfl : w' = w2 := (Result.ok.inj hr2).2
      exact World.cell?_of_block (hg2.block g0 (by rcases Nat.lt_or_ge g0 w.heap.size with h' | h'
                                                   · exact h'
                                                   · rw [Array.getElem?_eq_none h'] at hg; cases hg) (by simp))

theorem step_append_keeps {P : Program} {w : World} {ops : Array Oper} {o : Oper} {a : Act} {K : Act → World → Prop} {Q : Exit → Act → World → Prop} {E : Prop} (hgd : o.guard = none) (s x : Operand) (t : TypeId)
    (ho : o.op = .call { callee := .builtin .append, args := #[s, x], argTypes := #[t, t] })
    (base : Nat) (e : TypeId) (i : TypeInfo) (z : Value) (bytes : Nat) (ht : P.underlying t = some (.slice e)) (hi : P.info? e = some i) (hz : i.zero = some z)
    (hsize : i.size = 1) (hby : i.bytes = bytes) (hzs : z.cells.size = 1)
    (g0 n cap0 : Nat) (xs : List Value) (hs : a.eval s = .slice (some ⟨g0, 0, none⟩) n cap0) (hown : w.ownsRow base e 1 (.slice (some ⟨g0, 0, none⟩) n cap0) n xs)
    (ad : Addr) (m c : Nat) (news : List Value) (hx : a.eval x = .slice (some ad) m c) (hl : news.length = m) (hnews : ∀ j u, news[j]? = some u → w.cell? (ad.add j) = some u) (h1 : ∀ u ∈ news, u.oneCell' = true)
    (hm : 0 < m) (h63 : n + m ≤ maxLen) (hbytes : (n + m) * bytes ≤ 140737488355328) (hbase : base ≤ w.heap.size)
    (h : ∀ g cap w', w'.ownsRow base e 1 (.slice (some ⟨g, 0, none⟩) (n + m) cap) (n + m) (xs ++ news) → w.grownBy w' (some g0) → (∀ j, j < n → w'.cell? ⟨g0, j, none⟩ = w.cell? ⟨g0, j, none⟩) → K (a.put o.dst (.slice (some ⟨g, 0, none⟩) (n + m) cap)) w') :
    if Region.wanted o (yielded ops a.tmps) = true then Oper.wp P o a w K Q else E := by
  have hw : Region.wanted o (yielded ops a.tmps) = true := by simp [Region.wanted, hgd]
  rw [if_pos hw]
  obtain ⟨g, cap, w', hr, h2, h3, h4⟩ := run_append_keeps (P := P) w t o.type base e i z bytes ht hi hz hsize hby hzs g0 n cap0 xs hown ad m c news hl hnews h1 hm h63 hbytes hbase
  unfold Oper.wp execOp
  simp only [ho, resolve, invoke, builtin, Sem.run_bind, Sem.run_pure, Result.andThen_ok, List.map_toArray, List.map_cons, List.map_nil, hs, hx, hr]
  exact h g cap w' h2 h3 h4
end Go.Proofs.YtgdcpdbmacmheaaDoor
