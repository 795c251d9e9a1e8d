/- Whether texts are in order: order.Sorted, order.Strict, the document's; whether two lists are the same; how often a text is there. -/
import Derived.Test.YtiedkpfpaeecfaaStr
import Derived.Deep.RegionWith
import Derived.Test.YtiedkpfpaeecfaaOwn
namespace Go.Proofs.Ytiedkpfpaeecfaa
open Go.RowKit
set_option linter.unusedVariables false

/-- a slice of texts, its value written out -/
theorem Rows2.opens {w : World} {v : Value} {ls : List (List Nat)} (h : Rows2 w v ls) : ∃ a cap, v = .slice a ls.length cap ∧ ls.length ≤ cap ∧ cap ≤ 9223372036854775807 ∧
    (0 < ls.length → ∃ b off, a = some ⟨b, off, none⟩ ∧ ∀ i, i < ls.length → ∃ u, w.cell? ⟨b, off + i, none⟩ = some u ∧ Row .u8 256 w u (tx ls i) ∧ Tidy u) := by
  obtain ⟨a, cap, rfl, h1, h2, h3⟩ := h
  unfold maxLen at h2
  exact ⟨a, cap, rfl, h1, by omega, h3⟩
theorem Rows2.drewN {w : World} {v : Value} {ls : List (List Nat)} (h : Rows2 w v ls) (q : Nat) : Rows2 (w.drewN q) v ls := h.below (below_drewN (Below.refl _ _) q)
theorem Rows2.all {w : World} {a : Option Addr} {n cap : Nat} {ls : List (List Nat)} (h : Rows2 w (.slice a n cap) ls) (hl : 0 < ls.length) :
    ∃ b off, a = some ⟨b, off, none⟩ ∧ ∀ i, i < ls.length → ∃ u, w.cell? ⟨b, off + i, none⟩ = some u ∧ Row .u8 256 w u (tx ls i) ∧ Tidy u := by
  obtain ⟨a', cap', he, h1, h2, h3⟩ := h
  simp at he
  obtain ⟨rfl, rfl, rfl⟩ := he
  exact h3 hl
/-- a world that has only drawn -/
def Drew (w w' : World) : Prop := ∃ q, w' = w.drewN q
theorem Drew.refl (w : World) : Drew w w := ⟨0, rfl⟩
theorem Drew.more {w w' : World} (h : Drew w w') (n : Nat) : Drew w (w'.drewN n) := by
  obtain ⟨q, rfl⟩ := h
  exact ⟨_, World.drewN_drewN _ _ _⟩
theorem Drew.more2 {w w' : World} (h : Drew w w') (n m : Nat) : Drew w ((w'.drewN n).drewN m) := (h.more n).more m
theorem Drew.rows {w w' : World} (h : Drew w w') {v : Value} {ls : List (List Nat)} (hr : Rows2 w v ls) : Rows2 w' v ls := by
  obtain ⟨q, rfl⟩ := h
  exact hr.drewN q
theorem Drew.row {w w' : World} (h : Drew w w') {v : Value} {l : List Nat} (hr : Row .u8 256 w v l) : Row .u8 256 w' v l := by
  obtain ⟨q, rfl⟩ := h
  exact hr.drewN q
theorem Drew.below {w w' : World} (h : Drew w w') : Below w.heap.size w w' := by
  obtain ⟨q, rfl⟩ := h
  exact below_drewN (Below.refl _ _) q
theorem tx_ext {l m : List (List Nat)} (h : l.length = m.length) (he : ∀ i, i < l.length → tx l i = tx m i) : l = m := by
  apply List.ext_getElem h
  intro i h1 h2
  have := he i h1
  rwa [tx_at h1, tx_at h2] at this

set_option maxHeartbeats 2000000 in
theorem rsame2_any (va vb : Value) (l m : List (List Nat)) (w : World) (ha : Rows2 w va l) (hb : Rows2 w vb m) :
    Calls Try.prog 16 #[va, vb] w fun e w' => e = .returned (.bool (decide (l = m))) ∧ Drew w w' := by
  obtain ⟨a, ca, rfl, ha1, ha2, ha3⟩ := ha.opens
  obtain ⟨b, cb, rfl, hb1, hb2, hb3⟩ := hb.opens
  by_cases hlen : l.length = m.length
  · have hne : ((l.length : Int) != (m.length : Int)) = false := by simp [hlen]
    have H : Hid (l.length = m.length) := hlen
    have hle1 : l.length ≤ m.length := by omega
    have hle2 : m.length ≤ l.length := by omega
    clear hlen
    go_enter Try.func16, Try.ntmps16
    go_wp2
    go_loopw [5] (fun i wr => ∃ k : Nat, k ≤ l.length ∧ i = .int .i64 k ∧ Hid (Drew w wr) ∧ Hid (∀ j, j < k → tx l j = tx m j)) (fun i _ => l.length - (intOf i).toNat)
    case atStart => exact ⟨0, Nat.zero_le _, rfl, hide (Drew.refl _), hide (fun j hj => by omega)⟩
    case round =>
      obtain ⟨k, hk, rfl, HQ, HA⟩ := hrel
      by_cases hlt : k < l.length
      · obtain ⟨ba, oa, rfl, hca⟩ := (HQ.out.rows ha).all (by omega)
        obtain ⟨bb, ob, rfl, hcb⟩ := (HQ.out.rows hb).all (by omega)
        obtain ⟨u1, c1, r1, _⟩ := hca k hlt
        obtain ⟨u2, c2, r2, _⟩ := hcb k (by omega)
        clear hca hcb
        have hlt2 : k < m.length := by omega
        have hcall := fun n => rless_any u1 u2 _ _ (wr.drewN n) (r1.drewN n) (r2.drewN n)
        have hcall2 := fun n => rless_any u2 u1 _ _ (wr.drewN n) (r2.drewN n) (r1.drewN n)
        clear r1 r2
        cases hd : lessL (tx l k) (tx m k) with
        | true =>
          rw [hd] at hcall
          have HD : Hid (l ≠ m) := hide (fun e => by subst e; rw [less_self] at hd; cases hd)
          clear hd
          go_wp2
          go_quiet (first | (go_at_call 22; exact Calls.quiet_of (hcall _)) | fail)
          go_wp2
          go_ret
          exact ⟨ret_bool (decide_eq_false HD.out).symm, HQ.out.more _⟩
        | false =>
          rw [hd] at hcall
          cases hd2 : lessL (tx m k) (tx l k) with
          | true =>
            rw [hd2] at hcall2
            have HD : Hid (l ≠ m) := hide (fun e => by subst e; rw [less_self] at hd2; cases hd2)
            clear hd hd2
            go_wp2
            go_quiet (first | (go_at_call_of 22 (#[u1, u2]); exact Calls.quiet_of (hcall _)) | (go_at_call_of 22 (#[u2, u1]); exact Calls.quiet_of (hcall2 _)) | fail)
            go_wp2
            go_ret
            exact ⟨ret_bool (decide_eq_false HD.out).symm, HQ.out.more _⟩
          | false =>
            rw [hd2] at hcall2
            have HD := hide (less_total _ _ hd hd2)
            clear hd hd2
            go_wp2
            go_quiet (first | (go_at_call_of 22 (#[u1, u2]); exact Calls.quiet_of (hcall _)) | (go_at_call_of 22 (#[u2, u1]); exact Calls.quiet_of (hcall2 _)) | fail)
            go_wp2
            go_roundw
            case rel => exact ⟨k + 1, by omega, by go_num, hide (HQ.out.more _), hide (fun j hj => by
                by_cases hjk : j = k
                · subst hjk; exact HD.out
                · exact HA.out j (by omega))⟩
            case measure => simp [intOf]; omega
      · have HD : Hid (l = m) := hide (tx_ext H.out (fun j hj => HA.out j (by omega)))
        go_wp2
        go_ret
        exact ⟨ret_bool (decide_eq_true HD.out).symm, HQ.out⟩
  · have hne : ((l.length : Int) != (m.length : Int)) = true := by simp; omega
    have HD : Hid (l ≠ m) := hide (fun e => hlen (by rw [e]))
    clear hlen
    go_enter Try.func16, Try.ntmps16
    go_wp2
    go_ret
    exact ⟨ret_bool (decide_eq_false HD.out).symm, Drew.refl _⟩

/-- what few answers: true only of at most 60 texts of at most 3000 bytes in all -/
def FewR (l : List (List Nat)) (w : World) (e : Ending) (w' : World) : Prop := ∃ b : Bool, e = .returned (.bool b) ∧ (b = true → l.length ≤ 60 ∧ l.flatten.length ≤ 3000) ∧ w' = w
end Go.Proofs.Ytiedkpfpaeecfaa

/- Contract of apostilleref01.Back. -/
namespace Go.Proofs.Ytiedkpfpaeecfaa
open Go.RowKit
set_option linter.unusedVariables false

/-- the last k elements, the last one first -/
theorem rev_take_succ (l : List Nat) (k j : Nat) (h : j + 1 + k = l.length) : l.reverse.take (k + 1) = l.reverse.take k ++ [el l j] := by
  have hk : k < l.reverse.length := by simp; omega
  rw [List.take_succ_eq_append_getElem hk]
  congr 2
  rw [List.getElem_reverse, el_at (by omega)]
  congr 1
  omega

theorem Under.rev {m : Nat} {l : List Nat} (h : Under m l) : Under m l.reverse := fun x hx => h x (List.mem_reverse.1 hx)
theorem Under.take' {m : Nat} {l : List Nat} (h : Under m l) (k : Nat) : Under m (l.take k) := fun x hx => h x (List.mem_of_mem_take hx)

end Go.Proofs.Ytiedkpfpaeecfaa
