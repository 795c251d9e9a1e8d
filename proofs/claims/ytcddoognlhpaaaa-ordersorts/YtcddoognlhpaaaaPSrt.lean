/- Whether texts are in order: order.Sorted, order.Strict, the document's; whether two lists are the same; how often a text is there. -/
import Derived.Test.YtcddoognlhpaaaaPCmp
import Derived.Deep.RegionWith
namespace Go.Proofs.Ytcddoognlhpaaaa
open Go.RowKit
set_option linter.unusedVariables false

/-- a slice of texts, its value written out -/
theorem Rows2.opens {w : World} {v : Value} {ls : List (List Nat)} (h : Rows2 w v ls) : ∃ a cap, v = .slice a ls.length cap ∧ ls.length ≤ cap ∧ cap ≤ 9223372036854775807 ∧
    (0 < ls.length → ∃ b off, a = some ⟨b, off, none⟩ ∧ ∀ i, i < ls.length → ∃ u, w.cell? ⟨b, off + i, none⟩ = some u ∧ Row .u8 256 w u (tx ls i) ∧ Tidy u) := by
  obtain ⟨a, cap, rfl, h1, h2, h3⟩ := h
  unfold maxLen at h2
  exact ⟨a, cap, rfl, h1, by omega, h3⟩
theorem Rows2.drewN {w : World} {v : Value} {ls : List (List Nat)} (h : Rows2 w v ls) (q : Nat) : Rows2 (w.drewN q) v ls := h.below (below_drewN (Below.refl _ _) q)
theorem Rows2.all {w : World} {a : Option Addr} {n cap : Nat} {ls : List (List Nat)} (h : Rows2 w (.slice a n cap) ls) (hl : 0 < ls.length) :
    ∃ b off, a = some ⟨b, off, none⟩ ∧ ∀ i, i < ls.length → ∃ u, w.cell? ⟨b, off + i, none⟩ = some u ∧ Row .u8 256 w u (tx ls i) ∧ Tidy u := by
  obtain ⟨a', cap', he, h1, h2, h3⟩ := h
  simp at he
  obtain ⟨rfl, rfl, rfl⟩ := he
  exact h3 hl
/-- a world that has only drawn -/
def Drew (w w' : World) : Prop := ∃ q, w' = w.drewN q
theorem Drew.refl (w : World) : Drew w w := ⟨0, rfl⟩
theorem Drew.more {w w' : World} (h : Drew w w') (n : Nat) : Drew w (w'.drewN n) := by
  obtain ⟨q, rfl⟩ := h
  exact ⟨_, World.drewN_drewN _ _ _⟩
theorem Drew.more2 {w w' : World} (h : Drew w w') (n m : Nat) : Drew w ((w'.drewN n).drewN m) := (h.more n).more m
theorem Drew.rows {w w' : World} (h : Drew w w') {v : Value} {ls : List (List Nat)} (hr : Rows2 w v ls) : Rows2 w' v ls := by
  obtain ⟨q, rfl⟩ := h
  exact hr.drewN q
theorem Drew.row {w w' : World} (h : Drew w w') {v : Value} {l : List Nat} (hr : Row .u8 256 w v l) : Row .u8 256 w' v l := by
  obtain ⟨q, rfl⟩ := h
  exact hr.drewN q
theorem Drew.below {w w' : World} (h : Drew w w') : Below w.heap.size w w' := by
  obtain ⟨q, rfl⟩ := h
  exact below_drewN (Below.refl _ _) q
set_option maxHeartbeats 1000000 in
theorem sorted_any (v : Value) (l : List (List Nat)) (w : World) (h : Rows2 w v l) :
    Calls Try.prog 13 #[v] w fun e w' => e = .returned (.bool (sortedB l)) ∧ Drew w w' := by
  obtain ⟨a, cap, rfl, h1, h2, h3⟩ := h.opens
  go_enter Try.func13, Try.ntmps13
  go_wp2
  go_loopw [3] (fun i wr => ∃ k : Nat, 1 ≤ k ∧ i = .int .i64 k ∧ Hid (Drew w wr) ∧ (k ≤ l.length ∨ k = 1) ∧ Hid (∀ j, 0 < j → j < k → lessL (tx l j) (tx l (j - 1)) = false)) (fun i _ => l.length - (intOf i).toNat)
  case atStart => exact ⟨1, Nat.le_refl _, rfl, hide (Drew.refl _), .inr rfl, hide (fun j _ _ => by omega)⟩
  case round =>
    obtain ⟨k, hk, rfl, HQ, hk2, HA⟩ := hrel
    by_cases hlt : k < l.length
    · obtain ⟨b, off, rfl, hc⟩ := (HQ.out.rows h).all (by omega)
      obtain ⟨u1, c1, r1, _⟩ := hc k hlt
      obtain ⟨u2, c2, r2, _⟩ := hc (k - 1) (by omega)
      clear hc
      obtain ⟨p, rfl⟩ : ∃ p, k = p + 1 := ⟨k - 1, by omega⟩
      rw [Nat.add_sub_cancel] at c2 r2
      have hcall := fun n => less_any u1 u2 _ _ (wr.drewN n) (r1.drewN n) (r2.drewN n)
      clear r1 r2
      have hi : 0 ≤ (p : Int) + 1 ∧ (p : Int) + 1 < l.length := by omega
      have hi2 : 0 ≤ (p : Int) ∧ (p : Int) < l.length := by omega
      have hwr : IntKind.i64.wrap (p : Int) = p := by rw [IntKind.wrap_i64]; omega
      cases hd : lessL (tx l (p + 1)) (tx l p) with
      | true =>
        rw [hd] at hcall
        have HD := hide (sorted_no (l := l) (i := p + 1) (by omega) hlt hd)
        clear hd
        go_wp2
        go_quiet (first | (go_at_call 8; exact Calls.quiet_of_same (hcall _)) | fail)
        go_wp2
        go_ret
        exact ⟨ret_bool HD.out.symm, HQ.out.more _⟩
      | false =>
        rw [hd] at hcall
        have HD := hide hd
        clear hd
        go_wp2
        go_quiet (first | (go_at_call 8; exact Calls.quiet_of_same (hcall _)) | fail)
        go_wp2
        go_roundw
        case rel => exact ⟨p + 2, by omega, by go_num, hide (HQ.out.more _), .inl (by omega), hide (fun j h0 hj => by
            by_cases hjp : j = p + 1
            · subst hjp; exact HD.out
            · exact HA.out j h0 (by omega))⟩
        case measure => simp [intOf]; omega
    · have HD : Hid (sortedB l = true) := hide ((sortedB_iff l).2 (fun j h0 hj => HA.out j h0 (by omega)))
      go_wp2
      go_ret
      exact ⟨ret_bool HD.out.symm, HQ.out⟩
set_option maxHeartbeats 1000000 in
theorem rsorted_any (v : Value) (l : List (List Nat)) (w : World) (h : Rows2 w v l) :
    Calls Try.prog 14 #[v] w fun e w' => e = .returned (.bool (sortedB l)) ∧ Drew w w' := by
  obtain ⟨a, cap, rfl, h1, h2, h3⟩ := h.opens
  go_enter Try.func14, Try.ntmps14
  go_wp2
  go_loopw [3] (fun i wr => ∃ k : Nat, 1 ≤ k ∧ i = .int .i64 k ∧ Hid (Drew w wr) ∧ (k ≤ l.length ∨ k = 1) ∧ Hid (∀ j, 0 < j → j < k → lessL (tx l j) (tx l (j - 1)) = false)) (fun i _ => l.length - (intOf i).toNat)
  case atStart => exact ⟨1, Nat.le_refl _, rfl, hide (Drew.refl _), .inr rfl, hide (fun j _ _ => by omega)⟩
  case round =>
    obtain ⟨k, hk, rfl, HQ, hk2, HA⟩ := hrel
    by_cases hlt : k < l.length
    · obtain ⟨b, off, rfl, hc⟩ := (HQ.out.rows h).all (by omega)
      obtain ⟨u1, c1, r1, _⟩ := hc k hlt
      obtain ⟨u2, c2, r2, _⟩ := hc (k - 1) (by omega)
      clear hc
      obtain ⟨p, rfl⟩ : ∃ p, k = p + 1 := ⟨k - 1, by omega⟩
      rw [Nat.add_sub_cancel] at c2 r2
      have hcall := fun n => rless_any u1 u2 _ _ (wr.drewN n) (r1.drewN n) (r2.drewN n)
      clear r1 r2
      have hi : 0 ≤ (p : Int) + 1 ∧ (p : Int) + 1 < l.length := by omega
      have hi2 : 0 ≤ (p : Int) ∧ (p : Int) < l.length := by omega
      have hwr : IntKind.i64.wrap (p : Int) = p := by rw [IntKind.wrap_i64]; omega
      cases hd : lessL (tx l (p + 1)) (tx l p) with
      | true =>
        rw [hd] at hcall
        have HD := hide (sorted_no (l := l) (i := p + 1) (by omega) hlt hd)
        clear hd
        go_wp2
        go_quiet (first | (go_at_call 9; exact Calls.quiet_of (hcall _)) | fail)
        go_wp2
        go_ret
        exact ⟨ret_bool HD.out.symm, HQ.out.more _⟩
      | false =>
        rw [hd] at hcall
        have HD := hide hd
        clear hd
        go_wp2
        go_quiet (first | (go_at_call 9; exact Calls.quiet_of (hcall _)) | fail)
        go_wp2
        go_roundw
        case rel => exact ⟨p + 2, by omega, by go_num, hide (HQ.out.more _), .inl (by omega), hide (fun j h0 hj => by
            by_cases hjp : j = p + 1
            · subst hjp; exact HD.out
            · exact HA.out j h0 (by omega))⟩
        case measure => simp [intOf]; omega
    · have HD : Hid (sortedB l = true) := hide ((sortedB_iff l).2 (fun j h0 hj => HA.out j h0 (by omega)))
      go_wp2
      go_ret
      exact ⟨ret_bool HD.out.symm, HQ.out⟩
set_option maxHeartbeats 1000000 in
theorem strict_any (v : Value) (l : List (List Nat)) (w : World) (h : Rows2 w v l) :
    Calls Try.prog 15 #[v] w fun e w' => e = .returned (.bool (strictB l)) ∧ Drew w w' := by
  obtain ⟨a, cap, rfl, h1, h2, h3⟩ := h.opens
  go_enter Try.func15, Try.ntmps15
  go_wp2
  go_loopw [3] (fun i wr => ∃ k : Nat, 1 ≤ k ∧ i = .int .i64 k ∧ Hid (Drew w wr) ∧ (k ≤ l.length ∨ k = 1) ∧ Hid (∀ j, 0 < j → j < k → lessL (tx l (j - 1)) (tx l j) = true)) (fun i _ => l.length - (intOf i).toNat)
  case atStart => exact ⟨1, Nat.le_refl _, rfl, hide (Drew.refl _), .inr rfl, hide (fun j _ _ => by omega)⟩
  case round =>
    obtain ⟨k, hk, rfl, HQ, hk2, HA⟩ := hrel
    by_cases hlt : k < l.length
    · obtain ⟨b, off, rfl, hc⟩ := (HQ.out.rows h).all (by omega)
      obtain ⟨u1, c1, r1, _⟩ := hc k hlt
      obtain ⟨u2, c2, r2, _⟩ := hc (k - 1) (by omega)
      clear hc
      obtain ⟨p, rfl⟩ : ∃ p, k = p + 1 := ⟨k - 1, by omega⟩
      rw [Nat.add_sub_cancel] at c2 r2
      have hcall := fun n => less_any u2 u1 _ _ (wr.drewN n) (r2.drewN n) (r1.drewN n)
      clear r1 r2
      have hi : 0 ≤ (p : Int) + 1 ∧ (p : Int) + 1 < l.length := by omega
      have hi2 : 0 ≤ (p : Int) ∧ (p : Int) < l.length := by omega
      have hwr : IntKind.i64.wrap (p : Int) = p := by rw [IntKind.wrap_i64]; omega
      cases hd : lessL (tx l p) (tx l (p + 1)) with
      | false =>
        rw [hd] at hcall
        have HD := hide (strict_no (l := l) (i := p + 1) (by omega) hlt hd)
        clear hd
        go_wp2
        go_quiet (first | (go_at_call 8; exact Calls.quiet_of_same (hcall _)) | fail)
        go_wp2
        go_ret
        exact ⟨ret_bool HD.out.symm, HQ.out.more _⟩
      | true =>
        rw [hd] at hcall
        have HD := hide hd
        clear hd
        go_wp2
        go_quiet (first | (go_at_call 8; exact Calls.quiet_of_same (hcall _)) | fail)
        go_wp2
        go_roundw
        case rel => exact ⟨p + 2, by omega, by go_num, hide (HQ.out.more _), .inl (by omega), hide (fun j h0 hj => by
            by_cases hjp : j = p + 1
            · subst hjp; exact HD.out
            · exact HA.out j h0 (by omega))⟩
        case measure => simp [intOf]; omega
    · have HD : Hid (strictB l = true) := hide ((strictB_iff l).2 (fun j h0 hj => HA.out j h0 (by omega)))
      go_wp2
      go_ret
      exact ⟨ret_bool HD.out.symm, HQ.out⟩
set_option maxHeartbeats 1000000 in
theorem rstrict_any (v : Value) (l : List (List Nat)) (w : World) (h : Rows2 w v l) :
    Calls Try.prog 16 #[v] w fun e w' => e = .returned (.bool (strictB l)) ∧ Drew w w' := by
  obtain ⟨a, cap, rfl, h1, h2, h3⟩ := h.opens
  go_enter Try.func16, Try.ntmps16
  go_wp2
  go_loopw [3] (fun i wr => ∃ k : Nat, 1 ≤ k ∧ i = .int .i64 k ∧ Hid (Drew w wr) ∧ (k ≤ l.length ∨ k = 1) ∧ Hid (∀ j, 0 < j → j < k → lessL (tx l (j - 1)) (tx l j) = true)) (fun i _ => l.length - (intOf i).toNat)
  case atStart => exact ⟨1, Nat.le_refl _, rfl, hide (Drew.refl _), .inr rfl, hide (fun j _ _ => by omega)⟩
  case round =>
    obtain ⟨k, hk, rfl, HQ, hk2, HA⟩ := hrel
    by_cases hlt : k < l.length
    · obtain ⟨b, off, rfl, hc⟩ := (HQ.out.rows h).all (by omega)
      obtain ⟨u1, c1, r1, _⟩ := hc k hlt
      obtain ⟨u2, c2, r2, _⟩ := hc (k - 1) (by omega)
      clear hc
      obtain ⟨p, rfl⟩ : ∃ p, k = p + 1 := ⟨k - 1, by omega⟩
      rw [Nat.add_sub_cancel] at c2 r2
      have hcall := fun n => rless_any u2 u1 _ _ (wr.drewN n) (r2.drewN n) (r1.drewN n)
      clear r1 r2
      have hi : 0 ≤ (p : Int) + 1 ∧ (p : Int) + 1 < l.length := by omega
      have hi2 : 0 ≤ (p : Int) ∧ (p : Int) < l.length := by omega
      have hwr : IntKind.i64.wrap (p : Int) = p := by rw [IntKind.wrap_i64]; omega
      cases hd : lessL (tx l p) (tx l (p + 1)) with
      | false =>
        rw [hd] at hcall
        have HD := hide (strict_no (l := l) (i := p + 1) (by omega) hlt hd)
        clear hd
        go_wp2
        go_quiet (first | (go_at_call 9; exact Calls.quiet_of (hcall _)) | fail)
        go_wp2
        go_ret
        exact ⟨ret_bool HD.out.symm, HQ.out.more _⟩
      | true =>
        rw [hd] at hcall
        have HD := hide hd
        clear hd
        go_wp2
        go_quiet (first | (go_at_call 9; exact Calls.quiet_of (hcall _)) | fail)
        go_wp2
        go_roundw
        case rel => exact ⟨p + 2, by omega, by go_num, hide (HQ.out.more _), .inl (by omega), hide (fun j h0 hj => by
            by_cases hjp : j = p + 1
            · subst hjp; exact HD.out
            · exact HA.out j h0 (by omega))⟩
        case measure => simp [intOf]; omega
    · have HD : Hid (strictB l = true) := hide ((strictB_iff l).2 (fun j h0 hj => HA.out j h0 (by omega)))
      go_wp2
      go_ret
      exact ⟨ret_bool HD.out.symm, HQ.out⟩

theorem tx_ext {l m : List (List Nat)} (h : l.length = m.length) (he : ∀ i, i < l.length → tx l i = tx m i) : l = m := by
  apply List.ext_getElem h
  intro i h1 h2
  have := he i h1
  rwa [tx_at h1, tx_at h2] at this

set_option maxHeartbeats 2000000 in
theorem rsame2_any (va vb : Value) (l m : List (List Nat)) (w : World) (ha : Rows2 w va l) (hb : Rows2 w vb m) :
    Calls Try.prog 10 #[va, vb] w fun e w' => e = .returned (.bool (decide (l = m))) ∧ Drew w w' := by
  obtain ⟨a, ca, rfl, ha1, ha2, ha3⟩ := ha.opens
  obtain ⟨b, cb, rfl, hb1, hb2, hb3⟩ := hb.opens
  by_cases hlen : l.length = m.length
  · have hne : ((l.length : Int) != (m.length : Int)) = false := by simp [hlen]
    have H : Hid (l.length = m.length) := hlen
    have hle1 : l.length ≤ m.length := by omega
    have hle2 : m.length ≤ l.length := by omega
    clear hlen
    go_enter Try.func10, Try.ntmps10
    go_wp2
    go_loopw [5] (fun i wr => ∃ k : Nat, k ≤ l.length ∧ i = .int .i64 k ∧ Hid (Drew w wr) ∧ Hid (∀ j, j < k → tx l j = tx m j)) (fun i _ => l.length - (intOf i).toNat)
    case atStart => exact ⟨0, Nat.zero_le _, rfl, hide (Drew.refl _), hide (fun j hj => by omega)⟩
    case round =>
      obtain ⟨k, hk, rfl, HQ, HA⟩ := hrel
      by_cases hlt : k < l.length
      · obtain ⟨ba, oa, rfl, hca⟩ := (HQ.out.rows ha).all (by omega)
        obtain ⟨bb, ob, rfl, hcb⟩ := (HQ.out.rows hb).all (by omega)
        obtain ⟨u1, c1, r1, _⟩ := hca k hlt
        obtain ⟨u2, c2, r2, _⟩ := hcb k (by omega)
        clear hca hcb
        have hlt2 : k < m.length := by omega
        have hcall := fun n => rless_any u1 u2 _ _ (wr.drewN n) (r1.drewN n) (r2.drewN n)
        have hcall2 := fun n => rless_any u2 u1 _ _ (wr.drewN n) (r2.drewN n) (r1.drewN n)
        clear r1 r2
        cases hd : lessL (tx l k) (tx m k) with
        | true =>
          rw [hd] at hcall
          have HD : Hid (l ≠ m) := hide (fun e => by subst e; rw [less_self] at hd; cases hd)
          clear hd
          go_wp2
          go_quiet (first | (go_at_call 9; exact Calls.quiet_of (hcall _)) | fail)
          go_wp2
          go_ret
          exact ⟨ret_bool (decide_eq_false HD.out).symm, HQ.out.more _⟩
        | false =>
          rw [hd] at hcall
          cases hd2 : lessL (tx m k) (tx l k) with
          | true =>
            rw [hd2] at hcall2
            have HD : Hid (l ≠ m) := hide (fun e => by subst e; rw [less_self] at hd2; cases hd2)
            clear hd hd2
            go_wp2
            go_quiet (first | (go_at_call_of 9 (#[u1, u2]); exact Calls.quiet_of (hcall _)) | (go_at_call_of 9 (#[u2, u1]); exact Calls.quiet_of (hcall2 _)) | fail)
            go_wp2
            go_ret
            exact ⟨ret_bool (decide_eq_false HD.out).symm, HQ.out.more _⟩
          | false =>
            rw [hd2] at hcall2
            have HD := hide (less_total _ _ hd hd2)
            clear hd hd2
            go_wp2
            go_quiet (first | (go_at_call_of 9 (#[u1, u2]); exact Calls.quiet_of (hcall _)) | (go_at_call_of 9 (#[u2, u1]); exact Calls.quiet_of (hcall2 _)) | fail)
            go_wp2
            go_roundw
            case rel => exact ⟨k + 1, by omega, by go_num, hide (HQ.out.more _), hide (fun j hj => by
                by_cases hjk : j = k
                · subst hjk; exact HD.out
                · exact HA.out j (by omega))⟩
            case measure => simp [intOf]; omega
      · have HD : Hid (l = m) := hide (tx_ext H.out (fun j hj => HA.out j (by omega)))
        go_wp2
        go_ret
        exact ⟨ret_bool (decide_eq_true HD.out).symm, HQ.out⟩
  · have hne : ((l.length : Int) != (m.length : Int)) = true := by simp; omega
    have HD : Hid (l ≠ m) := hide (fun e => hlen (by rw [e]))
    clear hlen
    go_enter Try.func10, Try.ntmps10
    go_wp2
    go_ret
    exact ⟨ret_bool (decide_eq_false HD.out).symm, Drew.refl _⟩

set_option maxHeartbeats 2000000 in
theorem count_any (va vx : Value) (l : List (List Nat)) (x : List Nat) (w : World) (ha : Rows2 w va l) (hx : Row .u8 256 w vx x) :
    Calls Try.prog 19 #[va, vx] w fun e w' => e = .returned (.int .i64 (cnt l x : Nat)) ∧ Drew w w' := by
  obtain ⟨a, ca, rfl, ha1, ha2, ha3⟩ := ha.opens
  go_enter Try.func19, Try.ntmps19
  go_wp2
  go_loopw [5, 10] (fun n i wr => ∃ k c : Nat, k ≤ l.length ∧ i = .int .i64 k ∧ n = .int .i64 c ∧ c ≤ k ∧ Hid (Drew w wr) ∧ Hid (cnt (l.take k) x = c)) (fun _ i _ => l.length - (intOf i).toNat)
  case atStart => exact ⟨0, 0, Nat.zero_le _, rfl, rfl, Nat.le_refl _, hide (Drew.refl _), hide rfl⟩
  case round =>
    obtain ⟨k, c, hk, rfl, rfl, hck, HQ, HA⟩ := hrel
    by_cases hlt : k < l.length
    · obtain ⟨ba, oa, rfl, hca⟩ := (HQ.out.rows ha).all (by omega)
      obtain ⟨u1, c1, r1, _⟩ := hca k hlt
      clear hca
      have hcall := fun n => rless_any vx u1 _ _ (wr.drewN n) ((HQ.out.row hx).drewN n) (r1.drewN n)
      have hcall2 := fun n => rless_any u1 vx _ _ (wr.drewN n) (r1.drewN n) ((HQ.out.row hx).drewN n)
      clear r1
      have HS := cnt_snoc (l.take k) (tx l k) x
      rw [← take_tx hlt, HA.out] at HS
      cases hd : lessL x (tx l k) with
      | true =>
        rw [hd] at hcall HS
        replace HS : Hid (cnt (l.take (k + 1)) x = c) := hide (by rw [HS]; simp)
        clear hd
        go_wp2_with fail
        refine (hcall 0).mono ?_
        rintro e w1 ⟨rfl, q1, rfl⟩
        go_wp2
        go_roundw
        case rel => exact ⟨k + 1, c, by omega, by go_num, rfl, by omega, hide (HQ.out.more _), HS⟩
        case measure => simp [intOf]; omega
      | false =>
        rw [hd] at hcall HS
        cases hd2 : lessL (tx l k) x with
        | true =>
          rw [hd2] at hcall2 HS
          replace HS : Hid (cnt (l.take (k + 1)) x = c) := hide (by rw [HS]; simp)
          clear hd hd2
          go_wp2_with fail
          refine (hcall 0).mono ?_
          rintro e w1 ⟨rfl, q1, rfl⟩
          go_wp2_with fail
          refine (hcall2 q1).mono ?_
          rintro e w1 ⟨rfl, q2, rfl⟩
          go_wp2
          go_roundw
          case rel => exact ⟨k + 1, c, by omega, by go_num, rfl, by omega, hide (HQ.out.more _), HS⟩
          case measure => simp [intOf]; omega
        | false =>
          rw [hd2] at hcall2 HS
          replace HS : Hid (cnt (l.take (k + 1)) x = c + 1) := hide (by rw [HS]; simp)
          clear hd hd2
          go_wp2_with fail
          refine (hcall 0).mono ?_
          rintro e w1 ⟨rfl, q1, rfl⟩
          go_wp2_with fail
          refine (hcall2 q1).mono ?_
          rintro e w1 ⟨rfl, q2, rfl⟩
          go_wp2
          go_roundw
          case rel => exact ⟨k + 1, c + 1, by omega, by go_num, by go_num, by omega, hide (HQ.out.more _), HS⟩
          case measure => simp [intOf]; omega
    · have HD : Hid (c = cnt l x) := hide (by have h := HA.out; rw [List.take_of_length_le (by omega)] at h; exact h.symm)
      go_wp2
      go_ret
      exact ⟨ret_int (by rw [HD.out]), HQ.out⟩

/-- what few answers: true only of at most 60 texts of at most 3000 bytes in all -/
def FewR (l : List (List Nat)) (w : World) (e : Ending) (w' : World) : Prop := ∃ b : Bool, e = .returned (.bool b) ∧ (b = true → l.length ≤ 60 ∧ l.flatten.length ≤ 3000) ∧ w' = w
set_option maxHeartbeats 1000000 in
theorem few_any (v : Value) (l : List (List Nat)) (w : World) (h : Rows2 w v l) :
    Calls Try.prog 6 #[v] w fun e w' => FewR l w e w' := by
  obtain ⟨a, cap, rfl, h1, h2, h3⟩ := h.opens
  by_cases hbig : 60 < l.length
  · have g1 : ((60 : Int) < (l.length : Int)) := by omega
    go_enter Try.func6, Try.ntmps6
    go_wp2
    go_ret
    exact ⟨false, rfl, fun e => (by cases e), rfl⟩
  · have g1 : ¬ ((60 : Int) < (l.length : Int)) := by omega
    go_enter Try.func6, Try.ntmps6
    go_wp2
    go_loop [3, 11] (fun n i => ∃ k c : Nat, k ≤ l.length ∧ i = .int .i64 k ∧ n = .int .i64 c ∧ c ≤ 3000 ∧ Hid ((l.take k).flatten.length + c = 3000)) (fun _ i => l.length - (intOf i).toNat)
    case atStart => exact ⟨0, 3000, Nat.zero_le _, rfl, rfl, Nat.le_refl _, hide rfl⟩
    case round =>
      obtain ⟨k, c, hk, rfl, rfl, hc3, HA⟩ := hrel
      by_cases hlt : k < l.length
      · obtain ⟨b, off, rfl, hc⟩ := h3 (by omega)
        obtain ⟨u1, c1, ⟨a1, cap1, rfl, hl1, hm1, _, _⟩, _⟩ := hc k hlt
        clear hc
        have HS : Hid ((l.take (k + 1)).flatten.length = (l.take k).flatten.length + (tx l k).length) := hide (by rw [flat_succ hlt, List.length_append])
        unfold maxLen at hm1
        generalize hn : (tx l k).length = n at *
        clear hn
        by_cases hb : n ≤ 3001
        · by_cases hs : c < n
          · have g2 : (n : Int) ≤ 3001 := by omega
            have g3 : ((c : Int) - (n : Int) < 0) := by omega
            go_wp2
            all_goals go_ret
            all_goals exact ⟨false, rfl, fun e => (by cases e), rfl⟩
          · have g2 : (n : Int) ≤ 3001 := by omega
            have g3 : ¬ ((c : Int) - (n : Int) < 0) := by omega
            go_wp2
            go_round
            case rel => exact ⟨k + 1, c - n, by omega, by go_num, by go_num, by omega, hide (by rw [HS.out]; have := HA.out; omega)⟩
            case measure => simp [intOf]; omega
        · have g2 : ¬ (n : Int) ≤ 3001 := by omega
          have g3 : ((c : Int) - 3001 < 0) := by omega
          go_wp2
          all_goals go_ret
          all_goals exact ⟨false, rfl, fun e => (by cases e), rfl⟩
      · have HD : Hid (l.flatten.length ≤ 3000) := hide (by have h := HA.out; rw [List.take_of_length_le (by omega)] at h; omega)
        go_wp2
        go_ret
        exact ⟨true, rfl, fun _ => ⟨by omega, HD.out⟩, rfl⟩
end Go.Proofs.Ytcddoognlhpaaaa
