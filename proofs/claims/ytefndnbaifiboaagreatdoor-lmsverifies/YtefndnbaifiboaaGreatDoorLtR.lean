/- Trees of leaves that sign once: the document's Code, height, digit, over, leafSum. -/
import Derived.Test.YtefndnbaifiboaaGreatDoorLmC
import Derived.Test.YtefndnbaifiboaaGreatDoorGSum
import Derived.Test.YtefndnbaifiboaaGreatDoorHRes32
import Derived.Test.YtefndnbaifiboaaGreatDoorBase
import Derived.Deep.AppendLies
import Derived.Laws.AppendOwnNone
import Derived.ArgAppend
namespace Go.Proofs.YtefndnbaifiboaaGreatDoor
open Go.RowKit
set_option linter.unusedVariables false
set_option linter.unusedSimpArgs false

/-- the first number from f on that is meant, of k; 0: none is -/
def findN (P : Nat → Bool) : Nat → Nat → Nat
  | _, 0 => 0
  | f, k + 1 => if P f = true then f else findN P (f + 1) k
def hgtL (c : Nat) : Nat := findN (fun h : Nat => decide (lmCode (h : Int) = c ∧ c ≠ 0)) 1 25
def kdC (w : Nat) : Nat := if w = 1 then 1 else if w = 2 then 2 else if w = 4 then 3 else if w = 8 then 4 else 0
def dgtL (c : Nat) : Nat := findN (fun w => decide (kdC w = c ∧ c ≠ 0)) 1 8
set_option maxHeartbeats 4000000 in
set_option maxRecDepth 100000 in
theorem rcode_any (h : Int) (w : World) : Calls Tryz.prog 36 #[.int .i64 h] w fun e w' => e = .returned (.int .u64 (lmCode h : Nat)) ∧ w' = w := by
  by_cases h1 : 1 ≤ h
  · by_cases h4 : h ≤ 4
    · obtain ⟨n, rfl⟩ : ∃ n : Nat, h = (n : Int) := ⟨h.toNat, by omega⟩
      obtain ⟨C, hC⟩ : ∃ C : Nat, C = 3758096384 + n := ⟨_, rfl⟩
      have e0 : lmCode (n : Int) = C := by unfold lmCode; rw [if_pos ⟨h1, h4⟩, hC]; rfl
      rw [e0]
      have u_n : IntKind.u64.wrap (n : Int) = (n : Int) := by rw [IntKind.wrap_u64]; omega
      have e_C : (3758096384 : Int) + (n : Int) = (C : Int) := by omega
      have u_C : IntKind.u64.wrap (C : Int) = (C : Int) := by rw [IntKind.wrap_u64]; omega
      clear hC e0
      go_enter Tryz.func36, Tryz.ntmps36
      go_wp2
      go_ret
      exact ⟨rfl, rfl⟩
    · have h5 : 5 ≤ h := by omega
      by_cases h25 : h ≤ 25
      · by_cases hm : h % 5 = 0
        · have hk : h = 5 ∨ h = 10 ∨ h = 15 ∨ h = 20 ∨ h = 25 := by omega
          clear h1 h4 h5 h25 hm
          rcases hk with hk | hk | hk | hk | hk <;> subst hk
          · go_enter Tryz.func36, Tryz.ntmps36
            go_wp2
            go_ret
            exact ⟨rfl, rfl⟩
          · go_enter Tryz.func36, Tryz.ntmps36
            go_wp2
            go_ret
            exact ⟨rfl, rfl⟩
          · go_enter Tryz.func36, Tryz.ntmps36
            go_wp2
            go_ret
            exact ⟨rfl, rfl⟩
          · go_enter Tryz.func36, Tryz.ntmps36
            go_wp2
            go_ret
            exact ⟨rfl, rfl⟩
          · go_enter Tryz.func36, Tryz.ntmps36
            go_wp2
            go_ret
            exact ⟨rfl, rfl⟩
        · have e0 : lmCode h = 0 := by unfold lmCode; rw [if_neg (by omega), if_neg (by omega)]
          rw [e0]
          have hb : (h % 5 == 0) = false := by simp [hm]
          have ht : ¬ h.tmod 5 = 0 := by rw [Int.tmod_eq_emod_of_nonneg (by omega)]; exact hm
          clear e0
          go_enter Tryz.func36, Tryz.ntmps36
          go_wp2
          go_ret
          exact ⟨rfl, rfl⟩
      · have e0 : lmCode h = 0 := by unfold lmCode; rw [if_neg (by omega), if_neg (by omega)]
        rw [e0]
        clear e0
        go_enter Tryz.func36, Tryz.ntmps36
        go_wp2
        go_ret
        exact ⟨rfl, rfl⟩
  · have e0 : lmCode h = 0 := by unfold lmCode; rw [if_neg (by omega), if_neg (by omega)]
    rw [e0]
    have h5 : ¬ 5 ≤ h := by omega
    clear e0
    go_enter Tryz.func36, Tryz.ntmps36
    go_wp2
    go_ret
    exact ⟨rfl, rfl⟩
def FnL (P : Nat → Bool) (T k0 : Nat) (vi : Value) (w wr : World) : Prop := ∃ f k : Nat, f + k = T ∧ 1 ≤ f ∧ vi = .int .i64 (f : Int) ∧ findN P f k = k0 ∧ wr = w
set_option maxHeartbeats 4000000 in
set_option maxRecDepth 100000 in
theorem rheight_any (c : Nat) (w : World) (hc : c < 18446744073709551616) : Calls Tryz.prog 43 #[.int .u64 (c : Int)] w fun e w' => e = .returned (.int .i64 (hgtL c : Nat)) ∧ w' = w := by
  obtain ⟨P, hP⟩ : ∃ P : Nat → Bool, P = fun h : Nat => decide (lmCode (h : Int) = c ∧ c ≠ 0) := ⟨_, rfl⟩
  have hr : hgtL c = findN P 1 25 := by unfold hgtL; rw [hP]
  rw [hr]
  obtain ⟨R, hR⟩ : ∃ R, R = findN P 1 25 := ⟨_, rfl⟩
  rw [← hR]
  have hcd := fun h y => rcode_any h y
  have H0 : Hid (FnL P 26 R (.int .i64 1) w w) := hide ⟨1, 25, rfl, Nat.le_refl _, rfl, hR.symm, rfl⟩
  have HP := hide hP
  clear hP hr hR
  go_enter Tryz.func43, Tryz.ntmps43
  go_wp2
  go_loopw [3] (fun vi wr => FnL P 26 R vi w wr) (fun vi _ => 26 - (intOf vi).toNat)
  case atStart => exact H0.out
  case round =>
    obtain ⟨f, k, hfk, hf1, rfl, hfn, rfl⟩ := hrel
    clear H0
    by_cases hlt : f ≤ 25
    · obtain ⟨k', rfl⟩ : ∃ k', k = k' + 1 := ⟨k - 1, by omega⟩
      have hle : (f : Int) ≤ 25 := by omega
      have hst : (if P f = true then f else findN P (f + 1) k') = R := hfn
      obtain ⟨X, hX⟩ : ∃ X : Nat, X = lmCode (f : Int) := ⟨_, rfl⟩
      have hcf := hcd (f : Int)
      rw [← hX] at hcf
      have hPf : P f = decide (X = c ∧ c ≠ 0) := by rw [HP.out, hX]
      obtain ⟨I, hI⟩ : ∃ I : Nat, I = f + 1 := ⟨_, rfl⟩
      have e_I : (f : Int) + 1 = (I : Int) := by omega
      have s_I : IntKind.i64.wrap (I : Int) = (I : Int) := by rw [IntKind.wrap_i64]; omega
      have HK := hide (And.intro hst (And.intro hX (And.intro hPf (And.intro hI (And.intro hfk hlt)))))
      by_cases hq : X = c
      · by_cases hz : c = 0
        · have hq' : ((X : Int) == (c : Int)) = true := by simp [hq]
          have hzb : ((c : Int) != 0) = false := by simp [hz]
          have HQ := hide (And.intro hq hz)
          clear hst hX hPf hI hfn hfk hlt hq hz
          go_wp2_with (first | (go_at_call 36; refine (hcf _).mono ?_; rintro e yy ⟨rfl, hy⟩; obtain rfl := hy.symm) | fail)
          obtain ⟨hst, hX, hPf, hI, hfk, hlt⟩ := HK.out
          obtain ⟨hq, hz⟩ := HQ.out
          go_roundw
          case rel => exact ⟨f + 1, k', by omega, by omega, vint (by omega), by rw [← hst, if_neg (by rw [hPf]; simp [hz])], rfl⟩
          case measure => simp [intOf]; omega
        · have hqi : (X : Int) = (c : Int) := by omega
          have hzi : ¬ (c : Int) = 0 := by omega
          have HQ := hide (And.intro hq hz)
          clear hst hX hPf hI hfn hfk hlt hq hz
          go_wp2_with (first | (go_at_call 36; refine (hcf _).mono ?_; rintro e yy ⟨rfl, hy⟩; obtain rfl := hy.symm) | fail)
          go_ret
          obtain ⟨hst, hX, hPf, hI, hfk, hlt⟩ := HK.out
          obtain ⟨hq, hz⟩ := HQ.out
          exact ⟨by rw [← hst, if_pos (by rw [hPf]; simp [hq, hz])]; rfl, rfl⟩
      · have hqi : ¬ (X : Int) = (c : Int) := by omega
        have HQ := hide hq
        clear hst hX hPf hI hfn hfk hlt hq
        go_wp2_with (first | (go_at_call 36; refine (hcf _).mono ?_; rintro e yy ⟨rfl, hy⟩; obtain rfl := hy.symm) | fail)
        obtain ⟨hst, hX, hPf, hI, hfk, hlt⟩ := HK.out
        go_roundw
        case rel => exact ⟨f + 1, k', by omega, by omega, vint (by omega), by rw [← hst, if_neg (by rw [hPf]; simp [HQ.out])], rfl⟩
        case measure => simp [intOf]; omega
    · obtain rfl : k = 0 := by omega
      have hR0 : R = 0 := hfn.symm
      have hge : ¬ (f : Int) ≤ 25 := by omega
      rw [hR0]
      clear hfn hfk hlt
      go_wp2
      go_ret
      exact ⟨rfl, rfl⟩
theorem rkind_any (f : Nat) (y : World) : ∃ a b : Int, Calls Tryz.prog 58 #[.int .i64 (f : Int)] y fun e y' => e = .returned (.tuple #[.int .i64 a, .int .i64 b, .int .u64 (kdC f : Nat)]) ∧ y' = y := by
  rcases kd_or (f : Int) with h | ⟨w, n, m, s, c, e, h⟩
  · refine ⟨0, 0, ?_⟩
    have e0 : kdC f = 0 := by
      obtain ⟨h1, h2, h4, h8⟩ := h
      unfold kdC
      rw [if_neg (by omega), if_neg (by omega), if_neg (by omega), if_neg (by omega)]
    rw [e0]
    exact rkind_no _ y h
  · refine ⟨((n + m : Nat) : Int), (s : Int), ?_⟩
    have e1 : f = w := by omega
    have e0 : kdC f = c := by rw [e1]; cases h <;> rfl
    rw [e0, e]
    exact rkind_ok y h
set_option maxHeartbeats 4000000 in
set_option maxRecDepth 100000 in
theorem rdigit_any (c : Nat) (w : World) (hc : c < 18446744073709551616) : Calls Tryz.prog 41 #[.int .u64 (c : Int)] w fun e w' => e = .returned (.int .i64 (dgtL c : Nat)) ∧ w' = w := by
  obtain ⟨P, hP⟩ : ∃ P : Nat → Bool, P = fun h => decide (kdC h = c ∧ c ≠ 0) := ⟨_, rfl⟩
  have hr : dgtL c = findN P 1 8 := by unfold dgtL; rw [hP]
  rw [hr]
  obtain ⟨R, hR⟩ : ∃ R, R = findN P 1 8 := ⟨_, rfl⟩
  rw [← hR]
  have hcd := fun h y => rkind_any h y
  have H0 : Hid (FnL P 9 R (.int .i64 1) w w) := hide ⟨1, 8, rfl, Nat.le_refl _, rfl, hR.symm, rfl⟩
  have HP := hide hP
  clear hP hr hR
  go_enter Tryz.func41, Tryz.ntmps41
  go_wp2
  go_loopw [3] (fun vi wr => FnL P 9 R vi w wr) (fun vi _ => 9 - (intOf vi).toNat)
  case atStart => exact H0.out
  case round =>
    obtain ⟨f, k, hfk, hf1, rfl, hfn, rfl⟩ := hrel
    clear H0
    by_cases hlt : f ≤ 8
    · obtain ⟨k', rfl⟩ : ∃ k', k = k' + 1 := ⟨k - 1, by omega⟩
      have hle : (f : Int) ≤ 8 := by omega
      have hst : (if P f = true then f else findN P (f + 1) k') = R := hfn
      obtain ⟨X, hX⟩ : ∃ X : Nat, X = kdC f := ⟨_, rfl⟩
      obtain ⟨ka, kb, hcf⟩ := hcd f wr
      rw [← hX] at hcf
      have hPf : P f = decide (X = c ∧ c ≠ 0) := by rw [HP.out, hX]
      obtain ⟨I, hI⟩ : ∃ I : Nat, I = f + 1 := ⟨_, rfl⟩
      have e_I : (f : Int) + 1 = (I : Int) := by omega
      have s_I : IntKind.i64.wrap (I : Int) = (I : Int) := by rw [IntKind.wrap_i64]; omega
      have HK := hide (And.intro hst (And.intro hX (And.intro hPf (And.intro hI (And.intro hfk hlt)))))
      by_cases hq : X = c
      · subst hq
        by_cases hz : X = 0
        · have hzb : ((X : Int) != 0) = false := by simp [hz]
          have HQ := hide hz
          clear hst hX hPf hI hfn hfk hlt hz
          go_wp2_with (first | (go_at_call 58; refine hcf.mono ?_; rintro e yy ⟨rfl, hy⟩; obtain rfl := hy.symm) | fail)
          obtain ⟨hst, hX, hPf, hI, hfk, hlt⟩ := HK.out
          go_roundw
          case rel => exact ⟨f + 1, k', by omega, by omega, vint (by omega), by rw [← hst, if_neg (by rw [hPf]; simp [HQ.out])], rfl⟩
          case measure => simp [intOf]; omega
        · have hzi : ¬ (X : Int) = 0 := by omega
          have HQ := hide hz
          clear hst hX hPf hI hfn hfk hlt hz
          go_wp2_with (first | (go_at_call 58; refine hcf.mono ?_; rintro e yy ⟨rfl, hy⟩; obtain rfl := hy.symm) | fail)
          go_ret
          obtain ⟨hst, hX, hPf, hI, hfk, hlt⟩ := HK.out
          exact ⟨by rw [← hst, if_pos (by rw [hPf]; simp [HQ.out])]; rfl, rfl⟩
      · have hqi : ¬ (X : Int) = (c : Int) := by omega
        have HQ := hide hq
        clear hst hX hPf hI hfn hfk hlt hq
        go_wp2_with (first | (go_at_call 58; refine hcf.mono ?_; rintro e yy ⟨rfl, hy⟩; obtain rfl := hy.symm) | fail)
        obtain ⟨hst, hX, hPf, hI, hfk, hlt⟩ := HK.out
        go_roundw
        case rel => exact ⟨f + 1, k', by omega, by omega, vint (by omega), by rw [← hst, if_neg (by rw [hPf]; simp [HQ.out])], rfl⟩
        case measure => simp [intOf]; omega
    · obtain rfl : k = 0 := by omega
      have hR0 : R = 0 := hfn.symm
      have hge : ¬ (f : Int) ≤ 8 := by omega
      rw [hR0]
      clear hfn hfk hlt
      go_wp2
      go_ret
      exact ⟨rfl, rfl⟩
end Go.Proofs.YtefndnbaifiboaaGreatDoor

/- append of whatever row, apart from mac's and aes'. -/
namespace Go.Proofs.YtefndnbaifiboaaGreatDoor
open Go.RowKit
set_option linter.unusedVariables false
set_option linter.unusedSimpArgs false

theorem tidy_atA (x : Addr) (n c : Nat) : Tidy (.slice (some x) n c) := fun n c he => by simp at he
theorem own_belowA {w w' : World} {base : Nat} {e : TypeId} {size : Nat} {v : Value} {n : Nat} {xs : List Value} (h : w.ownsRow base e size v n xs) (hb : Below w.heap.size w w') : w'.ownsRow base e size v n xs := by
  obtain ⟨h1, h2⟩ := h
  refine ⟨h1, ?_⟩
  rcases h2 with h2 | ⟨g, cap, cur, rfl, h3, h4, h5⟩
  · exact .inl h2
  · refine .inr ⟨g, cap, cur, rfl, h3, ?_, h5⟩
    rw [hb.block g (by
      rcases Nat.lt_or_ge g w.heap.size with hlt | hge
      · exact hlt
      · rw [Array.getElem?_eq_none hge] at h4; cases h4)]
    exact h4
theorem own_sliceA {w : World} {base : Nat} {e : TypeId} {v : Value} {n : Nat} {xs : List Value} (h : w.ownsRow base e 1 v n xs) : ∃ a c, v = .slice a n c := by
  obtain ⟨_, ⟨rfl, h0⟩ | ⟨g, cap, cur, rfl, _⟩⟩ := h
  · exact ⟨none, 0, by rw [h0]⟩
  · exact ⟨_, _, rfl⟩
theorem row_tidyA {k : IntKind} {m : Nat} {w : World} {v : Value} {l : List Nat} (h : Row k m w v l) (hl : 0 < l.length) : Tidy v := by
  obtain ⟨a, c, rfl, _, _, h3, _⟩ := h
  obtain ⟨b, off, rfl, _⟩ := h3 hl
  exact tidy_atA _ _ _
/-- append of whatever row onto one of the call's own -/
theorem wpList_appA {w : World} {ops : Array Oper} {rest : List Oper} {o : Oper} {a : Act} {Q : Exit → Act → World → Prop} (hgd : o.guard = none) (s x : Operand) (ho : o.op = .call { callee := .builtin .append, args := #[s, x], argTypes := #[24, 24] })
    (base : Nat) (v bv : Value) (n : Nat) (l b : List Nat) (hs : a.eval s = v) (hown : w.ownsRow base 5 1 v n (vals .u8 l)) (hx : a.eval x = bv) (rb : Row .u8 256 w bv b) (tb : Tidy bv) (hn : n ≤ 1000000) (hb : b.length ≤ 1000000) (hbase : base ≤ w.heap.size)
    (h : ∀ v' w', w'.ownsRow base 5 1 v' (n + b.length) (vals .u8 (l ++ b)) → w.grownBy w' v.ownBlock → wpList Tryz.prog ops Q rest (a.put o.dst v') w') : wpList Tryz.prog ops Q (o :: rest) a w := by
  obtain ⟨i0, hi, hz0, hz1, hz2⟩ := info_parts Tryz.info5
  obtain ⟨ba, bc, rfl, h1, h2, h3, h4⟩ := rb
  cases ba with
  | none =>
    obtain ⟨h0, rfl⟩ := tb _ _ rfl
    obtain rfl := List.eq_nil_of_length_eq_zero h0
    refine wpList_append_own_none hgd s x 24 ho base 5 i0 1 Tryz.underlying24 hi _ _ _ hs hown hx ?_
    exact h v w (by rw [List.append_nil]; exact hown) ⟨rfl, rfl, rfl, Nat.le_refl _, fun _ _ _ => rfl⟩
  | some y =>
    refine wpList_append_own _ hgd s x 24 ho base 5 i0 (.int .u8 0) 1 1 Tryz.underlying24 hi hz0 hz1 hz2 rfl (by decide) _ _ _ hs hown y b.length bc (vals .u8 b) hx (by rw [vals_length, Nat.mul_one]) (cells_news h3) (vals_one _ _) (by unfold maxLen; omega) (by omega) hbase ?_
    intro v' w3 how' hgrow _
    exact h v' w3 (by rw [vals_append]; exact how') hgrow
/-- a row of the call's own that is not empty -/
theorem own_at {w : World} {base : Nat} {e : TypeId} {v : Value} {n : Nat} {k : IntKind} {l : List Nat} (h : w.ownsRow base e 1 v n (vals k l)) (hn : 0 < n) (hl : l.length = n) :
    ∃ g c, v = .slice (some ⟨g, 0, none⟩) n c ∧ base ≤ g ∧ g < w.heap.size ∧ n ≤ c ∧ c ≤ maxLen ∧ ∀ i, i < n → w.cell? ⟨g, i, none⟩ = some (.int k (el l i : Nat)) := by
  have h' := h
  obtain ⟨_, ⟨_, h0⟩ | ⟨g, cap, cur, rfl, h1, h2, h3, h4, _⟩⟩ := h
  · omega
  · refine ⟨g, cap, rfl, h1, (h'.lt g (by simp [Value.ownBlock])).2, h3, h4, fun i hi => ?_⟩
    rw [h'.cellAt i (by rw [Nat.mul_one]; exact hi), vals_get k l i (by omega)]
theorem run_append_keepsA {P : Program} (w : World) (t ty : TypeId) (base : Nat) (e : TypeId) (i : TypeInfo) (z : Value) (bytes : Nat) (ht : P.underlying t = some (.slice e)) (hi : P.info? e = some i) (hz : i.zero = some z)
    (hsize : i.size = 1) (hby : i.bytes = bytes) (hzs : z.cells.size = 1)
    (g0 n cap0 : Nat) (xs : List Value) (hown : w.ownsRow base e 1 (.slice (some ⟨g0, 0, none⟩) n cap0) n xs)
    (ad : Addr) (m c : Nat) (news : List Value) (hl : news.length = m) (hnews : ∀ j u, news[j]? = some u → w.cell? (ad.add j) = some u) (h1 : ∀ u ∈ news, u.oneCell' = true)
    (hm : 0 < m) (h63 : n + m ≤ maxLen) (hbytes : (n + m) * bytes ≤ 140737488355328) (hbase : base ≤ w.heap.size) :
    ∃ g cap w', (Builtin.append_ #[t, t] ty #[.slice (some ⟨g0, 0, none⟩) n cap0, .slice (some ad) m c]).run P w = .ok (.slice (some ⟨g, 0, none⟩) (n + m) cap) w' ∧
      w'.ownsRow base e 1 (.slice (some ⟨g, 0, none⟩) (n + m) cap) (n + m) (xs ++ news) ∧ w.grownBy w' (some g0) ∧ (g0 = g ∨ g = w.heap.size) ∧ ∀ j, j < n → w'.cell? ⟨g0, j, none⟩ = w.cell? ⟨g0, j, none⟩ := by
  obtain ⟨g, cap, w', hr, h2, h3, h4, h5⟩ := run_append_lies (P := P) w t ty base e i z 1 bytes ht hi hz hsize hby hzs (by decide) _ n xs hown ad m c news (by rw [hl, Nat.mul_one]) hnews h1 hm h63 hbytes hbase _ rfl
  refine ⟨g, cap, w', hr, h2, h3, h4.imp (fun h => by simpa [Value.ownBlock] using h) id, fun j hj => ?_⟩
  have hown' := hown
  obtain ⟨hlen, ⟨he, _⟩ | ⟨q, cq, cur, he, hB, hg, hn, hc, hcs, htk⟩⟩ := hown
  · cases he
  · obtain ⟨rfl, rfl⟩ : g0 = q ∧ cap0 = cq := by simpa using he
    by_cases hroom : n + m ≤ cap0
    · have hrr := run_append_room_cells (P := P) w t ty e i ht hi g0 0 n cap0 ad m c news (by rw [hl, hsize, Nat.mul_one]) hnews h1 hroom
        (fun j hj => by rw [cell_of_row w g0 _ cur e (0, 0) hg, hsize]; simp; omega)
        (fun j hj => by simp [World.frozen?, hg])
      rw [hr] at hrr
      obtain rfl : w' = w.setCells g0 (0 + n * i.size) news := (Result.ok.inj hrr).2
      exact World.cell?_setCells_out g0 news _ w ⟨g0, j, none⟩ (fun _ _ => .inl (by show j < 0 + n * i.size; rw [hsize]; omega))
    · obtain ⟨v2, w2, hr2, _, hg2⟩ := run_append_arg_grows (P := P) w t ty e i z 1 bytes ht hi hz hsize hby hzs (by decide) ⟨g0, 0, none⟩ n cap0 xs hlen
        (fun j u hu => by
          have hjx : j < xs.length := (List.getElem?_eq_some_iff.1 hu).1
          rw [Addr.add_lit, Nat.zero_add, hown'.cellAt j (by omega)]; exact hu) ad m c news (by rw [hl, Nat.mul_one]) hnews (by omega) h63 hbytes
      rw [hr] at hr2
      obtain rfl : w' = w2 := (Result.ok.inj hr2).2
      exact World.cell?_of_block (hg2.block g0 (by rcases Nat.lt_or_ge g0 w.heap.size with h' | h'
                                                   · exact h'
                                                   · rw [Array.getElem?_eq_none h'] at hg; cases hg) (by simp))

theorem step_append_keepsA {P : Program} {w : World} {ops : Array Oper} {o : Oper} {a : Act} {K : Act → World → Prop} {Q : Exit → Act → World → Prop} {E : Prop} (hgd : o.guard = none) (s x : Operand) (t : TypeId)
    (ho : o.op = .call { callee := .builtin .append, args := #[s, x], argTypes := #[t, t] })
    (base : Nat) (e : TypeId) (i : TypeInfo) (z : Value) (bytes : Nat) (ht : P.underlying t = some (.slice e)) (hi : P.info? e = some i) (hz : i.zero = some z)
    (hsize : i.size = 1) (hby : i.bytes = bytes) (hzs : z.cells.size = 1)
    (g0 n cap0 : Nat) (xs : List Value) (hs : a.eval s = .slice (some ⟨g0, 0, none⟩) n cap0) (hown : w.ownsRow base e 1 (.slice (some ⟨g0, 0, none⟩) n cap0) n xs)
    (ad : Addr) (m c : Nat) (news : List Value) (hx : a.eval x = .slice (some ad) m c) (hl : news.length = m) (hnews : ∀ j u, news[j]? = some u → w.cell? (ad.add j) = some u) (h1 : ∀ u ∈ news, u.oneCell' = true)
    (hm : 0 < m) (h63 : n + m ≤ maxLen) (hbytes : (n + m) * bytes ≤ 140737488355328) (hbase : base ≤ w.heap.size)
    (h : ∀ g cap w', w'.ownsRow base e 1 (.slice (some ⟨g, 0, none⟩) (n + m) cap) (n + m) (xs ++ news) → w.grownBy w' (some g0) → (g0 = g ∨ g = w.heap.size) → (∀ j, j < n → w'.cell? ⟨g0, j, none⟩ = w.cell? ⟨g0, j, none⟩) → K (a.put o.dst (.slice (some ⟨g, 0, none⟩) (n + m) cap)) w') :
    if Region.wanted o (yielded ops a.tmps) = true then Oper.wp P o a w K Q else E := by
  have hw : Region.wanted o (yielded ops a.tmps) = true := by simp [Region.wanted, hgd]
  rw [if_pos hw]
  obtain ⟨g, cap, w', hr, h2, h3, h4, h5⟩ := run_append_keepsA (P := P) w t o.type base e i z bytes ht hi hz hsize hby hzs g0 n cap0 xs hown ad m c news hl hnews h1 hm h63 hbytes hbase
  unfold Oper.wp execOp
  simp only [ho, resolve, invoke, builtin, Sem.run_bind, Sem.run_pure, Result.andThen_ok, List.map_toArray, List.map_cons, List.map_nil, hs, hx, hr]
  exact h g cap w' h2 h3 h4 h5
end Go.Proofs.YtefndnbaifiboaaGreatDoor

/- Trees of leaves that sign once: the document's over, leafSum, Fit, Size, wrong, head. -/
namespace Go.Proofs.YtefndnbaifiboaaGreatDoor
open Go.RowKit
set_option linter.unusedVariables false
set_option linter.unusedSimpArgs false

/-- the sums of a knot and of a leaf -/
def ovL (id : List Nat) (n : Nat) (a b : List Nat) : List Nat := shaL (id ++ (be4 n ++ (be2 33667 ++ (a ++ b))))
def lfS (id : List Nat) (n : Nat) (k : List Nat) : List Nat := shaL (id ++ (be4 n ++ (be2 33410 ++ k)))
set_option maxHeartbeats 4000000 in
set_option maxRecDepth 100000 in
theorem rover_any (id a b : List Nat) (n : Nat) (idv av bv : Value) (w : World) (hi : Row .u8 256 w idv id) (ti : Tidy idv) (ha : Row .u8 256 w av a) (ta : Tidy av) (hb : Row .u8 256 w bv b) (tb : Tidy bv) (hn : n < 18446744073709551616) (hl : id.length + a.length + b.length ≤ 50000) :
    Calls Tryz.prog 52 #[idv, .int .u64 (n : Int), av, bv] w fun e w' => ∃ v, e = .returned v ∧ Row .u8 256 w' v (ovL id n a b) ∧ New w.heap.size v ∧ Below w.heap.size w w' := by
  obtain ⟨ia, ic, rfl, _⟩ := hi.opens rfl
  obtain ⟨aa, ac, rfl, _⟩ := ha.opens rfl
  obtain ⟨ba, bc, rfl, _⟩ := hb.opens rfl
  have h4 := fun y => rbe4 n y hn
  have h2 := fun y => rbe2 33667 y (by decide)
  have hfl : [id, be4 n, be2 33667, a, b].flatten = id ++ (be4 n ++ (be2 33667 ++ (a ++ b))) := by simp
  have hH := fun y lv (r : Rows2 y lv [id, be4 n, be2 33667, a, b]) => rH_any lv _ y r (by rw [hfl]; simp only [List.length_append, be4_len, be2_len]; omega)
  rw [hfl] at hH
  unfold ovL
  generalize shaL = HH at *
  clear hfl
  go_enter Tryz.func52, Tryz.ntmps52
  go_wp2_with (first
    | (go_at_call_of 35 (Value.int .i64 4); refine (h4 _).mono ?_; rintro e w1 ⟨v1, rfl, o1, hb1⟩; obtain ⟨a1, c1, rfl⟩ := o1.row.form)
    | (go_at_call_of 35 (Value.int .i64 2); refine (h2 _).mono ?_; rintro e w2 ⟨v2, rfl, o2, hb2⟩; obtain ⟨a2, c2, rfl⟩ := o2.row.form; have hb12 := keep_trans hb1 hb2; have hT := hH _ _ (rows_litL (B := w2.heap.size) (k := 5) (texts_cons (hi.below hb12) ti (texts_cons (o1.row.below hb2) o1.tidy (texts_cons o2.row o2.tidy (texts_cons (ha.below hb12) ta (texts_cons (hb.below hb12) tb (Texts.nil _)))))) rfl rfl (by decide)))
    | (go_at_call 84; refine hT.mono ?_; rintro e w4 ⟨v4, rfl, r4, n4, hb4⟩)
    | fail)
  go_ret
  exact ⟨_, rfl, r4, n4.mono (keep_trans hb12 (keep_alloc _ _)).size, keep_trans (keep_trans hb12 (keep_alloc _ _)) hb4⟩
set_option maxHeartbeats 4000000 in
set_option maxRecDepth 100000 in
theorem rleaf_any (id k : List Nat) (n : Nat) (idv kv : Value) (w : World) (hi : Row .u8 256 w idv id) (ti : Tidy idv) (ha : Row .u8 256 w kv k) (ta : Tidy kv) (hn : n < 18446744073709551616) (hl : id.length + k.length ≤ 50000) :
    Calls Tryz.prog 51 #[idv, .int .u64 (n : Int), kv] w fun e w' => ∃ v, e = .returned v ∧ Row .u8 256 w' v (lfS id n k) ∧ New w.heap.size v ∧ Below w.heap.size w w' := by
  obtain ⟨ia, ic, rfl, _⟩ := hi.opens rfl
  obtain ⟨aa, ac, rfl, _⟩ := ha.opens rfl
  have h4 := fun y => rbe4 n y hn
  have h2 := fun y => rbe2 33410 y (by decide)
  have hfl : [id, be4 n, be2 33410, k].flatten = id ++ (be4 n ++ (be2 33410 ++ k)) := by simp
  have hH := fun y lv (r : Rows2 y lv [id, be4 n, be2 33410, k]) => rH_any lv _ y r (by rw [hfl]; simp only [List.length_append, be4_len, be2_len]; omega)
  rw [hfl] at hH
  unfold lfS
  generalize shaL = HH at *
  clear hfl
  go_enter Tryz.func51, Tryz.ntmps51
  go_wp2_with (first
    | (go_at_call_of 35 (Value.int .i64 4); refine (h4 _).mono ?_; rintro e w1 ⟨v1, rfl, o1, hb1⟩; obtain ⟨a1, c1, rfl⟩ := o1.row.form)
    | (go_at_call_of 35 (Value.int .i64 2); refine (h2 _).mono ?_; rintro e w2 ⟨v2, rfl, o2, hb2⟩; obtain ⟨a2, c2, rfl⟩ := o2.row.form; have hb12 := keep_trans hb1 hb2; have hT := hH _ _ (rows_litL (B := w2.heap.size) (k := 4) (texts_cons (hi.below hb12) ti (texts_cons (o1.row.below hb2) o1.tidy (texts_cons o2.row o2.tidy (texts_cons (ha.below hb12) ta (Texts.nil _))))) rfl rfl (by decide)))
    | (go_at_call 84; refine hT.mono ?_; rintro e w4 ⟨v4, rfl, r4, n4, hb4⟩)
    | fail)
  go_ret
  exact ⟨_, rfl, r4, n4.mono (keep_trans hb12 (keep_alloc _ _)).size, keep_trans (keep_trans hb12 (keep_alloc _ _)) hb4⟩
/-- how many bytes a leaf's signature has; 0: there is no such kind -/
def szW (x : Int) : Nat := if x = 1 then 8516 else if x = 2 then 4292 else if x = 4 then 2180 else if x = 8 then 1124 else 0
theorem rsizeW (x : Int) (w : World) : Calls Tryz.prog 38 #[.int .i64 x] w fun e w' => e = .returned (.int .i64 (szW x : Nat)) ∧ w' = w := by
  rcases kd_or x with h | ⟨k, n, m, s, c, rfl, h⟩
  · have e0 : szW x = 0 := by
      obtain ⟨h1, h2, h4, h8⟩ := h
      unfold szW
      rw [if_neg h1, if_neg h2, if_neg h4, if_neg h8]
    rw [e0]
    exact rsize_no x w h
  · have e0 : szW (k : Int) = 36 + 32 * (n + m) := by cases h <;> rfl
    rw [e0]
    exact rsize_ok w h
/-- a tree is fit -/
def FitL (h x : Int) : Prop := lmCode h ≠ 0 ∧ szW x ≠ 0
instance (h x : Int) : Decidable (FitL h x) := by unfold FitL; infer_instance
structure Bx2T (W : World) (B : Nat) (v0 v1 : Value) : Prop where
  here : W.heap[B]? = some (.cells #[v0, v1] 23 (0, 0))
theorem Bx2T.lt {W : World} {B : Nat} {v0 v1 : Value} (h : Bx2T W B v0 v1) : B < W.heap.size := (Array.getElem?_eq_some_iff.1 h.here).1
theorem Bx2T.c0 {W : World} {B : Nat} {v0 v1 : Value} (h : Bx2T W B v0 v1) : W.cell? ⟨B, 0, none⟩ = some v0 := by simp [World.cell?, h.here]
theorem Bx2T.c1 {W : World} {B : Nat} {v0 v1 : Value} (h : Bx2T W B v0 v1) : W.cell? ⟨B, 1, none⟩ = some v1 := by simp [World.cell?, h.here]
theorem Bx2T.below {W W' : World} {B : Nat} {v0 v1 : Value} (h : Bx2T W B v0 v1) (hb : Below W.heap.size W W') : Bx2T W' B v0 v1 := ⟨(hb.block _ h.lt).trans h.here⟩
theorem Bx2T.new (W : World) (v0 v1 : Value) : Bx2T (W.alloc (.cells #[v0, v1] 23)) W.heap.size v0 v1 := ⟨heap_alloc_new W _⟩
set_option maxHeartbeats 4000000 in
set_option maxRecDepth 100000 in
theorem rfitT_any (h x : Int) (w : World) : Calls Tryz.prog 13 #[.agg #[.int .i64 h, .int .i64 x]] w fun e w' => e = .returned (.bool (decide (FitL h x))) ∧ Below w.heap.size w w' := by
  have hc := fun y => rcode_any h y
  have hs := fun y => rsizeW x y
  by_cases h1 : lmCode h = 0
  · have hd : decide (FitL h x) = false := decide_eq_false fun hh => hh.1 h1
    rw [hd]
    rw [h1] at hc
    clear hd h1
    go_enter Tryz.func13, Tryz.ntmps13
    go_wp2_with (first | (go_at_call 36; refine (hc _).mono ?_; rintro e yy ⟨rfl, hy⟩; obtain rfl := hy.symm) | fail)
    go_ret
    exact ⟨rfl, keep_alloc _ _⟩
  · obtain ⟨C, hC⟩ : ∃ C, C = lmCode h := ⟨_, rfl⟩
    obtain ⟨Z, hZ⟩ : ∃ Z, Z = szW x := ⟨_, rfl⟩
    have hCb : ((C : Int) != 0) = true := by have : C ≠ 0 := by rw [hC]; exact h1
                                             simp [this]
    have hd : decide (FitL h x) = ((Z : Int) != 0) := by
      by_cases hz : Z = 0
      · rw [decide_eq_false (fun hh => hh.2 (by rw [← hZ]; exact hz))]; simp [hz]
      · rw [decide_eq_true ⟨h1, by rw [← hZ]; exact hz⟩]; simp [hz]
    rw [hd]
    rw [← hC] at hc
    rw [← hZ] at hs
    clear hd h1 hC hZ
    go_enter Tryz.func13, Tryz.ntmps13
    go_wp2_with (first
      | (go_at_call 36; refine (hc _).mono ?_; rintro e yy ⟨rfl, hy⟩; obtain rfl := hy.symm)
      | (go_at_call 38; refine (hs _).mono ?_; rintro e yy ⟨rfl, hy⟩; obtain rfl := hy.symm)
      | fail)
    go_ret
    exact ⟨rfl, keep_alloc _ _⟩
set_option maxHeartbeats 4000000 in
set_option maxRecDepth 100000 in
theorem rhead_any {k n m s c : Nat} (h : Int) (w : World) (hk : Kd k n m s c) : Calls Tryz.prog 27 #[.agg #[.int .i64 h, .int .i64 (k : Int)]] w fun e w' => ∃ v, e = .returned v ∧ Row .u8 256 w' v (be4 (lmCode h) ++ be4 c) ∧ New w.heap.size v ∧ Tidy v ∧ Below w.heap.size w w' := by
  have hc := fun y => rcode_any h y
  have hkk := fun y => rkind_ok y hk
  have hcl := lmCode_32 h
  obtain ⟨C, hC⟩ : ∃ C, C = lmCode h := ⟨_, rfl⟩
  rw [← hC] at hc hcl ⊢
  have h4 := fun y => rbe4 C y (by omega)
  have h4c := fun y => rbe4 c y (by have := hk.pos; omega)
  obtain ⟨P, hP⟩ : ∃ P : Nat, P = n + m := ⟨_, rfl⟩
  rw [← hP] at hkk
  obtain ⟨i0, hi0, hz0, hz1, hz2⟩ := info_byte
  clear hC hP hk hcl
  go_enter Tryz.func27, Tryz.ntmps27
  go_wp2_with (first
    | (go_at_call 58; refine (hkk _).mono ?_; rintro e yy ⟨rfl, hy⟩; obtain rfl := hy.symm)
    | (go_at_call 36; refine (hc _).mono ?_; rintro e yy ⟨rfl, hy⟩; obtain rfl := hy.symm)
    | (go_at_call_of 35 (Value.int .u64 (C : Int)); refine (h4 _).mono ?_; rintro e w1 ⟨v1, rfl, o1, hb1⟩; have r1 := o1.row; obtain ⟨a1, c1, rfl, _⟩ := r1.opens (be4_len _))
    | (go_at_call_of 35 (Value.int .u64 (c : Int)); refine (h4c _).mono ?_; rintro e w2 ⟨v2, rfl, o2, hb2⟩; have r2 := o2.row; obtain ⟨a2, c2, rfl, _, _, g2⟩ := r2.opens (be4_len _); obtain ⟨b2, f2, rfl, _⟩ := g2 (by decide); have hb12 := keep_trans hb1 hb2; have o1' := own_belowA o1.1 hb2; rw [be4_len] at o1')
    | (at_builtin; refine wpList_appA rfl _ _ rfl (w.alloc (.cells #[.int .i64 h, .int .i64 (k : Int)] 23)).heap.size _ _ 4 _ (be4 c) rfl o1' rfl r2 (tidy_atA _ _ _) (by decide) (by rw [be4_len]; decide) hb12.size ?_; intro v3 w3 how3 hg3)
    | fail)
  go_ret
  have hbw := keep_trans (keep_alloc w (.cells #[.int .i64 h, .int .i64 (k : Int)] 23)) hb12
  have oW : Own 5 .u8 256 w3 (w.alloc (.cells #[.int .i64 h, .int .i64 (k : Int)] 23)).heap.size v3 (be4 C ++ be4 c) := ⟨by rw [List.length_append, be4_len, be4_len]; exact how3, Under.append (be4_under _) (be4_under _)⟩
  have oN := oW.mono (B' := w.heap.size) (by rw [World.size_alloc]; omega)
  exact ⟨_, rfl, oN.row, oN.new, oN.tidy, hbw.grown hg3 hbw.size (fun q hq => by have h1 := (o1'.lt q hq).1; rw [World.size_alloc] at h1; omega)⟩
end Go.Proofs.YtefndnbaifiboaaGreatDoor
