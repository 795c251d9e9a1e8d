/- The document's Hmac, over whatever digest. -/
import Derived.Test.YtejlmgbmfeacdaaGreatDoorKNw
import Derived.Test.YtejlmgbmfeacdaaGreatDoorHRes32
import Derived.Test.YtejlmgbmfeacdaaGreatDoorGEnM
import Derived.Test.YtejlmgbmfeacdaaGreatDoorHN2
import Derived.Deep.AppendLies
import Derived.Laws.AppendOwnNone
import Derived.Laws.BitsAllLaws
import Derived.Test.YtejlmgbmfeacdaaGreatDoorHTak32
import Derived.Test.YtejlmgbmfeacdaaGreatDoorHSl
namespace Go.Proofs.YtejlmgbmfeacdaaGreatDoor
open Go.RowKit
set_option linter.unusedVariables false
set_option linter.unusedSimpArgs false

theorem padK_next (B : Nat) (K : List Nat) (c k : Nat) (h : k < B) : (padK B K c).take (k + 1) = (padK B K c).take k ++ [el K k ^^^ c] := by
  have hl : k < (padK B K c).length := by rw [padK_length]; exact h
  rw [List.take_add_one, List.getElem?_eq_getElem hl, ← el_at hl, padK_el B K c k h]
  rfl
theorem padK_all (B : Nat) (K : List Nat) (c : Nat) : (padK B K c).take B = padK B K c := List.take_of_length_le (by rw [padK_length]; exact Nat.le_refl _)
theorem el_none {K : List Nat} {k : Nat} (h : ¬ k < K.length) : el K k = 0 := by unfold el; rw [List.getElem?_eq_none (by omega)]; rfl
/-- two rows of the call's own lie apart -/
def Apart (u v : Value) : Prop := ∀ q, u.ownBlock = some q → v.ownBlock ≠ some q
theorem Apart.symm {u v : Value} (h : Apart u v) : Apart v u := fun q h1 h2 => h q h2 h1
theorem Apart.kept {u v : Value} (h : Apart u v) : v.ownBlock = none ∨ v.ownBlock ≠ u.ownBlock := by
  cases hv : v.ownBlock with
  | none => exact .inl rfl
  | some q => exact .inr fun e => h q e.symm hv
/-- where the loop over the block stands -/
def HmL (w : World) (B : Nat) (K : List Nat) (u v i : Value) (wr : World) : Prop := ∃ k : Nat, k ≤ B ∧ i = .int .i64 k ∧
  wr.ownsRow w.heap.size 5 1 u k (vals .u8 ((padK B K 54).take k)) ∧ wr.ownsRow w.heap.size 5 1 v k (vals .u8 ((padK B K 92).take k)) ∧ Apart u v ∧ Below w.heap.size w wr
/-- what a digest tells -/
def DigE (F : FuncId) (kind : Int) (D : List Nat → List Nat) : Prop := ∀ (x : World) (bv : Value) (b : List Nat), Row .u8 256 x bv b → Tidy bv → b.length ≤ 100000 →
  Calls Tryz.prog F #[.int .i64 kind, bv] x fun e x' => ∃ v', e = .returned (.tuple #[v', .int .i64 0]) ∧ Row .u8 256 x' v' (D b) ∧ New x.heap.size v' ∧ Below x.heap.size x x'
theorem app_apart {w : World} {u v : Value} {base n g H : Nat} {xs : List Value} (hv : w.ownsRow base 5 1 v n xs) (ha : Apart u v) (hlie : u.ownBlock = some g ∨ g = H) (hH : w.heap.size ≤ H) (c m : Nat) : Apart (.slice (some ⟨g, 0, none⟩) m c) v := by
  intro q hq he
  have : g = q := by simpa [Value.ownBlock] using hq
  subst this
  rcases hlie with h | h
  · exact ha g h he
  · have := (hv.lt g he).2
    omega
theorem row_cell {w : World} {a : Option Addr} {c : Nat} {l : List Nat} (h : Row .u8 256 w (.slice a l.length c) l) {k : Nat} (hk : k < l.length) : ∃ b off, a = some ⟨b, off, none⟩ ∧ w.cell? ⟨b, off + k, none⟩ = some (.int .u8 (el l k : Nat)) := by
  obtain ⟨a', c', he, _, _, h3, _⟩ := h
  obtain ⟨b, off, rfl, hc⟩ := h3 (by omega)
  obtain ⟨rfl, rfl⟩ : a = some ⟨b, off, none⟩ ∧ c = c' := by simpa using he
  exact ⟨b, off, rfl, hc k hk⟩
theorem row_tidy {k : IntKind} {m : Nat} {w : World} {v : Value} {l : List Nat} (h : Row k m w v l) (hl : 0 < l.length) : Tidy v := by
  obtain ⟨a, c, rfl, _, _, h3, _⟩ := h
  obtain ⟨b, off, rfl, _⟩ := h3 hl
  exact tidy_at _ _ _
/-- append of whatever row onto one of the call's own -/
theorem wpList_app {w : World} {ops : Array Oper} {rest : List Oper} {o : Oper} {a : Act} {Q : Exit → Act → World → Prop} (hgd : o.guard = none) (s x : Operand) (ho : o.op = .call { callee := .builtin .append, args := #[s, x], argTypes := #[22, 22] })
    (base : Nat) (v bv : Value) (n : Nat) (l b : List Nat) (hs : a.eval s = v) (hown : w.ownsRow base 5 1 v n (vals .u8 l)) (hx : a.eval x = bv) (rb : Row .u8 256 w bv b) (tb : Tidy bv) (hn : n ≤ 1000000) (hb : b.length ≤ 1000000) (hbase : base ≤ w.heap.size)
    (h : ∀ v' w', w'.ownsRow base 5 1 v' (n + b.length) (vals .u8 (l ++ b)) → w.grownBy w' v.ownBlock → wpList Tryz.prog ops Q rest (a.put o.dst v') w') : wpList Tryz.prog ops Q (o :: rest) a w := by
  obtain ⟨i0, hi, hz0, hz1, hz2⟩ := info_parts Tryz.info5
  obtain ⟨ba, bc, rfl, h1, h2, h3, h4⟩ := rb
  cases ba with
  | none =>
    obtain ⟨h0, rfl⟩ := tb _ _ rfl
    obtain rfl := List.eq_nil_of_length_eq_zero h0
    refine wpList_append_own_none hgd s x 22 ho base 5 i0 1 Tryz.underlying22 hi _ _ _ hs hown hx ?_
    exact h v w (by rw [List.append_nil]; exact hown) ⟨rfl, rfl, rfl, Nat.le_refl _, fun _ _ _ => rfl⟩
  | some y =>
    refine wpList_append_own _ hgd s x 22 ho base 5 i0 (.int .u8 0) 1 1 Tryz.underlying22 hi hz0 hz1 hz2 rfl (by decide) _ _ _ hs hown y b.length bc (vals .u8 b) hx (by rw [vals_length, Nat.mul_one]) (cells_news h3) (vals_one _ _) (by unfold maxLen; omega) (by omega) hbase ?_
    intro v' w3 how' hgrow _
    exact h v' w3 (by rw [vals_append]; exact how') hgrow
set_option maxHeartbeats 4000000 in
set_option maxRecDepth 100000 in
theorem rhmac_of (kind : Int) (D : List Nat → List Nat) (B Z : Nat) (key b : List Nat) (kv bv : Value) (w : World) (hDl : ∀ l, (D l).length = Z) (hZ : 0 < Z) (hZ2 : Z ≤ 64) (hB : B ≤ 200) (hk1 : 1 ≤ kind) (hk5 : kind ≤ 5)
    (hblk : ∀ x, Calls Tryz.prog 23 #[.int .i64 kind] x fun e x' => e = .returned (.int .i64 (B : Nat)) ∧ x' = x) (hdig : DigE 7 kind D)
    (rk : Row .u8 256 w kv key) (tk : Tidy kv) (rb : Row .u8 256 w bv b) (tb : Tidy bv) (hkl : key.length ≤ 90000) (hbl : b.length ≤ 90000) :
    Calls Tryz.prog 9 #[.int .i64 kind, kv, bv] w fun e w' => ∃ v', e = .returned (.tuple #[v', .int .i64 0]) ∧ Row .u8 256 w' v' (hmacD D B key b) ∧ New w.heap.size v' ∧ Below w.heap.size w w' := by
  obtain ⟨i0, hi, hz0, hz1, hz2⟩ := info_parts Tryz.info5
  obtain ⟨ka, kc, rfl⟩ := rk.form
  obtain ⟨ba, bc, rfl⟩ := rb.form
  have i1 : ¬ kind < 1 := by omega
  have i5 : ¬ 5 < kind := by omega
  have HD := hide hdig
  have HDl := hide hDl
  unfold hmacD
  by_cases hlong : B < key.length
  · have eK : keyB D B key = D key := by unfold keyB; rw [if_pos hlong]
    rw [eK]
    have hli : (B : Int) < (key.length : Int) := by omega
    have hd1 := hdig w _ key rk tk (by omega)
    clear hdig hDl
    go_enter Tryz.func9, Tryz.ntmps9
    go_wp2_with (first
      | (go_at_call 23; refine (hblk _).mono ?_; rintro e x1 ⟨rfl, rfl⟩)
      | (go_at_call 7; refine hd1.mono ?_; rintro e x1 ⟨v1, rfl, r1, _, hb1⟩; obtain ⟨a1, c1, rfl⟩ := r1.form)
      | fail)
    clear hd1 hli hlong eK
    generalize hKK : D key = K at *
    have HKK := hide hKK
    clear hKK
    clear hblk
    go_loopw [10, 11, 12] (fun u v i wr => HmL x1 B K u v i wr) (fun _ _ i _ => B - (intOf i).toNat)
    case atStart => exact ⟨0, Nat.zero_le _, rfl, World.ownsRow_nil _ _ _ _, World.ownsRow_nil _ _ _ _, fun q h => by simp [Value.ownBlock] at h, Below.refl _ _⟩
    case round =>
      obtain ⟨k, hk, rfl, hu, hv, hap, hbr⟩ := hrel
      have hsz := hbr.size
      by_cases hlt : k < B
      · have hn1 := padK_next B K 54 k hlt
        have hn2 := padK_next B K 92 k hlt
        have C8 : el K k < 256 := el_lt r1.under (by decide) k
        have hKr := r1.below hbr
        have hltI : (k : Int) < (B : Int) := by omega
        obtain ⟨C1, hC1⟩ : ∃ x : Nat, x = el K k ^^^ 54 := ⟨_, rfl⟩
        obtain ⟨C2, hC2⟩ : ∃ x : Nat, x = el K k ^^^ 92 := ⟨_, rfl⟩
        have fx1 : bits .xor .u8 ((el K k : Nat) : Int) 54 = (C1 : Int) := by rw [hC1]; exact u8_xor_nat _ 54 C8 (by decide)
        have fx2 : bits .xor .u8 ((el K k : Nat) : Int) 92 = (C2 : Int) := by rw [hC2]; exact u8_xor_nat _ 92 C8 (by decide)
        rw [← hC1] at hn1
        rw [← hC2] at hn2
        have HN1 := hide hn1
        have HN2 := hide hn2
        clear hn1 hn2 hC1 hC2
        generalize (padK B K 54).take k = L1 at *
        generalize (padK B K 92).take k = L2 at *
        by_cases hin : k < K.length
        · obtain ⟨b1, o1, rfl, ck⟩ := row_cell hKr hin
          have hini : (k : Int) < (K.length : Int) := by omega
          generalize el K k = C at *
          go_wp2_with (first
            | (at_builtin; refine wpList_append_lies _ rfl _ _ 22 rfl x1.heap.size 5 i0 (.int .u8 0) 1 1 Tryz.underlying22 hi hz0 hz1 hz2 rfl (by decide) _ _ _ rfl (hu.alloc (.cells #[.int .u8 (C1 : Nat)] 5)) _ 1 1 [.int .u8 (C1 : Nat)] rfl rfl (cells_new wr _ _) (one_new _ _) (by decide) (by unfold maxLen; omega) (by omega) (by simp; omega) _ rfl ?_; intro g4 cap4 w4 how4 hg4 hlie4 hlt4; have hv4 := (hv.alloc (.cells #[.int .u8 (C1 : Nat)] 5)).kept hg4 hap.kept; have hs4 : wr.heap.size < w4.heap.size := (by have := hg4.size; rw [World.size_alloc] at this; omega))
            | (at_builtin; refine wpList_append_lies _ rfl _ _ 22 rfl x1.heap.size 5 i0 (.int .u8 0) 1 1 Tryz.underlying22 hi hz0 hz1 hz2 rfl (by decide) _ _ _ rfl (hv4.alloc (.cells #[.int .u8 (C2 : Nat)] 5)) _ 1 1 [.int .u8 (C2 : Nat)] rfl rfl (cells_new w4 _ _) (one_new _ _) (by decide) (by unfold maxLen; omega) (by omega) (by simp; omega) _ rfl ?_; intro g5 cap5 w5 how5 hg5 hlie5 hlt5)
            | fail)
          have hap4 := app_apart (hv.alloc (.cells #[.int .u8 (C1 : Nat)] 5)) hap hlie4 (Nat.le_refl _) cap4 (k + 1)
          have hap5 : Apart (.slice (some ⟨g4, 0, none⟩) (k + 1) cap4) (.slice (some ⟨g5, 0, none⟩) (k + 1) cap5) := (app_apart (how4.alloc (.cells #[.int .u8 (C2 : Nat)] 5)) hap4.symm hlie5 (Nat.le_refl _) cap5 (k + 1)).symm
          have hu5 := (how4.alloc (.cells #[.int .u8 (C2 : Nat)] 5)).kept hg5 hap4.symm.kept
          have hb4 := below_append hbr hsz hu _ hg4
          have hb5 := below_append hb4 hb4.size hv4 _ hg5
          have HH := hide (show HmL x1 B K (.slice (some ⟨g4, 0, none⟩) (k + 1) cap4) (.slice (some ⟨g5, 0, none⟩) (k + 1) cap5) (.int .i64 ((k + 1 : Nat) : Int)) w5 from ⟨k + 1, by omega, rfl, by rw [HN1.out, vals_append]; exact hu5, by rw [HN2.out, vals_append]; exact how5, hap5, hb5⟩)
          clear hap4 hap5 hu5 hb4 hb5 how4 how5 hg4 hg5 hlie4 hlie5 hs4 hv4 hu hv hap hbr hKr
          go_roundw
          case rel => exact HH.out
          case measure => simp [intOf]; omega
        · have hini : ¬ (k : Int) < (K.length : Int) := by omega
          rw [el_none hin] at fx1 fx2
          simp only [Int.ofNat_zero, Int.natCast_zero] at fx1 fx2
          go_wp2_with (first
            | (at_builtin; refine wpList_append_lies _ rfl _ _ 22 rfl x1.heap.size 5 i0 (.int .u8 0) 1 1 Tryz.underlying22 hi hz0 hz1 hz2 rfl (by decide) _ _ _ rfl (hu.alloc (.cells #[.int .u8 (C1 : Nat)] 5)) _ 1 1 [.int .u8 (C1 : Nat)] rfl rfl (cells_new wr _ _) (one_new _ _) (by decide) (by unfold maxLen; omega) (by omega) (by simp; omega) _ rfl ?_; intro g4 cap4 w4 how4 hg4 hlie4 hlt4; have hv4 := (hv.alloc (.cells #[.int .u8 (C1 : Nat)] 5)).kept hg4 hap.kept; have hs4 : wr.heap.size < w4.heap.size := (by have := hg4.size; rw [World.size_alloc] at this; omega))
            | (at_builtin; refine wpList_append_lies _ rfl _ _ 22 rfl x1.heap.size 5 i0 (.int .u8 0) 1 1 Tryz.underlying22 hi hz0 hz1 hz2 rfl (by decide) _ _ _ rfl (hv4.alloc (.cells #[.int .u8 (C2 : Nat)] 5)) _ 1 1 [.int .u8 (C2 : Nat)] rfl rfl (cells_new w4 _ _) (one_new _ _) (by decide) (by unfold maxLen; omega) (by omega) (by simp; omega) _ rfl ?_; intro g5 cap5 w5 how5 hg5 hlie5 hlt5)
            | fail)
          have hap4 := app_apart (hv.alloc (.cells #[.int .u8 (C1 : Nat)] 5)) hap hlie4 (Nat.le_refl _) cap4 (k + 1)
          have hap5 : Apart (.slice (some ⟨g4, 0, none⟩) (k + 1) cap4) (.slice (some ⟨g5, 0, none⟩) (k + 1) cap5) := (app_apart (how4.alloc (.cells #[.int .u8 (C2 : Nat)] 5)) hap4.symm hlie5 (Nat.le_refl _) cap5 (k + 1)).symm
          have hu5 := (how4.alloc (.cells #[.int .u8 (C2 : Nat)] 5)).kept hg5 hap4.symm.kept
          have hb4 := below_append hbr hsz hu _ hg4
          have hb5 := below_append hb4 hb4.size hv4 _ hg5
          have HH := hide (show HmL x1 B K (.slice (some ⟨g4, 0, none⟩) (k + 1) cap4) (.slice (some ⟨g5, 0, none⟩) (k + 1) cap5) (.int .i64 ((k + 1 : Nat) : Int)) w5 from ⟨k + 1, by omega, rfl, by rw [HN1.out, vals_append]; exact hu5, by rw [HN2.out, vals_append]; exact how5, hap5, hb5⟩)
          clear hap4 hap5 hu5 hb4 hb5 how4 how5 hg4 hg5 hlie4 hlie5 hs4 hv4 hu hv hap hbr hKr
          go_roundw
          case rel => exact HH.out
          case measure => simp [intOf]; omega
      · obtain rfl : k = B := by omega
        rw [padK_all] at hu hv
        have hlo : ¬ (k : Int) < (k : Int) := by omega
        have rbX := rb.below (hb1)
        have rbr := rbX.below hbr
        have HB1 := hide hbr
        have pl1 := padK_length k K 54
        have pl2 := padK_length k K 92
        have pu1 : Under 256 (padK k K 54) := padK_under r1.under (by decide)
        have pu2 : Under 256 (padK k K 92) := padK_under r1.under (by decide)
        generalize hP1 : padK k K 54 = P1 at *
        generalize hP2 : padK k K 92 = P2 at *
        have HP1 := hide hP1
        have HP2 := hide hP2
        clear hP1 hP2
        go_wp2_with (first
          | (at_builtin; refine wpList_app rfl _ _ rfl x1.heap.size _ _ _ P1 b rfl hu rfl rbr tb (by omega) (by omega) hsz ?_; intro v6 w6 how6 hg6; have hv6 := hv.kept hg6 hap.kept; have hb6 := below_append' hbr hsz hu hg6; have ho6 : Own 5 .u8 256 w6 x1.heap.size v6 (P1 ++ b) := ⟨by rw [List.length_append, pl1]; exact how6, pu1.append rbr.under⟩; clear hu hv)
          | (go_at_call 7; refine (HD.out _ _ _ ho6.row ho6.tidy (by rw [List.length_append]; omega)).mono ?_; rintro e w7 ⟨v7, rfl, r7, _, hb7⟩; have hv7 := own_below hv6 hb7; have hb8 := keep_trans (hb6.mono (Nat.le_refl _)) hb7; have l7 := HDl.out (P1 ++ b); have t7 := row_tidy r7 (by rw [l7]; exact hZ); clear hv6 ho6)
          | (at_builtin; refine wpList_app rfl _ _ rfl x1.heap.size _ _ _ P2 (D (P1 ++ b)) rfl hv7 rfl r7 t7 (by omega) (by rw [l7]; omega) hb8.size ?_; intro v9 w9 how9 hg9; have hb9 := below_append' hb8 hb8.size hv7 hg9; have ho9 : Own 5 .u8 256 w9 x1.heap.size v9 (P2 ++ D (P1 ++ b)) := ⟨by rw [List.length_append, pl2]; exact how9, pu2.append r7.under⟩)
          | (go_at_call 7; refine (HD.out _ _ _ ho9.row ho9.tidy (by rw [List.length_append, l7]; omega)).mono ?_; rintro e w10 ⟨v10, rfl, r10, n10, hb10⟩)
          | fail)
        go_ret2
        exact ⟨_, rfl, by rw [HKK.out, HP1.out, HP2.out]; exact r10, n10.mono (keep_trans (hb1) hb9).size, keep_trans (keep_trans (hb1) hb9) hb10⟩
  · have eK : keyB D B key = key := by unfold keyB; rw [if_neg hlong]
    rw [eK]
    have hli : ¬ (B : Int) < (key.length : Int) := by omega
    clear hdig hDl
    go_enter Tryz.func9, Tryz.ntmps9
    go_wp2_with (first
      | (go_at_call 23; refine (hblk _).mono ?_; rintro e x1 ⟨rfl, rfl⟩)
      | fail)
    clear hli hlong eK
    clear hblk
    go_loopw [10, 11, 12] (fun u v i wr => HmL x1 B key u v i wr) (fun _ _ i _ => B - (intOf i).toNat)
    case atStart => exact ⟨0, Nat.zero_le _, rfl, World.ownsRow_nil _ _ _ _, World.ownsRow_nil _ _ _ _, fun q h => by simp [Value.ownBlock] at h, Below.refl _ _⟩
    case round =>
      obtain ⟨k, hk, rfl, hu, hv, hap, hbr⟩ := hrel
      have hsz := hbr.size
      by_cases hlt : k < B
      · have hn1 := padK_next B key 54 k hlt
        have hn2 := padK_next B key 92 k hlt
        have C8 : el key k < 256 := el_lt rk.under (by decide) k
        have hKr := rk.below hbr
        have hltI : (k : Int) < (B : Int) := by omega
        obtain ⟨C1, hC1⟩ : ∃ x : Nat, x = el key k ^^^ 54 := ⟨_, rfl⟩
        obtain ⟨C2, hC2⟩ : ∃ x : Nat, x = el key k ^^^ 92 := ⟨_, rfl⟩
        have fx1 : bits .xor .u8 ((el key k : Nat) : Int) 54 = (C1 : Int) := by rw [hC1]; exact u8_xor_nat _ 54 C8 (by decide)
        have fx2 : bits .xor .u8 ((el key k : Nat) : Int) 92 = (C2 : Int) := by rw [hC2]; exact u8_xor_nat _ 92 C8 (by decide)
        rw [← hC1] at hn1
        rw [← hC2] at hn2
        have HN1 := hide hn1
        have HN2 := hide hn2
        clear hn1 hn2 hC1 hC2
        generalize (padK B key 54).take k = L1 at *
        generalize (padK B key 92).take k = L2 at *
        by_cases hin : k < key.length
        · obtain ⟨b1, o1, rfl, ck⟩ := row_cell hKr hin
          have hini : (k : Int) < (key.length : Int) := by omega
          generalize el key k = C at *
          go_wp2_with (first
            | (at_builtin; refine wpList_append_lies _ rfl _ _ 22 rfl x1.heap.size 5 i0 (.int .u8 0) 1 1 Tryz.underlying22 hi hz0 hz1 hz2 rfl (by decide) _ _ _ rfl (hu.alloc (.cells #[.int .u8 (C1 : Nat)] 5)) _ 1 1 [.int .u8 (C1 : Nat)] rfl rfl (cells_new wr _ _) (one_new _ _) (by decide) (by unfold maxLen; omega) (by omega) (by simp; omega) _ rfl ?_; intro g4 cap4 w4 how4 hg4 hlie4 hlt4; have hv4 := (hv.alloc (.cells #[.int .u8 (C1 : Nat)] 5)).kept hg4 hap.kept; have hs4 : wr.heap.size < w4.heap.size := (by have := hg4.size; rw [World.size_alloc] at this; omega))
            | (at_builtin; refine wpList_append_lies _ rfl _ _ 22 rfl x1.heap.size 5 i0 (.int .u8 0) 1 1 Tryz.underlying22 hi hz0 hz1 hz2 rfl (by decide) _ _ _ rfl (hv4.alloc (.cells #[.int .u8 (C2 : Nat)] 5)) _ 1 1 [.int .u8 (C2 : Nat)] rfl rfl (cells_new w4 _ _) (one_new _ _) (by decide) (by unfold maxLen; omega) (by omega) (by simp; omega) _ rfl ?_; intro g5 cap5 w5 how5 hg5 hlie5 hlt5)
            | fail)
          have hap4 := app_apart (hv.alloc (.cells #[.int .u8 (C1 : Nat)] 5)) hap hlie4 (Nat.le_refl _) cap4 (k + 1)
          have hap5 : Apart (.slice (some ⟨g4, 0, none⟩) (k + 1) cap4) (.slice (some ⟨g5, 0, none⟩) (k + 1) cap5) := (app_apart (how4.alloc (.cells #[.int .u8 (C2 : Nat)] 5)) hap4.symm hlie5 (Nat.le_refl _) cap5 (k + 1)).symm
          have hu5 := (how4.alloc (.cells #[.int .u8 (C2 : Nat)] 5)).kept hg5 hap4.symm.kept
          have hb4 := below_append hbr hsz hu _ hg4
          have hb5 := below_append hb4 hb4.size hv4 _ hg5
          have HH := hide (show HmL x1 B key (.slice (some ⟨g4, 0, none⟩) (k + 1) cap4) (.slice (some ⟨g5, 0, none⟩) (k + 1) cap5) (.int .i64 ((k + 1 : Nat) : Int)) w5 from ⟨k + 1, by omega, rfl, by rw [HN1.out, vals_append]; exact hu5, by rw [HN2.out, vals_append]; exact how5, hap5, hb5⟩)
          clear hap4 hap5 hu5 hb4 hb5 how4 how5 hg4 hg5 hlie4 hlie5 hs4 hv4 hu hv hap hbr hKr
          go_roundw
          case rel => exact HH.out
          case measure => simp [intOf]; omega
        · have hini : ¬ (k : Int) < (key.length : Int) := by omega
          rw [el_none hin] at fx1 fx2
          simp only [Int.ofNat_zero, Int.natCast_zero] at fx1 fx2
          go_wp2_with (first
            | (at_builtin; refine wpList_append_lies _ rfl _ _ 22 rfl x1.heap.size 5 i0 (.int .u8 0) 1 1 Tryz.underlying22 hi hz0 hz1 hz2 rfl (by decide) _ _ _ rfl (hu.alloc (.cells #[.int .u8 (C1 : Nat)] 5)) _ 1 1 [.int .u8 (C1 : Nat)] rfl rfl (cells_new wr _ _) (one_new _ _) (by decide) (by unfold maxLen; omega) (by omega) (by simp; omega) _ rfl ?_; intro g4 cap4 w4 how4 hg4 hlie4 hlt4; have hv4 := (hv.alloc (.cells #[.int .u8 (C1 : Nat)] 5)).kept hg4 hap.kept; have hs4 : wr.heap.size < w4.heap.size := (by have := hg4.size; rw [World.size_alloc] at this; omega))
            | (at_builtin; refine wpList_append_lies _ rfl _ _ 22 rfl x1.heap.size 5 i0 (.int .u8 0) 1 1 Tryz.underlying22 hi hz0 hz1 hz2 rfl (by decide) _ _ _ rfl (hv4.alloc (.cells #[.int .u8 (C2 : Nat)] 5)) _ 1 1 [.int .u8 (C2 : Nat)] rfl rfl (cells_new w4 _ _) (one_new _ _) (by decide) (by unfold maxLen; omega) (by omega) (by simp; omega) _ rfl ?_; intro g5 cap5 w5 how5 hg5 hlie5 hlt5)
            | fail)
          have hap4 := app_apart (hv.alloc (.cells #[.int .u8 (C1 : Nat)] 5)) hap hlie4 (Nat.le_refl _) cap4 (k + 1)
          have hap5 : Apart (.slice (some ⟨g4, 0, none⟩) (k + 1) cap4) (.slice (some ⟨g5, 0, none⟩) (k + 1) cap5) := (app_apart (how4.alloc (.cells #[.int .u8 (C2 : Nat)] 5)) hap4.symm hlie5 (Nat.le_refl _) cap5 (k + 1)).symm
          have hu5 := (how4.alloc (.cells #[.int .u8 (C2 : Nat)] 5)).kept hg5 hap4.symm.kept
          have hb4 := below_append hbr hsz hu _ hg4
          have hb5 := below_append hb4 hb4.size hv4 _ hg5
          have HH := hide (show HmL x1 B key (.slice (some ⟨g4, 0, none⟩) (k + 1) cap4) (.slice (some ⟨g5, 0, none⟩) (k + 1) cap5) (.int .i64 ((k + 1 : Nat) : Int)) w5 from ⟨k + 1, by omega, rfl, by rw [HN1.out, vals_append]; exact hu5, by rw [HN2.out, vals_append]; exact how5, hap5, hb5⟩)
          clear hap4 hap5 hu5 hb4 hb5 how4 how5 hg4 hg5 hlie4 hlie5 hs4 hv4 hu hv hap hbr hKr
          go_roundw
          case rel => exact HH.out
          case measure => simp [intOf]; omega
      · obtain rfl : k = B := by omega
        rw [padK_all] at hu hv
        have hlo : ¬ (k : Int) < (k : Int) := by omega
        have rbX := rb.below (Below.refl _ _)
        have rbr := rbX.below hbr
        have HB1 := hide hbr
        have pl1 := padK_length k key 54
        have pl2 := padK_length k key 92
        have pu1 : Under 256 (padK k key 54) := padK_under rk.under (by decide)
        have pu2 : Under 256 (padK k key 92) := padK_under rk.under (by decide)
        generalize hP1 : padK k key 54 = P1 at *
        generalize hP2 : padK k key 92 = P2 at *
        have HP1 := hide hP1
        have HP2 := hide hP2
        clear hP1 hP2
        go_wp2_with (first
          | (at_builtin; refine wpList_app rfl _ _ rfl x1.heap.size _ _ _ P1 b rfl hu rfl rbr tb (by omega) (by omega) hsz ?_; intro v6 w6 how6 hg6; have hv6 := hv.kept hg6 hap.kept; have hb6 := below_append' hbr hsz hu hg6; have ho6 : Own 5 .u8 256 w6 x1.heap.size v6 (P1 ++ b) := ⟨by rw [List.length_append, pl1]; exact how6, pu1.append rbr.under⟩; clear hu hv)
          | (go_at_call 7; refine (HD.out _ _ _ ho6.row ho6.tidy (by rw [List.length_append]; omega)).mono ?_; rintro e w7 ⟨v7, rfl, r7, _, hb7⟩; have hv7 := own_below hv6 hb7; have hb8 := keep_trans (hb6.mono (Nat.le_refl _)) hb7; have l7 := HDl.out (P1 ++ b); have t7 := row_tidy r7 (by rw [l7]; exact hZ); clear hv6 ho6)
          | (at_builtin; refine wpList_app rfl _ _ rfl x1.heap.size _ _ _ P2 (D (P1 ++ b)) rfl hv7 rfl r7 t7 (by omega) (by rw [l7]; omega) hb8.size ?_; intro v9 w9 how9 hg9; have hb9 := below_append' hb8 hb8.size hv7 hg9; have ho9 : Own 5 .u8 256 w9 x1.heap.size v9 (P2 ++ D (P1 ++ b)) := ⟨by rw [List.length_append, pl2]; exact how9, pu2.append r7.under⟩)
          | (go_at_call 7; refine (HD.out _ _ _ ho9.row ho9.tidy (by rw [List.length_append, l7]; omega)).mono ?_; rintro e w10 ⟨v10, rfl, r10, n10, hb10⟩)
          | fail)
        go_ret2
        exact ⟨_, rfl, by rw [HP1.out, HP2.out]; exact r10, n10.mono (keep_trans (Below.refl _ _) hb9).size, keep_trans (keep_trans (Below.refl _ _) hb9) hb10⟩
end Go.Proofs.YtejlmgbmfeacdaaGreatDoor

/- The document's Expand, over whatever digest. -/
namespace Go.Proofs.YtejlmgbmfeacdaaGreatDoor
open Go.RowKit
set_option linter.unusedVariables false
set_option linter.unusedSimpArgs false

theorem row_grown {k : IntKind} {m : Nat} {w w' : World} {v : Value} {l : List Nat} {row : Option Nat} (h : Row k m w v l) (hg : w.grownBy w' row) (hne : ∀ q, v.ownBlock = some q → some q ≠ row) : Row k m w' v l := by
  obtain ⟨a, cap, rfl, h1, h2, h3, h4⟩ := h
  refine ⟨a, cap, rfl, h1, h2, fun hl => ?_, h4⟩
  obtain ⟨b, off, rfl, hc⟩ := h3 hl
  exact ⟨b, off, rfl, fun i hi => hg.cell (hc i hi) (hne b rfl)⟩
/-- what a digest with a key tells -/
def HmaE (F : FuncId) (kind : Int) (kv : Value) (key : List Nat) (D : List Nat → List Nat) (B : Nat) (w : World) : Prop := ∀ (x : World) (bv : Value) (b : List Nat), Below w.heap.size w x → Row .u8 256 x bv b → Tidy bv → b.length ≤ 90000 →
  Calls Tryz.prog F #[.int .i64 kind, kv, bv] x fun e x' => ∃ v', e = .returned (.tuple #[v', .int .i64 0]) ∧ Row .u8 256 x' v' (hmacD D B key b) ∧ New x.heap.size v' ∧ Below x.heap.size x x'
/-- where the loop of keys stands -/
def ExL (w : World) (D : List Nat → List Nat) (B : Nat) (key info : List Nat) (u t i : Value) (wr : World) : Prop := ∃ k : Nat, k ≤ 255 ∧ i = .int .i64 ((k + 1 : Nat) : Int) ∧
  wr.ownsRow w.heap.size 5 1 u (outN (fun i => tN D B key info (i + 1)) k).length (vals .u8 (outN (fun i => tN D B key info (i + 1)) k)) ∧ Row .u8 256 wr t (tN D B key info k) ∧ Tidy t ∧ Below w.heap.size w wr
theorem tN_le (D : List Nat → List Nat) (B Z : Nat) (hDl : ∀ l, (D l).length = Z) (key info : List Nat) : ∀ k, (tN D B key info k).length ≤ Z
  | 0 => Nat.zero_le _
  | k + 1 => Nat.le_of_eq (tN_length D B Z hDl key info k)

set_option maxHeartbeats 1000000 in
set_option maxRecDepth 100000 in
theorem rexp_of (kind : Int) (D : List Nat → List Nat) (B Z : Nat) (key info : List Nat) (kv iv : Value) (n : Nat) (w : World) (hDl : ∀ l, (D l).length = Z) (hDu : ∀ l, Under 256 (D l)) (hZ : 0 < Z) (hZ2 : Z ≤ 64) (hk1 : 1 ≤ kind) (hk5 : kind ≤ 5)
    (hsize : ∀ x, Calls Tryz.prog 12 #[.int .i64 kind] x fun e x' => e = .returned (.int .i64 (Z : Nat)) ∧ Below x.heap.size x x') (hhm : HmaE 9 kind kv key D B w)
    (ri : Row .u8 256 w iv info) (ti : Tidy iv) (hil : info.length ≤ 80000) (hn : n ≤ 255 * Z) :
    Calls Tryz.prog 15 #[.int .i64 kind, kv, iv, .int .i64 (n : Nat)] w fun e w' => ∃ v', e = .returned (.tuple #[v', .int .i64 0]) ∧ Row .u8 256 w' v' (expD D B key info n) ∧ Below w.heap.size w w' := by
  obtain ⟨ia, ic, rfl⟩ := ri.form
  have i1 : ¬ kind < 1 := by omega
  have i5 : ¬ 5 < kind := by omega
  have n0 : ¬ (n : Int) < 0 := by omega
  obtain ⟨N, hN⟩ : ∃ N : Nat, N = 255 * Z := ⟨_, rfl⟩
  have e_N : 255 * (Z : Int) = (N : Int) := by omega
  have s_N : IntKind.i64.wrap (N : Int) = (N : Int) := by rw [IntKind.wrap_i64]; omega
  have nN : ¬ (N : Int) < (n : Int) := by omega
  have nNn : ¬ N < n := by omega
  have HHM := hide hhm
  have HDl := hide hDl
  have hun : ∀ k, Under 256 (outN (fun i => tN D B key info (i + 1)) k) := fun k => outN_under _ (fun i => hDu _) k
  have hnn : n ≤ 255 * 64 := by omega
  clear hhm hDl hDu
  have HN := hide hN
  clear hN
  go_enter Tryz.func15, Tryz.ntmps15
  go_wp2_with (first
    | (go_at_call 12; refine (hsize _).mono ?_; rintro e x1 ⟨rfl, hb1⟩)
    | fail)
  clear e_N s_N nN nNn n0 i1 i5 hsize
  go_loopw [10, 11, 12] (fun u t i wr => ExL w D B key info u t i wr) (fun _ _ i _ => 256 - (intOf i).toNat)
  case atStart => exact ⟨0, Nat.zero_le _, rfl, World.ownsRow_nil _ _ _ _, Row.nil _ _ _, tidy_nil, hb1⟩
  case round =>
    obtain ⟨k, hk, rfl, hu, rt, tt, hbr⟩ := hrel
    have hsz := hbr.size
    obtain ⟨ta, tc, rfl⟩ := rt.form
    have htl := tN_le D B Z HDl.out key info k
    have hol := outN_length (fun i => tN D B key info (i + 1)) Z (fun i => tN_length D B Z HDl.out key info i) k
    have hok := expD_at D B Z HDl.out hZ key info (n := n) (i := k)
    have hO1 : outN (fun i => tN D B key info (i + 1)) (k + 1) = outN (fun i => tN D B key info (i + 1)) k ++ tN D B key info (k + 1) := rfl
    have hT1 : tN D B key info (k + 1) = hmacD D B key (tN D B key info k ++ info ++ [(k + 1) % 256]) := rfl
    have hou := hun k
    have HOK := hide hok
    have HO1 := hide hO1
    have HT1 := hide hT1
    have hkz : k * Z < 255 * Z → k < 255 := fun h => Nat.lt_of_mul_lt_mul_right h
    have hNN := HN.out
    clear hok hO1 hT1
    generalize outN (fun i => tN D B key info (i + 1)) k = O at *
    generalize tN D B key info k = T at *
    by_cases hlt : O.length < n
    · have hltI : (O.length : Int) < (n : Int) := by omega
      have hk255 : k < 255 := hkz (by omega)
      have hOn : O.length ≤ 20000 := by omega
      clear hol hNN hkz
      obtain ⟨c, hc⟩ : ∃ c : Nat, c = (k + 1) % 256 := ⟨_, rfl⟩
      have c8 : c < 256 := by omega
      have u_c : IntKind.u8.wrap ((k + 1 : Nat) : Int) = (c : Int) := by rw [IntKind.wrap_u8]; omega
      rw [← hc] at HT1
      obtain ⟨K1, hK1⟩ : ∃ x : Nat, x = k + 1 := ⟨_, rfl⟩
      rw [← hK1] at u_c
      obtain ⟨K2, hK2⟩ : ∃ x : Nat, x = k + 1 + 1 := ⟨_, rfl⟩
      have e_K2 : (K1 : Int) + 1 = (K2 : Int) := by omega
      have s_K2 : IntKind.i64.wrap (K2 : Int) = (K2 : Int) := by rw [IntKind.wrap_i64]; omega
      have HK2 := hide hK2
      clear hK2
      have HC := hide hc
      have HK1 := hide hK1
      obtain ⟨a, cap, rfl⟩ := own_slice hu
      have one1 := lit_row .u8 256 wr [c] 5 (Under.one c8) (show 1 ≤ maxLen by decide)
      have hbo := keep_alloc wr (.cells #[.int .u8 (c : Nat)] 5)
      have hrr := rows_lit3 (rt.below hbo) ((ri.below hbr).below hbo) one1 tt ti (tidy_at _ _ _)
      rw [World.size_alloc] at hrr
      have hfl : [T, info, [c]].flatten = T ++ info ++ [c] := by simp
      have hb2 := keep_trans hbo (keep_alloc _ (.cells #[.slice ta T.length tc, .slice ia info.length ic, .slice (some ⟨wr.heap.size, 0, none⟩) 1 1] 22))
      have h4l := hmacD_length D B Z HDl.out key (T ++ info ++ [c])
      clear hc
      rw [show (k + 1 : Nat) = K1 from hK1.symm]
      clear hK1
      go_wp2_with (first
        | (go_at_call 27; refine (rjoin_any _ [T, info, [c]] _ hrr (by simp; omega)).mono ?_; rintro e w3 ⟨v3, rfl, hO3, hb3⟩; rw [hfl] at hO3; have hb4 := keep_trans hb2 hb3)
        | (go_at_call 9; refine (HHM.out _ _ _ (keep_trans hbr hb4) hO3.row hO3.tidy (by simp; omega)).mono ?_; rintro e w5 ⟨v5, rfl, r5, n5, hb5⟩; have hb6 := keep_trans hb4 hb5; have hu6 := own_below hu hb6; have t5 := row_tidy r5 (by rw [h4l]; exact hZ))
        | (at_builtin; refine wpList_app rfl _ _ rfl w.heap.size _ _ _ O _ rfl hu6 rfl r5 t5 (by omega) (by rw [h4l]; omega) (keep_trans hbr hb6).size ?_; intro v7 w7 how7 hg7)
        | fail)
      have hb7 := below_append' (keep_trans hbr hb6) (keep_trans hbr hb6).size hu6 hg7
      have r7 := row_grown r5 hg7 (fun q hq he => by
        have h1 := n5 q hq
        have h2 := (hu.lt q he.symm).2
        have h3 := hb4.size
        omega)
      have HH := hide (show ExL w D B key info v7 v5 (.int .i64 (K2 : Int)) w7 from ⟨k + 1, by omega, by rw [HK2.out], by rw [HO1.out, HT1.out, List.length_append]; exact how7, by rw [HT1.out]; exact r7, t5, hb7⟩)
      clear hu hu6 how7 hg7 r5 r7 hb7 rt hrr one1
      go_roundw
      case rel => exact HH.out
      case measure => have h1 := HK1.out; have h2 := HK2.out; simp [intOf]; omega
    · have hltI : ¬ (O.length : Int) < (n : Int) := by omega
      have hro : Row .u8 256 wr u10 O := Own.row (e := 5) (B := w.heap.size) ⟨hu, hou⟩
      obtain ⟨a, cap, rfl⟩ := own_slice hu
      have hcap : n ≤ cap := by obtain ⟨_, _, he, h1, _⟩ := hro; simp at he; omega
      have hsl := slice_to a O.length cap n hcap
      have hcut := hro.cut (M := n) (by omega)
      rw [HOK.out (by omega)] at hcut
      clear hol hNN hkz hro
      go_wp2
      go_ret2
      exact ⟨_, rfl, hcut, hbr⟩
end Go.Proofs.YtejlmgbmfeacdaaGreatDoor
