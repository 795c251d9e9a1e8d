/- Where the code's Wrap and Unwrap refuse; both sides, whatever comes; there and back. -/
import Derived.Test.YtjnlkihhmenfnaaWCu
import Derived.Test.YtjnlkihhmenfnaaABl
import Derived.Test.YtjnlkihhmenfnaaWRc
import Derived.Test.YtjnlkihhmenfnaaWRu
namespace Go.Proofs.Ytjnlkihhmenfnaa
open Go.RowKit Go.Shelf
set_option linter.unusedVariables false
set_option linter.unusedSimpArgs false

set_option maxHeartbeats 2000000 in
set_option maxRecDepth 100000 in
theorem cwr_no (key b : List Nat) (kv bv : Value) (w : World) (c : Int) (rk : Row .u8 256 w kv key) (rb : Row .u8 256 w bv b) (hc : c = 10 ∨ c = 14) (hf : ∀ y, Row .u8 256 y kv key → Calls Try.prog 11 #[kv, .int .i64 (b.length : Int)] y fun e y' => e = .returned (.int .i64 c) ∧ y' = y) :
    Calls Try.prog 6 #[kv, bv] w fun e w' => e = .returned (.tuple #[.slice none 0 0, .int .i64 c]) ∧ Below w.heap.size w w' := by
  obtain ⟨ka, kc, rfl, _⟩ := rk.opens rfl
  obtain ⟨ba, bc, rfl, _⟩ := rb.opens rfl
  have hc0 : ¬ (c = 0) := by omega
  have hcb : (c != 0) = true := by simp [hc0]
  clear hc
  go_enter Try.func6, Try.ntmps6
  go_wp2_with (first
    | (go_at_call 11; refine (hf _ (rk.below (keep_trans (keep_trans (keep_alloc _ _) (keep_alloc _ _)) (keep_alloc _ _)))).mono ?_; rintro e yy ⟨rfl, hy⟩; obtain rfl := hy.symm)
    | fail)
  obtain ⟨x1, x2, x3, _, hbw⟩ := boxes3 w 22 22 24 (.slice ka key.length kc) (.slice none 0 0) (.int .i64 c) _ rfl
  refine bodyPost_ret (results_cells2 rfl _ _ (w.heap.size + 1) (w.heap.size + 1 + 1) _ _ rfl rfl (loadVar_plain _ _ _ _ _ _ x2 Try.underlying22 rfl) (loadVar_plain _ _ _ _ _ _ x3 Try.underlying24 rfl)) rfl ?_
  exact ⟨rfl, hbw⟩
set_option maxHeartbeats 2000000 in
set_option maxRecDepth 100000 in
theorem cux_no (key b : List Nat) (kv bv : Value) (w : World) (c s : Int) (rk : Row .u8 256 w kv key) (rb : Row .u8 256 w bv b) (hc : c = 10 ∨ c = 14) (hs : s = (b.length : Int) - 8) (hf : ∀ y, Row .u8 256 y kv key → Calls Try.prog 11 #[kv, .int .i64 s] y fun e y' => e = .returned (.int .i64 c) ∧ y' = y) :
    Calls Try.prog 8 #[kv, bv] w fun e w' => e = .returned (.tuple #[.slice none 0 0, .int .i64 c]) ∧ Below w.heap.size w w' := by
  obtain ⟨ka, kc, rfl, _⟩ := rk.opens rfl
  obtain ⟨ba, bc, rfl, l1, l2, _⟩ := rb.opens rfl
  have hc0 : ¬ (c = 0) := by omega
  have hcb : (c != 0) = true := by simp [hc0]
  have e_s : (b.length : Int) - 8 = s := hs.symm
  have w_s : IntKind.i64.wrap s = s := by rw [IntKind.wrap_i64]; omega
  clear hc hs
  go_enter Try.func8, Try.ntmps8
  go_wp2_with (first
    | (go_at_call 11; refine (hf _ (rk.below (keep_trans (keep_trans (keep_alloc _ _) (keep_alloc _ _)) (keep_alloc _ _)))).mono ?_; rintro e yy ⟨rfl, hy⟩; obtain rfl := hy.symm)
    | fail)
  obtain ⟨x1, x2, x3, _, hbw⟩ := boxes3 w 22 22 24 (.slice ka key.length kc) (.slice none 0 0) (.int .i64 c) _ rfl
  refine bodyPost_ret (results_cells2 rfl _ _ (w.heap.size + 1) (w.heap.size + 1 + 1) _ _ rfl rfl (loadVar_plain _ _ _ _ _ _ x2 Try.underlying22 rfl) (loadVar_plain _ _ _ _ _ _ x3 Try.underlying24 rfl)) rfl ?_
  exact ⟨rfl, hbw⟩
section
variable {key b : List Nat} {kv bv : Value} {w : World}
theorem cwr_key (rk : Row .u8 256 w kv key) (rb : Row .u8 256 w bv b) (hk : ¬ Sz3 key.length) : Calls Try.prog 6 #[kv, bv] w (TellsW w [] 10) :=
  (cwr_no key b kv bv w 10 rk rb (.inl rfl) (fun y r => wfit_key key kv _ y r hk)).mono fun e y' h => tells_nil h.1 h.2
theorem cux_key (rk : Row .u8 256 w kv key) (rb : Row .u8 256 w bv b) (hk : ¬ Sz3 key.length) : Calls Try.prog 8 #[kv, bv] w (TellsW w [] 10) :=
  (cux_no key b kv bv w 10 _ rk rb (.inl rfl) rfl (fun y r => wfit_key key kv _ y r hk)).mono fun e y' h => tells_nil h.1 h.2
theorem cwr_size (rk : Row .u8 256 w kv key) (rb : Row .u8 256 w bv b) (hk : Sz3 key.length) (hp : b.length < 16 ∨ 4096 < b.length ∨ b.length % 8 ≠ 0) : Calls Try.prog 6 #[kv, bv] w (TellsW w [] 14) :=
  (cwr_no key b kv bv w 14 rk rb (.inr rfl) (fun y r => wfit_size key kv _ y r hk (by omega))).mono fun e y' h => tells_nil h.1 h.2
theorem cux_size (rk : Row .u8 256 w kv key) (rb : Row .u8 256 w bv b) (hk : Sz3 key.length) (hp : b.length < 24 ∨ 4104 < b.length ∨ b.length % 8 ≠ 0) : Calls Try.prog 8 #[kv, bv] w (TellsW w [] 14) :=
  (cux_no key b kv bv w 14 _ rk rb (.inr rfl) rfl (fun y r => wfit_size key kv _ y r hk (by omega))).mono fun e y' h => tells_nil h.1 h.2
/-- both sides, whatever comes -/
theorem both_wr (rk : Row .u8 256 w kv key) (rb : Row .u8 256 w bv b) :
    ∃ (c : Int) (X : List Nat), (∀ y, Below w.heap.size w y → Calls Try.prog 6 #[kv, bv] y (TellsW y X c)) ∧ (∀ y, Below w.heap.size w y → Calls Try.prog 7 #[kv, bv] y (TellsW y X c)) := by
  by_cases hk : Sz3 key.length
  · by_cases hp : b.length < 16 ∨ 4096 < b.length ∨ b.length % 8 ≠ 0
    · exact ⟨14, [], fun y h => cwr_size (rk.below h) (rb.below h) hk hp, fun y h => (rwr_size key b kv bv y (rk.below h) (rb.below h) hk hp).mono fun e y' h => tells_nil h.1 h.2⟩
    · obtain ⟨n, hn⟩ : ∃ n, b.length = 8 * n := ⟨b.length / 8, by omega⟩
      exact ⟨0, wrapL (thA' key) b, fun y h => cwr_ok key b kv bv n y (rk.below h) (rb.below h) hk hn (by omega) (by omega), fun y h => rwr_ok key b kv bv y (rk.below h) (rb.below h) hk n hn (by omega) (by omega)⟩
  · exact ⟨10, [], fun y h => cwr_key (rk.below h) (rb.below h) hk, fun y h => (rwr_key key b kv bv y (rk.below h) hk).mono fun e y' h => tells_nil h.1 h.2⟩
theorem both_ux (rk : Row .u8 256 w kv key) (rb : Row .u8 256 w bv b) :
    ∃ (c : Int) (X : List Nat), (∀ y, Below w.heap.size w y → Calls Try.prog 8 #[kv, bv] y (TellsW y X c)) ∧ (∀ y, Below w.heap.size w y → Calls Try.prog 9 #[kv, bv] y (TellsW y X c)) := by
  by_cases hk : Sz3 key.length
  · by_cases hp : b.length < 24 ∨ 4104 < b.length ∨ b.length % 8 ≠ 0
    · exact ⟨14, [], fun y h => cux_size (rk.below h) (rb.below h) hk hp, fun y h => (rux_size key b kv bv y (rk.below h) (rb.below h) hk hp).mono fun e y' h => tells_nil h.1 h.2⟩
    · obtain ⟨n, hn⟩ : ∃ n, b.length = 8 * n + 8 := ⟨b.length / 8 - 1, by omega⟩
      exact ⟨uwC (bkA' key) b, uwX (bkA' key) b, fun y h => cux_ok key b kv bv n y (rk.below h) (rb.below h) hk hn (by omega) (by omega), fun y h => rux_ok key b kv bv y (rk.below h) (rb.below h) hk n hn (by omega) (by omega)⟩
  · exact ⟨10, [], fun y h => cux_key (rk.below h) (rb.below h) hk, fun y h => (rux_key key b kv bv y (rk.below h) hk).mono fun e y' h => tells_nil h.1 h.2⟩
/-- what is wrapped is unwrapped as it was -/
theorem wk_wrap (rk : Row .u8 256 w kv key) (rb : Row .u8 256 w bv b) :
    (∃ c : Int, c ≠ 0 ∧ ∀ y, Below w.heap.size w y → Calls Try.prog 6 #[kv, bv] y (TellsW y [] c)) ∨
    (∃ X, X.length = b.length + 8 ∧ (∀ y, Below w.heap.size w y → Calls Try.prog 6 #[kv, bv] y (TellsW y X 0)) ∧ ∀ y v, Below w.heap.size w y → Row .u8 256 y v X → Calls Try.prog 8 #[kv, v] y (TellsW y b 0)) := by
  by_cases hk : Sz3 key.length
  · by_cases hp : b.length < 16 ∨ 4096 < b.length ∨ b.length % 8 ≠ 0
    · exact .inl ⟨14, by decide, fun y h => cwr_size (rk.below h) (rb.below h) hk hp⟩
    · obtain ⟨n, hn⟩ : ∃ n, b.length = 8 * n := ⟨b.length / 8, by omega⟩
      have hl := (wrapL_len (T := thA' key) (fun s h => thA'_b rk.under h) (by omega) hn (by omega) rb.under).1
      refine .inr ⟨wrapL (thA' key) b, hl, fun y h => cwr_ok key b kv bv n y (rk.below h) (rb.below h) hk hn (by omega) (by omega), fun y v h rv => ?_⟩
      have := cux_ok key (wrapL (thA' key) b) kv v n y (rk.below h) rv hk (by omega) (by omega) (by omega)
      obtain ⟨u1, u2⟩ := uw_yes (unw_wrap (T := thA' key) (B := bkA' key) (fun s h => thA'_b rk.under h) (fun s h => bk_th' rk.under h) (by omega) hn (by omega) rb.under)
      rw [u1, u2] at this
      exact this
  · exact .inl ⟨10, by decide, fun y h => cwr_key (rk.below h) (rb.below h) hk⟩
/-- what is unwrapped is wrapped as it was read -/
theorem wk_un (rk : Row .u8 256 w kv key) (rb : Row .u8 256 w bv b) :
    (∃ c : Int, c ≠ 0 ∧ ∀ y, Below w.heap.size w y → Calls Try.prog 8 #[kv, bv] y (TellsW y [] c)) ∨
    (∃ Y, (∀ y, Below w.heap.size w y → Calls Try.prog 8 #[kv, bv] y (TellsW y Y 0)) ∧ ∀ y v, Below w.heap.size w y → Row .u8 256 y v Y → Calls Try.prog 6 #[kv, v] y (TellsW y b 0)) := by
  by_cases hk : Sz3 key.length
  · by_cases hp : b.length < 24 ∨ 4104 < b.length ∨ b.length % 8 ≠ 0
    · exact .inl ⟨14, by decide, fun y h => cux_size (rk.below h) (rb.below h) hk hp⟩
    · obtain ⟨n, hn⟩ : ∃ n, b.length = 8 * n + 8 := ⟨b.length / 8 - 1, by omega⟩
      have hux := fun y (h : Below w.heap.size w y) => cux_ok key b kv bv n y (rk.below h) (rb.below h) hk hn (by omega) (by omega)
      cases hU : unwO (bkA' key) b with
      | none =>
        obtain ⟨u1, u2⟩ := uw_no hU
        rw [u1, u2] at hux
        exact .inl ⟨16, by decide, hux⟩
      | some Y =>
        obtain ⟨u1, u2⟩ := uw_yes hU
        rw [u1, u2] at hux
        obtain ⟨h1, h2⟩ := wrap_unw (T := thA' key) (B := bkA' key) (fun s h => bkA'_b rk.under h) (fun s h => th_bk' rk.under h) (by omega) hn (by omega) rb.under hU
        refine .inr ⟨Y, hux, fun y v h rv => ?_⟩
        have := cwr_ok key Y kv v n y (rk.below h) rv hk h2 (by omega) (by omega)
        rw [h1] at this
        exact this
  · exact .inl ⟨10, by decide, fun y h => cux_key (rk.below h) (rb.below h) hk⟩
end
theorem mk_8 (y : World) : (Instr.makeSlice 22 (.int .i64 8) (.int .i64 8)).run Try.prog y = .ok (.slice (some ⟨y.heap.size, 0, none⟩) 8 8) (y.alloc (.cells (arr .u8 (zA 8)) 5)) := by
  obtain ⟨i0, hi, hz0, hz1, hz2⟩ := info_parts Try.info5
  have := run_makeSlice (P := Try.prog) y 22 5 i0 (.int .u8 0) Try.underlying22 hi hz0 .i64 .i64 8 8 (by decide) (by decide) (by rw [hz1]; decide) (by rw [hz2]; decide) (by decide)
  rw [hz1, show madeCells (Value.int .u8 0).cells (Int.toNat 8 * 1) = arr .u8 (zA 8) by kernel_rfl] at this
  exact this
theorem mk_24 (y : World) : (Instr.makeSlice 22 (.int .i64 24) (.int .i64 24)).run Try.prog y = .ok (.slice (some ⟨y.heap.size, 0, none⟩) 24 24) (y.alloc (.cells (arr .u8 (zA 24)) 5)) := by
  obtain ⟨i0, hi, hz0, hz1, hz2⟩ := info_parts Try.info5
  have := run_makeSlice (P := Try.prog) y 22 5 i0 (.int .u8 0) Try.underlying22 hi hz0 .i64 .i64 24 24 (by decide) (by decide) (by rw [hz1]; decide) (by rw [hz2]; decide) (by decide)
  rw [hz1, show madeCells (Value.int .u8 0).cells (Int.toNat 24 * 1) = arr .u8 (zA 24) by kernel_rfl] at this
  exact this
theorem mk_16W (y : World) : (Instr.makeSlice 22 (.int .i64 16) (.int .i64 16)).run Try.prog y = .ok (.slice (some ⟨y.heap.size, 0, none⟩) 16 16) (y.alloc (.cells (arr .u8 (zA 16)) 5)) := by
  obtain ⟨i0, hi, hz0, hz1, hz2⟩ := info_parts Try.info5
  have := run_makeSlice (P := Try.prog) y 22 5 i0 (.int .u8 0) Try.underlying22 hi hz0 .i64 .i64 16 16 (by decide) (by decide) (by rw [hz1]; decide) (by rw [hz2]; decide) (by decide)
  rw [hz1, show madeCells (Value.int .u8 0).cells (Int.toNat 16 * 1) = arr .u8 (zA 16) by kernel_rfl] at this
  exact this
/-- two rows of zeros, laid one behind the other -/
theorem two_zeros (w : World) (a b : Nat) (ha : a ≤ maxLen) (hb : b ≤ maxLen) :
    Row .u8 256 ((w.alloc (.cells (arr .u8 (zA a)) 5)).alloc (.cells (arr .u8 (zA b)) 5)).drew (.slice (some ⟨w.heap.size, 0, none⟩) a a) (zA a) ∧
    Row .u8 256 ((w.alloc (.cells (arr .u8 (zA a)) 5)).alloc (.cells (arr .u8 (zA b)) 5)).drew (.slice (some ⟨w.heap.size + 1, 0, none⟩) b b) (zA b) ∧
    Below w.heap.size w ((w.alloc (.cells (arr .u8 (zA a)) 5)).alloc (.cells (arr .u8 (zA b)) 5)).drew := by
  refine ⟨lies_row (((Lies.new .u8 5 w (zA a)).alloc (.cells (arr .u8 (zA b)) 5)).below ((Below.refl _ _).drew)) (zA_len a) (Under.replicate 256 a (by decide)) ha, ?_, (keep_trans (keep_alloc w (.cells (arr .u8 (zA a)) 5)) (keep_alloc _ (.cells (arr .u8 (zA b)) 5))).drew⟩
  have := (Lies.new .u8 5 (w.alloc (.cells (arr .u8 (zA a)) 5)) (zA b)).below ((Below.refl _ _).drew)
  rw [World.size_alloc] at this
  exact lies_row this (zA_len b) (Under.replicate 256 b (by decide)) hb
theorem aw_wr {y : World} {kv bv : Value} (rk : Row .u8 256 y kv (zA 16)) (rb : Row .u8 256 y bv (zA 8)) : Calls Try.prog 6 #[kv, bv] y fun e y' => ∃ v, e = .returned (.tuple #[v, .int .i64 14]) ∧ Below y.heap.size y y' :=
  (cwr_size rk rb (by unfold Sz3; rw [zA_len]; decide) (by rw [zA_len]; decide)).mono fun e y' ⟨v, h1, _, _, h2⟩ => ⟨v, h1, h2⟩
theorem aw_ux {y : World} {kv bv : Value} (rk : Row .u8 256 y kv (zA 16)) (rb : Row .u8 256 y bv (zA 24)) : Calls Try.prog 8 #[kv, bv] y fun e y' => ∃ v, e = .returned (.tuple #[v, .int .i64 16]) ∧ Below y.heap.size y y' := by
  have := cux_ok (zA 16) (zA 24) kv bv 2 y rk rb (by unfold Sz3; rw [zA_len]; decide) (by rw [zA_len]) (by decide) (by decide)
  obtain ⟨u1, u2⟩ := uw_no (B := bkA' (zA 16)) (c := zA 24) unw_ex
  rw [u1, u2] at this
  exact this.mono fun e y' ⟨v, h1, _, _, h2⟩ => ⟨v, h1, h2⟩
set_option maxHeartbeats 8000000 in
set_option maxRecDepth 100000 in
theorem wawake_any (w : World) : Calls Try.prog 5 #[] w fun e w' => e = .returned (.bool true) ∧ Below w.heap.size w w' := by
  obtain ⟨a1, a2, a3⟩ := two_zeros w 16 8 (by unfold maxLen; decide) (by unfold maxLen; decide)
  obtain ⟨b1, b2, b3⟩ := two_zeros w 8 16 (by unfold maxLen; decide) (by unfold maxLen; decide)
  have kA := aw_wr a1 a2
  have kB := aw_wr b2 b1
  have hU := fun x => aw_ux (two_zeros x 16 24 (by unfold maxLen; decide) (by unfold maxLen; decide)).1 (two_zeros x 16 24 (by unfold maxLen; decide) (by unfold maxLen; decide)).2.1
  have hV := fun x => aw_ux (two_zeros x 24 16 (by unfold maxLen; decide) (by unfold maxLen; decide)).2.1 (two_zeros x 24 16 (by unfold maxLen; decide) (by unfold maxLen; decide)).1
  have bU := fun x => (two_zeros x 16 24 (by unfold maxLen; decide) (by unfold maxLen; decide)).2.2
  have bV := fun x => (two_zeros x 24 16 (by unfold maxLen; decide) (by unfold maxLen; decide)).2.2
  have HA := hide a3
  have HB := hide b3
  have HU := hide bU
  have HV := hide bV
  have m8 := mk_8
  have m16 := mk_16W
  have m24 := mk_24
  clear a1 a2 a3 b1 b2 b3 bU bV
  go_enter Try.func5, Try.ntmps5
  go_wp2
  go_region_with (first
    | (go_at_call 6; with_reducible refine kA.mono ?_; rintro e w1 ⟨v1, rfl, hb1⟩; have hbw := keep_trans HA.out hb1)
    | (go_at_call 6; with_reducible refine kB.mono ?_; rintro e w1 ⟨v1, rfl, hb1⟩; have hbw := keep_trans HB.out hb1)
    | fail)
  all_goals
    have kU := hU w1
    have kV := hV w1
    have eU := HU.out w1
    have eV := HV.out w1
    have HEU := hide eU
    have HEV := hide eV
    clear kA kB HA HB hb1 hU hV HU HV eU eV
    go_wp2
    go_region_with (first
      | (go_at_call 8; with_reducible refine kU.mono ?_; rintro e w2 ⟨v2, rfl, hb2⟩; have hbx := keep_trans HEU.out hb2)
      | (go_at_call 8; with_reducible refine kV.mono ?_; rintro e w2 ⟨v2, rfl, hb2⟩; have hbx := keep_trans HEV.out hb2)
      | fail)
    all_goals
      go_wp2
      go_ret
      exact ⟨rfl, keep_trans hbw hbx⟩
end Go.Proofs.Ytjnlkihhmenfnaa
