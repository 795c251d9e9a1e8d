/- The code's fit; Block at a key of another length; awake. -/
import Derived.Test.YteiknfcegchbcaaJBx
import Derived.Test.YteiknfcegchbcaaAEch
namespace Go.Proofs.Yteiknfcegchbcaa
open Go.RowKit
set_option linter.unusedVariables false
set_option linter.unusedSimpArgs false

/-- how many bytes a key may have -/
def Sz3 (n : Nat) : Prop := n = 16 ∨ n = 24 ∨ n = 32
set_option maxHeartbeats 2000000 in
set_option maxRecDepth 100000 in
theorem fit_key (key : List Nat) (kv bv : Value) (w : World) (rk : Row .u8 256 w kv key) (hk : ¬ Sz3 key.length) :
    Calls Try.prog 21 #[kv, bv] w fun e w' => e = .returned (.int .i64 10) ∧ w' = w := by
  obtain ⟨ka, kc, rfl, lc1, lc2, _⟩ := rk.opens rfl
  generalize key.length = L at *
  have h1 : ¬ ((L : Int) = 16) := fun h => hk (.inl (by omega))
  have h2 : ¬ ((L : Int) = 24) := fun h => hk (.inr (.inl (by omega)))
  have h3 : ¬ ((L : Int) = 32) := fun h => hk (.inr (.inr (by omega)))
  clear hk
  go_enter Try.func21, Try.ntmps21
  go_wp2
  go_ret
  exact ⟨rfl, rfl⟩
set_option maxHeartbeats 2000000 in
set_option maxRecDepth 100000 in
theorem fit_size (key b : List Nat) (kv bv : Value) (w : World) (rk : Row .u8 256 w kv key) (rb : Row .u8 256 w bv b) (hk : Sz3 key.length) (hb : b.length ≠ 16) :
    Calls Try.prog 21 #[kv, bv] w fun e w' => e = .returned (.int .i64 14) ∧ w' = w := by
  obtain ⟨ka, kc, rfl, lc1, lc2, _⟩ := rk.opens rfl
  obtain ⟨ba, bc, rfl, l1, l2, _⟩ := rb.opens rfl
  generalize key.length = L at *
  generalize b.length = M at *
  have h1 : ¬ ((M : Int) = 16) := by omega
  rcases hk with h | h | h <;> subst h
  · go_enter Try.func21, Try.ntmps21
    go_wp2
    go_ret
    exact ⟨rfl, rfl⟩
  · go_enter Try.func21, Try.ntmps21
    go_wp2
    go_ret
    exact ⟨rfl, rfl⟩
  · go_enter Try.func21, Try.ntmps21
    go_wp2
    go_ret
    exact ⟨rfl, rfl⟩
set_option maxHeartbeats 2000000 in
set_option maxRecDepth 100000 in
theorem fit_ok (key b : List Nat) (kv bv : Value) (w : World) (rk : Row .u8 256 w kv key) (rb : Row .u8 256 w bv b) (hk : Sz3 key.length) (hb : b.length = 16) :
    Calls Try.prog 21 #[kv, bv] w fun e w' => e = .returned (.int .i64 0) ∧ w' = w := by
  obtain ⟨ka, kc, rfl, lc1, lc2, _⟩ := rk.opens rfl
  obtain ⟨ba, bc, rfl, l1, l2, _⟩ := rb.opens hb
  generalize key.length = L at *
  rcases hk with h | h | h <;> subst h
  · go_enter Try.func21, Try.ntmps21
    go_wp2
    go_ret
    exact ⟨rfl, rfl⟩
  · go_enter Try.func21, Try.ntmps21
    go_wp2
    go_ret
    exact ⟨rfl, rfl⟩
  · go_enter Try.func21, Try.ntmps21
    go_wp2
    go_ret
    exact ⟨rfl, rfl⟩
set_option maxHeartbeats 2000000 in
set_option maxRecDepth 100000 in
theorem cblk_key (key : List Nat) (kv bv : Value) (w : World) (rk : Row .u8 256 w kv key) (hk : ¬ Sz3 key.length) :
    Calls Try.prog 8 #[kv, bv] w fun e w' => e = .returned (.tuple #[.slice none 0 0, .int .i64 10]) ∧ Below w.heap.size w w' := by
  have hf := fit_key key kv bv w rk hk
  go_enter Try.func8, Try.ntmps8
  go_wp2_with (first | (go_at_call 21; refine hf.mono ?_; rintro e w1 ⟨rfl, hy⟩; obtain rfl := hy.symm) | fail)
  go_ret2
  exact ⟨rfl, Below.refl _ _⟩
theorem lies_row {t : TypeId} {w : World} {g n : Nat} {l : List Nat} (h : Lies .u8 t w g l) (hl : l.length = n) (hu : Under 256 l) (hm : n ≤ maxLen) : Row .u8 256 w (.slice (some ⟨g, 0, none⟩) n n) l :=
  ⟨_, _, by rw [hl], by omega, hm, fun _ => ⟨g, 0, rfl, fun i hi => by rw [Nat.zero_add]; exact h.cell hi⟩, hu⟩
theorem zA_under (n : Nat) : Under 256 (zA n) := Under.replicate 256 n (by decide)
theorem mk_15 (y : World) : (Instr.makeSlice 22 (.int .i64 15) (.int .i64 15)).run Try.prog y = .ok (.slice (some ⟨y.heap.size, 0, none⟩) 15 15) (y.alloc (.cells (arr .u8 (zA 15)) 5)) := by
  obtain ⟨i0, hi, hz0, hz1, hz2⟩ := info_parts Try.info5
  have := run_makeSlice (P := Try.prog) y 22 5 i0 (.int .u8 0) Try.underlying22 hi hz0 .i64 .i64 15 15 (by decide) (by decide) (by rw [hz1]; decide) (by rw [hz2]; decide) (by decide)
  rw [hz1, show madeCells (Value.int .u8 0).cells (Int.toNat 15 * 1) = arr .u8 (zA 15) by kernel_rfl] at this
  exact this
theorem mk_16 (y : World) : (Instr.makeSlice 22 (.int .i64 16) (.int .i64 16)).run Try.prog y = .ok (.slice (some ⟨y.heap.size, 0, none⟩) 16 16) (y.alloc (.cells (arr .u8 (zA 16)) 5)) := by
  obtain ⟨i0, hi, hz0, hz1, hz2⟩ := info_parts Try.info5
  have := run_makeSlice (P := Try.prog) y 22 5 i0 (.int .u8 0) Try.underlying22 hi hz0 .i64 .i64 16 16 (by decide) (by decide) (by rw [hz1]; decide) (by rw [hz2]; decide) (by decide)
  rw [hz1, show madeCells (Value.int .u8 0).cells (Int.toNat 16 * 1) = arr .u8 (zA 16) by kernel_rfl] at this
  exact this
theorem zeros_key {y : World} {v : Value} (h : Row .u8 256 y v (zA 15)) (bv : Value) :
    Calls Try.prog 8 #[v, bv] y fun e w' => e = .returned (.tuple #[.slice none 0 0, .int .i64 10]) ∧ Below y.heap.size y w' := cblk_key _ v bv y h (by unfold Sz3; rw [zA_len]; decide)
set_option maxHeartbeats 8000000 in
set_option maxRecDepth 100000 in
theorem aawake_any (w : World) : Calls Try.prog 7 #[] w fun e w' => e = .returned (.bool true) ∧ Below w.heap.size w w' := by
  obtain ⟨i0, hi, hz0, hz1, hz2⟩ := info_parts Try.info5
  have hb0 := fun y => cbox_any 0 (by decide) y
  have hb83 := fun y => cbox_any 83 (by decide) y
  have hm := fun y => cmul_any 87 131 (by decide) (by decide) y
  have e0 : boxB 0 = 99 := by decide
  have e83 : boxB 83 = 237 := by kernel_rfl
  have em : mulB 87 131 = 193 := by decide
  rw [e0] at hb0
  rw [e83] at hb83
  rw [em] at hm
  clear e0 e83 em
  have rA : Row .u8 256 ((w.alloc (.cells (arr .u8 (zA 15)) 5)).alloc (.cells (arr .u8 (zA 16)) 5)).drew (.slice (some ⟨w.heap.size, 0, none⟩) 15 15) (zA 15) := lies_row (((Lies.new .u8 5 w (zA 15)).alloc (.cells (arr .u8 (zA 16)) 5)).below ((Below.refl _ _).drew)) (zA_len 15) (zA_under 15) (by unfold maxLen; decide)
  have rB : Row .u8 256 ((w.alloc (.cells (arr .u8 (zA 16)) 5)).alloc (.cells (arr .u8 (zA 15)) 5)).drew (.slice (some ⟨w.heap.size + 1, 0, none⟩) 15 15) (zA 15) := by
    have := (Lies.new .u8 5 (w.alloc (.cells (arr .u8 (zA 16)) 5)) (zA 15)).below ((Below.refl _ _).drew)
    rw [World.size_alloc] at this
    exact lies_row this (zA_len 15) (zA_under 15) (by unfold maxLen; decide)
  have kA := zeros_key rA (.slice (some ⟨w.heap.size + 1, 0, none⟩) 16 16)
  have kB := zeros_key rB (.slice (some ⟨w.heap.size, 0, none⟩) 16 16)
  have bA : Below w.heap.size w ((w.alloc (.cells (arr .u8 (zA 15)) 5)).alloc (.cells (arr .u8 (zA 16)) 5)).drew := (keep_trans (keep_alloc w (.cells (arr .u8 (zA 15)) 5)) (keep_alloc _ (.cells (arr .u8 (zA 16)) 5))).drew
  have bB : Below w.heap.size w ((w.alloc (.cells (arr .u8 (zA 16)) 5)).alloc (.cells (arr .u8 (zA 15)) 5)).drew := (keep_trans (keep_alloc w (.cells (arr .u8 (zA 16)) 5)) (keep_alloc _ (.cells (arr .u8 (zA 15)) 5))).drew
  have HA := hide bA
  have HB := hide bB
  have m15 := mk_15
  have m16 := mk_16
  clear rA rB bA bB hi hz0 hz1 hz2
  go_enter Try.func7, Try.ntmps7
  go_wp2
  go_region_with (first
    | (go_at_call 8; with_reducible refine kA.mono ?_; rintro e w1 ⟨rfl, hb1⟩; have hbw := keep_trans HA.out hb1)
    | (go_at_call 8; with_reducible refine kB.mono ?_; rintro e w1 ⟨rfl, hb1⟩; have hbw := keep_trans HB.out hb1)
    | fail)
  all_goals
    clear kA kB HA HB m15 m16 hb1
    go_wp2_with (first
      | (go_at_call_of 17 (#[Value.int .u8 0]); refine (hb0 _).mono ?_; rintro e w2 ⟨rfl, hb2⟩)
      | (go_at_call_of 17 (#[Value.int .u8 83]); refine (hb83 _).mono ?_; rintro e w3 ⟨rfl, hb3⟩)
      | (go_at_call 19; refine (hm _).mono ?_; rintro e yy ⟨rfl, hy⟩; obtain rfl := hy.symm)
      | fail)
    go_ret
    exact ⟨rfl, keep_trans (keep_trans hbw hb2) hb3⟩
end Go.Proofs.Yteiknfcegchbcaa
