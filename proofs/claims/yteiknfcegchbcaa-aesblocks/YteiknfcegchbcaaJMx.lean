/- The code's mixed, unmixed. -/
import Derived.Test.YteiknfcegchbcaaJGa
import Derived.Test.YteiknfcegchbcaaBase
import Derived.Test.YteiknfcegchbcaaHKi2
namespace Go.Proofs.Yteiknfcegchbcaa
open Go.RowKit
set_option linter.unusedVariables false
set_option linter.unusedSimpArgs false

theorem mix_int {a b c d : Nat} (ha : a < 256) (hb : b < 256) (hc : c < 256) (hd : d < 256) (X : Nat) (hX : X = wd a b c d ^^^ wd b c d a) : bits .xor .u32 (bits .xor .u32 (bits .xor .u32 (dblW X : Int) (wd b c d a : Int)) (wd c d a b : Int)) (wd d a b c : Int) = ((mixW a b c d : Nat) : Int) := by
  have o : ∀ x y : Nat, x < 4294967296 → y < 4294967296 → x ^^^ y < 4294967296 := fun x y hx hy => Nat.xor_lt_two_pow (n := 32) hx hy
  have l1 := wd_lt hb hc hd ha
  have l2 := wd_lt hc hd ha hb
  have l3 := wd_lt hd ha hb hc
  have l0 := dblW_lt X
  rw [xor_32 _ _ l0 l1, xor_32 _ _ (o _ _ l0 l1) l2, xor_32 _ _ (o _ _ (o _ _ l0 l1) l2) l3, hX, mix_is ha hb hc hd]
set_option maxHeartbeats 4000000 in
set_option maxRecDepth 100000 in
theorem mixed_any (s : List Nat) (w : World) (hs : B16 s) :
    Calls Try.prog 47 #[.agg (arr .u32 (sw s))] w fun e w' => e = .returned (.agg (arr .u32 (sw (colsL 2 3 1 1 s)))) ∧ Below w.heap.size w w' := by
  have hz := zero4
  have L0 := (Lies.new .u32 40 w (sw s)).alloc (.cells (arr .u32 (zA 4)) 40)
  have L2 := Lies.new .u32 40 (w.alloc (.cells (arr .u32 (sw s)) 40)) (zA 4)
  have hb0 := keep_trans (keep_alloc w (.cells (arr .u32 (sw s)) 40)) (keep_alloc _ (.cells (arr .u32 (zA 4)) 40))
  simp only [World.size_alloc, Nat.add_assoc, Nat.reduceAdd] at L2
  have lA := sw_len s
  have eA := fun k => sw_el s (c := k)
  have hfin : upd (fun i => mixW (el s (4 * i)) (el s (4 * i + 1)) (el s (4 * i + 2)) (el s (4 * i + 3))) (sw s) 4 = sw (colsL 2 3 1 1 s) := upd_sw rfl fun i hi => (col_mix hi).symm
  have HE := hide (And.intro eA (And.intro lA hfin))
  clear eA hfin
  generalize sw s = A at *
  go_enter Try.func47, Try.ntmps47
  go_wp2_with (first
    | (refine wpList_load_row rfl 40 _ (by rfl) w.heap.size (by rfl) _ _ _ (.array 4 38) L0 (by kernel_rfl) rfl (by rw [arr_size, lA]; kernel_rfl) ?_)
    | fail)
  clear hz
  generalize (w.alloc (.cells (arr .u32 A) 40)).alloc (.cells (arr .u32 (zA 4)) 40) = x1 at *
  go_loopw [7] (fun i wr => ∃ n : Nat, n ≤ 4 ∧ i = .int .i64 n ∧ Lies .u32 40 wr w.heap.size (upd (fun i => mixW (el s (4 * i)) (el s (4 * i + 1)) (el s (4 * i + 2)) (el s (4 * i + 3))) A n) ∧ But w.heap.size x1 wr) (fun i _ => 4 - (intOf i).toNat)
  case atStart => exact ⟨0, Nat.zero_le _, rfl, L0, But.refl _ _⟩
  case round =>
    obtain ⟨n, hn, rfl, hA, hB⟩ := hrel
    have h2 := L2.but hB (by omega)
    by_cases hlt : n < 4
    · obtain ⟨eA, lA, _⟩ := HE.out
      have b0 := hs.el (4 * n)
      have b1 := hs.el (4 * n + 1)
      have b2 := hs.el (4 * n + 2)
      have b3 := hs.el (4 * n + 3)
      have hix := fun y => ix4 A lA n hlt y
      rw [eA n hlt] at hix
      have f1 := hA.frozen n
      have c1 := hA.cell (i := n) (by rw [upd_len, lA]; exact hlt)
      have hst : ∀ y, Lies .u32 40 y w.heap.size (upd (fun i => mixW (el s (4 * i)) (el s (4 * i + 1)) (el s (4 * i + 2)) (el s (4 * i + 3))) A n) → Lies .u32 40 (y.setCell ⟨w.heap.size, n, none⟩ (.int .u32 (mixW (el s (4 * n)) (el s (4 * n + 1)) (el s (4 * n + 2)) (el s (4 * n + 3)) : Nat))) w.heap.size (upd (fun i => mixW (el s (4 * i)) (el s (4 * i + 1)) (el s (4 * i + 2)) (el s (4 * i + 3))) A (n + 1)) := fun y hy => hy.set n _
      have HST := hide hst
      have ecol : col s n = wd (el s (4 * n)) (el s (4 * n + 1)) (el s (4 * n + 2)) (el s (4 * n + 3)) := rfl
      rw [ecol] at hix
      clear hst ecol
      generalize el s (4 * n) = a at *
      generalize el s (4 * n + 1) = b at *
      generalize el s (4 * n + 2) = c at *
      generalize el s (4 * n + 3) = d at *
      have t1 := fun y => turned_1 b0 b1 b2 b3 y
      have t2 := fun y => turned_2 b0 b1 b2 b3 y
      have t3 := fun y => turned_3 b0 b1 b2 b3 y
      have x1 := xor_32 _ _ (wd_lt b0 b1 b2 b3) (wd_lt b1 b2 b3 b0)
      have hX := Nat.xor_lt_two_pow (n := 32) (wd_lt b0 b1 b2 b3) (wd_lt b1 b2 b3 b0)
      have HM := hide (mix_int b0 b1 b2 b3 _ rfl)
      have hdb := fun y => dbl_any _ hX y
      generalize wd a b c d ^^^ wd b c d a = X at *
      generalize dblW X = D at *
      generalize wd a b c d = W at *
      generalize wd b c d a = W1 at *
      generalize wd c d a b = W2 at *
      generalize wd d a b c = W3 at *
      have i0 : (0 : Int) ≤ (n : Int) := Int.natCast_nonneg _
      have i1 : (n : Int) < 4 := by omega
      clear eA lA
      go_wp2_with (first
        | (go_at_call_of 44 (#[Value.int .u32 (W : Int), Value.int .i64 1]); refine (t1 _).mono ?_; rintro e y ⟨rfl, hy⟩; obtain rfl := hy.symm; clear t1)
        | (go_at_call_of 44 (#[Value.int .u32 (W : Int), Value.int .i64 2]); refine (t2 _).mono ?_; rintro e y ⟨rfl, hy⟩; obtain rfl := hy.symm; clear t2)
        | (go_at_call_of 44 (#[Value.int .u32 (W : Int), Value.int .i64 3]); refine (t3 _).mono ?_; rintro e y ⟨rfl, hy⟩; obtain rfl := hy.symm; clear t3)
        | (go_at_call 41; refine (hdb _).mono ?_; rintro e y ⟨rfl, hy⟩; obtain rfl := hy.symm; clear hdb)
        | fail)
      rw [HM.out]
      exact ⟨⟨n + 1, by omega, by go_num, HST.out _ hA, hB.setCell n _⟩, by simp [intOf]; omega⟩
    · obtain rfl : n = 4 := by omega
      obtain ⟨_, _, hfin⟩ := HE.out
      rw [hfin] at hA
      have hsl : (sw (colsL 2 3 1 1 s)).length = 4 := rfl
      have hbr := hb0.trans (hB.below (by omega) hb0.size)
      generalize hX : sw (colsL 2 3 1 1 s) = X at hA hsl
      have HX := hide hX
      clear hX hfin
      have hOf : Lies .u32 40 (wr.setRow (w.heap.size + 1) (arr .u32 X)) (w.heap.size + 1) X := h2.row
      have hbf := hbr.trans ((But.setRow (But.refl (w.heap.size + 1) _) (arr .u32 X)).below (by omega) hbr.size)
      go_wp2_with (first
        | (refine wpList_load_row rfl 40 _ (by rfl) w.heap.size (by rfl) _ _ _ (.array 4 38) hA (by kernel_rfl) rfl (by rw [arr_size, hsl]; kernel_rfl) ?_)
        | (refine wpList_store_row rfl 40 _ _ (by rfl) (w.heap.size + 1) (arr .u32 X) (by rfl) (by rfl) _ _ h2 (by rw [arr_size, hsl]; kernel_rfl) (by rw [arr_size, arr_size, hsl, zA_len]) (arr_one _ _) ?_)
        | fail)
      refine bodyPost_ret (v := .agg (arr .u32 X)) ?_ rfl ⟨by rw [HX.out], hbf⟩
      exact results_cell_row Try.results47 _ _ (w.heap.size + 1) _ _ _ (.array 4 38) (by rfl) hOf (by kernel_rfl) rfl (by rw [arr_size, hsl]; kernel_rfl)
/-- a block ahead of multiplying, to undo it -/
def preS (s : List Nat) : List Nat := of16 fun i => preB (el s i) (el s (4 * (i / 4) + (i % 4 + 2) % 4))
theorem preS_b {s : List Nat} (hs : B16 s) : B16 (preS s) := of16_b fun i _ => preB_lt (hs.el _) (hs.el _)
theorem col_pre {s : List Nat} {c : Nat} (h : c < 4) : col (preS s) c = wd (preB (el s (4 * c)) (el s (4 * c + 2))) (preB (el s (4 * c + 1)) (el s (4 * c + 3))) (preB (el s (4 * c + 2)) (el s (4 * c))) (preB (el s (4 * c + 3)) (el s (4 * c + 1))) := by
  unfold preS
  rw [col_of16 _ h]
  have hm : ∀ k, k < 4 → (4 * c + k) % 4 = k ∧ (4 * c + k) / 4 = c := fun k hk => by omega
  have h0 : (4 * c) % 4 = 0 ∧ (4 * c) / 4 = c := by omega
  rw [(hm 1 (by decide)).1, (hm 2 (by decide)).1, (hm 3 (by decide)).1, (hm 1 (by decide)).2, (hm 2 (by decide)).2, (hm 3 (by decide)).2, h0.1, h0.2]
  rfl
theorem pre_cols {s : List Nat} (hs : B16 s) : colsL 2 3 1 1 (preS s) = colsL 14 11 13 9 s := by
  have key : ∀ c, c < 4 → col (colsL 2 3 1 1 (preS s)) c = col (colsL 14 11 13 9 s) c := fun c hc => by
    rw [col_mix hc, ← col_unmix hs.2 hc]
    have e := col_pre (s := s) hc
    unfold col at e
    have l := fun i => (preS_b hs).el i
    have p := fun i j => preB_lt (hs.el i) (hs.el j)
    have q0 := wd_0 (l (4 * c)) (l (4 * c + 1)) (l (4 * c + 2)) (l (4 * c + 3))
    have q1 := wd_1 (l (4 * c)) (l (4 * c + 1)) (l (4 * c + 2)) (l (4 * c + 3))
    have q2 := wd_2 (l (4 * c)) (l (4 * c + 1)) (l (4 * c + 2)) (l (4 * c + 3))
    have q3 := wd_3 (l (4 * c)) (l (4 * c + 1)) (l (4 * c + 2)) (l (4 * c + 3))
    rw [e] at q0 q1 q2 q3
    rw [wd_0 (p _ _) (p _ _) (p _ _) (p _ _)] at q0
    rw [wd_1 (p _ _) (p _ _) (p _ _) (p _ _)] at q1
    rw [wd_2 (p _ _) (p _ _) (p _ _) (p _ _)] at q2
    rw [wd_3 (p _ _) (p _ _) (p _ _) (p _ _)] at q3
    rw [← q0, ← q1, ← q2, ← q3]
  have ba : B16 (colsL 2 3 1 1 (preS s)) := colsL_b (by decide) (by decide) (by decide) (by decide)
  have bb : B16 (colsL 14 11 13 9 s) := colsL_b (by decide) (by decide) (by decide) (by decide)
  refine ext16 ba.1 bb.1 fun i hi => ?_
  have k := key (i / 4) (by omega)
  unfold col at k
  have la := fun j => ba.el j
  have lb := fun j => bb.el j
  have a0 := wd_0 (la (4 * (i / 4))) (la (4 * (i / 4) + 1)) (la (4 * (i / 4) + 2)) (la (4 * (i / 4) + 3))
  have a1 := wd_1 (la (4 * (i / 4))) (la (4 * (i / 4) + 1)) (la (4 * (i / 4) + 2)) (la (4 * (i / 4) + 3))
  have a2 := wd_2 (la (4 * (i / 4))) (la (4 * (i / 4) + 1)) (la (4 * (i / 4) + 2)) (la (4 * (i / 4) + 3))
  have a3 := wd_3 (la (4 * (i / 4))) (la (4 * (i / 4) + 1)) (la (4 * (i / 4) + 2)) (la (4 * (i / 4) + 3))
  rw [k] at a0 a1 a2 a3
  rw [wd_0 (lb _) (lb _) (lb _) (lb _)] at a0
  rw [wd_1 (lb _) (lb _) (lb _) (lb _)] at a1
  rw [wd_2 (lb _) (lb _) (lb _) (lb _)] at a2
  rw [wd_3 (lb _) (lb _) (lb _) (lb _)] at a3
  have hr : i % 4 = 0 ∨ i % 4 = 1 ∨ i % 4 = 2 ∨ i % 4 = 3 := by omega
  rcases hr with h | h | h | h
  · rw [show i = 4 * (i / 4) by omega]; exact a0.symm
  · rw [show i = 4 * (i / 4) + 1 by omega]; exact a1.symm
  · rw [show i = 4 * (i / 4) + 2 by omega]; exact a2.symm
  · rw [show i = 4 * (i / 4) + 3 by omega]; exact a3.symm
theorem pre_int {a b c d : Nat} (ha : a < 256) (hb : b < 256) (hc : c < 256) (hd : d < 256) (X : Nat) (hX : X = wd a b c d ^^^ wd c d a b) : bits .xor .u32 (wd a b c d : Int) (dblW (dblW X) : Int) = ((wd (preB a c) (preB b d) (preB c a) (preB d b) : Nat) : Int) := by
  rw [xor_32 _ _ (wd_lt ha hb hc hd) (dblW_lt _), hX, pre_is ha hb hc hd]
set_option maxHeartbeats 4000000 in
set_option maxRecDepth 100000 in
theorem unmixed_any (s : List Nat) (w : World) (hs : B16 s) :
    Calls Try.prog 52 #[.agg (arr .u32 (sw s))] w fun e w' => e = .returned (.agg (arr .u32 (sw (colsL 14 11 13 9 s)))) ∧ Below w.heap.size w w' := by
  have hz := zero4
  have L0 := (Lies.new .u32 40 w (sw s)).alloc (.cells (arr .u32 (zA 4)) 40)
  have L2 := Lies.new .u32 40 (w.alloc (.cells (arr .u32 (sw s)) 40)) (zA 4)
  have hb0 := keep_trans (keep_alloc w (.cells (arr .u32 (sw s)) 40)) (keep_alloc _ (.cells (arr .u32 (zA 4)) 40))
  simp only [World.size_alloc, Nat.add_assoc, Nat.reduceAdd] at L2
  have lA := sw_len s
  have eA := fun k => sw_el s (c := k)
  have hfin : upd (fun i => col (preS s) i) (sw s) 4 = sw (preS s) := upd_sw rfl fun i hi => rfl
  have hmx := fun y => mixed_any (preS s) y (preS_b hs)
  rw [pre_cols hs] at hmx
  have HE := hide (And.intro eA (And.intro lA (And.intro hfin hmx)))
  clear eA hfin hmx
  generalize sw s = A at *
  go_enter Try.func52, Try.ntmps52
  go_wp2_with (first
    | (refine wpList_load_row rfl 40 _ (by rfl) w.heap.size (by rfl) _ _ _ (.array 4 38) L0 (by kernel_rfl) rfl (by rw [arr_size, lA]; kernel_rfl) ?_)
    | fail)
  clear hz
  generalize (w.alloc (.cells (arr .u32 A) 40)).alloc (.cells (arr .u32 (zA 4)) 40) = x1 at *
  go_loopw [6] (fun i wr => ∃ n : Nat, n ≤ 4 ∧ i = .int .i64 n ∧ Lies .u32 40 wr w.heap.size (upd (fun i => col (preS s) i) A n) ∧ But w.heap.size x1 wr) (fun i _ => 4 - (intOf i).toNat)
  case atStart => exact ⟨0, Nat.zero_le _, rfl, L0, But.refl _ _⟩
  case round =>
    obtain ⟨n, hn, rfl, hA, hB⟩ := hrel
    have h2 := L2.but hB (by omega)
    by_cases hlt : n < 4
    · obtain ⟨eA, lA, _⟩ := HE.out
      have b0 := hs.el (4 * n)
      have b1 := hs.el (4 * n + 1)
      have b2 := hs.el (4 * n + 2)
      have b3 := hs.el (4 * n + 3)
      have hix := fun y => ix4 A lA n hlt y
      rw [eA n hlt] at hix
      have f1 := hA.frozen n
      have c1 := hA.cell (i := n) (by rw [upd_len, lA]; exact hlt)
      rw [upd_same _ _ (by omega) (Nat.le_refl _), eA n hlt] at c1
      have hst : ∀ y, Lies .u32 40 y w.heap.size (upd (fun i => col (preS s) i) A n) → Lies .u32 40 (y.setCell ⟨w.heap.size, n, none⟩ (.int .u32 (col (preS s) n : Nat))) w.heap.size (upd (fun i => col (preS s) i) A (n + 1)) := fun y hy => hy.set n _
      rw [col_pre hlt] at hst
      have HST := hide hst
      have ecol : col s n = wd (el s (4 * n)) (el s (4 * n + 1)) (el s (4 * n + 2)) (el s (4 * n + 3)) := rfl
      rw [ecol] at hix c1
      clear hst ecol
      generalize el s (4 * n) = a at *
      generalize el s (4 * n + 1) = b at *
      generalize el s (4 * n + 2) = c at *
      generalize el s (4 * n + 3) = d at *
      have t2 := fun y => turned_2 b0 b1 b2 b3 y
      have x1 := xor_32 _ _ (wd_lt b0 b1 b2 b3) (wd_lt b2 b3 b0 b1)
      have hX := Nat.xor_lt_two_pow (n := 32) (wd_lt b0 b1 b2 b3) (wd_lt b2 b3 b0 b1)
      have HM := hide (pre_int b0 b1 b2 b3 _ rfl)
      have hdb := fun y => dbl_any _ hX y
      generalize wd a b c d ^^^ wd c d a b = X at *
      have hdd := fun y => dbl_any _ (dblW_lt X) y
      generalize dblW (dblW X) = E at *
      generalize dblW X = D at *
      generalize wd a b c d = W at *
      generalize wd c d a b = W2 at *
      have i0 : (0 : Int) ≤ (n : Int) := Int.natCast_nonneg _
      have i1 : (n : Int) < 4 := by omega
      clear eA lA
      go_wp2
      go_region_with (first
        | (go_at_call 44; refine (t2 _).mono ?_; rintro e y ⟨rfl, hy⟩; obtain rfl := hy.symm; clear t2)
        | (go_at_call_of 41 (#[Value.int .u32 (X : Int)]); refine (hdb _).mono ?_; rintro e y ⟨rfl, hy⟩; obtain rfl := hy.symm)
        | (go_at_call_of 41 (#[Value.int .u32 (D : Int)]); refine (hdd _).mono ?_; rintro e y ⟨rfl, hy⟩; obtain rfl := hy.symm)
        | fail)
      all_goals
        go_wp2
        rw [HM.out]
        exact ⟨⟨n + 1, by omega, by go_num, HST.out _ hA, (hB.drew).setCell n _⟩, by simp [intOf]; omega⟩
    · obtain rfl : n = 4 := by omega
      obtain ⟨_, _, hfin, hmx⟩ := HE.out
      rw [hfin] at hA
      have hsl : (sw (preS s)).length = 4 := rfl
      have hsm : (sw (colsL 14 11 13 9 s)).length = 4 := rfl
      have hbr := hb0.trans (hB.below (by omega) hb0.size)
      generalize sw (preS s) = X at hA hsl hmx
      generalize hM : sw (colsL 14 11 13 9 s) = M at hsm hmx
      have HX := hide hM
      clear hM hfin HE
      go_wp2_with (first
        | (refine wpList_load_row rfl 40 _ (by rfl) w.heap.size (by rfl) _ _ _ (.array 4 38) hA (by kernel_rfl) rfl (by rw [arr_size, hsl]; kernel_rfl) ?_)
        | (go_at_call 47; refine (hmx _).mono ?_; rintro e w3 ⟨rfl, hb3⟩)
        | (refine wpList_store_row rfl 40 _ _ (by rfl) (w.heap.size + 1) (arr .u32 M) (by rfl) (by rfl) _ _ (h2.below hb3) (by rw [arr_size, hsm]; kernel_rfl) (by rw [arr_size, arr_size, hsm, zA_len]) (arr_one _ _) ?_)
        | fail)
      have hOf : Lies .u32 40 (w3.setRow (w.heap.size + 1) (arr .u32 M)) (w.heap.size + 1) M := (h2.below hb3).row
      have hb4 := keep_trans hbr hb3
      have hbf := hb4.trans ((But.setRow (But.refl (w.heap.size + 1) _) (arr .u32 M)).below (by omega) hb4.size)
      refine bodyPost_ret (v := .agg (arr .u32 M)) ?_ rfl ⟨by rw [HX.out], hbf⟩
      exact results_cell_row Try.results52 _ _ (w.heap.size + 1) _ _ _ (.array 4 38) (by rfl) hOf (by kernel_rfl) rfl (by rw [arr_size, hsm]; kernel_rfl)
end Go.Proofs.Yteiknfcegchbcaa

/- The code's moved. -/
namespace Go.Proofs.Yteiknfcegchbcaa
open Go.RowKit
set_option linter.unusedVariables false
set_option linter.unusedSimpArgs false

/-- a column of bytes taken from four -/
def mvF (T s : List Nat) (B n : Nat) : Nat := wd (el T (el s (4 * n))) (el T (el s (4 * ((n + B) % 4) + 1))) (el T (el s (4 * ((n + 2 * B) % 4) + 2))) (el T (el s (4 * ((n + 3 * B) % 4) + 3)))
theorem mv_left {T s : List Nat} : upd (mvF T s 1) (zA 4) 4 = sw (rowsL (eachL T s)) := upd_sw (zA_len 4) fun i hi => by rw [col_left hi]; rfl
theorem mv_right {T s : List Nat} : upd (mvF T s 3) (zA 4) 4 = sw (eachL T (rowsR s)) := upd_sw (zA_len 4) fun i hi => by rw [col_right hi]; rfl
/-- what holds while a column is made -/
def MvS (H : Nat) (U : List Nat) (n : Nat) (wr y : World) : Prop := LiesX .u32 40 y (H + 1) U n ∧ But (H + 1) wr y
set_option maxHeartbeats 4000000 in
set_option maxRecDepth 100000 in
theorem moved_any (g o : Nat) (T s : List Nat) (B : Nat) (w : World) (hB3z : B ≤ 3) (hs : B16 s) (hT : Under 256 T) (hw : Tab w g o T) (hgw : g < w.heap.size) :
    Calls Try.prog 46 #[.agg (arr .u32 (sw s)), .pointer (some ⟨g, o, none⟩), .int .i64 (B : Int)] w fun e w' => e = .returned (.agg (arr .u32 (upd (mvF T s B) (zA 4) 4))) ∧ Below w.heap.size w w' := by
  have hz := zero4
  have L0 := (Lies.new .u32 40 w (sw s)).alloc (.cells (arr .u32 (zA 4)) 40)
  have L2 := Lies.new .u32 40 (w.alloc (.cells (arr .u32 (sw s)) 40)) (zA 4)
  have hb0 := keep_trans (keep_alloc w (.cells (arr .u32 (sw s)) 40)) (keep_alloc _ (.cells (arr .u32 (zA 4)) 40))
  simp only [World.size_alloc, Nat.add_assoc, Nat.reduceAdd] at L2
  have T0 := hw.below hb0
  have lA := sw_len s
  have eA := fun k => sw_el s (c := k)
  have uA := col_lt hs.2
  have HE := hide (And.intro eA (And.intro uA lA))
  clear eA uA lA hw
  generalize sw s = A at *
  go_enter Try.func46, Try.ntmps46
  go_wp2
  clear hz
  generalize (w.alloc (.cells (arr .u32 A) 40)).alloc (.cells (arr .u32 (zA 4)) 40) = x1 at *
  go_loopw [8] (fun i wr => ∃ n : Nat, n ≤ 4 ∧ i = .int .i64 n ∧ Lies .u32 40 wr (w.heap.size + 1) (upd (mvF T s B) (zA 4) n) ∧ But (w.heap.size + 1) x1 wr) (fun i _ => 4 - (intOf i).toNat)
  case atStart => exact ⟨0, Nat.zero_le _, rfl, L2, But.refl _ _⟩
  case round =>
    obtain ⟨n, hn, rfl, hU, hB⟩ := hrel
    by_cases hlt : n < 4
    · obtain ⟨eA, uA, lA⟩ := HE.out
      have h0 := L0.but hB (by omega)
      have T1 : Tab wr.drew g o T := fun c hc => But.cell (T0 c hc) hB.drew (by show g ≠ _; omega)
      obtain ⟨B1, hB1⟩ : ∃ x : Nat, x = B := ⟨_, rfl⟩
      obtain ⟨q1, hq1⟩ : ∃ x : Nat, x = n + B1 := ⟨_, rfl⟩
      have eq1 : (n : Int) + (B : Int) = (q1 : Int) := by omega
      have sq1 : IntKind.i64.wrap (q1 : Int) = (q1 : Int) := by rw [IntKind.wrap_i64]; omega
      obtain ⟨n1, hn1⟩ : ∃ x : Nat, x = q1 % 4 := ⟨_, rfl⟩
      have en1 : (q1 : Int) % 4 = (n1 : Int) := by omega
      have tn1 : (q1 : Int).tmod 4 = (n1 : Int) := by rw [Int.tmod_eq_emod_of_nonneg (by omega)]; exact en1
      have ln1 : n1 < 4 := by omega
      have lz1 : (0 : Int) ≤ (n1 : Int) := Int.natCast_nonneg _
      have li1 : (n1 : Int) < 4 := by omega
      have c1 := h0.cell (i := n1) (by rw [lA]; exact ln1)
      rw [eA n1 ln1] at c1
      obtain ⟨B2, hB2⟩ : ∃ x : Nat, x = 2 * B := ⟨_, rfl⟩
      have eB2 : 2 * (B : Int) = (B2 : Int) := by omega
      have sB2 : IntKind.i64.wrap (B2 : Int) = (B2 : Int) := by rw [IntKind.wrap_i64]; omega
      obtain ⟨q2, hq2⟩ : ∃ x : Nat, x = n + B2 := ⟨_, rfl⟩
      have eq2 : (n : Int) + (B2 : Int) = (q2 : Int) := by omega
      have sq2 : IntKind.i64.wrap (q2 : Int) = (q2 : Int) := by rw [IntKind.wrap_i64]; omega
      obtain ⟨n2, hn2⟩ : ∃ x : Nat, x = q2 % 4 := ⟨_, rfl⟩
      have en2 : (q2 : Int) % 4 = (n2 : Int) := by omega
      have tn2 : (q2 : Int).tmod 4 = (n2 : Int) := by rw [Int.tmod_eq_emod_of_nonneg (by omega)]; exact en2
      have ln2 : n2 < 4 := by omega
      have lz2 : (0 : Int) ≤ (n2 : Int) := Int.natCast_nonneg _
      have li2 : (n2 : Int) < 4 := by omega
      have c2 := h0.cell (i := n2) (by rw [lA]; exact ln2)
      rw [eA n2 ln2] at c2
      obtain ⟨B3, hB3'⟩ : ∃ x : Nat, x = 3 * B := ⟨_, rfl⟩
      have eB3 : 3 * (B : Int) = (B3 : Int) := by omega
      have sB3 : IntKind.i64.wrap (B3 : Int) = (B3 : Int) := by rw [IntKind.wrap_i64]; omega
      obtain ⟨q3, hq3⟩ : ∃ x : Nat, x = n + B3 := ⟨_, rfl⟩
      have eq3 : (n : Int) + (B3 : Int) = (q3 : Int) := by omega
      have sq3 : IntKind.i64.wrap (q3 : Int) = (q3 : Int) := by rw [IntKind.wrap_i64]; omega
      obtain ⟨n3, hn3⟩ : ∃ x : Nat, x = q3 % 4 := ⟨_, rfl⟩
      have en3 : (q3 : Int) % 4 = (n3 : Int) := by omega
      have tn3 : (q3 : Int).tmod 4 = (n3 : Int) := by rw [Int.tmod_eq_emod_of_nonneg (by omega)]; exact en3
      have ln3 : n3 < 4 := by omega
      have lz3 : (0 : Int) ≤ (n3 : Int) := Int.natCast_nonneg _
      have li3 : (n3 : Int) < 4 := by omega
      have c3 := h0.cell (i := n3) (by rw [lA]; exact ln3)
      rw [eA n3 ln3] at c3
      have c0 := h0.cell (i := n) (by rw [lA]; exact hlt)
      rw [eA n hlt] at c0
      have hV : mvF T s B n = wd (el T (el s (4 * n))) (el T (el s (4 * n1 + 1))) (el T (el s (4 * n2 + 2))) (el T (el s (4 * n3 + 3))) := by
        rw [hn1, hn2, hn3, hq1, hq2, hq3, hB1, hB2, hB3']; rfl
      have e := fun i => hs.el i
      have hcall := gath_any g o T (col s n) (col s n1) (col s n2) (col s n3) (el s (4 * n)) (el s (4 * n1 + 1)) (el s (4 * n2 + 2)) (el s (4 * n3 + 3)) hT (uA _) (uA _) (uA _) (uA _) (wd_0 (e _) (e _) (e _) (e _)) (wd_1 (e _) (e _) (e _) (e _)) (wd_2 (e _) (e _) (e _) (e _)) (wd_3 (e _) (e _) (e _) (e _)) wr.drew T1
      rw [← hV] at hcall
      have hlu : (upd (mvF T s B) (zA 4) n).length = 4 := by rw [upd_len, zA_len]
      have hst : ∀ y, Lies .u32 40 y (w.heap.size + 1) (upd (mvF T s B) (zA 4) n) → Lies .u32 40 (y.setCell ⟨w.heap.size + 1, n, none⟩ (.int .u32 (mvF T s B n : Nat))) (w.heap.size + 1) (upd (mvF T s B) (zA 4) (n + 1)) := fun y hy => hy.set n _
      have HST := hide hst
      clear hst hV e eA uA lA hq1 hq2 hq3 hn1 hn2 hn3 hB1 hB2 hB3'
      have i0 : (0 : Int) ≤ (n : Int) := Int.natCast_nonneg _
      have i1 : (n : Int) < 4 := by omega
      generalize upd (mvF T s B) (zA 4) n = U at *
      generalize mvF T s B n = V at *
      generalize col s n = W0 at *
      generalize col s n1 = W1 at *
      generalize col s n2 = W2 at *
      generalize col s n3 = W3 at *
      have HX := hide (hU.toX (T := n) (by rw [hlu]; exact hlt))
      have hmk : ∀ y, MvS w.heap.size U n wr y → y.cell? ⟨w.heap.size, n, none⟩ = some (.int .u32 (W0 : Int)) ∧ y.cell? ⟨w.heap.size, n1, none⟩ = some (.int .u32 (W1 : Int)) ∧ y.cell? ⟨w.heap.size, n2, none⟩ = some (.int .u32 (W2 : Int)) ∧ y.cell? ⟨w.heap.size, n3, none⟩ = some (.int .u32 (W3 : Int)) ∧ y.cell? ⟨w.heap.size + 1, n, none⟩ = some (rdc y ⟨w.heap.size + 1, n, none⟩) ∧ y.frozen? ⟨w.heap.size + 1, n, none⟩ = false ∧ MvS w.heap.size U n wr y := fun y hy =>
        ⟨But.cell c0 hy.2 (by show w.heap.size ≠ _; omega), But.cell c1 hy.2 (by show w.heap.size ≠ _; omega), But.cell c2 hy.2 (by show w.heap.size ≠ _; omega), But.cell c3 hy.2 (by show w.heap.size ≠ _; omega), hy.1.here (by rw [hlu]; exact hlt), hy.1.frozen n, hy⟩
      have HMK := hide hmk
      have HU := hide (And.intro hU hB)
      clear hmk hU hlu c0 c1 c2 c3 T1 h0
      go_wp2
      go_region_held3 (fun y => y.cell? ⟨w.heap.size, n, none⟩ = some (.int .u32 (W0 : Int)) ∧ y.cell? ⟨w.heap.size, n1, none⟩ = some (.int .u32 (W1 : Int)) ∧ y.cell? ⟨w.heap.size, n2, none⟩ = some (.int .u32 (W2 : Int)) ∧ y.cell? ⟨w.heap.size, n3, none⟩ = some (.int .u32 (W3 : Int)) ∧ y.cell? ⟨w.heap.size + 1, n, none⟩ = some (rdc y ⟨w.heap.size + 1, n, none⟩) ∧ y.frozen? ⟨w.heap.size + 1, n, none⟩ = false ∧ MvS w.heap.size U n wr y)
        (first
          | exact HMK.out _ ⟨HX.out, But.refl _ _⟩
          | exact HMK.out _ ⟨HX.out, (But.refl _ _).drew⟩
          | (exact HMK.out _ ⟨LiesX.below (w := wr.drew) HX.out hb7, But.trans (But.refl _ _).drew (But.of_below hb7)⟩)
          | (exact HMK.out _ ⟨LiesX.set (LiesX.below (w := wr.drew) HX.out hb7) _, But.setCell (But.trans (But.refl _ _).drew (But.of_below hb7)) _ _⟩))
        (first
          | (go_at_call 60; refine hcall.mono ?_; rintro e w7 ⟨rfl, hb7⟩))
      go_wp2_with fail
      obtain ⟨hU, hB⟩ := HU.out
      have hU7 : Lies .u32 40 w7 (w.heap.size + 1) U := Lies.below (w := wr.drew) hU hb7
      exact ⟨⟨n + 1, by omega, by go_num, HST.out _ hU7, (hB.trans (But.trans (But.refl _ _).drew (But.of_below hb7))).setCell n _⟩, by simp [intOf]; omega⟩
    · obtain rfl : n = 4 := by omega
      have hsl : (upd (mvF T s B) (zA 4) 4).length = 4 := by rw [upd_len, zA_len]
      have hbr := hb0.trans (hB.below (by omega) hb0.size)
      generalize hX : upd (mvF T s B) (zA 4) 4 = X at hU hsl
      have HX := hide hX
      clear hX
      have hOf : Lies .u32 40 (wr.setRow (w.heap.size + 1) (arr .u32 X)) (w.heap.size + 1) X := hU.row
      have hbf := hbr.trans ((But.setRow (But.refl (w.heap.size + 1) _) (arr .u32 X)).below (by omega) hbr.size)
      go_wp2_with (first
        | (refine wpList_load_row rfl 40 _ (by rfl) (w.heap.size + 1) (by rfl) _ _ _ (.array 4 38) hU (by kernel_rfl) rfl (by rw [arr_size, hsl]; kernel_rfl) ?_)
        | (refine wpList_store_row rfl 40 _ _ (by rfl) (w.heap.size + 1) (arr .u32 X) (by rfl) (by rfl) _ _ hU (by rw [arr_size, hsl]; kernel_rfl) rfl (arr_one _ _) ?_)
        | fail)
      refine bodyPost_ret (v := .agg (arr .u32 X)) ?_ rfl ⟨by rw [HX.out], hbf⟩
      exact results_cell_row Try.results46 _ _ (w.heap.size + 1) _ _ _ (.array 4 38) (by rfl) hOf (by kernel_rfl) rfl (by rw [arr_size, hsl]; kernel_rfl)
end Go.Proofs.Yteiknfcegchbcaa

/- A slice of texts, and what it reads as. -/
namespace Go.Proofs.Yteiknfcegchbcaa
open Go.RowKit
set_option linter.unusedVariables false

/-- the text at a place of a list of texts -/
def tx (ls : List (List Nat)) (i : Nat) : List Nat := ls[i]?.getD []

/-- a slice without an address is nil -/
def Tidy (v : Value) : Prop := ∀ n c, v = .slice none n c → n = 0 ∧ c = 0

/-- v is a slice of texts, which are ls -/
def Rows2 (w : World) (v : Value) (ls : List (List Nat)) : Prop :=
  ∃ a cap, v = .slice a ls.length cap ∧ ls.length ≤ cap ∧ cap ≤ maxLen ∧
    (0 < ls.length → ∃ b off, a = some ⟨b, off, none⟩ ∧ ∀ i, i < ls.length → ∃ u, w.cell? ⟨b, off + i, none⟩ = some u ∧ Row .u8 256 w u (tx ls i) ∧ Tidy u)

theorem Rows2.below {w w' : World} {v : Value} {ls : List (List Nat)} (h : Rows2 w v ls) (hb : Below w.heap.size w w') : Rows2 w' v ls := by
  obtain ⟨a, cap, rfl, h1, h2, h3⟩ := h
  refine ⟨a, cap, rfl, h1, h2, fun hl => ?_⟩
  obtain ⟨b, off, rfl, hc⟩ := h3 hl
  refine ⟨b, off, rfl, fun i hi => ?_⟩
  obtain ⟨u, hu, hr, ht⟩ := hc i hi
  have h5 := World.block_lt_of_cell? w _ hu
  exact ⟨u, by rw [hb.cell (p := ⟨b, off + i, none⟩) h5]; exact hu, hr.below hb, ht⟩

/-- how many bytes the first texts have -/
def sumL (ls : List (List Nat)) : Nat := ls.flatten.length

theorem take_tx {ls : List (List Nat)} {k : Nat} (h : k < ls.length) : ls.take (k + 1) = ls.take k ++ [tx ls k] := by
  rw [List.take_succ_eq_append_getElem h]; unfold tx; rw [List.getElem?_eq_getElem h]; rfl
theorem flat_succ {ls : List (List Nat)} {k : Nat} (h : k < ls.length) : (ls.take (k + 1)).flatten = (ls.take k).flatten ++ tx ls k := by
  rw [take_tx h]; simp
theorem flat_le (ls : List (List Nat)) (k : Nat) : (ls.take k).flatten.length ≤ ls.flatten.length := by
  have : ls.flatten = (ls.take k).flatten ++ (ls.drop k).flatten := by rw [← List.flatten_append, List.take_append_drop]
  rw [this]; simp

theorem cells_news {w : World} {k : IntKind} {x : Addr} {l : List Nat} (h : Cells k w (some x) l) : ∀ j u, (vals k l)[j]? = some u → w.cell? (x.add j) = some u := by
  intro j u hj
  have hl : j < l.length := by
    have := (List.getElem?_eq_some_iff.1 hj).1
    rwa [vals_length] at this
  obtain ⟨b, off, he, hc⟩ := h (by omega)
  obtain rfl := Option.some.inj he
  rw [Addr.add_lit, hc j hl, ← vals_get k l j hl]
  exact hj

theorem under_flat (ls : List (List Nat)) (h : ∀ i, i < ls.length → Under 256 (tx ls i)) : Under 256 ls.flatten := by
  intro x hx
  obtain ⟨l, hl, hxl⟩ := List.mem_flatten.1 hx
  obtain ⟨i, hi, rfl⟩ := List.getElem_of_mem hl
  have := h i hi
  unfold tx at this
  rw [List.getElem?_eq_getElem hi] at this
  exact this x hxl

theorem Rows2.under {w : World} {v : Value} {ls : List (List Nat)} (h : Rows2 w v ls) : Under 256 ls.flatten := by
  obtain ⟨a, cap, rfl, h1, h2, h3⟩ := h
  apply under_flat
  intro i hi
  obtain ⟨b, off, rfl, hc⟩ := h3 (by omega)
  obtain ⟨u, _, ⟨_, _, _, _, _, _, h6⟩, _⟩ := hc i hi
  exact h6
end Go.Proofs.Yteiknfcegchbcaa

/- A value whose block is not older than a bound. -/
namespace Go.Proofs.Yteiknfcegchbcaa
open Go.RowKit
set_option linter.unusedVariables false
def New (B : Nat) (v : Value) : Prop := ∀ q, v.ownBlock = some q → B ≤ q
theorem New.at {B g n c o : Nat} (h : B ≤ g) : New B (.slice (some ⟨g, o, none⟩) n c) := fun q hq => by
  have : g = q := by simpa [Value.ownBlock] using hq
  omega
theorem New.nil (B n c : Nat) : New B (.slice none n c) := fun q hq => by simp [Value.ownBlock] at hq
theorem New.mono {B B' : Nat} {v : Value} (h : New B v) (hB : B' ≤ B) : New B' v := fun q hq => Nat.le_trans hB (h q hq)
theorem Own.new {e : TypeId} {k : IntKind} {m : Nat} {w : World} {B : Nat} {v : Value} {l : List Nat} (h : Own e k m w B v l) : New B v := fun q hq => (h.1.lt q hq).1
end Go.Proofs.Yteiknfcegchbcaa
