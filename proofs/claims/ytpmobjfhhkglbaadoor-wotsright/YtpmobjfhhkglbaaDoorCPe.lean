/- Contract of keccak.Permute. -/
import Derived.Test.YtpmobjfhhkglbaaDoorCRg4
import Derived.Deep.MidRow
import Derived.Test.YtpmobjfhhkglbaaDoorWyA
import Derived.Test.YtpmobjfhhkglbaaDoorCBk
import Derived.Test.YtpmobjfhhkglbaaDoorHSl
import Derived.Lib.MinMax
namespace Go.Proofs.YtpmobjfhhkglbaaDoor
open Go.RowKit
set_option linter.unusedVariables false
set_option linter.unusedSimpArgs false

/-- the table of constants, as the row lists it -/
def Csts (w : World) : Prop := w.rangeAt 1 0 (vals .u64 csts)
theorem range_kept {w w' : World} {b o : Nat} {cs : List Value} (h : w.rangeAt b o cs) (hb : Below w.heap.size w w') : w'.rangeAt b o cs := fun j v hv => keep_cell (h j v hv) hb
theorem Csts.below {w w' : World} (h : Csts w) (hb : Below w.heap.size w w') : Csts w' := range_kept h hb
theorem rds_next (a : List Nat) (r : Nat) (h : W25 a) : rdsK a (r + 1) = (roundK (rdsK a r)).set 0 (el (roundK (rdsK a r)) 0 ^^^ el csts r) := rndK_is _ _ (rdsK_w h r).1
theorem roundK_w {a : List Nat} (h : W25 a) : W25 (roundK a) := by
  rw [← roundK_is a h.1]
  exact chiN_w h (moveK_w (spreadK_w h)) 25
/-- where the loop of rounds stands -/
def CPer (w : World) (a : List Nat) (i : Value) (wr : World) : Prop := ∃ r : Nat, r ≤ 24 ∧ i = .int .i64 r ∧ Lies .u64 68 wr w.heap.size (rdsK a r) ∧ Lies .u64 68 wr (w.heap.size + 1) (zs 25) ∧ Below w.heap.size w wr
set_option maxHeartbeats 4000000 in
set_option maxRecDepth 100000 in
theorem perm_any (a : List Nat) (w : World) (hT : Csts w) (hw : W25 a) :
    Calls Tryd.prog 53 #[.agg (arr .u64 a)] w fun e w' => e = .returned (.agg (arr .u64 (perm a))) ∧ Below w.heap.size w w' := by
  have hz := zero25
  have hA0 : Lies .u64 68 ((w.alloc (.cells (arr .u64 a) 68)).alloc (.cells (arr .u64 (zs 25)) 68)) w.heap.size a := (Lies.new .u64 68 w a).alloc _
  have hR0 : Lies .u64 68 ((w.alloc (.cells (arr .u64 a) 68)).alloc (.cells (arr .u64 (zs 25)) 68)) (w.heap.size + 1) (zs 25) := by
    have := Lies.new .u64 68 (w.alloc (.cells (arr .u64 a) 68)) (zs 25)
    rw [World.size_alloc] at this
    exact this
  have hb0 := keep_trans (keep_alloc w (.cells (arr .u64 a) 68)) (keep_alloc _ (.cells (arr .u64 (zs 25)) 68))
  have hT0 : World.rangeAt ((w.alloc (.cells (arr .u64 a) 68)).alloc (.cells (arr .u64 (zs 25)) 68)) 1 0 (vals .u64 csts) := hT.below hb0
  have hcl : (vals .u64 csts).length = 24 := by rw [vals_length, csts_length]
  have hpm : perm a = rdsK a 24 := rfl
  have HPM := hide hpm
  clear hpm
  generalize perm a = PM at *
  go_enter Tryd.func53, Tryd.ntmps53
  go_wp2_with (first
    | (refine wpList_load_mid rfl 100 _ (by rfl) 1 0 (by rfl) (vals .u64 csts) (.array 24 49) hT0 (by kernel_rfl) rfl (by rw [hcl]; kernel_rfl) ?_)
    | fail)
  clear hz hT0 hcl
  generalize (w.alloc (.cells (arr .u64 a) 68)).alloc (.cells (arr .u64 (zs 25)) 68) = x1 at *
  go_loopw [6] (fun i wr => CPer w a i wr) (fun i _ => 24 - (intOf i).toNat)
  case atStart => exact ⟨0, Nat.zero_le _, rfl, hA0, hR0, hb0⟩
  case round =>
    clear hA0 hR0 hb0
    obtain ⟨r, hr, rfl, hA, hR, hb⟩ := hrel
    have hrw := rdsK_w hw r
    by_cases hlt : r < 24
    · have hix : ∀ w : World, (Instr.index 100 (.agg (vals .u64 csts).toArray) (.int .i64 (r : Int))).run Tryd.prog w = .ok (.int .u64 (el csts r)) w := fun w =>
        index_arr _ 49 24 .u64 csts (by kernel_rfl) (by kernel_rfl) (by kernel_rfl) csts_length r hlt w
      have hcu : el csts r < 18446744073709551616 := el_lt csts_under (by decide) r
      have hnx := rds_next a r hw
      have HNX := hide hnx
      clear hnx
      generalize el csts r = c at *
      generalize rdsK a r = A at *
      have hrd := fun w' => round_any A w' hrw
      have hrk := roundK_w hrw
      have hal := hrw.1
      have hrl := hrk.1
      have ir0 : (0 : Int) ≤ (r : Int) := Int.natCast_nonneg _
      have ir1 : (r : Int) < 24 := by omega
      generalize roundK A = B at *
      go_wp2_with (first
        | (refine wpList_load_row rfl 68 _ (by rfl) w.heap.size (by rfl) _ _ _ (.array 25 49) hA (by kernel_rfl) rfl (by rw [arr_size, hal]; kernel_rfl) ?_)
        | (go_at_call 64; refine (hrd _).mono ?_; rintro e w2 ⟨rfl, hb2⟩; have hA2 := hA.below hb2)
        | (refine wpList_store_row rfl 68 _ _ (by rfl) w.heap.size (arr .u64 B) (by rfl) (by rfl) _ _ hA2 (by rw [arr_size, hrl]; kernel_rfl) (by rw [arr_size, arr_size, hrl, hal]) (arr_one _ _) ?_; have hA3 : Lies .u64 68 (w2.setRow w.heap.size (arr .u64 B)) w.heap.size B := hA2.row; have hB3 : But w.heap.size w2 (w2.setRow w.heap.size (arr .u64 B)) := But.setRow (But.refl _ _) _; have c0 := hA3.cell (i := 0) (by omega); have f0 := hA3.frozen 0; have hv := xor_k (el B 0) c (hrk.el 0) hcu)
        | fail)
      have hst := hA3.set 0 (el B 0 ^^^ c)
      rw [← HNX.out] at hst
      have hB4 := hB3.setCell 0 (.int .u64 ((el B 0 ^^^ c : Nat) : Int))
      have hR4 := (hR.below hb2).but hB4 (by omega)
      have hb4 := (keep_trans hb hb2).trans (hB4.below (Nat.le_refl _) (keep_trans hb hb2).size)
      exact ⟨⟨r + 1, by omega, by go_num, hst, hR4, hb4⟩, by simp [intOf]; omega⟩
    · obtain rfl : r = 24 := by omega
      rw [← HPM.out] at hA hrw
      have hsl := hrw.1
      have hOf : Lies .u64 68 (wr.setRow (w.heap.size + 1) (arr .u64 PM)) (w.heap.size + 1) PM := hR.row
      have hbf := hb.trans ((But.setRow (But.refl (w.heap.size + 1) _) (arr .u64 PM)).below (by omega) hb.size)
      go_wp2_with (first
        | (refine wpList_load_row rfl 68 _ (by rfl) w.heap.size (by rfl) _ _ _ (.array 25 49) hA (by kernel_rfl) rfl (by rw [arr_size, hsl]; kernel_rfl) ?_)
        | (refine wpList_store_row rfl 68 _ _ (by rfl) (w.heap.size + 1) (arr .u64 PM) (by rfl) (by rfl) _ _ hR (by rw [arr_size, hsl]; kernel_rfl) (by rw [arr_size, arr_size, hsl, zs_len]) (arr_one _ _) ?_)
        | fail)
      refine bodyPost_ret (v := .agg (arr .u64 PM)) ?_ rfl ⟨rfl, hbf⟩
      exact results_cell_row Tryd.results53 _ _ (w.heap.size + 1) _ _ _ (.array 25 49) (by rfl) hOf (by kernel_rfl) rfl (by rw [arr_size, hsl]; kernel_rfl)
end Go.Proofs.YtpmobjfhhkglbaaDoor

/- Plain facts: bytes in and out of a sponge, a block's part at once. No walk. -/
namespace Go.Proofs.YtpmobjfhhkglbaaDoor
set_option linter.unusedVariables false
set_option linter.unusedSimpArgs false

/-- bytes into the words, from a place on -/
def xorL (a : List Nat) (p : Nat) : List Nat → List Nat
  | [] => a
  | c :: l => xorL (putK a p c) (p + 1) l
theorem xorL_w : ∀ (l : List Nat) {a : List Nat} (p : Nat), W25 a → W25 (xorL a p l)
  | [], _, _, h => h
  | c :: l, _, p, h => xorL_w l (p + 1) (putK_w h p c)
theorem xorL_snoc : ∀ (l : List Nat) (a : List Nat) (p c : Nat), xorL a p (l ++ [c]) = putK (xorL a p l) (p + l.length) c
  | [], a, p, c => rfl
  | d :: l, a, p, c => by
    show xorL (putK a p d) (p + 1) (l ++ [c]) = putK (xorL (putK a p d) (p + 1) l) (p + (l.length + 1)) c
    rw [xorL_snoc l, show p + (l.length + 1) = p + 1 + l.length by omega]
theorem take_elN (b : List Nat) (n : Nat) (h : n < b.length) : b.take (n + 1) = b.take n ++ [el b n] := by
  rw [List.take_add_one, List.getElem?_eq_getElem h]
  congr 1
  simp [el, List.getElem?_eq_getElem h]
theorem xorL_next (a : List Nat) (p : Nat) (l : List Nat) (i : Nat) (h : i < l.length) : xorL a p (l.take (i + 1)) = putK (xorL a p (l.take i)) (p + i) (el l i) := by
  rw [take_elN l i h, xorL_snoc, List.length_take, Nat.min_eq_left (Nat.le_of_lt h)]
/-- a part of a block -/
theorem absK_part (rate : Nat) : ∀ (l : List Nat) (ws : List Nat) (p : Nat), p + l.length < rate → absK rate (ws, p) l = (xorL ws p l, p + l.length)
  | [], ws, p, _ => rfl
  | c :: l, ws, p, h => by
    have h' : p + (l.length + 1) < rate := h
    show absK rate (inK rate (ws, p) c) l = (xorL (putK ws p c) (p + 1) l, p + (l.length + 1))
    have e : inK rate (ws, p) c = (putK ws p c, p + 1) := by unfold inK; rw [if_neg (by show ¬ p + 1 = rate; omega)]
    rw [e, absK_part rate l _ _ (by omega), show p + 1 + l.length = p + (l.length + 1) by omega]
/-- all that is left of it -/
theorem absK_full (rate : Nat) (l : List Nat) (ws : List Nat) (p : Nat) (hl : 0 < l.length) (h : p + l.length = rate) : absK rate (ws, p) l = (perm (xorL ws p l), 0) := by
  obtain ⟨l', c, rfl⟩ : ∃ l' c, l = l' ++ [c] := ⟨l.dropLast, l.getLast (by intro e; rw [e] at hl; cases hl), (List.dropLast_concat_getLast _).symm⟩
  rw [List.length_append] at h
  have h' : p + (l'.length + 1) = rate := h
  rw [absK_snoc, absK_part rate l' ws p (by omega), xorL_snoc]
  unfold inK
  rw [if_pos (by show p + l'.length + 1 = rate; omega)]
/-- out of a part of a block -/
theorem sqz_run {rate : Nat} (s : List Nat × Nat) : ∀ i, (fresh rate s).2 + i < rate → fresh rate (sqzS rate s i) = ((fresh rate s).1, (fresh rate s).2 + i)
  | 0, _ => rfl
  | i + 1, h => by
    have h' : (fresh rate s).2 + (i + 1) < rate := h
    have e := sqz_run (rate := rate) s i (by omega)
    have e2 : sqzS rate s (i + 1) = ((fresh rate s).1, (fresh rate s).2 + i + 1) := by
      show ((fresh rate (sqzS rate s i)).1, (fresh rate (sqzS rate s i)).2 + 1) = _
      rw [e]
    rw [e2]
    unfold fresh
    rw [if_neg]
    · rfl
    · show ¬ (fresh rate s).2 + i + 1 = rate; omega
theorem sqzS_run {rate : Nat} (s : List Nat × Nat) (n : Nat) (hn : 0 < n) (h : (fresh rate s).2 + n ≤ rate) : sqzS rate s n = ((fresh rate s).1, (fresh rate s).2 + n) := by
  obtain ⟨i, rfl⟩ : ∃ i, n = i + 1 := ⟨n - 1, by omega⟩
  show ((fresh rate (sqzS rate s i)).1, (fresh rate (sqzS rate s i)).2 + 1) = _
  rw [sqz_run s i (by omega)]
  rfl
end Go.Proofs.YtpmobjfhhkglbaaDoor

/- Contract of keccak.xored. -/
namespace Go.Proofs.YtpmobjfhhkglbaaDoor
open Go.RowKit
set_option linter.unusedVariables false
set_option linter.unusedSimpArgs false

/-- where the loop of bytes stands -/
def CXor (w : World) (a : List Nat) (p : Nat) (b : List Nat) (i : Value) (wr : World) : Prop := ∃ n : Nat, n ≤ b.length ∧ i = .int .i64 n ∧ Lies .u64 68 wr w.heap.size (xorL a p (b.take n)) ∧ Lies .u64 68 wr (w.heap.size + 1) (zs 25) ∧ Below w.heap.size w wr
set_option maxHeartbeats 4000000 in
set_option maxRecDepth 100000 in
theorem xored_any (a : List Nat) (p : Nat) (bv : Value) (b : List Nat) (w : World) (hw : W25 a) (hRb : Row .u8 256 w bv b) (hp : p + b.length ≤ 200) :
    Calls Tryd.prog 52 #[.agg (arr .u64 a), .int .i64 p, bv] w fun e w' => e = .returned (.agg (arr .u64 (xorL a p b))) ∧ Below w.heap.size w w' := by
  have hz := zero25
  have hA0 : Lies .u64 68 ((w.alloc (.cells (arr .u64 a) 68)).alloc (.cells (arr .u64 (zs 25)) 68)) w.heap.size a := (Lies.new .u64 68 w a).alloc _
  have hR0 : Lies .u64 68 ((w.alloc (.cells (arr .u64 a) 68)).alloc (.cells (arr .u64 (zs 25)) 68)) (w.heap.size + 1) (zs 25) := by
    have := Lies.new .u64 68 (w.alloc (.cells (arr .u64 a) 68)) (zs 25)
    rw [World.size_alloc] at this
    exact this
  have hb0 := keep_trans (keep_alloc w (.cells (arr .u64 a) 68)) (keep_alloc _ (.cells (arr .u64 (zs 25)) 68))
  have hub := hRb.under
  obtain ⟨ba, bc, rfl, g1, g2, g3, g4⟩ := hRb
  go_enter Tryd.func52, Tryd.ntmps52
  go_wp2
  clear hz
  generalize (w.alloc (.cells (arr .u64 a) 68)).alloc (.cells (arr .u64 (zs 25)) 68) = x1 at *
  go_loopw [11] (fun i wr => CXor w a p b i wr) (fun i _ => b.length - (intOf i).toNat)
  case atStart => exact ⟨0, Nat.zero_le _, rfl, hA0, hR0, hb0⟩
  case round =>
    clear hA0 hR0 hb0
    obtain ⟨n, hn, rfl, hA, hR, hb⟩ := hrel
    have hxw : W25 (xorL a p (b.take n)) := xorL_w _ p hw
    by_cases hlt : n < b.length
    · have hnx := xorL_next a p b n hlt
      obtain ⟨bb, off, rfl, hc⟩ := g3 (by omega)
      have cb := keep_cell (hc n hlt) hb
      have hcl : el b n < 256 := el_lt hub (by decide) n
      obtain ⟨P, hP⟩ : ∃ x : Nat, x = p + n := ⟨_, rfl⟩
      rw [← hP] at hnx
      generalize xorL a p (b.take n) = A at *
      generalize el b n = c at *
      obtain ⟨j, hj⟩ : ∃ x : Nat, x = P / 8 := ⟨_, rfl⟩
      obtain ⟨m, hm⟩ : ∃ x : Nat, x = P % 8 := ⟨_, rfl⟩
      obtain ⟨m8, hm8⟩ : ∃ x : Nat, x = 8 * m := ⟨_, rfl⟩
      obtain ⟨n1, hn1⟩ : ∃ x : Nat, x = n + 1 := ⟨_, rfl⟩
      have e_n : (n : Int) + 1 = (n1 : Int) := by omega
      have r_n : IntKind.i64.wrap (n1 : Int) = (n1 : Int) := by rw [IntKind.wrap_i64]; omega
      have e_P : (p : Int) + (n : Int) = (P : Int) := by omega
      have r_P : IntKind.i64.wrap (P : Int) = (P : Int) := by rw [IntKind.wrap_i64]; omega
      have e_j : (P : Int) / 8 = (j : Int) := by omega
      have t_j : (P : Int).tdiv 8 = (j : Int) := by rw [Int.tdiv_eq_ediv_of_nonneg (by omega)]; exact e_j
      have r_j : IntKind.i64.wrap (j : Int) = (j : Int) := by rw [IntKind.wrap_i64]; omega
      have e_m : (P : Int) % 8 = (m : Int) := by omega
      have t_m : (P : Int).tmod 8 = (m : Int) := by rw [Int.tmod_eq_emod_of_nonneg (by omega)]; exact e_m
      have r_m : IntKind.i64.wrap (m : Int) = (m : Int) := by rw [IntKind.wrap_i64]; omega
      have e_8 : 8 * (m : Int) = (m8 : Int) := by omega
      have r_8 : IntKind.i64.wrap (m8 : Int) = (m8 : Int) := by rw [IntKind.wrap_i64]; omega
      have mn : min m8 64 = m8 := by omega
      have r_c : IntKind.u64.wrap (c : Int) = (c : Int) := by rw [IntKind.wrap_u64]; omega
      have i0 : (0 : Int) ≤ (j : Int) := Int.natCast_nonneg _
      have i1 : (j : Int) < 25 := by omega
      have i2 : (0 : Int) ≤ (m8 : Int) := Int.natCast_nonneg _
      have i3 : (0 : Int) ≤ (n : Int) := Int.natCast_nonneg _
      have i4 : (n : Int) < (b.length : Int) := by omega
      have hpk : putK A P c = A.set j (el A j ^^^ c * 2 ^ m8 % 18446744073709551616) := by unfold putK; rw [← hj, ← hm, ← hm8]
      have c0 := hA.cell (i := j) (by rw [hxw.1]; omega)
      have f0 := hA.frozen j
      have h1 := hxw.el j
      have hv := xor_k (el A j) (c * 2 ^ m8 % 18446744073709551616) h1 (Nat.mod_lt _ (by decide))
      have HPK := hide hpk
      have HNX := hide hnx
      have HN1 := hide hn1
      clear hj hm hm8 hpk hnx hn1 hP
      have hv2 : bits .xor .u64 (el A j : Int) ((c : Int) * 2 ^ m8 % 18446744073709551616) = ((el A j ^^^ c * 2 ^ m8 % 18446744073709551616 : Nat) : Int) := by
        rw [show (c : Int) * 2 ^ m8 % 18446744073709551616 = ((c * 2 ^ m8 % 18446744073709551616 : Nat) : Int) by simp]; exact hv
      have hst : ∀ (y : World), Lies .u64 68 y w.heap.size A → Lies .u64 68 (y.setCell ⟨w.heap.size, j, none⟩ (.int .u64 (bits .xor .u64 (el A j : Int) ((c : Int) * 2 ^ m8 % 18446744073709551616)))) w.heap.size (xorL a p (b.take n1)) := fun y hy => by
        rw [hv2, HN1.out, HNX.out, HPK.out]
        exact hy.set j _
      have HST := hide hst
      clear hv hv2 hst
      go_wp2
      go_region
      go_wp2
      exact ⟨⟨n1, by have := HN1.out; omega, rfl, HST.out _ hA, hR.but ((But.refl w.heap.size wr).setCell j _).drew (by omega), hb.trans (((But.refl w.heap.size wr).setCell j _).drew.below (Nat.le_refl _) hb.size)⟩, by have := HN1.out; simp [intOf]; omega⟩
    · rw [List.take_of_length_le (by omega)] at hA hxw
      have hsl := hxw.1
      generalize hX : xorL a p b = X at hA hsl hxw
      have HX := hide hX
      clear hX
      have hOf : Lies .u64 68 (wr.setRow (w.heap.size + 1) (arr .u64 X)) (w.heap.size + 1) X := hR.row
      have hbf := hb.trans ((But.setRow (But.refl (w.heap.size + 1) _) (arr .u64 X)).below (by omega) hb.size)
      have hnn : n = b.length := by omega
      subst hnn
      go_wp2_with (first
        | (refine wpList_load_row rfl 68 _ (by rfl) w.heap.size (by rfl) _ _ _ (.array 25 49) hA (by kernel_rfl) rfl (by rw [arr_size, hsl]; kernel_rfl) ?_)
        | (refine wpList_store_row rfl 68 _ _ (by rfl) (w.heap.size + 1) (arr .u64 X) (by rfl) (by rfl) _ _ hR (by rw [arr_size, hsl]; kernel_rfl) (by rw [arr_size, arr_size, hsl, zs_len]) (arr_one _ _) ?_)
        | fail)
      refine bodyPost_ret (v := .agg (arr .u64 X)) ?_ rfl ⟨by rw [HX.out], hbf⟩
      exact results_cell_row Tryd.results52 _ _ (w.heap.size + 1) _ _ _ (.array 25 49) (by rfl) hOf (by kernel_rfl) rfl (by rw [arr_size, hsl]; kernel_rfl)
end Go.Proofs.YtpmobjfhhkglbaaDoor

/- Contract of keccak.Absorb. -/
namespace Go.Proofs.YtpmobjfhhkglbaaDoor
open Go.RowKit
set_option linter.unusedVariables false
set_option linter.unusedSimpArgs false

theorem fitK_in {kind : Int} {p : Nat} (h : p < rateK kind) : fitK kind p false = true := by
  unfold fitK
  rw [Bool.and_eq_true, Bool.and_eq_true, Bool.or_eq_true, decide_eq_true_iff, decide_eq_true_iff, decide_eq_true_iff]
  exact ⟨by omega, by omega, .inl (by omega)⟩
theorem abs_step (rate : Nat) (A l : List Nat) (P F P1 : Nat) (hP : P < rate) (hF : F = min l.length (rate - P)) (hl : 0 < l.length) (h1 : P1 = P + F) :
    absK rate (A, P) (l.take F) = if P1 = rate then (perm (xorL A P (l.take F)), 0) else (xorL A P (l.take F), P1) := by
  have hlen : (l.take F).length = F := by rw [List.length_take]; omega
  by_cases h : P1 = rate
  · rw [if_pos h]
    exact absK_full rate _ A P (by omega) (by omega)
  · rw [if_neg h, h1]
    have := absK_part rate (l.take F) A P (by omega)
    rw [hlen] at this
    exact this
/-- where the loop of parts stands -/
def CAbs (w : World) (kind : Int) (s0 : List Nat × Nat) (b : List Nat) (u : Value) (wr : World) : Prop := ∃ k : Nat, k ≤ b.length ∧ slen u = b.length - k ∧ Row .u8 256 w u (b.drop k) ∧ Sg wr w.heap.size kind (absK (rateK kind) s0 (b.take k)).1 ((absK (rateK kind) s0 (b.take k)).2 : Nat) false ∧ wr.heap[w.heap.size + 1]? = some (.cells (sl 0 (zs 25) 0 false).toArray 70 (0, 0)) ∧ Below w.heap.size w wr
set_option maxHeartbeats 8000000 in
set_option maxRecDepth 100000 in
theorem cabs_any (kind : Int) (ws : List Nat) (p : Nat) (bv : Value) (b : List Nat) (w : World) (hT : Csts w) (hw : W25 ws) (hp : p < rateK kind) (hRb : Row .u8 256 w bv b) (hbl : b.length ≤ 1000000) :
    Calls Tryd.prog 39 #[.agg (sl kind ws p false).toArray, bv] w fun e w' => e = .returned (.agg (sl kind (absK (rateK kind) (ws, p) b).1 ((absK (rateK kind) (ws, p) b).2 : Nat) false).toArray) ∧ Below w.heap.size w w' := by
  have hz := zero28
  have hS : Sg ((w.alloc (.cells (sl kind ws p false).toArray 70)).alloc (.cells (sl 0 (zs 25) 0 false).toArray 70)) w.heap.size kind ws p false := (Sg.new w 70 kind ws p false hw.1).below (keep_alloc _ _)
  have hR : ((w.alloc (.cells (sl kind ws p false).toArray 70)).alloc (.cells (sl 0 (zs 25) 0 false).toArray 70)).heap[w.heap.size + 1]? = some (.cells (sl 0 (zs 25) 0 false).toArray 70 (0, 0)) := by
    have := heap_alloc_last (w.alloc (.cells (sl kind ws p false).toArray 70)) (.cells (sl 0 (zs 25) 0 false).toArray 70)
    rw [World.size_alloc] at this
    exact this
  have hb := keep_trans (keep_alloc w (.cells (sl kind ws p false).toArray 70)) (keep_alloc _ (.cells (sl 0 (zs 25) 0 false).toArray 70))
  have hll := hS.all
  have hl := hw.1
  have hrt := rateK_le kind
  have hsz0 : (sl 0 (zs 25) 0 false).toArray.size = 28 := by simp [sl_len (zs_len 25)]
  have hft := fun w' => cfit_any kind ws p false w' hl
  rw [fitK_in hp] at hft
  have hrk := fun w' => block_any kind w'
  have hW2 : w.heap.size + 1 < ((w.alloc (.cells (sl kind ws p false).toArray 70)).alloc (.cells (sl 0 (zs 25) 0 false).toArray 70)).heap.size := by simp
  obtain ⟨ba, bc, rfl, g1, g2, g3, g4⟩ := hRb
  have hRb : Row .u8 256 w (.slice ba b.length bc) b := ⟨ba, bc, rfl, g1, g2, g3, g4⟩
  clear g1 g2 g3 g4
  go_enter Tryd.func39, Tryd.ntmps39
  go_wp2_with (first
    | (refine wpList_load_mid rfl 70 _ (by rfl) w.heap.size 0 (by rfl) (sl kind ws p false) _ hll Tryd.underlying70 rfl (by rw [sl_len hl]; kernel_rfl) ?_)
    | (go_at_call 51; refine (hft _).mono ?_; rintro e w1 ⟨rfl, hb1⟩; have hS1 := hS.below hb1; have c27 := hS1.out; have c0 := hS1.kind; have hR1 := (hb1.block _ hW2).trans hR; have hbx := keep_trans hb hb1)
    | (go_at_call 50; refine (hrk _).mono ?_; rintro e w2 ⟨rfl, rfl⟩)
    | fail)
  clear hz c27 c0 hS hR hb hll hft hrk hW2
  go_loopw [1] (fun u wr => CAbs w kind (ws, p) b u wr) (fun u _ => slen u)
  case atStart => exact ⟨0, Nat.zero_le _, rfl, hRb, hS1, hR1, hbx⟩
  case round =>
    clear hS1 hR1 hbx hb1 hRb
    obtain ⟨k, hk, hsk, hRu, hS, hR, hbr⟩ := hrel
    by_cases hlt : k < b.length
    · have hsw : W25 (absK (rateK kind) (ws, p) (b.take k)).1 := absK_w _ _ hw
      have hsa : (absK (rateK kind) (ws, p) (b.take k)).2 < rateK kind := absK_at _ _ hp
      have hsn := fun F => absK_parts (rateK kind) (ws, p) (b.take k) ((b.drop k).take F)
      generalize absK (rateK kind) (ws, p) (b.take k) = s at *
      obtain ⟨A, P⟩ := s
      dsimp only at hS hsw hsa
      have hdl : (b.drop k).length = b.length - k := List.length_drop
      generalize hlq : b.drop k = l at *
      obtain ⟨ua, uc, rfl, g1, g2, g3, g4⟩ := hRu
      have hRu : Row .u8 256 w (.slice ua l.length uc) l := ⟨ua, uc, rfl, g1, g2, g3, g4⟩
      obtain ⟨D, hD⟩ : ∃ x : Nat, x = rateK kind - P := ⟨_, rfl⟩
      obtain ⟨F, hF⟩ : ∃ x : Nat, x = min l.length D := ⟨_, rfl⟩
      obtain ⟨P1, hP1⟩ : ∃ x : Nat, x = P + F := ⟨_, rfl⟩
      have hst := abs_step (rateK kind) A l P F P1 hsa (by rw [hF, hD]) (by omega) hP1
      have hnx := hsn F
      rw [← hlq, ← List.take_add, hlq] at hnx
      rw [hst] at hnx
      have HNX := hide hnx
      clear hst hnx hsn
      have e_D : ((rateK kind : Nat) : Int) - (P : Int) = (D : Int) := by omega
      have r_D : IntKind.i64.wrap (D : Int) = (D : Int) := by rw [IntKind.wrap_i64]; omega
      have y3 : min (l.length : Int) (D : Int) = (F : Int) := by omega
      have y4 : min l.length D = F := hF.symm
      have e_P : (P : Int) + (F : Int) = (P1 : Int) := by omega
      have r_P : IntKind.i64.wrap (P1 : Int) = (P1 : Int) := by rw [IntKind.wrap_i64]; omega
      have hF1 : F ≤ l.length := by omega
      have hF0 : 0 < F := by omega
      have hFc : F ≤ uc := by omega
      have hsl := fun w => slice_to ua l.length uc F hFc w
      obtain ⟨ub, hsf, hub⟩ := slice_from ua l.length uc F hF1 g1
      have hRc : Row .u8 256 w (.slice ua F uc) (l.take F) := hRu.cut hF1
      have hRd : Row .u8 256 w (.slice ub (l.length - F) (uc - F)) (l.drop F) := hRu.behind hF1 hub
      have hdd : l.drop F = b.drop (k + F) := by rw [← hlq, List.drop_drop]
      rw [hdd] at hRd
      have hll0 : (0 : Int) < (l.length : Int) := by omega
      have hln : 0 < l.length := by omega
      have hPF : P + (l.take F).length ≤ 200 := by rw [List.length_take]; omega
      have hxo := fun w' (hb : Below w.heap.size w w') => xored_any A P (.slice ua F uc) (l.take F) w' hsw (hRc.below hb) hPF
      have hxw : W25 (xorL A P (l.take F)) := xorL_w _ P hsw
      have hAl := hsw.1
      have hkF : k + F ≤ b.length := by omega
      have hms : l.length - F = b.length - (k + F) := by omega
      have hwd := hS.words
      have c26 := hS.at
      have HD := hide hD
      have HP1 := hide hP1
      have HMS := hide hms
      have hmeas : l.length - F < slen (.slice ua l.length uc) := by show l.length - F < l.length; omega
      have HME := hide hmeas
      clear hD hP1 hms hmeas hF hlq hdd hub g1 g2 g3 g4 hdl hRu
      generalize xorL A P (l.take F) = X at *
      go_wp2
      refine wp_region_still_tail 7 (by kernel_rfl) (by kernel_rfl) ?_
      simp only [List.take_succ_cons, List.take_zero, List.drop_succ_cons, List.drop_zero]
      change wpStill _ _ (World.drew wr) (fun a' => wpList _ _ _ _ a' (World.drew wr)) _ _
      have hwd2 : wr.drew.rangeAt w.heap.size 1 (vals .u64 A) := (World.rangeAt_drew _ _ _ _).2 hwd
      have hvl : (vals .u64 A).length = 25 := by rw [vals_length, hAl]
      still_step
      refine wpStill_step (fun K hK => ?_)
      refine still_load_mid rfl 68 _ (by rfl) w.heap.size 1 (by rfl) (vals .u64 A) (.array 25 49) hwd2 (by kernel_rfl) rfl (by rw [hvl]; kernel_rfl) (hK _ ?_)
      clear hK K
      still_step
      still_step
      still_step
      still_step
      still_step
      refine wpStill_nil ?_
      clear hwd hwd2 c26
      have hpl := hxw.1
      have hps : (arr .u64 X).size = 25 := by rw [arr_size, hpl]
      have hprm := fun w' (hT' : Csts w') => perm_any X w' hT' hxw
      have hqw := perm_w hxw
      have hql := hqw.1
      by_cases hfull : P1 = rateK kind
      · have hbe : ((P1 : Int) == ((rateK kind : Nat) : Int)) = true := by rw [hfull]; exact beq_self_eq_true _
        have hN2 := HNX.out
        rw [if_pos hfull] at hN2
        have HN2 := hide hN2
        clear hN2 HNX
        have hqs : (arr .u64 (perm X)).size = 25 := by rw [arr_size, hql]
        generalize perm X = M at *
        have HFL := hide hfull
        clear hfull
        have hvx : (vals .u64 X).length = 25 := by rw [vals_length, hpl]
        go_wp2_with (first
          | (go_at_call 52; refine (hxo _ hbr.drew).mono ?_; rintro e w3 ⟨rfl, hb3⟩; replace hb3 := un_drew hb3; have hS3 := hS.below hb3; have hth : w3.there w.heap.size 1 (arr .u64 X).size := fun j hj => (by rw [hps] at hj; have := hS3.th (1 + j) (by omega); rw [Nat.zero_add] at this; exact this))
          | (refine wpList_store_mid rfl 68 _ _ (by rfl) w.heap.size 1 (arr .u64 X) (by rfl) (by rfl) hth (by rw [hps]; kernel_rfl) (arr_one _ _) ?_; have hS4 : Sg (w3.setCells w.heap.size 1 (arr .u64 X).toList) w.heap.size kind X P false := hS3.setWords _ hpl; have c26 := hS4.at; have f26 := hS4.frozen 26 (by decide); have hS5 := hS4.setAt (P1 : Int); have hwd5 := hS5.words; have hBt : But w.heap.size w3 ((w3.setCells w.heap.size 1 (arr .u64 X).toList).setCell ⟨w.heap.size, 26, none⟩ (.int .i64 (P1 : Int))) := ((But.refl _ _).setCells _ _).setCell _ _; have hb5 := (keep_trans hbr hb3).trans (hBt.below (Nat.le_refl _) (keep_trans hbr hb3).size))
          | (refine wpList_load_mid rfl 68 _ (by rfl) w.heap.size 1 (by rfl) (vals .u64 X) (.array 25 49) hwd5 (by kernel_rfl) rfl (by rw [hvx]; kernel_rfl) ?_)
          | (go_at_call 53; refine (hprm _ (hT.below hb5)).mono ?_; rintro e w6 ⟨rfl, hb7⟩; have hS7 := hS5.below hb7; have hth6 : w6.there w.heap.size 1 (arr .u64 M).size := fun j hj => (by rw [hqs] at hj; have := hS7.th (1 + j) (by omega); rw [Nat.zero_add] at this; exact this))
          | (refine wpList_store_mid rfl 68 _ _ (by rfl) w.heap.size 1 (arr .u64 M) (by rfl) (by rfl) hth6 (by rw [hqs]; kernel_rfl) (arr_one _ _) ?_; have hS8 : Sg (w6.setCells w.heap.size 1 (arr .u64 M).toList) w.heap.size kind M P1 false := hS7.setWords _ hql; have c26 := hS8.at; have f26 := hS8.frozen 26 (by decide))
          | fail)
        have hS9 := hS8.setAt 0
        have hBu : But w.heap.size w6 ((w6.setCells w.heap.size 1 (arr .u64 M).toList).setCell ⟨w.heap.size, 26, none⟩ (.int .i64 0)) := ((But.refl _ _).setCells _ _).setCell _ _
        have hR3 := (hb3.block _ (heap_lt hR)).trans hR
        have hR5 := (hBt.block (w.heap.size + 1) (heap_lt hR3) (by omega)).trans hR3
        have hR6 := (hb7.block _ (heap_lt hR5)).trans hR5
        have hR9 := (hBu.block (w.heap.size + 1) (heap_lt hR6) (by omega)).trans hR6
        have hb9 := (keep_trans hb5 hb7).trans (hBu.below (Nat.le_refl _) (keep_trans hb5 hb7).size)
        exact ⟨⟨k + F, hkF, HMS.out, hRd, by rw [HN2.out]; exact hS9, hR9, hb9⟩, HME.out⟩
      · have hbe : ((P1 : Int) == ((rateK kind : Nat) : Int)) = false := by rw [beq_eq_false_iff_ne]; omega
        have hN2 := HNX.out
        rw [if_neg hfull] at hN2
        have HN2 := hide hN2
        clear hN2 HNX hfull hprm hqw hql
        go_wp2_with (first
          | (go_at_call 52; refine (hxo _ hbr.drew).mono ?_; rintro e w3 ⟨rfl, hb3⟩; replace hb3 := un_drew hb3; have hS3 := hS.below hb3; have hth : w3.there w.heap.size 1 (arr .u64 X).size := fun j hj => (by rw [hps] at hj; have := hS3.th (1 + j) (by omega); rw [Nat.zero_add] at this; exact this))
          | (refine wpList_store_mid rfl 68 _ _ (by rfl) w.heap.size 1 (arr .u64 X) (by rfl) (by rfl) hth (by rw [hps]; kernel_rfl) (arr_one _ _) ?_; have hS4 : Sg (w3.setCells w.heap.size 1 (arr .u64 X).toList) w.heap.size kind X P false := hS3.setWords _ hpl; have c26 := hS4.at; have f26 := hS4.frozen 26 (by decide))
          | fail)
        have hS5 := hS4.setAt (P1 : Int)
        have hBt : But w.heap.size w3 ((w3.setCells w.heap.size 1 (arr .u64 X).toList).setCell ⟨w.heap.size, 26, none⟩ (.int .i64 (P1 : Int))) := ((But.refl _ _).setCells _ _).setCell _ _
        have hR3 := (hb3.block _ (heap_lt hR)).trans hR
        have hR5 := (hBt.block (w.heap.size + 1) (heap_lt hR3) (by omega)).trans hR3
        have hb5 := (keep_trans hbr hb3).trans (hBt.below (Nat.le_refl _) (keep_trans hbr hb3).size)
        exact ⟨⟨k + F, hkF, HMS.out, hRd, by rw [HN2.out]; exact hS5, hR5, hb5⟩, HME.out⟩
    · have hkb : k = b.length := by omega
      subst hkb
      rw [List.take_of_length_le (Nat.le_refl _)] at hS
      rw [List.drop_of_length_le (Nat.le_refl _)] at hRu
      obtain ⟨ua, uc, rfl, _⟩ := hRu
      generalize hs : absK (rateK kind) (ws, p) b = s at hS
      obtain ⟨A, P⟩ := s
      dsimp only at hS
      have HS := hide hs
      clear hs hsk
      have hll := hS.all
      have hsl := sl_len (kind := kind) (p := (P : Int)) (o := false) hS.len
      have hsz : (sl kind A P false).toArray.size = 28 := by simp [hsl]
      have hfu := setRow_heap wr (w.heap.size + 1) _ (sl kind A P false).toArray 70 _ hR
      have hbf := hbr.trans ((But.setRow (But.refl (w.heap.size + 1) _) (sl kind A P false).toArray).below (by omega) hbr.size)
      go_wp2_with (first
        | (refine wpList_load_mid rfl 70 _ (by rfl) w.heap.size 0 (by rfl) (sl kind A P false) _ hll Tryd.underlying70 rfl (by rw [hsl]; kernel_rfl) ?_)
        | (refine wpList_store_row rfl 70 _ _ (by rfl) (w.heap.size + 1) (sl kind A P false).toArray (by rfl) (by rfl) _ _ hR (by rw [hsz]; kernel_rfl) (by rw [hsz, hsz0]) (all_oneCell_toArray (sl_one _ _ _ _)) ?_)
        | fail)
      refine bodyPost_ret (v := .agg (sl kind A P false).toArray) ?_ rfl ⟨by rw [HS.out], hbf⟩
      exact results_cell_row Tryd.results39 _ _ (w.heap.size + 1) _ _ _ _ (by rfl) hfu Tryd.underlying70 rfl (by rw [hsz]; kernel_rfl)
end Go.Proofs.YtpmobjfhhkglbaaDoor
