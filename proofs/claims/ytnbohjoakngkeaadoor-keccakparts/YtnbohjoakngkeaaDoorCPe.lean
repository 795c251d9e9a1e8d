/- Contract of keccak.Permute. -/
import Derived.Test.YtnbohjoakngkeaaDoorCRd
import Derived.Deep.MidRow
import Derived.Test.YtnbohjoakngkeaaDoorKecM
namespace Go.Proofs.YtnbohjoakngkeaaDoor
open Go.RowKit
set_option linter.unusedVariables false
set_option linter.unusedSimpArgs false

/-- the table of constants, as the row lists it -/
def Csts (w : World) : Prop := w.rangeAt 0 0 (vals .u64 csts)
theorem range_kept {w w' : World} {b o : Nat} {cs : List Value} (h : w.rangeAt b o cs) (hb : Below w.heap.size w w') : w'.rangeAt b o cs := fun j v hv => keep_cell (h j v hv) hb
theorem Csts.below {w w' : World} (h : Csts w) (hb : Below w.heap.size w w') : Csts w' := range_kept h hb
theorem rds_next (a : List Nat) (r : Nat) (h : W25 a) : rdsK a (r + 1) = (roundK (rdsK a r)).set 0 (el (roundK (rdsK a r)) 0 ^^^ el csts r) := rndK_is _ _ (rdsK_w h r).1
theorem roundK_w {a : List Nat} (h : W25 a) : W25 (roundK a) := by
  rw [← roundK_is a h.1]
  exact chiN_w h (moveK_w (spreadK_w h)) 25
/-- where the loop of rounds stands -/
def CPer (w : World) (a : List Nat) (i : Value) (wr : World) : Prop := ∃ r : Nat, r ≤ 24 ∧ i = .int .i64 r ∧ Lies .u64 23 wr w.heap.size (rdsK a r) ∧ Lies .u64 23 wr (w.heap.size + 1) (zs 25) ∧ Below w.heap.size w wr
set_option maxHeartbeats 4000000 in
set_option maxRecDepth 100000 in
theorem perm_any (a : List Nat) (w : World) (hT : Csts w) (hw : W25 a) :
    Calls Tryd.prog 12 #[.agg (arr .u64 a)] w fun e w' => e = .returned (.agg (arr .u64 (perm a))) ∧ Below w.heap.size w w' := by
  have hz := zero25
  have hA0 : Lies .u64 23 ((w.alloc (.cells (arr .u64 a) 23)).alloc (.cells (arr .u64 (zs 25)) 23)) w.heap.size a := (Lies.new .u64 23 w a).alloc _
  have hR0 : Lies .u64 23 ((w.alloc (.cells (arr .u64 a) 23)).alloc (.cells (arr .u64 (zs 25)) 23)) (w.heap.size + 1) (zs 25) := by
    have := Lies.new .u64 23 (w.alloc (.cells (arr .u64 a) 23)) (zs 25)
    rw [World.size_alloc] at this
    exact this
  have hb0 := keep_trans (keep_alloc w (.cells (arr .u64 a) 23)) (keep_alloc _ (.cells (arr .u64 (zs 25)) 23))
  have hT0 : World.rangeAt ((w.alloc (.cells (arr .u64 a) 23)).alloc (.cells (arr .u64 (zs 25)) 23)) 0 0 (vals .u64 csts) := hT.below hb0
  have hcl : (vals .u64 csts).length = 24 := by rw [vals_length, csts_length]
  have hpm : perm a = rdsK a 24 := rfl
  have HPM := hide hpm
  clear hpm
  generalize perm a = PM at *
  go_enter Tryd.func12, Tryd.ntmps12
  go_wp2_with (first
    | (refine wpList_load_mid rfl 50 _ (by rfl) 0 0 (by rfl) (vals .u64 csts) (.array 24 22) hT0 (by kernel_rfl) rfl (by rw [hcl]; kernel_rfl) ?_)
    | fail)
  clear hz hT0 hcl
  generalize (w.alloc (.cells (arr .u64 a) 23)).alloc (.cells (arr .u64 (zs 25)) 23) = x1 at *
  go_loopw [6] (fun i wr => CPer w a i wr) (fun i _ => 24 - (intOf i).toNat)
  case atStart => exact ⟨0, Nat.zero_le _, rfl, hA0, hR0, hb0⟩
  case round =>
    clear hA0 hR0 hb0
    obtain ⟨r, hr, rfl, hA, hR, hb⟩ := hrel
    have hrw := rdsK_w hw r
    by_cases hlt : r < 24
    · have hix : ∀ w : World, (Instr.index 50 (.agg (vals .u64 csts).toArray) (.int .i64 (r : Int))).run Tryd.prog w = .ok (.int .u64 (el csts r)) w := fun w =>
        index_arr _ 22 24 .u64 csts (by kernel_rfl) (by kernel_rfl) (by kernel_rfl) csts_length r hlt w
      have hcu : el csts r < 18446744073709551616 := el_lt csts_under (by decide) r
      have hnx := rds_next a r hw
      have HNX := hide hnx
      clear hnx
      generalize el csts r = c at *
      generalize rdsK a r = A at *
      have hrd := fun w' => round_any A w' hrw
      have hrk := roundK_w hrw
      have hal := hrw.1
      have hrl := hrk.1
      have ir0 : (0 : Int) ≤ (r : Int) := Int.natCast_nonneg _
      have ir1 : (r : Int) < 24 := by omega
      generalize roundK A = B at *
      go_wp2_with (first
        | (refine wpList_load_row rfl 23 _ (by rfl) w.heap.size (by rfl) _ _ _ (.array 25 22) hA (by kernel_rfl) rfl (by rw [arr_size, hal]; kernel_rfl) ?_)
        | (go_at_call 24; refine (hrd _).mono ?_; rintro e w2 ⟨rfl, hb2⟩; have hA2 := hA.below hb2)
        | (refine wpList_store_row rfl 23 _ _ (by rfl) w.heap.size (arr .u64 B) (by rfl) (by rfl) _ _ hA2 (by rw [arr_size, hrl]; kernel_rfl) (by rw [arr_size, arr_size, hrl, hal]) (arr_one _ _) ?_; have hA3 : Lies .u64 23 (w2.setRow w.heap.size (arr .u64 B)) w.heap.size B := hA2.row; have hB3 : But w.heap.size w2 (w2.setRow w.heap.size (arr .u64 B)) := But.setRow (But.refl _ _) _; have c0 := hA3.cell (i := 0) (by omega); have f0 := hA3.frozen 0; have hv := xor_k (el B 0) c (hrk.el 0) hcu)
        | fail)
      have hst := hA3.set 0 (el B 0 ^^^ c)
      rw [← HNX.out] at hst
      have hB4 := hB3.setCell 0 (.int .u64 ((el B 0 ^^^ c : Nat) : Int))
      have hR4 := (hR.below hb2).but hB4 (by omega)
      have hb4 := (keep_trans hb hb2).trans (hB4.below (Nat.le_refl _) (keep_trans hb hb2).size)
      exact ⟨⟨r + 1, by omega, by go_num, hst, hR4, hb4⟩, by simp [intOf]; omega⟩
    · obtain rfl : r = 24 := by omega
      rw [← HPM.out] at hA hrw
      have hsl := hrw.1
      have hOf : Lies .u64 23 (wr.setRow (w.heap.size + 1) (arr .u64 PM)) (w.heap.size + 1) PM := hR.row
      have hbf := hb.trans ((But.setRow (But.refl (w.heap.size + 1) _) (arr .u64 PM)).below (by omega) hb.size)
      go_wp2_with (first
        | (refine wpList_load_row rfl 23 _ (by rfl) w.heap.size (by rfl) _ _ _ (.array 25 22) hA (by kernel_rfl) rfl (by rw [arr_size, hsl]; kernel_rfl) ?_)
        | (refine wpList_store_row rfl 23 _ _ (by rfl) (w.heap.size + 1) (arr .u64 PM) (by rfl) (by rfl) _ _ hR (by rw [arr_size, hsl]; kernel_rfl) (by rw [arr_size, arr_size, hsl, zs_len]) (arr_one _ _) ?_)
        | fail)
      refine bodyPost_ret (v := .agg (arr .u64 PM)) ?_ rfl ⟨rfl, hbf⟩
      exact results_cell_row Tryd.results12 _ _ (w.heap.size + 1) _ _ _ (.array 25 22) (by rfl) hOf (by kernel_rfl) rfl (by rw [arr_size, hsl]; kernel_rfl)
end Go.Proofs.YtnbohjoakngkeaaDoor

/- Plain facts: bytes in and out of a sponge, a block's part at once. No walk. -/
namespace Go.Proofs.YtnbohjoakngkeaaDoor
set_option linter.unusedVariables false
set_option linter.unusedSimpArgs false

/-- bytes into the words, from a place on -/
def xorL (a : List Nat) (p : Nat) : List Nat → List Nat
  | [] => a
  | c :: l => xorL (putK a p c) (p + 1) l
theorem xorL_w : ∀ (l : List Nat) {a : List Nat} (p : Nat), W25 a → W25 (xorL a p l)
  | [], _, _, h => h
  | c :: l, _, p, h => xorL_w l (p + 1) (putK_w h p c)
theorem xorL_snoc : ∀ (l : List Nat) (a : List Nat) (p c : Nat), xorL a p (l ++ [c]) = putK (xorL a p l) (p + l.length) c
  | [], a, p, c => rfl
  | d :: l, a, p, c => by
    show xorL (putK a p d) (p + 1) (l ++ [c]) = putK (xorL (putK a p d) (p + 1) l) (p + (l.length + 1)) c
    rw [xorL_snoc l, show p + (l.length + 1) = p + 1 + l.length by omega]
theorem take_elN (b : List Nat) (n : Nat) (h : n < b.length) : b.take (n + 1) = b.take n ++ [el b n] := by
  rw [List.take_add_one, List.getElem?_eq_getElem h]
  congr 1
  simp [el, List.getElem?_eq_getElem h]
theorem xorL_next (a : List Nat) (p : Nat) (l : List Nat) (i : Nat) (h : i < l.length) : xorL a p (l.take (i + 1)) = putK (xorL a p (l.take i)) (p + i) (el l i) := by
  rw [take_elN l i h, xorL_snoc, List.length_take, Nat.min_eq_left (Nat.le_of_lt h)]
/-- a part of a block -/
theorem absK_part (rate : Nat) : ∀ (l : List Nat) (ws : List Nat) (p : Nat), p + l.length < rate → absK rate (ws, p) l = (xorL ws p l, p + l.length)
  | [], ws, p, _ => rfl
  | c :: l, ws, p, h => by
    have h' : p + (l.length + 1) < rate := h
    show absK rate (inK rate (ws, p) c) l = (xorL (putK ws p c) (p + 1) l, p + (l.length + 1))
    have e : inK rate (ws, p) c = (putK ws p c, p + 1) := by unfold inK; rw [if_neg (by show ¬ p + 1 = rate; omega)]
    rw [e, absK_part rate l _ _ (by omega), show p + 1 + l.length = p + (l.length + 1) by omega]
/-- all that is left of it -/
theorem absK_full (rate : Nat) (l : List Nat) (ws : List Nat) (p : Nat) (hl : 0 < l.length) (h : p + l.length = rate) : absK rate (ws, p) l = (perm (xorL ws p l), 0) := by
  obtain ⟨l', c, rfl⟩ : ∃ l' c, l = l' ++ [c] := ⟨l.dropLast, l.getLast (by intro e; rw [e] at hl; cases hl), (List.dropLast_concat_getLast _).symm⟩
  rw [List.length_append] at h
  have h' : p + (l'.length + 1) = rate := h
  rw [absK_snoc, absK_part rate l' ws p (by omega), xorL_snoc]
  unfold inK
  rw [if_pos (by show p + l'.length + 1 = rate; omega)]
/-- out of a part of a block -/
theorem sqz_run {rate : Nat} (s : List Nat × Nat) : ∀ i, (fresh rate s).2 + i < rate → fresh rate (sqzS rate s i) = ((fresh rate s).1, (fresh rate s).2 + i)
  | 0, _ => rfl
  | i + 1, h => by
    have h' : (fresh rate s).2 + (i + 1) < rate := h
    have e := sqz_run (rate := rate) s i (by omega)
    have e2 : sqzS rate s (i + 1) = ((fresh rate s).1, (fresh rate s).2 + i + 1) := by
      show ((fresh rate (sqzS rate s i)).1, (fresh rate (sqzS rate s i)).2 + 1) = _
      rw [e]
    rw [e2]
    unfold fresh
    rw [if_neg]
    · rfl
    · show ¬ (fresh rate s).2 + i + 1 = rate; omega
theorem sqzS_run {rate : Nat} (s : List Nat × Nat) (n : Nat) (hn : 0 < n) (h : (fresh rate s).2 + n ≤ rate) : sqzS rate s n = ((fresh rate s).1, (fresh rate s).2 + n) := by
  obtain ⟨i, rfl⟩ : ∃ i, n = i + 1 := ⟨n - 1, by omega⟩
  show ((fresh rate (sqzS rate s i)).1, (fresh rate (sqzS rate s i)).2 + 1) = _
  rw [sqz_run s i (by omega)]
  rfl
end Go.Proofs.YtnbohjoakngkeaaDoor
