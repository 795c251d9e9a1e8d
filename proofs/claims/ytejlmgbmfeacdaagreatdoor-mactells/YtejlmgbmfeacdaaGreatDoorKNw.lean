/- Contracts of the document's New and Fit of sponges; Squeeze of less than no bytes. -/
import Derived.Test.YtejlmgbmfeacdaaGreatDoorKSq
import Derived.Test.YtejlmgbmfeacdaaGreatDoorHN2
import Derived.Test.YtejlmgbmfeacdaaGreatDoorRev
import Derived.Test.YtejlmgbmfeacdaaGreatDoorGSum
namespace Go.Proofs.YtejlmgbmfeacdaaGreatDoor
open Go.RowKit
set_option linter.unusedVariables false
set_option linter.unusedSimpArgs false

set_option maxHeartbeats 4000000 in
set_option maxRecDepth 100000 in
theorem ksqz_neg (kind : Int) (ws : List Nat) (p : Int) (o : Bool) (n : Int) (w : World) (hl : ws.length = 25) (hn : n < 0) :
    Calls Tryz.prog 42 #[.agg (sl kind ws p o).toArray, .int .i64 n] w fun e w' => e = .returned (.tuple #[.agg (sl kind ws p o).toArray, .slice none 0 0]) ∧ Below w.heap.size w w' := by
  have hz := zero28
  have hS : Sg ((w.alloc (.cells (sl kind ws p o).toArray 59)).alloc (.cells (sl 0 (zs 25) 0 false).toArray 59)) w.heap.size kind ws p o := (Sg.new w 59 kind ws p o hl).below (keep_alloc _ _)
  have hR : ((w.alloc (.cells (sl kind ws p o).toArray 59)).alloc (.cells (sl 0 (zs 25) 0 false).toArray 59)).heap[w.heap.size + 1]? = some (.cells (sl 0 (zs 25) 0 false).toArray 59 (0, 0)) := by
    have := heap_alloc_last (w.alloc (.cells (sl kind ws p o).toArray 59)) (.cells (sl 0 (zs 25) 0 false).toArray 59)
    rw [World.size_alloc] at this
    exact this
  have hb := keep_trans (keep_alloc w (.cells (sl kind ws p o).toArray 59)) (keep_alloc _ (.cells (sl 0 (zs 25) 0 false).toArray 59))
  have hll := hS.all
  have hslen := sl_len (kind := kind) (p := p) (o := o) hl
  have hsz : (sl kind ws p o).toArray.size = 28 := by simp [hslen]
  have hsz0 : (sl 0 (zs 25) 0 false).toArray.size = 28 := by simp [sl_len (zs_len 25)]
  have hfu := setRow_heap ((w.alloc (.cells (sl kind ws p o).toArray 59)).alloc (.cells (sl 0 (zs 25) 0 false).toArray 59)) (w.heap.size + 1) _ (sl kind ws p o).toArray 59 _ hR
  have hbf := hb.trans ((But.setRow (But.refl (w.heap.size + 1) _) (sl kind ws p o).toArray).below (by omega) hb.size)
  go_enter Tryz.func42, Tryz.ntmps42
  go_wp2_with (first
    | (refine wpList_load_mid rfl 59 _ (by rfl) w.heap.size 0 (by rfl) (sl kind ws p o) _ hll Tryz.underlying59 rfl (by rw [hslen]; kernel_rfl) ?_)
    | (refine wpList_store_row rfl 59 _ _ (by rfl) (w.heap.size + 1) (sl kind ws p o).toArray (by rfl) (by rfl) _ _ hR (by rw [hsz]; kernel_rfl) (by rw [hsz, hsz0]) (all_oneCell_toArray (sl_one _ _ _ _)) ?_)
    | fail)
  have hlv := run_loadVar_row (P := Tryz.prog) (((w.alloc (.cells (sl kind ws p o).toArray 59)).alloc (.cells (sl 0 (zs 25) 0 false).toArray 59)).setRow (w.heap.size + 1) (sl kind ws p o).toArray) (w.heap.size + 1) _ 59 _ _ _ hfu Tryz.underlying59 rfl (by rw [hsz]; kernel_rfl)
  refine bodyPost_ret (v := .tuple #[.agg (sl kind ws p o).toArray, .slice none 0 0]) ?_ rfl ⟨rfl, hbf⟩
  simp [results, Tryz.results42, asAddr, hlv]

set_option maxHeartbeats 4000000 in
set_option maxRecDepth 100000 in
theorem knew_ok (kind : Int) (w : World) (hr : 0 < rateK kind) :
    Calls Tryz.prog 41 #[.int .i64 kind] w fun e w' => e = .returned (.tuple #[.agg (sl kind (zs 25) 0 false).toArray, .int .i64 0]) ∧ Below w.heap.size w w' := by
  have hz := zero28
  have hrk := fun w' => krate_any kind w'
  have hne : (((rateK kind : Nat) : Int) == 0) = false := by rw [beq_eq_false_iff_ne]; omega
  have hR : (w.alloc (.cells (sl 0 (zs 25) 0 false).toArray 59)).heap[w.heap.size]? = some (.cells (sl 0 (zs 25) 0 false).toArray 59 (0, 0)) := heap_alloc_last w _
  go_enter Tryz.func41, Tryz.ntmps41
  have hsz : (sl kind (zs 25) 0 false).toArray.size = 28 := by simp [sl_len (zs_len 25)]
  have hsz0 : (sl 0 (zs 25) 0 false).toArray.size = 28 := by simp [sl_len (zs_len 25)]
  go_wp2_with (first
    | (go_at_call 49; refine (hrk _).mono ?_; rintro e w' ⟨rfl, rfl⟩)
    | (refine wpList_store_row rfl 59 _ _ (by rfl) w.heap.size (sl kind (zs 25) 0 false).toArray (by rfl) (by rfl) _ _ hR (by rw [hsz]; kernel_rfl) (by rw [hsz, hsz0]) (all_oneCell_toArray (sl_one _ _ _ _)) ?_)
    | fail)
  have hfu := setRow_heap (w.alloc (.cells (sl 0 (zs 25) 0 false).toArray 59)) w.heap.size _ (sl kind (zs 25) 0 false).toArray 59 _ hR
  have hlv := run_loadVar_row (P := Tryz.prog) ((w.alloc (.cells (sl 0 (zs 25) 0 false).toArray 59)).setRow w.heap.size (sl kind (zs 25) 0 false).toArray) w.heap.size _ 59 _ _ _ hfu Tryz.underlying59 rfl (by rw [hsz]; kernel_rfl)
  have hbf := (keep_alloc w (.cells (sl 0 (zs 25) 0 false).toArray 59)).trans ((But.setRow (But.refl w.heap.size _) (sl kind (zs 25) 0 false).toArray).below (Nat.le_refl _) (by simp))
  refine bodyPost_ret (v := .tuple #[.agg (sl kind (zs 25) 0 false).toArray, .int .i64 0]) ?_ rfl ⟨rfl, hbf⟩
  simp [results, Tryz.results41, asAddr, hlv]
set_option maxHeartbeats 4000000 in
set_option maxRecDepth 100000 in
theorem knew_no (kind : Int) (w : World) (hr : rateK kind = 0) :
    Calls Tryz.prog 41 #[.int .i64 kind] w fun e w' => e = .returned (.tuple #[.agg (sl 0 (zs 25) 0 false).toArray, .int .i64 9]) ∧ Below w.heap.size w w' := by
  have hz := zero28
  have hrk := fun w' => krate_any kind w'
  rw [hr] at hrk
  clear hr
  have hR : (w.alloc (.cells (sl 0 (zs 25) 0 false).toArray 59)).heap[w.heap.size]? = some (.cells (sl 0 (zs 25) 0 false).toArray 59 (0, 0)) := heap_alloc_last w _
  have hsz0 : (sl 0 (zs 25) 0 false).toArray.size = 28 := by simp [sl_len (zs_len 25)]
  go_enter Tryz.func41, Tryz.ntmps41
  go_wp2_with (first
    | (go_at_call 49; refine (hrk _).mono ?_; rintro e w' ⟨rfl, rfl⟩)
    | (refine wpList_store_row rfl 59 _ _ (by rfl) w.heap.size (sl 0 (zs 25) 0 false).toArray (by rfl) (by rfl) _ _ hR (by rw [hsz0]; kernel_rfl) rfl (all_oneCell_toArray (sl_one _ _ _ _)) ?_)
    | fail)
  have hfu := setRow_heap (w.alloc (.cells (sl 0 (zs 25) 0 false).toArray 59)) w.heap.size _ (sl 0 (zs 25) 0 false).toArray 59 _ hR
  have hlv := run_loadVar_row (P := Tryz.prog) ((w.alloc (.cells (sl 0 (zs 25) 0 false).toArray 59)).setRow w.heap.size (sl 0 (zs 25) 0 false).toArray) w.heap.size _ 59 _ _ _ hfu Tryz.underlying59 rfl (by rw [hsz0]; kernel_rfl)
  have hbf := (keep_alloc w (.cells (sl 0 (zs 25) 0 false).toArray 59)).trans ((But.setRow (But.refl w.heap.size _) (sl 0 (zs 25) 0 false).toArray).below (Nat.le_refl _) (by simp))
  refine bodyPost_ret (v := .tuple #[.agg (sl 0 (zs 25) 0 false).toArray, .int .i64 9]) ?_ rfl ⟨rfl, hbf⟩
  simp [results, Tryz.results41, asAddr, hlv]
/-- what is fit -/
def fitK (kind p : Int) (o : Bool) : Bool := decide (0 < rateK kind) && (decide (0 ≤ p) && (decide (p < (rateK kind : Nat)) || (o && decide (p = (rateK kind : Nat)))))
end Go.Proofs.YtejlmgbmfeacdaaGreatDoor

/- Contract of the document's Sum of sponges. -/
namespace Go.Proofs.YtejlmgbmfeacdaaGreatDoor
open Go.RowKit
set_option linter.unusedVariables false
set_option linter.unusedSimpArgs false

theorem zs_w : W25 (zs 25) := W25.zero
theorem begK_w {kind : Int} {ws : List Nat} {p : Nat} {o : Bool} (h : W25 ws) : W25 (begK kind ws p o).1 := by
  cases o with
  | false => unfold begK; dsimp only [cond_false]; exact endK_w (s := (ws, p)) h
  | true => unfold begK; dsimp only [cond_true]; exact h
/-- the bytes of a sum -/
def sumK (kind : Int) (b : List Nat) (n : Nat) : List Nat := sqzB (rateK kind) (begK kind (absK (rateK kind) (zs 25, 0) b).1 (absK (rateK kind) (zs 25, 0) b).2 false) n

set_option maxHeartbeats 4000000 in
set_option maxRecDepth 100000 in
theorem ksum_alg (kind : Int) (bv : Value) (n : Int) (w : World) (hr : rateK kind = 0) :
    Calls Tryz.prog 20 #[.int .i64 kind, bv, .int .i64 n] w fun e w' => e = .returned (.tuple #[.slice none 0 0, .int .i64 9]) ∧ Below w.heap.size w w' := by
  have hz := zero28
  have hnew := fun w' => knew_no kind w' hr
  have hsz0 : (sl 0 (zs 25) 0 false).toArray.size = 28 := by simp [sl_len (zs_len 25)]
  clear hr
  go_enter Tryz.func20, Tryz.ntmps20
  go_wp2_with (first
    | (go_at_call 41; refine (hnew _).mono ?_; rintro e w1 ⟨rfl, hb1⟩; have hR1 : (w1.alloc (.cells (sl 0 (zs 25) 0 false).toArray 59)).heap[w1.heap.size]? = some (.cells (sl 0 (zs 25) 0 false).toArray 59 (0, 0)) := heap_alloc_last w1 _)
    | (refine wpList_store_row rfl 59 _ _ (by rfl) w1.heap.size (sl 0 (zs 25) 0 false).toArray (by rfl) (by rfl) _ _ hR1 (by rw [hsz0]; kernel_rfl) rfl (all_oneCell_toArray (sl_one _ _ _ _)) ?_)
    | fail)
  go_ret2
  exact ⟨rfl, (keep_trans hb1 (keep_alloc _ _)).trans ((But.setRow (But.refl w1.heap.size _) _).below hb1.size (by simp; have := hb1.size; omega))⟩

set_option maxHeartbeats 4000000 in
set_option maxRecDepth 100000 in
theorem ksum_range (kind : Int) (bv : Value) (n : Int) (w : World) (hr : 0 < rateK kind) (hn : n < 0 ∨ 16777216 < n) :
    Calls Tryz.prog 20 #[.int .i64 kind, bv, .int .i64 n] w fun e w' => e = .returned (.tuple #[.slice none 0 0, .int .i64 8]) ∧ Below w.heap.size w w' := by
  have hz := zero28
  have hnew := fun w' => knew_ok kind w' hr
  have hsz0 : (sl 0 (zs 25) 0 false).toArray.size = 28 := by simp [sl_len (zs_len 25)]
  have hsz : (sl kind (zs 25) 0 false).toArray.size = 28 := by simp [sl_len (zs_len 25)]
  clear hr
  by_cases hneg : n < 0
  · go_enter Tryz.func20, Tryz.ntmps20
    go_wp2_with (first
      | (go_at_call 41; refine (hnew _).mono ?_; rintro e w1 ⟨rfl, hb1⟩; have hR1 : (w1.alloc (.cells (sl 0 (zs 25) 0 false).toArray 59)).heap[w1.heap.size]? = some (.cells (sl 0 (zs 25) 0 false).toArray 59 (0, 0)) := heap_alloc_last w1 _)
      | (refine wpList_store_row rfl 59 _ _ (by rfl) w1.heap.size (sl kind (zs 25) 0 false).toArray (by rfl) (by rfl) _ _ hR1 (by rw [hsz]; kernel_rfl) (by rw [hsz, hsz0]) (all_oneCell_toArray (sl_one _ _ _ _)) ?_)
      | fail)
    go_ret2
    exact ⟨rfl, (keep_trans hb1 (keep_alloc _ _)).trans ((But.setRow (But.refl w1.heap.size _) _).below hb1.size (by simp; have := hb1.size; omega))⟩
  · have hbig : 16777216 < n := by omega
    go_enter Tryz.func20, Tryz.ntmps20
    go_wp2_with (first
      | (go_at_call 41; refine (hnew _).mono ?_; rintro e w1 ⟨rfl, hb1⟩; have hR1 : (w1.alloc (.cells (sl 0 (zs 25) 0 false).toArray 59)).heap[w1.heap.size]? = some (.cells (sl 0 (zs 25) 0 false).toArray 59 (0, 0)) := heap_alloc_last w1 _)
      | (refine wpList_store_row rfl 59 _ _ (by rfl) w1.heap.size (sl kind (zs 25) 0 false).toArray (by rfl) (by rfl) _ _ hR1 (by rw [hsz]; kernel_rfl) (by rw [hsz, hsz0]) (all_oneCell_toArray (sl_one _ _ _ _)) ?_)
      | fail)
    go_ret2
    exact ⟨rfl, (keep_trans hb1 (keep_alloc _ _)).trans ((But.setRow (But.refl w1.heap.size _) _).below hb1.size (by simp; have := hb1.size; omega))⟩

set_option maxHeartbeats 4000000 in
set_option maxRecDepth 100000 in
theorem ksum_new (kind : Int) (bv : Value) (b : List Nat) (n : Nat) (w : World) (hr : 0 < rateK kind) (hn : n ≤ 16777216) (hRb : Row .u8 256 w bv b) (hbl : b.length ≤ 1000000) :
    Calls Tryz.prog 20 #[.int .i64 kind, bv, .int .i64 n] w fun e w' => ∃ v, e = .returned (.tuple #[v, .int .i64 0]) ∧ Row .u8 256 w' v (sumK kind b n) ∧ New w.heap.size v ∧ Below w.heap.size w w' := by
  have hz := zero28
  have hnew := fun w' => knew_ok kind w' hr
  have hsz0 : (sl 0 (zs 25) 0 false).toArray.size = 28 := by simp [sl_len (zs_len 25)]
  have hslen := sl_len (kind := kind) (p := 0) (o := false) (zs_len 25)
  have hsz : (sl kind (zs 25) 0 false).toArray.size = 28 := by simp [hslen]
  have habs := fun w' (hb : Below w.heap.size w w') => kabs_any kind (zs 25) 0 bv b w' zs_w hr (hRb.below hb) hbl
  have haw : W25 (absK (rateK kind) (zs 25, 0) b).1 := absK_w b _ zs_w
  have haa : (absK (rateK kind) (zs 25, 0) b).2 < rateK kind := absK_at b _ hr
  have hsq := fun w' => ksqz_any kind (absK (rateK kind) (zs 25, 0) b).1 (absK (rateK kind) (zs 25, 0) b).2 false n w' haw hr (by omega) (fun _ => haa) (by omega)
  have hsum : sqzB (rateK kind) (begK kind (absK (rateK kind) (zs 25, 0) b).1 (absK (rateK kind) (zs 25, 0) b).2 false) n = sumK kind b n := by unfold sumK; with_reducible rfl
  rw [hsum] at hsq
  have hzl := (sqzS_w (rate := rateK kind) (begK_w (kind := kind) (p := (absK (rateK kind) (zs 25, 0) b).2) (o := false) haw) n).1
  generalize sumK kind b n = O at *
  generalize sqzS (rateK kind) (begK kind (absK (rateK kind) (zs 25, 0) b).1 (absK (rateK kind) (zs 25, 0) b).2 false) n = sN at *
  generalize absK (rateK kind) (zs 25, 0) b = sA at *
  have hszN : (sl kind sN.1 (sN.2 : Nat) true).toArray.size = 28 := by simp [sl_len hzl]
  have n0 : ¬ (n : Int) < 0 := by omega
  have n1 : ¬ (16777216 : Int) < (n : Int) := by omega
  clear hsum hzl haa haw hr hRb
  go_enter Tryz.func20, Tryz.ntmps20
  go_wp2_with (first
    | (go_at_call 41; refine (hnew _).mono ?_; rintro e w1 ⟨rfl, hb1⟩; have hR1 : (w1.alloc (.cells (sl 0 (zs 25) 0 false).toArray 59)).heap[w1.heap.size]? = some (.cells (sl 0 (zs 25) 0 false).toArray 59 (0, 0)) := heap_alloc_last w1 _)
    | (refine wpList_store_row rfl 59 _ _ (by rfl) w1.heap.size (sl kind (zs 25) 0 false).toArray (by rfl) (by rfl) _ _ hR1 (by rw [hsz]; kernel_rfl) (by rw [hsz, hsz0]) (all_oneCell_toArray (sl_one _ _ _ _)) ?_; have hfu := setRow_heap (w1.alloc (.cells (sl 0 (zs 25) 0 false).toArray 59)) w1.heap.size _ (sl kind (zs 25) 0 false).toArray 59 _ hR1; have hb2 := (keep_trans hb1 (keep_alloc w1 (.cells (sl 0 (zs 25) 0 false).toArray 59))).trans ((But.setRow (But.refl w1.heap.size (w1.alloc (.cells (sl 0 (zs 25) 0 false).toArray 59))) (sl kind (zs 25) 0 false).toArray).below hb1.size (by simp; have := hb1.size; omega)))
    | (refine wpList_load_row rfl 59 _ (by rfl) w1.heap.size (by rfl) _ _ _ _ hfu Tryz.underlying59 rfl (by rw [hsz]; kernel_rfl) ?_)
    | (go_at_call 43; refine (habs _ hb2).mono ?_; rintro e w3 ⟨rfl, hb3⟩)
    | (go_at_call 42; refine (hsq _).mono ?_; rintro e w4 ⟨v4, rfl, hO4, hb4⟩; have hR4 : (w4.alloc (.cells (sl 0 (zs 25) 0 false).toArray 59)).heap[w4.heap.size]? = some (.cells (sl 0 (zs 25) 0 false).toArray 59 (0, 0)) := heap_alloc_last w4 _)
    | (refine wpList_store_row rfl 59 _ _ (by rfl) w4.heap.size (sl kind sN.1 (sN.2 : Nat) true).toArray (by rfl) (by rfl) _ _ hR4 (by rw [hszN]; kernel_rfl) (by rw [hszN, hsz0]) (all_oneCell_toArray (sl_one _ _ _ _)) ?_)
    | fail)
  go_ret2
  have hb5 := keep_trans (keep_trans hb2 hb3) hb4
  have hB : Below w4.heap.size w4 ((w4.alloc (.cells (sl 0 (zs 25) 0 false).toArray 59)).setRow w4.heap.size (sl kind sN.1 (sN.2 : Nat) true).toArray) := (keep_alloc w4 _).trans ((But.setRow (But.refl w4.heap.size _) _).below (Nat.le_refl _) (by simp))
  exact ⟨_, rfl, hO4.row.below hB, hO4.new.mono (keep_trans hb2 hb3).size, keep_trans hb5 hB⟩
theorem ksum_ok (kind : Int) (bv : Value) (b : List Nat) (n : Nat) (w : World) (hr : 0 < rateK kind) (hn : n ≤ 16777216) (hRb : Row .u8 256 w bv b) (hbl : b.length ≤ 1000000) :
    Calls Tryz.prog 20 #[.int .i64 kind, bv, .int .i64 n] w fun e w' => ∃ v, e = .returned (.tuple #[v, .int .i64 0]) ∧ Row .u8 256 w' v (sumK kind b n) ∧ Below w.heap.size w w' :=
  (ksum_new kind bv b n w hr hn hRb hbl).mono fun e w' ⟨v, h1, h2, _, h3⟩ => ⟨v, h1, h2, h3⟩
end Go.Proofs.YtejlmgbmfeacdaaGreatDoor

/- Digests with keys, plain: over any digest D of lists, with blocks of B. -/
namespace Go.Proofs.YtejlmgbmfeacdaaGreatDoor
set_option linter.unusedVariables false
set_option linter.unusedSimpArgs false
section
variable (D : List Nat → List Nat) (B : Nat)
/-- the key, or its digest -/
def keyB (k : List Nat) : List Nat := if B < k.length then D k else k
/-- the key, filled up with 0 to a block, xored -/
def padK (k : List Nat) (c : Nat) : List Nat := (List.range B).map fun i => el k i ^^^ c
def hmacD (key b : List Nat) : List Nat := D (padK B (keyB D B key) 92 ++ D (padK B (keyB D B key) 54 ++ b))
/-- T1, T2, .. -/
def tN (key info : List Nat) : Nat → List Nat
  | 0 => []
  | i + 1 => hmacD D B key (tN key info i ++ info ++ [(i + 1) % 256])
def outN (f : Nat → List Nat) : Nat → List Nat
  | 0 => []
  | i + 1 => outN f i ++ f i
def expD (key info : List Nat) (n : Nat) : List Nat := (outN (fun i => tN D B key info (i + 1)) n).take n
def maskD (seed : List Nat) (n : Nat) : List Nat := (outN (fun i => D (seed ++ (leL i 4).reverse)) n).take n
end
theorem padK_length (B : Nat) (k : List Nat) (c : Nat) : (padK B k c).length = B := by simp [padK]
theorem padK_el (B : Nat) (k : List Nat) (c i : Nat) (h : i < B) : el (padK B k c) i = el k i ^^^ c := by
  unfold padK
  rw [el_at (by simp; exact h)]
  simp
theorem padK_under {B : Nat} {k : List Nat} {c : Nat} (hk : Under 256 k) (hc : c < 256) : Under 256 (padK B k c) := by
  intro x hx
  simp only [padK, List.mem_map, List.mem_range] at hx
  obtain ⟨i, hi, rfl⟩ := hx
  exact Nat.xor_lt_two_pow (n := 8) (el_lt hk (by decide) i) hc
/-- a 0 behind a key is the same key -/
theorem el_zero (k : List Nat) (i : Nat) : el (k ++ [0]) i = el k i := by
  unfold el
  by_cases h : i < k.length
  · rw [List.getElem?_append_left h]
  · rw [List.getElem?_append_right (by omega), List.getElem?_eq_none (by omega : k.length ≤ i)]
    cases h' : i - k.length with
    | zero => rfl
    | succ n => rfl
theorem padK_zero (B : Nat) (k : List Nat) (c : Nat) : padK B (k ++ [0]) c = padK B k c := by
  unfold padK
  exact List.map_congr_left fun i _ => by rw [el_zero]
theorem hmacD_zero (D : List Nat → List Nat) (B : Nat) (k b : List Nat) (h : k.length < B) : hmacD D B (k ++ [0]) b = hmacD D B k b := by
  have e1 : keyB D B (k ++ [0]) = k ++ [0] := by unfold keyB; rw [if_neg (by rw [List.length_append, List.length_singleton]; omega)]
  have e2 : keyB D B k = k := by unfold keyB; rw [if_neg (by omega)]
  unfold hmacD
  rw [e1, e2, padK_zero, padK_zero]
/-- a long key is as its digest -/
theorem hmacD_long (D : List Nat → List Nat) (B : Nat) (k b : List Nat) (h : B < k.length) (hd : (D k).length ≤ B) : hmacD D B (D k) b = hmacD D B k b := by
  have e1 : keyB D B (D k) = D k := by unfold keyB; rw [if_neg (by omega)]
  have e2 : keyB D B k = D k := by unfold keyB; rw [if_pos h]
  unfold hmacD
  rw [e1, e2]
theorem outN_length (f : Nat → List Nat) (z : Nat) (hf : ∀ i, (f i).length = z) : ∀ n, (outN f n).length = n * z
  | 0 => by simp [outN]
  | n + 1 => by unfold outN; rw [List.length_append, outN_length f z hf n, hf]; rw [Nat.succ_mul]
theorem outN_pre (f : Nat → List Nat) (i : Nat) : ∀ k, ∃ r, outN f (i + k) = outN f i ++ r
  | 0 => ⟨[], by simp⟩
  | k + 1 => by
    obtain ⟨r, hr⟩ := outN_pre f i k
    exact ⟨r ++ f (i + k), by show outN f (i + k) ++ f (i + k) = _; rw [hr, List.append_assoc]⟩
theorem outN_take (f : Nat → List Nat) (z : Nat) (hf : ∀ i, (f i).length = z) {i j n : Nat} (hi : n ≤ i * z) (hj : n ≤ j * z) : (outN f i).take n = (outN f j).take n := by
  have key : ∀ {i j : Nat}, i ≤ j → n ≤ i * z → (outN f i).take n = (outN f j).take n := fun {i j} hij hi => by
    obtain ⟨k, rfl⟩ := Nat.exists_eq_add_of_le hij
    obtain ⟨r, hr⟩ := outN_pre f i k
    rw [hr, List.take_append_of_le_length (by rw [outN_length f z hf]; exact hi)]
  rcases Nat.le_total i j with h | h
  · exact key h hi
  · exact (key h hj).symm
theorem outN_under (f : Nat → List Nat) (hf : ∀ i, Under 256 (f i)) : ∀ n, Under 256 (outN f n)
  | 0 => fun x hx => by simp [outN] at hx
  | n + 1 => by unfold outN; exact (outN_under f hf n).append (hf n)
theorem le_times {n z : Nat} (hz : 0 < z) : n ≤ n * z := Nat.le_mul_of_pos_right n hz
theorem hmacD_length (D : List Nat → List Nat) (B z : Nat) (hD : ∀ l, (D l).length = z) (key b : List Nat) : (hmacD D B key b).length = z := hD _
theorem tN_length (D : List Nat → List Nat) (B z : Nat) (hD : ∀ l, (D l).length = z) (key info : List Nat) (i : Nat) : (tN D B key info (i + 1)).length = z := hD _
theorem expD_length (D : List Nat → List Nat) (B z : Nat) (hD : ∀ l, (D l).length = z) (hz : 0 < z) (key info : List Nat) (n : Nat) : (expD D B key info n).length = n := by
  unfold expD
  rw [List.length_take, outN_length _ z (fun i => tN_length D B z hD key info i)]
  have := le_times (n := n) hz
  omega
theorem maskD_length (D : List Nat → List Nat) (z : Nat) (hD : ∀ l, (D l).length = z) (hz : 0 < z) (seed : List Nat) (n : Nat) : (maskD D seed n).length = n := by
  unfold maskD
  rw [List.length_take, outN_length _ z (fun i => hD _)]
  have := le_times (n := n) hz
  omega
/-- what was told when so many had come up -/
theorem expD_at (D : List Nat → List Nat) (B z : Nat) (hD : ∀ l, (D l).length = z) (hz : 0 < z) (key info : List Nat) {n i : Nat} (h : n ≤ (outN (fun i => tN D B key info (i + 1)) i).length) : (outN (fun i => tN D B key info (i + 1)) i).take n = expD D B key info n := by
  have hf : ∀ i, (tN D B key info (i + 1)).length = z := fun i => tN_length D B z hD key info i
  rw [outN_length _ z hf] at h
  exact outN_take _ z hf h (le_times hz)
theorem maskD_at (D : List Nat → List Nat) (z : Nat) (hD : ∀ l, (D l).length = z) (hz : 0 < z) (seed : List Nat) {n i : Nat} (h : n ≤ (outN (fun i => D (seed ++ (leL i 4).reverse)) i).length) : (outN (fun i => D (seed ++ (leL i 4).reverse)) i).take n = maskD D seed n := by
  have hf : ∀ i, (D (seed ++ (leL i 4).reverse)).length = z := fun i => hD _
  rw [outN_length _ z hf] at h
  exact outN_take _ z hf h (le_times hz)
/-- fewer bytes are the beginning of more -/
theorem expD_take (D : List Nat → List Nat) (B z : Nat) (hD : ∀ l, (D l).length = z) (hz : 0 < z) (key info : List Nat) (n m : Nat) : (expD D B key info (n + m)).take n = expD D B key info n := by
  have hf : ∀ i, (tN D B key info (i + 1)).length = z := fun i => tN_length D B z hD key info i
  unfold expD
  rw [List.take_take, Nat.min_eq_left (by omega)]
  exact outN_take _ z hf (Nat.le_trans (by omega) (le_times (n := n + m) hz)) (le_times hz)
theorem maskD_take (D : List Nat → List Nat) (z : Nat) (hD : ∀ l, (D l).length = z) (hz : 0 < z) (seed : List Nat) (n m : Nat) : (maskD D seed (n + m)).take n = maskD D seed n := by
  have hf : ∀ i, (D (seed ++ (leL i 4).reverse)).length = z := fun i => hD _
  unfold maskD
  rw [List.take_take, Nat.min_eq_left (by omega)]
  exact outN_take _ z hf (Nat.le_trans (by omega) (le_times (n := n + m) hz)) (le_times hz)
end Go.Proofs.YtejlmgbmfeacdaaGreatDoor

/- The document's Size, Digest, block. -/
namespace Go.Proofs.YtejlmgbmfeacdaaGreatDoor
open Go.RowKit
set_option linter.unusedVariables false
set_option linter.unusedSimpArgs false

/-- how many bytes a digest has -/
def sizeD (kind : Int) : Nat := if kind = 1 then 32 else if kind = 2 then 48 else if kind = 3 then 64 else if kind = 4 then 32 else if kind = 5 then 64 else if kind = 6 then 32 else if kind = 7 then 64 else 0
/-- a digest -/
def digD (kind : Int) (b : List Nat) : List Nat := if kind ≤ 3 then endS (wide kind) (ini kind.toNat) b b.length (outn kind) else sumK kind b (sizeD kind)
/-- a block -/
def blkD (kind : Int) : Nat := if kind ≤ 3 then bz (wide kind) else rateK kind
theorem kinds {kind : Int} (h : 0 < sizeD kind) : kind = 1 ∨ kind = 2 ∨ kind = 3 ∨ kind = 4 ∨ kind = 5 ∨ kind = 6 ∨ kind = 7 := by
  unfold sizeD at h
  repeat' split at h
  all_goals omega
theorem no_kind {kind : Int} (h : sizeD kind = 0) : ¬ kind = 1 ∧ ¬ kind = 2 ∧ ¬ kind = 3 ∧ ¬ kind = 4 ∧ ¬ kind = 5 ∧ ¬ kind = 6 ∧ ¬ kind = 7 := by
  refine ⟨?_, ?_, ?_, ?_, ?_, ?_, ?_⟩ <;> (intro e; subst e; exact absurd h (by decide))
theorem sizeD_le (kind : Int) : sizeD kind ≤ 64 := by
  unfold sizeD
  repeat' split
  all_goals omega
theorem digD_length {kind : Int} (h : 0 < sizeD kind) (b : List Nat) : (digD kind b).length = sizeD kind := by
  have e8 : ∀ (c : Bool) (k : Nat) (l : List Nat), (eat c (ini k) l).length = 8 := fun c k l => eat_len _ (by
    unfold ini
    repeat' split
    all_goals decide)
  rcases kinds h with h | h | h | h | h | h | h <;> subst h
  · simp [digD, endS, bytesW_length, e8, sizeD, outn, wide, ez]
  · simp [digD, endS, bytesW_length, e8, sizeD, outn, wide, ez]
  · simp [digD, endS, bytesW_length, e8, sizeD, outn, wide, ez]
  all_goals (unfold digD; rw [if_neg (by decide)]; exact sqzB_length _ _ _)

set_option maxHeartbeats 2000000 in
set_option maxRecDepth 100000 in
theorem size_any (kind : Int) (w : World) : Calls Tryz.prog 12 #[.int .i64 kind] w fun e w' => e = .returned (.int .i64 (sizeD kind : Nat)) ∧ Below w.heap.size w w' := by
  by_cases h0 : kind < 0
  · have e0 : sizeD kind = 0 := by unfold sizeD; (repeat' split) <;> omega
    rw [e0]
    go_enter Tryz.func12, Tryz.ntmps12
    go_wp2_with fail
    go_ret
    exact ⟨rfl, keep_alloc _ _⟩
  by_cases h7 : 7 < kind
  · have e0 : sizeD kind = 0 := by unfold sizeD; (repeat' split) <;> omega
    rw [e0]
    go_enter Tryz.func12, Tryz.ntmps12
    go_wp2_with fail
    go_ret
    exact ⟨rfl, keep_alloc _ _⟩
  have hk : kind = 0 ∨ kind = 1 ∨ kind = 2 ∨ kind = 3 ∨ kind = 4 ∨ kind = 5 ∨ kind = 6 ∨ kind = 7 := by omega
  clear h0 h7
  rcases hk with h | h | h | h | h | h | h | h <;> subst h <;>
  · go_enter Tryz.func12, Tryz.ntmps12
    go_wp2_with fail
    go_ret
    exact ⟨rfl, keep_alloc _ _⟩
set_option maxHeartbeats 2000000 in
set_option maxRecDepth 100000 in
theorem block9_any (kind : Int) (w : World) : Calls Tryz.prog 23 #[.int .i64 kind] w fun e w' => e = .returned (.int .i64 (blkD kind : Nat)) ∧ w' = w := by
  have hA := fun x => rBlock_any kind x
  have hB := fun x => krate_any kind x
  by_cases h3 : kind ≤ 3
  · have e : blkD kind = bz (wide kind) := by unfold blkD; rw [if_pos h3]
    rw [e]
    generalize bz (wide kind) = Z at *
    go_enter Tryz.func23, Tryz.ntmps23
    go_wp2_with (first
      | (go_at_call 48; refine (hA _).mono ?_; rintro e x1 ⟨rfl, rfl⟩)
      | fail)
    go_ret
    exact ⟨rfl, rfl⟩
  · have e : blkD kind = rateK kind := by unfold blkD; rw [if_neg h3]
    rw [e]
    generalize rateK kind = Z at *
    go_enter Tryz.func23, Tryz.ntmps23
    go_wp2_with (first
      | (go_at_call 49; refine (hB _).mono ?_; rintro e x1 ⟨rfl, rfl⟩)
      | fail)
    go_ret
    exact ⟨rfl, rfl⟩
set_option maxHeartbeats 2000000 in
set_option maxRecDepth 100000 in
theorem rdig_no (kind : Int) (bv : Value) (w : World) (h : sizeD kind = 0) : Calls Tryz.prog 7 #[.int .i64 kind, bv] w fun e w' => e = .returned (.tuple #[.slice none 0 0, .int .i64 9]) ∧ Below w.heap.size w w' := by
  have hs := fun x => size_any kind x
  rw [h] at hs
  clear h
  go_enter Tryz.func7, Tryz.ntmps7
  go_wp2_with (first
    | (go_at_call 12; refine (hs _).mono ?_; rintro e x1 ⟨rfl, hb1⟩)
    | fail)
  go_ret2
  exact ⟨rfl, hb1⟩
/-- the document's sum of sha, of one of its kinds -/
theorem rsum_is (kind : Int) (bv : Value) (b : List Nat) (w : World) (h : kind = 1 ∨ kind = 2 ∨ kind = 3) (hR : Row .u8 256 w bv b) (tB : Tidy bv) (hbl : b.length ≤ 100000) :
    Calls Tryz.prog 19 #[.int .i64 kind, bv] w fun e w' => ∃ v', e = .returned (.tuple #[v', .int .i64 0]) ∧ Row .u8 256 w' v' (digD kind b) ∧ New w.heap.size v' ∧ Below w.heap.size w w' := by
  rcases h with h | h | h <;> subst h
  · exact rsum_new 1 (ini 1) bv b w (by decide) (dec_under (by decide)) hR tB hbl (rnew_1 w)
  · exact rsum_new 2 (ini 2) bv b w (by decide) (dec_under (by decide)) hR tB hbl (rnew_2 w)
  · exact rsum_new 3 (ini 3) bv b w (by decide) (dec_under (by decide)) hR tB hbl (rnew_3 w)
set_option maxHeartbeats 2000000 in
set_option maxRecDepth 100000 in
theorem rdig_ok (kind : Int) (bv : Value) (b : List Nat) (w : World) (h : 0 < sizeD kind) (hR : Row .u8 256 w bv b) (tB : Tidy bv) (hbl : b.length ≤ 100000) :
    Calls Tryz.prog 7 #[.int .i64 kind, bv] w fun e w' => ∃ v', e = .returned (.tuple #[v', .int .i64 0]) ∧ Row .u8 256 w' v' (digD kind b) ∧ New w.heap.size v' ∧ Below w.heap.size w w' := by
  have hs := fun x => size_any kind x
  have hk := kinds h
  obtain ⟨Z, hZ⟩ : ∃ z, z = sizeD kind := ⟨_, rfl⟩
  have z0 : ((Z : Int) == 0) = false := by rw [beq_eq_false_iff_ne]; omega
  have z1 : ¬ (Z : Int) = 0 := by omega
  have z2 : Z ≤ 64 := by rw [hZ]; exact sizeD_le kind
  rw [← hZ] at hs
  obtain ⟨ba, bc, rfl⟩ := hR.form
  by_cases h3 : kind ≤ 3
  · have hsum := fun x (hb : Below w.heap.size w x) => rsum_is kind _ b x (by omega) (hR.below hb) tB hbl
    generalize digD kind b = O at *
    clear h hZ hk
    go_enter Tryz.func7, Tryz.ntmps7
    go_wp2_with (first
      | (go_at_call 12; refine (hs _).mono ?_; rintro e x1 ⟨rfl, hb1⟩)
      | (go_at_call 19; refine (hsum _ hb1).mono ?_; rintro e x2 ⟨v2, rfl, r2, n2, hb2⟩)
      | fail)
    go_ret2
    exact ⟨_, rfl, r2, n2.mono hb1.size, keep_trans hb1 hb2⟩
  · have hrt : 0 < rateK kind := by
      have h4 : kind = 4 ∨ kind = 5 ∨ kind = 6 ∨ kind = 7 := by omega
      rcases h4 with e | e | e | e <;> subst e <;> decide
    have eO : digD kind b = sumK kind b Z := by unfold digD; rw [if_neg h3, hZ]
    have hsum := fun x (hb : Below w.heap.size w x) => ksum_new kind _ b Z x hrt (by omega) (hR.below hb) (by omega)
    rw [eO]
    generalize sumK kind b Z = O at *
    clear h hZ hk eO hrt
    go_enter Tryz.func7, Tryz.ntmps7
    go_wp2_with (first
      | (go_at_call 20; refine (hsum _ (keep_trans hb1 hb3)).mono ?_; rintro e x2 ⟨v2, rfl, r2, n2, hb2⟩)
      | (go_at_call 12; refine (hs _).mono ?_; rintro e x3 ⟨rfl, hb3⟩; have hbb := keep_trans hb1 hb3)
      | (go_at_call 12; refine (hs _).mono ?_; rintro e x1 ⟨rfl, hb1⟩)
      | fail)
    go_ret2
    exact ⟨_, rfl, r2, n2.mono (keep_trans hb1 hb3).size, keep_trans (keep_trans hb1 hb3) hb2⟩
end Go.Proofs.YtejlmgbmfeacdaaGreatDoor
