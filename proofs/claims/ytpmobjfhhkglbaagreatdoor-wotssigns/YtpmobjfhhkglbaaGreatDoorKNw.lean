import Derived.Test.YtpmobjfhhkglbaaGreatDoorKSq
import Derived.Test.YtpmobjfhhkglbaaGreatDoorWtP
import Derived.Test.YtpmobjfhhkglbaaGreatDoorGEn64
import Derived.Test.YtpmobjfhhkglbaaGreatDoorHaM
set_option maxHeartbeats 8000000
set_option maxRecDepth 100000
namespace Go.Proofs.YtpmobjfhhkglbaaGreatDoor
open Go.RowKit
set_option linter.unusedVariables false
set_option linter.unusedSimpArgs false
theorem knew_ok (kind : Int) (w : World) (hr : 0 < rateK kind) :
    Calls Tryz.prog 57 #[.int .i64 kind] w fun e w' => e = .returned (.tuple #[.agg (sl kind (zs 25) 0 false).toArray, .int .i64 0]) ∧ Below w.heap.size w w' := by
  have hz := zero28
  have hrk := fun w' => krate_any kind w'
  have hne : (((rateK kind : Nat) : Int) == 0) = false := by rw [beq_eq_false_iff_ne]; omega
  have hR : (w.alloc (.cells (sl 0 (zs 25) 0 false).toArray 81)).heap[w.heap.size]? = some (.cells (sl 0 (zs 25) 0 false).toArray 81 (0, 0)) := heap_alloc_last w _
  go_enter Tryz.func57, Tryz.ntmps57
  have hsz : (sl kind (zs 25) 0 false).toArray.size = 28 := by simp [sl_len (zs_len 25)]
  have hsz0 : (sl 0 (zs 25) 0 false).toArray.size = 28 := by simp [sl_len (zs_len 25)]
  go_wp2_with (first
    | (go_at_call 69; refine (hrk _).mono ?_; rintro e w' ⟨rfl, rfl⟩)
    | (refine wpList_store_row rfl 81 _ _ (by rfl) w.heap.size (sl kind (zs 25) 0 false).toArray (by rfl) (by rfl) _ _ hR (by rw [hsz]; kernel_rfl) (by rw [hsz, hsz0]) (all_oneCell_toArray (sl_one _ _ _ _)) ?_)
    | fail)
  have hfu := setRow_heap (w.alloc (.cells (sl 0 (zs 25) 0 false).toArray 81)) w.heap.size _ (sl kind (zs 25) 0 false).toArray 81 _ hR
  have hlv := run_loadVar_row (P := Tryz.prog) ((w.alloc (.cells (sl 0 (zs 25) 0 false).toArray 81)).setRow w.heap.size (sl kind (zs 25) 0 false).toArray) w.heap.size _ 81 _ _ _ hfu Tryz.underlying81 rfl (by rw [hsz]; kernel_rfl)
  have hbf := (keep_alloc w (.cells (sl 0 (zs 25) 0 false).toArray 81)).trans ((But.setRow (But.refl w.heap.size _) (sl kind (zs 25) 0 false).toArray).below (Nat.le_refl _) (by simp))
  refine bodyPost_ret (v := .tuple #[.agg (sl kind (zs 25) 0 false).toArray, .int .i64 0]) ?_ rfl ⟨rfl, hbf⟩
  simp [results, Tryz.results57, asAddr, hlv]
def fitK (kind p : Int) (o : Bool) : Bool := decide (0 < rateK kind) && (decide (0 ≤ p) && (decide (p < (rateK kind : Nat)) || (o && decide (p = (rateK kind : Nat)))))
theorem zs_w : W25 (zs 25) := W25.zero
theorem begK_w {kind : Int} {ws : List Nat} {p : Nat} {o : Bool} (h : W25 ws) : W25 (begK kind ws p o).1 := by
  cases o with
  | false => unfold begK; dsimp only [cond_false]; exact endK_w (s := (ws, p)) h
  | true => unfold begK; dsimp only [cond_true]; exact h
def sumK (kind : Int) (b : List Nat) (n : Nat) : List Nat := sqzB (rateK kind) (begK kind (absK (rateK kind) (zs 25, 0) b).1 (absK (rateK kind) (zs 25, 0) b).2 false) n
theorem ksum_new (kind : Int) (bv : Value) (b : List Nat) (n : Nat) (w : World) (hr : 0 < rateK kind) (hn : n ≤ 16777216) (hRb : Row .u8 256 w bv b) (hbl : b.length ≤ 1000000) :
    Calls Tryz.prog 36 #[.int .i64 kind, bv, .int .i64 n] w fun e w' => ∃ v, e = .returned (.tuple #[v, .int .i64 0]) ∧ Row .u8 256 w' v (sumK kind b n) ∧ New w.heap.size v ∧ Below w.heap.size w w' := by
  have hz := zero28
  have hnew := fun w' => knew_ok kind w' hr
  have hsz0 : (sl 0 (zs 25) 0 false).toArray.size = 28 := by simp [sl_len (zs_len 25)]
  have hslen := sl_len (kind := kind) (p := 0) (o := false) (zs_len 25)
  have hsz : (sl kind (zs 25) 0 false).toArray.size = 28 := by simp [hslen]
  have habs := fun w' (hb : Below w.heap.size w w') => kabs_any kind (zs 25) 0 bv b w' zs_w hr (hRb.below hb) hbl
  have haw : W25 (absK (rateK kind) (zs 25, 0) b).1 := absK_w b _ zs_w
  have haa : (absK (rateK kind) (zs 25, 0) b).2 < rateK kind := absK_at b _ hr
  have hsq := fun w' => ksqz_any kind (absK (rateK kind) (zs 25, 0) b).1 (absK (rateK kind) (zs 25, 0) b).2 false n w' haw hr (by omega) (fun _ => haa) (by omega)
  have hsum : sqzB (rateK kind) (begK kind (absK (rateK kind) (zs 25, 0) b).1 (absK (rateK kind) (zs 25, 0) b).2 false) n = sumK kind b n := by unfold sumK; with_reducible rfl
  rw [hsum] at hsq
  have hzl := (sqzS_w (rate := rateK kind) (begK_w (kind := kind) (p := (absK (rateK kind) (zs 25, 0) b).2) (o := false) haw) n).1
  generalize sumK kind b n = O at *
  generalize sqzS (rateK kind) (begK kind (absK (rateK kind) (zs 25, 0) b).1 (absK (rateK kind) (zs 25, 0) b).2 false) n = sN at *
  generalize absK (rateK kind) (zs 25, 0) b = sA at *
  have hszN : (sl kind sN.1 (sN.2 : Nat) true).toArray.size = 28 := by simp [sl_len hzl]
  have n0 : ¬ (n : Int) < 0 := by omega
  have n1 : ¬ (16777216 : Int) < (n : Int) := by omega
  clear hsum hzl haa haw hr hRb
  go_enter Tryz.func36, Tryz.ntmps36
  go_wp2_with (first
    | (go_at_call 57; refine (hnew _).mono ?_; rintro e w1 ⟨rfl, hb1⟩; have hR1 : (w1.alloc (.cells (sl 0 (zs 25) 0 false).toArray 81)).heap[w1.heap.size]? = some (.cells (sl 0 (zs 25) 0 false).toArray 81 (0, 0)) := heap_alloc_last w1 _)
    | (refine wpList_store_row rfl 81 _ _ (by rfl) w1.heap.size (sl kind (zs 25) 0 false).toArray (by rfl) (by rfl) _ _ hR1 (by rw [hsz]; kernel_rfl) (by rw [hsz, hsz0]) (all_oneCell_toArray (sl_one _ _ _ _)) ?_; have hfu := setRow_heap (w1.alloc (.cells (sl 0 (zs 25) 0 false).toArray 81)) w1.heap.size _ (sl kind (zs 25) 0 false).toArray 81 _ hR1; have hb2 := (keep_trans hb1 (keep_alloc w1 (.cells (sl 0 (zs 25) 0 false).toArray 81))).trans ((But.setRow (But.refl w1.heap.size (w1.alloc (.cells (sl 0 (zs 25) 0 false).toArray 81))) (sl kind (zs 25) 0 false).toArray).below hb1.size (by simp; have := hb1.size; omega)))
    | (refine wpList_load_row rfl 81 _ (by rfl) w1.heap.size (by rfl) _ _ _ _ hfu Tryz.underlying81 rfl (by rw [hsz]; kernel_rfl) ?_)
    | (go_at_call 59; refine (habs _ hb2).mono ?_; rintro e w3 ⟨rfl, hb3⟩)
    | (go_at_call 58; refine (hsq _).mono ?_; rintro e w4 ⟨v4, rfl, hO4, hb4⟩; have hR4 : (w4.alloc (.cells (sl 0 (zs 25) 0 false).toArray 81)).heap[w4.heap.size]? = some (.cells (sl 0 (zs 25) 0 false).toArray 81 (0, 0)) := heap_alloc_last w4 _)
    | (refine wpList_store_row rfl 81 _ _ (by rfl) w4.heap.size (sl kind sN.1 (sN.2 : Nat) true).toArray (by rfl) (by rfl) _ _ hR4 (by rw [hszN]; kernel_rfl) (by rw [hszN, hsz0]) (all_oneCell_toArray (sl_one _ _ _ _)) ?_)
    | fail)
  go_ret2
  have hb5 := keep_trans (keep_trans hb2 hb3) hb4
  have hB : Below w4.heap.size w4 ((w4.alloc (.cells (sl 0 (zs 25) 0 false).toArray 81)).setRow w4.heap.size (sl kind sN.1 (sN.2 : Nat) true).toArray) := (keep_alloc w4 _).trans ((But.setRow (But.refl w4.heap.size _) _).below (Nat.le_refl _) (by simp))
  exact ⟨_, rfl, hO4.row.below hB, hO4.new.mono (keep_trans hb2 hb3).size, keep_trans hb5 hB⟩
def sizeD (kind : Int) : Nat := if kind = 1 then 32 else if kind = 2 then 48 else if kind = 3 then 64 else if kind = 4 then 32 else if kind = 5 then 64 else if kind = 6 then 32 else if kind = 7 then 64 else 0
def digD (kind : Int) (b : List Nat) : List Nat := if kind ≤ 3 then endS (wide kind) (ini kind.toNat) b b.length (outn kind) else sumK kind b (sizeD kind)
theorem kinds {kind : Int} (h : 0 < sizeD kind) : kind = 1 ∨ kind = 2 ∨ kind = 3 ∨ kind = 4 ∨ kind = 5 ∨ kind = 6 ∨ kind = 7 := by
  unfold sizeD at h
  repeat' split at h
  all_goals omega
theorem digD_length {kind : Int} (h : 0 < sizeD kind) (b : List Nat) : (digD kind b).length = sizeD kind := by
  have e8 : ∀ (c : Bool) (k : Nat) (l : List Nat), (eat c (ini k) l).length = 8 := fun c k l => eat_len _ (by
    unfold ini
    repeat' split
    all_goals decide)
  rcases kinds h with h | h | h | h | h | h | h <;> subst h
  · simp [digD, endS, bytesW_length, e8, sizeD, outn, wide, ez]
  · simp [digD, endS, bytesW_length, e8, sizeD, outn, wide, ez]
  · simp [digD, endS, bytesW_length, e8, sizeD, outn, wide, ez]
  all_goals (unfold digD; rw [if_neg (by decide)]; exact sqzB_length _ _ _)
theorem rsum_is (kind : Int) (bv : Value) (b : List Nat) (w : World) (h : kind = 1 ∨ kind = 2 ∨ kind = 3) (hR : Row .u8 256 w bv b) (tB : Tidy bv) (hbl : b.length ≤ 100000) :
    Calls Tryz.prog 38 #[.int .i64 kind, bv] w fun e w' => ∃ v', e = .returned (.tuple #[v', .int .i64 0]) ∧ Row .u8 256 w' v' (digD kind b) ∧ New w.heap.size v' ∧ Below w.heap.size w w' := by
  rcases h with h | h | h <;> subst h
  · exact rsum_new 1 (ini 1) bv b w (by decide) (dec_under (by decide)) hR tB hbl (rnew_1 w)
  · exact rsum_new 2 (ini 2) bv b w (by decide) (dec_under (by decide)) hR tB hbl (rnew_2 w)
  · exact rsum_new 3 (ini 3) bv b w (by decide) (dec_under (by decide)) hR tB hbl (rnew_3 w)
end Go.Proofs.YtpmobjfhhkglbaaGreatDoor
