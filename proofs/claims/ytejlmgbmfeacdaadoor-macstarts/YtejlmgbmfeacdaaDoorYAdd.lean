/- mac's added: a sum of sha with texts more. -/
import Derived.Test.YtejlmgbmfeacdaaDoorHN2
import Derived.Test.YtejlmgbmfeacdaaDoorKSg
import Derived.Test.YtejlmgbmfeacdaaDoorGEn32
namespace Go.Proofs.YtejlmgbmfeacdaaDoor
open Go.RowKit
set_option linter.unusedVariables false
set_option linter.unusedSimpArgs false

/-- what stands behind the bytes P: the words, what is left -/
def wsH (kind : Int) (P : List Nat) : List Nat := eat (wide kind) (ini kind.toNat) P
def tlH (kind : Int) (P : List Nat) : List Nat := left (wide kind) P
theorem ini_8 (k : Nat) : (ini k).length = 8 := by
  unfold ini
  repeat' split
  all_goals decide
theorem ini_u {kind : Int} (h : kind = 1 ∨ kind = 2 ∨ kind = 3) : Under (wm (wide kind)) (ini kind.toNat) := by
  rcases h with h | h | h <;> subst h <;> exact dec_under (by decide)
theorem wsH_8 (kind : Int) (P : List Nat) : (wsH kind P).length = 8 := eat_len P (ini_8 _)
theorem wsH_u {kind : Int} (h : kind = 1 ∨ kind = 2 ∨ kind = 3) (P : List Nat) : Under (wm (wide kind)) (wsH kind P) := eat_under P (ini_u h)
theorem wsH_u64 {kind : Int} (h : kind = 1 ∨ kind = 2 ∨ kind = 3) (P : List Nat) : Under 18446744073709551616 (wsH kind P) := by
  have h' := wsH_u h P
  rcases h with h | h | h <;> subst h
  · exact Row.mono_u64 (m := 0) h'
  · exact h'
  · exact h'
theorem wsH_app (kind : Int) (P b : List Nat) : eat (wide kind) (wsH kind P) (tlH kind P ++ b) = wsH kind (P ++ b) := (eat_parts _ _ P b).symm
theorem tlH_app (kind : Int) (P b : List Nat) : left (wide kind) (tlH kind P ++ b) = tlH kind (P ++ b) := (left_parts _ P b).symm
theorem hfit_at {kind : Int} (h : kind = 1 ∨ kind = 2 ∨ kind = 3) (P : List Nat) (hP : P.length < 1152921504606846976) : hfit kind (wsH kind P) (tlH kind P).length P.length = true :=
  hfit_mk (wsH_8 _ _) h hP (left_length _ _) (wsH_u h P)
/-- the end of what goes on is the digest -/
theorem endS_at {kind : Int} (h : kind = 1 ∨ kind = 2 ∨ kind = 3) (P : List Nat) : endS (wide kind) (wsH kind P) (tlH kind P) P.length (outn kind) = digD kind P := by
  have e : digD kind P = endS (wide kind) (ini kind.toNat) P P.length (outn kind) := by unfold digD; rw [if_pos (by omega)]
  rw [e]
  unfold endS wsH tlH
  rw [fill_left, ← eat_parts]
/-- a sum behind the bytes P lies in block q, its tail away from the two blocks -/
def HAt (w : World) (q : Nat) (kind : Int) (P : List Nat) (G : Nat → Prop) : Prop := ∃ tv, Hb w q kind (wsH kind P) tv P.length ∧ Row .u8 256 w tv (tlH kind P) ∧ Tidy tv ∧ ∀ g, G g → Away g tv (tlH kind P)
theorem HAt.below {w w' : World} {q : Nat} {kind : Int} {P : List Nat} {G : Nat → Prop} (h : HAt w q kind P G) (hb : Below w.heap.size w w') : HAt w' q kind P G := by
  obtain ⟨tv, h1, h2, h3, h4⟩ := h
  exact ⟨tv, h1.below hb, h2.below hb, h3, h4⟩
/-- a sum behind the bytes P -/
def hvP (kind : Int) (P : List Nat) (tv : Value) : Array Value := hv kind (wsH kind P) tv P.length
theorem hv_one {kind : Int} {ws : List Nat} {tv : Value} {n : Nat} (h : tv.oneCell' = true) : (hv kind ws tv n).all (·.oneCell') = true := by
  unfold hv
  simp only [Value.oneCell'] at h
  simp [Value.oneCell', h]
/-- where the loop of texts stands -/
def AdL (w : World) (kind : Int) (P : List Nat) (tv : Value) (ls : List (List Nat)) (i : Value) (wr : World) : Prop := ∃ k : Nat, k ≤ ls.length ∧ i = .int .i64 (k : Int) ∧
  HAt wr w.heap.size kind (P ++ (ls.take k).flatten) (fun g => g = w.heap.size ∨ g = w.heap.size + 1 ∨ g < w.heap.size ∧ Away g tv (tlH kind P)) ∧ El wr (w.heap.size + 1) ∧ Below w.heap.size w wr

set_option maxHeartbeats 4000000 in
set_option maxRecDepth 100000 in
theorem added_any (kind : Int) (hk : kind = 1 ∨ kind = 2 ∨ kind = 3) (P : List Nat) (tv lv : Value) (ls : List (List Nat)) (w : World) (hT : Roots w) (hRt : Row .u8 256 w tv (tlH kind P)) (tT : Tidy tv) (hL : Rows2 w lv ls) (hP : P.length ≤ 1000000) (hls : ls.flatten.length ≤ 100000) :
    Calls Tryd.prog 26 #[.agg (hvP kind P tv), lv] w fun e w' => ∃ tv', e = .returned (.agg (hvP kind (P ++ ls.flatten) tv')) ∧ Row .u8 256 w' tv' (tlH kind (P ++ ls.flatten)) ∧ Tidy tv' ∧ (∀ g, g < w.heap.size → Away g tv (tlH kind P) → Away g tv' (tlH kind (P ++ ls.flatten))) ∧ Below w.heap.size w w' := by
  have hH0 : HAt ((w.alloc (.cells (hv kind (wsH kind P) tv P.length) 48)).alloc (.cells (hv 0 (List.replicate 8 0) (.slice none 0 0) 0) 48)) w.heap.size kind P (fun g => g = w.heap.size ∨ g = w.heap.size + 1 ∨ g < w.heap.size ∧ Away g tv (tlH kind P)) :=
    ⟨tv, (Hb.new w kind (wsH kind P) tv P.length).below (keep_alloc _ _), (hRt.below (keep_alloc _ _)).below (keep_alloc _ _), tT, fun g hg => by
      rcases hg with hg | hg | hg
      · exact hRt.away (by omega)
      · exact hRt.away (by omega)
      · exact hg.2⟩
  have hE0 : El ((w.alloc (.cells (hv kind (wsH kind P) tv P.length) 48)).alloc (.cells (hv 0 (List.replicate 8 0) (.slice none 0 0) 0) 48)) (w.heap.size + 1) := by
    have := (Hb.new (w.alloc (.cells (hv kind (wsH kind P) tv P.length) 48)) 0 (List.replicate 8 0) (.slice none 0 0) 0).elev
    rw [World.size_alloc] at this
    exact this
  have hb0 := keep_trans (keep_alloc w (.cells (hv kind (wsH kind P) tv P.length) 48)) (keep_alloc _ (.cells (hv 0 (List.replicate 8 0) (.slice none 0 0) 0) 48))
  have hL' := hL
  obtain ⟨a, ca, rfl, ha1, ha2, ha3⟩ := hL
  unfold maxLen at ha2
  have HA0 : Hid (AdL w kind P tv ls (.int .i64 0) ((w.alloc (.cells (hv kind (wsH kind P) tv P.length) 48)).alloc (.cells (hv 0 (List.replicate 8 0) (.slice none 0 0) 0) 48))) := hide ⟨0, Nat.zero_le _, rfl, by rw [List.take_zero, List.flatten_nil, List.append_nil]; exact hH0, hE0, hb0⟩
  clear hH0 hE0 hb0
  have huv : hvP kind P tv = #[.int .i64 kind, .int .u64 (el (wsH kind P) 0), .int .u64 (el (wsH kind P) 1), .int .u64 (el (wsH kind P) 2), .int .u64 (el (wsH kind P) 3), .int .u64 (el (wsH kind P) 4), .int .u64 (el (wsH kind P) 5), .int .u64 (el (wsH kind P) 6), .int .u64 (el (wsH kind P) 7), tv, .int .u64 P.length] := rfl
  rw [huv]
  obtain ⟨ta, tc, rfl⟩ := hRt.form
  go_enter Tryd.func26, Tryd.ntmps26
  go_wp2
  go_loopw [9] (fun i wr => AdL w kind P (.slice ta (tlH kind P).length tc) ls i wr) (fun i _ => ls.length - (intOf i).toNat)
  case atStart => exact HA0.out
  case round =>
    obtain ⟨k, hkl, rfl, hH, hE, hbr⟩ := hrel
    clear HA0
    obtain ⟨tk, hB, hR, tK, hA⟩ := hH
    have hBu : wr.heap[w.heap.size]? = some (.cells (hv kind (wsH kind (P ++ (ls.take k).flatten)) tk (P ++ (ls.take k).flatten).length) 48 (0, 0)) := hB
    have hfl := flat_le ls k
    have hTr := hT.below hbr
    by_cases hlt : k < ls.length
    · obtain ⟨a2, ca2, he, _, _, h3⟩ := hL'.below hbr
      obtain ⟨rfl, rfl⟩ : a = a2 ∧ ca = ca2 := by simpa using he
      obtain ⟨b, off, rfl, hc⟩ := h3 (by omega)
      obtain ⟨u, c1, hRu, tU⟩ := hc k hlt
      have hf := flat_succ hlt
      have hle := flat_le ls (k + 1)
      rw [hf, List.length_append] at hle
      clear hc h3 he ha3
      have hadd := sAdd_new kind (wsH kind (P ++ (ls.take k).flatten)) tk u (tlH kind (P ++ (ls.take k).flatten)) (tx ls k) (P ++ (ls.take k).flatten).length wr hTr (wsH_8 _ _) (wsH_u64 hk _) hR tK hRu tU (by omega) (hfit_at hk _ (by rw [List.length_append]; omega)) (by rw [List.length_append]; omega)
      rw [wsH_app, tlH_app, ← List.length_append, List.append_assoc, ← hf] at hadd
      have HF := hide hf
      clear hf
      obtain ⟨ua, uc, rfl⟩ := hRu.form
      have ki : (k : Int) < (ls.length : Int) := by omega
      generalize hPn : (P ++ (ls.take (k + 1)).flatten) = Pn at *
      have HPn := hide hPn
      clear hPn
      generalize (P ++ (ls.take k).flatten) = Pk at *
      generalize (tx ls k) = T at *
      go_wp2_with (first
        | (refine wpList_load_row rfl 48 _ (by rfl) w.heap.size (by rfl) _ _ _ _ hBu Tryd.underlying48 rfl (by kernel_rfl) ?_)
        | (go_at_call 40; refine hadd.mono ?_; rintro e w2 ⟨v2, rfl, hR2, hT2, hN2, hb2⟩; have hB2 : w2.heap[w.heap.size]? = _ := hB.below hb2)
        | (refine wpList_store_row rfl 48 _ _ (by rfl) w.heap.size (hv kind (wsH kind Pn) v2 Pn.length) (by rfl) (by rfl) _ _ hB2 (by kernel_rfl) rfl (hv_one hR2.cell1) ?_)
        | fail)
      have hq := hB.lt
      have hq1 := hE.lt
      have hB3 : Hb (w2.setRow w.heap.size (hv kind (wsH kind Pn) v2 Pn.length)) w.heap.size kind (wsH kind Pn) v2 Pn.length := setRow_heap w2 w.heap.size _ _ 48 _ hB2
      have hBf : But w.heap.size w2 (w2.setRow w.heap.size (hv kind (wsH kind Pn) v2 Pn.length)) := (But.refl _ _).setRow _
      have hAw : ∀ g, g < wr.heap.size → Away g v2 (tlH kind Pn) := fun g hg _ q hq => by have := hN2 q hq; omega
      have hR3 := hR2.but (hAw _ hq) hBf
      have hE3 := (hE.below hb2).but hBf (by omega)
      have hbw := keep_trans hbr hb2
      have hb3 := hbw.trans (hBf.below (Nat.le_refl _) hbw.size)
      have HH : Hid (AdL w kind P (.slice ta (tlH kind P).length tc) ls (.int .i64 ((k + 1 : Nat) : Int)) (w2.setRow w.heap.size (hv kind (wsH kind Pn) v2 Pn.length))) := hide ⟨k + 1, by omega, rfl, ⟨v2, by rw [HPn.out]; exact hB3, by rw [HPn.out]; exact hR3, hT2, fun g hg => by rw [HPn.out]; exact hAw g (by omega)⟩, hE3, hb3⟩
      clear hB3 hBf hAw hR3 hE3 hb3 hbw hB2 hBu hB hR hA hE hbr
      go_roundw
      case rel => exact HH.out
      case measure => simp [intOf]; omega
    · obtain rfl : k = ls.length := by omega
      rw [List.take_of_length_le (Nat.le_refl _)] at hBu hB hR hA
      have hq1 := hE.lt
      obtain ⟨old, ho1, ho2⟩ := hE
      generalize hPn : P ++ ls.flatten = Pn at *
      have HPn := hide hPn
      clear hPn
      go_wp2_with (first
        | (refine wpList_load_row rfl 48 _ (by rfl) w.heap.size (by rfl) _ _ _ _ hBu Tryd.underlying48 rfl (by kernel_rfl) ?_)
        | (refine wpList_store_row rfl 48 _ _ (by rfl) (w.heap.size + 1) (hv kind (wsH kind Pn) tk Pn.length) (by rfl) (by rfl) _ _ ho2 (by kernel_rfl) (by rw [ho1]; rfl) (hv_one hR.cell1) ?_)
        | fail)
      have hfu := setRow_heap wr (w.heap.size + 1) old (hv kind (wsH kind Pn) tk Pn.length) 48 _ ho2
      have hBf : But (w.heap.size + 1) wr (wr.setRow (w.heap.size + 1) (hv kind (wsH kind Pn) tk Pn.length)) := (But.refl _ _).setRow _
      refine bodyPost_ret (v := .agg (hvP kind Pn tk)) ?_ ?_ ?_
      · exact results_cell_row Tryd.results26 _ _ (w.heap.size + 1) _ _ _ _ (by rfl) hfu Tryd.underlying48 rfl (by kernel_rfl)
      · rfl
      · rw [HPn.out]
        exact ⟨_, rfl, hR.but (hA _ (.inr (.inl rfl))) hBf, tK, fun g hg h => hA g (.inr (.inr ⟨hg, h⟩)), hbr.trans (hBf.below (by omega) hbr.size)⟩
end Go.Proofs.YtejlmgbmfeacdaaDoor

/- Contracts of keccak.blockOf, endOf, New, Fit. -/
namespace Go.Proofs.YtejlmgbmfeacdaaDoor
open Go.RowKit
set_option linter.unusedVariables false
set_option linter.unusedSimpArgs false


theorem block_any (kind : Int) (w : World) : Calls Tryd.prog 43 #[.int .i64 kind] w fun e w' => e = .returned (.int .i64 (rateK kind : Nat)) ∧ w' = w := by
  by_cases h4 : kind = 4
  · subst h4
    go_enter Tryd.func43, Tryd.ntmps43
    go_wp2
    go_ret
    exact ⟨rfl, rfl⟩
  by_cases h7 : kind = 7
  · subst h7
    go_enter Tryd.func43, Tryd.ntmps43
    go_wp2
    go_ret
    exact ⟨rfl, rfl⟩
  by_cases h5 : kind = 5
  · subst h5
    go_enter Tryd.func43, Tryd.ntmps43
    go_wp2
    go_ret
    exact ⟨rfl, rfl⟩
  by_cases h6 : kind = 6
  · subst h6
    go_enter Tryd.func43, Tryd.ntmps43
    go_wp2
    go_ret
    exact ⟨rfl, rfl⟩
  have hr : rateK kind = 0 := by simp [rateK, h4, h5, h6, h7]
  rw [hr]
  go_enter Tryd.func43, Tryd.ntmps43
  go_wp2
  go_ret
  exact ⟨rfl, rfl⟩

set_option maxHeartbeats 4000000 in
set_option maxRecDepth 100000 in
theorem cnew_ok (kind : Int) (w : World) (hr : 0 < rateK kind) :
    Calls Tryd.prog 29 #[.int .i64 kind] w fun e w' => e = .returned (.tuple #[.agg (sl kind (zs 25) 0 false).toArray, .int .i64 0]) ∧ Below w.heap.size w w' := by
  have hz := zero28
  have hrk := fun w' => block_any kind w'
  have hne : (((rateK kind : Nat) : Int) == 0) = false := by rw [beq_eq_false_iff_ne]; omega
  have hR : (w.alloc (.cells (sl 0 (zs 25) 0 false).toArray 55)).heap[w.heap.size]? = some (.cells (sl 0 (zs 25) 0 false).toArray 55 (0, 0)) := heap_alloc_last w _
  go_enter Tryd.func29, Tryd.ntmps29
  have hsz : (sl kind (zs 25) 0 false).toArray.size = 28 := by simp [sl_len (zs_len 25)]
  have hsz0 : (sl 0 (zs 25) 0 false).toArray.size = 28 := by simp [sl_len (zs_len 25)]
  go_wp2_with (first
    | (go_at_call 43; refine (hrk _).mono ?_; rintro e w' ⟨rfl, rfl⟩)
    | (refine wpList_store_row rfl 55 _ _ (by rfl) w.heap.size (sl kind (zs 25) 0 false).toArray (by rfl) (by rfl) _ _ hR (by rw [hsz]; kernel_rfl) (by rw [hsz, hsz0]) (all_oneCell_toArray (sl_one _ _ _ _)) ?_)
    | fail)
  have hfu := setRow_heap (w.alloc (.cells (sl 0 (zs 25) 0 false).toArray 55)) w.heap.size _ (sl kind (zs 25) 0 false).toArray 55 _ hR
  have hlv := run_loadVar_row (P := Tryd.prog) ((w.alloc (.cells (sl 0 (zs 25) 0 false).toArray 55)).setRow w.heap.size (sl kind (zs 25) 0 false).toArray) w.heap.size _ 55 _ _ _ hfu Tryd.underlying55 rfl (by rw [hsz]; kernel_rfl)
  have hbf := (keep_alloc w (.cells (sl 0 (zs 25) 0 false).toArray 55)).trans ((But.setRow (But.refl w.heap.size _) (sl kind (zs 25) 0 false).toArray).below (Nat.le_refl _) (by simp))
  refine bodyPost_ret (v := .tuple #[.agg (sl kind (zs 25) 0 false).toArray, .int .i64 0]) ?_ rfl ⟨rfl, hbf⟩
  simp [results, Tryd.results29, asAddr, hlv]
set_option maxHeartbeats 4000000 in
set_option maxRecDepth 100000 in
theorem cnew_no (kind : Int) (w : World) (hr : rateK kind = 0) :
    Calls Tryd.prog 29 #[.int .i64 kind] w fun e w' => e = .returned (.tuple #[.agg (sl 0 (zs 25) 0 false).toArray, .int .i64 9]) ∧ Below w.heap.size w w' := by
  have hz := zero28
  have hrk := fun w' => block_any kind w'
  rw [hr] at hrk
  clear hr
  have hR : (w.alloc (.cells (sl 0 (zs 25) 0 false).toArray 55)).heap[w.heap.size]? = some (.cells (sl 0 (zs 25) 0 false).toArray 55 (0, 0)) := heap_alloc_last w _
  have hsz0 : (sl 0 (zs 25) 0 false).toArray.size = 28 := by simp [sl_len (zs_len 25)]
  go_enter Tryd.func29, Tryd.ntmps29
  go_wp2_with (first
    | (go_at_call 43; refine (hrk _).mono ?_; rintro e w' ⟨rfl, rfl⟩)
    | (refine wpList_store_row rfl 55 _ _ (by rfl) w.heap.size (sl 0 (zs 25) 0 false).toArray (by rfl) (by rfl) _ _ hR (by rw [hsz0]; kernel_rfl) rfl (all_oneCell_toArray (sl_one _ _ _ _)) ?_)
    | fail)
  have hfu := setRow_heap (w.alloc (.cells (sl 0 (zs 25) 0 false).toArray 55)) w.heap.size _ (sl 0 (zs 25) 0 false).toArray 55 _ hR
  have hlv := run_loadVar_row (P := Tryd.prog) ((w.alloc (.cells (sl 0 (zs 25) 0 false).toArray 55)).setRow w.heap.size (sl 0 (zs 25) 0 false).toArray) w.heap.size _ 55 _ _ _ hfu Tryd.underlying55 rfl (by rw [hsz0]; kernel_rfl)
  have hbf := (keep_alloc w (.cells (sl 0 (zs 25) 0 false).toArray 55)).trans ((But.setRow (But.refl w.heap.size _) (sl 0 (zs 25) 0 false).toArray).below (Nat.le_refl _) (by simp))
  refine bodyPost_ret (v := .tuple #[.agg (sl 0 (zs 25) 0 false).toArray, .int .i64 9]) ?_ rfl ⟨rfl, hbf⟩
  simp [results, Tryd.results29, asAddr, hlv]
theorem endof_any (kind : Int) (w : World) :
    Calls Tryd.prog 60 #[.int .i64 kind] w fun e w' => e = .returned (.int .u8 (markK kind : Nat)) ∧ w' = w := by
  unfold markK
  by_cases h4 : kind = 4
  · subst h4
    go_enter Tryd.func60, Tryd.ntmps60
    go_wp2
    go_ret
    exact ⟨rfl, rfl⟩
  · by_cases h5 : kind = 5
    · subst h5
      go_enter Tryd.func60, Tryd.ntmps60
      go_wp2
      go_ret
      exact ⟨rfl, rfl⟩
    · have b4 : (kind == 4) = false := by rw [beq_eq_false_iff_ne]; exact h4
      have b5 : (kind == 5) = false := by rw [beq_eq_false_iff_ne]; exact h5
      rw [if_neg (by omega)]
      go_enter Tryd.func60, Tryd.ntmps60
      go_wp2
      go_ret
      exact ⟨rfl, rfl⟩
set_option maxHeartbeats 4000000 in
set_option maxRecDepth 100000 in
theorem cfit_any (kind : Int) (ws : List Nat) (p : Int) (o : Bool) (w : World) (hl : ws.length = 25) :
    Calls Tryd.prog 45 #[.agg (sl kind ws p o).toArray] w fun e w' => e = .returned (.bool (fitK kind p o)) ∧ Below w.heap.size w w' := by
  have hS := Sg.new w 55 kind ws p o hl
  have hb := keep_alloc w (.cells (sl kind ws p o).toArray 55)
  have c0 := hS.kind
  have c26 := hS.at
  have c27 := hS.out
  have hrk := fun w' => block_any kind w'
  obtain ⟨bb, hbb⟩ : ∃ x, x = fitK kind p o := ⟨_, rfl⟩
  rw [← hbb]
  unfold fitK at hbb
  generalize rateK kind = rt at *
  by_cases h1 : 0 < rt
  · have h1i : ((rt : Int) == 0) = false := by rw [beq_eq_false_iff_ne]; omega
    have h1n : (rt == 0) = false := by rw [beq_eq_false_iff_ne]; omega
    have h1e : ¬ rt = 0 := by omega
    by_cases h2 : 0 ≤ p
    · have h2d : decide (p < 0) = false := decide_eq_false (by omega)
      have h2e : ¬ p < 0 := by omega
      by_cases h3 : p < (rt : Int)
      · simp [h1, h2, h3] at hbb
        subst hbb
        go_enter Tryd.func45, Tryd.ntmps45
        go_wp2_with (first
          | (go_at_call 43; refine (hrk _).mono ?_; rintro e w' ⟨rfl, rfl⟩)
          | fail)
        go_ret
        exact ⟨rfl, hb⟩
      · have h3d : decide (p < (rt : Int)) = false := decide_eq_false h3
        cases o with
        | false =>
          simp [h1, h2, h3] at hbb
          subst hbb
          go_enter Tryd.func45, Tryd.ntmps45
          go_wp2_with (first
            | (go_at_call 43; refine (hrk _).mono ?_; rintro e w' ⟨rfl, rfl⟩)
            | fail)
          go_ret
          exact ⟨rfl, hb⟩
        | true =>
          by_cases h4 : p = (rt : Int)
          · subst h4
            simp [h1] at hbb
            subst hbb
            go_enter Tryd.func45, Tryd.ntmps45
            go_wp2_with (first
              | (go_at_call 43; refine (hrk _).mono ?_; rintro e w' ⟨rfl, rfl⟩)
              | fail)
            go_ret
            exact ⟨rfl, hb⟩
          · have h4b : (p == (rt : Int)) = false := by rw [beq_eq_false_iff_ne]; exact h4
            simp [h1, h2, h3, h4] at hbb
            subst hbb
            go_enter Tryd.func45, Tryd.ntmps45
            go_wp2_with (first
              | (go_at_call 43; refine (hrk _).mono ?_; rintro e w' ⟨rfl, rfl⟩)
              | fail)
            go_ret
            exact ⟨rfl, hb⟩
    · have h2d : decide (p < 0) = true := decide_eq_true (by omega)
      have h2e : p < 0 := by omega
      simp [h1, h2] at hbb
      subst hbb
      go_enter Tryd.func45, Tryd.ntmps45
      go_wp2_with (first
        | (go_at_call 43; refine (hrk _).mono ?_; rintro e w' ⟨rfl, rfl⟩)
        | fail)
      go_ret
      exact ⟨rfl, hb⟩
  · obtain rfl : rt = 0 := by omega
    simp at hbb
    subst hbb
    go_enter Tryd.func45, Tryd.ntmps45
    go_wp2_with (first
      | (go_at_call 43; refine (hrk _).mono ?_; rintro e w' ⟨rfl, rfl⟩)
      | fail)
    go_ret
    exact ⟨rfl, hb⟩
end Go.Proofs.YtejlmgbmfeacdaaDoor

/- Plain facts: the round, written out word by word, is the document's. No walk. -/
namespace Go.Proofs.YtejlmgbmfeacdaaDoor
set_option linter.unusedVariables false
set_option linter.unusedSimpArgs false

/-- a column's parity; what a column's words are xored with -/
def parK (a : List Nat) (i : Nat) : Nat := el a i ^^^ el a (i + 5) ^^^ el a (i + 10) ^^^ el a (i + 15) ^^^ el a (i + 20)
def besK (p q : Nat) : Nat := p ^^^ rotl q 1
def mixW (x y z : Nat) : Nat := x ^^^ ((18446744073709551615 - y) &&& z)
/-- a row behind its mixing -/
def mixL (w0 w1 w2 w3 w4 : Nat) : List Nat := [mixW w0 w1 w2, mixW w1 w2 w3, mixW w2 w3 w4, mixW w3 w4 w0, mixW w4 w0 w1]
/-- words moved, of words and columns -/
def row0 (a c : List Nat) : List Nat := mixL (el a 0 ^^^ el c 0) (rotl (el a 6 ^^^ el c 1) 44) (rotl (el a 12 ^^^ el c 2) 43) (rotl (el a 18 ^^^ el c 3) 21) (rotl (el a 24 ^^^ el c 4) 14)
def row1 (a c : List Nat) : List Nat := mixL (rotl (el a 3 ^^^ el c 3) 28) (rotl (el a 9 ^^^ el c 4) 20) (rotl (el a 10 ^^^ el c 0) 3) (rotl (el a 16 ^^^ el c 1) 45) (rotl (el a 22 ^^^ el c 2) 61)
def row2 (a c : List Nat) : List Nat := mixL (rotl (el a 1 ^^^ el c 1) 1) (rotl (el a 7 ^^^ el c 2) 6) (rotl (el a 13 ^^^ el c 3) 25) (rotl (el a 19 ^^^ el c 4) 8) (rotl (el a 20 ^^^ el c 0) 18)
def row3 (a c : List Nat) : List Nat := mixL (rotl (el a 4 ^^^ el c 4) 27) (rotl (el a 5 ^^^ el c 0) 36) (rotl (el a 11 ^^^ el c 1) 10) (rotl (el a 17 ^^^ el c 2) 15) (rotl (el a 23 ^^^ el c 3) 56)
def row4 (a c : List Nat) : List Nat := mixL (rotl (el a 2 ^^^ el c 2) 62) (rotl (el a 8 ^^^ el c 3) 55) (rotl (el a 14 ^^^ el c 4) 39) (rotl (el a 15 ^^^ el c 0) 41) (rotl (el a 21 ^^^ el c 1) 2)
def colK (a : List Nat) : List Nat := [besK (parK a 4) (parK a 1), besK (parK a 0) (parK a 2), besK (parK a 1) (parK a 3), besK (parK a 2) (parK a 4), besK (parK a 3) (parK a 0)]
def roundK (a : List Nat) : List Nat := row0 a (colK a) ++ row1 a (colK a) ++ row2 a (colK a) ++ row3 a (colK a) ++ row4 a (colK a)
theorem list25 : ∀ a : List Nat, a.length = 25 → ∃ a0 a1 a2 a3 a4 a5 a6 a7 a8 a9 a10 a11 a12 a13 a14 a15 a16 a17 a18 a19 a20 a21 a22 a23 a24, a = [a0, a1, a2, a3, a4, a5, a6, a7, a8, a9, a10, a11, a12, a13, a14, a15, a16, a17, a18, a19, a20, a21, a22, a23, a24]
  | [a0, a1, a2, a3, a4, a5, a6, a7, a8, a9, a10, a11, a12, a13, a14, a15, a16, a17, a18, a19, a20, a21, a22, a23, a24], _ => ⟨a0, a1, a2, a3, a4, a5, a6, a7, a8, a9, a10, a11, a12, a13, a14, a15, a16, a17, a18, a19, a20, a21, a22, a23, a24, rfl⟩
theorem colN_is (a0 a1 a2 a3 a4 a5 a6 a7 a8 a9 a10 a11 a12 a13 a14 a15 a16 a17 a18 a19 a20 a21 a22 a23 a24 : Nat) : colN [a0, a1, a2, a3, a4, a5, a6, a7, a8, a9, a10, a11, a12, a13, a14, a15, a16, a17, a18, a19, a20, a21, a22, a23, a24] 25 = [0 ^^^ a0 ^^^ a5 ^^^ a10 ^^^ a15 ^^^ a20, 0 ^^^ a1 ^^^ a6 ^^^ a11 ^^^ a16 ^^^ a21, 0 ^^^ a2 ^^^ a7 ^^^ a12 ^^^ a17 ^^^ a22, 0 ^^^ a3 ^^^ a8 ^^^ a13 ^^^ a18 ^^^ a23, 0 ^^^ a4 ^^^ a9 ^^^ a14 ^^^ a19 ^^^ a24] := by kernel_rfl
theorem sprN_is (a0 a1 a2 a3 a4 a5 a6 a7 a8 a9 a10 a11 a12 a13 a14 a15 a16 a17 a18 a19 a20 a21 a22 a23 a24 c0 c1 c2 c3 c4 : Nat) : sprN [a0, a1, a2, a3, a4, a5, a6, a7, a8, a9, a10, a11, a12, a13, a14, a15, a16, a17, a18, a19, a20, a21, a22, a23, a24] [c0, c1, c2, c3, c4] 25 = [a0 ^^^ c4 ^^^ rotl c1 1, a1 ^^^ c0 ^^^ rotl c2 1, a2 ^^^ c1 ^^^ rotl c3 1, a3 ^^^ c2 ^^^ rotl c4 1, a4 ^^^ c3 ^^^ rotl c0 1, a5 ^^^ c4 ^^^ rotl c1 1, a6 ^^^ c0 ^^^ rotl c2 1, a7 ^^^ c1 ^^^ rotl c3 1, a8 ^^^ c2 ^^^ rotl c4 1, a9 ^^^ c3 ^^^ rotl c0 1, a10 ^^^ c4 ^^^ rotl c1 1, a11 ^^^ c0 ^^^ rotl c2 1, a12 ^^^ c1 ^^^ rotl c3 1, a13 ^^^ c2 ^^^ rotl c4 1, a14 ^^^ c3 ^^^ rotl c0 1, a15 ^^^ c4 ^^^ rotl c1 1, a16 ^^^ c0 ^^^ rotl c2 1, a17 ^^^ c1 ^^^ rotl c3 1, a18 ^^^ c2 ^^^ rotl c4 1, a19 ^^^ c3 ^^^ rotl c0 1, a20 ^^^ c4 ^^^ rotl c1 1, a21 ^^^ c0 ^^^ rotl c2 1, a22 ^^^ c1 ^^^ rotl c3 1, a23 ^^^ c2 ^^^ rotl c4 1, a24 ^^^ c3 ^^^ rotl c0 1] := by kernel_rfl
theorem movN_is (b0 b1 b2 b3 b4 b5 b6 b7 b8 b9 b10 b11 b12 b13 b14 b15 b16 b17 b18 b19 b20 b21 b22 b23 b24 : Nat) : movN [b0, b1, b2, b3, b4, b5, b6, b7, b8, b9, b10, b11, b12, b13, b14, b15, b16, b17, b18, b19, b20, b21, b22, b23, b24] 24 = [b0, rotl b6 44, rotl b12 43, rotl b18 21, rotl b24 14, rotl b3 28, rotl b9 20, rotl b10 3, rotl b16 45, rotl b22 61, rotl b1 1, rotl b7 6, rotl b13 25, rotl b19 8, rotl b20 18, rotl b4 27, rotl b5 36, rotl b11 10, rotl b17 15, rotl b23 56, rotl b2 62, rotl b8 55, rotl b14 39, rotl b15 41, rotl b21 2] := by kernel_rfl
theorem chiN_is (a0 a1 a2 a3 a4 a5 a6 a7 a8 a9 a10 a11 a12 a13 a14 a15 a16 a17 a18 a19 a20 a21 a22 a23 a24 b0 b1 b2 b3 b4 b5 b6 b7 b8 b9 b10 b11 b12 b13 b14 b15 b16 b17 b18 b19 b20 b21 b22 b23 b24 : Nat) : chiN [a0, a1, a2, a3, a4, a5, a6, a7, a8, a9, a10, a11, a12, a13, a14, a15, a16, a17, a18, a19, a20, a21, a22, a23, a24] [b0, b1, b2, b3, b4, b5, b6, b7, b8, b9, b10, b11, b12, b13, b14, b15, b16, b17, b18, b19, b20, b21, b22, b23, b24] 25 = [mixW b0 b1 b2, mixW b1 b2 b3, mixW b2 b3 b4, mixW b3 b4 b0, mixW b4 b0 b1, mixW b5 b6 b7, mixW b6 b7 b8, mixW b7 b8 b9, mixW b8 b9 b5, mixW b9 b5 b6, mixW b10 b11 b12, mixW b11 b12 b13, mixW b12 b13 b14, mixW b13 b14 b10, mixW b14 b10 b11, mixW b15 b16 b17, mixW b16 b17 b18, mixW b17 b18 b19, mixW b18 b19 b15, mixW b19 b15 b16, mixW b20 b21 b22, mixW b21 b22 b23, mixW b22 b23 b24, mixW b23 b24 b20, mixW b24 b20 b21] := by kernel_rfl
theorem roundK_is (a : List Nat) (h : a.length = 25) : chiN a (moveK (spreadK a)) 25 = roundK a := by
  obtain ⟨a0, a1, a2, a3, a4, a5, a6, a7, a8, a9, a10, a11, a12, a13, a14, a15, a16, a17, a18, a19, a20, a21, a22, a23, a24, rfl⟩ := list25 a h
  unfold moveK spreadK
  rw [colN_is, sprN_is, movN_is, chiN_is]
  simp only [Nat.zero_xor, Nat.xor_assoc]
  unfold roundK row0 row1 row2 row3 row4 mixL
  simp only [colK, besK, parK, el, List.getElem?_cons_zero, List.getElem?_cons_succ, Option.getD_some, List.cons_append, List.nil_append, Nat.xor_assoc, Nat.reduceAdd]
theorem rndK_is (a : List Nat) (c : Nat) (h : a.length = 25) : rndK a c = (roundK a).set 0 (el (roundK a) 0 ^^^ c) := by unfold rndK; rw [roundK_is a h]
end Go.Proofs.YtejlmgbmfeacdaaDoor

/- Contracts of bits.RotateLeft64, keccak.turned, beside, mixed. -/
namespace Go.Proofs.YtejlmgbmfeacdaaDoor
open Go.RowKit
set_option linter.unusedVariables false
set_option linter.unusedSimpArgs false

theorem and63 (n : Nat) (h : n < 64) : bits .and .u64 (n : Int) 63 = (n : Int) := by
  rw [show (63 : Int) = ((63 : Nat) : Int) from rfl, u64_and_nat n 63 (by omega) (by decide), show (63 : Nat) = 2 ^ 6 - 1 from rfl, Nat.and_two_pow_sub_one_eq_mod, Nat.mod_eq_of_lt (by omega)]
set_option maxHeartbeats 1000000 in
theorem rotl64_any (x n : Nat) (w : World) (hx : x < 18446744073709551616) (hn : n < 64) :
    Calls Tryd.prog 86 #[.int .u64 x, .int .i64 n] w fun e w' => e = .returned (.int .u64 (rotl x n : Nat)) ∧ w' = w := by
  have ha := and63 n hn
  have m1 : min n 64 = n := by omega
  obtain ⟨m, hm⟩ : ∃ m, m = 64 - n := ⟨_, rfl⟩
  have em : (64 : Int) - (n : Int) = (m : Int) := by omega
  have wm : IntKind.u64.wrap (m : Int) = (m : Int) := by rw [IntKind.wrap_u64]; omega
  have wn : IntKind.u64.wrap (n : Int) = (n : Int) := by rw [IntKind.wrap_u64]; omega
  have m2 : min m 64 = m := by omega
  have hr := rotl_is x n hx hn
  rw [← hm] at hr
  clear hm
  go_enter Tryd.func86, Tryd.ntmps86
  go_wp2
  go_ret
  exact ⟨rfl, rfl⟩
theorem turn_any (x n : Nat) (w : World) (hx : x < 18446744073709551616) (hn : n < 64) :
    Calls Tryd.prog 78 #[.int .u64 x, .int .i64 n] w fun e w' => e = .returned (.int .u64 (rotl x n : Nat)) ∧ w' = w := by
  go_enter Tryd.func78, Tryd.ntmps78
  go_wp2_with fail
  refine (rotl64_any x n _ hx hn).mono ?_
  rintro e w1 ⟨rfl, rfl⟩
  go_wp2
  go_ret
  exact ⟨rfl, rfl⟩
/-- five words, as a value -/
def five (a b c d e : Nat) : Value := .tuple #[.int .u64 a, .int .u64 b, .int .u64 c, .int .u64 d, .int .u64 e]
theorem bes_is (p q : Nat) (hp : p < 18446744073709551616) (hq : q < 18446744073709551616) : bits .xor .u64 (p : Int) ((rotl q 1 : Nat) : Int) = ((besK p q : Nat) : Int) := by
  rw [u64_xor_nat p (rotl q 1) hp (rotl_lt hq 1)]
  rfl
theorem mix_is (x y z : Nat) (hx : x < 18446744073709551616) (hy : y < 18446744073709551616) (hz : z < 18446744073709551616) :
    bits .xor .u64 (x : Int) (bits .and .u64 (bits .xor .u64 IntKind.u64.max (y : Int)) (z : Int)) = ((mixW x y z : Nat) : Int) := by
  have e1 : bits .xor .u64 IntKind.u64.max (y : Int) = ((18446744073709551615 - y : Nat) : Int) := by
    rw [show IntKind.u64.max = ((18446744073709551615 : Nat) : Int) from rfl, u64_xor_nat _ y (by decide) hy]
    congr 1
    exact ones_xor 64 y hy
  rw [e1, u64_and_nat _ _ (by omega) hz, u64_xor_nat x _ hx (and_w (by omega))]
  rfl
set_option maxHeartbeats 1000000 in
theorem beside_any (p0 p1 p2 p3 p4 : Nat) (w : World) (h0 : p0 < 18446744073709551616) (h1 : p1 < 18446744073709551616) (h2 : p2 < 18446744073709551616) (h3 : p3 < 18446744073709551616) (h4 : p4 < 18446744073709551616) :
    Calls Tryd.prog 76 #[.int .u64 p0, .int .u64 p1, .int .u64 p2, .int .u64 p3, .int .u64 p4] w fun e w' => e = .returned (five (besK p4 p1) (besK p0 p2) (besK p1 p3) (besK p2 p4) (besK p3 p0)) ∧ w' = w := by
  go_enter Tryd.func76, Tryd.ntmps76
  go_wp2_with fail
  refine (turn_any p1 1 _ h1 (by decide)).mono ?_
  rintro e w1 ⟨rfl, rfl⟩
  go_wp2_with fail
  refine (turn_any p2 1 _ h2 (by decide)).mono ?_
  rintro e w2 ⟨rfl, rfl⟩
  go_wp2_with fail
  refine (turn_any p3 1 _ h3 (by decide)).mono ?_
  rintro e w3 ⟨rfl, rfl⟩
  go_wp2_with fail
  refine (turn_any p4 1 _ h4 (by decide)).mono ?_
  rintro e w4 ⟨rfl, rfl⟩
  go_wp2_with fail
  refine (turn_any p0 1 _ h0 (by decide)).mono ?_
  rintro e w5 ⟨rfl, rfl⟩
  go_wp2
  rw [bes_is p4 p1 h4 h1, bes_is p0 p2 h0 h2, bes_is p1 p3 h1 h3, bes_is p2 p4 h2 h4, bes_is p3 p0 h3 h0]
  refine bodyPost_ret (v := five (besK p4 p1) (besK p0 p2) (besK p1 p3) (besK p2 p4) (besK p3 p0)) (by simp [results, Tryd.results76, go_sem, five]) rfl ⟨rfl, rfl⟩
set_option maxHeartbeats 1000000 in
theorem mixed_any (p0 p1 p2 p3 p4 : Nat) (w : World) (h0 : p0 < 18446744073709551616) (h1 : p1 < 18446744073709551616) (h2 : p2 < 18446744073709551616) (h3 : p3 < 18446744073709551616) (h4 : p4 < 18446744073709551616) :
    Calls Tryd.prog 77 #[.int .u64 p0, .int .u64 p1, .int .u64 p2, .int .u64 p3, .int .u64 p4] w fun e w' => e = .returned (five (mixW p0 p1 p2) (mixW p1 p2 p3) (mixW p2 p3 p4) (mixW p3 p4 p0) (mixW p4 p0 p1)) ∧ w' = w := by
  go_enter Tryd.func77, Tryd.ntmps77
  go_wp2
  rw [mix_is p0 p1 p2 h0 h1 h2, mix_is p1 p2 p3 h1 h2 h3, mix_is p2 p3 p4 h2 h3 h4, mix_is p3 p4 p0 h3 h4 h0, mix_is p4 p0 p1 h4 h0 h1]
  refine bodyPost_ret (v := five (mixW p0 p1 p2) (mixW p1 p2 p3) (mixW p2 p3 p4) (mixW p3 p4 p0) (mixW p4 p0 p1)) (by simp [results, Tryd.results77, go_sem, five]) rfl ⟨rfl, rfl⟩
end Go.Proofs.YtejlmgbmfeacdaaDoor
