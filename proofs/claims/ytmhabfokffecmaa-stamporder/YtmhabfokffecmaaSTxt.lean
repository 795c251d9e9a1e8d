/- Contract of date.text. -/
import Derived.Test.YtmhabfokffecmaaSTwo
import Derived.Laws.EntriesVeiled
namespace Go.Proofs.Ytmhabfokffecmaa
open Go.RowKit
set_option linter.unusedVariables false

/-- the parts behind the year -/
def partN (m d h i c : Nat) : Nat → Nat
  | 1 => m
  | 2 => d
  | 3 => h
  | 4 => i
  | _ => c
/-- what is put out by the first k parts -/
def outN (y m d h i c : Nat) : Nat → List Nat
  | 0 => []
  | 1 => [] ++ dn (y / 100) ++ dn (y % 100)
  | k + 2 => outN y m d h i c (k + 1) ++ dn (partN m d h i c (k + 1))
theorem outN_len (y m d h i c : Nat) : ∀ k, (outN y m d h i c k).length ≤ 4 + 2 * k
  | 0 => by simp [outN]
  | 1 => by simp [outN, dn]
  | k + 2 => by
    have := outN_len y m d h i c (k + 1)
    simp only [outN, List.length_append]
    simp only [dn, List.length_cons, List.length_nil]
    omega
/-- bytes of numbers -/
def byt (l : List Nat) : List UInt8 := l.map ch
theorem byt_len (l : List Nat) : (byt l).length = l.length := by simp [byt]
/-- a date's text, of its parts -/
def txt6 (y m d h i c : Nat) : List UInt8 := dd (y / 100) ++ (dd (y % 100) ++ (dd m ++ (dd d ++ (dd h ++ (dd i ++ (dd c ++ [ch 90]))))))
theorem byt_out (y m d h i c : Nat) : byt (outN y m d h i c 6 ++ [90]) = txt6 y m d h i c := rfl
theorem conv_row (w : World) (a : Option Addr) (cap : Nat) (l : List Nat) (hr : Row .u8 256 w (.slice a l.length cap) l) (hl : 0 < l.length) :
    (convert 45 9 (.slice a l.length cap)).run Try.prog w = .ok (str (byt l)) w := by
  obtain ⟨a', cap', he, h1, h2, h3, h4⟩ := hr
  simp only [Value.slice.injEq, true_and] at he
  obtain ⟨rfl, rfl⟩ := he
  obtain ⟨b, off, rfl, hc⟩ := h3 hl
  have := run_convert_bytes_back (P := Try.prog) w 45 9 5 ⟨b, off, none⟩ cap (byt l) Try.underlying45 Try.underlying5 Try.underlying9 (by
    intro j hj
    rw [byt_len] at hj
    have e : ((byt l)[j]'(by rw [byt_len]; exact hj)).toNat = el l j := by
      simp only [byt, List.getElem_map]
      rw [← el_at hj, ch_nat (el_lt h4 (by decide) j)]
    rw [e]
    have h := hc j hj
    by_cases h0 : j = 0
    · subst h0; simpa [Addr.add] using h
    · simpa [Addr.add, h0] using h)
  rw [byt_len] at this
  exact this

theorem conv_own {w : World} {B : Nat} {v : Value} {n : Nat} {l : List Nat} (h : w.ownsRow B 5 1 v n (vals .u8 l)) (hn : l.length = n) (hu : Under 256 l) (hl : 0 < n) :
    (convert 45 9 v).run Try.prog w = .ok (str (byt l)) w := by
  subst hn
  have ho : Own 5 .u8 256 w B v l := ⟨h, hu⟩
  obtain ⟨a, cap, rfl, h1⟩ := ho.row
  exact conv_row w a cap l ho.row hl
theorem heap_cell {w w1 : World} {k : Nat} {cs : Array Value} {t : TypeId} (h : w.heap[k]? = some (.cells cs t)) (hg : w.grownBy w1 none) (j : Nat) (v : Value) (hj : cs[j]? = some v) : w1.cell? ⟨k, j, none⟩ = some v := by
  refine hg.cell ?_ (by simp)
  simp only [World.cell?, h]
  exact hj
theorem heap_two (w : World) (o p : Obj) : ((w.alloc o).alloc p).heap[w.heap.size + 1]? = some p := by
  have h := heap_alloc_new (w.alloc o) p
  rw [show (w.alloc o).heap.size = w.heap.size + 1 by simp] at h
  exact h
/-- the table of what puts each part -/
abbrev puts : Array Value := #[.func (.func 26) #[] #[], .func (.func 27) #[] #[], .func (.func 27) #[] #[], .func (.func 27) #[] #[], .func (.func 27) #[] #[], .func (.func 27) #[] #[]]
theorem Bxd.bel {y m d h i c k B : Nat} {w w' : World} (hb : Bxd y m d h i c k w) (hg : Below B w w') (hk : k < B) : Bxd y m d h i c k w' := by
  unfold Bxd at hb ⊢
  rw [hg.block k hk]
  exact hb

set_option maxRecDepth 100000 in
set_option maxHeartbeats 2000000 in
theorem dtext_any (y m d h i c : Nat) (w : World) (hy : y < 10000) (hm : m < 100) (hd : d < 100) (hh : h < 100) (hi' : i < 100) (hc : c < 100) :
    Calls Try.prog 19 #[dt y m d h i c] w fun e w' => e = .returned (str (txt6 y m d h i c)) ∧ Below w.heap.size w w' := by
  obtain ⟨i0, hi, hz0, hz1, hz2⟩ := info_parts Try.info5
  have x0 : ∀ w : World, (Instr.index 50 (.agg puts) (.int .i64 0)).run Try.prog w = .ok (.func (.func 26) #[] #[]) w := fun _ => by kernel_rfl
  have x1 : ∀ w : World, (Instr.index 50 (.agg puts) (.int .i64 1)).run Try.prog w = .ok (.func (.func 27) #[] #[]) w := fun _ => by kernel_rfl
  have x2 : ∀ w : World, (Instr.index 50 (.agg puts) (.int .i64 2)).run Try.prog w = .ok (.func (.func 27) #[] #[]) w := fun _ => by kernel_rfl
  have x3 : ∀ w : World, (Instr.index 50 (.agg puts) (.int .i64 3)).run Try.prog w = .ok (.func (.func 27) #[] #[]) w := fun _ => by kernel_rfl
  have x4 : ∀ w : World, (Instr.index 50 (.agg puts) (.int .i64 4)).run Try.prog w = .ok (.func (.func 27) #[] #[]) w := fun _ => by kernel_rfl
  have x5 : ∀ w : World, (Instr.index 50 (.agg puts) (.int .i64 5)).run Try.prog w = .ok (.func (.func 27) #[] #[]) w := fun _ => by kernel_rfl
  have h2 := heap_two w (bx y m d h i c) (.cells puts 50)
  go_enter Try.func19, Try.ntmps19
  go_wp2_with (first | (at_make; refine wpList_make_own _ rfl _ _ 45 rfl (w.heap.size + 2) 5 i0 (.int .u8 0) 1 Try.underlying45 hi hz0 hz1 _ _ _ 15 rfl rfl rfl (by rw [hz2]; omega) (by unfold maxLen; omega) (by simp) ?_; intro w1 hown hgrow; have f0 := heap_cell h2 hgrow 0 _ rfl; have f1 := heap_cell h2 hgrow 1 _ rfl; have f2 := heap_cell h2 hgrow 2 _ rfl; have f3 := heap_cell h2 hgrow 3 _ rfl; have f4 := heap_cell h2 hgrow 4 _ rfl; have f5 := heap_cell h2 hgrow 5 _ rfl) | go_in)
  have hb1 : Bxd y m d h i c w.heap.size w1 := ((Bxd.new y m d h i c w).keep (World.grownBy_alloc _ _ none) (by simp)).keep hgrow (by simp)
  have hbel : Below w.heap.size w w1 := (((Below.refl w.heap.size w).alloc (Nat.le_refl _) _).alloc (by simp) _).grown hgrow (by simp; omega) (fun _ h => by cases h)
  have hsz : w.heap.size + 2 ≤ w1.heap.size := by have := hgrow.size; simp at this; omega
  have how0 : Own 5 .u8 256 w1 (w.heap.size + 2) (.slice (some ⟨w.heap.size + 1 + 1, 0, none⟩) 0 15) (outN y m d h i c 0) := ⟨by simpa [outN, vals] using hown, fun x hx => by simp [outN] at hx⟩
  clear hown hgrow f0 f1 f2 f3 f4 f5 h2
  go_loopw [10, 4] (fun j v wr => ∃ k : Nat, k ≤ 6 ∧ j = .int .i64 k ∧ Own 5 .u8 256 wr (w.heap.size + 2) v (outN y m d h i c k) ∧ Below (w.heap.size + 2) w1 wr) (fun j _ _ => 6 - (intOf j).toNat)
  case atStart => exact ⟨0, by omega, rfl, how0, Below.refl _ _⟩
  case round =>
    obtain ⟨k, hk, rfl, how, hbr⟩ := hrel
    have hb2 := hb1.bel hbr (by omega)
    have hs2 := hbr.size
    have hs3 : w.heap.size + 2 ≤ wr.heap.size := by omega
    have c0 := hb2.cell 0 y rfl
    have c1 := hb2.cell 1 m rfl
    have c2 := hb2.cell 2 d rfl
    have c3 := hb2.cell 3 h rfl
    have c4 := hb2.cell 4 i rfl
    have c5 := hb2.cell 5 c rfl
    have hlen := outN_len y m d h i c k
    rcases (by omega : k = 0 ∨ k = 1 ∨ k = 2 ∨ k = 3 ∨ k = 4 ∨ k = 5 ∨ k = 6) with rfl | rfl | rfl | rfl | rfl | rfl | rfl
    · have hcall := dfour_any y m d h i c _ _ (w.heap.size + 2) wr hs3 how hy (by omega)
      go_wp2_with (first | (go_at_call 26; refine hcall.mono ?_; rintro e w3 ⟨v3, rfl, ho3, hb3⟩) | go_in)
      exact ⟨⟨1, by omega, by simp, ho3, hbr.trans hb3⟩, by simp [intOf]⟩
    · have hcall := dtwo_any y m d h i c _ _ 1 m (w.heap.size + 2) wr hs3 how hm (by omega) (by omega) rfl
      go_wp2_with (first | (go_at_call 27; refine hcall.mono ?_; rintro e w3 ⟨v3, rfl, ho3, hg3⟩) | go_in)
      exact ⟨⟨2, by omega, by simp, ho3, hbr.grown hg3 hs3 (fun j hj => (how.1.lt j hj).1)⟩, by simp [intOf]⟩
    · have hcall := dtwo_any y m d h i c _ _ 2 d (w.heap.size + 2) wr hs3 how hd (by omega) (by omega) rfl
      go_wp2_with (first | (go_at_call 27; refine hcall.mono ?_; rintro e w3 ⟨v3, rfl, ho3, hg3⟩) | go_in)
      exact ⟨⟨3, by omega, by simp, ho3, hbr.grown hg3 hs3 (fun j hj => (how.1.lt j hj).1)⟩, by simp [intOf]⟩
    · have hcall := dtwo_any y m d h i c _ _ 3 h (w.heap.size + 2) wr hs3 how hh (by omega) (by omega) rfl
      go_wp2_with (first | (go_at_call 27; refine hcall.mono ?_; rintro e w3 ⟨v3, rfl, ho3, hg3⟩) | go_in)
      exact ⟨⟨4, by omega, by simp, ho3, hbr.grown hg3 hs3 (fun j hj => (how.1.lt j hj).1)⟩, by simp [intOf]⟩
    · have hcall := dtwo_any y m d h i c _ _ 4 i (w.heap.size + 2) wr hs3 how hi' (by omega) (by omega) rfl
      go_wp2_with (first | (go_at_call 27; refine hcall.mono ?_; rintro e w3 ⟨v3, rfl, ho3, hg3⟩) | go_in)
      exact ⟨⟨5, by omega, by simp, ho3, hbr.grown hg3 hs3 (fun j hj => (how.1.lt j hj).1)⟩, by simp [intOf]⟩
    · have hcall := dtwo_any y m d h i c _ _ 5 c (w.heap.size + 2) wr hs3 how hc (by omega) (by omega) rfl
      go_wp2_with (first | (go_at_call 27; refine hcall.mono ?_; rintro e w3 ⟨v3, rfl, ho3, hg3⟩) | go_in)
      exact ⟨⟨6, by omega, by simp, ho3, hbr.grown hg3 hs3 (fun j hj => (how.1.lt j hj).1)⟩, by simp [intOf]⟩
    · obtain ⟨how, hu⟩ := how
      have HL : Hid ((outN y m d h i c 6).length = 14) := hide rfl
      rw [HL.out] at how
      have HT := hide (byt_out y m d h i c)
      generalize outN y m d h i c 6 = O at *
      obtain ⟨g, cap, rfl, _⟩ := row_form how (by omega)
      go_wp2_with (first | (at_builtin; refine wpList_append_own _ rfl _ _ 45 rfl (w.heap.size + 2) 5 i0 (.int .u8 0) 1 1 Try.underlying45 hi hz0 hz1 hz2 rfl (by decide) _ _ _ rfl (how.alloc _) ⟨wr.heap.size, 0, none⟩ 1 1 (vals .u8 [90]) rfl rfl (app_cells wr .u8 90 _ _ (by simp)) (vals_one _ _) (by unfold maxLen; omega) (by omega) (by simp; omega) ?_; intro v3 w3 how3 hgrow3 _; rw [← vals_append] at how3; have hcv := conv_own how3 (by rw [List.length_append, HL.out]; rfl) (hu.append (Under.one (by decide))) (by omega)) | go_in)
      have hb3 := below_append hbr hs3 how _ hgrow3
      go_ret
      exact ⟨by rw [HT.out]; rfl, hbel.trans (hb3.mono (by omega))⟩
end Go.Proofs.Ytmhabfokffecmaa
