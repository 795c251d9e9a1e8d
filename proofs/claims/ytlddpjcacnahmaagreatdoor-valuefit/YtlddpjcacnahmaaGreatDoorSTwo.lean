/- Contracts of twoDigits, date.two, date.four, date.text. -/
import Derived.Test.YtlddpjcacnahmaaGreatDoorStT
import Derived.Deep.RegionHeld3
import Derived.Deep.AppendLies
import Derived.Laws.EntriesVeiled
namespace Go.Proofs.YtlddpjcacnahmaaGreatDoor
open Go.RowKit
set_option linter.unusedVariables false

/-- two digits, as numbers -/
def dn (n : Nat) : List Nat := [48 + n / 10, 48 + n % 10]
theorem dn_under {n : Nat} (h : n < 100) : Under 256 (dn n) := by
  intro x hx
  simp [dn] at hx
  omega
theorem app_cells2 (w : World) (k : IntKind) (x x' : Nat) (y y' : Int) (e : TypeId) (hy : y = (x : Int)) (hy' : y' = (x' : Int)) : ∀ j u, (vals k [x, x'])[j]? = some u → (w.alloc (.cells #[.int k y, .int k y'] e)).cell? ((⟨w.heap.size, 0, none⟩ : Addr).add j) = some u := by
  subst hy
  subst hy'
  intro j u hj
  match j, hj with
  | 0, hj => simp [vals] at hj; subst hj; simp [Addr.add]
  | 1, hj => simp [vals] at hj; subst hj; simp [Addr.add]

set_option maxHeartbeats 1000000 in
theorem two_any (v : Value) (a : List Nat) (n : Nat) (B : Nat) (w : World) (hB : B ≤ w.heap.size) (h : Own 5 .u8 256 w B v a) (hn : n < 100) (ha : a.length ≤ 1000000) :
    Calls Tryz.prog 144 #[v, .int .i64 n] w fun e w' => ∃ v', e = .returned v' ∧ Own 5 .u8 256 w' B v' (a ++ dn n) ∧ w.grownBy w' v.ownBlock := by
  obtain ⟨i0, hi, hz0, hz1, hz2⟩ := info_parts Tryz.info5
  have hrow := h.row
  obtain ⟨ad, cap, rfl, h1, h2, h3, hua⟩ := hrow
  obtain ⟨how, _⟩ := h
  clear h3
  unfold maxLen at h2
  have g1 : (n : Int) / 10 < 256 := by omega
  have g2 : 48 + (n : Int) / 10 < 256 := by omega
  have g3 : (n : Int) % 10 < 256 := by omega
  have g4 : 48 + (n : Int) % 10 < 256 := by omega
  go_enter Tryz.func144, Tryz.ntmps144
  go_wp2_with (first | (at_builtin; refine wpList_append_own _ rfl _ _ 22 rfl B 5 i0 (.int .u8 0) 1 1 Tryz.underlying22 hi hz0 hz1 hz2 rfl (by decide) _ _ _ rfl (how.alloc _) ⟨w.heap.size, 0, none⟩ 2 2 (vals .u8 (dn n)) rfl rfl (app_cells2 w .u8 (48 + n / 10) (48 + n % 10) _ _ _ (by simp) (by simp)) (vals_one _ _) (by unfold maxLen; omega) (by omega) (by simp; omega) ?_; intro v1 w1 how1 hgrow1 _) | go_in)
  have hg1 := World.grownBy.trans (World.grownBy_alloc w _ _) hgrow1
  rw [← vals_append] at how1
  go_wp2
  go_ret
  exact ⟨_, rfl, ⟨by rw [List.length_append]; exact how1, hua.append (dn_under hn)⟩, hg1⟩

/-- a date -/
abbrev dt (y m d h i c : Nat) : Value := .agg #[.int .i64 y, .int .i64 m, .int .i64 d, .int .i64 h, .int .i64 i, .int .i64 c]
/-- a date, boxed -/
abbrev bx (y m d h i c : Nat) : Obj := .cells #[.int .i64 y, .int .i64 m, .int .i64 d, .int .i64 h, .int .i64 i, .int .i64 c] 121

theorem Own.alloc {e : TypeId} {k : IntKind} {m : Nat} {w : World} {B : Nat} {v : Value} {l : List Nat} (h : Own e k m w B v l) (o : Obj) : Own e k m (w.alloc o) B v l := ⟨h.1.alloc o, h.2⟩

set_option maxHeartbeats 1000000 in
theorem dtwo_any (y m d h i c : Nat) (v : Value) (a : List Nat) (k n : Nat) (B : Nat) (w : World) (hB : B ≤ w.heap.size) (ho : Own 5 .u8 256 w B v a) (hn : n < 100) (ha : a.length ≤ 1000000)
    (hk : k < 6) (hp : (#[.int .i64 y, .int .i64 m, .int .i64 d, .int .i64 h, .int .i64 i, .int .i64 c] : Array Value)[k]? = some (.int .i64 n)) :
    Calls Tryz.prog 120 #[dt y m d h i c, v, .int .i64 k] w fun e w' => ∃ v', e = .returned v' ∧ Own 5 .u8 256 w' B v' (a ++ dn n) ∧ w.grownBy w' v.ownBlock := by
  have hc : (w.alloc (bx y m d h i c)).cell? ⟨w.heap.size, k, none⟩ = some (.int .i64 n) := by
    rw [World.cell?_alloc_at _ _ _ _ rfl]
    exact hp
  have hcall := two_any v a n B (w.alloc (bx y m d h i c)) (by simp; omega) (ho.alloc _) hn ha
  clear hp
  go_enter Tryz.func120, Tryz.ntmps120
  go_wp2_with (first | (go_at_call 144; refine hcall.mono ?_; rintro e w1 ⟨v1, rfl, ho1, hg1⟩) | go_in)
  go_ret
  exact ⟨_, rfl, ho1, World.grownBy.trans (World.grownBy_alloc w _ _) hg1⟩

/-- block k is that date, boxed -/
def Bxd (y m d h i c k : Nat) (w : World) : Prop := w.heap[k]? = some (bx y m d h i c)
theorem Bxd.cell {y m d h i c k : Nat} {w : World} (hb : Bxd y m d h i c k w) (j n : Nat) (hp : (#[.int .i64 y, .int .i64 m, .int .i64 d, .int .i64 h, .int .i64 i, .int .i64 c] : Array Value)[j]? = some (.int .i64 n)) : w.cell? ⟨k, j, none⟩ = some (.int .i64 n) := by
  unfold Bxd at hb
  simp only [World.cell?, hb]
  exact hp
theorem Bxd.new (y m d h i c : Nat) (w : World) : Bxd y m d h i c w.heap.size (w.alloc (bx y m d h i c)) := by
  show (w.heap.push _)[w.heap.size]? = _
  simp
theorem Bxd.keep {y m d h i c k : Nat} {w w' : World} {row : Option Nat} (hb : Bxd y m d h i c k w) (hg : w.grownBy w' row) (hne : row ≠ some k) : Bxd y m d h i c k w' := by
  unfold Bxd at hb ⊢
  have hlt : k < w.heap.size := by
    rcases Nat.lt_or_ge k w.heap.size with hlt | hge
    · exact hlt
    · rw [Array.getElem?_eq_none hge] at hb; cases hb
  rw [hg.block k hlt (fun e => hne e.symm)]
  exact hb
theorem Bxd.ne {y m d h i c k : Nat} {w : World} {B : Nat} {v : Value} {l : List Nat} (hb : Bxd y m d h i c k w) (ho : Own 5 .u8 256 w B v l) : v.ownBlock ≠ some k := by
  obtain ⟨⟨_, ⟨rfl, _⟩ | ⟨g, cap, cur, rfl, _, h4, _⟩⟩, _⟩ := ho
  · intro h; cases h
  · intro h
    have hk : g = k := by simpa [Value.ownBlock] using h
    subst hk
    unfold Bxd at hb
    rw [hb] at h4
    have := Option.some.inj h4
    simp at this
theorem Bxd.drew {y m d h i c k : Nat} {w : World} (hb : Bxd y m d h i c k w) : Bxd y m d h i c k w.drew := hb
/-- what a region that reads a date's first part keeps -/
def First (y m d h i c k : Nat) (w : World) : Prop := w.cell? ⟨k, 0, none⟩ = some (.int .i64 y) ∧ Bxd y m d h i c k w
theorem First.mk' {y m d h i c k : Nat} {w : World} (hb : Bxd y m d h i c k w) : w.cell? ⟨k, 0, none⟩ = some (.int .i64 y) ∧ Bxd y m d h i c k w := ⟨hb.cell 0 y rfl, hb⟩
theorem Own.drew {e : TypeId} {k : IntKind} {m : Nat} {w : World} {B : Nat} {v : Value} {l : List Nat} (h : Own e k m w B v l) : Own e k m w.drew B v l := h

set_option maxHeartbeats 1000000 in
theorem dfour_any (y m d h i c : Nat) (v : Value) (a : List Nat) (B : Nat) (w : World) (hB : B ≤ w.heap.size) (ho : Own 5 .u8 256 w B v a) (hy : y < 10000) (ha : a.length ≤ 1000) :
    Calls Tryz.prog 119 #[dt y m d h i c, v, .int .i64 0] w fun e w' => ∃ v', e = .returned v' ∧ Own 5 .u8 256 w' B v' (a ++ dn (y / 100) ++ dn (y % 100)) ∧ Below B w w' := by
  have ho0 : Own 5 .u8 256 (w.alloc (bx y m d h i c)).drew B v a := (ho.alloc (bx y m d h i c)).drew
  have hb0 := Bxd.new y m d h i c w
  have hne0 := (hb0.drew).ne ho0
  have hc := First.mk' hb0
  have hcall1 := two_any v a (y / 100) B (w.alloc (bx y m d h i c)).drew (by simp; omega) ho0 (by omega) (by omega)
  have q1 : Hid (IntKind.i64.wrap ((y : Int) / 100) = ((y / 100 : Nat) : Int)) := hide (by rw [IntKind.wrap_i64]; omega)
  have q2 : Hid ((y : Int).tmod 100 = ((y % 100 : Nat) : Int)) := hide rfl
  have r1 : y / 100 < 100 := by omega
  have r2 : y % 100 < 100 := by omega
  have hl2 : (a ++ dn (y / 100)).length ≤ 1000000 := by simp [dn]; omega
  go_enter Tryz.func119, Tryz.ntmps119
  go_wp2
  go_region_held3 (fun w' => w'.cell? ⟨w.heap.size, 0, none⟩ = some (.int .i64 y) ∧ Bxd y m d h i c w.heap.size w')
    (first
      | exact First.mk' (Bxd.keep (by assumption) hg2 hne1)
      | exact First.mk' (Bxd.keep (by assumption) hg1 hne0)
      | exact First.mk' (by assumption)
      | exact First.mk' (Bxd.drew (by assumption)))
    (first
      | (go_at_call_of 144 (v); rw [q1.out]; refine hcall1.mono ?_; rintro e w1 ⟨v1, rfl, ho1, hg1⟩; have hb1 := Bxd.keep (hb0.drew) hg1 hne0; have hne1 := hb1.ne ho1)
      | (go_at_call_of 144 (v1); rw [q2.out]; refine (two_any v1 _ (y % 100) B w1 (by have := hg1.size; simp at this; omega) ho1 r2 hl2).mono ?_; rintro e w2 ⟨v2, rfl, ho2, hg2⟩))
  go_wp2
  go_ret
  have k0 : Below B w (w.alloc (bx y m d h i c)).drew := ((Below.refl B w).alloc hB _).drew
  have k1 := k0.grown hg1 (by simp; omega) (fun j hj => (ho0.1.lt j hj).1)
  have k2 := k1.grown hg2 (by have := k1.size; omega) (fun j hj => (ho1.1.lt j hj).1)
  exact ⟨_, rfl, ho2, k2⟩
end Go.Proofs.YtlddpjcacnahmaaGreatDoor

/- Contract of date.text. -/
namespace Go.Proofs.YtlddpjcacnahmaaGreatDoor
open Go.RowKit
set_option linter.unusedVariables false

/-- the parts behind the year -/
def partN (m d h i c : Nat) : Nat → Nat
  | 1 => m
  | 2 => d
  | 3 => h
  | 4 => i
  | _ => c
/-- what is put out by the first k parts -/
def outN (y m d h i c : Nat) : Nat → List Nat
  | 0 => []
  | 1 => [] ++ dn (y / 100) ++ dn (y % 100)
  | k + 2 => outN y m d h i c (k + 1) ++ dn (partN m d h i c (k + 1))
theorem outN_len (y m d h i c : Nat) : ∀ k, (outN y m d h i c k).length ≤ 4 + 2 * k
  | 0 => by simp [outN]
  | 1 => by simp [outN, dn]
  | k + 2 => by
    have := outN_len y m d h i c (k + 1)
    simp only [outN, List.length_append]
    simp only [dn, List.length_cons, List.length_nil]
    omega
/-- bytes of numbers -/
def byt (l : List Nat) : List UInt8 := l.map ch
theorem byt_len (l : List Nat) : (byt l).length = l.length := by simp [byt]
/-- a date's text, of its parts -/
def txt6 (y m d h i c : Nat) : List UInt8 := dd (y / 100) ++ (dd (y % 100) ++ (dd m ++ (dd d ++ (dd h ++ (dd i ++ (dd c ++ [ch 90]))))))
theorem byt_out (y m d h i c : Nat) : byt (outN y m d h i c 6 ++ [90]) = txt6 y m d h i c := rfl
theorem sconv_row (w : World) (a : Option Addr) (cap : Nat) (l : List Nat) (hr : Row .u8 256 w (.slice a l.length cap) l) (hl : 0 < l.length) :
    (convert 22 9 (.slice a l.length cap)).run Tryz.prog w = .ok (str (byt l)) w := by
  obtain ⟨a', cap', he, h1, h2, h3, h4⟩ := hr
  simp only [Value.slice.injEq, true_and] at he
  obtain ⟨rfl, rfl⟩ := he
  obtain ⟨b, off, rfl, hc⟩ := h3 hl
  have := run_convert_bytes_back (P := Tryz.prog) w 22 9 5 ⟨b, off, none⟩ cap (byt l) Tryz.underlying22 Tryz.underlying5 Tryz.underlying9 (by
    intro j hj
    rw [byt_len] at hj
    have e : ((byt l)[j]'(by rw [byt_len]; exact hj)).toNat = el l j := by
      simp only [byt, List.getElem_map]
      rw [← el_at hj, ch_nat (el_lt h4 (by decide) j)]
    rw [e]
    have h := hc j hj
    by_cases h0 : j = 0
    · subst h0; simpa [Addr.add] using h
    · simpa [Addr.add, h0] using h)
  rw [byt_len] at this
  exact this

theorem conv_own {w : World} {B : Nat} {v : Value} {n : Nat} {l : List Nat} (h : w.ownsRow B 5 1 v n (vals .u8 l)) (hn : l.length = n) (hu : Under 256 l) (hl : 0 < n) :
    (convert 22 9 v).run Tryz.prog w = .ok (str (byt l)) w := by
  subst hn
  have ho : Own 5 .u8 256 w B v l := ⟨h, hu⟩
  obtain ⟨a, cap, rfl, h1⟩ := ho.row
  exact sconv_row w a cap l ho.row hl
theorem heap_cell {w w1 : World} {k : Nat} {cs : Array Value} {t : TypeId} (h : w.heap[k]? = some (.cells cs t)) (hg : w.grownBy w1 none) (j : Nat) (v : Value) (hj : cs[j]? = some v) : w1.cell? ⟨k, j, none⟩ = some v := by
  refine hg.cell ?_ (by simp)
  simp only [World.cell?, h]
  exact hj
theorem heap_two (w : World) (o p : Obj) : ((w.alloc o).alloc p).heap[w.heap.size + 1]? = some p := by
  have h := heap_alloc_new (w.alloc o) p
  rw [show (w.alloc o).heap.size = w.heap.size + 1 by simp] at h
  exact h
/-- the table of what puts each part -/
abbrev puts : Array Value := #[.func (.func 119) #[] #[], .func (.func 120) #[] #[], .func (.func 120) #[] #[], .func (.func 120) #[] #[], .func (.func 120) #[] #[], .func (.func 120) #[] #[]]
theorem Bxd.bel {y m d h i c k B : Nat} {w w' : World} (hb : Bxd y m d h i c k w) (hg : Below B w w') (hk : k < B) : Bxd y m d h i c k w' := by
  unfold Bxd at hb ⊢
  rw [hg.block k hk]
  exact hb

set_option maxRecDepth 100000 in
set_option maxHeartbeats 2000000 in
theorem dtext_any (y m d h i c : Nat) (w : World) (hy : y < 10000) (hm : m < 100) (hd : d < 100) (hh : h < 100) (hi' : i < 100) (hc : c < 100) :
    Calls Tryz.prog 91 #[dt y m d h i c] w fun e w' => e = .returned (str (txt6 y m d h i c)) ∧ Below w.heap.size w w' := by
  obtain ⟨i0, hi, hz0, hz1, hz2⟩ := info_parts Tryz.info5
  have x0 : ∀ w : World, (Instr.index 146 (.agg puts) (.int .i64 0)).run Tryz.prog w = .ok (.func (.func 119) #[] #[]) w := fun _ => by kernel_rfl
  have x1 : ∀ w : World, (Instr.index 146 (.agg puts) (.int .i64 1)).run Tryz.prog w = .ok (.func (.func 120) #[] #[]) w := fun _ => by kernel_rfl
  have x2 : ∀ w : World, (Instr.index 146 (.agg puts) (.int .i64 2)).run Tryz.prog w = .ok (.func (.func 120) #[] #[]) w := fun _ => by kernel_rfl
  have x3 : ∀ w : World, (Instr.index 146 (.agg puts) (.int .i64 3)).run Tryz.prog w = .ok (.func (.func 120) #[] #[]) w := fun _ => by kernel_rfl
  have x4 : ∀ w : World, (Instr.index 146 (.agg puts) (.int .i64 4)).run Tryz.prog w = .ok (.func (.func 120) #[] #[]) w := fun _ => by kernel_rfl
  have x5 : ∀ w : World, (Instr.index 146 (.agg puts) (.int .i64 5)).run Tryz.prog w = .ok (.func (.func 120) #[] #[]) w := fun _ => by kernel_rfl
  have h2 := heap_two w (bx y m d h i c) (.cells puts 146)
  go_enter Tryz.func91, Tryz.ntmps91
  go_wp2_with (first | (at_make; refine wpList_make_own _ rfl _ _ 22 rfl (w.heap.size + 2) 5 i0 (.int .u8 0) 1 Tryz.underlying22 hi hz0 hz1 _ _ _ 15 rfl rfl rfl (by rw [hz2]; omega) (by unfold maxLen; omega) (by simp) ?_; intro w1 hown hgrow; have f0 := heap_cell h2 hgrow 0 _ rfl; have f1 := heap_cell h2 hgrow 1 _ rfl; have f2 := heap_cell h2 hgrow 2 _ rfl; have f3 := heap_cell h2 hgrow 3 _ rfl; have f4 := heap_cell h2 hgrow 4 _ rfl; have f5 := heap_cell h2 hgrow 5 _ rfl) | go_in)
  have hb1 : Bxd y m d h i c w.heap.size w1 := ((Bxd.new y m d h i c w).keep (World.grownBy_alloc _ _ none) (by simp)).keep hgrow (by simp)
  have hbel : Below w.heap.size w w1 := (((Below.refl w.heap.size w).alloc (Nat.le_refl _) _).alloc (by simp) _).grown hgrow (by simp; omega) (fun _ h => by cases h)
  have hsz : w.heap.size + 2 ≤ w1.heap.size := by have := hgrow.size; simp at this; omega
  have how0 : Own 5 .u8 256 w1 (w.heap.size + 2) (.slice (some ⟨w.heap.size + 1 + 1, 0, none⟩) 0 15) (outN y m d h i c 0) := ⟨by simpa [outN, vals] using hown, fun x hx => by simp [outN] at hx⟩
  clear hown hgrow f0 f1 f2 f3 f4 f5 h2
  go_loopw [10, 4] (fun j v wr => ∃ k : Nat, k ≤ 6 ∧ j = .int .i64 k ∧ Own 5 .u8 256 wr (w.heap.size + 2) v (outN y m d h i c k) ∧ Below (w.heap.size + 2) w1 wr) (fun j _ _ => 6 - (intOf j).toNat)
  case atStart => exact ⟨0, by omega, rfl, how0, Below.refl _ _⟩
  case round =>
    obtain ⟨k, hk, rfl, how, hbr⟩ := hrel
    have hb2 := hb1.bel hbr (by omega)
    have hs2 := hbr.size
    have hs3 : w.heap.size + 2 ≤ wr.heap.size := by omega
    have c0 := hb2.cell 0 y rfl
    have c1 := hb2.cell 1 m rfl
    have c2 := hb2.cell 2 d rfl
    have c3 := hb2.cell 3 h rfl
    have c4 := hb2.cell 4 i rfl
    have c5 := hb2.cell 5 c rfl
    have hlen := outN_len y m d h i c k
    rcases (by omega : k = 0 ∨ k = 1 ∨ k = 2 ∨ k = 3 ∨ k = 4 ∨ k = 5 ∨ k = 6) with rfl | rfl | rfl | rfl | rfl | rfl | rfl
    · have hcall := dfour_any y m d h i c _ _ (w.heap.size + 2) wr hs3 how hy (by omega)
      go_wp2_with (first | (go_at_call 119; refine hcall.mono ?_; rintro e w3 ⟨v3, rfl, ho3, hb3⟩) | go_in)
      exact ⟨⟨1, by omega, by simp, ho3, hbr.trans hb3⟩, by simp [intOf]⟩
    · have hcall := dtwo_any y m d h i c _ _ 1 m (w.heap.size + 2) wr hs3 how hm (by omega) (by omega) rfl
      go_wp2_with (first | (go_at_call 120; refine hcall.mono ?_; rintro e w3 ⟨v3, rfl, ho3, hg3⟩) | go_in)
      exact ⟨⟨2, by omega, by simp, ho3, hbr.grown hg3 hs3 (fun j hj => (how.1.lt j hj).1)⟩, by simp [intOf]⟩
    · have hcall := dtwo_any y m d h i c _ _ 2 d (w.heap.size + 2) wr hs3 how hd (by omega) (by omega) rfl
      go_wp2_with (first | (go_at_call 120; refine hcall.mono ?_; rintro e w3 ⟨v3, rfl, ho3, hg3⟩) | go_in)
      exact ⟨⟨3, by omega, by simp, ho3, hbr.grown hg3 hs3 (fun j hj => (how.1.lt j hj).1)⟩, by simp [intOf]⟩
    · have hcall := dtwo_any y m d h i c _ _ 3 h (w.heap.size + 2) wr hs3 how hh (by omega) (by omega) rfl
      go_wp2_with (first | (go_at_call 120; refine hcall.mono ?_; rintro e w3 ⟨v3, rfl, ho3, hg3⟩) | go_in)
      exact ⟨⟨4, by omega, by simp, ho3, hbr.grown hg3 hs3 (fun j hj => (how.1.lt j hj).1)⟩, by simp [intOf]⟩
    · have hcall := dtwo_any y m d h i c _ _ 4 i (w.heap.size + 2) wr hs3 how hi' (by omega) (by omega) rfl
      go_wp2_with (first | (go_at_call 120; refine hcall.mono ?_; rintro e w3 ⟨v3, rfl, ho3, hg3⟩) | go_in)
      exact ⟨⟨5, by omega, by simp, ho3, hbr.grown hg3 hs3 (fun j hj => (how.1.lt j hj).1)⟩, by simp [intOf]⟩
    · have hcall := dtwo_any y m d h i c _ _ 5 c (w.heap.size + 2) wr hs3 how hc (by omega) (by omega) rfl
      go_wp2_with (first | (go_at_call 120; refine hcall.mono ?_; rintro e w3 ⟨v3, rfl, ho3, hg3⟩) | go_in)
      exact ⟨⟨6, by omega, by simp, ho3, hbr.grown hg3 hs3 (fun j hj => (how.1.lt j hj).1)⟩, by simp [intOf]⟩
    · obtain ⟨how, hu⟩ := how
      have HL : Hid ((outN y m d h i c 6).length = 14) := hide rfl
      rw [HL.out] at how
      have HT := hide (byt_out y m d h i c)
      generalize outN y m d h i c 6 = O at *
      obtain ⟨g, cap, rfl, _⟩ := row_form how (by omega)
      go_wp2_with (first | (at_builtin; refine wpList_append_own _ rfl _ _ 22 rfl (w.heap.size + 2) 5 i0 (.int .u8 0) 1 1 Tryz.underlying22 hi hz0 hz1 hz2 rfl (by decide) _ _ _ rfl (how.alloc _) ⟨wr.heap.size, 0, none⟩ 1 1 (vals .u8 [90]) rfl rfl (app_cells wr .u8 90 _ _ (by simp)) (vals_one _ _) (by unfold maxLen; omega) (by omega) (by simp; omega) ?_; intro v3 w3 how3 hgrow3 _; rw [← vals_append] at how3; have hcv := conv_own how3 (by rw [List.length_append, HL.out]; rfl) (hu.append (Under.one (by decide))) (by omega)) | go_in)
      have hb3 := below_append hbr hs3 how _ hgrow3
      go_ret
      exact ⟨by rw [HT.out]; rfl, hbel.trans (hb3.mono (by omega))⟩
end Go.Proofs.YtlddpjcacnahmaaGreatDoor

/- Plain facts on the digits of a time's text. -/
namespace Go.Proofs.YtlddpjcacnahmaaGreatDoor
open Go.RowKit
set_option linter.unusedVariables false

/-- the byte at a place of a text -/
def bat (l : List UInt8) (i : Nat) : Nat := (l[i]?.getD 0).toNat
theorem bat_lt (l : List UInt8) (i : Nat) : bat l i < 256 := UInt8.toNat_lt _
theorem bat_at {l : List UInt8} {i : Nat} (h : i < l.length) : bat l i = l[i].toNat := by unfold bat; rw [List.getElem?_eq_getElem h]; rfl
/-- the parts, behind so many digits -/
def psOf (l : List UInt8) : Nat → List Nat
  | 0 => [0, 0, 0, 0, 0, 0]
  | i + 1 => (psOf l i).set (i / 2 - 1) (el (psOf l i) (i / 2 - 1) * 10 + (bat l i - 48))
theorem psOf_len (l : List UInt8) (i : Nat) : (psOf l i).length = 6 := by
  induction i with
  | zero => rfl
  | succ i ih => simp only [psOf, List.length_set, ih]
theorem el_set {l : List Nat} {k i x : Nat} : el (l.set k x) i = if k = i ∧ i < l.length then x else el l i := by
  unfold el
  rw [List.getElem?_set]
  by_cases h : k = i
  · subst h
    by_cases h2 : k < l.length
    · simp [h2]
    · simp [h2]
  · simp [h]
theorem psOf_lt (l : List UInt8) (i : Nat) (hd : ∀ j, j < i → bat l j ≤ 57) : ∀ j, el (psOf l i) j < 10 ^ i := by
  induction i with
  | zero =>
    intro j
    unfold psOf el
    rcases (by omega : j = 0 ∨ j = 1 ∨ j = 2 ∨ j = 3 ∨ j = 4 ∨ j = 5 ∨ 6 ≤ j) with rfl | rfl | rfl | rfl | rfl | rfl | h
    any_goals decide
    rw [List.getElem?_eq_none (by simpa using h)]
    decide
  | succ i ih =>
    intro j
    have h1 := ih (fun j hj => hd j (by omega)) j
    have h2 := hd i (by omega)
    rw [psOf, el_set, Nat.pow_succ]
    have h3 := ih (fun j hj => hd j (by omega)) (i / 2 - 1)
    split <;> omega
/-- six parts, and what they may be at most -/
def Bnd (y m d h i c : Nat) : Prop := y < 10000 ∧ m < 100 ∧ d < 100 ∧ h < 100 ∧ i < 100 ∧ c < 100
theorem list15 {α : Type} (l : List α) (h : l.length = 15) : ∃ a0 a1 a2 a3 a4 a5 a6 a7 a8 a9 a10 a11 a12 a13 a14, l = [a0, a1, a2, a3, a4, a5, a6, a7, a8, a9, a10, a11, a12, a13, a14] := by
  match l, h with
  | [a0, a1, a2, a3, a4, a5, a6, a7, a8, a9, a10, a11, a12, a13, a14], _ => exact ⟨a0, a1, a2, a3, a4, a5, a6, a7, a8, a9, a10, a11, a12, a13, a14, rfl⟩
theorem ch_back (b : UInt8) : ch b.toNat = b := by unfold ch; simp
theorem ch_of {x : UInt8} {n : Nat} (h : x.toNat = n) : ch n = x := by rw [← h, ch_back]
/-- digits where they must stand are a date's text -/
theorem digits_text (l : List UInt8) (hl : l.length = 15) (hz : bat l 14 = 90) (hd : ∀ j, j < 14 → 48 ≤ bat l j ∧ bat l j ≤ 57) :
    Bnd (el (psOf l 14) 0) (el (psOf l 14) 1) (el (psOf l 14) 2) (el (psOf l 14) 3) (el (psOf l 14) 4) (el (psOf l 14) 5) ∧
    l = txt6 (el (psOf l 14) 0) (el (psOf l 14) 1) (el (psOf l 14) 2) (el (psOf l 14) 3) (el (psOf l 14) 4) (el (psOf l 14) 5) := by
  have hps : psOf l 14 = [(((0 * 10 + (bat l 0 - 48)) * 10 + (bat l 1 - 48)) * 10 + (bat l 2 - 48)) * 10 + (bat l 3 - 48), (0 * 10 + (bat l 4 - 48)) * 10 + (bat l 5 - 48), (0 * 10 + (bat l 6 - 48)) * 10 + (bat l 7 - 48), (0 * 10 + (bat l 8 - 48)) * 10 + (bat l 9 - 48), (0 * 10 + (bat l 10 - 48)) * 10 + (bat l 11 - 48), (0 * 10 + (bat l 12 - 48)) * 10 + (bat l 13 - 48)] := rfl
  rw [hps]
  obtain ⟨b0, b1, b2, b3, b4, b5, b6, b7, b8, b9, b10, b11, b12, b13, b14, rfl⟩ := list15 l hl
  have d0 := hd 0 (by omega)
  have d1 := hd 1 (by omega)
  have d2 := hd 2 (by omega)
  have d3 := hd 3 (by omega)
  have d4 := hd 4 (by omega)
  have d5 := hd 5 (by omega)
  have d6 := hd 6 (by omega)
  have d7 := hd 7 (by omega)
  have d8 := hd 8 (by omega)
  have d9 := hd 9 (by omega)
  have d10 := hd 10 (by omega)
  have d11 := hd 11 (by omega)
  have d12 := hd 12 (by omega)
  have d13 := hd 13 (by omega)
  clear hd hps hl
  simp only [bat, List.getElem?_cons_zero, List.getElem?_cons_succ, Option.getD_some, el] at *
  refine ⟨by unfold Bnd; omega, ?_⟩
  unfold txt6 dd
  simp only [List.cons_append, List.nil_append, List.cons.injEq, and_true]
  refine ⟨?_, ?_, ?_, ?_, ?_, ?_, ?_, ?_, ?_, ?_, ?_, ?_, ?_, ?_, ?_⟩
  all_goals (symm; apply ch_of; omega)
theorem txt6_at (y m d h i c : Nat) (hb : Bnd y m d h i c) : bat (txt6 y m d h i c) 14 = 90 ∧ ∀ j, j < 14 → 48 ≤ bat (txt6 y m d h i c) j ∧ bat (txt6 y m d h i c) j ≤ 57 := by
  obtain ⟨h0, h1, h2, h3, h4, h5⟩ := hb
  refine ⟨rfl, fun j hj => ?_⟩
  have key : ∀ x : Nat, x < 10 → 48 ≤ (ch (48 + x)).toNat ∧ (ch (48 + x)).toNat ≤ 57 := by
    intro x hx
    rw [ch_nat (by omega)]
    omega
  rcases (by omega : j = 0 ∨ j = 1 ∨ j = 2 ∨ j = 3 ∨ j = 4 ∨ j = 5 ∨ j = 6 ∨ j = 7 ∨ j = 8 ∨ j = 9 ∨ j = 10 ∨ j = 11 ∨ j = 12 ∨ j = 13) with rfl | rfl | rfl | rfl | rfl | rfl | rfl | rfl | rfl | rfl | rfl | rfl | rfl | rfl
  · exact key (y / 100 / 10) (by omega)
  · exact key (y / 100 % 10) (by omega)
  · exact key (y % 100 / 10) (by omega)
  · exact key (y % 100 % 10) (by omega)
  · exact key (m / 10) (by omega)
  · exact key (m % 10) (by omega)
  · exact key (d / 10) (by omega)
  · exact key (d % 10) (by omega)
  · exact key (h / 10) (by omega)
  · exact key (h % 10) (by omega)
  · exact key (i / 10) (by omega)
  · exact key (i % 10) (by omega)
  · exact key (c / 10) (by omega)
  · exact key (c % 10) (by omega)
/-- what loose tells -/
def LooT (l : List UInt8) (ok : Bool) (y m d h i c : Nat) : Prop := (ok = true ∧ Bnd y m d h i c ∧ l = txt6 y m d h i c) ∨ (ok = false ∧ ∀ y m d h i c, Bnd y m d h i c → l ≠ txt6 y m d h i c)
theorem loo_len {l : List UInt8} (h : l.length ≠ 15) : ∀ y m d h i c, Bnd y m d h i c → l ≠ txt6 y m d h i c := by
  intro y m d h' i c _ he
  exact h (by rw [he]; rfl)
theorem loo_z {l : List UInt8} (h : bat l 14 ≠ 90) : ∀ y m d h i c, Bnd y m d h i c → l ≠ txt6 y m d h i c := by
  intro y m d h' i c hb he
  exact h (by rw [he]; exact (txt6_at y m d h' i c hb).1)
theorem loo_d {l : List UInt8} {j : Nat} (hj : j < 14) (h : bat l j < 48 ∨ 57 < bat l j) : ∀ y m d h i c, Bnd y m d h i c → l ≠ txt6 y m d h i c := by
  intro y m d h' i c hb he
  have := (txt6_at y m d h' i c hb).2 j hj
  rw [← he] at this
  omega
end Go.Proofs.YtlddpjcacnahmaaGreatDoor
