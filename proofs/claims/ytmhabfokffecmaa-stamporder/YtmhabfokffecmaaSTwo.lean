/- Contracts of twoDigits, date.two, date.four, date.text. -/
import Derived.Test.YtmhabfokffecmaaStT
import Derived.Deep.RegionHeld3
import Derived.Deep.AppendLies
namespace Go.Proofs.Ytmhabfokffecmaa
open Go.RowKit
set_option linter.unusedVariables false

/-- two digits, as numbers -/
def dn (n : Nat) : List Nat := [48 + n / 10, 48 + n % 10]
theorem dn_under {n : Nat} (h : n < 100) : Under 256 (dn n) := by
  intro x hx
  simp [dn] at hx
  omega
theorem app_cells2 (w : World) (k : IntKind) (x x' : Nat) (y y' : Int) (e : TypeId) (hy : y = (x : Int)) (hy' : y' = (x' : Int)) : ∀ j u, (vals k [x, x'])[j]? = some u → (w.alloc (.cells #[.int k y, .int k y'] e)).cell? ((⟨w.heap.size, 0, none⟩ : Addr).add j) = some u := by
  subst hy
  subst hy'
  intro j u hj
  match j, hj with
  | 0, hj => simp [vals] at hj; subst hj; simp [Addr.add]
  | 1, hj => simp [vals] at hj; subst hj; simp [Addr.add]

set_option maxHeartbeats 1000000 in
theorem two_any (v : Value) (a : List Nat) (n : Nat) (B : Nat) (w : World) (hB : B ≤ w.heap.size) (h : Own 5 .u8 256 w B v a) (hn : n < 100) (ha : a.length ≤ 1000000) :
    Calls Try.prog 28 #[v, .int .i64 n] w fun e w' => ∃ v', e = .returned v' ∧ Own 5 .u8 256 w' B v' (a ++ dn n) ∧ w.grownBy w' v.ownBlock := by
  obtain ⟨i0, hi, hz0, hz1, hz2⟩ := info_parts Try.info5
  have hrow := h.row
  obtain ⟨ad, cap, rfl, h1, h2, h3, hua⟩ := hrow
  obtain ⟨how, _⟩ := h
  clear h3
  unfold maxLen at h2
  have g1 : (n : Int) / 10 < 256 := by omega
  have g2 : 48 + (n : Int) / 10 < 256 := by omega
  have g3 : (n : Int) % 10 < 256 := by omega
  have g4 : 48 + (n : Int) % 10 < 256 := by omega
  go_enter Try.func28, Try.ntmps28
  go_wp2_with (first | (at_builtin; refine wpList_append_own _ rfl _ _ 45 rfl B 5 i0 (.int .u8 0) 1 1 Try.underlying45 hi hz0 hz1 hz2 rfl (by decide) _ _ _ rfl (how.alloc _) ⟨w.heap.size, 0, none⟩ 2 2 (vals .u8 (dn n)) rfl rfl (app_cells2 w .u8 (48 + n / 10) (48 + n % 10) _ _ _ (by simp) (by simp)) (vals_one _ _) (by unfold maxLen; omega) (by omega) (by simp; omega) ?_; intro v1 w1 how1 hgrow1 _) | go_in)
  have hg1 := World.grownBy.trans (World.grownBy_alloc w _ _) hgrow1
  rw [← vals_append] at how1
  go_wp2
  go_ret
  exact ⟨_, rfl, ⟨by rw [List.length_append]; exact how1, hua.append (dn_under hn)⟩, hg1⟩

/-- a date -/
abbrev dt (y m d h i c : Nat) : Value := .agg #[.int .i64 y, .int .i64 m, .int .i64 d, .int .i64 h, .int .i64 i, .int .i64 c]
/-- a date, boxed -/
abbrev bx (y m d h i c : Nat) : Obj := .cells #[.int .i64 y, .int .i64 m, .int .i64 d, .int .i64 h, .int .i64 i, .int .i64 c] 36

theorem Own.alloc {e : TypeId} {k : IntKind} {m : Nat} {w : World} {B : Nat} {v : Value} {l : List Nat} (h : Own e k m w B v l) (o : Obj) : Own e k m (w.alloc o) B v l := ⟨h.1.alloc o, h.2⟩

set_option maxHeartbeats 1000000 in
theorem dtwo_any (y m d h i c : Nat) (v : Value) (a : List Nat) (k n : Nat) (B : Nat) (w : World) (hB : B ≤ w.heap.size) (ho : Own 5 .u8 256 w B v a) (hn : n < 100) (ha : a.length ≤ 1000000)
    (hk : k < 6) (hp : (#[.int .i64 y, .int .i64 m, .int .i64 d, .int .i64 h, .int .i64 i, .int .i64 c] : Array Value)[k]? = some (.int .i64 n)) :
    Calls Try.prog 27 #[dt y m d h i c, v, .int .i64 k] w fun e w' => ∃ v', e = .returned v' ∧ Own 5 .u8 256 w' B v' (a ++ dn n) ∧ w.grownBy w' v.ownBlock := by
  have hc : (w.alloc (bx y m d h i c)).cell? ⟨w.heap.size, k, none⟩ = some (.int .i64 n) := by
    rw [World.cell?_alloc_at _ _ _ _ rfl]
    exact hp
  have hcall := two_any v a n B (w.alloc (bx y m d h i c)) (by simp; omega) (ho.alloc _) hn ha
  clear hp
  go_enter Try.func27, Try.ntmps27
  go_wp2_with (first | (go_at_call 28; refine hcall.mono ?_; rintro e w1 ⟨v1, rfl, ho1, hg1⟩) | go_in)
  go_ret
  exact ⟨_, rfl, ho1, World.grownBy.trans (World.grownBy_alloc w _ _) hg1⟩

/-- block k is that date, boxed -/
def Bxd (y m d h i c k : Nat) (w : World) : Prop := w.heap[k]? = some (bx y m d h i c)
theorem Bxd.cell {y m d h i c k : Nat} {w : World} (hb : Bxd y m d h i c k w) (j n : Nat) (hp : (#[.int .i64 y, .int .i64 m, .int .i64 d, .int .i64 h, .int .i64 i, .int .i64 c] : Array Value)[j]? = some (.int .i64 n)) : w.cell? ⟨k, j, none⟩ = some (.int .i64 n) := by
  unfold Bxd at hb
  simp only [World.cell?, hb]
  exact hp
theorem Bxd.new (y m d h i c : Nat) (w : World) : Bxd y m d h i c w.heap.size (w.alloc (bx y m d h i c)) := by
  show (w.heap.push _)[w.heap.size]? = _
  simp
theorem Bxd.keep {y m d h i c k : Nat} {w w' : World} {row : Option Nat} (hb : Bxd y m d h i c k w) (hg : w.grownBy w' row) (hne : row ≠ some k) : Bxd y m d h i c k w' := by
  unfold Bxd at hb ⊢
  have hlt : k < w.heap.size := by
    rcases Nat.lt_or_ge k w.heap.size with hlt | hge
    · exact hlt
    · rw [Array.getElem?_eq_none hge] at hb; cases hb
  rw [hg.block k hlt (fun e => hne e.symm)]
  exact hb
theorem Bxd.ne {y m d h i c k : Nat} {w : World} {B : Nat} {v : Value} {l : List Nat} (hb : Bxd y m d h i c k w) (ho : Own 5 .u8 256 w B v l) : v.ownBlock ≠ some k := by
  obtain ⟨⟨_, ⟨rfl, _⟩ | ⟨g, cap, cur, rfl, _, h4, _⟩⟩, _⟩ := ho
  · intro h; cases h
  · intro h
    have hk : g = k := by simpa [Value.ownBlock] using h
    subst hk
    unfold Bxd at hb
    rw [hb] at h4
    have := Option.some.inj h4
    simp at this
theorem Bxd.drew {y m d h i c k : Nat} {w : World} (hb : Bxd y m d h i c k w) : Bxd y m d h i c k w.drew := hb
/-- what a region that reads a date's first part keeps -/
def First (y m d h i c k : Nat) (w : World) : Prop := w.cell? ⟨k, 0, none⟩ = some (.int .i64 y) ∧ Bxd y m d h i c k w
theorem First.mk' {y m d h i c k : Nat} {w : World} (hb : Bxd y m d h i c k w) : w.cell? ⟨k, 0, none⟩ = some (.int .i64 y) ∧ Bxd y m d h i c k w := ⟨hb.cell 0 y rfl, hb⟩
theorem Own.drew {e : TypeId} {k : IntKind} {m : Nat} {w : World} {B : Nat} {v : Value} {l : List Nat} (h : Own e k m w B v l) : Own e k m w.drew B v l := h

set_option maxHeartbeats 1000000 in
theorem dfour_any (y m d h i c : Nat) (v : Value) (a : List Nat) (B : Nat) (w : World) (hB : B ≤ w.heap.size) (ho : Own 5 .u8 256 w B v a) (hy : y < 10000) (ha : a.length ≤ 1000) :
    Calls Try.prog 26 #[dt y m d h i c, v, .int .i64 0] w fun e w' => ∃ v', e = .returned v' ∧ Own 5 .u8 256 w' B v' (a ++ dn (y / 100) ++ dn (y % 100)) ∧ Below B w w' := by
  have ho0 : Own 5 .u8 256 (w.alloc (bx y m d h i c)).drew B v a := (ho.alloc (bx y m d h i c)).drew
  have hb0 := Bxd.new y m d h i c w
  have hne0 := (hb0.drew).ne ho0
  have hc := First.mk' hb0
  have hcall1 := two_any v a (y / 100) B (w.alloc (bx y m d h i c)).drew (by simp; omega) ho0 (by omega) (by omega)
  have q1 : Hid (IntKind.i64.wrap ((y : Int) / 100) = ((y / 100 : Nat) : Int)) := hide (by rw [IntKind.wrap_i64]; omega)
  have q2 : Hid ((y : Int).tmod 100 = ((y % 100 : Nat) : Int)) := hide rfl
  have r1 : y / 100 < 100 := by omega
  have r2 : y % 100 < 100 := by omega
  have hl2 : (a ++ dn (y / 100)).length ≤ 1000000 := by simp [dn]; omega
  go_enter Try.func26, Try.ntmps26
  go_wp2
  go_region_held3 (fun w' => w'.cell? ⟨w.heap.size, 0, none⟩ = some (.int .i64 y) ∧ Bxd y m d h i c w.heap.size w')
    (first
      | exact First.mk' (Bxd.keep (by assumption) hg2 hne1)
      | exact First.mk' (Bxd.keep (by assumption) hg1 hne0)
      | exact First.mk' (by assumption)
      | exact First.mk' (Bxd.drew (by assumption)))
    (first
      | (go_at_call_of 28 (v); rw [q1.out]; refine hcall1.mono ?_; rintro e w1 ⟨v1, rfl, ho1, hg1⟩; have hb1 := Bxd.keep (hb0.drew) hg1 hne0; have hne1 := hb1.ne ho1)
      | (go_at_call_of 28 (v1); rw [q2.out]; refine (two_any v1 _ (y % 100) B w1 (by have := hg1.size; simp at this; omega) ho1 r2 hl2).mono ?_; rintro e w2 ⟨v2, rfl, ho2, hg2⟩))
  go_wp2
  go_ret
  have k0 : Below B w (w.alloc (bx y m d h i c)).drew := ((Below.refl B w).alloc hB _).drew
  have k1 := k0.grown hg1 (by simp; omega) (fun j hj => (ho0.1.lt j hj).1)
  have k2 := k1.grown hg2 (by have := k1.size; omega) (fun j hj => (ho1.1.lt j hj).1)
  exact ⟨_, rfl, ho2, k2⟩
end Go.Proofs.Ytmhabfokffecmaa
