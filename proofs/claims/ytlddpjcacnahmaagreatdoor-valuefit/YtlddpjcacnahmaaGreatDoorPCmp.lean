/- Which text is ahead of another one: bytes.Compare, order.Less, the document's Less. -/
import Derived.Test.YtlddpjcacnahmaaGreatDoorOrN
import Derived.Test.YtlddpjcacnahmaaGreatDoorKit
import Derived.Lib.Bytealg
import Derived.Lib.BytesEntry
import Derived.Deep.RegionWith
import Derived.Test.YtlddpjcacnahmaaGreatDoorDerM
import Derived.Deep.RegionHeld3
namespace Go.Proofs.YtlddpjcacnahmaaGreatDoor
open Go.RowKit
set_option linter.unusedVariables false

/-- a text's bytes -/
def bts (l : List Nat) : List UInt8 := l.map ch
theorem ch_lt {x y : Nat} (hx : x < 256) (hy : y < 256) : ch x < ch y ↔ x < y := by
  rw [UInt8.lt_iff_toNat_lt, ch_nat hx, ch_nat hy]
theorem cmp_less (a : List Nat) : ∀ b, Under 256 a → Under 256 b → decide (Lib.compareBytes (bts a) (bts b) < 0) = lessL a b := by
  induction a with
  | nil =>
    intro b _ _
    cases b with
    | nil => rfl
    | cons y b => rfl
  | cons x a ih =>
    intro b ha hb
    cases b with
    | nil => rfl
    | cons y b =>
      have hx := ha x (by simp)
      have hy := hb y (by simp)
      have h := ih b (fun z hz => ha z (by simp [hz])) (fun z hz => hb z (by simp [hz]))
      unfold bts at h ⊢
      rw [List.map_cons, List.map_cons, Lib.compareBytes, lessL]
      by_cases h1 : x < y
      · rw [if_pos ((ch_lt hx hy).2 h1)]; simp [h1]
      · rw [if_neg (fun e => h1 ((ch_lt hx hy).1 e))]
        by_cases h2 : y < x
        · rw [if_pos ((ch_lt hy hx).2 h2)]
          have : x ≠ y := by omega
          simp [h1, this]
        · rw [if_neg (fun e => h2 ((ch_lt hy hx).1 e)), h]
          have : x = y := by omega
          simp [this]
theorem row_bytesOf {w : World} {v : Value} {l : List Nat} (h : Row .u8 256 w v l) : (Extern.Bytes.bytesOf v).run Tryz.prog w = .ok ⟨(bts l).toArray⟩ w := by
  obtain ⟨a, cap, rfl, h1, h2, h3, h4⟩ := h
  by_cases hl : 0 < l.length
  · obtain ⟨b, off, rfl, hc⟩ := h3 hl
    have hr := Lib.run_loadBytesX (P := Tryz.prog) w (l.map fun (x : Nat) => (x : Int)) ⟨b, off, none⟩ .empty (by
      intro j x hj
      rw [List.getElem?_map] at hj
      have hj' : j < l.length := by
        rcases Nat.lt_or_ge j l.length with h | h
        · exact h
        · rw [List.getElem?_eq_none h] at hj; simp at hj
      rw [List.getElem?_eq_getElem hj'] at hj
      simp at hj
      rw [Addr.add_lit, hc j hj', el_at hj', hj])
    rw [List.length_map] at hr
    unfold Extern.Bytes.bytesOf
    rw [hr]
    congr 1
    apply ByteArray.ext
    simp [Lib.bytesOf, bts, ch, Function.comp_def]
  · have hl0 : l = [] := by cases l with | nil => rfl | cons x l => simp at hl
    subst hl0
    cases a with
    | none => rfl
    | some a => rfl
theorem cmp_run {w : World} {va vb : Value} {l m : List Nat} (ha : Row .u8 256 w va l) (hb : Row .u8 256 w vb m) :
    (callFunc 134 #[va, vb]).run Tryz.prog w = .ok (.value (.int .i64 (Lib.compareBytes (bts l) (bts m)))) w := by
  rw [run_callFunc_extern Tryz.func134 (by kernel_rfl) (by kernel_rfl) (by kernel_rfl) (e := Extern.BytealgCompare.compare) (by kernel_rfl)]
  have h : (Extern.BytealgCompare.compare #[va, vb]).run Tryz.prog w = .ok (.int .i64 (Lib.compareBytes (bts l) (bts m))) w := by
    change Sem.run Tryz.prog (do pure (goInt (Extern.BytealgCompare.cmp (← Extern.Bytes.bytesOf va) (← Extern.Bytes.bytesOf vb)))) w = _
    simp only [Sem.run_bind, Sem.run_pure, row_bytesOf ha, row_bytesOf hb, Result.andThen]
    rw [Lib.cmp_eq]
    rfl
  rw [h]
  rfl
theorem less_any (va vb : Value) (l m : List Nat) (w : World) (ha : Row .u8 256 w va l) (hb : Row .u8 256 w vb m) :
    Calls Tryz.prog 165 #[va, vb] w fun e w' => e = .returned (.bool (lessL l m)) ∧ w' = w := by
  have hr := cmp_run ha hb
  have hd := cmp_less l m ha.under hb.under
  generalize Lib.compareBytes (bts l) (bts m) = z at *
  rw [← hd]
  clear hd ha hb
  go_enter Tryz.func165, Tryz.ntmps165
  go_wp2
  go_ret
  exact ⟨rfl, rfl⟩

/-- up to a place two texts are the same -/
def Alike (l m : List Nat) (k : Nat) : Prop := l.take k = m.take k
theorem Alike.zero (l m : List Nat) : Alike l m 0 := by simp [Alike]
theorem Alike.next {l m : List Nat} {k : Nat} (h : Alike l m k) (hl : k < l.length) (hm : k < m.length) (he : el l k = el m k) : Alike l m (k + 1) := by
  unfold Alike at *
  rw [take_el hl, take_el hm, h, he]
theorem Alike.at {l m : List Nat} {k : Nat} (h : Alike l m k) (hl : k < l.length) (hm : k < m.length) (he : el l k ≠ el m k) : decide (el l k < el m k) = lessL l m := (less_at h hl hm he).symm
theorem Alike.end {l m : List Nat} {k : Nat} (h : Alike l m k) (hk : k = l.length ∨ k = m.length) (hl : k ≤ l.length) (hm : k ≤ m.length) : decide (l.length < m.length) = lessL l m := (less_end h hk hl hm).symm

set_option maxHeartbeats 1000000 in
theorem rless_any (va vb : Value) (l m : List Nat) (w : World) (ha : Row .u8 256 w va l) (hb : Row .u8 256 w vb m) :
    Calls Tryz.prog 79 #[va, vb] w fun e w' => e = .returned (.bool (lessL l m)) ∧ ∃ q, w' = w.drewN q := by
  obtain ⟨a, ca, rfl, ha1, ha2, ha3, ha4⟩ := ha
  obtain ⟨b, cb, rfl, hb1, hb2, hb3, hb4⟩ := hb
  unfold maxLen at ha2 hb2
  go_enter Tryz.func79, Tryz.ntmps79
  go_wp2
  go_loopw [5] (fun i wr => ∃ k q : Nat, k ≤ l.length ∧ k ≤ m.length ∧ i = .int .i64 k ∧ wr = w.drewN q ∧ Hid (Alike l m k)) (fun i _ => l.length - (intOf i).toNat)
  case atStart => exact ⟨0, 0, Nat.zero_le _, Nat.zero_le _, rfl, rfl, Alike.zero l m⟩
  case round =>
    obtain ⟨k, q, hk, hk2, rfl, rfl, HA⟩ := hrel
    by_cases hlt : k < l.length
    · by_cases hlt2 : k < m.length
      · obtain ⟨ba, oa, rfl, hca⟩ := ha3 (by omega)
        obtain ⟨bb, ob, rfl, hcb⟩ := hb3 (by omega)
        have c1 := hca k hlt
        have c2 := hcb k (by omega)
        clear hca hcb
        by_cases he : el l k = el m k
        · have hd : ((el l k : Int) != (el m k : Int)) = false := by simp [he]
          have HE : Hid (el l k = el m k) := he
          clear he
          go_wp2
          go_quiet (fail)
          go_wp2
          go_roundw
          case rel => exact ⟨k + 1, _, by omega, by omega, by go_num, rfl, HA.out.next hlt hlt2 HE.out⟩
          case measure => simp [intOf]; omega
        · have hd : ((el l k : Int) != (el m k : Int)) = true := by simp; omega
          have HE := hide (HA.out.at hlt hlt2 he)
          clear he
          go_wp2
          go_quiet (fail)
          go_wp2
          go_quiet (fail)
          go_wp2
          go_ret
          exact ⟨ret_bool HE.out, _, (congrArg (fun x => World.drewN x _) (World.drewN_drewN _ _ _)).trans (World.drewN_drewN _ _ _)⟩
      · have HE := hide (HA.out.end (.inr (by omega)) hk hk2)
        go_wp2
        go_ret
        exact ⟨ret_bool HE.out, _, rfl⟩
    · have HE := hide (HA.out.end (.inl (by omega)) hk hk2)
      go_wp2
      go_ret
      exact ⟨ret_bool HE.out, _, rfl⟩
end Go.Proofs.YtlddpjcacnahmaaGreatDoor

/- Whether texts are in order: order.Sorted, order.Strict, the document's; whether two lists are the same; how often a text is there. -/
namespace Go.Proofs.YtlddpjcacnahmaaGreatDoor
open Go.RowKit
set_option linter.unusedVariables false

/-- a slice of texts, its value written out -/
theorem Rows2.opens {w : World} {v : Value} {ls : List (List Nat)} (h : Rows2 w v ls) : ∃ a cap, v = .slice a ls.length cap ∧ ls.length ≤ cap ∧ cap ≤ 9223372036854775807 ∧
    (0 < ls.length → ∃ b off, a = some ⟨b, off, none⟩ ∧ ∀ i, i < ls.length → ∃ u, w.cell? ⟨b, off + i, none⟩ = some u ∧ Row .u8 256 w u (tx ls i) ∧ Tidy u) := by
  obtain ⟨a, cap, rfl, h1, h2, h3⟩ := h
  unfold maxLen at h2
  exact ⟨a, cap, rfl, h1, by omega, h3⟩
theorem Rows2.drewN {w : World} {v : Value} {ls : List (List Nat)} (h : Rows2 w v ls) (q : Nat) : Rows2 (w.drewN q) v ls := h.below (below_drewN (Below.refl _ _) q)
theorem Rows2.all {w : World} {a : Option Addr} {n cap : Nat} {ls : List (List Nat)} (h : Rows2 w (.slice a n cap) ls) (hl : 0 < ls.length) :
    ∃ b off, a = some ⟨b, off, none⟩ ∧ ∀ i, i < ls.length → ∃ u, w.cell? ⟨b, off + i, none⟩ = some u ∧ Row .u8 256 w u (tx ls i) ∧ Tidy u := by
  obtain ⟨a', cap', he, h1, h2, h3⟩ := h
  simp at he
  obtain ⟨rfl, rfl, rfl⟩ := he
  exact h3 hl
/-- a world that has only drawn -/
def Drew (w w' : World) : Prop := ∃ q, w' = w.drewN q
theorem Drew.refl (w : World) : Drew w w := ⟨0, rfl⟩
theorem Drew.more {w w' : World} (h : Drew w w') (n : Nat) : Drew w (w'.drewN n) := by
  obtain ⟨q, rfl⟩ := h
  exact ⟨_, World.drewN_drewN _ _ _⟩
theorem Drew.more2 {w w' : World} (h : Drew w w') (n m : Nat) : Drew w ((w'.drewN n).drewN m) := (h.more n).more m
theorem Drew.rows {w w' : World} (h : Drew w w') {v : Value} {ls : List (List Nat)} (hr : Rows2 w v ls) : Rows2 w' v ls := by
  obtain ⟨q, rfl⟩ := h
  exact hr.drewN q
theorem Drew.row {w w' : World} (h : Drew w w') {v : Value} {l : List Nat} (hr : Row .u8 256 w v l) : Row .u8 256 w' v l := by
  obtain ⟨q, rfl⟩ := h
  exact hr.drewN q
theorem Drew.below {w w' : World} (h : Drew w w') : Below w.heap.size w w' := by
  obtain ⟨q, rfl⟩ := h
  exact below_drewN (Below.refl _ _) q
set_option maxHeartbeats 1000000 in
theorem sorted_any (v : Value) (l : List (List Nat)) (w : World) (h : Rows2 w v l) :
    Calls Tryz.prog 163 #[v] w fun e w' => e = .returned (.bool (sortedB l)) ∧ Drew w w' := by
  obtain ⟨a, cap, rfl, h1, h2, h3⟩ := h.opens
  go_enter Tryz.func163, Tryz.ntmps163
  go_wp2
  go_loopw [3] (fun i wr => ∃ k : Nat, 1 ≤ k ∧ i = .int .i64 k ∧ Hid (Drew w wr) ∧ (k ≤ l.length ∨ k = 1) ∧ Hid (∀ j, 0 < j → j < k → lessL (tx l j) (tx l (j - 1)) = false)) (fun i _ => l.length - (intOf i).toNat)
  case atStart => exact ⟨1, Nat.le_refl _, rfl, hide (Drew.refl _), .inr rfl, hide (fun j _ _ => by omega)⟩
  case round =>
    obtain ⟨k, hk, rfl, HQ, hk2, HA⟩ := hrel
    by_cases hlt : k < l.length
    · obtain ⟨b, off, rfl, hc⟩ := (HQ.out.rows h).all (by omega)
      obtain ⟨u1, c1, r1, _⟩ := hc k hlt
      obtain ⟨u2, c2, r2, _⟩ := hc (k - 1) (by omega)
      clear hc
      obtain ⟨p, rfl⟩ : ∃ p, k = p + 1 := ⟨k - 1, by omega⟩
      rw [Nat.add_sub_cancel] at c2 r2
      have hcall := fun n => less_any u1 u2 _ _ (wr.drewN n) (r1.drewN n) (r2.drewN n)
      clear r1 r2
      have hi : 0 ≤ (p : Int) + 1 ∧ (p : Int) + 1 < l.length := by omega
      have hi2 : 0 ≤ (p : Int) ∧ (p : Int) < l.length := by omega
      have hwr : IntKind.i64.wrap (p : Int) = p := by rw [IntKind.wrap_i64]; omega
      cases hd : lessL (tx l (p + 1)) (tx l p) with
      | true =>
        rw [hd] at hcall
        have HD := hide (sorted_no (l := l) (i := p + 1) (by omega) hlt hd)
        clear hd
        go_wp2
        go_quiet (first | (go_at_call 165; exact Calls.quiet_of_same (hcall _)) | fail)
        go_wp2
        go_ret
        exact ⟨ret_bool HD.out.symm, HQ.out.more _⟩
      | false =>
        rw [hd] at hcall
        have HD := hide hd
        clear hd
        go_wp2
        go_quiet (first | (go_at_call 165; exact Calls.quiet_of_same (hcall _)) | fail)
        go_wp2
        go_roundw
        case rel => exact ⟨p + 2, by omega, by go_num, hide (HQ.out.more _), .inl (by omega), hide (fun j h0 hj => by
            by_cases hjp : j = p + 1
            · subst hjp; exact HD.out
            · exact HA.out j h0 (by omega))⟩
        case measure => simp [intOf]; omega
    · have HD : Hid (sortedB l = true) := hide ((sortedB_iff l).2 (fun j h0 hj => HA.out j h0 (by omega)))
      go_wp2
      go_ret
      exact ⟨ret_bool HD.out.symm, HQ.out⟩
set_option maxHeartbeats 1000000 in
theorem rsorted_any (v : Value) (l : List (List Nat)) (w : World) (h : Rows2 w v l) :
    Calls Tryz.prog 137 #[v] w fun e w' => e = .returned (.bool (sortedB l)) ∧ Drew w w' := by
  obtain ⟨a, cap, rfl, h1, h2, h3⟩ := h.opens
  go_enter Tryz.func137, Tryz.ntmps137
  go_wp2
  go_loopw [3] (fun i wr => ∃ k : Nat, 1 ≤ k ∧ i = .int .i64 k ∧ Hid (Drew w wr) ∧ (k ≤ l.length ∨ k = 1) ∧ Hid (∀ j, 0 < j → j < k → lessL (tx l j) (tx l (j - 1)) = false)) (fun i _ => l.length - (intOf i).toNat)
  case atStart => exact ⟨1, Nat.le_refl _, rfl, hide (Drew.refl _), .inr rfl, hide (fun j _ _ => by omega)⟩
  case round =>
    obtain ⟨k, hk, rfl, HQ, hk2, HA⟩ := hrel
    by_cases hlt : k < l.length
    · obtain ⟨b, off, rfl, hc⟩ := (HQ.out.rows h).all (by omega)
      obtain ⟨u1, c1, r1, _⟩ := hc k hlt
      obtain ⟨u2, c2, r2, _⟩ := hc (k - 1) (by omega)
      clear hc
      obtain ⟨p, rfl⟩ : ∃ p, k = p + 1 := ⟨k - 1, by omega⟩
      rw [Nat.add_sub_cancel] at c2 r2
      have hcall := fun n => rless_any u1 u2 _ _ (wr.drewN n) (r1.drewN n) (r2.drewN n)
      clear r1 r2
      have hi : 0 ≤ (p : Int) + 1 ∧ (p : Int) + 1 < l.length := by omega
      have hi2 : 0 ≤ (p : Int) ∧ (p : Int) < l.length := by omega
      have hwr : IntKind.i64.wrap (p : Int) = p := by rw [IntKind.wrap_i64]; omega
      cases hd : lessL (tx l (p + 1)) (tx l p) with
      | true =>
        rw [hd] at hcall
        have HD := hide (sorted_no (l := l) (i := p + 1) (by omega) hlt hd)
        clear hd
        go_wp2
        go_quiet (first | (go_at_call 79; exact Calls.quiet_of (hcall _)) | fail)
        go_wp2
        go_ret
        exact ⟨ret_bool HD.out.symm, HQ.out.more _⟩
      | false =>
        rw [hd] at hcall
        have HD := hide hd
        clear hd
        go_wp2
        go_quiet (first | (go_at_call 79; exact Calls.quiet_of (hcall _)) | fail)
        go_wp2
        go_roundw
        case rel => exact ⟨p + 2, by omega, by go_num, hide (HQ.out.more _), .inl (by omega), hide (fun j h0 hj => by
            by_cases hjp : j = p + 1
            · subst hjp; exact HD.out
            · exact HA.out j h0 (by omega))⟩
        case measure => simp [intOf]; omega
    · have HD : Hid (sortedB l = true) := hide ((sortedB_iff l).2 (fun j h0 hj => HA.out j h0 (by omega)))
      go_wp2
      go_ret
      exact ⟨ret_bool HD.out.symm, HQ.out⟩
theorem tx_ext {l m : List (List Nat)} (h : l.length = m.length) (he : ∀ i, i < l.length → tx l i = tx m i) : l = m := by
  apply List.ext_getElem h
  intro i h1 h2
  have := he i h1
  rwa [tx_at h1, tx_at h2] at this

/-- what few answers: true only of at most 60 texts of at most 3000 bytes in all -/
def FewR (l : List (List Nat)) (w : World) (e : Ending) (w' : World) : Prop := ∃ b : Bool, e = .returned (.bool b) ∧ (b = true → l.length ≤ 60 ∧ l.flatten.length ≤ 3000) ∧ w' = w
end Go.Proofs.YtlddpjcacnahmaaGreatDoor

/- Whether two values are the same; how small one is: the document's Same, Small. -/
namespace Go.Proofs.YtlddpjcacnahmaaGreatDoor
open Go.RowKit
set_option linter.unusedVariables false

/-- whether two values are the same is told -/
def SameE (x y : Nd) (w : World) (e : Ending) (w' : World) : Prop := (∃ r : Bool, e = .returned (.bool r) ∧ (r = true ↔ x = y)) ∧ Below w.heap.size w w'
theorem SameE.no {x y : Nd} {w w' : World} (h : x ≠ y) (hb : Below w.heap.size w w') : SameE x y w (.returned (.bool false)) w' := ⟨⟨false, rfl, ⟨fun e => (by cases e), fun e => absurd e h⟩⟩, hb⟩
theorem SameE.yes {x y : Nd} {w w' : World} (h : x = y) (hb : Below w.heap.size w w') : SameE x y w (.returned (.bool true)) w' := ⟨⟨true, rfl, ⟨fun _ => h, fun _ => rfl⟩⟩, hb⟩
theorem kx_ext {l m : List Nd} (h : l.length = m.length) (he : ∀ i, i < l.length → kx l i = kx m i) : l = m := by
  apply List.ext_getElem h
  intro i h1 h2
  have := he i h1
  rwa [kx_at h1, kx_at h2] at this
/-- a node's box -/
theorem box_cell (w : World) (c0 c1 c2 : Value) (t : TypeId) : Cell3 (w.alloc (.cells #[c0, c1, c2] t)) w.heap.size 0 c0 c1 c2 := by
  refine ⟨?_, ?_, ?_⟩ <;> (rw [World.cell?_alloc_at _ _ _ _ rfl]; rfl)

theorem SameE.true {x y : Nd} {w w' : World} {e : Ending} (h : SameE x y w e w') (hxy : x = y) : e = .returned (.bool true) ∧ Below w.heap.size w w' := by
  obtain ⟨⟨r, rfl, hr⟩, hb⟩ := h
  rw [hr.2 hxy]
  exact ⟨rfl, hb⟩
theorem SameE.false {x y : Nd} {w w' : World} {e : Ending} (h : SameE x y w e w') (hxy : x ≠ y) : e = .returned (.bool false) ∧ Below w.heap.size w w' := by
  obtain ⟨⟨r, rfl, hr⟩, hb⟩ := h
  cases r with
  | true => exact absurd (hr.1 rfl) hxy
  | false => exact ⟨rfl, hb⟩
theorem Below.cells {w w' : World} (h : Below w.heap.size w w') {a : Addr} {v : Value} (hc : w.cell? a = some v) : w'.cell? a = some v := by
  rw [h.cell (World.block_lt_of_cell? w _ hc)]; exact hc

set_option maxHeartbeats 4000000 in
theorem rsameN_any : ∀ (d : Nat) (a0 a1 a2 b0 b1 b2 : Value) (x y : Nd) (w : World), NdAt w d a0 a1 a2 x → NdAt w d b0 b1 b2 y →
    Calls Tryz.prog 15 #[.agg #[a0, a1, a2], .agg #[b0, b1, b2]] w fun e w' => SameE x y w e w' := by
  intro d
  induction d with
  | zero => intro a0 a1 a2 b0 b1 b2 x y w h; exact h.elim
  | succ d ih =>
    rintro a0 a1 a2 b0 b1 b2 ⟨t, b, ks⟩ ⟨s, c, ms⟩ w ⟨rfl, ht, hrb, _, _, ka, kcap, rfl, hk1, hk2, hk3⟩ ⟨rfl, hs, hrc, _, _, ma, mcap, rfl, hm1, hm2, hm3⟩
    unfold maxLen at hk2 hm2
    have hbw : Below w.heap.size w ((w.alloc (.cells #[.int .i64 t, a1, .slice ka ks.length kcap] 28)).alloc (.cells #[.int .i64 s, b1, .slice ma ms.length mcap] 28)) := keep_trans (keep_alloc w _) (keep_alloc _ _)
    by_cases hts : t = s
    · subst hts
      have hti : (t != t) = false := by simp
      have hcall := rsame_any a1 b1 b c _ (hrb.below hbw) (hrc.below hbw)
      go_enter Tryz.func15, Tryz.ntmps15
      go_wp2_with fail
      refine hcall.mono ?_
      rintro e W1 ⟨rfl, hdr⟩
      have hb1 := keep_trans hbw (Drew.below hdr)
      have p1 := ((box_cell w (.int .i64 t) a1 (.slice ka ks.length kcap) 28).below (keep_alloc _ _)).below (Drew.below hdr)
      have p2 := (box_cell (w.alloc (.cells #[.int .i64 t, a1, .slice ka ks.length kcap] 28)) (.int .i64 t) b1 (.slice ma ms.length mcap) 28).below (Drew.below hdr)
      rw [World.size_alloc] at p2
      have hsz : w.heap.size + 2 ≤ W1.heap.size := by have := (Drew.below hdr).size; simp at this; omega
      clear hcall hdr
      by_cases hbc : b = c
      · rw [decide_eq_true hbc]
        have p12 : W1.cell? ⟨w.heap.size, 2, none⟩ = some (.slice ka ks.length kcap) := p1.2.2
        have p22 : W1.cell? ⟨w.heap.size + 1, 2, none⟩ = some (.slice ma ms.length mcap) := p2.2.2
        clear p1 p2
        by_cases hlen : ks.length = ms.length
        · have hli : ((ks.length : Int) != (ms.length : Int)) = false := by simp; omega
          have HLE := hide hlen
          have HBC := hide hbc
          clear hlen hbc
          go_wp2_with fail
          go_loopw [5] (fun i wr => ∃ k : Nat, k ≤ ks.length ∧ i = .int .i64 k ∧ Hid (∀ j, j < k → kx ks j = kx ms j) ∧ Below W1.heap.size W1 wr) (fun i _ => ks.length - (intOf i).toNat)
          case atStart => exact ⟨0, Nat.zero_le _, rfl, hide (fun j hj => by omega), Below.refl _ _⟩
          case round =>
            obtain ⟨k, hk, rfl, HA, hbr⟩ := hrel
            have q12 : wr.cell? ⟨w.heap.size, 2, none⟩ = some (.slice ka ks.length kcap) := by rw [hbr.cell (p := ⟨w.heap.size, 2, none⟩) (by show w.heap.size < _; omega)]; exact p12
            have q22 : wr.cell? ⟨w.heap.size + 1, 2, none⟩ = some (.slice ma ms.length mcap) := by rw [hbr.cell (p := ⟨w.heap.size + 1, 2, none⟩) (by show w.heap.size + 1 < _; omega)]; exact p22
            by_cases hlt : k < ks.length
            · have hlt2 : k < ms.length := by have := HLE.out; omega
              have hbwr := keep_trans hb1 hbr
              obtain ⟨bk, ok, rfl, hck⟩ := hk3 (by omega)
              obtain ⟨bm, om, rfl, hcm⟩ := hm3 (by omega)
              obtain ⟨x0, x1, x2, xc, xn⟩ := hck k hlt
              obtain ⟨y0, y1, y2, yc, yn⟩ := hcm k hlt2
              obtain ⟨xc0, xc1, xc2⟩ := xc.below hbwr
              obtain ⟨yc0, yc1, yc2⟩ := yc.below hbwr
              have hih := ih x0 x1 x2 y0 y1 y2 (kx ks k) (kx ms k) wr.drew (NdAt.below (keep_trans hbwr (Below.refl _ _).drew) _ _ _ _ _ xn) (NdAt.below (keep_trans hbwr (Below.refl _ _).drew) _ _ _ _ _ yn)
              clear hck hcm xc yc xn yn
              by_cases hxy : kx ks k = kx ms k
              · have hcl := hih.mono (fun _ _ h => SameE.true h hxy)
                have HXY := hide hxy
                clear hih hxy
                go_wp2_with fail
                go_region_held3 (fun w' => w'.cell? ⟨w.heap.size, 2, none⟩ = some (.slice (some ⟨bk, ok, none⟩) ks.length kcap) ∧ w'.cell? ⟨w.heap.size + 1, 2, none⟩ = some (.slice (some ⟨bm, om, none⟩) ms.length mcap) ∧ w'.cell? ⟨bk, ok + k * 3, none⟩ = some x0 ∧ w'.cell? ⟨bk, ok + k * 3 + 1, none⟩ = some x1 ∧ w'.cell? ⟨bk, ok + k * 3 + 2, none⟩ = some x2 ∧ w'.cell? ⟨bm, om + k * 3, none⟩ = some y0 ∧ w'.cell? ⟨bm, om + k * 3 + 1, none⟩ = some y1 ∧ w'.cell? ⟨bm, om + k * 3 + 2, none⟩ = some y2)
                  (first
                    | exact ⟨q12, q22, xc0, xc1, xc2, yc0, yc1, yc2⟩
                    | exact ⟨Below.cells (w := wr.drew) hb2 q12, Below.cells (w := wr.drew) hb2 q22, Below.cells (w := wr.drew) hb2 xc0, Below.cells (w := wr.drew) hb2 xc1, Below.cells (w := wr.drew) hb2 xc2, Below.cells (w := wr.drew) hb2 yc0, Below.cells (w := wr.drew) hb2 yc1, Below.cells (w := wr.drew) hb2 yc2⟩)
                  (first
                    | (go_at_call 15; refine hcl.mono ?_; rintro e w2 ⟨rfl, hb2⟩)
                    | fail)
                have hb3 : Below W1.heap.size W1 w2 := keep_trans hbr ((Below.refl _ _).drew.trans hb2)
                clear hcl hb2 q12 q22 xc0 xc1 xc2 yc0 yc1 yc2
                go_wp2_with fail
                go_roundw
                case rel => exact ⟨k + 1, by omega, by go_num, hide (fun j hj => by
                    by_cases hjk : j = k
                    · subst hjk; exact HXY.out
                    · exact HA.out j (by omega)), hb3⟩
                case measure => simp [intOf]; omega
              · have hcl := hih.mono (fun _ _ h => SameE.false h hxy)
                have HXY : Hid (ks ≠ ms) := hide (fun e => hxy (by rw [e]))
                clear hih hxy
                go_wp2_with fail
                go_region_held3 (fun w' => w'.cell? ⟨w.heap.size, 2, none⟩ = some (.slice (some ⟨bk, ok, none⟩) ks.length kcap) ∧ w'.cell? ⟨w.heap.size + 1, 2, none⟩ = some (.slice (some ⟨bm, om, none⟩) ms.length mcap) ∧ w'.cell? ⟨bk, ok + k * 3, none⟩ = some x0 ∧ w'.cell? ⟨bk, ok + k * 3 + 1, none⟩ = some x1 ∧ w'.cell? ⟨bk, ok + k * 3 + 2, none⟩ = some x2 ∧ w'.cell? ⟨bm, om + k * 3, none⟩ = some y0 ∧ w'.cell? ⟨bm, om + k * 3 + 1, none⟩ = some y1 ∧ w'.cell? ⟨bm, om + k * 3 + 2, none⟩ = some y2)
                  (first
                    | exact ⟨q12, q22, xc0, xc1, xc2, yc0, yc1, yc2⟩
                    | exact ⟨Below.cells (w := wr.drew) hb2 q12, Below.cells (w := wr.drew) hb2 q22, Below.cells (w := wr.drew) hb2 xc0, Below.cells (w := wr.drew) hb2 xc1, Below.cells (w := wr.drew) hb2 xc2, Below.cells (w := wr.drew) hb2 yc0, Below.cells (w := wr.drew) hb2 yc1, Below.cells (w := wr.drew) hb2 yc2⟩)
                  (first
                    | (go_at_call 15; refine hcl.mono ?_; rintro e w2 ⟨rfl, hb2⟩)
                    | fail)
                have hb3 : Below W1.heap.size W1 w2 := keep_trans hbr ((Below.refl _ _).drew.trans hb2)
                clear hcl hb2 q12 q22 xc0 xc1 xc2 yc0 yc1 yc2
                go_wp2_with fail
                go_ret
                exact SameE.no (fun e => HXY.out (by injection e)) (keep_trans hb1 hb3)
            · have HE : Hid (Nd.mk t b ks = Nd.mk t c ms) := hide (by rw [HBC.out, kx_ext HLE.out (fun j hj => HA.out j (by omega))])
              go_wp2_with fail
              go_ret
              exact SameE.yes HE.out (keep_trans hb1 hbr)
        · have hli : ((ks.length : Int) != (ms.length : Int)) = true := by simp; omega
          have HNE : Hid (ks ≠ ms) := hide (fun e => hlen (by rw [e]))
          clear hlen
          go_wp2_with fail
          go_ret
          exact SameE.no (fun e => HNE.out (by injection e)) hb1
      · rw [decide_eq_false hbc]
        go_wp2_with fail
        go_ret
        exact SameE.no (fun e => hbc (by injection e)) hb1
    · have hti : (t != s) = true := by simpa using hts
      go_enter Tryz.func15, Tryz.ntmps15
      go_wp2_with fail
      go_ret
      exact SameE.no (fun e => hts (by injection e)) hbw
end Go.Proofs.YtlddpjcacnahmaaGreatDoor
