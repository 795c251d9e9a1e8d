/- Which text is ahead of another one: bytes.Compare, order.Less, the document's Less. -/
import Derived.Test.YtcddoognlhpaaaaOrN
import Derived.Test.YtcddoognlhpaaaaStr
import Derived.Lib.Bytealg
import Derived.Lib.BytesEntry
namespace Go.Proofs.Ytcddoognlhpaaaa
open Go.RowKit
set_option linter.unusedVariables false

/-- a text's bytes -/
def bts (l : List Nat) : List UInt8 := l.map ch
theorem ch_lt {x y : Nat} (hx : x < 256) (hy : y < 256) : ch x < ch y ↔ x < y := by
  rw [UInt8.lt_iff_toNat_lt, ch_nat hx, ch_nat hy]
theorem cmp_less (a : List Nat) : ∀ b, Under 256 a → Under 256 b → decide (Lib.compareBytes (bts a) (bts b) < 0) = lessL a b := by
  induction a with
  | nil =>
    intro b _ _
    cases b with
    | nil => rfl
    | cons y b => rfl
  | cons x a ih =>
    intro b ha hb
    cases b with
    | nil => rfl
    | cons y b =>
      have hx := ha x (by simp)
      have hy := hb y (by simp)
      have h := ih b (fun z hz => ha z (by simp [hz])) (fun z hz => hb z (by simp [hz]))
      unfold bts at h ⊢
      rw [List.map_cons, List.map_cons, Lib.compareBytes, lessL]
      by_cases h1 : x < y
      · rw [if_pos ((ch_lt hx hy).2 h1)]; simp [h1]
      · rw [if_neg (fun e => h1 ((ch_lt hx hy).1 e))]
        by_cases h2 : y < x
        · rw [if_pos ((ch_lt hy hx).2 h2)]
          have : x ≠ y := by omega
          simp [h1, this]
        · rw [if_neg (fun e => h2 ((ch_lt hy hx).1 e)), h]
          have : x = y := by omega
          simp [this]
theorem row_bytesOf {w : World} {v : Value} {l : List Nat} (h : Row .u8 256 w v l) : (Extern.Bytes.bytesOf v).run Try.prog w = .ok ⟨(bts l).toArray⟩ w := by
  obtain ⟨a, cap, rfl, h1, h2, h3, h4⟩ := h
  by_cases hl : 0 < l.length
  · obtain ⟨b, off, rfl, hc⟩ := h3 hl
    have hr := Lib.run_loadBytesX (P := Try.prog) w (l.map fun (x : Nat) => (x : Int)) ⟨b, off, none⟩ .empty (by
      intro j x hj
      rw [List.getElem?_map] at hj
      have hj' : j < l.length := by
        rcases Nat.lt_or_ge j l.length with h | h
        · exact h
        · rw [List.getElem?_eq_none h] at hj; simp at hj
      rw [List.getElem?_eq_getElem hj'] at hj
      simp at hj
      rw [Addr.add_lit, hc j hj', el_at hj', hj])
    rw [List.length_map] at hr
    unfold Extern.Bytes.bytesOf
    rw [hr]
    congr 1
    apply ByteArray.ext
    simp [Lib.bytesOf, bts, ch, Function.comp_def]
  · have hl0 : l = [] := by cases l with | nil => rfl | cons x l => simp at hl
    subst hl0
    cases a with
    | none => rfl
    | some a => rfl
theorem cmp_run {w : World} {va vb : Value} {l m : List Nat} (ha : Row .u8 256 w va l) (hb : Row .u8 256 w vb m) :
    (callFunc 25 #[va, vb]).run Try.prog w = .ok (.value (.int .i64 (Lib.compareBytes (bts l) (bts m)))) w := by
  rw [run_callFunc_extern Try.func25 (by kernel_rfl) (by kernel_rfl) (by kernel_rfl) (e := Extern.BytealgCompare.compare) (by kernel_rfl)]
  have h : (Extern.BytealgCompare.compare #[va, vb]).run Try.prog w = .ok (.int .i64 (Lib.compareBytes (bts l) (bts m))) w := by
    change Sem.run Try.prog (do pure (goInt (Extern.BytealgCompare.cmp (← Extern.Bytes.bytesOf va) (← Extern.Bytes.bytesOf vb)))) w = _
    simp only [Sem.run_bind, Sem.run_pure, row_bytesOf ha, row_bytesOf hb, Result.andThen]
    rw [Lib.cmp_eq]
    rfl
  rw [h]
  rfl
theorem less_any (va vb : Value) (l m : List Nat) (w : World) (ha : Row .u8 256 w va l) (hb : Row .u8 256 w vb m) :
    Calls Try.prog 8 #[va, vb] w fun e w' => e = .returned (.bool (lessL l m)) ∧ w' = w := by
  have hr := cmp_run ha hb
  have hd := cmp_less l m ha.under hb.under
  generalize Lib.compareBytes (bts l) (bts m) = z at *
  rw [← hd]
  clear hd ha hb
  go_enter Try.func8, Try.ntmps8
  go_wp2
  go_ret
  exact ⟨rfl, rfl⟩

/-- up to a place two texts are the same -/
def Alike (l m : List Nat) (k : Nat) : Prop := l.take k = m.take k
theorem Alike.zero (l m : List Nat) : Alike l m 0 := by simp [Alike]
theorem Alike.next {l m : List Nat} {k : Nat} (h : Alike l m k) (hl : k < l.length) (hm : k < m.length) (he : el l k = el m k) : Alike l m (k + 1) := by
  unfold Alike at *
  rw [take_el hl, take_el hm, h, he]
theorem Alike.at {l m : List Nat} {k : Nat} (h : Alike l m k) (hl : k < l.length) (hm : k < m.length) (he : el l k ≠ el m k) : decide (el l k < el m k) = lessL l m := (less_at h hl hm he).symm
theorem Alike.end {l m : List Nat} {k : Nat} (h : Alike l m k) (hk : k = l.length ∨ k = m.length) (hl : k ≤ l.length) (hm : k ≤ m.length) : decide (l.length < m.length) = lessL l m := (less_end h hk hl hm).symm

set_option maxHeartbeats 1000000 in
theorem rless_any (va vb : Value) (l m : List Nat) (w : World) (ha : Row .u8 256 w va l) (hb : Row .u8 256 w vb m) :
    Calls Try.prog 9 #[va, vb] w fun e w' => e = .returned (.bool (lessL l m)) ∧ ∃ q, w' = w.drewN q := by
  obtain ⟨a, ca, rfl, ha1, ha2, ha3, ha4⟩ := ha
  obtain ⟨b, cb, rfl, hb1, hb2, hb3, hb4⟩ := hb
  unfold maxLen at ha2 hb2
  go_enter Try.func9, Try.ntmps9
  go_wp2
  go_loopw [5] (fun i wr => ∃ k q : Nat, k ≤ l.length ∧ k ≤ m.length ∧ i = .int .i64 k ∧ wr = w.drewN q ∧ Hid (Alike l m k)) (fun i _ => l.length - (intOf i).toNat)
  case atStart => exact ⟨0, 0, Nat.zero_le _, Nat.zero_le _, rfl, rfl, Alike.zero l m⟩
  case round =>
    obtain ⟨k, q, hk, hk2, rfl, rfl, HA⟩ := hrel
    by_cases hlt : k < l.length
    · by_cases hlt2 : k < m.length
      · obtain ⟨ba, oa, rfl, hca⟩ := ha3 (by omega)
        obtain ⟨bb, ob, rfl, hcb⟩ := hb3 (by omega)
        have c1 := hca k hlt
        have c2 := hcb k (by omega)
        clear hca hcb
        by_cases he : el l k = el m k
        · have hd : ((el l k : Int) != (el m k : Int)) = false := by simp [he]
          have HE : Hid (el l k = el m k) := he
          clear he
          go_wp2
          go_quiet (fail)
          go_wp2
          go_roundw
          case rel => exact ⟨k + 1, _, by omega, by omega, by go_num, rfl, HA.out.next hlt hlt2 HE.out⟩
          case measure => simp [intOf]; omega
        · have hd : ((el l k : Int) != (el m k : Int)) = true := by simp; omega
          have HE := hide (HA.out.at hlt hlt2 he)
          clear he
          go_wp2
          go_quiet (fail)
          go_wp2
          go_quiet (fail)
          go_wp2
          go_ret
          exact ⟨ret_bool HE.out, _, (congrArg (fun x => World.drewN x _) (World.drewN_drewN _ _ _)).trans (World.drewN_drewN _ _ _)⟩
      · have HE := hide (HA.out.end (.inr (by omega)) hk hk2)
        go_wp2
        go_ret
        exact ⟨ret_bool HE.out, _, rfl⟩
    · have HE := hide (HA.out.end (.inl (by omega)) hk hk2)
      go_wp2
      go_ret
      exact ⟨ret_bool HE.out, _, rfl⟩
end Go.Proofs.Ytcddoognlhpaaaa
