/- container/heap at a pile: down, Init, Pop. -/
import Derived.Test.YtcddoognlhpaaaaPPil
namespace Go.Proofs.Ytcddoognlhpaaaa
open Go.RowKit
set_option linter.unusedVariables false

/-- a pile as an interface value -/
abbrev pil (P : Nat) : Value := .iface 36 (.pointer (some ⟨P, 0, none⟩))
theorem wrap_ok (P : Nat) (name : String) (w : World) : (Builtin.ssaWrapNilChk_ #[36] 36 #[.pointer (some ⟨P, 0, none⟩), strVal "", strVal name]).run Try.prog w = .ok (.pointer (some ⟨P, 0, none⟩)) w := by rfl
theorem pile_load (P : Nat) (w : World) (v : Value) (hp : w.cell? ⟨P, 0, none⟩ = some v) : (loadVar 41 ⟨P, 0, none⟩).run Try.prog w = .ok v w := by
  have h1 : (isAgg 41).run Try.prog w = .ok false w := by kernel_rfl
  unfold loadVar
  rw [Sem.run_bind, h1]
  simp [run_load, hp]
theorem recv_ok (P : Nat) (name : String) (w : World) (v : Value) (hp : w.cell? ⟨P, 0, none⟩ = some v) : (receiverAt 36 (.val (.pointer (some ⟨P, 0, none⟩))) false (some name)).run Try.prog w = .ok v w := by
  unfold receiverAt
  rw [Sem.run_bind, run_underlying Try.underlying36]
  simp only [Result.andThen_ok, Place.get, Sem.run_bind, Sem.run_pure, wrap_ok, asAddr, pile_load P w v hp]
theorem method_len (f : Nat) (P : Nat) (w : World) (v : Value) (hp : w.cell? ⟨P, 0, none⟩ = some v) : (method (f + 1) 36 (.pointer (some ⟨P, 0, none⟩)) "Len").run Try.prog w = .ok (45, v) w := by
  have e : (method (f + 1) 36 (.pointer (some ⟨P, 0, none⟩)) "Len").run Try.prog w = (receiverAt 36 (.val (.pointer (some ⟨P, 0, none⟩))) false (some (("Len".splitOn ".").getLastD "Len")) >>= fun u => pure (45, u)).run Try.prog w := by kernel_rfl
  rw [e, Sem.run_bind, recv_ok P _ w v hp]
  rfl
theorem method_less (f : Nat) (P : Nat) (w : World) (v : Value) (hp : w.cell? ⟨P, 0, none⟩ = some v) : (method (f + 1) 36 (.pointer (some ⟨P, 0, none⟩)) "Less").run Try.prog w = .ok (46, v) w := by
  have e : (method (f + 1) 36 (.pointer (some ⟨P, 0, none⟩)) "Less").run Try.prog w = (receiverAt 36 (.val (.pointer (some ⟨P, 0, none⟩))) false (some (("Less".splitOn ".").getLastD "Less")) >>= fun u => pure (46, u)).run Try.prog w := by kernel_rfl
  rw [e, Sem.run_bind, recv_ok P _ w v hp]
  rfl
theorem method_swap (f : Nat) (P : Nat) (w : World) (v : Value) (hp : w.cell? ⟨P, 0, none⟩ = some v) : (method (f + 1) 36 (.pointer (some ⟨P, 0, none⟩)) "Swap").run Try.prog w = .ok (48, v) w := by
  have e : (method (f + 1) 36 (.pointer (some ⟨P, 0, none⟩)) "Swap").run Try.prog w = (receiverAt 36 (.val (.pointer (some ⟨P, 0, none⟩))) false (some (("Swap".splitOn ".").getLastD "Swap")) >>= fun u => pure (48, u)).run Try.prog w := by kernel_rfl
  rw [e, Sem.run_bind, recv_ok P _ w v hp]
  rfl
theorem method_pop (f : Nat) (P : Nat) (w : World) : (method (f + 1) 36 (.pointer (some ⟨P, 0, none⟩)) "Pop").run Try.prog w = .ok (47, .pointer (some ⟨P, 0, none⟩)) w := by kernel_rfl

/-- a heap on its way down: all is well but for the children of k -/
structure Down (w0 : World) (P g lo n : Nat) (l : List (List Nat)) (w : World) (k : Nat) (wr : World) (l1 : List (List Nat)) : Prop where
  pile : Pile w0 P g wr l1
  perm : l1.Perm l
  far : ∀ j, n ≤ j → tx l1 j = tx l j
  heap : HpX lo n k l1
  alt : Alt g P w wr
theorem Down.drew {w0 w wr wr' : World} {P g lo n k : Nat} {l l1 : List (List Nat)} (h : Down w0 P g lo n l w k wr l1) (hd : Drew wr wr') : Down w0 P g lo n l w k wr' l1 :=
  ⟨h.pile.drew hd, h.perm, h.far, h.heap, h.alt.trans (Alt.of_below hd.below)⟩
theorem Down.step {w0 w wr wr' : World} {P g lo n k j : Nat} {l l1 : List (List Nat)} (h : Down w0 P g lo n l w k wr l1) (hn : n ≤ l1.length) (hlo : lo ≤ k) (hj : j = 2 * k + 1 ∨ j = 2 * k + 2) (hjn : j < n)
    (hl : lessL (tx l1 j) (tx l1 k) = true) (hm : ∀ x, (x = 2 * k + 1 ∨ x = 2 * k + 2) → x ≠ j → x < n → lessL (tx l1 x) (tx l1 j) = false)
    (hp : Pile w0 P g wr' (swp l1 k j)) (ha : Alt g P wr wr') : Down w0 P g lo n l w j wr' (swp l1 k j) :=
  ⟨hp, (swp_perm (by omega) (by omega)).trans h.perm, fun x hx => (swp_far (by omega) (by omega) (by omega) (by omega)).trans (h.far x hx), h.heap.step hn hlo hj hjn hl hm, h.alt.trans ha⟩
/-- what down leaves -/
def Downed (w0 : World) (P g lo n : Nat) (l : List (List Nat)) (w w' : World) : Prop := ∃ l', l'.Perm l ∧ (∀ j, n ≤ j → tx l' j = tx l j) ∧ Hp lo n l' ∧ Pile w0 P g w' l' ∧ Alt g P w w'
def DownE (w0 : World) (P g lo n : Nat) (l : List (List Nat)) (w : World) (e : Ending) (w' : World) : Prop := (∃ b, e = .returned (.bool b)) ∧ Downed w0 P g lo n l w w'
theorem Down.done {w0 w wr : World} {P g lo n k : Nat} {l l1 : List (List Nat)} (h : Down w0 P g lo n l w k wr l1) (h1 : 2 * k + 1 < n → lessL (tx l1 (2 * k + 1)) (tx l1 k) = false) (h2 : 2 * k + 2 < n → lessL (tx l1 (2 * k + 2)) (tx l1 k) = false) (b : Bool) :
    DownE w0 P g lo n l w (.returned (.bool b)) wr := ⟨⟨b, rfl⟩, l1, h.perm, h.far, h.heap.stop h1 h2, h.pile, h.alt⟩

set_option maxHeartbeats 4000000 in
theorem down_any (w0 w : World) (P g lo n : Nat) (l : List (List Nat)) (h : Pile w0 P g w l) (hn : n ≤ l.length) (hl : l.length ≤ 1000000) (hlo : lo ≤ n) (hx : HpX lo n lo l) :
    Calls Try.prog 28 #[pil P, .int .i64 lo, .int .i64 n] w fun e w' => DownE w0 P g lo n l w e w' := by
  have HS : Hid (Down w0 P g lo n l w lo w l) := hide ⟨h, List.Perm.refl _, fun _ _ => rfl, hx, Alt.refl _ _ _⟩
  clear h hx
  go_enter Try.func28, Try.ntmps28
  go_wp2
  go_loopw [7] (fun i wr => ∃ k l1, i = .int .i64 (k : Nat) ∧ lo ≤ k ∧ k ≤ n ∧ Hid (Down w0 P g lo n l w k wr l1)) (fun i _ => n - (intOf i).toNat)
  case atStart => exact ⟨lo, l, rfl, Nat.le_refl _, hlo, HS⟩
  case round =>
    clear HS
    obtain ⟨k, l1, rfl, hk, hkn, HD⟩ := hrel
    have hlen : Hid (l1.length = l.length) := hide HD.out.perm.length_eq
    obtain ⟨p, HP⟩ : ∃ p, Hid (p = 2 * k + 1) := ⟨_, hide rfl⟩
    have hpi : 2 * (k : Int) + 1 = (p : Int) := by have := HP.out; omega
    have hp0 : ¬ (p : Int) < 0 := by omega
    have hpb : p ≤ 2000001 := by have := HP.out; omega
    by_cases hpn : p < n
    · have hp1 : p < l1.length := by rw [hlen.out]; omega
      have hk1 : k < l1.length := by have := HP.out; omega
      have hkp : k < p := by have := HP.out; omega
      have hn1 : n ≤ l1.length := by rw [hlen.out]; exact hn
      have gi : ¬ (n : Int) ≤ (p : Int) := by omega
      have gn : ¬ n ≤ p := by omega
      obtain ⟨q, HQ⟩ : ∃ q, Hid (q = p + 1) := ⟨_, hide rfl⟩
      have hqi : (p : Int) + 1 = (q : Int) := by have := HQ.out; omega
      by_cases hqn : q < n
      · have hq1 : q < l1.length := by rw [hlen.out]; omega
        have hkq : k < q := by have := HQ.out; omega
        obtain ⟨cap, cur, c0, _, _, _, _, _⟩ := HD.out.pile.form (by omega)
        have hm : (method 168 36 (.pointer (some ⟨P, 0, none⟩)) "Less").run Try.prog wr = _ := method_less 167 P wr _ c0
        have hcall := pless_any w0 wr P g l1 cap q p HD.out.pile hq1 hp1
        cases hd : lessL (tx l1 q) (tx l1 p) with
        | true =>
          rw [hd] at hcall
          have HL := hide hd
          clear hd
          go_wp2_with fail
          refine hcall.mono ?_
          rintro e w1 ⟨rfl, hdr⟩
          replace HD := hide (HD.out.drew hdr)
          clear hm hcall c0 hdr
          obtain ⟨cap, cur, c0, _, _, _, _, _⟩ := HD.out.pile.form (by omega)
          have hm : (method 168 36 (.pointer (some ⟨P, 0, none⟩)) "Less").run Try.prog w1 = _ := method_less 167 P w1 _ c0
          have hcall := pless_any w0 w1 P g l1 cap q k HD.out.pile hq1 hk1
          cases hd : lessL (tx l1 q) (tx l1 k) with
          | false =>
            rw [hd] at hcall
            have HE := hide hd
            clear hd
            go_wp2_with fail
            refine hcall.mono ?_
            rintro e w2 ⟨rfl, hdr⟩
            replace HD := hide (HD.out.drew hdr)
            clear hm hcall c0 hdr
            go_wp2
            go_ret
            exact HD.out.done (fun _ => by rw [← HP.out]; exact nless_trans HE.out (less_asymm _ _ HL.out)) (fun _ => by rw [show 2 * k + 2 = q from by have := HP.out; have := HQ.out; omega]; exact HE.out) _
          | true =>
            rw [hd] at hcall
            have HE := hide hd
            clear hd
            go_wp2_with fail
            refine hcall.mono ?_
            rintro e w2 ⟨rfl, hdr⟩
            replace HD := hide (HD.out.drew hdr)
            clear hm hcall c0 hdr
            obtain ⟨cap, cur, c0, _, _, _, _, _⟩ := HD.out.pile.form (by omega)
            have hm : (method 168 36 (.pointer (some ⟨P, 0, none⟩)) "Swap").run Try.prog w2 = _ := method_swap 167 P w2 _ c0
            have hcall := pswap_any w0 w2 P g l1 cap k q HD.out.pile hk1 hq1
            go_wp2_with fail
            refine hcall.mono ?_
            rintro e w3 ⟨rfl, hp3, ha3⟩
            have HD3 := hide (HD.out.step hn1 hk (by have := HP.out; have := HQ.out; omega) hqn HE.out (fun x hx hne _ => by rw [show x = p from by have := HP.out; have := HQ.out; omega]; exact less_asymm _ _ HL.out) hp3 ha3)
            clear hm hcall c0 hp3 ha3
            go_wp2
            go_roundw
            case rel => exact ⟨q, _, rfl, by omega, by omega, HD3⟩
            case measure => simp [intOf]; omega
        | false =>
          rw [hd] at hcall
          have HL := hide hd
          clear hd
          go_wp2_with fail
          refine hcall.mono ?_
          rintro e w1 ⟨rfl, hdr⟩
          replace HD := hide (HD.out.drew hdr)
          clear hm hcall c0 hdr
          obtain ⟨cap, cur, c0, _, _, _, _, _⟩ := HD.out.pile.form (by omega)
          have hm : (method 168 36 (.pointer (some ⟨P, 0, none⟩)) "Less").run Try.prog w1 = _ := method_less 167 P w1 _ c0
          have hcall := pless_any w0 w1 P g l1 cap p k HD.out.pile hp1 hk1
          cases hd : lessL (tx l1 p) (tx l1 k) with
          | false =>
            rw [hd] at hcall
            have HE := hide hd
            clear hd
            go_wp2_with fail
            refine hcall.mono ?_
            rintro e w2 ⟨rfl, hdr⟩
            replace HD := hide (HD.out.drew hdr)
            clear hm hcall c0 hdr
            go_wp2
            go_ret
            exact HD.out.done (fun _ => by rw [← HP.out]; exact HE.out) (fun _ => by rw [show 2 * k + 2 = q from by have := HP.out; have := HQ.out; omega]; exact nless_trans HE.out HL.out) _
          | true =>
            rw [hd] at hcall
            have HE := hide hd
            clear hd
            go_wp2_with fail
            refine hcall.mono ?_
            rintro e w2 ⟨rfl, hdr⟩
            replace HD := hide (HD.out.drew hdr)
            clear hm hcall c0 hdr
            obtain ⟨cap, cur, c0, _, _, _, _, _⟩ := HD.out.pile.form (by omega)
            have hm : (method 168 36 (.pointer (some ⟨P, 0, none⟩)) "Swap").run Try.prog w2 = _ := method_swap 167 P w2 _ c0
            have hcall := pswap_any w0 w2 P g l1 cap k p HD.out.pile hk1 hp1
            go_wp2_with fail
            refine hcall.mono ?_
            rintro e w3 ⟨rfl, hp3, ha3⟩
            have HD3 := hide (HD.out.step hn1 hk (by have := HP.out; have := HQ.out; omega) hpn HE.out (fun x hx hne _ => by rw [show x = q from by have := HP.out; have := HQ.out; omega]; exact HL.out) hp3 ha3)
            clear hm hcall c0 hp3 ha3
            go_wp2
            go_roundw
            case rel => exact ⟨p, _, rfl, by omega, by omega, HD3⟩
            case measure => simp [intOf]; omega
      · have HL : Hid (lessL (tx l1 q) (tx l1 p) = false ∨ ¬ q < n) := hide (.inr hqn)
        obtain ⟨cap, cur, c0, _, _, _, _, _⟩ := HD.out.pile.form (by omega)
        have hm : (method 168 36 (.pointer (some ⟨P, 0, none⟩)) "Less").run Try.prog wr = _ := method_less 167 P wr _ c0
        have hcall := pless_any w0 wr P g l1 cap p k HD.out.pile hp1 hk1
        cases hd : lessL (tx l1 p) (tx l1 k) with
        | false =>
          rw [hd] at hcall
          have HE := hide hd
          clear hd
          go_wp2_with fail
          refine hcall.mono ?_
          rintro e w2 ⟨rfl, hdr⟩
          replace HD := hide (HD.out.drew hdr)
          clear hm hcall c0 hdr
          go_wp2
          go_ret
          exact HD.out.done (fun _ => by rw [← HP.out]; exact HE.out) (fun hh => absurd hh (by have := HP.out; have := HQ.out; omega)) _
        | true =>
          rw [hd] at hcall
          have HE := hide hd
          clear hd
          go_wp2_with fail
          refine hcall.mono ?_
          rintro e w2 ⟨rfl, hdr⟩
          replace HD := hide (HD.out.drew hdr)
          clear hm hcall c0 hdr
          obtain ⟨cap, cur, c0, _, _, _, _, _⟩ := HD.out.pile.form (by omega)
          have hm : (method 168 36 (.pointer (some ⟨P, 0, none⟩)) "Swap").run Try.prog w2 = _ := method_swap 167 P w2 _ c0
          have hcall := pswap_any w0 w2 P g l1 cap k p HD.out.pile hk1 hp1
          go_wp2_with fail
          refine hcall.mono ?_
          rintro e w3 ⟨rfl, hp3, ha3⟩
          have HD3 := hide (HD.out.step hn1 hk (by have := HP.out; have := HQ.out; omega) hpn HE.out (fun x hx hne hxn => absurd hxn (by have := HP.out; have := HQ.out; omega)) hp3 ha3)
          clear hm hcall c0 hp3 ha3
          go_wp2
          go_roundw
          case rel => exact ⟨p, _, rfl, by omega, by omega, HD3⟩
          case measure => simp [intOf]; omega
    · have gi : (n : Int) ≤ (p : Int) := by omega
      have gn : n ≤ p := by omega
      go_wp2
      go_ret
      exact HD.out.done (fun hh => absurd hh (by have := HP.out; omega)) (fun hh => absurd hh (by have := HP.out; omega)) _
end Go.Proofs.Ytcddoognlhpaaaa
