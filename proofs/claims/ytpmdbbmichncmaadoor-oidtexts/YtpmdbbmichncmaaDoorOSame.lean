/- Contracts of apostilleref02.Same, slices.Equal over identifiers, oid.Same, bytes.Equal. -/
import Derived.Test.YtpmdbbmichncmaaDoorOByt
import Derived.Test.YtpmdbbmichncmaaDoorShelf
namespace Go.Proofs.YtpmdbbmichncmaaDoor
open Go.RowKit
set_option linter.unusedVariables false

set_option maxHeartbeats 400000 in
theorem rosame_any (va vb : Value) (l m : List Nat) (w : World) (ha : Row .u32 4294967296 w va l) (hb : Row .u32 4294967296 w vb m) :
    Calls Tryd.prog 15 #[va, vb] w fun e w' => e = .returned (.bool (decide (l = m))) ∧ ∃ n, w' = w.drewN n := by
  obtain ⟨a, ca, rfl, ha1, ha2, ha3, ha4⟩ := ha
  obtain ⟨b, cb, rfl, hb1, hb2, hb3, hb4⟩ := hb
  unfold maxLen at ha2 hb2
  by_cases hlen : l.length = m.length
  · have hne : ((l.length : Int) != (m.length : Int)) = false := by simp [hlen]
    have H : Hid (l.length = m.length) := hlen
    have hle1 : l.length ≤ m.length := by omega
    have hle2 : m.length ≤ l.length := by omega
    clear hlen
    go_enter Tryd.func15, Tryd.ntmps15
    go_wp2
    go_loopw [5] (fun i wr => ∃ k n : Nat, k ≤ l.length ∧ i = .int .i64 k ∧ wr = w.drewN n ∧ ∀ j, j < k → el l j = el m j) (fun i _ => l.length - (intOf i).toNat)
    case atStart => exact ⟨0, 0, Nat.zero_le _, rfl, rfl, fun j hj => by omega⟩
    case round =>
      obtain ⟨k, n, hk, rfl, rfl, hall⟩ := hrel
      have HA : Hid (∀ j, j < k → el l j = el m j) := hall
      clear hall
      by_cases hlt : k < l.length
      · obtain ⟨ba, oa, rfl, hca⟩ := ha3 (by omega)
        obtain ⟨bb, ob, rfl, hcb⟩ := hb3 (by omega)
        have c1 := hca k hlt
        have c2 := hcb k (by omega)
        clear hca hcb
        have hlt2 : k < m.length := by omega
        by_cases he : el l k = el m k
        · have hd : ((el l k : Int) != (el m k : Int)) = false := by simp [he]
          have HE : Hid (el l k = el m k) := he
          clear he
          go_wp2
          go_quiet (fail)
          go_wp2
          go_roundw
          case rel => exact ⟨k + 1, _, by omega, by go_num, rfl, fun j hj => by
            by_cases hjk : j = k
            · subst hjk; exact HE.out
            · exact HA.out j (by omega)⟩
          case measure => simp [intOf]; omega
        · have hd : ((el l k : Int) != (el m k : Int)) = true := by simp; omega
          go_wp2
          go_quiet (fail)
          go_wp2
          go_ret
          exact ⟨ret_bool (by symm; simp; intro h; exact he (by rw [h])), _, World.drewN_drewN _ _ _⟩
      · go_wp2
        go_ret
        exact ⟨ret_bool (by symm; simp; exact el_ext H.out (fun i hi => HA.out i (by omega))), _, rfl⟩
  · have hne : ((l.length : Int) != (m.length : Int)) = true := by simp; omega
    have hd : decide (l = m) = false := by simp; intro h; exact hlen (by rw [h])
    go_enter Tryd.func15, Tryd.ntmps15
    go_wp2
    go_ret
    exact ⟨ret_bool hd.symm, 0, rfl⟩
set_option maxHeartbeats 400000 in
theorem slEq_any (va vb : Value) (l m : List Nat) (w : World) (ha : Row .u32 4294967296 w va l) (hb : Row .u32 4294967296 w vb m) :
    Calls Tryd.prog 31 #[va, vb] w fun e w' => e = .returned (.bool (decide (l = m))) ∧ ∃ n, w' = w.drewN n := by
  obtain ⟨a, ca, rfl, ha1, ha2, ha3, ha4⟩ := ha
  obtain ⟨b, cb, rfl, hb1, hb2, hb3, hb4⟩ := hb
  unfold maxLen at ha2 hb2
  by_cases hlen : l.length = m.length
  · have hne : ((l.length : Int) != (m.length : Int)) = false := by simp [hlen]
    have H : Hid (l.length = m.length) := hlen
    have hle1 : l.length ≤ m.length := by omega
    have hle2 : m.length ≤ l.length := by omega
    clear hlen
    go_enter Tryd.func31, Tryd.ntmps31
    go_wp2
    go_loopw [13] (fun i wr => ∃ k n : Nat, k ≤ l.length ∧ i = .int .i64 k ∧ wr = w.drewN n ∧ ∀ j, j < k → el l j = el m j) (fun i _ => l.length - (intOf i).toNat)
    case atStart => exact ⟨0, 0, Nat.zero_le _, rfl, rfl, fun j hj => by omega⟩
    case round =>
      obtain ⟨k, n, hk, rfl, rfl, hall⟩ := hrel
      have HA : Hid (∀ j, j < k → el l j = el m j) := hall
      clear hall
      by_cases hlt : k < l.length
      · obtain ⟨ba, oa, rfl, hca⟩ := ha3 (by omega)
        obtain ⟨bb, ob, rfl, hcb⟩ := hb3 (by omega)
        have c1 := hca k hlt
        have c2 := hcb k (by omega)
        clear hca hcb
        have hlt2 : k < m.length := by omega
        by_cases he : el l k = el m k
        · have hd : ((el l k : Int) != (el m k : Int)) = false := by simp [he]
          have HE : Hid (el l k = el m k) := he
          clear he
          go_wp2
          go_quiet (fail)
          go_wp2
          go_roundw
          case rel => exact ⟨k + 1, _, by omega, by go_num, rfl, fun j hj => by
            by_cases hjk : j = k
            · subst hjk; exact HE.out
            · exact HA.out j (by omega)⟩
          case measure => simp [intOf]; omega
        · have hd : ((el l k : Int) != (el m k : Int)) = true := by simp; omega
          go_wp2
          go_quiet (fail)
          go_wp2
          go_ret
          exact ⟨ret_bool (by symm; simp; intro h; exact he (by rw [h])), _, World.drewN_drewN _ _ _⟩
      · go_wp2
        go_ret
        exact ⟨ret_bool (by symm; simp; exact el_ext H.out (fun i hi => HA.out i (by omega))), _, rfl⟩
  · have hne : ((l.length : Int) != (m.length : Int)) = true := by simp; omega
    have hd : decide (l = m) = false := by simp; intro h; exact hlen (by rw [h])
    go_enter Tryd.func31, Tryd.ntmps31
    go_wp2
    go_ret
    exact ⟨ret_bool hd.symm, 0, rfl⟩

theorem osame_any (va vb : Value) (l m : List Nat) (w : World) (ha : Row .u32 4294967296 w va l) (hb : Row .u32 4294967296 w vb m) :
    Calls Tryd.prog 20 #[va, vb] w fun e w' => e = .returned (.bool (decide (l = m))) ∧ Below w.heap.size w w' := by
  go_enter Tryd.func20, Tryd.ntmps20
  go_wp2_with fail
  refine (slEq_any va vb l m w ha hb).mono ?_
  rintro e w1 ⟨rfl, n, rfl⟩
  go_wp2
  go_ret
  exact ⟨rfl, below_drewN (Below.refl _ _) n⟩

theorem rosame_b (va vb : Value) (l m : List Nat) (w : World) (ha : Row .u32 4294967296 w va l) (hb : Row .u32 4294967296 w vb m) :
    Calls Tryd.prog 15 #[va, vb] w fun e w' => e = .returned (.bool (decide (l = m))) ∧ Below w.heap.size w w' :=
  (rosame_any va vb l m w ha hb).mono fun _ _ ⟨he, n, hw⟩ => ⟨he, by rw [hw]; exact below_drewN (Below.refl _ _) n⟩

/-- numbers as the library's lists have them -/
def ints (l : List Nat) : List Int := l.map (fun (x : Nat) => (x : Int))
theorem ints_length (l : List Nat) : (ints l).length = l.length := by simp [ints]
theorem Row.bytesIn {w : World} {a : Option Addr} {n cap : Nat} {l : List Nat} (h : Row .u8 256 w (.slice a n cap) l) : Lib.BytesIn w a n (ints l) := by
  obtain ⟨a', cap', he, h1, h2, h3, h4⟩ := h
  simp only [Value.slice.injEq] at he
  obtain ⟨rfl, rfl, rfl⟩ := he
  intro hn
  obtain ⟨b, off, rfl, hc⟩ := h3 hn
  refine ⟨b, off, rfl, fun i hi => ?_⟩
  rw [hc i hi, el_at hi]
  simp [ints, List.getD, hi]

theorem ints_eq {l m : List Nat} (hl : Under 256 l) (hm : Under 256 m) : (Lib.bytesOf (ints l) == Lib.bytesOf (ints m)) = decide (l = m) := by
  have key : ∀ l m : List Nat, Under 256 l → Under 256 m → Lib.bytesOf (ints l) = Lib.bytesOf (ints m) → l = m := by
    intro l
    induction l with
    | nil => intro m _ _ h; cases m with
      | nil => rfl
      | cons x r => simp [Lib.bytesOf, ints] at h
    | cons x r ih =>
      intro m hl hm h
      cases m with
      | nil => simp [Lib.bytesOf, ints] at h
      | cons y s =>
        simp only [Lib.bytesOf, ints, List.map_cons, List.cons.injEq, Int.toNat_natCast] at h
        obtain ⟨h1, h2⟩ := h
        have hx := hl x (by simp)
        have hy := hm y (by simp)
        have h3 := congrArg UInt8.toNat h1
        simp only [UInt8.toNat_ofNat'] at h3
        have : x = y := by omega
        subst this
        rw [ih s (fun z hz => hl z (by simp [hz])) (fun z hz => hm z (by simp [hz])) h2]
  by_cases h : l = m
  · subst h; simp
  · rw [decide_eq_false h]
    apply beq_eq_false_iff_ne.2
    intro e
    exact h (key l m hl hm e)

theorem beq_any (va vb : Value) (l m : List Nat) (w : World) (ha : Row .u8 256 w va l) (hb : Row .u8 256 w vb m) :
    Calls Tryd.prog 22 #[va, vb] w fun e w' => e = .returned (.bool (decide (l = m))) ∧ w' = w := by
  have ha' := ha
  have hb' := hb
  obtain ⟨a, ca, rfl, _, _, _, ul⟩ := ha
  obtain ⟨b, cb, rfl, _, _, _, um⟩ := hb
  have h := Tryd.bytes_Equal_all a b l.length ca m.length cb (ints l) (ints m) w (ints_length l) (ints_length m) ha'.bytesIn hb'.bytesIn
  rw [ints_eq ul um] at h
  exact h
end Go.Proofs.YtpmdbbmichncmaaDoor
