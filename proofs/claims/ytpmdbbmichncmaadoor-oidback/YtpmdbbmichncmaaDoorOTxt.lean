/- Contract of apostilleref02.Text. -/
import Derived.Test.YtpmdbbmichncmaaDoorODig
namespace Go.Proofs.YtpmdbbmichncmaaDoor
open Go.RowKit
set_option linter.unusedVariables false

/-- the first number and so many more, in digits, a point between -/
def joinTo (l : List Nat) (k : Nat) : List UInt8 := dg (el l 0) ++ ((l.drop 1).take k).flatMap (fun x => ch 46 :: dg x)
/-- an identifier as a text -/
def textS (l : List Nat) : List UInt8 := if fitB l = true then joinTo l (l.length - 1) else []

theorem joinTo_zero (l : List Nat) : joinTo l 0 = dg (el l 0) := by simp [joinTo]
theorem joinTo_succ {l : List Nat} {k : Nat} (h : k + 1 < l.length) : joinTo l (k + 1) = joinTo l k ++ ch 46 :: dg (el l (k + 1)) := by
  unfold joinTo
  rw [take_el (by simp; omega), List.flatMap_append, List.append_assoc, el_drop, Nat.add_comm 1 k]
  simp
theorem dg_len10 {n : Nat} (h : n < 4294967296) : (dg n).length ≤ 10 := dg_len n 9 (by omega)
theorem joinTo_len {l : List Nat} (hu : Under 4294967296 l) (k : Nat) (hk : k < l.length) : (joinTo l k).length ≤ 11 * (k + 1) := by
  induction k with
  | zero => rw [joinTo_zero]; have := dg_len10 (el_lt hu (by decide) 0); omega
  | succ k ih =>
    rw [joinTo_succ hk, List.length_append, List.length_cons]
    have := ih (by omega)
    have := dg_len10 (el_lt hu (by decide) (k + 1))
    omega
theorem text_none {l : List Nat} (h : fitB l = false) : textS l = [] := by unfold textS; rw [h]; rfl
theorem text_some {l : List Nat} (h : fitB l = true) : textS l = joinTo l (l.length - 1) := by unfold textS; rw [h]; rfl

theorem str_point (T D : List UInt8) : (⟨T.toArray⟩ ++ ⟨#[46]⟩ ++ ⟨D.toArray⟩ : ByteArray) = ⟨(T ++ ch 46 :: D).toArray⟩ := by
  have e : (⟨#[46]⟩ : ByteArray) = ⟨[ch 46].toArray⟩ := rfl
  rw [e, str_app, str_app]
  simp

set_option maxRecDepth 100000 in
set_option maxHeartbeats 2000000 in
theorem rtext_any (v : Value) (l : List Nat) (w : World) (h : Row .u32 4294967296 w v l) :
    Calls Tryd.prog 19 #[v] w fun e w' => e = .returned (str (textS l)) ∧ Below w.heap.size w w' := by
  have h' := h
  obtain ⟨a, cap, rfl, h1, h2, h3, h4⟩ := h
  unfold maxLen at h2
  have hc := rfit_any _ l w h'
  cases hf : fitB l with
  | false =>
    rw [text_none hf]
    rw [hf] at hc
    clear h3
    go_enter Tryd.func19, Tryd.ntmps19
    go_wp2_with (first | (go_at_call 11; refine hc.mono ?_; rintro e w1 ⟨rfl, rfl⟩) | fail)
    go_ret
    exact ⟨rfl, Below.refl _ _⟩
  | true =>
    have HT := hide (text_some hf)
    rw [hf] at hc
    have hl2 : 2 ≤ l.length := by unfold fitB at hf; have := of_decide_eq_true hf; omega
    have hl20 : l.length ≤ 20 := by unfold fitB at hf; have := of_decide_eq_true hf; omega
    obtain ⟨b, off, rfl, hcell⟩ := h3 (by omega)
    have c0 : w.cell? ⟨b, off, none⟩ = some (.int .u32 (el l 0)) := hcell 0 (by omega)
    have x0 := el_lt h4 (by decide) 0
    have i0 : (0 : Int) < (l.length : Int) := by omega
    clear h3 hcell
    go_enter Tryd.func19, Tryd.ntmps19
    go_wp2_with (first
      | (go_at_call 11; refine hc.mono ?_; rintro e w1 ⟨rfl, rfl⟩)
      | (go_at_call 30; refine (rdigits_any _ _ (by omega)).mono ?_; rintro e w2 ⟨rfl, hb2⟩)
      | fail)
    rw [← joinTo_zero] 
    go_loopw [3, 4] (fun s i wr => ∃ k kk : Nat, Hid (k + 1 = kk) ∧ kk ≤ l.length ∧ i = .int .i64 kk ∧ s = str (joinTo l k) ∧ Below w1.heap.size w1 wr) (fun _ i _ => l.length - (intOf i).toNat)
    case atStart => exact ⟨0, 1, hide rfl, by omega, rfl, rfl, hb2⟩
    case round =>
      obtain ⟨k, kk, HK, hk, rfl, rfl, hbr⟩ := hrel
      have hjl : (joinTo l k).length ≤ 220 := by have := joinTo_len h4 k (by have := HK.out; omega); have := HK.out; omega
      by_cases hlt : kk < l.length
      · obtain ⟨_, _, hee, _, _, hcc, _⟩ := h'.below hbr
        simp only [Value.slice.injEq, true_and] at hee
        obtain ⟨rfl, rfl⟩ := hee
        obtain ⟨_, _, hab, hcell⟩ := hcc (by omega)
        simp only [Option.some.injEq, Addr.mk.injEq, and_true] at hab
        obtain ⟨rfl, rfl⟩ := hab
        have ck : wr.cell? ⟨b, off + kk, none⟩ = some (.int .u32 (el l kk)) := hcell kk hlt
        clear hcell hcc
        have hx := el_lt h4 (by decide) kk
        have hdl := dg_len10 hx
        have HJ : Hid (joinTo l (k + 1) = joinTo l k ++ ch 46 :: dg (el l kk)) := hide (by rw [joinTo_succ (by have := HK.out; omega), HK.out])
        generalize joinTo l k = T at *
        go_wp2_with (first
          | (go_at_call 30; refine (rdigits_any _ _ (by omega)).mono ?_; rintro e w5 ⟨rfl, hb5⟩)
          | fail)
        exact ⟨⟨k + 1, kk + 1, hide (by have := HK.out; omega), by omega, by simp, by rw [HJ.out, str_point], keep_trans hbr hb5⟩, by simp [intOf]; omega⟩
      · have hkk : k = l.length - 1 := by have := HK.out; omega
        have HKK := hide hkk
        clear hkk
        go_wp2
        go_ret
        exact ⟨by rw [HT.out, HKK.out]; rfl, hbr⟩
end Go.Proofs.YtpmdbbmichncmaaDoor
