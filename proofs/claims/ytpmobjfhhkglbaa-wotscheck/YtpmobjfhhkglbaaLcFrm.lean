/- How ids of 16 bytes, and digests and seeds of 32, that came in are read. -/
import Derived.Test.YtpmobjfhhkglbaaFrame
import Derived.Test.YtpmobjfhhkglbaaTex
import Derived.Deep.Slices
import Derived.Test.YtpmobjfhhkglbaaHKit
import Derived.Test.YtpmobjfhhkglbaaPApp
import Derived.Test.YtpmobjfhhkglbaaPgF
namespace Go.Proofs.Ytpmobjfhhkglbaa
open Go.ChangeShapes Go.WideShapes Go.ChangeAt Go.RowKit Go.Deep
set_option linter.unusedVariables false
set_option linter.unusedSimpArgs false

theorem Try.cellsU8 : Try.prog.cellsOf 5 = 1 := by kernel_rfl
theorem Try.cellsB32 : Try.prog.cellsOf 22 = 32 := by kernel_rfl
theorem okWide_array {P : Program} {w : World} {r : Reach} {base : Nat} {t e : TypeId} {n : Nat} {v : Value} (ht : P.underlying t = some (.array n e)) (h : Value.okWide P w r base t v) : ∃ cs, v = .agg cs ∧ cs.size = P.cellsOf t := by
  simp only [Value.okWide, ht] at h
  obtain ⟨cs, h1, h2, _⟩ := h
  exact ⟨cs, h1, h2⟩
/-- 32 bytes, as they came in -/
structure HBIs (cs : Array Value) (bk : List Nat) : Prop where
  is : cs = arr .u8 bk
  len : bk.length = 32
  und : Under 256 bk
theorem read_u8 {H : Type} {enc : TypeId × Value → H} {W : World} {fuel : Nat} {v : Value} {x : DataW H × List MemPlace}
    (h : DataW.trod enc Try.prog W 0 (fun _ => true) true fuel 5 [v] = some x) : ∃ n : Nat, v = .int .u8 (n : Int) ∧ n < 256 := by
  obtain ⟨t, e0, _, hw⟩ := DataW.trod_int Try.underlying5 h
  have hb := wf_u8 t hw
  simp at e0
  exact ⟨t.toNat, by rw [e0, Int.toNat_of_nonneg hb.1], by omega⟩
theorem bytes_inQ : ∀ l : List Value, (∀ i, i < l.length → ∃ n : Nat, l[i]? = some (.int .u8 (n : Int)) ∧ n < 256) → ∃ ws : List Nat, ws.length = l.length ∧ Under 256 ws ∧ l = vals .u8 ws
  | [], _ => ⟨[], rfl, fun x hx => by simp at hx, rfl⟩
  | v :: l, h => by
    obtain ⟨ws, h1, h2, h3⟩ := bytes_inQ l (fun i hi => by
      have := h (i + 1) (by simp; omega)
      simpa using this)
    obtain ⟨n, hn, hb⟩ := h 0 (by simp)
    have hv : v = .int .u8 (n : Int) := by simpa using hn
    refine ⟨n :: ws, by simp [h1], fun x hx => ?_, by rw [hv, h3]; rfl⟩
    rcases List.mem_cons.1 hx with rfl | hx
    · exact hb
    · exact h2 x hx
theorem read_halves {H : Type} {enc : TypeId × Value → H} {W : World} {fuel : Nat} {cs : Array Value} {x : DataW H × List MemPlace}
    (h : DataW.trod enc Try.prog W 0 (fun _ => true) true fuel 22 cs.toList = some x) : ∃ bk, HBIs cs bk := by
  obtain ⟨l⟩ := cs
  obtain ⟨zs, m, _, _, hcl, hzl, hz⟩ := DataW.trod_array Try.underlying22 h
  rw [Try.cellsB32] at hcl
  have hcl : l.length = 32 := hcl
  obtain ⟨ws, h1, h2, h3⟩ := bytes_inQ l (fun i hi => by
    have hi' : i < 32 := by omega
    have := hz i hi'
    rw [Try.cellsU8, Nat.mul_one] at this
    have hd : (l.drop i).take 1 = [l[i]] := by
      rw [List.drop_eq_getElem_cons hi]; rfl
    change DataW.trod enc Try.prog W 0 (fun _ => true) true m 5 ((l.drop i).take 1) = _ at this
    rw [hd, List.getElem?_eq_getElem (by omega)] at this
    obtain ⟨n, hn, hb⟩ := read_u8 this
    exact ⟨n, by rw [List.getElem?_eq_getElem hi, hn], hb⟩)
  exact ⟨ws, by unfold arr; rw [← h3], by omega, h2⟩
/-- an array's bytes, boxed, are a text -/
theorem row_boxL {w : World} {g : Nat} {bk : List Nat} {t : TypeId} (hb : w.heap[g]? = some (.cells (arr .u8 bk) t (0, 0))) (hu : Under 256 bk) (hl : bk.length ≤ 1000) : Row .u8 256 w (.slice (some ⟨g, 0, none⟩) bk.length bk.length) bk :=
  ⟨_, bk.length, rfl, Nat.le_refl _, by unfold maxLen; omega, fun _ => ⟨g, 0, rfl, fun i hi => by
    have hL : Lies .u8 t w g bk := hb
    rw [Nat.zero_add]
    exact hL.cell hi⟩, hu⟩
section
variable {ops : Array Oper} {S : World → Prop}
end
end Go.Proofs.Ytpmobjfhhkglbaa
