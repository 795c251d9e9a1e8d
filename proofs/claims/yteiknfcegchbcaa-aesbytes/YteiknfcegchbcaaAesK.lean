/- The round keys: plain. -/
import Derived.Test.YteiknfcegchbcaaAesS
namespace Go.Proofs.Yteiknfcegchbcaa
set_option linter.unusedVariables false
set_option linter.unusedSimpArgs false

/-- the four bytes that come before -/
def k4 (i : Nat) (w : List Nat) : List Nat := [el w (4 * i - 4), el w (4 * i - 3), el w (4 * i - 2), el w (4 * i - 1)]
/-- turned, and boxed, and one of them changed -/
def kR (c : Nat) (t : List Nat) : List Nat := [boxB (el t 1) ^^^ c, boxB (el t 2), boxB (el t 3), boxB (el t 0)]
def kS (t : List Nat) : List Nat := [boxB (el t 0), boxB (el t 1), boxB (el t 2), boxB (el t 3)]
def kT (k i c : Nat) (t : List Nat) : List Nat := if i % k = 0 then kR c t else if k = 8 ∧ i % 8 = 4 then kS t else t
def kC (k i c : Nat) : Nat := if i % k = 0 then mulB c 2 else c
/-- j of the four bytes of word m + k -/
def kQ (m : Nat) (w t : List Nat) : Nat → List Nat
  | 0 => w
  | j + 1 => kQ m w t j ++ [el w (4 * m + j) ^^^ el t j]
def kX (k : Nat) (key : List Nat) : Nat → List Nat × Nat
  | 0 => (key, 1)
  | m + 1 => (kQ m (kX k key m).1 (kT k (k + m) (kX k key m).2 (k4 (k + m) (kX k key m).1)) 4, kC k (k + m) (kX k key m).2)
/-- all of them: of k words there come 4 * (k + 7) -/
def keysL (key : List Nat) : List Nat := (kX (key.length / 4) key (3 * (key.length / 4) + 28)).1

theorem k4_under {i : Nat} {w : List Nat} (hw : Under 256 w) : Under 256 (k4 i w) := by
  intro x hx
  simp only [k4, List.mem_cons, List.not_mem_nil, or_false] at hx
  rcases hx with rfl | rfl | rfl | rfl <;> exact el_lt hw (by decide) _
theorem kR_under {c : Nat} {t : List Nat} (hc : c < 256) (ht : Under 256 t) : Under 256 (kR c t) := by
  intro x hx
  have he := fun i => el_lt ht (by decide) i
  simp only [kR, List.mem_cons, List.not_mem_nil, or_false] at hx
  rcases hx with rfl | rfl | rfl | rfl
  · exact xor_8 (boxB_lt (he _)) hc
  all_goals exact boxB_lt (he _)
theorem kS_under {t : List Nat} (ht : Under 256 t) : Under 256 (kS t) := by
  intro x hx
  have he := fun i => el_lt ht (by decide) i
  simp only [kS, List.mem_cons, List.not_mem_nil, or_false] at hx
  rcases hx with rfl | rfl | rfl | rfl <;> exact boxB_lt (he _)
theorem kT_under {k i c : Nat} {t : List Nat} (hc : c < 256) (ht : Under 256 t) : Under 256 (kT k i c t) := by
  unfold kT
  split
  · exact kR_under hc ht
  · split
    · exact kS_under ht
    · exact ht
theorem kT_len {k i c : Nat} {t : List Nat} (ht : t.length = 4) : (kT k i c t).length = 4 := by
  unfold kT
  split
  · rfl
  · split
    · rfl
    · exact ht
theorem kC_lt {k i c : Nat} (hc : c < 256) : kC k i c < 256 := by
  unfold kC
  split
  · exact mulB_lt hc
  · exact hc
theorem kQ_under {m : Nat} {w t : List Nat} (hw : Under 256 w) (ht : Under 256 t) : ∀ j, Under 256 (kQ m w t j)
  | 0 => hw
  | j + 1 => by
    intro x hx
    simp only [kQ, List.mem_append, List.mem_cons, List.not_mem_nil, or_false] at hx
    rcases hx with h | rfl
    · exact kQ_under hw ht j x h
    · exact xor_8 (el_lt hw (by decide) _) (el_lt ht (by decide) _)
theorem kQ_len {m : Nat} {w t : List Nat} : ∀ j, (kQ m w t j).length = w.length + j
  | 0 => rfl
  | j + 1 => by simp only [kQ, List.length_append, kQ_len j, List.length_cons, List.length_nil]; omega
theorem kQ_el {m : Nat} {w t : List Nat} : ∀ (j : Nat) {i : Nat}, i < w.length → el (kQ m w t j) i = el w i
  | 0, i, _ => rfl
  | j + 1, i, h => by
    have hl : i < (kQ m w t j).length := by rw [kQ_len]; omega
    rw [← kQ_el j h]
    simp only [kQ]
    rw [el_at (by rw [List.length_append]; omega), el_at hl, List.getElem_append_left hl]
theorem kX_lt {k : Nat} {key : List Nat} : ∀ m, (kX k key m).2 < 256
  | 0 => by show 1 < 256; decide
  | m + 1 => kC_lt (kX_lt m)
theorem kX_under {k : Nat} {key : List Nat} (hk : Under 256 key) : ∀ m, Under 256 (kX k key m).1
  | 0 => hk
  | m + 1 => kQ_under (kX_under hk m) (kT_under (kX_lt m) (k4_under (kX_under hk m))) 4
theorem kX_len {k : Nat} {key : List Nat} (hk : key.length = 4 * k) : ∀ m, (kX k key m).1.length = 4 * (k + m)
  | 0 => hk
  | m + 1 => by
    show (kQ m _ _ 4).length = _
    rw [kQ_len, kX_len hk m]
    omega
theorem keysL_len {key : List Nat} {k : Nat} (h : key.length = 4 * k) : (keysL key).length = 16 * (k + 6 + 1) := by
  have : key.length / 4 = k := by omega
  unfold keysL
  rw [this, kX_len h]
  omega
theorem keysL_under {key : List Nat} (h : Under 256 key) : Under 256 (keysL key) := kX_under h _
end Go.Proofs.Yteiknfcegchbcaa
