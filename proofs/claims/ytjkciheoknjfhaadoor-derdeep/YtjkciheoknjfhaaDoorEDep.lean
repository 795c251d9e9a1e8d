/- Values in one another: what is read of them. -/
import Derived.Test.YtjkciheoknjfhaaDoorEFrm
namespace Go.Proofs.YtjkciheoknjfhaaDoor
open Go.RowKit Go.Deep
set_option linter.unusedVariables false

/-- a value in so many others, as bytes -/
def nst : Nat → List Nat
  | 0 => [5, 0]
  | j + 1 => 48 :: (2 + 2 * j) :: nst j
def nod : Nat → Nd
  | 0 => .mk 5 [] []
  | j + 1 => .mk 48 [] [nod j]
theorem nst_len (j : Nat) : (nst j).length = 2 + 2 * j := by
  induction j with
  | zero => rfl
  | succ j ih => rw [nst, List.length_cons, List.length_cons, ih]; omega
theorem nst_under {j : Nat} (h : j ≤ 100) : Under 256 (nst j) := by
  induction j with
  | zero => intro x hx; simp [nst] at hx; omega
  | succ j ih =>
    intro x hx
    rw [nst] at hx
    simp only [List.mem_cons] at hx
    rcases hx with rfl | rfl | hx
    · omega
    · omega
    · exact ih (by omega) x hx
theorem rd_nst {FB : Int → List Nat → Bool} (hFB : FBok FB) : ∀ (j d : Nat), j ≤ 60 → rd FB d (nst j) = if j < d then .ok (nod j, 2 + 2 * j) else .err 3
  | j, 0, _ => by
    rw [if_neg (by omega)]
    cases j <;> rw [nst, rd]
  | 0, d + 1, _ => by
    have hf : FB 5 [] = true := (hFB _ _).2 ((fitp_5 _).2 (by decide))
    have hl : lenD [0] = (0, 1) := by decide
    rw [if_pos (by omega), nst, rd, if_neg (by decide), hl]
    simp only
    rw [if_neg (by decide), if_pos (by decide), show (List.take 0 (List.drop 1 [0])) = [] from rfl, show ((5 : Nat) : Int) = 5 from rfl, hf]
    rfl
  | j + 1, d + 1, h => by
    have ih := rd_nst hFB j d (by omega)
    have hl : lenD ((2 + 2 * j) :: nst j) = (2 + 2 * j, 1) := lenD_short (by omega)
    rw [nst, rd, if_neg (by decide), hl]
    simp only
    rw [if_neg (by rw [List.length_cons, nst_len]; omega), if_neg (by decide), List.drop_one, List.tail_cons, List.take_of_length_le (by rw [nst_len]; omega)]
    by_cases hj : j < d
    · rw [if_pos hj] at ih
      rw [if_pos (by omega)]
      obtain ⟨f', _, h2⟩ := rdk_ok (g := rd FB d) (f := 2 + 2 * j) (J := nst j) (by rw [nst_len]; omega) (by rw [nst_len]; omega) ih (by omega)
      rw [h2, List.drop_eq_nil_of_le (by rw [nst_len]; omega), rdk_nil]
      show (if (48 : Nat) = 49 ∧ _ then _ else _) = _
      rw [if_neg (by omega)]
      show Res.ok (Nd.mk 48 [] [nod j], _) = _
      rw [nod, show 1 + 1 + (2 + 2 * j) = 2 + 2 * (j + 1) by omega]
    · rw [if_neg hj] at ih
      rw [if_neg (by omega), rdk_err (by rw [nst_len]; omega) (by rw [nst_len]; omega) ih]
theorem parse_nst {FB : Int → List Nat → Bool} (hFB : FBok FB) {j : Nat} (h : j ≤ 60) : parseD FB (nst j) = if j < 32 then .ok (nod j) else .err 3 := by
  unfold parseD
  rw [if_neg (by rw [nst_len]; omega), rd_nst hFB j 32 h]
  by_cases hj : j < 32
  · rw [if_pos hj, if_pos hj]
    simp only
    rw [if_neg (by rw [nst_len]; omega)]
  · rw [if_neg hj, if_neg hj]
end Go.Proofs.YtjkciheoknjfhaaDoor
