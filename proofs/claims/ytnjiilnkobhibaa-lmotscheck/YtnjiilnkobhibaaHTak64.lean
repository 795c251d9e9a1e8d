/- Contract of sha.sum.take at words of 64 bits. -/
import Derived.Test.YtnjiilnkobhibaaDig
import Derived.Test.YtnjiilnkobhibaaGWd32
import Derived.Test.YtnjiilnkobhibaaLcFrm
import Derived.Test.YtnjiilnkobhibaaHTur64
import Derived.Test.YtnjiilnkobhibaaRJoin
import Derived.Test.YtnjiilnkobhibaaFrameT
import Derived.Test.YtnjiilnkobhibaaHaM
import Derived.KernelRfl
import Derived.Test.YtnjiilnkobhibaaGEnM
import Derived.Lib.MinMax
namespace Go.Proofs.Ytnjiilnkobhibaa
open Go.RowKit
set_option linter.unusedVariables false
set_option linter.unusedSimpArgs false

end Go.Proofs.Ytnjiilnkobhibaa

/- Contract of sha.state.bytes at words of 64 bits. -/
namespace Go.Proofs.Ytnjiilnkobhibaa
open Go.RowKit
set_option linter.unusedVariables false
set_option linter.unusedSimpArgs false

end Go.Proofs.Ytnjiilnkobhibaa

/- sha.resume, of the words as a sum holds them. -/
namespace Go.Proofs.Ytnjiilnkobhibaa
open Go.RowKit
set_option linter.unusedVariables false
set_option linter.unusedSimpArgs false

theorem head_range64 {k : IntKind} {t : TypeId} {w : World} {g : Nat} {l c : List Nat} (h : Lies k t w g (l ++ c)) : w.rangeAt g 0 (vals k l) := fun j v hv => by
  have hj : j < l.length := by have := (List.getElem?_eq_some_iff.1 hv).1; rwa [vals_length] at this
  rw [Nat.zero_add, h.cell (by rw [List.length_append]; omega), el_app_left hj, ← vals_get k l j hj]; exact hv
end Go.Proofs.Ytnjiilnkobhibaa

/- Contract of sha.finish at words of 64 bits. -/
namespace Go.Proofs.Ytnjiilnkobhibaa
open Go.RowKit
set_option linter.unusedVariables false
set_option linter.unusedSimpArgs false

theorem room_le64 (n : Nat) : 8 ≤ room true n ∧ room true n ≤ 256 := by
  unfold room
  have e : bz true = 128 := rfl
  rw [e]
  split <;> omega
theorem room_mod64 (n : Nat) : room true (n % 128) = room true n := by
  unfold room
  have e : bz true = 128 := rfl
  rw [e, Nat.mod_mod]
theorem endS_is64 (ws l : List Nat) (size n : Nat) : (bytesW true (eat true (eat true ws l) (left true l ++ fill true l.length size))).take n = endS true ws l size n := by
  unfold endS
  rw [eat_parts true ws l (fill true l.length size)]
end Go.Proofs.Ytnjiilnkobhibaa

/- Which sums that go on can be: the code's, and the document's. -/
namespace Go.Proofs.Ytnjiilnkobhibaa
open Go.RowKit
set_option linter.unusedVariables false
set_option linter.unusedSimpArgs false

theorem and_tail {a b c d e f g h i j k l : Prop} (x : a ∧ b ∧ c ∧ d ∧ e ∧ f ∧ g ∧ h ∧ i ∧ j ∧ k) (y : l) : a ∧ b ∧ c ∧ d ∧ e ∧ f ∧ g ∧ h ∧ i ∧ j ∧ k ∧ l := by
  obtain ⟨a, b, c, d, e, f, g, h, i, j, k⟩ := x
  exact ⟨a, b, c, d, e, f, g, h, i, j, k, y⟩
end Go.Proofs.Ytnjiilnkobhibaa

/- sha.New of no kind. -/
namespace Go.Proofs.Ytnjiilnkobhibaa
open Go.RowKit
set_option linter.unusedVariables false
set_option linter.unusedSimpArgs false

end Go.Proofs.Ytnjiilnkobhibaa

/- The chapter's examples, by the plain functions. -/
namespace Go.Proofs.Ytnjiilnkobhibaa
set_option maxRecDepth 100000
def ini (k : Nat) : List Nat := if k = 1 then ((squares.drop 0).take 8).map (hi false) else if k = 2 then ((squares.drop 8).take 8).map (hi true) else ((squares.drop 0).take 8).map (hi true)
theorem abc256 : (endS false (ini 1) [97, 98, 99] 3 32).take 4 = [186, 120, 22, 191] := by kernel_rfl
theorem abc512 : (endS true (ini 3) [97, 98, 99] 3 64).take 4 = [221, 175, 53, 161] := by kernel_rfl
end Go.Proofs.Ytnjiilnkobhibaa

/- Contract of sha.New. -/
namespace Go.Proofs.Ytnjiilnkobhibaa
open Go.RowKit
set_option linter.unusedVariables false
set_option linter.unusedSimpArgs false

end Go.Proofs.Ytnjiilnkobhibaa

/- Contract of sha.New. -/
namespace Go.Proofs.Ytnjiilnkobhibaa
open Go.RowKit
set_option linter.unusedVariables false
set_option linter.unusedSimpArgs false

end Go.Proofs.Ytnjiilnkobhibaa

/- Contract of sha.New. -/
namespace Go.Proofs.Ytnjiilnkobhibaa
open Go.RowKit
set_option linter.unusedVariables false
set_option linter.unusedSimpArgs false

end Go.Proofs.Ytnjiilnkobhibaa

/- Contracts of sha.end, Sum, End. -/
namespace Go.Proofs.Ytnjiilnkobhibaa
open Go.RowKit
set_option linter.unusedVariables false
set_option linter.unusedSimpArgs false

/-- how many bytes a kind's sum has -/
def outn (kind : Int) : Nat := if kind = 1 then 32 else if kind = 2 then 48 else 64
theorem Row.mono_u64 {m : Nat} {l : List Nat} (h : Under 4294967296 l) : Under 18446744073709551616 l := fun x hx => Nat.lt_trans (h x hx) (by decide)

/-- a sum that is fit has words of its kind -/
theorem hfit_true {kind : Int} {ws : List Nat} {n size : Nat} (h8 : ws.length = 8) (hu : Under 18446744073709551616 ws) (h : hfit kind ws n size = true) : (kind = 1 ∨ kind = 2 ∨ kind = 3) ∧ size < 1152921504606846976 ∧ n = size % bz (wide kind) ∧ Under (wm (wide kind)) ws := by
  unfold hfit at h
  rw [Bool.and_eq_true, decide_eq_true_iff] at h
  obtain ⟨⟨h1, h2, h3⟩, h4⟩ := h
  refine ⟨h1, h2, h3, ?_⟩
  rcases h1 with rfl | rfl | rfl
  · have := (wfit_one h8).1 h4
    intro x hx
    obtain ⟨i, hi, rfl⟩ := List.getElem_of_mem hx
    have e := this i (by omega)
    rw [el_at hi] at e
    exact e
  · exact hu
  · exact hu

end Go.Proofs.Ytnjiilnkobhibaa

/- Contract of sha.add at words of 32 bits. -/
namespace Go.Proofs.Ytnjiilnkobhibaa
open Go.RowKit
set_option linter.unusedVariables false
set_option linter.unusedSimpArgs false

end Go.Proofs.Ytnjiilnkobhibaa

/- Contract of sha.add at words of 64 bits. -/
namespace Go.Proofs.Ytnjiilnkobhibaa
open Go.RowKit
set_option linter.unusedVariables false
set_option linter.unusedSimpArgs false

end Go.Proofs.Ytnjiilnkobhibaa

/- Contract of sha.Add. -/
namespace Go.Proofs.Ytnjiilnkobhibaa
open Go.RowKit
set_option linter.unusedVariables false
set_option linter.unusedSimpArgs false

end Go.Proofs.Ytnjiilnkobhibaa

/- Plain facts for the law of what fills up a text. -/
namespace Go.Proofs.Ytnjiilnkobhibaa

theorem leL_len (n : Nat) : ∀ k, (leL n k).length = k := by
  intro k
  simp [leL]
theorem bytesW_cons (x : Nat) (h : List Nat) : bytesW false (x :: h) = (leL x 4).reverse ++ bytesW false h := by
  simp [bytesW, ez]
theorem bytesW_at : ∀ (h : List Nat) (i : Nat), i < h.length → ((bytesW false h).drop (4 * i)).take 4 = (leL (el h i) 4).reverse
  | [], i, hi => by simp at hi
  | x :: h, 0, _ => by
    rw [bytesW_cons]
    have h4 : (leL x 4).reverse.length = 4 := by simp [leL_len]
    rw [Nat.mul_zero, List.drop_zero, List.take_append, h4, List.take_of_length_le (by omega)]
    simp [el]
  | x :: h, i + 1, hi => by
    rw [bytesW_cons, show 4 * (i + 1) = (leL x 4).reverse.length + 4 * i by simp [leL_len]; omega, List.drop_append]
    simp only [List.length_cons] at hi
    rw [List.drop_eq_nil_of_le (by omega), List.nil_append, Nat.add_sub_cancel_left, bytesW_at h i (by omega)]
    simp [el]
theorem room_8 (n : Nat) : 8 ≤ room false n := by
  have : bz false = 64 := rfl
  unfold room
  rw [this]
  split <;> omega
theorem room_mod (n : Nat) : (n + 1 + room false n) % 64 = 0 := by
  have : bz false = 64 := rfl
  unfold room
  rw [this]
  split <;> omega
theorem room_first (n k : Nat) (hk : (n + 1 + k) % 64 = 56) (h : k < 64) : k = room false n - 8 := by
  have : bz false = 64 := rfl
  unfold room
  rw [this]
  split <;> omega
theorem fill_len (n size : Nat) : (fill false n size).length = 1 + room false n := by
  unfold fill
  simp [leL_len]
  omega
theorem left_fill (l : List Nat) (size : Nat) : left false (l ++ fill false l.length size) = [] := by
  apply List.eq_nil_of_length_eq_zero
  rw [left_length, List.length_append, fill_len]
  have := room_mod l.length
  have h : bz false = 64 := rfl
  rw [h]
  omega
theorem num_be4 (n : Nat) (hn : n < 4294967296) : numL (leL n 4).reverse = n := by
  have e : (leL n 4).reverse = [n / 16777216 % 256, n / 65536 % 256, n / 256 % 256, n % 256] := by
    simp [leL, List.range_succ]
  rw [e]
  simp only [numL, List.foldl]
  omega
theorem word_num (h : List Nat) (i : Nat) (hi : i < h.length) (hu : Under 4294967296 h) : numL (((bytesW false h).drop (4 * i)).take 4) = el h i := by
  rw [bytesW_at h i hi]
  exact num_be4 _ (el_lt hu (by decide) i)
theorem bytesW_len : ∀ h : List Nat, (bytesW false h).length = 4 * h.length
  | [] => rfl
  | x :: h => by
    rw [bytesW_cons, List.length_append, bytesW_len h]
    simp [leL_len]
    omega
/-- the law's way to fill up a text of n bytes is the code's -/
theorem fill_law (n k : Nat) (hn : n < 1152921504606846976) (hk : (n + 1 + k) % 64 = 56) (h : k < 64) : [128] ++ List.replicate k 0 ++ (leL (8 * n) 8).reverse = fill false n n := by
  rw [fill_is false n n hn (room_8 n), ← room_first n k hk h]
end Go.Proofs.Ytnjiilnkobhibaa

/- Words for the laws of sums: what is fit; rows over worlds. -/
namespace Go.Proofs.Ytnjiilnkobhibaa
open Go.RowKit
set_option linter.unusedVariables false
set_option linter.unusedSimpArgs false

/-- what makes a sum that goes on fit -/
theorem hfit_mk {kind : Int} {ws : List Nat} {n size : Nat} (h8 : ws.length = 8) (hk : kind = 1 ∨ kind = 2 ∨ kind = 3) (hs : size < 1152921504606846976) (hn : n = size % bz (wide kind)) (hu : Under (wm (wide kind)) ws) : hfit kind ws n size = true := by
  unfold hfit
  rw [Bool.and_eq_true, decide_eq_true_iff]
  refine ⟨⟨hk, hs, hn⟩, ?_⟩
  rcases hk with rfl | rfl | rfl
  · exact (wfit_one h8).2 (fun j hj => el_lt hu (by decide) j)
  · rfl
  · rfl
/-- a row of the call's own, behind a call -/
theorem own_below {w w' : World} {base : Nat} {e : TypeId} {size : Nat} {v : Value} {n : Nat} {xs : List Value} (h : w.ownsRow base e size v n xs) (hb : Below w.heap.size w w') : w'.ownsRow base e size v n xs := by
  obtain ⟨h1, h2⟩ := h
  refine ⟨h1, ?_⟩
  rcases h2 with h2 | ⟨g, cap, cur, rfl, h3, h4, h5⟩
  · exact .inl h2
  · refine .inr ⟨g, cap, cur, rfl, h3, ?_, h5⟩
    rw [hb.block g (by
      rcases Nat.lt_or_ge g w.heap.size with hlt | hge
      · exact hlt
      · rw [Array.getElem?_eq_none hge] at h4; cases h4)]
    exact h4
/-- the cells of a row of the call's own that is not empty -/
theorem own_news {e : TypeId} {k : IntKind} {m : Nat} {w : World} {B : Nat} {v : Value} {l : List Nat} (h : Own e k m w B v l) (n : Nat) (hn : l.length = n) (hl : 0 < n) :
    ∃ g c, v = .slice (some ⟨g, 0, none⟩) n c ∧ B ≤ g ∧ ∀ j u, (vals k l)[j]? = some u → w.cell? ((⟨g, 0, none⟩ : Addr).add j) = some u := by
  subst hn
  obtain ⟨g, c, rfl, hB, _, _⟩ := row_form h.1 hl
  refine ⟨g, c, rfl, hB, ?_⟩
  exact h.1.cells rfl
theorem leS_8 (n : Nat) : leS n 8 = leL n 8 := by unfold leS; rw [if_neg (by decide)]; rfl
end Go.Proofs.Ytnjiilnkobhibaa
