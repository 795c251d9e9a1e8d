/- Plain facts on what fills up a text: the document's way, and the code's. -/
import Derived.Test.YtejlmgbmfeacdaaGreatDoorRev
import Derived.Test.YtejlmgbmfeacdaaGreatDoorHN2
namespace Go.Proofs.YtejlmgbmfeacdaaGreatDoor
set_option linter.unusedVariables false
set_option linter.unusedSimpArgs false

theorem leL_add (n a z : Nat) (h : n < 256 ^ a) : leL n (a + z) = leL n a ++ List.replicate z 0 := by
  induction z with
  | zero => simp
  | succ z ih =>
    have e : leL n (a + (z + 1)) = leL n (a + z) ++ [n / 256 ^ (a + z) % 256] := by
      unfold leL
      rw [show a + (z + 1) = a + z + 1 by omega, List.range_succ, List.map_append]; rfl
    have hz : n / 256 ^ (a + z) % 256 = 0 := by
      rw [Nat.div_eq_of_lt (Nat.lt_of_lt_of_le h (Nat.pow_le_pow_right (by decide) (by omega)))]
    rw [e, ih, hz, List.append_assoc, List.replicate_succ']
/-- so many bytes 0 stand between the byte 128 and the size's last eight bytes -/
theorem fill_is (b : Bool) (t size : Nat) (hs : size < 1152921504606846976) (hr : 8 ≤ room b t) : fill b t size = [128] ++ List.replicate (room b t - 8) 0 ++ (leL (8 * size) 8).reverse := by
  unfold fill
  have e : leL (8 * size) (room b t) = leL (8 * size) 8 ++ List.replicate (room b t - 8) 0 := by
    have := leL_add (8 * size) 8 (room b t - 8) (by have : (256 : Nat) ^ 8 = 18446744073709551616 := by decide
                                                    omega)
    rw [show 8 + (room b t - 8) = room b t by omega] at this
    exact this
  rw [e, List.reverse_append, List.reverse_replicate, List.append_assoc]
theorem room32 (t : Nat) (ht : t < 64) : room false t - 8 = if t + 1 ≤ 56 then 55 - t else 119 - t := by
  unfold room
  have e : bz false = 64 := rfl
  rw [e, Nat.mod_eq_of_lt ht]
  by_cases h : 64 - t - 1 < 64 / 8
  · rw [if_pos h, if_neg (by omega)]; omega
  · rw [if_neg h, if_pos (by omega)]; omega
theorem room64 (t : Nat) (ht : t < 128) : room true t - 16 = if t + 1 ≤ 112 then 111 - t else 239 - t := by
  unfold room
  have e : bz true = 128 := rfl
  rw [e, Nat.mod_eq_of_lt ht]
  by_cases h : 128 - t - 1 < 128 / 8
  · rw [if_pos h, if_neg (by omega)]; omega
  · rw [if_neg h, if_pos (by omega)]; omega
theorem room64_ge (t : Nat) (ht : t < 128) : 16 ≤ room true t := by
  unfold room
  have e : bz true = 128 := rfl
  rw [e, Nat.mod_eq_of_lt ht]
  split <;> omega
theorem fill_wide (t size : Nat) (ht : t < 128) (hs : size < 1152921504606846976) : fill true t size = [128] ++ List.replicate (room true t - 16) 0 ++ (leL (size / 2305843009213693952) 8).reverse ++ (leL (8 * size) 8).reverse := by
  have hr := room64_ge t ht
  have hz : size / 2305843009213693952 = 0 := Nat.div_eq_of_lt (by omega)
  have e0 : (leL 0 8).reverse = List.replicate 8 0 := by decide
  rw [fill_is true t size hs (by omega), hz, e0, show room true t - 8 = (room true t - 16) + 8 by omega, ← List.replicate_append_replicate]
  simp only [List.append_assoc]
end Go.Proofs.YtejlmgbmfeacdaaGreatDoor

/- Plain facts for the law of what fills up a text. -/
namespace Go.Proofs.YtejlmgbmfeacdaaGreatDoor

theorem leL_len (n : Nat) : ∀ k, (leL n k).length = k := by
  intro k
  simp [leL]
theorem bytesW_cons (x : Nat) (h : List Nat) : bytesW false (x :: h) = (leL x 4).reverse ++ bytesW false h := by
  simp [bytesW, ez]
theorem bytesW_at : ∀ (h : List Nat) (i : Nat), i < h.length → ((bytesW false h).drop (4 * i)).take 4 = (leL (el h i) 4).reverse
  | [], i, hi => by simp at hi
  | x :: h, 0, _ => by
    rw [bytesW_cons]
    have h4 : (leL x 4).reverse.length = 4 := by simp [leL_len]
    rw [Nat.mul_zero, List.drop_zero, List.take_append, h4, List.take_of_length_le (by omega)]
    simp [el]
  | x :: h, i + 1, hi => by
    rw [bytesW_cons, show 4 * (i + 1) = (leL x 4).reverse.length + 4 * i by simp [leL_len]; omega, List.drop_append]
    simp only [List.length_cons] at hi
    rw [List.drop_eq_nil_of_le (by omega), List.nil_append, Nat.add_sub_cancel_left, bytesW_at h i (by omega)]
    simp [el]
theorem room_8 (n : Nat) : 8 ≤ room false n := by
  have : bz false = 64 := rfl
  unfold room
  rw [this]
  split <;> omega
theorem room_mod (n : Nat) : (n + 1 + room false n) % 64 = 0 := by
  have : bz false = 64 := rfl
  unfold room
  rw [this]
  split <;> omega
theorem room_first (n k : Nat) (hk : (n + 1 + k) % 64 = 56) (h : k < 64) : k = room false n - 8 := by
  have : bz false = 64 := rfl
  unfold room
  rw [this]
  split <;> omega
theorem fill_len (n size : Nat) : (fill false n size).length = 1 + room false n := by
  unfold fill
  simp [leL_len]
  omega
theorem left_fill (l : List Nat) (size : Nat) : left false (l ++ fill false l.length size) = [] := by
  apply List.eq_nil_of_length_eq_zero
  rw [left_length, List.length_append, fill_len]
  have := room_mod l.length
  have h : bz false = 64 := rfl
  rw [h]
  omega
theorem num_be4 (n : Nat) (hn : n < 4294967296) : numL (leL n 4).reverse = n := by
  have e : (leL n 4).reverse = [n / 16777216 % 256, n / 65536 % 256, n / 256 % 256, n % 256] := by
    simp [leL, List.range_succ]
  rw [e]
  simp only [numL, List.foldl]
  omega
theorem word_num (h : List Nat) (i : Nat) (hi : i < h.length) (hu : Under 4294967296 h) : numL (((bytesW false h).drop (4 * i)).take 4) = el h i := by
  rw [bytesW_at h i hi]
  exact num_be4 _ (el_lt hu (by decide) i)
theorem bytesW_len : ∀ h : List Nat, (bytesW false h).length = 4 * h.length
  | [] => rfl
  | x :: h => by
    rw [bytesW_cons, List.length_append, bytesW_len h]
    simp [leL_len]
    omega
/-- the law's way to fill up a text of n bytes is the code's -/
theorem fill_law (n k : Nat) (hn : n < 1152921504606846976) (hk : (n + 1 + k) % 64 = 56) (h : k < 64) : [128] ++ List.replicate k 0 ++ (leL (8 * n) 8).reverse = fill false n n := by
  rw [fill_is false n n hn (room_8 n), ← room_first n k hk h]
end Go.Proofs.YtejlmgbmfeacdaaGreatDoor

/- Words for the laws of sums: what is fit; rows over worlds. -/
namespace Go.Proofs.YtejlmgbmfeacdaaGreatDoor
open Go.RowKit
set_option linter.unusedVariables false
set_option linter.unusedSimpArgs false

/-- what makes a sum that goes on fit -/
theorem hfit_mk {kind : Int} {ws : List Nat} {n size : Nat} (h8 : ws.length = 8) (hk : kind = 1 ∨ kind = 2 ∨ kind = 3) (hs : size < 1152921504606846976) (hn : n = size % bz (wide kind)) (hu : Under (wm (wide kind)) ws) : hfit kind ws n size = true := by
  unfold hfit
  rw [Bool.and_eq_true, decide_eq_true_iff]
  refine ⟨⟨hk, hs, hn⟩, ?_⟩
  rcases hk with rfl | rfl | rfl
  · exact (wfit_one h8).2 (fun j hj => el_lt hu (by decide) j)
  · rfl
  · rfl
/-- a row of the call's own, behind a call -/
theorem own_below {w w' : World} {base : Nat} {e : TypeId} {size : Nat} {v : Value} {n : Nat} {xs : List Value} (h : w.ownsRow base e size v n xs) (hb : Below w.heap.size w w') : w'.ownsRow base e size v n xs := by
  obtain ⟨h1, h2⟩ := h
  refine ⟨h1, ?_⟩
  rcases h2 with h2 | ⟨g, cap, cur, rfl, h3, h4, h5⟩
  · exact .inl h2
  · refine .inr ⟨g, cap, cur, rfl, h3, ?_, h5⟩
    rw [hb.block g (by
      rcases Nat.lt_or_ge g w.heap.size with hlt | hge
      · exact hlt
      · rw [Array.getElem?_eq_none hge] at h4; cases h4)]
    exact h4
/-- the cells of a row of the call's own that is not empty -/
theorem own_news {e : TypeId} {k : IntKind} {m : Nat} {w : World} {B : Nat} {v : Value} {l : List Nat} (h : Own e k m w B v l) (n : Nat) (hn : l.length = n) (hl : 0 < n) :
    ∃ g c, v = .slice (some ⟨g, 0, none⟩) n c ∧ B ≤ g ∧ ∀ j u, (vals k l)[j]? = some u → w.cell? ((⟨g, 0, none⟩ : Addr).add j) = some u := by
  subst hn
  obtain ⟨g, c, rfl, hB, _, _⟩ := row_form h.1 hl
  refine ⟨g, c, rfl, hB, ?_⟩
  exact h.1.cells rfl
theorem leS_8 (n : Nat) : leS n 8 = leL n 8 := by unfold leS; rw [if_neg (by decide)]; rfl
end Go.Proofs.YtejlmgbmfeacdaaGreatDoor
