/- Keys of chains: plain facts, over whatever sum F of a place and a text. -/
import Derived.Test.YtpmobjfhhkglbaaLmC
namespace Go.Proofs.Ytpmobjfhhkglbaa
open Go.RowKit
set_option linter.unusedVariables false
set_option linter.unusedSimpArgs false

/-- bytes laid at a place -/
def layLW (a : List Nat) (at' : Nat) (b : List Nat) : List Nat := a.take at' ++ (b ++ a.drop (at' + b.length))
theorem layL_len {a : List Nat} {p : Nat} {b : List Nat} (h : p + b.length ≤ a.length) : (layLW a p b).length = a.length := by
  unfold layLW
  rw [List.length_append, List.length_append, List.length_take, List.length_drop]
  omega
theorem layL_under {a b : List Nat} {p : Nat} (ha : Under 256 a) (hb : Under 256 b) : Under 256 (layLW a p b) := by
  intro x hx
  unfold layLW at hx
  rcases List.mem_append.1 hx with h | h
  · exact ha x (List.mem_of_mem_take h)
  · rcases List.mem_append.1 h with h | h
    · exact hb x h
    · exact ha x (List.mem_of_mem_drop h)
def beNW (n k : Nat) : List Nat := (leL n k).reverse
theorem beN_len (n k : Nat) : (beNW n k).length = k := by unfold beNW; rw [List.length_reverse, leL_length]
theorem beN_under (n k : Nat) : Under 256 (beNW n k) := fun x hx => leM_under _ _ x (List.mem_reverse.1 hx)
/-- a place with one of its parts -/
def putA (a : List Nat) (part : Int) (n : Nat) : List Nat :=
  if part = 0 then layLW a 0 (beNW n 4) else if part = 1 then layLW a 4 (beNW n 12) else if part = 2 then layLW (layLW a 16 (beNW n 4)) 20 (List.replicate 12 0) else
  if part = 3 then layLW a 20 (beNW n 4) else if part = 4 then layLW a 24 (beNW n 4) else if part = 5 then layLW a 28 (beNW n 4) else a
/-- a place has 32 bytes -/
def Pl (a : List Nat) : Prop := a.length = 32 ∧ Under 256 a
theorem Pl.lay {a b : List Nat} {p : Nat} (h : Pl a) (hb : Under 256 b) (hp : p + b.length ≤ 32) : Pl (layLW a p b) := ⟨(layL_len (by rw [h.1]; exact hp)).trans h.1, layL_under h.2 hb⟩
theorem Pl.put {a : List Nat} (h : Pl a) (part : Int) (n : Nat) : Pl (putA a part n) := by
  have b4 := fun p (hp : p + 4 ≤ 32) => h.lay (b := beNW n 4) (p := p) (beN_under n 4) (by rw [beN_len]; exact hp)
  unfold putA
  split
  · exact b4 0 (by decide)
  split
  · exact h.lay (beN_under n 12) (by rw [beN_len]; decide)
  split
  · exact (b4 16 (by decide)).lay (fun x hx => by rw [List.eq_of_mem_replicate hx]; decide) (by simp)
  split
  · exact b4 20 (by decide)
  split
  · exact b4 24 (by decide)
  split
  · exact b4 28 (by decide)
  · exact h
/-- the digits of a text, with their check -/
def chkW (N : Nat) (d : List Nat) : Nat := lackL 15 (digL d 4 (2 * N))
def dgW (N : Nat) (d : List Nat) : List Nat := digL d 4 (2 * N) ++ digL (be2 (16 * chkW N d)) 4 3
theorem dgW_len (N : Nat) (d : List Nat) : (dgW N d).length = 2 * N + 3 := by unfold dgW; rw [List.length_append, digL_length, digL_length]
theorem digL_lt (d : List Nat) (n : Nat) : ∀ x ∈ digL d 4 n, x < 16 := by
  intro x hx
  unfold digL at hx
  obtain ⟨i, _, rfl⟩ := List.mem_map.1 hx
  exact dig_ltM _ _ _
theorem dgW_lt (N : Nat) (d : List Nat) : ∀ x ∈ dgW N d, x < 16 := by
  intro x hx
  rcases List.mem_append.1 hx with h | h
  · exact digL_lt _ _ x h
  · exact digL_lt _ _ x h
theorem chkW_lt {N : Nat} (hN : N ≤ 32) (d : List Nat) : chkW N d ≤ 960 := by
  have := lack_lt 15 (digL d 4 (2 * N))
  rw [digL_length] at this
  unfold chkW
  omega
theorem be2_under' (n : Nat) : Under 256 (be2 n) := fun x hx => leM_under _ _ x (List.mem_reverse.1 hx)
theorem dgW_tail {N : Nat} (hN : N ≤ 32) (d : List Nat) : fromD 4 (digL (be2 (16 * chkW N d)) 4 3) = chkW N d := by
  have hc := chkW_lt hN d
  have h1 := fromD_digL (be2 (16 * chkW N d)) 4 3 (by rw [be2_len]; decide) (valBe_lt _ (be2_under' _))
  have hv : valBe (be2 (16 * chkW N d)) = 16 * chkW N d := be2_val _ (by omega)
  rw [h1, hv, be2_len]
  show 16 * chkW N d / 16 = chkW N d
  omega
/-- P17.6: of unlike texts one has a digit that is greater than the other's -/
theorem dgW_unlike {N : Nat} (hN : N ≤ 32) {a b : List Nat} (ha : a.length = N) (hb : b.length = N) (ua : Under 256 a) (ub : Under 256 b) (h : LeAll (dgW N a) (dgW N b)) : a = b := by
  have hla := digL_length a 4 (2 * N)
  have hlb := digL_length b 4 (2 * N)
  have hh : LeAll (digL a 4 (2 * N)) (digL b 4 (2 * N)) := by
    refine ⟨by rw [hla, hlb], fun i hi => ?_⟩
    have := h.2 i (by rw [dgW_len]; omega)
    unfold dgW el at this
    unfold el
    rwa [List.getElem?_append_left (by omega), List.getElem?_append_left (by omega)] at this
  have ht : LeAll (digL (be2 (16 * chkW N a)) 4 3) (digL (be2 (16 * chkW N b)) 4 3) := by
    refine ⟨by rw [digL_length, digL_length], fun i hi => ?_⟩
    rw [digL_length] at hi
    have := h.2 (2 * N + i) (by rw [dgW_len]; omega)
    unfold dgW el at this
    unfold el
    rwa [List.getElem?_append_right (by omega), List.getElem?_append_right (by omega), hla, hlb, Nat.add_sub_cancel_left] at this
  have c1 := lack_le 15 _ _ hh
  have c2 : fromD 4 (digL (be2 (16 * chkW N a)) 4 3) ≤ fromD 4 (digL (be2 (16 * chkW N b)) 4 3) := fromD_le 4 _ _ 0 0 ht (Nat.le_refl _)
  rw [dgW_tail hN, dgW_tail hN] at c2
  have he : digL a 4 (2 * N) = digL b 4 (2 * N) := lack_eq 15 _ _ hh (fun x hx => by have := digL_lt _ _ x hx; omega) (Nat.le_antisymm c2 c1)
  have v1 := fromD_digL a 4 (2 * N) (by rw [ha]; omega) (valBe_lt _ ua)
  have v2 := fromD_digL b 4 (2 * N) (by rw [hb]; omega) (valBe_lt _ ub)
  rw [ha, show 8 * N - 2 * N * 4 = 0 by omega, Nat.pow_zero, Nat.div_one] at v1
  rw [hb, show 8 * N - 2 * N * 4 = 0 by omega, Nat.pow_zero, Nat.div_one] at v2
  exact val_injB ua ub (ha.trans hb.symm) (by rw [← v1, ← v2, he])
section
variable (F : List Nat → List Nat → List Nat) (a : List Nat)
end
section
variable {F : List Nat → List Nat → List Nat} {a : List Nat}
end
end Go.Proofs.Ytpmobjfhhkglbaa
