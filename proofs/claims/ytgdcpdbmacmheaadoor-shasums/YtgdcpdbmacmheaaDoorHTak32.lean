/- Contract of sha.sum.take at words of 32 bits. -/
import Derived.Test.YtgdcpdbmacmheaaDoorHMix32
import Derived.Test.YtgdcpdbmacmheaaDoorHSpr32
import Derived.Test.YtgdcpdbmacmheaaDoorHRes32
import Derived.Test.YtgdcpdbmacmheaaDoorTex
import Derived.Test.YtgdcpdbmacmheaaDoorOwn
import Derived.Test.YtgdcpdbmacmheaaDoorBase
import Derived.Test.YtgdcpdbmacmheaaDoorBe
namespace Go.Proofs.YtgdcpdbmacmheaaDoor
open Go.RowKit
set_option linter.unusedVariables false
set_option linter.unusedSimpArgs false

set_option maxHeartbeats 4000000 in
set_option maxRecDepth 100000 in
theorem take_any32 (g : Nat) (hs l : List Nat) (v : Value) (w : World) (hS : Sm32 w g hs (ks false)) (h8 : hs.length = 8) (hhu : Under 4294967296 hs) (hR : Row .u8 256 w v l) (ha : Away g v l) (ht : Tidy v) (hl : l.length ≤ 1000000) :
    Calls Tryd.prog 42 #[.pointer (some ⟨g, 0, none⟩), v] w fun e w' => (∃ v', e = .returned v' ∧ Row .u8 256 w' v' (left false l) ∧ Away g v' (left false l) ∧ Tidy v') ∧ Sm32 w' g (eat false hs l) (ks false) ∧ But g w w' := by
  go_enter Tryd.func42, Tryd.ntmps42
  go_wp2
  go_loopw [1] (fun u wr => ∃ (L H : List Nat), L.length ≤ l.length ∧ slen u = L.length ∧ Row .u8 256 wr u L ∧ Away g u L ∧ Tidy u ∧ Sm32 wr g H (ks false) ∧ But g w wr ∧ eat false hs l = eat false H L ∧ left false l = left false L ∧ H.length = 8 ∧ Under 4294967296 H) (fun u _ => slen u)
  case atStart => exact ⟨l, hs, Nat.le_refl _, by obtain ⟨a, c, rfl, _⟩ := hR; rfl, hR, ha, ht, hS, But.refl _ _, rfl, rfl, h8, hhu⟩
  case round =>
    obtain ⟨L, H, hLl, hsl, hRL, hAL, hTL, hSL, hBL, hE, hLf, hH8, hHu⟩ := hrel
    have HE := hide hE
    have HF := hide hLf
    have hlu := hRL.under
    clear hE hLf
    obtain ⟨a, cap, rfl, g1, g2, g3, g4⟩ := hRL
    have hRL : Row .u8 256 wr (.slice a L.length cap) L := ⟨a, cap, rfl, g1, g2, g3, g4⟩
    unfold maxLen at g2
    by_cases hlt : 64 ≤ L.length
    · obtain ⟨bb, off, rfl, hc⟩ := g3 (by omega)
      clear hc g3
      have hRt := hRL.cut (M := 64) hlt
      go_wp2_with fail
      refine (block_any32 _ _).mono ?_
      rintro e w1 ⟨rfl, rfl⟩
      go_wp2_with fail
      refine (block_any32 _ _).mono ?_
      rintro e w2 ⟨rfl, rfl⟩
      go_wp2_with fail
      refine (spread_any32 _ _ _ hRt (by rw [List.length_take]; omega)).mono ?_
      rintro e w3 ⟨rfl, hb3⟩
      have hS3 := hSL.below hb3
      have hsch := sched_under (b := false) (hlu.take 64) 48
      go_wp2_with fail
      refine (mix_any32 g H (ks false) _ w3 hS3 hH8 (ks_length false) (pad_length (by rw [sched_length]; decide)) hHu (ks_under false) (pad_under hsch (by decide))).mono ?_
      rintro e w4 ⟨rfl, hS4, hB4⟩
      have hcp : addW false H (rndN false (ks false) (pad 80 (sched false (L.take 64) 48)) (rn false) H) 8 = comp false H (L.take 64) := comp_pad H _
      rw [hcp] at hS4
      clear hcp
      go_wp2_with fail
      refine (block_any32 _ _).mono ?_
      rintro e w5 ⟨rfl, rfl⟩
      go_wp2
      have hif : (if cap = 64 then some (⟨bb, off, none⟩ : Addr) else some ⟨bb, off + 64, none⟩) = some ⟨bb, off, none⟩ ∧ cap = 64 ∨ (if cap = 64 then some (⟨bb, off, none⟩ : Addr) else some ⟨bb, off + 64, none⟩) = some ⟨bb, off + 64, none⟩ := by
        by_cases h : cap = 64
        · exact .inl ⟨if_pos h, h⟩
        · exact .inr (if_neg h)
      generalize (if cap = 64 then some (⟨bb, off, none⟩ : Addr) else some ⟨bb, off + 64, none⟩) = A at *
      have hbz : bz false = 64 := rfl
      have hdl : (L.drop 64).length = L.length - 64 := List.length_drop
      refine ⟨⟨L.drop 64, comp false H (L.take 64), by omega, by simp [slen], ((hRL.below hb3).but hAL hB4).rest hlt A hif, fun hp q hq => ?_, ?_, hS4, (hBL.trans (But.of_below hb3)).trans hB4, ?_, ?_, comp_length _ _ _, comp_under _ _ _⟩, by simp [slen]; omega⟩
      · refine hAL (by omega) q ?_
        rcases hif with ⟨rfl, _⟩ | rfl
        · exact hq
        · simpa [Value.ownBlock] using hq
      · rcases hif with ⟨rfl, _⟩ | rfl <;> exact tidy_at _ _ _
      · rw [HE.out, eat_step (by rw [hbz]; exact hlt), hbz]
      · rw [HF.out, left_step (by rw [hbz]; exact hlt), hbz]
    · go_wp2_with fail
      refine (block_any32 _ _).mono ?_
      rintro e w1 ⟨rfl, rfl⟩
      go_wp2
      go_ret
      exact ⟨⟨_, rfl, by rw [HF.out, left_short (by show _ < 64; omega)]; exact hRL, by rw [HF.out, left_short (by show _ < 64; omega)]; exact hAL, hTL⟩, by rw [HE.out, eat_short (by show _ < 64; omega)]; exact hSL, hBL⟩
end Go.Proofs.YtgdcpdbmacmheaaDoor

/- Contract of apostilleref01.Back. -/
namespace Go.Proofs.YtgdcpdbmacmheaaDoor
open Go.RowKit
set_option linter.unusedVariables false

/-- the last k elements, the last one first -/
theorem rev_take_succ (l : List Nat) (k j : Nat) (h : j + 1 + k = l.length) : l.reverse.take (k + 1) = l.reverse.take k ++ [el l j] := by
  have hk : k < l.reverse.length := by simp; omega
  rw [List.take_succ_eq_append_getElem hk]
  congr 2
  rw [List.getElem_reverse, el_at (by omega)]
  congr 1
  omega

theorem Under.rev {m : Nat} {l : List Nat} (h : Under m l) : Under m l.reverse := fun x hx => h x (List.mem_reverse.1 hx)
theorem Under.take' {m : Nat} {l : List Nat} (h : Under m l) (k : Nat) : Under m (l.take k) := fun x hx => h x (List.mem_of_mem_take hx)

end Go.Proofs.YtgdcpdbmacmheaaDoor

/- Contracts of bits.NumLe. -/
namespace Go.Proofs.YtgdcpdbmacmheaaDoor
open Go.RowKit
set_option linter.unusedVariables false

/-- the number of bytes, the lowest first (unbounded) -/
def valLe : List Nat → Nat
  | [] => 0
  | x :: r => x + 256 * valLe r

theorem valLe_append (a b : List Nat) : valLe (a ++ b) = valLe a + 256 ^ a.length * valLe b := by
  induction a with
  | nil => simp [valLe]
  | cons x r ih => simp only [List.cons_append, valLe, ih, List.length_cons, Nat.pow_succ]; rw [Nat.mul_add]; rw [show 256 ^ r.length * 256 * valLe b = 256 * (256 ^ r.length * valLe b) from by rw [Nat.mul_comm (256 ^ r.length) 256, Nat.mul_assoc]]; omega

theorem valLe_lt (a : List Nat) (h : Under 256 a) : valLe a < 256 ^ a.length := by
  induction a with
  | nil => simp [valLe]
  | cons x r ih =>
    have hx := h x (by simp)
    have := ih (fun y hy => h y (by simp [hy]))
    simp only [valLe, List.length_cons, Nat.pow_succ]
    omega

theorem numL_rev (l : List Nat) : numL l.reverse = valLe l % 18446744073709551616 := by
  induction l with
  | nil => rfl
  | cons x r ih => rw [List.reverse_cons, numL_snoc, ih]; simp only [valLe]; omega


/-- a number's lowest eight bytes tell it modulo 2^64 -/
theorem valLe_min (l : List Nat) : valLe (l.take (min l.length 8)) % 18446744073709551616 = valLe l % 18446744073709551616 := by
  by_cases h : l.length ≤ 8
  · rw [List.take_of_length_le (by omega)]
  · have e := valLe_append (l.take 8) (l.drop 8)
    rw [List.take_append_drop] at e
    have hl : (l.take 8).length = 8 := by simp; omega
    rw [hl] at e
    rw [show min l.length 8 = 8 by omega, e]
    omega

theorem step_numLe (N x k : Nat) (hk : k < 8) (hN : N < 256 ^ k) (hx : x < 256) :
    bits .or .u64 (N : Int) (IntKind.u64.wrap ((x : Int) * 2 ^ (8 * k))) = ((N + 256 ^ k * x : Nat) : Int) := by
  have e2 : (256 : Nat) ^ k = 2 ^ (8 * k) := by rw [Nat.pow_mul]
  have hb : 256 ^ k * x < 18446744073709551616 := by
    have h1 : 256 ^ k * x < 256 ^ k * 256 := Nat.mul_lt_mul_of_pos_left hx (Nat.pow_pos (by decide))
    have h2 : 256 ^ k * 256 = 256 ^ (k + 1) := by rw [Nat.pow_succ]
    have h3 : 256 ^ (k + 1) ≤ 256 ^ 8 := Nat.pow_le_pow_right (by decide) (by omega)
    have h4 : (256 : Nat) ^ 8 = 18446744073709551616 := by decide
    omega
  have hN' : N < 18446744073709551616 := by
    have h3 : 256 ^ k ≤ 256 ^ 8 := Nat.pow_le_pow_right (by decide) (by omega)
    have h4 : (256 : Nat) ^ 8 = 18446744073709551616 := by decide
    omega
  have e : IntKind.u64.wrap ((x : Int) * 2 ^ (8 * k)) = ((256 ^ k * x : Nat) : Int) := by
    have e3 : ((x : Int) * 2 ^ (8 * k)) = ((256 ^ k * x : Nat) : Int) := by
      rw [e2, Int.natCast_mul, Int.mul_comm, Int.natCast_pow]; rfl
    rw [e3, IntKind.wrap_u64]; omega
  rw [e, u64_or_nat _ _ hN' hb, Nat.or_comm, nat_join (8 * k) _ _ (by rw [← e2]; exact Nat.mul_mod_right _ _) (by rw [← e2]; exact hN), Nat.add_comm]

theorem valLe_lt8 (a : List Nat) (h : Under 256 a) (h8 : a.length ≤ 8) : valLe a < 18446744073709551616 := by
  have h1 := valLe_lt a h
  have h3 : 256 ^ a.length ≤ 256 ^ 8 := Nat.pow_le_pow_right (by decide) h8
  have h4 : (256 : Nat) ^ 8 = 18446744073709551616 := by decide
  omega

end Go.Proofs.YtgdcpdbmacmheaaDoor

/- Contracts of apostilleref01.Le, apostilleref01.NumLe. -/
namespace Go.Proofs.YtgdcpdbmacmheaaDoor
open Go.RowKit
set_option linter.unusedVariables false

theorem leS_length (n : Nat) (size : Int) : (leS n size).length ≤ 65536 := by
  unfold leS; split
  · simp
  · rw [leL_length]; omega

end Go.Proofs.YtgdcpdbmacmheaaDoor
