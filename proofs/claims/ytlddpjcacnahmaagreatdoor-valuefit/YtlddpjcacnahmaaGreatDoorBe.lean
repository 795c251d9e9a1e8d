/- Contracts of bits.Be, apostilleref01.Be. -/
import Derived.Test.YtlddpjcacnahmaaGreatDoorVROf
import Derived.Test.YtlddpjcacnahmaaGreatDoorOFit
import Derived.Test.YtlddpjcacnahmaaGreatDoorVLea
namespace Go.Proofs.YtlddpjcacnahmaaGreatDoor
open Go.RowKit
set_option linter.unusedVariables false

set_option maxHeartbeats 400000 in
set_option maxRecDepth 100000 in
theorem be_any (n : Nat) (size : Int) (w : World) (hn : n < 18446744073709551616) (hs0 : -9223372036854775808 ≤ size) (hs1 : size ≤ 9223372036854775807) :
    Calls Tryz.prog 54 #[.int .u64 n, .int .i64 size] w fun e w' => ∃ v, e = .returned v ∧ Own 5 .u8 256 w' w.heap.size v (leS n size).reverse ∧ Below w.heap.size w w' := by
  go_enter Tryz.func54, Tryz.ntmps54
  go_wp2_with fail
  refine (le_any n size _ hn hs0 hs1).mono ?_
  rintro e w1 ⟨v, rfl, ho, hb⟩
  go_wp2_with fail
  refine (rev_any v _ _ _ ho).mono ?_
  rintro e w2 ⟨rfl, ho2, hb2⟩
  go_wp2
  go_ret
  exact ⟨_, rfl, ho2, hb.trans hb2⟩

/-- the bytes of a number, the highest first, the lowest k of them laid -/
def beTo (n size k : Nat) : List Nat := (List.range size).map (fun t => if size - k ≤ t then n / 256 ^ (size - 1 - t) % 256 else 0)

theorem beTo_zero (n size : Nat) : beTo n size 0 = List.replicate size 0 := by
  apply List.ext_getElem
  · simp [beTo]
  · intro i h1 h2
    have : i < size := by simpa [beTo] using h1
    simp only [beTo, List.getElem_map, List.getElem_range, List.getElem_replicate]
    rw [if_neg (by omega)]
theorem beTo_length (n size k : Nat) : (beTo n size k).length = size := by simp [beTo]
theorem beTo_set (n size k j : Nat) (h : j + 1 + k = size) : (beTo n size k).set j (n / 256 ^ k % 256) = beTo n size (k + 1) := by
  apply List.ext_getElem
  · simp [beTo]
  · intro i h1 h2
    have h3 : i < size := by simpa [beTo] using h2
    simp only [beTo, List.getElem_set, List.getElem_map, List.getElem_range]
    by_cases e : j = i
    · subst e; rw [if_pos rfl, if_pos (by omega)]; congr 3; omega
    · rw [if_neg e]
      by_cases h4 : size - k ≤ i
      · rw [if_pos h4, if_pos (by omega)]
      · rw [if_neg h4, if_neg (by omega)]
theorem leL_length (n size : Nat) : (leL n size).length = size := by simp [leL]
theorem beTo_full (n size : Nat) : beTo n size size = (leL n size).reverse := by
  apply List.ext_getElem
  · simp [beTo, leL]
  · intro i h1 h2
    have h3 : i < size := by simpa [beTo] using h1
    simp only [beTo, leL, List.getElem_map, List.getElem_range, List.getElem_reverse, List.length_map, List.length_range]
    rw [if_pos (by omega)]
theorem beTo_under (n size k : Nat) : Under 256 (beTo n size k) := by
  intro x hx
  obtain ⟨i, _, rfl⟩ := List.mem_map.1 hx
  split <;> omega

theorem rbe_nil (n : Nat) (size : Int) (h : size ≤ 0 ∨ 65536 < size) : (leS n size).reverse = [] := by
  unfold leS; rw [if_pos h]; rfl

theorem and255 (M : Nat) (h : M < 18446744073709551616) : bits BinOp.and IntKind.u64 (M : Int) 255 % 256 = ((M % 256 : Nat) : Int) := by
  rw [show (255 : Int) = ((255 : Nat) : Int) from rfl, u64_and_nat M 255 h (by decide), show M &&& 255 = M % 256 from Nat.and_two_pow_sub_one_eq_mod M 8]
  omega

set_option maxHeartbeats 400000 in
set_option maxRecDepth 100000 in
theorem rbe_any (n : Nat) (size : Int) (w : World) (hn : n < 18446744073709551616) (hs0 : -9223372036854775808 ≤ size) (hs1 : size ≤ 9223372036854775807) :
    Calls Tryz.prog 55 #[.int .u64 n, .int .i64 size] w fun e w' => ∃ v, e = .returned v ∧ Own 5 .u8 256 w' w.heap.size v (leS n size).reverse ∧ Below w.heap.size w w' := by
  by_cases h0 : size < 0
  · rw [rbe_nil n size (by omega)]
    go_enter Tryz.func55, Tryz.ntmps55
    go_wp2
    go_ret
    exact ⟨_, rfl, ⟨World.ownsRow_nil _ _ _ _, fun x hx => by simp at hx⟩, Below.refl _ _⟩
  by_cases h1 : 65536 < size
  · rw [rbe_nil n size (by omega)]
    go_enter Tryz.func55, Tryz.ntmps55
    go_wp2
    go_ret
    exact ⟨_, rfl, ⟨World.ownsRow_nil _ _ _ _, fun x hx => by simp at hx⟩, Below.refl _ _⟩
  obtain ⟨N, rfl⟩ := Int.eq_ofNat_of_zero_le (show 0 ≤ size by omega)
  have hS : (leS n (N : Int)).reverse = beTo n N N := by
    rw [beTo_full]; unfold leS
    by_cases hz : N = 0
    · subst hz; rfl
    · rw [if_neg (by omega), Int.toNat_natCast]
  rw [hS]
  clear hS
  obtain ⟨i0, hi, hz0, hz1, hz2⟩ := info_parts Tryz.info5
  have hNN : N ≤ 65536 := by omega
  go_enter Tryz.func55, Tryz.ntmps55
  go_wp2_with (first | (at_make; refine wpList_make_full _ rfl _ _ 22 rfl w.heap.size 5 i0 (.int .u8 0) 1 Tryz.underlying22 hi hz0 hz1 _ _ _ _ N rfl rfl rfl rfl (by rw [hz2]; omega) (by unfold maxLen; omega) (Nat.le_refl _) ?_; intro w1 hown hgrow) | go_in)
  rw [made_u8] at hown
  have hb := (Below.refl w.heap.size w).grown hgrow (Nat.le_refl _) (fun k h => by cases h)
  clear hgrow
  go_loopw [0, 6] (fun nn i wr => ∃ k jn : Nat, jn + k = N ∧ i = .int .i64 ((jn : Int) - 1) ∧ nn = .int .u64 ((n / 256 ^ k : Nat) : Int) ∧ wr.ownsRow w.heap.size 5 1 (.slice (some ⟨w.heap.size, 0, none⟩) N N) N (vals .u8 (beTo n N k)) ∧ Below w.heap.size w wr) (fun _ i _ => (intOf i + 1).toNat)
  case atStart => exact ⟨0, N, by omega, rfl, by simp, by rw [beTo_zero]; exact hown, hb⟩
  case round =>
    obtain ⟨k, jn, hkj, rfl, rfl, how, hbr⟩ := hrel
    clear hown hb
    have HKJ := hide hkj
    have hle : jn ≤ N := by omega
    clear hkj
    have hM : n / 256 ^ k < 18446744073709551616 := Nat.lt_of_le_of_lt (Nat.div_le_self _ _) hn
    generalize hMM : n / 256 ^ k = M at *
    have HM := hide hMM
    clear hMM
    by_cases hlt : 0 < jn
    · obtain ⟨j, rfl⟩ : ∃ j, jn = j + 1 := ⟨jn - 1, by omega⟩
      rw [show (((j + 1 : Nat) : Int) - 1) = (j : Int) from by omega]
      have c1 := how.cellAt j (by omega)
      rw [vals_get _ _ _ (by rw [beTo_length]; omega)] at c1
      have f1 := how.frozenAt j
      go_wp2
      rw [and255 M hM]
      go_roundw
      case rel =>
        have e : M % 256 = n / 256 ^ k % 256 := by rw [HM.out]
        have st := (how.stored j (.int .u8 ((M % 256 : Nat) : Int))).1
        rw [vals_set, e, beTo_set n N k j HKJ.out] at st
        rw [e]
        exact ⟨k + 1, j, by have := HKJ.out; omega, rfl, vint (by rw [Nat.pow_succ, ← Nat.div_div_eq_div_mul, HM.out]; simp), st, hbr.setCell (by simp) _⟩
      case measure => simp [intOf]
    · go_wp2
      go_ret
      have e : k = N := by have := HKJ.out; omega
      subst e
      exact ⟨_, rfl, ⟨by rw [beTo_length]; exact how, beTo_under _ _ _⟩, hbr⟩
end Go.Proofs.YtlddpjcacnahmaaGreatDoor

/- Numbers as values: the bytes of one, so many as do. -/
namespace Go.Proofs.YtlddpjcacnahmaaGreatDoor
set_option linter.unusedVariables false
set_option linter.unusedSimpArgs false

/-- the bytes of a number, as few as do -/
def IntL (n : Int) (l : List Nat) : Prop := Under 256 l ∧ intF l ∧ tcV l = n
theorem IntL.one {n : Int} {l m : List Nat} (h : IntL n l) (h' : IntL n m) : l = m := tcV_inj h.1 h'.1 h.2.1 h'.2.1 (by rw [h.2.2, h'.2.2])
theorem tcV_of (k : Nat) (n : Int) (l : List Nat) (hl : l.length = k + 1) (hu : Under 256 l) (h1 : -(128 * (256 : Int) ^ k) ≤ n) (h2 : n < 128 * (256 : Int) ^ k) (hv : (numV l : Int) = n % (256 : Int) ^ (k + 1)) : tcV l = n := by
  match l, hl with
  | x :: l, hl =>
    have hlk : l.length = k := by simpa using hl
    have d1 := numV_lt l (fun z hz => hu z (List.mem_cons_of_mem _ hz))
    rw [hlk] at d1
    have hx : x < 256 := hu x (List.mem_cons_self ..)
    have e : numV (x :: l) = x * 256 ^ k + numV l := by rw [numV, hlk]
    rw [tcV, hlk]
    rw [Int.pow_succ] at hv ⊢
    rw [powI] at *
    generalize 256 ^ k = p at *
    have hp : 0 < p := by omega
    have hmod : n % ((p : Int) * 256) = if 0 ≤ n then n else n + (p : Int) * 256 := by
      split
      · exact Int.emod_eq_of_lt (by omega) (by omega)
      · rw [← Int.add_emod_right]
        exact Int.emod_eq_of_lt (by omega) (by omega)
    rw [hmod] at hv
    by_cases hn : 0 ≤ n
    · rw [if_pos hn] at hv
      have hx' : ¬ 128 ≤ x := by
        intro h
        have : 128 * p ≤ x * p := Nat.mul_le_mul_right p h
        omega
      rw [if_neg hx', hv]
      omega
    · rw [if_neg hn] at hv
      have hx' : 128 ≤ x := by
        apply Nat.le_of_not_lt
        intro h
        have : x * p ≤ 127 * p := Nat.mul_le_mul_right p (by omega)
        omega
      rw [if_pos hx', hv]
      omega
theorem be_len (N k : Nat) : (leL N k).reverse.length = k := by rw [List.length_reverse, leL_length]
theorem be_under (N k : Nat) : Under 256 (leL N k).reverse := by
  intro x hx
  rw [List.mem_reverse] at hx
  unfold leL at hx
  obtain ⟨i, _, rfl⟩ := List.mem_map.1 hx
  exact Nat.mod_lt _ (by decide)
/-- so many bytes of a number that fits them are it -/
theorem be_tcV (n : Int) (N k : Nat) (hk : k < 8) (hN : (N : Int) = n % 18446744073709551616) (h1 : -(128 * (256 : Int) ^ k) ≤ n) (h2 : n < 128 * (256 : Int) ^ k) : tcV (leL N (k + 1)).reverse = n := by
  refine tcV_of k n _ (be_len _ _) (be_under _ _) h1 h2 ?_
  have e : numV (leL N (k + 1)).reverse = N % 256 ^ (k + 1) := numV_digits N (k + 1)
  rw [e]
  rcases (by omega : k = 0 ∨ k = 1 ∨ k = 2 ∨ k = 3 ∨ k = 4 ∨ k = 5 ∨ k = 6 ∨ k = 7) with rfl | rfl | rfl | rfl | rfl | rfl | rfl | rfl <;> simp <;> omega
/-- if one byte fewer doesn't do, they are as few as do -/
theorem be_intF (n : Int) (N k : Nat) (hv : tcV (leL N (k + 1)).reverse = n) (h : k = 0 ∨ ∃ j, k = j + 1 ∧ (n < -(128 * (256 : Int) ^ j) ∨ 128 * (256 : Int) ^ j ≤ n)) : intF (leL N (k + 1)).reverse := by
  have hl := be_len N (k + 1)
  have hu := be_under N (k + 1)
  generalize (leL N (k + 1)).reverse = l at *
  match l, hl with
  | [x], _ => exact trivial
  | x :: y :: l, hl =>
    apply Classical.byContradiction
    intro hc
    have e := tcV_drop x y l hc
    rw [e] at hv
    have hb := tcV_bounds y l (fun z hz => hu z (List.mem_cons_of_mem _ hz))
    have hk : k = l.length + 1 := by simp at hl; omega
    rcases h with rfl | ⟨j, rfl, h⟩
    · omega
    · have hj : j = l.length := by omega
      subst hj
      omega
theorem int_bytes (n : Int) (N : Nat) (s : Int) (hs1 : 1 ≤ s) (hs2 : s ≤ 8) (hN : (N : Int) = n % 18446744073709551616) (h1 : -(128 * (256 : Int) ^ (s - 1).toNat) ≤ n) (h2 : n < 128 * (256 : Int) ^ (s - 1).toNat)
    (hf : s = 1 ∨ (n < -(128 * (256 : Int) ^ (s - 2).toNat) ∨ 128 * (256 : Int) ^ (s - 2).toNat ≤ n)) : IntL n (leS N s).reverse ∧ (leS N s).reverse.length ≤ 8 := by
  obtain ⟨k, rfl⟩ : ∃ k : Nat, s = ((k + 1 : Nat) : Int) := ⟨(s - 1).toNat, by omega⟩
  have e : leS N ((k + 1 : Nat) : Int) = leL N (k + 1) := by unfold leS; rw [if_neg (by omega)]; rfl
  have e1 : (((k + 1 : Nat) : Int) - 1).toNat = k := by omega
  rw [e1] at h1 h2
  rw [e, be_len]
  have hv := be_tcV n N k (by omega) hN h1 h2
  refine ⟨⟨be_under _ _, be_intF n N k hv ?_, hv⟩, by omega⟩
  rcases hf with h | h
  · exact .inl (by omega)
  · by_cases hk : k = 0
    · exact .inl hk
    · have e2 : (((k + 1 : Nat) : Int) - 2).toNat = k - 1 := by omega
      rw [e2] at h
      exact .inr ⟨k - 1, by omega, h⟩
end Go.Proofs.YtlddpjcacnahmaaGreatDoor

/- Numbers as values: value's Int, the document's. -/
namespace Go.Proofs.YtlddpjcacnahmaaGreatDoor
open Go.RowKit Go.Deep
set_option linter.unusedVariables false
set_option linter.unusedSimpArgs false

/-- a number's value is told, in new memory -/
def IntE (n : Int) (w : World) (e : Ending) (w' : World) : Prop := ∃ l, IntL n l ∧ l.length ≤ 8 ∧ NodE (.mk 2 l []) w e w'

/-- one byte fewer does not do -/
def FarB (n s : Int) : Prop := s = 1 ∨ (n < -(128 * (256 : Int) ^ (s - 2).toNat) ∨ 128 * (256 : Int) ^ (s - 2).toNat ≤ n)
theorem be_int (n : Int) (N : Nat) (s : Int) (w : World) (hs : 1 ≤ s ∧ s ≤ 8) (hN64 : N < 18446744073709551616) (hN : (N : Int) = n % 18446744073709551616) (h1 : -(128 * (256 : Int) ^ (s - 1).toNat) ≤ n ∧ n < 128 * (256 : Int) ^ (s - 1).toNat) (hf : FarB n s) :
    Calls Tryz.prog 54 #[.int .u64 N, .int .i64 s] w fun e w' => ∃ a c l, e = .returned (.slice a l.length c) ∧ Own 5 .u8 256 w' w.heap.size (.slice a l.length c) l ∧ IntL n l ∧ l.length ≤ 8 ∧ Below w.heap.size w w' := by
  refine (be_any N s w hN64 (by omega) (by omega)).mono ?_
  rintro e w' ⟨v, rfl, ho, hb⟩
  obtain ⟨hi, hl⟩ := int_bytes n N s hs.1 hs.2 hN h1.1 h1.2 hf
  obtain ⟨a, c, rfl⟩ := own_slice ho.1
  exact ⟨a, c, _, rfl, ho, hi, hl, hb⟩
theorem wrap_u64 (n : Int) : IntKind.u64.wrap n = n % 18446744073709551616 := by
  unfold IntKind.wrap
  simp [IntKind.bits, IntKind.signed]

set_option maxRecDepth 100000 in
set_option maxHeartbeats 2000000 in
theorem int_any (n : Int) (w : World) (hn : I64 n) :
    Calls Tryz.prog 16 #[.int .i64 n] w fun e w' => IntE n w e w' := by
  unfold I64 at hn
  obtain ⟨hn1, hn2⟩ := hn
  have hb0 := keep_alloc w (.cells #[.int .i64 0, .slice none 0 0, .slice none 0 0] 28)
  obtain ⟨N, hN⟩ : ∃ N : Nat, IntKind.u64.wrap n = (N : Int) := ⟨(n % 18446744073709551616).toNat, by rw [wrap_u64]; omega⟩
  have hNm : (N : Int) = n % 18446744073709551616 := by rw [← hN, wrap_u64]
  have HN := hide hN
  have hN64 : N < 18446744073709551616 := by omega
  have HM := hide hNm
  clear hN hNm
  go_enter Tryz.func16, Tryz.ntmps16
  go_wp2_with fail
  go_loop [3] (fun v => ∃ s : Int, 1 ≤ s ∧ s ≤ 8 ∧ v = .int .i64 s ∧ FarB n s) (fun v => 9 - (intOf v).toNat)
  case atStart => exact ⟨1, by omega, by omega, rfl, Or.inl rfl⟩
  case round =>
    obtain ⟨s, hs1, hs2, rfl, HF⟩ := hrel
    rcases (by omega : s = 1 ∨ s = 2 ∨ s = 3 ∨ s = 4 ∨ s = 5 ∨ s = 6 ∨ s = 7 ∨ s = 8) with rfl | rfl | rfl | rfl | rfl | rfl | rfl | rfl
    all_goals
      go_wp2_with fail
      all_goals first
        | (go_round
           case rel => exact ⟨_, by omega, by omega, rfl, Or.inr (by have := ‹(_ != _) = true›; simp at this ⊢; omega)⟩
           case measure => simp [intOf])
        | (rw [HN.out]
           refine (be_int n N _ _ ⟨by omega, by omega⟩ hN64 HM.out ⟨by first | (have := ‹(_ != _) = false›; simp at this ⊢; omega) | (simp; omega), by first | (have := ‹(_ != _) = false›; simp at this ⊢; omega) | (simp; omega)⟩ HF).mono ?_
           rintro e w1 ⟨va, vc, l, rfl, ho1, hint, hl8, hb1⟩
           rw [World.size_alloc] at ho1 hb1
           have hS1 := res_cell w w1 hb1
           obtain ⟨y0, y1, y2, z0, z1, z2⟩ := cells3 hS1
           have hbW : Below w.heap.size w w1 := hb0.trans (hb1.mono (by omega))
           go_wp2_with fail
           obtain ⟨s0, s1, s2, _⟩ := cells3 (set3 hS1 (.int .i64 2) (.slice va l.length vc) (.slice none 0 0))
           exact bodyPost_ret (v := .agg #[.int .i64 2, .slice va l.length vc, .slice none 0 0]) (by simp [results, Tryz.results16, go_sem, s0, s1, s2]) rfl ⟨l, hint, hl8, ⟨1, _, _, _, rfl, (in_leaf (by unfold I64; omega) ho1.row (own_tidy ho1.1) (own_in ho1.1 (fun q hq => hq))).set3⟩, below3 hbW (Nat.le_refl _) _ _ _⟩)
end Go.Proofs.YtlddpjcacnahmaaGreatDoor

/- Numbers as values: the document's Int. -/
namespace Go.Proofs.YtlddpjcacnahmaaGreatDoor
open Go.RowKit Go.Deep
set_option linter.unusedVariables false
set_option linter.unusedSimpArgs false

theorem fb_int {FB : Int → List Nat → Bool} (hFB : FBok FB) (l : List Nat) : FB 2 l = true ↔ intF l := (hFB 2 l).trans ((fitp_2 l).trans (intB_iff l))
theorem not_intF {l : List Nat} (h1 : 1 < l.length) (h : ¬ intF l) : tcV (l.drop 1) = tcV l := by
  match l, h1 with
  | x :: y :: l, _ => exact (tcV_drop x y l h).symm
theorem one_intF {l : List Nat} (h : l.length = 1) : intF l := by
  match l, h with
  | [x], _ => exact trivial

set_option maxRecDepth 100000 in
set_option maxHeartbeats 2000000 in
theorem rint_any (FB : Int → List Nat → Bool) (hFB : FBok FB) (n : Int) (w : World) (hn : I64 n) :
    Calls Tryz.prog 17 #[.int .i64 n] w fun e w' => IntE n w e w' := by
  unfold I64 at hn
  obtain ⟨hn1, hn2⟩ := hn
  have hb0 := keep_alloc w (.cells #[.int .i64 0, .slice none 0 0, .slice none 0 0] 28)
  obtain ⟨N, hN⟩ : ∃ N : Nat, IntKind.u64.wrap n = (N : Int) := ⟨(n % 18446744073709551616).toNat, by rw [wrap_u64]; omega⟩
  have hNm : (N : Int) = n % 18446744073709551616 := by rw [← hN, wrap_u64]
  have hN64 : N < 18446744073709551616 := by omega
  have hv : tcV (leS N 8).reverse = n := be_tcV n N 7 (by omega) hNm (by simp; omega) (by simp; omega)
  have hl8 : (leS N 8).reverse.length = 8 := by rw [show leS N 8 = leL N 8 from rfl, be_len]
  have HN := hide hN
  have HV := hide hv
  have HL := hide hl8
  clear hN hNm hv hl8
  go_enter Tryz.func17, Tryz.ntmps17
  go_wp2_with fail
  rw [HN.out]
  refine (rbe_any N _ _ hN64 (by omega) (by omega)).mono ?_
  rintro e w1 ⟨v1, rfl, ho1, hb1⟩
  rw [World.size_alloc] at ho1 hb1
  have hbW : Below w.heap.size w w1 := hb0.trans (hb1.mono (by omega))
  obtain ⟨l0, HL0⟩ : ∃ l, Hid ((leS N 8).reverse = l) := ⟨_, hide rfl⟩
  rw [HL0.out] at ho1
  have HV0 : Hid (tcV l0 = n) := hide (by rw [← HL0.out]; exact HV.out)
  have HLL : Hid (l0.length = 8) := hide (by rw [← HL0.out]; exact HL.out)
  clear HV HL HL0
  have hs1 := hb1.size
  rw [World.size_alloc] at hs1
  go_wp2_with fail
  go_loopw [3] (fun v wr => ∃ (l : List Nat) (a : Option Addr) (c : Nat), v = .slice a l.length c ∧ Row .u8 256 wr (.slice a l.length c) l ∧ Tidy (.slice a l.length c) ∧ ValIn (fun q => w.heap.size + 1 ≤ q) (.slice a l.length c) ∧ Hid (tcV l = n) ∧ 1 ≤ l.length ∧ l.length ≤ 8 ∧ Below (w.heap.size + 1) (w.alloc (.cells #[.int .i64 0, .slice none 0 0, .slice none 0 0] 28)) wr) (fun v _ => lenV v)
  case atStart =>
    obtain ⟨a, c, rfl⟩ := own_slice ho1.1
    exact ⟨l0, a, c, rfl, ho1.row, own_tidy ho1.1, own_in ho1.1 (fun q hq => hq), HV0, by rw [HLL.out]; omega, by rw [HLL.out]; omega, hb1⟩
  case round =>
    obtain ⟨l, a, c, rfl, hr, htd, hvi, HT, hp, hle, hbr⟩ := hrel
    clear ho1 hb1 HV0 HLL hs1 hbW
    by_cases h1 : 1 < l.length
    · have h1i : (1 : Int) < (l.length : Int) := by omega
      have h1d : decide ((1 : Int) < (l.length : Int)) = true := decide_eq_true h1i
      have hft := rfitb_any FB hFB 2 _ l wr hr (by omega)
      have hrs : wr.heap.size ≥ w.heap.size + 1 := by have := hbr.size; rw [World.size_alloc] at this; exact this
      cases hf : FB 2 l with
      | true =>
        rw [hf] at hft
        have HF : Hid (intF l) := hide ((fb_int hFB l).1 hf)
        clear hf
        go_wp2_with fail
        refine hft.mono ?_
        rintro e w2 ⟨rfl, hb2⟩
        have hb12 : Below (w.heap.size + 1) (w.alloc (.cells #[.int .i64 0, .slice none 0 0, .slice none 0 0] 28)) w2 := hbr.trans (hb2.mono hrs)
        have hS2 := res_cell w w2 hb12
        have hbW : Below w.heap.size w w2 := hb0.trans (hb12.mono (by omega))
        obtain ⟨y0, y1, y2, z0, z1, z2⟩ := cells3 hS2
        have hr2 := hr.below hb2
        clear hft hr
        go_wp2_with fail
        obtain ⟨s0, s1, s2, _⟩ := cells3 (set3 hS2 (.int .i64 2) (.slice a l.length c) (.slice none 0 0))
        exact bodyPost_ret (v := .agg #[.int .i64 2, .slice a l.length c, .slice none 0 0]) (by simp [results, Tryz.results17, go_sem, s0, s1, s2]) rfl ⟨l, ⟨hr2.under, HF.out, HT.out⟩, hle, ⟨1, _, _, _, rfl, (in_leaf (by unfold I64; omega) hr2 htd hvi).set3⟩, below3 hbW (Nat.le_refl _) _ _ _⟩
      | false =>
        rw [hf] at hft
        have HD : Hid (tcV (l.drop 1) = n) := hide (by rw [not_intF h1 (fun e => by rw [(fb_int hFB l).2 e] at hf; cases hf)]; exact HT.out)
        have hr' := hr
        obtain ⟨a', c', he, g1, g2, g3, g4⟩ := hr'
        simp at he
        obtain ⟨rfl, rfl⟩ := he
        obtain ⟨bl, off, rfl, hc⟩ := g3 (by omega)
        unfold maxLen at g2
        have hc1 : ¬ c = 1 := by omega
        have hc2 : ¬ 1 = c := by omega
        have hcl : 1 ≤ c := by omega
        have hdr := hr.part (i := 1) (j := l.length) (by omega) (Nat.le_refl _)
        rw [List.take_length] at hdr
        have hbl := hvi bl hp rfl
        have hdl : (l.drop 1).length = l.length - 1 := List.length_drop
        generalize hLL : l.length = L at *
        clear hf hr g3 hc g4
        go_wp2_with fail
        refine hft.mono ?_
        rintro e w2 ⟨rfl, hb2⟩
        have hb12 : Below (w.heap.size + 1) (w.alloc (.cells #[.int .i64 0, .slice none 0 0, .slice none 0 0] 28)) w2 := hbr.trans (hb2.mono hrs)
        have hdr2 := hdr.below hb2
        clear hft hdr
        go_wp2_with fail
        refine ⟨⟨l.drop 1, some ⟨bl, off + 1, none⟩, c - 1, by rw [hdl], by rw [hdl]; exact hdr2, fun a c he => by simp at he, in_at hbl, HD, by omega, by omega, hb12⟩, by simp [lenV]; omega⟩
    · have h1i : ¬ (1 : Int) < (l.length : Int) := by omega
      have h1d : decide ((1 : Int) < (l.length : Int)) = false := decide_eq_false h1i
      have h1e : decide (1 < l.length) = false := decide_eq_false h1
      have HF : Hid (intF l) := hide (one_intF (by omega))
      have hS2 := res_cell w wr hbr
      have hbW : Below w.heap.size w wr := hb0.trans (hbr.mono (by omega))
      obtain ⟨y0, y1, y2, z0, z1, z2⟩ := cells3 hS2
      go_wp2_with fail
      obtain ⟨s0, s1, s2, _⟩ := cells3 (set3 hS2 (.int .i64 2) (.slice a l.length c) (.slice none 0 0))
      exact bodyPost_ret (v := .agg #[.int .i64 2, .slice a l.length c, .slice none 0 0]) (by simp [results, Tryz.results17, go_sem, s0, s1, s2]) rfl ⟨l, ⟨hr.under, HF.out, HT.out⟩, hle, ⟨1, _, _, _, rfl, (in_leaf (by unfold I64; omega) hr htd hvi).set3⟩, below3 hbW (Nat.le_refl _) _ _ _⟩
end Go.Proofs.YtlddpjcacnahmaaGreatDoor
