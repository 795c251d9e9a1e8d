/- Keys that are wrapped: plain, over whatever cipher. -/
import Derived.Test.YtjeofkemfpdieaaAesW
import Derived.Test.YtjeofkemfpdieaaBe
import Derived.Test.YtjeofkemfpdieaaGfB
namespace Go.Proofs.Ytjeofkemfpdieaa
set_option linter.unusedVariables false
set_option linter.unusedSimpArgs false

/-- a number as 8 bytes, the highest first -/
def be8 (a : Nat) : List Nat := (leL a 8).reverse
theorem be8_len (a : Nat) : (be8 a).length = 8 := by unfold be8; rw [List.length_reverse, leL_length]
theorem be8_under (a : Nat) : Under 256 (be8 a) := fun x hx => by
  unfold be8 leL at hx
  rw [List.mem_reverse, List.mem_map] at hx
  obtain ⟨i, _, rfl⟩ := hx
  exact Nat.mod_lt _ (by decide)
theorem leL_succ (a k : Nat) : leL a (k + 1) = leL a k ++ [a / 256 ^ k % 256] := by unfold leL; rw [List.range_succ, List.map_append]; rfl
theorem val_leL (a : Nat) : ∀ k, valLe (leL a k) = a % 256 ^ k
  | 0 => by rw [Nat.pow_zero, Nat.mod_one]; rfl
  | k + 1 => by
    rw [leL_succ, valLe_append, leL_length, val_leL a k]
    show _ + 256 ^ k * (a / 256 ^ k % 256 + 256 * 0) = _
    rw [Nat.mul_zero, Nat.add_zero, Nat.pow_succ, Nat.mod_mul]
theorem num_be8 {a : Nat} (h : a < 18446744073709551616) : numL (be8 a) = a := by
  unfold be8
  rw [numL_rev, val_leL, show (256 : Nat) ^ 8 = 18446744073709551616 by decide, Nat.mod_mod, Nat.mod_eq_of_lt h]
theorem val_inj : ∀ (l m : List Nat), Under 256 l → Under 256 m → l.length = m.length → valLe l = valLe m → l = m
  | [], [], _, _, _, _ => rfl
  | [], _ :: _, _, _, h, _ => by simp at h
  | _ :: _, [], _, _, h, _ => by simp at h
  | x :: l, y :: m, hl, hm, hn, hv => by
    have hx := hl x (by simp)
    have hy := hm y (by simp)
    have hv' : x + 256 * valLe l = y + 256 * valLe m := hv
    have e1 : x = y := by omega
    have e2 : valLe l = valLe m := by omega
    rw [e1, val_inj l m (fun z hz => hl z (by simp [hz])) (fun z hz => hm z (by simp [hz])) (by simpa using hn) e2]
theorem be8_num {l : List Nat} (hl : l.length = 8) (hu : Under 256 l) : be8 (numL l) = l := by
  have e1 : numL l = valLe l.reverse := by
    rw [← List.reverse_reverse l, numL_rev, List.reverse_reverse]
    exact Nat.mod_eq_of_lt (valLe_lt8 _ (fun x hx => hu x (List.mem_reverse.1 hx)) (by rw [List.length_reverse]; omega))
  unfold be8
  rw [← List.reverse_reverse l]
  congr 1
  rw [List.reverse_reverse]
  refine val_inj _ _ ?_ (fun x hx => hu x (List.mem_reverse.1 hx)) (by rw [leL_length, List.length_reverse, hl]) ?_
  · intro x hx
    exact be8_under (numL l) x (List.mem_reverse.2 hx)
  · rw [val_leL, e1]
    exact Nat.mod_eq_of_lt (by have := valLe_lt8 l.reverse (fun x hx => hu x (List.mem_reverse.1 hx)) (by rw [List.length_reverse]; omega); simpa using this)
theorem xor64 {a b : Nat} (ha : a < 18446744073709551616) (hb : b < 18446744073709551616) : a ^^^ b < 18446744073709551616 := Nat.xor_lt_two_pow (n := 64) ha hb
/-- a word of a text, and a text with another word -/
def seg (r : List Nat) (i : Nat) : List Nat := (r.drop (8 * i)).take 8
def putS (r : List Nat) (i : Nat) (v : List Nat) : List Nat := r.take (8 * i) ++ v ++ r.drop (8 * i + 8)
theorem seg_len {r : List Nat} {i : Nat} (h : 8 * i + 8 ≤ r.length) : (seg r i).length = 8 := by unfold seg; rw [List.length_take, List.length_drop]; omega
theorem seg_under {r : List Nat} {i : Nat} (h : Under 256 r) : Under 256 (seg r i) := fun x hx => h x (List.mem_of_mem_drop (List.mem_of_mem_take hx))
theorem putS_len {r v : List Nat} {i : Nat} (h : 8 * i + 8 ≤ r.length) (hv : v.length = 8) : (putS r i v).length = r.length := by unfold putS; rw [List.length_append, List.length_append, List.length_take, List.length_drop]; omega
theorem putS_under {r v : List Nat} {i : Nat} (h : Under 256 r) (hv : Under 256 v) : Under 256 (putS r i v) := fun x hx => by
  unfold putS at hx
  simp only [List.mem_append] at hx
  rcases hx with (hx | hx) | hx
  · exact h x (List.mem_of_mem_take hx)
  · exact hv x hx
  · exact h x (List.mem_of_mem_drop hx)
theorem seg_put {r v : List Nat} {i : Nat} (h : 8 * i + 8 ≤ r.length) (hv : v.length = 8) : seg (putS r i v) i = v := by
  have e : (r.take (8 * i)).length = 8 * i := by rw [List.length_take]; omega
  unfold seg putS
  rw [List.append_assoc, List.drop_append_of_le_length (by omega), show (r.take (8 * i)).drop (8 * i) = [] from List.drop_eq_nil_of_le (by omega), List.nil_append, List.take_append_of_le_length (by omega), List.take_of_length_le (by omega)]
theorem put_put {r v u : List Nat} {i : Nat} (h : 8 * i + 8 ≤ r.length) (hv : v.length = 8) : putS (putS r i v) i u = putS r i u := by
  have e : (r.take (8 * i)).length = 8 * i := by rw [List.length_take]; omega
  have h1 : (putS r i v).take (8 * i) = r.take (8 * i) := by unfold putS; rw [List.append_assoc, List.take_append_of_le_length (by omega), List.take_take, Nat.min_self]
  have h2 : (putS r i v).drop (8 * i + 8) = r.drop (8 * i + 8) := by
    unfold putS
    rw [List.drop_append, List.length_append, e, hv, Nat.sub_self, List.drop_zero, List.drop_eq_nil_of_le (by rw [List.length_append]; omega), List.nil_append]
  show (putS r i v).take (8 * i) ++ u ++ (putS r i v).drop (8 * i + 8) = r.take (8 * i) ++ u ++ r.drop (8 * i + 8)
  rw [h1, h2]
theorem put_seg {r : List Nat} {i : Nat} (h : 8 * i + 8 ≤ r.length) : putS r i (seg r i) = r := by
  unfold putS seg
  rw [List.append_assoc, show r.drop (8 * i + 8) = (r.drop (8 * i)).drop 8 by rw [List.drop_drop], List.take_append_drop, List.take_append_drop]
section
variable (T B : List Nat → List Nat) (n : Nat)
/-- a step there, a step back; the steps up to k, there and back -/
def wrS (t : Nat) (s : Nat × List Nat) : Nat × List Nat := (numL ((T (be8 s.1 ++ seg s.2 (t % n))).take 8) ^^^ (t + 1), putS s.2 (t % n) ((T (be8 s.1 ++ seg s.2 (t % n))).drop 8))
def unS (t : Nat) (s : Nat × List Nat) : Nat × List Nat := (numL ((B (be8 (s.1 ^^^ (t + 1)) ++ seg s.2 (t % n))).take 8), putS s.2 (t % n) ((B (be8 (s.1 ^^^ (t + 1)) ++ seg s.2 (t % n))).drop 8))
def wrN : Nat → Nat × List Nat → Nat × List Nat
  | 0, s => s
  | k + 1, s => wrS T n k (wrN k s)
def unN : Nat → Nat × List Nat → Nat × List Nat
  | 0, s => s
  | k + 1, s => unN k (unS B n k s)
end
/-- a state: a number of 64 bits and n words -/
structure St (n : Nat) (s : Nat × List Nat) : Prop where
  num : s.1 < 18446744073709551616
  len : s.2.length = 8 * n
  und : Under 256 s.2
theorem St.blk {n : Nat} {s : Nat × List Nat} (h : St n s) (a : Nat) {t : Nat} (hn : 1 ≤ n) : B16 (be8 a ++ seg s.2 (t % n)) := by
  have ht : t % n < n := Nat.mod_lt _ hn
  exact ⟨by rw [List.length_append, be8_len, seg_len (by rw [h.len]; omega)], Under.append (be8_under _) (seg_under h.und)⟩
section
variable {T B : List Nat → List Nat} {n : Nat} (hn : 1 ≤ n) (hT : ∀ s, B16 s → B16 (T s)) (hB : ∀ s, B16 s → B16 (B s))
include hn hT in
theorem wrS_st {t : Nat} {s : Nat × List Nat} (h : St n s) (ht : t + 1 < 18446744073709551616) : St n (wrS T n t s) := by
  have hi : t % n < n := Nat.mod_lt _ hn
  have hb := hT _ (h.blk s.1 (t := t) hn)
  exact ⟨xor64 (numL_lt _) ht, (putS_len (by rw [h.len]; omega) (by rw [List.length_drop, hb.1])).trans h.len, putS_under h.und fun x hx => hb.2 x (List.mem_of_mem_drop hx)⟩
include hn hB in
theorem unS_st {t : Nat} {s : Nat × List Nat} (h : St n s) : St n (unS B n t s) := by
  have hi : t % n < n := Nat.mod_lt _ hn
  have hb := hB _ (h.blk (s.1 ^^^ (t + 1)) (t := t) hn)
  exact ⟨numL_lt _, (putS_len (by rw [h.len]; omega) (by rw [List.length_drop, hb.1])).trans h.len, putS_under h.und fun x hx => hb.2 x (List.mem_of_mem_drop hx)⟩
include hn hT in
theorem wrN_st {s : Nat × List Nat} (h : St n s) : ∀ k, k < 18446744073709551616 → St n (wrN T n k s)
  | 0, _ => h
  | k + 1, hk => wrS_st hn hT (wrN_st h k (by omega)) hk
include hn hB in
theorem unN_st : ∀ k (s : Nat × List Nat), St n s → St n (unN B n k s)
  | 0, s, h => h
  | k + 1, s, h => unN_st k _ (unS_st hn hB h)
include hn hT in
theorem unS_wrS (hBT : ∀ s, B16 s → B (T s) = s) {t : Nat} {s : Nat × List Nat} (h : St n s) : unS B n t (wrS T n t s) = s := by
  have hi : t % n < n := Nat.mod_lt _ hn
  have hb0 := h.blk s.1 (t := t) hn
  have hb := hT _ hb0
  have hl : 8 * (t % n) + 8 ≤ s.2.length := by rw [h.len]; omega
  have e1 : (wrS T n t s).1 ^^^ (t + 1) = numL ((T (be8 s.1 ++ seg s.2 (t % n))).take 8) := by
    show (_ ^^^ (t + 1)) ^^^ (t + 1) = _
    rw [Nat.xor_assoc, Nat.xor_self, Nat.xor_zero]
  have e2 : seg (wrS T n t s).2 (t % n) = (T (be8 s.1 ++ seg s.2 (t % n))).drop 8 := seg_put hl (by rw [List.length_drop, hb.1])
  have e3 : B (be8 ((wrS T n t s).1 ^^^ (t + 1)) ++ seg (wrS T n t s).2 (t % n)) = be8 s.1 ++ seg s.2 (t % n) := by
    rw [e1, e2, be8_num (by rw [List.length_take, hb.1]; rfl) (fun x hx => hb.2 x (List.mem_of_mem_take hx)), List.take_append_drop, hBT _ hb0]
  show (numL ((B (be8 ((wrS T n t s).1 ^^^ (t + 1)) ++ seg (wrS T n t s).2 (t % n))).take 8), putS (wrS T n t s).2 (t % n) ((B (be8 ((wrS T n t s).1 ^^^ (t + 1)) ++ seg (wrS T n t s).2 (t % n))).drop 8)) = s
  rw [e3, List.take_append_of_le_length (by rw [be8_len]; exact Nat.le_refl _), List.take_of_length_le (by rw [be8_len]; exact Nat.le_refl _), num_be8 h.num,
    List.drop_append_of_le_length (by rw [be8_len]; exact Nat.le_refl _), List.drop_eq_nil_of_le (by rw [be8_len]; exact Nat.le_refl _), List.nil_append,
    show (wrS T n t s).2 = putS s.2 (t % n) ((T (be8 s.1 ++ seg s.2 (t % n))).drop 8) from rfl, put_put hl (by rw [List.length_drop, hb.1]), put_seg hl]
include hn hB in
theorem wrS_unS (hTB : ∀ s, B16 s → T (B s) = s) {t : Nat} {s : Nat × List Nat} (h : St n s) (ht : t + 1 < 18446744073709551616) : wrS T n t (unS B n t s) = s := by
  have hi : t % n < n := Nat.mod_lt _ hn
  have hb0 := h.blk (s.1 ^^^ (t + 1)) (t := t) hn
  have hb := hB _ hb0
  have hl : 8 * (t % n) + 8 ≤ s.2.length := by rw [h.len]; omega
  have e2 : seg (unS B n t s).2 (t % n) = (B (be8 (s.1 ^^^ (t + 1)) ++ seg s.2 (t % n))).drop 8 := seg_put hl (by rw [List.length_drop, hb.1])
  have e3 : T (be8 (unS B n t s).1 ++ seg (unS B n t s).2 (t % n)) = be8 (s.1 ^^^ (t + 1)) ++ seg s.2 (t % n) := by
    rw [e2, show (unS B n t s).1 = numL ((B (be8 (s.1 ^^^ (t + 1)) ++ seg s.2 (t % n))).take 8) from rfl, be8_num (by rw [List.length_take, hb.1]; rfl) (fun x hx => hb.2 x (List.mem_of_mem_take hx)), List.take_append_drop, hTB _ hb0]
  show (numL ((T (be8 (unS B n t s).1 ++ seg (unS B n t s).2 (t % n))).take 8) ^^^ (t + 1), putS (unS B n t s).2 (t % n) ((T (be8 (unS B n t s).1 ++ seg (unS B n t s).2 (t % n))).drop 8)) = s
  rw [e3, List.take_append_of_le_length (by rw [be8_len]; exact Nat.le_refl _), List.take_of_length_le (by rw [be8_len]; exact Nat.le_refl _), num_be8 (xor64 h.num ht), Nat.xor_assoc, Nat.xor_self, Nat.xor_zero,
    List.drop_append_of_le_length (by rw [be8_len]; exact Nat.le_refl _), List.drop_eq_nil_of_le (by rw [be8_len]; exact Nat.le_refl _), List.nil_append,
    show (unS B n t s).2 = putS s.2 (t % n) ((B (be8 (s.1 ^^^ (t + 1)) ++ seg s.2 (t % n))).drop 8) from rfl, put_put hl (by rw [List.length_drop, hb.1]), put_seg hl]
include hn hT in
theorem unN_wrN (hBT : ∀ s, B16 s → B (T s) = s) {s : Nat × List Nat} (h : St n s) : ∀ k, k < 18446744073709551616 → unN B n k (wrN T n k s) = s
  | 0, _ => rfl
  | k + 1, hk => by
    show unN B n k (unS B n k (wrS T n k (wrN T n k s))) = s
    rw [unS_wrS hn hT hBT (wrN_st hn hT h k (by omega)), unN_wrN hBT h k (by omega)]
include hn hB in
theorem wrN_unN (hTB : ∀ s, B16 s → T (B s) = s) : ∀ k (s : Nat × List Nat), St n s → k < 18446744073709551616 → wrN T n k (unN B n k s) = s
  | 0, s, _, _ => rfl
  | k + 1, s, h, hk => by
    show wrS T n k (wrN T n k (unN B n k (unS B n k s))) = s
    rw [wrN_unN hTB k _ (unS_st hn hB h) (by omega), wrS_unS hn hB hTB h hk]
end
def markW : Nat := 12008468691120727718
/-- a key wrapped; the key that is wrapped, if one is -/
def wrapL (T : List Nat → List Nat) (key : List Nat) : List Nat :=
  be8 (wrN T (key.length / 8) (6 * (key.length / 8)) (markW, key)).1 ++ (wrN T (key.length / 8) (6 * (key.length / 8)) (markW, key)).2
def unwS (B : List Nat → List Nat) (c : List Nat) : Nat × List Nat := unN B (c.length / 8 - 1) (6 * (c.length / 8 - 1)) (numL (c.take 8), c.drop 8)
def unwO (B : List Nat → List Nat) (c : List Nat) : Option (List Nat) := if (unwS B c).1 = markW then some (unwS B c).2 else none
section
variable {T B : List Nat → List Nat} (hT : ∀ s, B16 s → B16 (T s)) (hB : ∀ s, B16 s → B16 (B s))
theorem key_st {key : List Nat} {n : Nat} (hl : key.length = 8 * n) (hu : Under 256 key) : St n (markW, key) := ⟨by show markW < _; decide, hl, hu⟩
theorem wrp_st {c : List Nat} {n : Nat} (hl : c.length = 8 * n + 8) (hu : Under 256 c) : St n (numL (c.take 8), c.drop 8) := ⟨numL_lt _, by show (c.drop 8).length = _; rw [List.length_drop]; omega, fun x hx => hu x (List.mem_of_mem_drop hx)⟩
include hT in
theorem wrapL_len {key : List Nat} {n : Nat} (hn : 1 ≤ n) (hl : key.length = 8 * n) (h6 : 6 * n < 18446744073709551616) (hu : Under 256 key) : (wrapL T key).length = key.length + 8 ∧ Under 256 (wrapL T key) := by
  have e : key.length / 8 = n := by omega
  have h := wrN_st hn hT (key_st hl hu) (6 * n) h6
  unfold wrapL
  rw [e]
  exact ⟨by rw [List.length_append, be8_len, h.len]; omega, Under.append (be8_under _) h.und⟩
include hT in
theorem unw_wrap (hBT : ∀ s, B16 s → B (T s) = s) {key : List Nat} {n : Nat} (hn : 1 ≤ n) (hl : key.length = 8 * n) (h6 : 6 * n < 18446744073709551616) (hu : Under 256 key) : unwO B (wrapL T key) = some key := by
  have e : key.length / 8 = n := by omega
  have h := wrN_st hn hT (key_st hl hu) (6 * n) h6
  have hw := (wrapL_len hT hn hl h6 hu).1
  have e2 : (wrapL T key).length / 8 - 1 = n := by omega
  have e3 : unwS B (wrapL T key) = (markW, key) := by
    unfold unwS
    rw [e2]
    unfold wrapL
    rw [e, List.take_append_of_le_length (by rw [be8_len]; exact Nat.le_refl _), List.take_of_length_le (by rw [be8_len]; exact Nat.le_refl _), num_be8 h.num,
      List.drop_append_of_le_length (by rw [be8_len]; exact Nat.le_refl _), List.drop_eq_nil_of_le (by rw [be8_len]; exact Nat.le_refl _), List.nil_append]
    exact unN_wrN hn hT hBT (key_st hl hu) (6 * n) h6
  unfold unwO
  rw [e3, if_pos rfl]
include hB in
theorem wrap_unw (hTB : ∀ s, B16 s → T (B s) = s) {c key : List Nat} {n : Nat} (hn : 1 ≤ n) (hl : c.length = 8 * n + 8) (h6 : 6 * n < 18446744073709551616) (hu : Under 256 c) (h : unwO B c = some key) : wrapL T key = c ∧ key.length = 8 * n := by
  have e : c.length / 8 - 1 = n := by omega
  have hs := wrp_st hl hu
  have hS : unwS B c = unN B n (6 * n) (numL (c.take 8), c.drop 8) := by unfold unwS; rw [e]
  have h2 := unN_st hn hB (6 * n) _ hs
  have h3 := wrN_unN hn hB hTB (6 * n) _ hs h6
  rw [← hS] at h2 h3
  unfold unwO at h
  split at h
  · rename_i hm
    have hk : (unwS B c).2 = key := by simpa using h
    have hl2 : key.length = 8 * n := by rw [← hk]; exact h2.len
    have hp : unwS B c = (markW, key) := by rw [← hk, ← hm]
    rw [hp] at h3
    refine ⟨?_, hl2⟩
    unfold wrapL
    rw [show key.length / 8 = n by omega, h3, be8_num (by rw [List.length_take]; omega) (fun x hx => hu x (List.mem_of_mem_take hx)), List.take_append_drop]
  · cases h
end
/-- behind d of K steps back -/
def unD (B : List Nat → List Nat) (n K : Nat) (s : Nat × List Nat) : Nat → Nat × List Nat
  | 0 => s
  | d + 1 => unS B n (K - 1 - d) (unD B n K s d)
theorem unD_un (B : List Nat → List Nat) (n K : Nat) (s : Nat × List Nat) : ∀ d, d ≤ K → unN B n (K - d) (unD B n K s d) = unN B n K s
  | 0, _ => rfl
  | d + 1, h => by
    rw [← unD_un B n K s d (by omega), show K - d = (K - (d + 1)) + 1 by omega]
    show unN B n (K - (d + 1)) (unS B n (K - 1 - d) (unD B n K s d)) = unN B n (K - (d + 1)) (unS B n (K - (d + 1)) (unD B n K s d))
    rw [show K - 1 - d = K - (d + 1) by omega]
theorem unD_all (B : List Nat → List Nat) (n K : Nat) (s : Nat × List Nat) : unD B n K s K = unN B n K s := by
  have := unD_un B n K s K (Nat.le_refl _)
  rw [Nat.sub_self] at this
  exact this
theorem unD_st {B : List Nat → List Nat} {n K : Nat} {s : Nat × List Nat} (hn : 1 ≤ n) (hB : ∀ s, B16 s → B16 (B s)) (h : St n s) : ∀ d, St n (unD B n K s d)
  | 0 => h
  | d + 1 => unS_st hn hB (unD_st hn hB h d)
/-- what is told of a wrapped key -/
def uwX (B : List Nat → List Nat) (c : List Nat) : List Nat := (unwO B c).getD []
def uwC (B : List Nat → List Nat) (c : List Nat) : Int := if (unwO B c).isSome then 0 else 16
theorem uw_no {B : List Nat → List Nat} {c : List Nat} (h : unwO B c = none) : uwX B c = [] ∧ uwC B c = 16 := by unfold uwX uwC; rw [h]; exact ⟨rfl, rfl⟩
theorem uw_yes {B : List Nat → List Nat} {c k : List Nat} (h : unwO B c = some k) : uwX B c = k ∧ uwC B c = 0 := by unfold uwX uwC; rw [h]; exact ⟨rfl, rfl⟩
end Go.Proofs.Ytjeofkemfpdieaa

/- Sums of blocks, streams: plain. -/
namespace Go.Proofs.Ytjeofkemfpdieaa
set_option linter.unusedVariables false
set_option linter.unusedSimpArgs false

def z16 : List Nat := List.replicate 16 0
theorem z16_b : B16 z16 := ⟨rfl, fun x hx => by rw [List.eq_of_mem_replicate hx]; decide⟩
/-- the sum of blocks by h, from x on, behind i of them -/
def ghN (h x L : List Nat) : Nat → List Nat
  | 0 => x
  | i + 1 => mulP (xr2 (ghN h x L i) (blkOf L i)) h
def ghL (h L : List Nat) : List Nat := ghN h z16 L (L.length / 16)
theorem ghN_b {h x L : List Nat} (hx : B16 x) : ∀ i, B16 (ghN h x L i)
  | 0 => hx
  | i + 1 => mulP_b _ _
theorem blkOf_left {P Q : List Nat} {i : Nat} (h : 16 * i + 16 ≤ P.length) : blkOf (P ++ Q) i = blkOf P i := by
  unfold blkOf
  rw [List.drop_append_of_le_length (by omega), List.take_append_of_le_length (by rw [List.length_drop]; omega)]
theorem blkOf_right {P Q : List Nat} {n i : Nat} (h : P.length = 16 * n) : blkOf (P ++ Q) (n + i) = blkOf Q i := by
  unfold blkOf
  rw [show 16 * (n + i) = P.length + 16 * i by omega, List.drop_append]
  rw [show P.length + 16 * i - P.length = 16 * i by omega, List.drop_eq_nil_of_le (by omega), List.nil_append]
theorem ghN_left {h x P Q : List Nat} : ∀ i, 16 * i ≤ P.length → ghN h x (P ++ Q) i = ghN h x P i
  | 0, _ => rfl
  | i + 1, hi => by
    show mulP (xr2 (ghN h x (P ++ Q) i) (blkOf (P ++ Q) i)) h = mulP (xr2 (ghN h x P i) (blkOf P i)) h
    rw [ghN_left i (by omega), blkOf_left (by omega)]
theorem ghN_app {h x P Q : List Nat} {n : Nat} (hP : P.length = 16 * n) : ∀ m, ghN h x (P ++ Q) (n + m) = ghN h (ghN h x P n) Q m
  | 0 => ghN_left n (by omega)
  | m + 1 => by
    show mulP (xr2 (ghN h x (P ++ Q) (n + m)) (blkOf (P ++ Q) (n + m))) h = mulP (xr2 (ghN h (ghN h x P n) Q m) (blkOf Q m)) h
    rw [ghN_app hP m, blkOf_right hP]
theorem xr2_zero {a : List Nat} (ha : B16 a) : xr2 z16 a = a := by
  refine ext16 (of16_len _) ha.1 fun i hi => ?_
  unfold xr2
  rw [of16_el _ hi, show el z16 i = 0 by unfold z16; rw [el_at (by rw [List.length_replicate]; exact hi), List.getElem_replicate], Nat.zero_xor]
theorem xr2_comm (a b : List Nat) : xr2 a b = xr2 b a := by
  refine ext16 (of16_len _) (of16_len _) fun i hi => ?_
  unfold xr2
  rw [of16_el _ hi, of16_el _ hi, Nat.xor_comm]
/-- a sum goes on: the first block takes up what came before -/
theorem ghN_on {h x q r : List Nat} (hx : B16 x) (hq : B16 q) : ∀ m, ghN h z16 (xr2 q x ++ r) (m + 1) = ghN h x (q ++ r) (m + 1)
  | 0 => by
    show mulP (xr2 z16 (blkOf (xr2 q x ++ r) 0)) h = mulP (xr2 x (blkOf (q ++ r) 0)) h
    have e1 : blkOf (xr2 q x ++ r) 0 = xr2 q x := by unfold blkOf; rw [Nat.mul_zero, List.drop_zero, List.take_append_of_le_length (by rw [(xr2_b hq hx).1]; exact Nat.le_refl _), List.take_of_length_le (by rw [(xr2_b hq hx).1]; exact Nat.le_refl _)]
    have e2 : blkOf (q ++ r) 0 = q := by unfold blkOf; rw [Nat.mul_zero, List.drop_zero, List.take_append_of_le_length (by rw [hq.1]; exact Nat.le_refl _), List.take_of_length_le (by rw [hq.1]; exact Nat.le_refl _)]
    rw [e1, e2, xr2_zero (xr2_b hq hx), xr2_comm]
  | m + 1 => by
    show mulP (xr2 (ghN h z16 (xr2 q x ++ r) (m + 1)) (blkOf (xr2 q x ++ r) (m + 1))) h = mulP (xr2 (ghN h x (q ++ r) (m + 1)) (blkOf (q ++ r) (m + 1))) h
    rw [ghN_on hx hq m, Nat.add_comm m 1, blkOf_right (n := 1) (xr2_b hq hx).1, blkOf_right (n := 1) hq.1]
/-- a text filled up with 0 to whole blocks -/
def fil0 (b : List Nat) : List Nat := b ++ List.replicate ((16 - b.length % 16) % 16) 0
theorem fil0_len (b : List Nat) : (fil0 b).length = 16 * ((b.length + 15) / 16) := by
  unfold fil0
  rw [List.length_append, List.length_replicate]
  omega
theorem fil0_under {b : List Nat} (h : Under 256 b) : Under 256 (fil0 b) := Under.append h fun x hx => by rw [List.eq_of_mem_replicate hx]; decide
/-- two texts xored, as far as both go -/
def xorT (a b : List Nat) : List Nat := (List.range (min a.length b.length)).map fun i => el a i ^^^ el b i
theorem xorT_len (a b : List Nat) : (xorT a b).length = min a.length b.length := by simp [xorT]
theorem xorT_el {a b : List Nat} {i : Nat} (h : i < min a.length b.length) : el (xorT a b) i = el a i ^^^ el b i := by unfold xorT; unfold el at *; simp [h]
theorem xorT_under {a b : List Nat} (ha : Under 256 a) (hb : Under 256 b) : Under 256 (xorT a b) := fun x hx => by
  unfold xorT at hx
  rw [List.mem_map] at hx
  obtain ⟨i, _, rfl⟩ := hx
  exact xor_8 (el_lt ha (by decide) _) (el_lt hb (by decide) _)
theorem xorT_back {a k : List Nat} (h : a.length ≤ k.length) : xorT (xorT a k) k = a := by
  have h1 : (xorT a k).length = a.length := by rw [xorT_len]; omega
  refine ext_el (by rw [xorT_len, h1]; omega) fun i hi => ?_
  rw [xorT_len, h1] at hi
  rw [xorT_el (by rw [h1]; exact hi), xorT_el (by omega), Nat.xor_assoc, Nat.xor_self, Nat.xor_zero]
/-- the numbers' blocks; the stream of n blocks from number 2 on -/
def cntB (nonce : List Nat) (i : Nat) : List Nat := nonce ++ (leL i 4).reverse
theorem cntB_b {nonce : List Nat} (h : nonce.length = 12) (hu : Under 256 nonce) (i : Nat) : B16 (cntB nonce i) := by
  refine ⟨by unfold cntB; rw [List.length_append, List.length_reverse, leL_length, h], Under.append hu fun x hx => ?_⟩
  unfold leL at hx
  rw [List.mem_reverse, List.mem_map] at hx
  obtain ⟨j, _, rfl⟩ := hx
  exact Nat.mod_lt _ (by decide)
section
variable (T : List Nat → List Nat) (nonce : List Nat)
def strL : Nat → List Nat
  | 0 => []
  | n + 1 => strL n ++ T (cntB nonce (n + 2))
/-- a text in the stream; what is sealed, and what is told of it -/
def xst (b : List Nat) : List Nat := xorT b (strL T nonce ((b.length + 15) / 16))
def tagL (beside b : List Nat) : List Nat := xr2 (ghL (T z16) (fil0 beside ++ fil0 b ++ (be8 (8 * beside.length) ++ be8 (8 * b.length)))) (T (cntB nonce 1))
def sealL (beside p : List Nat) : List Nat := xst T nonce p ++ tagL T nonce beside (xst T nonce p)
def openO (beside c : List Nat) : Option (List Nat) :=
  if tagL T nonce beside (c.take (c.length - 16)) = c.drop (c.length - 16) then some (xst T nonce (c.take (c.length - 16))) else none
end
section
variable {T : List Nat → List Nat} {nonce : List Nat} (hT : ∀ s, B16 s → B16 (T s)) (h12 : nonce.length = 12) (hu : Under 256 nonce)
include hT h12 hu in
theorem strL_len : ∀ n, (strL T nonce n).length = 16 * n
  | 0 => rfl
  | n + 1 => by
    show (strL T nonce n ++ T (cntB nonce (n + 2))).length = _
    rw [List.length_append, strL_len n, (hT _ (cntB_b h12 hu _)).1]
    omega
include hT h12 hu in
theorem strL_under : ∀ n, Under 256 (strL T nonce n)
  | 0 => fun x hx => by cases hx
  | n + 1 => Under.append (strL_under n) (hT _ (cntB_b h12 hu _)).2
include hT h12 hu in
theorem xst_len (b : List Nat) : (xst T nonce b).length = b.length := by
  unfold xst
  rw [xorT_len, strL_len hT h12 hu]
  omega
include hT h12 hu in
theorem xst_back (b : List Nat) : xst T nonce (xst T nonce b) = b := by
  have h := xst_len hT h12 hu b
  show xorT (xst T nonce b) (strL T nonce (((xst T nonce b).length + 15) / 16)) = b
  rw [h]
  exact xorT_back (by rw [strL_len hT h12 hu]; omega)
include hT h12 hu in
theorem tagL_b (beside b : List Nat) : B16 (tagL T nonce beside b) := xr2_b (ghN_b z16_b _) (hT _ (cntB_b h12 hu _))
include hT h12 hu in
theorem sealL_len (beside p : List Nat) : (sealL T nonce beside p).length = p.length + 16 := by
  unfold sealL
  rw [List.length_append, xst_len hT h12 hu, (tagL_b hT h12 hu _ _).1]
include hT h12 hu in
theorem open_seal (beside p : List Nat) : openO T nonce beside (sealL T nonce beside p) = some p := by
  have hl := sealL_len hT h12 hu beside p
  have h1 : (sealL T nonce beside p).take ((sealL T nonce beside p).length - 16) = xst T nonce p := by
    rw [hl]
    unfold sealL
    rw [show p.length + 16 - 16 = (xst T nonce p).length by rw [xst_len hT h12 hu]; omega, List.take_left]
  have h2 : (sealL T nonce beside p).drop ((sealL T nonce beside p).length - 16) = tagL T nonce beside (xst T nonce p) := by
    rw [hl]
    unfold sealL
    rw [show p.length + 16 - 16 = (xst T nonce p).length by rw [xst_len hT h12 hu]; omega, List.drop_left]
  unfold openO
  rw [h1, h2, if_pos rfl, xst_back hT h12 hu]
include hT h12 hu in
theorem seal_open {beside c p : List Nat} (h : openO T nonce beside c = some p) : sealL T nonce beside p = c := by
  unfold openO at h
  split at h
  · rename_i ht
    obtain rfl : xst T nonce (c.take (c.length - 16)) = p := by simpa using h
    unfold sealL
    rw [xst_back hT h12 hu, ht, List.take_append_drop]
  · cases h
end
end Go.Proofs.Ytjeofkemfpdieaa
