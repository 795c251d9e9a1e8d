/- Contracts of bits.Num, apostilleref01.Num. -/
import Derived.Test.YtlddpjcacnahmaaGreatDoorBase
import Derived.Test.YtlddpjcacnahmaaGreatDoorKit
import Derived.Test.YtlddpjcacnahmaaGreatDoorApp2
import Derived.Test.YtlddpjcacnahmaaGreatDoorPCmp
import Derived.Test.YtlddpjcacnahmaaGreatDoorDRdM
import Derived.Laws.Pointers
import Derived.Laws.BitsAllLaws
import Derived.Deep.DeepCutAuto
namespace Go.Proofs.YtlddpjcacnahmaaGreatDoor
open Go.RowKit
set_option linter.unusedVariables false

/-- the number of bytes, the highest first, modulo 2^64 -/
def numL (l : List Nat) : Nat := l.foldl (fun n x => (n * 256 + x) % 18446744073709551616) 0

theorem take_snoc {l : List Nat} {k : Nat} (h : k < l.length) : l.take (k + 1) = l.take k ++ [el l k] := by
  rw [List.take_succ_eq_append_getElem h, el_at h]

theorem numL_snoc (l : List Nat) (x : Nat) : numL (l ++ [x]) = (numL l * 256 + x) % 18446744073709551616 := by
  unfold numL; rw [List.foldl_append]; rfl

theorem numL_lt (l : List Nat) : numL l < 18446744073709551616 := by
  rcases List.eq_nil_or_concat l with rfl | ⟨m, x, rfl⟩
  · decide
  · rw [List.concat_eq_append, numL_snoc]; exact Nat.mod_lt _ (by decide)

theorem step_num (N x : Nat) (hN : N < 18446744073709551616) (hx : x < 256) :
    bits .or .u64 (IntKind.u64.wrap ((N : Int) * 256)) (x : Int) = (((N * 256 + x) % 18446744073709551616 : Nat) : Int) := by
  have e : IntKind.u64.wrap ((N : Int) * 256) = ((N * 256 % 18446744073709551616 : Nat) : Int) := by
    rw [IntKind.wrap_u64]; omega
  rw [e, u64_or_nat _ _ (Nat.mod_lt _ (by decide)) (by omega), nat_join 8 _ _ (by omega) (by omega)]
  congr 1
  omega

set_option maxHeartbeats 400000 in
theorem num_any (va : Value) (l : List Nat) (w : World) (ha : Row .u8 256 w va l) :
    Calls Tryz.prog 101 #[va] w fun e w' => e = .returned (.int .u64 (numL l)) ∧ w' = w := by
  obtain ⟨a, ca, rfl, ha1, ha2, ha3, ha4⟩ := ha
  unfold maxLen at ha2
  go_enter Tryz.func101, Tryz.ntmps101
  go_wp2
  go_loop [3, 8] (fun n i => ∃ k : Nat, k ≤ l.length ∧ i = .int .i64 k ∧ n = .int .u64 (numL (l.take k))) (fun _ i => l.length - (intOf i).toNat)
  case atStart => exact ⟨0, Nat.zero_le _, rfl, rfl⟩
  case round =>
    obtain ⟨k, hk, rfl, rfl⟩ := hrel
    have hn := numL_lt (l.take k)
    by_cases hlt : k < l.length
    · obtain ⟨ba, oa, rfl, hca⟩ := ha3 (by omega)
      have c1 := hca k hlt
      have hx := el_lt ha4 (by decide) k
      clear hca
      generalize hN : numL (l.take k) = N at *
      have HN : Hid (numL (l.take k) = N) := hN
      clear hN
      go_wp2
      go_round
      case rel => exact ⟨k + 1, by omega, by go_num, vint (by rw [take_snoc hlt, numL_snoc, HN.out]; exact step_num N _ hn hx)⟩
      case measure => simp [intOf]; omega
    · go_wp2
      go_ret
      exact ⟨ret_int (by rw [List.take_of_length_le (by omega)]), rfl⟩

set_option maxHeartbeats 400000 in
theorem rnum_any (va : Value) (l : List Nat) (w : World) (ha : Row .u8 256 w va l) :
    Calls Tryz.prog 62 #[va] w fun e w' => e = .returned (.int .u64 (numL l)) ∧ w' = w := by
  obtain ⟨a, ca, rfl, ha1, ha2, ha3, ha4⟩ := ha
  unfold maxLen at ha2
  go_enter Tryz.func62, Tryz.ntmps62
  go_wp2
  go_loop [3, 4] (fun n i => ∃ k : Nat, k ≤ l.length ∧ i = .int .i64 k ∧ n = .int .u64 (numL (l.take k))) (fun _ i => l.length - (intOf i).toNat)
  case atStart => exact ⟨0, Nat.zero_le _, rfl, rfl⟩
  case round =>
    obtain ⟨k, hk, rfl, rfl⟩ := hrel
    have hn := numL_lt (l.take k)
    by_cases hlt : k < l.length
    · obtain ⟨ba, oa, rfl, hca⟩ := ha3 (by omega)
      have c1 := hca k hlt
      have hx := el_lt ha4 (by decide) k
      clear hca
      generalize hN : numL (l.take k) = N at *
      have HN : Hid (numL (l.take k) = N) := hN
      clear hN
      go_wp2
      go_round
      case rel => exact ⟨k + 1, by omega, by go_num, vint (by rw [take_snoc hlt, numL_snoc, HN.out]; simp only [IntKind.wrap_u64]; omega)⟩
      case measure => simp [intOf]; omega
    · go_wp2
      go_ret
      exact ⟨ret_int (by rw [List.take_of_length_le (by omega)]), rfl⟩
end Go.Proofs.YtlddpjcacnahmaaGreatDoor

/- A tag and a length as bytes, and back: the document's head, length. -/
namespace Go.Proofs.YtlddpjcacnahmaaGreatDoor
open Go.RowKit
set_option linter.unusedVariables false

/-- bytes of the call's own are told -/
def TellsB (w : World) (l : List Nat) (e : Ending) (w' : World) : Prop := ∃ v, e = .returned v ∧ Own 5 .u8 256 w' w.heap.size v l ∧ Below w.heap.size w w'

theorem lit_news (w : World) (l : List Nat) (t : TypeId) (cs : Array Value) (hcs : cs = (vals .u8 l).toArray) : ∀ j u, (vals .u8 l)[j]? = some u → (w.alloc (.cells cs t)).cell? ⟨w.heap.size, 0 + j, none⟩ = some u := by
  intro j u hj
  subst hcs
  rw [World.cell?_alloc_at _ _ _ _ rfl, Nat.zero_add, List.getElem?_toArray]
  exact hj
theorem lit_news2 (w : World) (o : Obj) (l : List Nat) (t : TypeId) (cs : Array Value) (hcs : cs = (vals .u8 l).toArray) : ∀ j u, (vals .u8 l)[j]? = some u → ((w.alloc o).alloc (.cells cs t)).cell? ⟨w.heap.size + 1, 0 + j, none⟩ = some u := by
  intro j u hj
  have := lit_news (w.alloc o) l t cs hcs j u hj
  rw [World.size_alloc] at this
  exact this
theorem head_done {w w2 : World} {u : Value} {t : Nat} {l : List Nat} {o : Obj} (ht : t < 256) (hl : Under 256 l) (how : (w.alloc (.cells #[.int .u8 (t : Int)] 5)).ownsRow w.heap.size 5 1 (.slice (some ⟨w.heap.size, 0, none⟩) 1 1) 1 (vals .u8 [t]))
    (h : w2.ownsRow w.heap.size 5 1 u (1 + l.length) (vals .u8 [t] ++ vals .u8 l)) (hg : ((w.alloc (.cells #[.int .u8 (t : Int)] 5)).alloc o).grownBy w2 (Value.slice (some ⟨w.heap.size, 0, none⟩) 1 1).ownBlock) : TellsB w (t :: l) (.returned u) w2 :=
  ⟨u, rfl, ⟨by rw [show t :: l = [t] ++ l from rfl, vals_append, List.length_append]; exact h, by
    intro x hx
    rcases List.mem_cons.1 hx with rfl | hx
    · exact ht
    · exact hl x hx⟩, below_append (keep_alloc w _) (by simp) how o hg⟩

set_option maxHeartbeats 2000000 in
theorem rhead_any (t n : Nat) (w : World) (ht : t < 256) (hn : n < 16777216) :
    Calls Tryz.prog 136 #[.int .i64 t, .int .i64 n] w fun e w' => TellsB w (t :: lenE n) e w' := by
  obtain ⟨i0, hi, hz0, hz1, hz2⟩ := info_byte
  have HU := hide (lenE_under hn)
  have how := one_own 5 .u8 256 t w w.heap.size (Nat.le_refl _)
  have htw : IntKind.u8.wrap (t : Int) = t := by rw [IntKind.wrap_u8]; omega
  by_cases h1 : n < 128
  · have h1i : (n : Int) < 128 := by omega
    have hnw : IntKind.u8.wrap (n : Int) = n := by rw [IntKind.wrap_u8]; omega
    have HL : Hid (lenE n = [n]) := hide (by unfold lenE; rw [if_pos h1])
    rw [HL.out] at HU ⊢
    clear HL
    go_enter Tryz.func136, Tryz.ntmps136
    go_wp2_with (first
      | (at_builtin; refine wpList_append_rows _ rfl _ _ 22 22 5 rfl Tryz.underlying22 w.heap.size 5 i0 (.int .u8 0) 1 Tryz.underlying22 hi hz0 hz1 hz2 rfl _ _ _ rfl (how.alloc _) (some ⟨w.heap.size + 1, 0, none⟩) 1 1 (vals .u8 [n]) rfl rfl (fun _ => ⟨_, _, rfl, lit_news2 w _ [n] 5 _ rfl⟩) (vals_one _ _) (by unfold maxLen; omega) (by omega) (by simp; omega) ?_; intro v1 w1 how1 hg1)
      | fail)
    go_ret
    exact head_done ht HU.out how how1 hg1
  have h1i : ¬ (n : Int) < 128 := by omega
  have h1d : decide ((n : Int) < 128) = false := decide_eq_false h1i
  by_cases h2 : n < 256
  · have h2i : (n : Int) < 256 := by omega
    have hnw : IntKind.u8.wrap (n : Int) = n := by rw [IntKind.wrap_u8]; omega
    have HL : Hid (lenE n = [129, n]) := hide (by unfold lenE; rw [if_neg h1, if_pos h2])
    rw [HL.out] at HU ⊢
    clear HL
    go_enter Tryz.func136, Tryz.ntmps136
    go_wp2_with (first
      | (at_builtin; refine wpList_append_rows _ rfl _ _ 22 22 5 rfl Tryz.underlying22 w.heap.size 5 i0 (.int .u8 0) 1 Tryz.underlying22 hi hz0 hz1 hz2 rfl _ _ _ rfl (how.alloc _) (some ⟨w.heap.size + 1, 0, none⟩) 2 2 (vals .u8 [129, n]) rfl rfl (fun _ => ⟨_, _, rfl, lit_news2 w _ [129, n] 5 _ rfl⟩) (vals_one _ _) (by unfold maxLen; omega) (by omega) (by simp; omega) ?_; intro v1 w1 how1 hg1)
      | fail)
    go_ret
    exact head_done ht HU.out how how1 hg1
  have h2i : ¬ (n : Int) < 256 := by omega
  have h2d : decide ((n : Int) < 256) = false := decide_eq_false h2i
  obtain ⟨a, HA⟩ : ∃ a, Hid (n / 256 = a) := ⟨_, hide rfl⟩
  obtain ⟨b, HB⟩ : ∃ b, Hid (n % 256 = b) := ⟨_, hide rfl⟩
  have ea : (n : Int) / 256 = (a : Int) := by have := HA.out; omega
  have eb : (n : Int) % 256 = (b : Int) := by have := HB.out; omega
  have hbw : IntKind.u8.wrap (b : Int) = b := by have := HB.out; rw [IntKind.wrap_u8]; omega
  by_cases h3 : n < 65536
  · have h3i : (n : Int) < 65536 := by omega
    have haw : IntKind.u8.wrap (a : Int) = a := by have := HA.out; rw [IntKind.wrap_u8]; omega
    have HL : Hid (lenE n = [130, a, b]) := hide (by unfold lenE; rw [if_neg h1, if_neg h2, if_pos h3, HA.out, HB.out])
    rw [HL.out] at HU ⊢
    clear HL
    go_enter Tryz.func136, Tryz.ntmps136
    go_wp2_with (first
      | (at_builtin; refine wpList_append_rows _ rfl _ _ 22 22 5 rfl Tryz.underlying22 w.heap.size 5 i0 (.int .u8 0) 1 Tryz.underlying22 hi hz0 hz1 hz2 rfl _ _ _ rfl (how.alloc _) (some ⟨w.heap.size + 1, 0, none⟩) 3 3 (vals .u8 [130, a, b]) rfl rfl (fun _ => ⟨_, _, rfl, lit_news2 w _ [130, a, b] 5 _ rfl⟩) (vals_one _ _) (by unfold maxLen; omega) (by omega) (by simp; omega) ?_; intro v1 w1 how1 hg1)
      | fail)
    go_ret
    exact head_done ht HU.out how how1 hg1
  have h3i : ¬ (n : Int) < 65536 := by omega
  have h3d : decide ((n : Int) < 65536) = false := decide_eq_false h3i
  obtain ⟨c, HC⟩ : ∃ c, Hid (n / 65536 = c) := ⟨_, hide rfl⟩
  obtain ⟨d, HD⟩ : ∃ d, Hid (n / 256 % 256 = d) := ⟨_, hide rfl⟩
  have ec : (n : Int) / 65536 = (c : Int) := by have := HC.out; omega
  have ed : (a : Int) % 256 = (d : Int) := by have := HD.out; have := HA.out; omega
  have hcw : IntKind.u8.wrap (c : Int) = c := by have := HC.out; rw [IntKind.wrap_u8]; omega
  have hdw : IntKind.u8.wrap (d : Int) = d := by have := HD.out; rw [IntKind.wrap_u8]; omega
  have HL : Hid (lenE n = [131, c, d, b]) := hide (by unfold lenE; rw [if_neg h1, if_neg h2, if_neg h3, HC.out, HD.out, HB.out])
  rw [HL.out] at HU ⊢
  clear HL
  go_enter Tryz.func136, Tryz.ntmps136
  go_wp2_with (first
    | (at_builtin; refine wpList_append_rows _ rfl _ _ 22 22 5 rfl Tryz.underlying22 w.heap.size 5 i0 (.int .u8 0) 1 Tryz.underlying22 hi hz0 hz1 hz2 rfl _ _ _ rfl (how.alloc _) (some ⟨w.heap.size + 1, 0, none⟩) 4 4 (vals .u8 [131, c, d, b]) rfl rfl (fun _ => ⟨_, _, rfl, lit_news2 w _ [131, c, d, b] 5 _ rfl⟩) (vals_one _ _) (by unfold maxLen; omega) (by omega) (by simp; omega) ?_; intro v1 w1 how1 hg1)
    | fail)
  go_ret
  exact head_done ht HU.out how how1 hg1
end Go.Proofs.YtlddpjcacnahmaaGreatDoor

/- The document's length. -/
namespace Go.Proofs.YtlddpjcacnahmaaGreatDoor
open Go.RowKit
set_option linter.unusedVariables false

/-- a part of a text -/
theorem Row.part {k : IntKind} {m : Nat} {w : World} {bl off n cap : Nat} {l : List Nat} (h : Row k m w (.slice (some ⟨bl, off, none⟩) n cap) l) {i j : Nat} (hij : i ≤ j) (hj : j ≤ l.length) :
    Row k m w (.slice (some ⟨bl, off + i, none⟩) (j - i) (cap - i)) ((l.take j).drop i) := by
  obtain ⟨a', cap', he, h1, h2, h3, h4⟩ := h
  simp at he
  obtain ⟨rfl, rfl, rfl⟩ := he
  have hlen : ((l.take j).drop i).length = j - i := by simp; omega
  refine ⟨_, _, by rw [hlen], by omega, by omega, fun hp => ?_, fun x hx => h4 x (List.mem_of_mem_take (List.mem_of_mem_drop hx))⟩
  rw [hlen] at hp
  obtain ⟨b', o', e, hc⟩ := h3 (by omega)
  simp at e
  obtain ⟨rfl, rfl⟩ := e
  refine ⟨bl, off + i, rfl, fun x hx => ?_⟩
  rw [hlen] at hx
  have c := hc (i + x) (by omega)
  rw [Nat.add_assoc, c]
  congr 2
  rw [el_at (by omega), el_at (by omega), List.getElem_drop, List.getElem_take]
theorem beN_num (l : List Nat) (hu : Under 256 l) (hl : l.length ≤ 3) : numL l = beN l ∧ beN l < 16777216 := by
  match l, hl with
  | [], _ => exact ⟨rfl, by decide⟩
  | [a], _ =>
    have ha := hu a (by simp)
    simp [numL, beN]; omega
  | [a, b], _ =>
    have ha := hu a (by simp)
    have hb := hu b (by simp)
    simp [numL, beN]; omega
  | [a, b, c], _ =>
    have ha := hu a (by simp)
    have hb := hu b (by simp)
    have hc := hu c (by simp)
    simp [numL, beN]; omega
/-- what length tells -/
def LenE (b : List Nat) (w : World) (e : Ending) (w' : World) : Prop := e = .returned (.tuple #[.int .i64 ((lenD b).1 : Nat), .int .i64 ((lenD b).2 : Nat)]) ∧ w' = w
theorem LenE.of {b : List Nat} {w : World} {n k : Nat} (h : lenD b = (n, k)) : LenE b w (.returned (.tuple #[.int .i64 n, .int .i64 k])) w := ⟨by rw [h], rfl⟩

theorem LenE.of' {b : List Nat} {w : World} {n k : Nat} {z : Int} (h : lenD b = (n, k)) (hz : z = (k : Int)) : LenE b w (.returned (.tuple #[.int .i64 n, .int .i64 z])) w := by rw [hz]; exact LenE.of h

end Go.Proofs.YtlddpjcacnahmaaGreatDoor

/- der's reader: take, tag. -/
namespace Go.Proofs.YtlddpjcacnahmaaGreatDoor
open Go.RowKit Go.Deep
set_option linter.unusedVariables false

/-- but for one block nothing older has turned -/
def Turn (P : Nat) (w w' : World) : Prop := Below P w w' ∧ ∀ k, P < k → k < w.heap.size → w'.heap[k]? = w.heap[k]?
theorem Turn.refl (P : Nat) (w : World) : Turn P w w := ⟨Below.refl _ _, fun _ _ _ => rfl⟩
theorem Turn.trans {P : Nat} {a b c : World} (h : Turn P a b) (k : Turn P b c) : Turn P a c :=
  ⟨h.1.trans k.1, fun i h1 h2 => (k.2 i h1 (Nat.lt_of_lt_of_le h2 h.1.size)).trans (h.2 i h1 h2)⟩
theorem Turn.below {P : Nat} {w w' : World} (h : Below w.heap.size w w') (hP : P ≤ w.heap.size) : Turn P w w' := ⟨h.mono hP, fun k _ hk => h.block k hk⟩
theorem Turn.set (P o : Nat) (w : World) (v : Value) : Turn P w (w.setCell ⟨P, o, none⟩ v) :=
  ⟨(Below.refl P w).setCell (by show P ≤ P; exact Nat.le_refl _) _, fun k h1 h2 => heap_setCell_other _ _ _ _ (by show k ≠ P; omega)⟩
theorem Turn.size {P : Nat} {w w' : World} (h : Turn P w w') : w.heap.size ≤ w'.heap.size := h.1.size
theorem Turn.old {P : Nat} {w w' : World} (h : Turn P w w') {k : Nat} (hk : k < w.heap.size) (hne : k ≠ P) : w'.heap[k]? = w.heap[k]? := by
  rcases Nat.lt_or_ge k P with hl | hl
  · exact h.1.block k hl
  · exact h.2 k (by omega) hk
/-- a text that lies in old blocks -/
def TX (B0 : Nat) (w : World) (v : Value) (l : List Nat) : Prop := Row .u8 256 w v l ∧ ValIn (fun k => k < B0) v ∧ Tidy v
theorem TX.turn {B0 P : Nat} {w w' : World} {v : Value} {l : List Nat} (h : TX B0 w v l) (hB : B0 ≤ P) (ht : Turn P w w') : TX B0 w' v l :=
  ⟨h.1.otherIn h.2.1 (fun b hb hl => ht.old hl (by omega)), h.2⟩
theorem cells2 {w : World} {p : Nat} {c0 c1 : Value} {t : TypeId} (h : w.heap[p]? = some (.cells #[c0, c1] t)) : w.cell? ⟨p, 0, none⟩ = some c0 ∧ w.cell? ⟨p, 1, none⟩ = some c1 ∧ w.frozen? ⟨p, 0, none⟩ = false ∧ w.frozen? ⟨p, 1, none⟩ = false :=
  ⟨by rw [cell_at' h]; rfl, by rw [cell_at' h]; rfl, frozen_of_row w _ 0 _ _ h, frozen_of_row w _ 1 _ _ h⟩
/-- what is thrown -/
def thr (er : Nat) : Ending := .panicked [{ v := .iface 29 (.int .i64 (er : Nat)), recovered := false }]
theorem TX.empty {B0 : Nat} {w : World} {x : Addr} {cap : Nat} (h : cap ≤ maxLen) : TX B0 w (.slice (some x) 0 cap) [] :=
  ⟨⟨_, cap, rfl, Nat.zero_le _, h, fun h => by simp at h, fun x hx => by simp at hx⟩, fun b hb => by simp [lenV] at hb, fun n c he => by simp at he⟩
theorem TX.nil {B0 : Nat} {w : World} : TX B0 w (.slice none 0 0) [] :=
  ⟨Row.nil _ _ _, fun b hb => by simp [lenV] at hb, fun n c he => by simp at he; omega⟩

end Go.Proofs.YtlddpjcacnahmaaGreatDoor

/- der's reader: tag, length. -/
namespace Go.Proofs.YtlddpjcacnahmaaGreatDoor
open Go.RowKit Go.Deep
set_option linter.unusedVariables false

theorem or8_i64 (n x : Nat) (hn : n < 16777216) (hx : x < 256) : bits .or .i64 ((n : Int) * 256) (x : Int) = ((n * 256 + x : Nat) : Int) := by
  show IntKind.i64.wrap ((BitVec.ofInt 64 ((n : Int) * 256) ||| BitVec.ofInt 64 (x : Int)).toNat : Int) = _
  rw [show (n : Int) * 256 = ((n * 256 : Nat) : Int) by omega, BitVec.toNat_or, ofInt_u64 _ (by omega), ofInt_u64 _ (by omega), nat_join 8 _ _ (by omega) (by omega)]
  have e : ((n * 256 + x : Nat) : Int) % 2 ^ 64 = ((n * 256 + x : Nat) : Int) := Int.emod_eq_of_lt (by omega) (by omega)
  simp only [IntKind.wrap, IntKind.bits, IntKind.signed, e]
  rw [if_neg]
  simp
  omega
theorem TX.first {B0 : Nat} {w : World} {u : Value} {t : Nat} {r : List Nat} (h : TX B0 w u ((t :: r).take 1)) : ∃ b off cap, u = .slice (some ⟨b, off, none⟩) 1 cap ∧ w.cell? ⟨b, off, none⟩ = some (.int .u8 t) ∧ 1 ≤ cap ∧ cap ≤ 9223372036854775807 ∧ t < 256 := by
  have h' : TX B0 w u [t] := h
  obtain ⟨⟨a, cap, rfl, h1, h2, h3, h4⟩, _⟩ := h'
  obtain ⟨b, off, rfl, hc⟩ := h3 (by simp)
  unfold maxLen at h2
  exact ⟨b, off, cap, rfl, hc 0 (by simp), h1, by omega, h4 t (by simp)⟩

theorem lenD_short {f : Nat} {r : List Nat} (h : f < 128) : lenD (f :: r) = (f, 1) := by
  unfold lenD
  rw [if_neg (by simp), show el (f :: r) 0 = f from rfl, if_pos h]
theorem lenD_odd {f : Nat} {r : List Nat} (h : ¬ f < 128) (h2 : f - 128 = 0 ∨ 3 < f - 128 ∨ r.length < f - 128) : lenD (f :: r) = (0, 0) := by
  unfold lenD
  rw [if_neg (by simp), show el (f :: r) 0 = f from rfl, if_neg h, if_pos (by simp only [List.length_cons]; omega)]
theorem lenD_long {f : Nat} {r : List Nat} (hu : Under 256 (f :: r)) (h : ¬ f < 128) (h1 : ¬ f - 128 = 0) (h2 : ¬ 3 < f - 128) (h3 : f - 128 ≤ r.length) :
    lenD (f :: r) = if lsz (beN (r.take (f - 128))) = f - 128 then (beN (r.take (f - 128)), 1 + (f - 128)) else (0, 0) := by
  unfold lenD
  rw [if_neg (by simp), show el (f :: r) 0 = f from rfl, if_neg h, if_neg (by simp only [List.length_cons]; omega), List.drop_one, List.tail_cons]
  have hc : (el (f :: r) 1 = 0 ∨ beN (r.take (f - 128)) < 128) ↔ ¬ lsz (beN (r.take (f - 128))) = f - 128 := by
    rcases (by omega : f = 129 ∨ f = 130 ∨ f = 131) with rfl | rfl | rfl
    · match r, h3 with
      | a :: r, _ =>
        have ha := hu a (by simp)
        simp [beN, el, lsz]
        repeat' split
        all_goals omega
    · match r, h3 with
      | a :: b :: r, _ =>
        have ha := hu a (by simp)
        have hb := hu b (by simp)
        simp [beN, el, lsz]
        repeat' split
        all_goals omega
      | [a], h3 => simp at h3
    · match r, h3 with
      | a :: b :: c :: r, _ =>
        have ha := hu a (by simp)
        have hb := hu b (by simp)
        have hc := hu c (by simp)
        simp [beN, el, lsz]
        repeat' split
        all_goals omega
      | [a, b], h3 => simp at h3
      | [a], h3 => simp at h3
  by_cases hx : lsz (beN (r.take (f - 128))) = f - 128
  · rw [if_pos hx, if_neg (fun hh => hc.1 hh hx)]
  · rw [if_neg hx, if_pos (hc.2 hx)]
theorem beN_take {s : List Nat} {k : Nat} (h : k < s.length) : beN (s.take (k + 1)) = beN (s.take k) * 256 + el s k := by
  unfold beN
  rw [take_el h, List.foldl_append]
  rfl
theorem beN_lt {s : List Nat} (hu : Under 256 s) : ∀ k, k ≤ s.length → beN (s.take k) < 256 ^ k
  | 0, _ => by simp [beN]
  | k + 1, hk => by
    have h1 := beN_lt hu k (by omega)
    have h2 := el_lt hu (by decide) k
    rw [beN_take (by omega), Nat.pow_succ]
    omega
end Go.Proofs.YtlddpjcacnahmaaGreatDoor
