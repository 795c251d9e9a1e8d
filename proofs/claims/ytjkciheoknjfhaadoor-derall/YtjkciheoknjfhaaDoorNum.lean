/- Contracts of bits.Num, apostilleref01.Num. -/
import Derived.Test.YtjkciheoknjfhaaDoorBase
import Derived.Test.YtjkciheoknjfhaaDoorSame
import Derived.Test.YtjkciheoknjfhaaDoorApp2
import Derived.Test.YtjkciheoknjfhaaDoorETag
import Derived.Laws.Pointers
import Derived.Laws.BitsAllLaws
import Derived.Deep.DeepCutAuto
namespace Go.Proofs.YtjkciheoknjfhaaDoor
open Go.RowKit
set_option linter.unusedVariables false

/-- the number of bytes, the highest first, modulo 2^64 -/
def numL (l : List Nat) : Nat := l.foldl (fun n x => (n * 256 + x) % 18446744073709551616) 0

theorem take_snoc {l : List Nat} {k : Nat} (h : k < l.length) : l.take (k + 1) = l.take k ++ [el l k] := by
  rw [List.take_succ_eq_append_getElem h, el_at h]

theorem numL_snoc (l : List Nat) (x : Nat) : numL (l ++ [x]) = (numL l * 256 + x) % 18446744073709551616 := by
  unfold numL; rw [List.foldl_append]; rfl

theorem numL_lt (l : List Nat) : numL l < 18446744073709551616 := by
  rcases List.eq_nil_or_concat l with rfl | ⟨m, x, rfl⟩
  · decide
  · rw [List.concat_eq_append, numL_snoc]; exact Nat.mod_lt _ (by decide)

theorem step_num (N x : Nat) (hN : N < 18446744073709551616) (hx : x < 256) :
    bits .or .u64 (IntKind.u64.wrap ((N : Int) * 256)) (x : Int) = (((N * 256 + x) % 18446744073709551616 : Nat) : Int) := by
  have e : IntKind.u64.wrap ((N : Int) * 256) = ((N * 256 % 18446744073709551616 : Nat) : Int) := by
    rw [IntKind.wrap_u64]; omega
  rw [e, u64_or_nat _ _ (Nat.mod_lt _ (by decide)) (by omega), nat_join 8 _ _ (by omega) (by omega)]
  congr 1
  omega

set_option maxHeartbeats 400000 in
theorem rnum_any (va : Value) (l : List Nat) (w : World) (ha : Row .u8 256 w va l) :
    Calls Tryd.prog 46 #[va] w fun e w' => e = .returned (.int .u64 (numL l)) ∧ w' = w := by
  obtain ⟨a, ca, rfl, ha1, ha2, ha3, ha4⟩ := ha
  unfold maxLen at ha2
  go_enter Tryd.func46, Tryd.ntmps46
  go_wp2
  go_loop [3, 4] (fun n i => ∃ k : Nat, k ≤ l.length ∧ i = .int .i64 k ∧ n = .int .u64 (numL (l.take k))) (fun _ i => l.length - (intOf i).toNat)
  case atStart => exact ⟨0, Nat.zero_le _, rfl, rfl⟩
  case round =>
    obtain ⟨k, hk, rfl, rfl⟩ := hrel
    have hn := numL_lt (l.take k)
    by_cases hlt : k < l.length
    · obtain ⟨ba, oa, rfl, hca⟩ := ha3 (by omega)
      have c1 := hca k hlt
      have hx := el_lt ha4 (by decide) k
      clear hca
      generalize hN : numL (l.take k) = N at *
      have HN : Hid (numL (l.take k) = N) := hN
      clear hN
      go_wp2
      go_round
      case rel => exact ⟨k + 1, by omega, by go_num, vint (by rw [take_snoc hlt, numL_snoc, HN.out]; simp only [IntKind.wrap_u64]; omega)⟩
      case measure => simp [intOf]; omega
    · go_wp2
      go_ret
      exact ⟨ret_int (by rw [List.take_of_length_le (by omega)]), rfl⟩
end Go.Proofs.YtjkciheoknjfhaaDoor

/- A tag and a length as bytes, and back: the document's head, length. -/
namespace Go.Proofs.YtjkciheoknjfhaaDoor
open Go.RowKit
set_option linter.unusedVariables false

/-- bytes of the call's own are told -/
def TellsB (w : World) (l : List Nat) (e : Ending) (w' : World) : Prop := ∃ v, e = .returned v ∧ Own 5 .u8 256 w' w.heap.size v l ∧ Below w.heap.size w w'

theorem lit_news (w : World) (l : List Nat) (t : TypeId) (cs : Array Value) (hcs : cs = (vals .u8 l).toArray) : ∀ j u, (vals .u8 l)[j]? = some u → (w.alloc (.cells cs t)).cell? ⟨w.heap.size, 0 + j, none⟩ = some u := by
  intro j u hj
  subst hcs
  rw [World.cell?_alloc_at _ _ _ _ rfl, Nat.zero_add, List.getElem?_toArray]
  exact hj
theorem lit_news2 (w : World) (o : Obj) (l : List Nat) (t : TypeId) (cs : Array Value) (hcs : cs = (vals .u8 l).toArray) : ∀ j u, (vals .u8 l)[j]? = some u → ((w.alloc o).alloc (.cells cs t)).cell? ⟨w.heap.size + 1, 0 + j, none⟩ = some u := by
  intro j u hj
  have := lit_news (w.alloc o) l t cs hcs j u hj
  rw [World.size_alloc] at this
  exact this
theorem head_done {w w2 : World} {u : Value} {t : Nat} {l : List Nat} {o : Obj} (ht : t < 256) (hl : Under 256 l) (how : (w.alloc (.cells #[.int .u8 (t : Int)] 5)).ownsRow w.heap.size 5 1 (.slice (some ⟨w.heap.size, 0, none⟩) 1 1) 1 (vals .u8 [t]))
    (h : w2.ownsRow w.heap.size 5 1 u (1 + l.length) (vals .u8 [t] ++ vals .u8 l)) (hg : ((w.alloc (.cells #[.int .u8 (t : Int)] 5)).alloc o).grownBy w2 (Value.slice (some ⟨w.heap.size, 0, none⟩) 1 1).ownBlock) : TellsB w (t :: l) (.returned u) w2 :=
  ⟨u, rfl, ⟨by rw [show t :: l = [t] ++ l from rfl, vals_append, List.length_append]; exact h, by
    intro x hx
    rcases List.mem_cons.1 hx with rfl | hx
    · exact ht
    · exact hl x hx⟩, below_append (keep_alloc w _) (by simp) how o hg⟩

set_option maxHeartbeats 2000000 in
theorem rhead_any (t n : Nat) (w : World) (ht : t < 256) (hn : n < 16777216) :
    Calls Tryd.prog 39 #[.int .i64 t, .int .i64 n] w fun e w' => TellsB w (t :: lenE n) e w' := by
  obtain ⟨i0, hi, hz0, hz1, hz2⟩ := info_byte
  have HU := hide (lenE_under hn)
  have how := one_own 5 .u8 256 t w w.heap.size (Nat.le_refl _)
  have htw : IntKind.u8.wrap (t : Int) = t := by rw [IntKind.wrap_u8]; omega
  by_cases h1 : n < 128
  · have h1i : (n : Int) < 128 := by omega
    have hnw : IntKind.u8.wrap (n : Int) = n := by rw [IntKind.wrap_u8]; omega
    have HL : Hid (lenE n = [n]) := hide (by unfold lenE; rw [if_pos h1])
    rw [HL.out] at HU ⊢
    clear HL
    go_enter Tryd.func39, Tryd.ntmps39
    go_wp2_with (first
      | (at_builtin; refine wpList_append_rows _ rfl _ _ 22 22 5 rfl Tryd.underlying22 w.heap.size 5 i0 (.int .u8 0) 1 Tryd.underlying22 hi hz0 hz1 hz2 rfl _ _ _ rfl (how.alloc _) (some ⟨w.heap.size + 1, 0, none⟩) 1 1 (vals .u8 [n]) rfl rfl (fun _ => ⟨_, _, rfl, lit_news2 w _ [n] 5 _ rfl⟩) (vals_one _ _) (by unfold maxLen; omega) (by omega) (by simp; omega) ?_; intro v1 w1 how1 hg1)
      | fail)
    go_ret
    exact head_done ht HU.out how how1 hg1
  have h1i : ¬ (n : Int) < 128 := by omega
  have h1d : decide ((n : Int) < 128) = false := decide_eq_false h1i
  by_cases h2 : n < 256
  · have h2i : (n : Int) < 256 := by omega
    have hnw : IntKind.u8.wrap (n : Int) = n := by rw [IntKind.wrap_u8]; omega
    have HL : Hid (lenE n = [129, n]) := hide (by unfold lenE; rw [if_neg h1, if_pos h2])
    rw [HL.out] at HU ⊢
    clear HL
    go_enter Tryd.func39, Tryd.ntmps39
    go_wp2_with (first
      | (at_builtin; refine wpList_append_rows _ rfl _ _ 22 22 5 rfl Tryd.underlying22 w.heap.size 5 i0 (.int .u8 0) 1 Tryd.underlying22 hi hz0 hz1 hz2 rfl _ _ _ rfl (how.alloc _) (some ⟨w.heap.size + 1, 0, none⟩) 2 2 (vals .u8 [129, n]) rfl rfl (fun _ => ⟨_, _, rfl, lit_news2 w _ [129, n] 5 _ rfl⟩) (vals_one _ _) (by unfold maxLen; omega) (by omega) (by simp; omega) ?_; intro v1 w1 how1 hg1)
      | fail)
    go_ret
    exact head_done ht HU.out how how1 hg1
  have h2i : ¬ (n : Int) < 256 := by omega
  have h2d : decide ((n : Int) < 256) = false := decide_eq_false h2i
  obtain ⟨a, HA⟩ : ∃ a, Hid (n / 256 = a) := ⟨_, hide rfl⟩
  obtain ⟨b, HB⟩ : ∃ b, Hid (n % 256 = b) := ⟨_, hide rfl⟩
  have ea : (n : Int) / 256 = (a : Int) := by have := HA.out; omega
  have eb : (n : Int) % 256 = (b : Int) := by have := HB.out; omega
  have hbw : IntKind.u8.wrap (b : Int) = b := by have := HB.out; rw [IntKind.wrap_u8]; omega
  by_cases h3 : n < 65536
  · have h3i : (n : Int) < 65536 := by omega
    have haw : IntKind.u8.wrap (a : Int) = a := by have := HA.out; rw [IntKind.wrap_u8]; omega
    have HL : Hid (lenE n = [130, a, b]) := hide (by unfold lenE; rw [if_neg h1, if_neg h2, if_pos h3, HA.out, HB.out])
    rw [HL.out] at HU ⊢
    clear HL
    go_enter Tryd.func39, Tryd.ntmps39
    go_wp2_with (first
      | (at_builtin; refine wpList_append_rows _ rfl _ _ 22 22 5 rfl Tryd.underlying22 w.heap.size 5 i0 (.int .u8 0) 1 Tryd.underlying22 hi hz0 hz1 hz2 rfl _ _ _ rfl (how.alloc _) (some ⟨w.heap.size + 1, 0, none⟩) 3 3 (vals .u8 [130, a, b]) rfl rfl (fun _ => ⟨_, _, rfl, lit_news2 w _ [130, a, b] 5 _ rfl⟩) (vals_one _ _) (by unfold maxLen; omega) (by omega) (by simp; omega) ?_; intro v1 w1 how1 hg1)
      | fail)
    go_ret
    exact head_done ht HU.out how how1 hg1
  have h3i : ¬ (n : Int) < 65536 := by omega
  have h3d : decide ((n : Int) < 65536) = false := decide_eq_false h3i
  obtain ⟨c, HC⟩ : ∃ c, Hid (n / 65536 = c) := ⟨_, hide rfl⟩
  obtain ⟨d, HD⟩ : ∃ d, Hid (n / 256 % 256 = d) := ⟨_, hide rfl⟩
  have ec : (n : Int) / 65536 = (c : Int) := by have := HC.out; omega
  have ed : (a : Int) % 256 = (d : Int) := by have := HD.out; have := HA.out; omega
  have hcw : IntKind.u8.wrap (c : Int) = c := by have := HC.out; rw [IntKind.wrap_u8]; omega
  have hdw : IntKind.u8.wrap (d : Int) = d := by have := HD.out; rw [IntKind.wrap_u8]; omega
  have HL : Hid (lenE n = [131, c, d, b]) := hide (by unfold lenE; rw [if_neg h1, if_neg h2, if_neg h3, HC.out, HD.out, HB.out])
  rw [HL.out] at HU ⊢
  clear HL
  go_enter Tryd.func39, Tryd.ntmps39
  go_wp2_with (first
    | (at_builtin; refine wpList_append_rows _ rfl _ _ 22 22 5 rfl Tryd.underlying22 w.heap.size 5 i0 (.int .u8 0) 1 Tryd.underlying22 hi hz0 hz1 hz2 rfl _ _ _ rfl (how.alloc _) (some ⟨w.heap.size + 1, 0, none⟩) 4 4 (vals .u8 [131, c, d, b]) rfl rfl (fun _ => ⟨_, _, rfl, lit_news2 w _ [131, c, d, b] 5 _ rfl⟩) (vals_one _ _) (by unfold maxLen; omega) (by omega) (by simp; omega) ?_; intro v1 w1 how1 hg1)
    | fail)
  go_ret
  exact head_done ht HU.out how how1 hg1
end Go.Proofs.YtjkciheoknjfhaaDoor

/- The document's length. -/
namespace Go.Proofs.YtjkciheoknjfhaaDoor
open Go.RowKit
set_option linter.unusedVariables false

/-- a part of a text -/
theorem Row.part {k : IntKind} {m : Nat} {w : World} {bl off n cap : Nat} {l : List Nat} (h : Row k m w (.slice (some ⟨bl, off, none⟩) n cap) l) {i j : Nat} (hij : i ≤ j) (hj : j ≤ l.length) :
    Row k m w (.slice (some ⟨bl, off + i, none⟩) (j - i) (cap - i)) ((l.take j).drop i) := by
  obtain ⟨a', cap', he, h1, h2, h3, h4⟩ := h
  simp at he
  obtain ⟨rfl, rfl, rfl⟩ := he
  have hlen : ((l.take j).drop i).length = j - i := by simp; omega
  refine ⟨_, _, by rw [hlen], by omega, by omega, fun hp => ?_, fun x hx => h4 x (List.mem_of_mem_take (List.mem_of_mem_drop hx))⟩
  rw [hlen] at hp
  obtain ⟨b', o', e, hc⟩ := h3 (by omega)
  simp at e
  obtain ⟨rfl, rfl⟩ := e
  refine ⟨bl, off + i, rfl, fun x hx => ?_⟩
  rw [hlen] at hx
  have c := hc (i + x) (by omega)
  rw [Nat.add_assoc, c]
  congr 2
  rw [el_at (by omega), el_at (by omega), List.getElem_drop, List.getElem_take]
theorem beN_num (l : List Nat) (hu : Under 256 l) (hl : l.length ≤ 3) : numL l = beN l ∧ beN l < 16777216 := by
  match l, hl with
  | [], _ => exact ⟨rfl, by decide⟩
  | [a], _ =>
    have ha := hu a (by simp)
    simp [numL, beN]; omega
  | [a, b], _ =>
    have ha := hu a (by simp)
    have hb := hu b (by simp)
    simp [numL, beN]; omega
  | [a, b, c], _ =>
    have ha := hu a (by simp)
    have hb := hu b (by simp)
    have hc := hu c (by simp)
    simp [numL, beN]; omega
/-- what length tells -/
def LenE (b : List Nat) (w : World) (e : Ending) (w' : World) : Prop := e = .returned (.tuple #[.int .i64 ((lenD b).1 : Nat), .int .i64 ((lenD b).2 : Nat)]) ∧ w' = w
theorem LenE.of {b : List Nat} {w : World} {n k : Nat} (h : lenD b = (n, k)) : LenE b w (.returned (.tuple #[.int .i64 n, .int .i64 k])) w := ⟨by rw [h], rfl⟩

theorem LenE.of' {b : List Nat} {w : World} {n k : Nat} {z : Int} (h : lenD b = (n, k)) (hz : z = (k : Int)) : LenE b w (.returned (.tuple #[.int .i64 n, .int .i64 z])) w := by rw [hz]; exact LenE.of h

set_option maxHeartbeats 2000000 in
theorem rlength_any (v : Value) (b : List Nat) (w : World) (h : Row .u8 256 w v b) (hl : b.length ≤ 2000000) :
    Calls Tryd.prog 32 #[v] w fun e w' => LenE b w e w' := by
  have h' := h
  have hu := h.under
  obtain ⟨a, cap, rfl, g1, g2, g3, g4⟩ := h
  unfold maxLen at g2
  by_cases h0 : b.length = 0
  · have h0i : ((b.length : Int) == 0) = true := beq_iff_eq.2 (by omega)
    have HD : Hid (lenD b = (0, 0)) := hide (by unfold lenD; rw [if_pos h0])
    clear h0
    go_enter Tryd.func32, Tryd.ntmps32
    go_wp2
    go_ret2
    exact LenE.of HD.out
  obtain ⟨bl, off, rfl, hc⟩ := g3 (by omega)
  have h0i : ((b.length : Int) == 0) = false := beq_eq_false_iff_ne.2 (by omega)
  have hp : 0 < b.length := by omega
  have c0 : w.cell? ⟨bl, off, none⟩ = some (.int .u8 (el b 0)) := hc 0 (by omega)
  have hx := el_lt hu (by decide) 0
  by_cases h1 : el b 0 < 128
  · have HD : Hid (lenD b = (el b 0, 1)) := hide (by unfold lenD; rw [if_neg h0, if_pos h1])
    have h1i : (el b 0 : Int) < 128 := by omega
    generalize el b 0 = x at *
    clear hc g3 h0
    go_enter Tryd.func32, Tryd.ntmps32
    go_wp2
    go_ret2
    exact LenE.of HD.out
  have h1i : ¬ (el b 0 : Int) < 128 := by omega
  have h1d : decide ((el b 0 : Int) < 128) = false := decide_eq_false h1i
  have h1e : decide (el b 0 < 128) = false := decide_eq_false h1
  obtain ⟨k, HK⟩ : ∃ k, Hid (el b 0 - 128 = k) := ⟨_, hide rfl⟩
  have ek : (el b 0 : Int) - 128 = (k : Int) := by have := HK.out; omega
  have hk128 : k < 128 := by have := HK.out; omega
  by_cases hk : k < 1 ∨ 3 < k ∨ b.length < 1 + k
  · have HD : Hid (lenD b = (0, 0)) := hide (by unfold lenD; rw [if_neg h0, if_neg h1, HK.out, if_pos hk])
    generalize el b 0 = x at *
    clear h0 HK
    by_cases k1 : k < 1
    · have k1i : (k : Int) < 1 := by omega
      clear hk hc g3
      go_enter Tryd.func32, Tryd.ntmps32
      go_wp2
      go_ret2
      exact LenE.of HD.out
    · have k1i : ¬ (k : Int) < 1 := by omega
      have k1d : decide ((k : Int) < 1) = false := decide_eq_false k1i
      have k1e : decide (k < 1) = false := decide_eq_false k1
      by_cases k2 : 3 < k
      · have k2i : (3 : Int) < (k : Int) := by omega
        clear hk hc g3
        go_enter Tryd.func32, Tryd.ntmps32
        go_wp2
        go_ret2
        exact LenE.of HD.out
      · have k2i : ¬ (3 : Int) < (k : Int) := by omega
        have k2d : decide ((3 : Int) < (k : Int)) = false := decide_eq_false k2i
        have k2e : decide (3 < k) = false := decide_eq_false k2
        have k3i : (b.length : Int) < 1 + (k : Int) := by omega
        clear hk hc g3
        go_enter Tryd.func32, Tryd.ntmps32
        go_wp2
        go_ret2
        exact LenE.of HD.out
  · have k1 : ¬ k < 1 := by omega
    have k1i : ¬ (k : Int) < 1 := by omega
    have k1d : decide ((k : Int) < 1) = false := decide_eq_false k1i
    have k1e : decide (k < 1) = false := decide_eq_false k1
    have k2 : ¬ 3 < k := by omega
    have k2i : ¬ (3 : Int) < (k : Int) := by omega
    have k2d : decide ((3 : Int) < (k : Int)) = false := decide_eq_false k2i
    have k2e : decide (3 < k) = false := decide_eq_false k2
    have k3i : ¬ (b.length : Int) < 1 + (k : Int) := by omega
    have k3d : decide ((b.length : Int) < 1 + (k : Int)) = false := decide_eq_false k3i
    have hr := h'.part (i := 1) (j := 1 + k) (by omega) (by omega)
    rw [show 1 + k - 1 = k by omega, show (b.take (1 + k)).drop 1 = (b.drop 1).take k by rw [Nat.add_comm, List.drop_take]; simp] at hr
    obtain ⟨HN1, HN2⟩ := beN_num ((b.drop 1).take k) hr.under (by simp; omega)
    have hnum := rnum_any _ ((b.drop 1).take k) w hr
    have c1 : w.cell? ⟨bl, off + 1, none⟩ = some (.int .u8 (el b 1)) := hc 1 (by omega)
    rw [HN1] at hnum
    have HD0 : Hid (lenD b = if el b 1 = 0 ∨ beN ((b.drop 1).take k) < 128 then (0, 0) else (beN ((b.drop 1).take k), 1 + k)) := hide (by unfold lenD; rw [if_neg h0, if_neg h1, HK.out, if_neg hk])
    generalize beN ((b.drop 1).take k) = n at *
    generalize el b 0 = x at *
    generalize el b 1 = y at *
    have hlk : 1 + k ≤ b.length := by omega
    have hlp : 1 < b.length := by omega
    clear hk hc g3 h0 HK hr HN1
    have hck : 1 + k ≤ cap := by omega
    have hk0 : 0 < k := by omega
    by_cases hy : y = 0
    · have hyi : ((y : Int) == 0) = true := beq_iff_eq.2 (by omega)
      have HD : Hid (lenD b = (0, 0)) := hide (by rw [HD0.out, if_pos (.inl hy)])
      clear HD0 hy
      go_enter Tryd.func32, Tryd.ntmps32
      go_wp2_with fail
      refine hnum.mono ?_
      rintro e w1 ⟨rfl, rfl⟩
      clear hnum
      go_wp2
      go_ret2
      exact LenE.of HD.out
    · have hyi : ((y : Int) == 0) = false := beq_eq_false_iff_ne.2 (by omega)
      by_cases hn : n < 128
      · have hni : (n : Int) < 128 := by omega
        have HD : Hid (lenD b = (0, 0)) := hide (by rw [HD0.out, if_pos (.inr hn)])
        clear HD0 hy
        go_enter Tryd.func32, Tryd.ntmps32
        go_wp2_with fail
        refine hnum.mono ?_
        rintro e w1 ⟨rfl, rfl⟩
        clear hnum
        go_wp2
        go_ret2
        exact LenE.of HD.out
      · have hni : ¬ (n : Int) < 128 := by omega
        have hnd : decide ((n : Int) < 128) = false := decide_eq_false hni
        have hne : decide (n < 128) = false := decide_eq_false hn
        have HD : Hid (lenD b = (n, 1 + k)) := hide (by rw [HD0.out, if_neg (by omega)])
        clear HD0 hy
        go_enter Tryd.func32, Tryd.ntmps32
        go_wp2_with fail
        refine hnum.mono ?_
        rintro e w1 ⟨rfl, rfl⟩
        clear hnum
        go_wp2
        go_ret2
        exact LenE.of' HD.out (by omega)
end Go.Proofs.YtjkciheoknjfhaaDoor

/- der's reader: take, tag. -/
namespace Go.Proofs.YtjkciheoknjfhaaDoor
open Go.RowKit Go.Deep
set_option linter.unusedVariables false

/-- a reader's box: what is not read yet, how deep it is -/
def RB (w : World) (P : Nat) (v : Value) (d : Nat) : Prop := w.heap[P]? = some (.cells #[v, .int .i64 d] 55)
/-- but for one block nothing older has turned -/
def Turn (P : Nat) (w w' : World) : Prop := Below P w w' ∧ ∀ k, P < k → k < w.heap.size → w'.heap[k]? = w.heap[k]?
theorem Turn.refl (P : Nat) (w : World) : Turn P w w := ⟨Below.refl _ _, fun _ _ _ => rfl⟩
theorem Turn.trans {P : Nat} {a b c : World} (h : Turn P a b) (k : Turn P b c) : Turn P a c :=
  ⟨h.1.trans k.1, fun i h1 h2 => (k.2 i h1 (Nat.lt_of_lt_of_le h2 h.1.size)).trans (h.2 i h1 h2)⟩
theorem Turn.below {P : Nat} {w w' : World} (h : Below w.heap.size w w') (hP : P ≤ w.heap.size) : Turn P w w' := ⟨h.mono hP, fun k _ hk => h.block k hk⟩
theorem Turn.set (P o : Nat) (w : World) (v : Value) : Turn P w (w.setCell ⟨P, o, none⟩ v) :=
  ⟨(Below.refl P w).setCell (by show P ≤ P; exact Nat.le_refl _) _, fun k h1 h2 => heap_setCell_other _ _ _ _ (by show k ≠ P; omega)⟩
theorem Turn.size {P : Nat} {w w' : World} (h : Turn P w w') : w.heap.size ≤ w'.heap.size := h.1.size
theorem Turn.old {P : Nat} {w w' : World} (h : Turn P w w') {k : Nat} (hk : k < w.heap.size) (hne : k ≠ P) : w'.heap[k]? = w.heap[k]? := by
  rcases Nat.lt_or_ge k P with hl | hl
  · exact h.1.block k hl
  · exact h.2 k (by omega) hk
/-- a text that lies in old blocks -/
def TX (B0 : Nat) (w : World) (v : Value) (l : List Nat) : Prop := Row .u8 256 w v l ∧ ValIn (fun k => k < B0) v ∧ Tidy v
theorem TX.turn {B0 P : Nat} {w w' : World} {v : Value} {l : List Nat} (h : TX B0 w v l) (hB : B0 ≤ P) (ht : Turn P w w') : TX B0 w' v l :=
  ⟨h.1.otherIn h.2.1 (fun b hb hl => ht.old hl (by omega)), h.2⟩
theorem cells2 {w : World} {p : Nat} {c0 c1 : Value} {t : TypeId} (h : w.heap[p]? = some (.cells #[c0, c1] t)) : w.cell? ⟨p, 0, none⟩ = some c0 ∧ w.cell? ⟨p, 1, none⟩ = some c1 ∧ w.frozen? ⟨p, 0, none⟩ = false ∧ w.frozen? ⟨p, 1, none⟩ = false :=
  ⟨by rw [cell_at' h]; rfl, by rw [cell_at' h]; rfl, frozen_of_row w _ 0 _ _ h, frozen_of_row w _ 1 _ _ h⟩
theorem RB.set {w : World} {P d : Nat} {v : Value} (h : RB w P v d) (u : Value) : RB (w.setCell ⟨P, 0, none⟩ u) P u d := by
  unfold RB at *
  rw [heap_setCell_same _ _ _ _ _ _ h]
  rfl
theorem RB.lt {w : World} {P d : Nat} {v : Value} (h : RB w P v d) : P < w.heap.size := (Array.getElem?_eq_some_iff.1 h).1
theorem RB.below {w w' : World} {P d : Nat} {v : Value} (h : RB w P v d) (hb : Below w.heap.size w w') : RB w' P v d := by
  unfold RB
  rw [hb.block P h.lt]
  exact h
/-- what is thrown -/
def thr (er : Nat) : Ending := .panicked [{ v := .iface 27 (.int .i64 (er : Nat)), recovered := false }]
theorem TX.empty {B0 : Nat} {w : World} {x : Addr} {cap : Nat} (h : cap ≤ maxLen) : TX B0 w (.slice (some x) 0 cap) [] :=
  ⟨⟨_, cap, rfl, Nat.zero_le _, h, fun h => by simp at h, fun x hx => by simp at hx⟩, fun b hb => by simp [lenV] at hb, fun n c he => by simp at he⟩
theorem TX.nil {B0 : Nat} {w : World} : TX B0 w (.slice none 0 0) [] :=
  ⟨Row.nil _ _ _, fun b hb => by simp [lenV] at hb, fun n c he => by simp at he; omega⟩

/-- what take tells -/
def TakeE (B0 P d n : Nat) (l : List Nat) (w : World) (e : Ending) (w' : World) : Prop :=
  ((l.length < n ∧ e = thr 1) ∨ (n ≤ l.length ∧ ∃ u v', e = .returned u ∧ TX B0 w' u (l.take n) ∧ RB w' P v' d ∧ TX B0 w' v' (l.drop n))) ∧ Turn P w w'
set_option maxHeartbeats 2000000 in
theorem take_any (B0 P d n : Nat) (v : Value) (l : List Nat) (w : World) (hr : RB w P v d) (hx : TX B0 w v l) (hB : B0 ≤ P) (hn : n ≤ 100000000) :
    Calls Tryd.prog 42 #[.pointer (some ⟨P, 0, none⟩), .int .i64 n] w fun e w' => TakeE B0 P d n l w e w' := by
  obtain ⟨c0, c1, f0, f1⟩ := cells2 hr
  have hx' := hx
  obtain ⟨hrow, hin, htd⟩ := hx
  have hrow' := hrow
  obtain ⟨a, cap, rfl, g1, g2, g3, g4⟩ := hrow
  unfold maxLen at g2
  by_cases hgt : l.length < n
  · have hgi : (l.length : Int) < (n : Int) := by omega
    go_enter Tryd.func42, Tryd.ntmps42
    go_wp2_with fail
    exact ⟨rfl, .inl ⟨hgt, rfl⟩, Turn.refl _ _⟩
  · have hgi : ¬ (l.length : Int) < (n : Int) := by omega
    have hle : (n : Int) ≤ (l.length : Int) := by omega
    have hnl : n ≤ l.length := by omega
    have hcap : (n : Int) ≤ (cap : Int) := by omega
    have hcapn : n ≤ cap := by omega
    have hlc : (l.length : Int) ≤ (cap : Int) := by omega
    have HNL := hide hnl
    cases a with
    | none =>
      obtain ⟨hz1, hz2⟩ := htd _ _ rfl
      have hl0 : l = [] := List.eq_nil_of_length_eq_zero hz1
      subst hl0
      subst hz2
      have hn0 : n = 0 := by simpa using hnl
      subst hn0
      go_enter Tryd.func42, Tryd.ntmps42
      go_wp2_with fail
      go_ret
      exact ⟨.inr ⟨Nat.zero_le _, _, _, rfl, TX.nil, RB.set hr _, TX.nil⟩, Turn.set _ _ _ _⟩
    | some x =>
      obtain ⟨bl, off, spot⟩ := x
      by_cases hl0 : l.length = 0
      · have hl0' : l = [] := List.eq_nil_of_length_eq_zero hl0
        subst hl0'
        have hn0 : n = 0 := by simpa using hnl
        subst hn0
        clear g3
        by_cases hc0 : cap = 0
        · subst hc0
          go_enter Tryd.func42, Tryd.ntmps42
          go_wp2_with fail
          go_ret
          exact ⟨.inr ⟨Nat.zero_le _, _, _, rfl, TX.empty (Nat.zero_le _), RB.set hr _, TX.empty (Nat.zero_le _)⟩, Turn.set _ _ _ _⟩
        · have hc1 : ¬ 0 = cap := fun e => hc0 e.symm
          go_enter Tryd.func42, Tryd.ntmps42
          go_wp2_with fail
          go_ret
          exact ⟨.inr ⟨Nat.zero_le _, _, _, rfl, TX.empty (by unfold maxLen; omega), RB.set hr _, TX.empty (by unfold maxLen; omega)⟩, Turn.set _ _ _ _⟩
      · obtain ⟨bl', off', he, hc⟩ := g3 (by omega)
        simp at he
        obtain ⟨rfl, rfl, rfl⟩ := he
        have hpt := hrow'.part (i := 0) (j := n) (Nat.zero_le _) hnl
        have hrs := hrow'.part (i := n) (j := l.length) hnl (Nat.le_refl _)
        rw [List.take_of_length_le (Nat.le_refl _)] at hrs
        simp only [Nat.sub_zero, Nat.add_zero, List.drop_zero] at hpt
        have hbl : bl < B0 := hin bl (by simp [lenV]; omega) rfl
        clear hc g3
        generalize hL : l.length = L at *
        have HLN : Hid (l.length = L) := hide hL
        clear hL
        by_cases hcn : cap = n
        · subst hcn
          go_enter Tryd.func42, Tryd.ntmps42
          go_wp2_with fail
          go_ret
          have hts := Turn.set P 0 w (.slice (some ⟨bl, off, none⟩) 0 0)
          refine ⟨.inr ⟨HLN.out ▸ hnl, _, _, rfl, TX.turn ⟨hpt, fun q hq e => ?_, fun n c he => by simp at he⟩ hB hts, RB.set hr _, ?_⟩, hts⟩
          · have e' : bl = q := by simpa [Value.ownBlock] using e
            omega
          · rw [List.drop_eq_nil_of_le (by have := HLN.out; omega)]
            exact TX.empty (Nat.zero_le _)
        · have hcn' : ¬ n = cap := fun e => hcn e.symm
          go_enter Tryd.func42, Tryd.ntmps42
          go_wp2_with fail
          go_ret
          have hts := Turn.set P 0 w (.slice (some ⟨bl, off + n, none⟩) (L - n) (cap - n))
          refine ⟨.inr ⟨HLN.out ▸ hnl, _, _, rfl, TX.turn ⟨hpt, fun q hq e => ?_, fun n c he => by simp at he⟩ hB hts, RB.set hr _, TX.turn ⟨hrs, fun q hq e => ?_, fun n c he => by simp at he⟩ hB hts⟩, hts⟩
          · have e' : bl = q := by simpa [Value.ownBlock] using e
            omega
          · have e' : bl = q := by simpa [Value.ownBlock] using e
            omega
end Go.Proofs.YtjkciheoknjfhaaDoor

/- der's reader: tag, length. -/
namespace Go.Proofs.YtjkciheoknjfhaaDoor
open Go.RowKit Go.Deep
set_option linter.unusedVariables false

theorem or8_i64 (n x : Nat) (hn : n < 16777216) (hx : x < 256) : bits .or .i64 ((n : Int) * 256) (x : Int) = ((n * 256 + x : Nat) : Int) := by
  show IntKind.i64.wrap ((BitVec.ofInt 64 ((n : Int) * 256) ||| BitVec.ofInt 64 (x : Int)).toNat : Int) = _
  rw [show (n : Int) * 256 = ((n * 256 : Nat) : Int) by omega, BitVec.toNat_or, ofInt_u64 _ (by omega), ofInt_u64 _ (by omega), nat_join 8 _ _ (by omega) (by omega)]
  have e : ((n * 256 + x : Nat) : Int) % 2 ^ 64 = ((n * 256 + x : Nat) : Int) := Int.emod_eq_of_lt (by omega) (by omega)
  simp only [IntKind.wrap, IntKind.bits, IntKind.signed, e]
  rw [if_neg]
  simp
  omega
theorem TX.first {B0 : Nat} {w : World} {u : Value} {t : Nat} {r : List Nat} (h : TX B0 w u ((t :: r).take 1)) : ∃ b off cap, u = .slice (some ⟨b, off, none⟩) 1 cap ∧ w.cell? ⟨b, off, none⟩ = some (.int .u8 t) ∧ 1 ≤ cap ∧ cap ≤ 9223372036854775807 ∧ t < 256 := by
  have h' : TX B0 w u [t] := h
  obtain ⟨⟨a, cap, rfl, h1, h2, h3, h4⟩, _⟩ := h'
  obtain ⟨b, off, rfl, hc⟩ := h3 (by simp)
  unfold maxLen at h2
  exact ⟨b, off, cap, rfl, hc 0 (by simp), h1, by omega, h4 t (by simp)⟩

/-- what tag tells -/
def TagE (B0 P d : Nat) (l : List Nat) (w : World) (e : Ending) (w' : World) : Prop :=
  ((l = [] ∧ e = thr 1) ∨ (∃ t r, l = t :: r ∧ taggedB (t : Int) = false ∧ e = thr 4) ∨ (∃ t r v', l = t :: r ∧ taggedB (t : Int) = true ∧ e = .returned (.int .i64 (t : Nat)) ∧ RB w' P v' d ∧ TX B0 w' v' r)) ∧ Turn P w w'
set_option maxHeartbeats 2000000 in
theorem tag_any (B0 P d : Nat) (v : Value) (l : List Nat) (w : World) (hr : RB w P v d) (hx : TX B0 w v l) (hB : B0 ≤ P) :
    Calls Tryd.prog 41 #[.pointer (some ⟨P, 0, none⟩)] w fun e w' => TagE B0 P d l w e w' := by
  have hcall := take_any B0 P d 1 v l w hr hx hB (by omega)
  go_enter Tryd.func41, Tryd.ntmps41
  go_wp2_with fail
  refine hcall.mono ?_
  rintro e w1 ⟨⟨hlt, rfl⟩ | ⟨hle, u, v', rfl, hu, hr1, hx1⟩, ht⟩
  · have hl0 : l = [] := List.eq_nil_of_length_eq_zero (by omega)
    subst hl0
    unfold thr
    go_wp2_with fail
    exact ⟨rfl, .inl ⟨rfl, rfl⟩, ht⟩
  · cases l with
    | nil => simp at hle
    | cons t r =>
      obtain ⟨b, off, cap, rfl, c0, hc1, hc2, ht8⟩ := TX.first hu
      have hx2 : TX B0 w1 v' r := hx1
      have hpl := plain_any (t : Int) w1
      have hbx := boxed_any (t : Int) w1
      have HO := hide (tagged_or (t : Int))
      clear hcall hu hx1
      cases hp : plainB (t : Int) with
      | true =>
        rw [hp] at hpl HO
        have HT : Hid (taggedB (t : Int) = true) := hide (by rw [HO.out]; rfl)
        go_wp2_with (first
          | (go_at_call 55; refine hpl.mono ?_; rintro e w2 ⟨rfl, rfl⟩)
          | (go_at_call 18; refine hbx.mono ?_; rintro e w2 ⟨rfl, rfl⟩)
          | fail)
        go_ret
        exact ⟨.inr (.inr ⟨t, r, v', rfl, HT.out, rfl, hr1, hx2⟩), ht⟩
      | false =>
        rw [hp] at hpl HO
        cases hb : boxedB (t : Int) with
        | true =>
          rw [hb] at hbx HO
          have HT : Hid (taggedB (t : Int) = true) := hide (by rw [HO.out]; rfl)
          go_wp2_with (first
            | (go_at_call 55; refine hpl.mono ?_; rintro e w2 ⟨rfl, rfl⟩)
            | (go_at_call 18; refine hbx.mono ?_; rintro e w3 ⟨rfl, rfl⟩)
            | fail)
          go_ret
          exact ⟨.inr (.inr ⟨t, r, v', rfl, HT.out, rfl, hr1, hx2⟩), ht⟩
        | false =>
          rw [hb] at hbx HO
          have HT : Hid (taggedB (t : Int) = false) := hide (by rw [HO.out]; rfl)
          go_wp2_with (first
            | (go_at_call 55; refine hpl.mono ?_; rintro e w2 ⟨rfl, rfl⟩)
            | (go_at_call 18; refine hbx.mono ?_; rintro e w3 ⟨rfl, rfl⟩)
            | fail)
          exact ⟨rfl, .inr (.inl ⟨t, r, rfl, HT.out, rfl⟩), ht⟩

theorem lenD_short {f : Nat} {r : List Nat} (h : f < 128) : lenD (f :: r) = (f, 1) := by
  unfold lenD
  rw [if_neg (by simp), show el (f :: r) 0 = f from rfl, if_pos h]
theorem lenD_odd {f : Nat} {r : List Nat} (h : ¬ f < 128) (h2 : f - 128 = 0 ∨ 3 < f - 128 ∨ r.length < f - 128) : lenD (f :: r) = (0, 0) := by
  unfold lenD
  rw [if_neg (by simp), show el (f :: r) 0 = f from rfl, if_neg h, if_pos (by simp only [List.length_cons]; omega)]
theorem lenD_long {f : Nat} {r : List Nat} (hu : Under 256 (f :: r)) (h : ¬ f < 128) (h1 : ¬ f - 128 = 0) (h2 : ¬ 3 < f - 128) (h3 : f - 128 ≤ r.length) :
    lenD (f :: r) = if lsz (beN (r.take (f - 128))) = f - 128 then (beN (r.take (f - 128)), 1 + (f - 128)) else (0, 0) := by
  unfold lenD
  rw [if_neg (by simp), show el (f :: r) 0 = f from rfl, if_neg h, if_neg (by simp only [List.length_cons]; omega), List.drop_one, List.tail_cons]
  have hc : (el (f :: r) 1 = 0 ∨ beN (r.take (f - 128)) < 128) ↔ ¬ lsz (beN (r.take (f - 128))) = f - 128 := by
    rcases (by omega : f = 129 ∨ f = 130 ∨ f = 131) with rfl | rfl | rfl
    · match r, h3 with
      | a :: r, _ =>
        have ha := hu a (by simp)
        simp [beN, el, lsz]
        repeat' split
        all_goals omega
    · match r, h3 with
      | a :: b :: r, _ =>
        have ha := hu a (by simp)
        have hb := hu b (by simp)
        simp [beN, el, lsz]
        repeat' split
        all_goals omega
      | [a], h3 => simp at h3
    · match r, h3 with
      | a :: b :: c :: r, _ =>
        have ha := hu a (by simp)
        have hb := hu b (by simp)
        have hc := hu c (by simp)
        simp [beN, el, lsz]
        repeat' split
        all_goals omega
      | [a, b], h3 => simp at h3
      | [a], h3 => simp at h3
  by_cases hx : lsz (beN (r.take (f - 128))) = f - 128
  · rw [if_pos hx, if_neg (fun hh => hc.1 hh hx)]
  · rw [if_neg hx, if_pos (hc.2 hx)]
theorem beN_take {s : List Nat} {k : Nat} (h : k < s.length) : beN (s.take (k + 1)) = beN (s.take k) * 256 + el s k := by
  unfold beN
  rw [take_el h, List.foldl_append]
  rfl
theorem beN_lt {s : List Nat} (hu : Under 256 s) : ∀ k, k ≤ s.length → beN (s.take k) < 256 ^ k
  | 0, _ => by simp [beN]
  | k + 1, hk => by
    have h1 := beN_lt hu k (by omega)
    have h2 := el_lt hu (by decide) k
    rw [beN_take (by omega), Nat.pow_succ]
    omega
/-- what length tells -/
def LngE (B0 P d : Nat) (l : List Nat) (w : World) (e : Ending) (w' : World) : Prop :=
  (((lenD l).2 = 0 ∧ e = thr 1) ∨ ((lenD l).2 ≠ 0 ∧ ∃ v', e = .returned (.int .i64 ((lenD l).1 : Nat)) ∧ RB w' P v' d ∧ TX B0 w' v' (l.drop (lenD l).2))) ∧ Turn P w w'
set_option maxRecDepth 100000 in
set_option maxHeartbeats 4000000 in
theorem length_any (B0 P d : Nat) (v : Value) (l : List Nat) (w : World) (hr : RB w P v d) (hx : TX B0 w v l) (hB : B0 ≤ P) :
    Calls Tryd.prog 43 #[.pointer (some ⟨P, 0, none⟩)] w fun e w' => LngE B0 P d l w e w' := by
  have hcall := take_any B0 P d 1 v l w hr hx hB (by omega)
  go_enter Tryd.func43, Tryd.ntmps43
  go_wp2_with fail
  refine hcall.mono ?_
  rintro e w1 ⟨⟨hlt, rfl⟩ | ⟨hle, u, v', rfl, hu, hr1, hx1⟩, ht⟩
  · have hl0 : l = [] := List.eq_nil_of_length_eq_zero (by omega)
    subst hl0
    unfold thr
    go_wp2_with fail
    exact ⟨rfl, .inl ⟨rfl, rfl⟩, ht⟩
  · cases l with
    | nil => simp at hle
    | cons f r =>
      have hun := hx.1.under
      obtain ⟨b, off, cap, rfl, c0, hc1, hc2, ht8⟩ := TX.first hu
      have hx2 : TX B0 w1 v' r := hx1
      clear hcall hu hx1
      by_cases h128 : f < 128
      · have hfi : (f : Int) < 128 := by omega
        have HL := hide (lenD_short (r := r) h128)
        go_wp2_with fail
        go_ret
        exact ⟨.inr ⟨by rw [HL.out]; simp, v', by rw [HL.out]; rfl, hr1, by rw [HL.out]; exact hx2⟩, ht⟩
      · have hfi : ¬ (f : Int) < 128 := by omega
        have hfi2 : (f : Int) - 128 < 256 := by omega
        have hfi3 : (0 : Int) ≤ (f : Int) - 128 := by omega
        obtain ⟨s, hs⟩ : ∃ s : Nat, f = s + 128 := ⟨f - 128, by omega⟩
        subst hs
        have HS : Hid (s + 128 - 128 = s) := hide (by omega)
        by_cases hs0 : s = 0
        · subst hs0
          have HL := hide (lenD_odd (r := r) h128 (.inl rfl))
          go_wp2_with fail
          exact ⟨rfl, .inl ⟨by rw [HL.out], rfl⟩, ht⟩
        · have hs0i : ((s : Int) == 0) = false := beq_eq_false_iff_ne.2 (by omega)
          by_cases hs3 : 3 < s
          · have HL := hide (lenD_odd (r := r) h128 (.inr (.inl (by omega))))
            have hs3i : (3 : Int) < (s : Int) := by omega
            go_wp2_with fail
            exact ⟨rfl, .inl ⟨by rw [HL.out], rfl⟩, ht⟩
          · have hs3i : ¬ (3 : Int) < (s : Int) := by omega
            have hs3d : decide ((3 : Int) < (s : Int)) = false := decide_eq_false hs3i
            have htk := take_any B0 P d s v' r w1 hr1 hx2 hB (by omega)
            go_wp2_with fail
            refine htk.mono ?_
            rintro e w2 ⟨⟨hlt, rfl⟩ | ⟨hle2, u2, v2, rfl, hu2, hr2, hx3⟩, ht2⟩
            · have HL := hide (lenD_odd (r := r) h128 (.inr (.inr (by omega))))
              unfold thr
              go_wp2_with fail
              exact ⟨rfl, .inl ⟨by rw [HL.out], rfl⟩, ht.trans ht2⟩
            · have HL := hide (lenD_long hun h128 (by omega) (by omega) (by omega))
              rw [HS.out] at HL
              have htt := ht.trans ht2
              have hul : (r.take s).length = s := by simp; omega
              have hus : Under 256 (r.take s) := hu2.1.under
              have hrw2 := hu2.1
              obtain ⟨a2, cap2, hva, k1, k2, k3, k4⟩ := hrw2
              unfold Cells at k3
              rw [hul] at k3 k1 hva
              subst hva
              unfold maxLen at k2
              obtain ⟨bl, of2, rfl, hcc⟩ := k3 (by omega)
              clear htk hu2 ht ht2 k3 c0 hc1 hc2 hr1 hx2
              go_wp2_with fail
              go_loop [5, 29] (fun nv iv => ∃ k N : Nat, k ≤ s ∧ iv = .int .i64 k ∧ nv = .int .i64 N ∧ Hid (beN ((r.take s).take k) = N) ∧ N < 256 ^ k) (fun _ iv => s - (intOf iv).toNat)
              case atStart => exact ⟨0, 0, Nat.zero_le _, rfl, rfl, hide rfl, by simp⟩
              case round =>
                obtain ⟨k, N, hk, rfl, rfl, HN, hN⟩ := hrel
                by_cases hlt : k < s
                · have ck := hcc k hlt
                  clear hcc
                  have hy := el_lt hus (by decide) k
                  have HB := hide (beN_take (s := r.take s) (k := k) (by omega))
                  rw [HN.out] at HB
                  generalize el (r.take s) k = y at *
                  have hN3 : N < 65536 := by
                    have : 256 ^ k ≤ 256 ^ 2 := Nat.pow_le_pow_right (by decide) (by omega)
                    omega
                  have hNi : (N : Int) * 256 < 9223372036854775808 := by omega
                  have hor := or8_i64 N y (by omega) hy
                  have hM : N * 256 + y < 256 ^ (k + 1) := by rw [Nat.pow_succ]; omega
                  have hlti : (k : Int) < (s : Int) := by omega
                  have HM : Hid (beN ((r.take s).take (k + 1)) = N * 256 + y) := HB
                  generalize N * 256 + y = M at *
                  clear hN HB
                  go_wp2_with fail
                  go_round
                  case rel => exact ⟨k + 1, M, by omega, by go_num, rfl, HM, hM⟩
                  case measure => simp [intOf]; omega
                · have hks : k = s := by omega
                  subst hks
                  rw [List.take_of_length_le (by omega)] at HN
                  rw [HN.out] at HL
                  have hNb : N ≤ 1000000000 := by
                    have : 256 ^ k ≤ 256 ^ 3 := Nat.pow_le_pow_right (by decide) (by omega)
                    omega
                  have hls := lengthSize_any N hNb w2
                  have hltd : ¬ (k : Int) < (k : Int) := by omega
                  by_cases hz : lsz N = k
                  · rw [if_pos hz] at HL
                    have hzi : ((lsz N : Int) != (k : Int)) = false := by simp; omega
                    generalize lsz N = z at *
                    clear hz
                    go_wp2_with fail
                    refine hls.mono ?_
                    rintro e w3 ⟨rfl, rfl⟩
                    go_wp2_with fail
                    go_ret
                    exact ⟨.inr ⟨by rw [HL.out]; show 1 + k ≠ 0; omega, v2, by rw [HL.out]; rfl, hr2, by rw [HL.out]; show TX B0 _ v2 (List.drop (1 + k) ((k + 128) :: r)); rw [Nat.add_comm 1 k, List.drop_succ_cons]; exact hx3⟩, htt⟩
                  · rw [if_neg hz] at HL
                    have hzi : ((lsz N : Int) != (k : Int)) = true := by simp; omega
                    generalize lsz N = z at *
                    clear hz
                    go_wp2_with fail
                    refine hls.mono ?_
                    rintro e w3 ⟨rfl, rfl⟩
                    go_wp2_with fail
                    exact ⟨rfl, .inl ⟨by rw [HL.out], rfl⟩, htt⟩
end Go.Proofs.YtjkciheoknjfhaaDoor
