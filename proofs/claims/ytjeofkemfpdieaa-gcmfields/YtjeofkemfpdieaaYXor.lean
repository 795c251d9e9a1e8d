/- Contracts of bits.Xor, apostilleref01.Xor. -/
import Derived.Test.YtjeofkemfpdieaaHKit
import Derived.Deep.RegionHeld3
import Derived.Deep.AppendLies
namespace Go.Proofs.Ytjeofkemfpdieaa
open Go.RowKit
set_option linter.unusedVariables false

/-- two texts, byte against byte -/
def xrL (a b : List Nat) : List Nat := (List.range (min a.length b.length)).map (fun i => el a i ^^^ el b i)
def xrTo (a b : List Nat) (k : Nat) : List Nat := (List.range k).map (fun i => el a i ^^^ el b i)

theorem xrTo_succ (a b : List Nat) (k : Nat) : xrTo a b (k + 1) = xrTo a b k ++ [el a k ^^^ el b k] := by simp [xrTo, List.range_succ]
theorem xrTo_length (a b : List Nat) (k : Nat) : (xrTo a b k).length = k := by simp [xrTo]
theorem xr_lt (x y : Nat) (hx : x < 256) (hy : y < 256) : x ^^^ y < 256 := Nat.xor_lt_two_pow (n := 8) hx hy
theorem xrTo_under (a b : List Nat) (k : Nat) (ha : Under 256 a) (hb : Under 256 b) : Under 256 (xrTo a b k) := by
  intro x hx
  obtain ⟨i, _, rfl⟩ := List.mem_map.1 hx
  exact xr_lt _ _ (el_lt ha (by decide) i) (el_lt hb (by decide) i)

theorem not_ownX {w : World} {B : Nat} {e : TypeId} {v : Value} {k : Nat} {xs : List Value} (how : w.ownsRow B e 1 v k xs) {b : Nat} (hb : b < B) : v.ownBlock ≠ some b := by
  intro h
  have := (how.lt b h).1
  omega

set_option maxRecDepth 100000 in
set_option maxHeartbeats 3200000 in
theorem xr_any (va vb : Value) (l m : List Nat) (w : World) (ha : Row .u8 256 w va l) (hb : Row .u8 256 w vb m) (hl : l.length ≤ 140737488355328) :
    Calls Try.prog 42 #[va, vb] w fun e w' => ∃ v, e = .returned v ∧ Own 5 .u8 256 w' w.heap.size v (xrL l m) ∧ Below w.heap.size w w' := by
  obtain ⟨a, ca, rfl, ha1, ha2, ha3, ha4⟩ := ha
  obtain ⟨b, cb, rfl, hb1, hb2, hb3, hb4⟩ := hb
  unfold maxLen at ha2 hb2
  obtain ⟨i0, hi, hz0, hz1, hz2⟩ := info_parts Try.info5
  by_cases hmin : (m.length : Int) < (l.length : Int)
  all_goals
    go_enter Try.func42, Try.ntmps42
    go_wp2_with fail
    refine (room8_any _ _ (by omega)).mono ?_
    rintro e w1 ⟨v, rfl, ⟨ho, _⟩, hb⟩
    go_wp2
    go_loopw [6, 16] (fun v i wr => ∃ k : Nat, k ≤ l.length ∧ k ≤ m.length ∧ i = .int .i64 k ∧ wr.ownsRow w.heap.size 5 1 v k (vals .u8 (xrTo l m k)) ∧ Below w.heap.size w wr) (fun _ i _ => l.length - (intOf i).toNat)
    case atStart => exact ⟨0, Nat.zero_le _, Nat.zero_le _, rfl, ho, hb⟩
    case round =>
      obtain ⟨k, hk, hk2, rfl, how, hbr⟩ := hrel
      clear ho hb
      by_cases hlt : k < l.length ∧ k < m.length
      · obtain ⟨hlt, hlt2⟩ := hlt
        have hsz := hbr.size
        obtain ⟨ba, oa, rfl, hca⟩ := ha3 (by omega)
        obtain ⟨bb, ob, rfl, hcb⟩ := hb3 (by omega)
        have c1 := hca k hlt
        have c2 := hcb k hlt2
        have la := World.block_lt_of_cell? w _ c1
        have lb := World.block_lt_of_cell? w _ c2
        simp only at la lb
        rw [← hbr.cell (p := ⟨ba, oa + k, none⟩) la] at c1
        rw [← hbr.cell (p := ⟨bb, ob + k, none⟩) lb] at c2
        have na := not_ownX how la
        have nb := not_ownX how lb
        have hx := el_lt ha4 (by decide) k
        have hy := el_lt hb4 (by decide) k
        have ik0 : (0 : Int) ≤ (k : Int) := Int.natCast_nonneg _
        have ik1 : (k : Int) < (l.length : Int) := by omega
        have ik2 : (k : Int) < (m.length : Int) := by omega
        clear hca hcb ha3 hb3
        have HNA := hide na
        have HNB := hide nb
        clear na nb
        go_wp2
        go_region_held3 (fun w' => w'.cell? ⟨ba, oa + k, none⟩ = some (.int .u8 (el l k)) ∧ w'.cell? ⟨bb, ob + k, none⟩ = some (.int .u8 (el m k)))
          (first
            | go_keep
            | (go_split_ands
               refine ⟨?_, ?_⟩
               · (rw [hgrow.cell_far _ (by simp; omega) (Ne.symm HNA.out)]; assumption)
               · (rw [hgrow.cell_far _ (by simp; omega) (Ne.symm HNB.out)]; assumption)))
          ((refine step_append_lies _ (by rfl) _ _ _ (by rfl) w.heap.size 5 i0 _ 1 1 Try.underlying22 hi hz0 hz1 hz2 rfl (by omega) _ k _ (by rfl) ((how.alloc _).drew)
              ⟨wr.heap.size, 0, none⟩ 1 1 [.int .u8 (bits .xor .u8 (el l k) (el m k))] (by rfl) (by rfl) (World.news_of_block (cs := #[.int .u8 (bits .xor .u8 (el l k) (el m k))]) (t := 5) (fr := (0, 0)) (heap_alloc_new wr _)) (by simp [Value.oneCell'])
              (by omega) (by unfold maxLen; omega) (by omega) (by simp; omega) (wr.heap.size + 1) (by simp) ?_; intro gg cap w3 how' hgrow hat hltg))
        have hb3 : Below w.heap.size w w3 := ((hbr.alloc hsz _).drew).grown hgrow (by simp; omega) (fun k h => (how.lt k h).1)
        have ex := u8_xor_nat (el l k) (el m k) hx hy
        rw [ex] at how'
        have HOW := hide how'
        clear how how' hgrow hbr c1 c2 ex hat hltg
        go_wp2
        go_roundw
        case rel => exact ⟨k + 1, by omega, by omega, by go_num, by rw [xrTo_succ, vals_append]; exact HOW.out, hb3⟩
        case measure => simp [intOf]; omega
      · go_wp2
        go_ret
        have e : xrL l m = xrTo l m k := by unfold xrL xrTo; rw [show min l.length m.length = k by omega]
        rw [e]
        exact ⟨_, rfl, ⟨by rw [xrTo_length]; exact how, xrTo_under _ _ _ ha4 hb4⟩, hbr⟩

set_option maxRecDepth 100000 in
set_option maxHeartbeats 3200000 in
theorem rxr_any (va vb : Value) (l m : List Nat) (w : World) (ha : Row .u8 256 w va l) (hb : Row .u8 256 w vb m) (hl : l.length ≤ 140737488355328) :
    Calls Try.prog 18 #[va, vb] w fun e w' => ∃ v, e = .returned v ∧ Own 5 .u8 256 w' w.heap.size v (xrL l m) ∧ Below w.heap.size w w' := by
  obtain ⟨a, ca, rfl, ha1, ha2, ha3, ha4⟩ := ha
  obtain ⟨b, cb, rfl, hb1, hb2, hb3, hb4⟩ := hb
  unfold maxLen at ha2 hb2
  obtain ⟨i0, hi, hz0, hz1, hz2⟩ := info_parts Try.info5
  go_enter Try.func18, Try.ntmps18
  go_wp2
  go_loopw [5, 6] (fun v i wr => ∃ k : Nat, k ≤ l.length ∧ k ≤ m.length ∧ i = .int .i64 k ∧ wr.ownsRow w.heap.size 5 1 v k (vals .u8 (xrTo l m k)) ∧ Below w.heap.size w wr) (fun _ i _ => l.length - (intOf i).toNat)
  case atStart => exact ⟨0, Nat.zero_le _, Nat.zero_le _, rfl, World.ownsRow_nil _ _ _ _, Below.refl _ _⟩
  case round =>
    obtain ⟨k, hk, hk2, rfl, how, hbr⟩ := hrel
    by_cases hlt : k < l.length ∧ k < m.length
    · obtain ⟨hlt, hlt2⟩ := hlt
      have hsz := hbr.size
      obtain ⟨ba, oa, rfl, hca⟩ := ha3 (by omega)
      obtain ⟨bb, ob, rfl, hcb⟩ := hb3 (by omega)
      have c1 := hca k hlt
      have c2 := hcb k hlt2
      have la := World.block_lt_of_cell? w _ c1
      have lb := World.block_lt_of_cell? w _ c2
      simp only at la lb
      rw [← hbr.cell (p := ⟨ba, oa + k, none⟩) la] at c1
      rw [← hbr.cell (p := ⟨bb, ob + k, none⟩) lb] at c2
      have na := not_ownX how la
      have nb := not_ownX how lb
      have hx := el_lt ha4 (by decide) k
      have hy := el_lt hb4 (by decide) k
      have ik0 : (0 : Int) ≤ (k : Int) := Int.natCast_nonneg _
      have ik1 : (k : Int) < (l.length : Int) := by omega
      have ik2 : (k : Int) < (m.length : Int) := by omega
      clear hca hcb ha3 hb3
      have HNA := hide na
      have HNB := hide nb
      clear na nb
      go_wp2
      go_region_held3 (fun w' => w'.cell? ⟨ba, oa + k, none⟩ = some (.int .u8 (el l k)) ∧ w'.cell? ⟨bb, ob + k, none⟩ = some (.int .u8 (el m k)))
        (first
          | go_keep
          | (go_split_ands
             refine ⟨?_, ?_⟩
             · (rw [hgrow.cell_far _ (by simp; omega) (Ne.symm HNA.out)]; assumption)
             · (rw [hgrow.cell_far _ (by simp; omega) (Ne.symm HNB.out)]; assumption)))
        ((refine step_append_lies _ (by rfl) _ _ _ (by rfl) w.heap.size 5 i0 _ 1 1 Try.underlying22 hi hz0 hz1 hz2 rfl (by omega) _ k _ (by rfl) ((how.alloc _).drew)
            ⟨wr.heap.size, 0, none⟩ 1 1 [.int .u8 (bits .xor .u8 (el l k) (el m k))] (by rfl) (by rfl) (World.news_of_block (cs := #[.int .u8 (bits .xor .u8 (el l k) (el m k))]) (t := 5) (fr := (0, 0)) (heap_alloc_new wr _)) (by simp [Value.oneCell'])
            (by omega) (by unfold maxLen; omega) (by omega) (by simp; omega) (wr.heap.size + 1) (by simp) ?_; intro gg cap w3 how' hgrow hat hltg))
      have hb3 : Below w.heap.size w w3 := ((hbr.alloc hsz _).drew).grown hgrow (by simp; omega) (fun k h => (how.lt k h).1)
      have ex := u8_xor_nat (el l k) (el m k) hx hy
      rw [ex] at how'
      have HOW := hide how'
      clear how how' hgrow hbr c1 c2 ex hat hltg
      go_wp2
      go_roundw
      case rel => exact ⟨k + 1, by omega, by omega, by go_num, by rw [xrTo_succ, vals_append]; exact HOW.out, hb3⟩
      case measure => simp [intOf]; omega
    · have e : xrL l m = xrTo l m k := by unfold xrL xrTo; rw [show min l.length m.length = k by omega]
      have HE := hide e
      clear e
      by_cases hlt1 : k < l.length
      · have hn2 : ¬ k < m.length := by omega
        go_wp2
        go_ret
        rw [HE.out]
        exact ⟨_, rfl, ⟨by rw [xrTo_length]; exact how, xrTo_under _ _ _ ha4 hb4⟩, hbr⟩
      · go_wp2
        go_ret
        rw [HE.out]
        exact ⟨_, rfl, ⟨by rw [xrTo_length]; exact how, xrTo_under _ _ _ ha4 hb4⟩, hbr⟩
end Go.Proofs.Ytjeofkemfpdieaa
