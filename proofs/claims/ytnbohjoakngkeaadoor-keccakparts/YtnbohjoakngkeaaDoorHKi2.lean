/- More words for blocks: rows beside a block, results that are arrays. -/
import Derived.Test.YtnbohjoakngkeaaDoorHKit
import Derived.Test.YtnbohjoakngkeaaDoorKecM
import Derived.Laws.ShiftsVarLaws
import Derived.BigRegion
namespace Go.Proofs.YtnbohjoakngkeaaDoor
open Go.RowKit
set_option linter.unusedVariables false
set_option linter.unusedSimpArgs false

/-- a row that does not lie in block g -/
def Away (g : Nat) (v : Value) (l : List Nat) : Prop := 0 < l.length → ∀ q, v.ownBlock = some q → q ≠ g
theorem Row.old {k : IntKind} {m : Nat} {w : World} {v : Value} {l : List Nat} (h : Row k m w v l) (hl : 0 < l.length) {q : Nat} (hq : v.ownBlock = some q) : q < w.heap.size := by
  obtain ⟨a, cap, rfl, h1, h2, h3, h4⟩ := h
  obtain ⟨b, off, rfl, hc⟩ := h3 hl
  have e : b = q := by simpa [Value.ownBlock] using hq
  subst e
  exact World.block_lt_of_cell? w _ (hc 0 hl)
theorem Row.away {k : IntKind} {m : Nat} {w : World} {v : Value} {l : List Nat} (h : Row k m w v l) {g : Nat} (hg : w.heap.size ≤ g) : Away g v l := fun hl q hq => by
  have := h.old hl hq
  omega
theorem Row.but {k : IntKind} {m : Nat} {w w' : World} {v : Value} {l : List Nat} {g : Nat} (h : Row k m w v l) (ha : Away g v l) (hb : But g w w') : Row k m w' v l := by
  obtain ⟨a, cap, rfl, h1, h2, h3, h4⟩ := h
  refine ⟨a, cap, rfl, h1, h2, fun hl => ?_, h4⟩
  obtain ⟨b, off, rfl, hc⟩ := h3 hl
  refine ⟨b, off, rfl, fun i hi => ?_⟩
  exact But.cell (hc i hi) hb (ha hl b (by simp [Value.ownBlock]))
theorem Own.away {e : TypeId} {k : IntKind} {m : Nat} {w : World} {B g : Nat} {v : Value} {l : List Nat} (h : Own e k m w B v l) (hg : g < B) : Away g v l := fun _ q hq => by
  have := (h.1.lt q hq).1
  omega
/-- a text without its first bytes -/
theorem Row.rest {k : IntKind} {m : Nat} {w : World} {b off n cap : Nat} {l : List Nat} (h : Row k m w (.slice (some ⟨b, off, none⟩) n cap) l) {i : Nat} (hi : i ≤ n) (A : Option Addr) (hA : A = some ⟨b, off, none⟩ ∧ cap = i ∨ A = some ⟨b, off + i, none⟩) :
    Row k m w (.slice A (n - i) (cap - i)) (l.drop i) := by
  obtain ⟨a', cap', he, h1, h2, h3, h4⟩ := h
  simp at he
  obtain ⟨rfl, rfl, rfl⟩ := he
  refine ⟨A, _, by rw [List.length_drop], by rw [List.length_drop]; omega, by omega, fun hp => ?_, fun x hx => h4 x (List.mem_of_mem_drop hx)⟩
  rw [List.length_drop] at hp
  rcases hA with ⟨_, hc⟩ | rfl
  · omega
  · obtain ⟨b', o', e, hc⟩ := h3 (by omega)
    simp at e
    obtain ⟨rfl, rfl⟩ := e
    refine ⟨b, off + i, rfl, fun x hx => ?_⟩
    rw [List.length_drop] at hx
    rw [el_drop, Nat.add_assoc]
    exact hc (i + x) (by omega)
/-- how long a slice is -/
def slen : Value → Nat
  | .slice _ n _ => n
  | _ => 0
theorem rndN_congr {b : Bool} {ks ws ws' s : List Nat} : ∀ n, (∀ i, i < n → el ws i = el ws' i) → rndN b ks ws n s = rndN b ks ws' n s
  | 0, _ => rfl
  | n + 1, h => by simp only [rndN]; rw [rndN_congr n (fun i hi => h i (by omega)), h n (by omega)]
theorem comp_pad {b : Bool} (h l : List Nat) : addW b h (rndN b (ks b) (pad 80 (sched b l (rn b - 16))) (rn b) h) 8 = comp b h l := by
  unfold comp
  rw [rndN_congr (ws' := sched b l (rn b - 16)) (rn b) (fun i hi => pad_el (by rw [sched_length]; cases b <;> simp [rn] at hi ⊢ <;> omega))]
end Go.Proofs.YtnbohjoakngkeaaDoor

/- Contract of the document's left: a word turned to the left. -/
namespace Go.Proofs.YtnbohjoakngkeaaDoor
open Go.RowKit
set_option linter.unusedVariables false
set_option linter.unusedSimpArgs false

theorem rotl_mod (x n : Nat) : rotl x (n % 64) = rotl x n := by unfold rotl; rw [Nat.mod_mod]
theorem rotl_is (x k : Nat) (hx : x < 18446744073709551616) (hk : k < 64) : bits .or .u64 (IntKind.u64.wrap ((x : Int) * 2 ^ k)) ((x : Int) / 2 ^ (64 - k)) = ((rotl x k : Nat) : Int) := by
  have e1 : (x : Int) / 2 ^ (64 - k) = ((x / 2 ^ (64 - k) : Nat) : Int) := by simp
  have e2 : IntKind.u64.wrap ((x : Int) * 2 ^ k) = ((x * 2 ^ k % 18446744073709551616 : Nat) : Int) := by rw [IntKind.wrap_u64]; simp
  rw [e1, e2, u64_or_nat _ _ (Nat.mod_lt _ (by decide)) (Nat.lt_of_le_of_lt (Nat.div_le_self _ _) hx)]
  unfold rotl
  rw [Nat.mod_eq_of_lt hk]
set_option maxHeartbeats 1000000 in
theorem kleft_any (x n : Nat) (w : World) (hx : x < 18446744073709551616) (hn : n < 1000000) :
    Calls Tryd.prog 35 #[.int .u64 x, .int .i64 n] w fun e w' => e = .returned (.int .u64 (rotl x n : Nat)) ∧ ∃ m, w' = w.drewN m := by
  obtain ⟨k, hk⟩ : ∃ k, k = n % 64 := ⟨_, rfl⟩
  have hk64 : k < 64 := by omega
  have hm : (n : Int) % 64 = (k : Int) := by omega
  have m1 : min k 64 = k := by omega
  have m2 : min (64 - k) 64 = 64 - k := by omega
  rw [← rotl_mod, ← hk]
  clear hk
  go_enter Tryd.func35, Tryd.ntmps35
  go_wp2
  go_quiet (fail)
  go_wp2
  go_ret
  exact ⟨ret_int (rotl_is x k hx hk64), _, rfl⟩
end Go.Proofs.YtnbohjoakngkeaaDoor

/- Contract of the document's spread. -/
namespace Go.Proofs.YtnbohjoakngkeaaDoor
open Go.RowKit
set_option linter.unusedVariables false
set_option linter.unusedSimpArgs false

/-- so many zeros, under a name of their own -/
def zs (n : Nat) : List Nat := List.replicate n 0
theorem zs_len (n : Nat) : (zs n).length = n := List.length_replicate
theorem zero25 : ∀ w, (zeroValue 23).run Tryd.prog w = .ok (.agg (arr .u64 (zs 25))) w := zero_arr (by kernel_rfl)
theorem zero5 : ∀ w, (zeroValue 59).run Tryd.prog w = .ok (.agg (arr .u64 (zs 5))) w := zero_arr (by kernel_rfl)
theorem xor_k (x y : Nat) (hx : x < 18446744073709551616) (hy : y < 18446744073709551616) : bits .xor .u64 (x : Int) (y : Int) = ((x ^^^ y : Nat) : Int) := u64_xor_nat x y hx hy
theorem colN_next (a : List Nat) (n : Nat) : colN a (n + 1) = (colN a n).set (n % 5) (el (colN a n) (n % 5) ^^^ el a n) := rfl
theorem sprN_next (a c : List Nat) (n : Nat) : sprN a c (n + 1) = (sprN a c n).set n (el (sprN a c n) n ^^^ el c ((n + 4) % 5) ^^^ rotl (el c ((n + 1) % 5)) 1) := rfl

set_option maxHeartbeats 4000000 in
set_option maxRecDepth 100000 in
theorem kspread_any (a : List Nat) (w : World) (hw : W25 a) :
    Calls Tryd.prog 27 #[.agg (arr .u64 a)] w fun e w' => e = .returned (.agg (arr .u64 (spreadK a))) ∧ Below w.heap.size w w' := by
  have hz := zero25
  have hz5 := zero5
  have hA1 : Lies .u64 23 (((w.alloc (.cells (arr .u64 a) 23)).alloc (.cells (arr .u64 (zs 25)) 23)).alloc (.cells (arr .u64 (zs 5)) 59)) w.heap.size a := ((Lies.new .u64 23 w a).alloc _).alloc _
  have hR1 : Lies .u64 23 (((w.alloc (.cells (arr .u64 a) 23)).alloc (.cells (arr .u64 (zs 25)) 23)).alloc (.cells (arr .u64 (zs 5)) 59)) (w.heap.size + 1) (zs 25) := by
    have := (Lies.new .u64 23 (w.alloc (.cells (arr .u64 a) 23)) (zs 25)).alloc (.cells (arr .u64 (zs 5)) 59)
    rw [World.size_alloc] at this
    exact this
  have hC1 : Lies .u64 59 (((w.alloc (.cells (arr .u64 a) 23)).alloc (.cells (arr .u64 (zs 25)) 23)).alloc (.cells (arr .u64 (zs 5)) 59)) (w.heap.size + 1 + 1) (zs 5) := by
    have := Lies.new .u64 59 ((w.alloc (.cells (arr .u64 a) 23)).alloc (.cells (arr .u64 (zs 25)) 23)) (zs 5)
    rw [World.size_alloc, World.size_alloc] at this
    exact this
  have hb1 := keep_trans (keep_trans (keep_alloc w (.cells (arr .u64 a) 23)) (keep_alloc _ (.cells (arr .u64 (zs 25)) 23))) (keep_alloc _ (.cells (arr .u64 (zs 5)) 59))
  go_enter Tryd.func27, Tryd.ntmps27
  go_wp2
  clear hz hz5
  generalize ((w.alloc (.cells (arr .u64 a) 23)).alloc (.cells (arr .u64 (zs 25)) 23)).alloc (.cells (arr .u64 (zs 5)) 59) = x1 at *
  go_loopw [4] (fun i wr => ∃ n : Nat, n ≤ 25 ∧ i = .int .i64 n ∧ Lies .u64 59 wr (w.heap.size + 1 + 1) (colN a n) ∧ But (w.heap.size + 1 + 1) x1 wr) (fun i _ => 25 - (intOf i).toNat)
  case atStart => exact ⟨0, Nat.zero_le _, rfl, hC1, But.refl _ _⟩
  case round =>
    obtain ⟨n, hn, rfl, hC, hB⟩ := hrel
    have hA := hA1.but hB (by omega)
    by_cases hlt : n < 25
    · obtain ⟨m, hm⟩ : ∃ m, m = n % 5 := ⟨_, rfl⟩
      have hmi : (n : Int) % 5 = (m : Int) := by omega
      have hm5 : m < 5 := by omega
      have hnx := colN_next a n
      rw [← hm] at hnx
      have h1 : el (colN a n) m < 18446744073709551616 := el_lt (colN_under hw n) (by decide) m
      have h2 := hw.el n
      have hst := hC.set m (el (colN a n) m ^^^ el a n)
      rw [← hnx] at hst
      have HST := hide hst
      have c1 := hC.cell (i := m) (by rw [colN_length]; omega)
      have f1 := hC.frozen m
      have c2 := hA.cell (i := n) (by rw [hw.1]; omega)
      have i0 : (0 : Int) ≤ (n : Int) := Int.natCast_nonneg _
      have i1 : (n : Int) < 25 := by omega
      have i2 : (0 : Int) ≤ (m : Int) := Int.natCast_nonneg _
      have i3 : (m : Int) < 5 := by omega
      clear hm hnx hst
      generalize el (colN a n) m = p at *
      generalize el a n = q at *
      go_wp2
      go_region
      go_wp2
      rw [xor_k p q h1 h2]
      exact ⟨⟨n + 1, by omega, by go_num, HST.out, (hB.setCell m _).drew⟩, by simp [intOf]; omega⟩
    · obtain rfl : n = 25 := by omega
      have hcu := colN_under hw 25
      have hcl := colN_length a 25
      have hsp : spreadK a = sprN a (colN a 25) 25 := rfl
      have HSP := hide hsp
      clear hsp
      generalize colN a 25 = c at *
      have hR := hR1.but hB (by omega)
      have hbx := hb1.trans (hB.below (by omega) hb1.size)
      clear hA1 hR1 hC1 hb1 hB
      go_wp2
      go_loopw [5] (fun i wz => ∃ n : Nat, n ≤ 25 ∧ i = .int .i64 n ∧ Lies .u64 23 wz w.heap.size (sprN a c n) ∧ But w.heap.size wr wz) (fun i _ => 25 - (intOf i).toNat)
      case atStart => exact ⟨0, Nat.zero_le _, rfl, hA, But.refl _ _⟩
      case round =>
        clear hA
        obtain ⟨n, hn, rfl, hA, hB⟩ := hrel
        have hsw := sprN_w hw hcu n
        by_cases hlt : n < 25
        · obtain ⟨m, hm⟩ : ∃ m, m = (n + 4) % 5 := ⟨_, rfl⟩
          obtain ⟨k, hk⟩ : ∃ k, k = (n + 1) % 5 := ⟨_, rfl⟩
          obtain ⟨n4, hn4⟩ : ∃ n4, n4 = n + 4 := ⟨_, rfl⟩
          obtain ⟨n1, hn1⟩ : ∃ n1, n1 = n + 1 := ⟨_, rfl⟩
          have e4 : (n : Int) + 4 = (n4 : Int) := by omega
          have e1 : (n : Int) + 1 = (n1 : Int) := by omega
          have r4 : IntKind.i64.wrap (n4 : Int) = (n4 : Int) := by rw [IntKind.wrap_i64]; omega
          have r1 : IntKind.i64.wrap (n1 : Int) = (n1 : Int) := by rw [IntKind.wrap_i64]; omega
          have hmi : (n4 : Int) % 5 = (m : Int) := by omega
          have hki : (n1 : Int) % 5 = (k : Int) := by omega
          have hmt : (n4 : Int).tmod 5 = (m : Int) := by rw [Int.tmod_eq_emod_of_nonneg (by omega)]; exact hmi
          have hkt : (n1 : Int).tmod 5 = (k : Int) := by rw [Int.tmod_eq_emod_of_nonneg (by omega)]; exact hki
          have HN1 := hide hn1
          have hCz := hC.but hB (by omega)
          have hnx := sprN_next a c n
          rw [← hm, ← hk] at hnx
          have h1 := hsw.el n
          have h2 : el c m < 18446744073709551616 := el_lt hcu (by decide) m
          have h3 : el c k < 18446744073709551616 := el_lt hcu (by decide) k
          have h4 := rotl_lt h3 1
          have hst := fun q => (hA.drewN q).set n (el (sprN a c n) n ^^^ el c m ^^^ rotl (el c k) 1)
          rw [← hnx, ← hn1] at hst
          have HST := hide hst
          have c1 := hA.cell (i := n) (by rw [hsw.1]; omega)
          have f1 := hA.frozen n
          have c2 := hCz.cell (i := m) (by omega)
          have c3 := hCz.cell (i := k) (by omega)
          have i0 : (0 : Int) ≤ (n : Int) := Int.natCast_nonneg _
          have i1 : (n : Int) < 25 := by omega
          have i2 : (0 : Int) ≤ (m : Int) := Int.natCast_nonneg _
          have i3 : (m : Int) < 5 := by omega
          have i4 : (0 : Int) ≤ (k : Int) := Int.natCast_nonneg _
          have i5 : (k : Int) < 5 := by omega
          have hlf := fun w' => kleft_any (el c k) 1 w' h3 (by decide)
          clear hm hk hnx hst hn4 hn1
          generalize el (sprN a c n) n = p at *
          generalize el c m = q at *
          generalize rotl (el c k) 1 = r at *
          generalize el c k = t at *
          go_wp2
          go_region_with (go_at_call 35; refine (hlf _).mono ?_; rintro e w5 ⟨rfl, mm, rfl⟩)
          all_goals (
            go_wp2
            rw [xor_k p q h1 h2, xor_k _ r (xor_w h1 h2) h4]
            first
              | exact ⟨⟨n1, by have := HN1.out; omega, rfl, HST.out _, (hB.drewN _).setCell n _⟩, by have := HN1.out; simp [intOf]; omega⟩
              | (go_roundw
                 case rel =>
                   (repeat apply Exists.intro)
                   exact ⟨⟨n1, by have := HN1.out; omega, rfl, HST.out _, (hB.drewN _).setCell n _⟩, rfl⟩
                 case measure => have := HN1.out; simp [intOf]; omega))
        · obtain rfl : n = 25 := by omega
          rw [← HSP.out] at hA hsw
          have hRz := hR.but hB (by omega)
          have hOf : Lies .u64 23 (wr.setRow (w.heap.size + 1) (arr .u64 (spreadK a))) (w.heap.size + 1) (spreadK a) := hRz.row
          have hbf := (hbx.trans (hB.below (Nat.le_refl _) hbx.size)).trans ((But.setRow (But.refl (w.heap.size + 1) _) (arr .u64 (spreadK a))).below (by omega) (by have := hbx.size; have := hB.size; omega))
          have hsl := hsw.1
          go_wp2_with (first
            | (refine wpList_load_row rfl 23 _ (by rfl) w.heap.size (by rfl) _ _ _ (.array 25 22) hA (by kernel_rfl) rfl (by rw [arr_size, hsl]; kernel_rfl) ?_)
            | (refine wpList_store_row rfl 23 _ _ (by rfl) (w.heap.size + 1) (arr .u64 (spreadK a)) (by rfl) (by rfl) _ _ hRz (by rw [arr_size, hsl]; kernel_rfl) (by rw [arr_size, arr_size, hsl, zs_len]) (arr_one _ _) ?_)
            | fail)
          refine bodyPost_ret (v := .agg (arr .u64 (spreadK a))) ?_ rfl ⟨rfl, hbf⟩
          exact results_cell_row Tryd.results27 _ _ (w.heap.size + 1) _ _ _ (.array 25 22) (by rfl) hOf (by kernel_rfl) rfl (by rw [arr_size, hsl]; kernel_rfl)
end Go.Proofs.YtnbohjoakngkeaaDoor
