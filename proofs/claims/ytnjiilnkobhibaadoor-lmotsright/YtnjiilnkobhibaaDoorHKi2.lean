/- More words for blocks: rows beside a block, results that are arrays. -/
import Derived.Test.YtnjiilnkobhibaaDoorHKit
namespace Go.Proofs.YtnjiilnkobhibaaDoor
open Go.RowKit
set_option linter.unusedVariables false
set_option linter.unusedSimpArgs false

/-- a row that does not lie in block g -/
def Away (g : Nat) (v : Value) (l : List Nat) : Prop := 0 < l.length → ∀ q, v.ownBlock = some q → q ≠ g
theorem Row.old {k : IntKind} {m : Nat} {w : World} {v : Value} {l : List Nat} (h : Row k m w v l) (hl : 0 < l.length) {q : Nat} (hq : v.ownBlock = some q) : q < w.heap.size := by
  obtain ⟨a, cap, rfl, h1, h2, h3, h4⟩ := h
  obtain ⟨b, off, rfl, hc⟩ := h3 hl
  have e : b = q := by simpa [Value.ownBlock] using hq
  subst e
  exact World.block_lt_of_cell? w _ (hc 0 hl)
theorem Row.away {k : IntKind} {m : Nat} {w : World} {v : Value} {l : List Nat} (h : Row k m w v l) {g : Nat} (hg : w.heap.size ≤ g) : Away g v l := fun hl q hq => by
  have := h.old hl hq
  omega
theorem Row.but {k : IntKind} {m : Nat} {w w' : World} {v : Value} {l : List Nat} {g : Nat} (h : Row k m w v l) (ha : Away g v l) (hb : But g w w') : Row k m w' v l := by
  obtain ⟨a, cap, rfl, h1, h2, h3, h4⟩ := h
  refine ⟨a, cap, rfl, h1, h2, fun hl => ?_, h4⟩
  obtain ⟨b, off, rfl, hc⟩ := h3 hl
  refine ⟨b, off, rfl, fun i hi => ?_⟩
  exact But.cell (hc i hi) hb (ha hl b (by simp [Value.ownBlock]))
theorem Own.away {e : TypeId} {k : IntKind} {m : Nat} {w : World} {B g : Nat} {v : Value} {l : List Nat} (h : Own e k m w B v l) (hg : g < B) : Away g v l := fun _ q hq => by
  have := (h.1.lt q hq).1
  omega
/-- a text without its first bytes -/
theorem Row.rest {k : IntKind} {m : Nat} {w : World} {b off n cap : Nat} {l : List Nat} (h : Row k m w (.slice (some ⟨b, off, none⟩) n cap) l) {i : Nat} (hi : i ≤ n) (A : Option Addr) (hA : A = some ⟨b, off, none⟩ ∧ cap = i ∨ A = some ⟨b, off + i, none⟩) :
    Row k m w (.slice A (n - i) (cap - i)) (l.drop i) := by
  obtain ⟨a', cap', he, h1, h2, h3, h4⟩ := h
  simp at he
  obtain ⟨rfl, rfl, rfl⟩ := he
  refine ⟨A, _, by rw [List.length_drop], by rw [List.length_drop]; omega, by omega, fun hp => ?_, fun x hx => h4 x (List.mem_of_mem_drop hx)⟩
  rw [List.length_drop] at hp
  rcases hA with ⟨_, hc⟩ | rfl
  · omega
  · obtain ⟨b', o', e, hc⟩ := h3 (by omega)
    simp at e
    obtain ⟨rfl, rfl⟩ := e
    refine ⟨b, off + i, rfl, fun x hx => ?_⟩
    rw [List.length_drop] at hx
    rw [el_drop, Nat.add_assoc]
    exact hc (i + x) (by omega)
/-- how long a slice is -/
def slen : Value → Nat
  | .slice _ n _ => n
  | _ => 0
theorem rndN_congr {b : Bool} {ks ws ws' s : List Nat} : ∀ n, (∀ i, i < n → el ws i = el ws' i) → rndN b ks ws n s = rndN b ks ws' n s
  | 0, _ => rfl
  | n + 1, h => by simp only [rndN]; rw [rndN_congr n (fun i hi => h i (by omega)), h n (by omega)]
theorem comp_pad {b : Bool} (h l : List Nat) : addW b h (rndN b (ks b) (pad 80 (sched b l (rn b - 16))) (rn b) h) 8 = comp b h l := by
  unfold comp
  rw [rndN_congr (ws' := sched b l (rn b - 16)) (rn b) (fun i hi => pad_el (by rw [sched_length]; cases b <;> simp [rn] at hi ⊢ <;> omega))]
end Go.Proofs.YtnjiilnkobhibaaDoor

/- Contracts of sha.begin, stored, resume, block at words of 32 bits. -/
namespace Go.Proofs.YtnjiilnkobhibaaDoor
open Go.RowKit
set_option linter.unusedVariables false
set_option linter.unusedSimpArgs false

theorem block_any32 (v : Value) (w : World) :
    Calls Tryd.prog 68 #[v] w fun e w' => e = .returned (.int .i64 64) ∧ w' = w := by
  go_enter Tryd.func68, Tryd.ntmps68
  go_wp2_with fail
  refine (either_int32 _ _ _).mono ?_
  rintro e w1 ⟨rfl, rfl⟩
  go_wp2
  go_ret
  exact ⟨rfl, rfl⟩


set_option maxHeartbeats 2000000 in
set_option maxRecDepth 100000 in
theorem stored_any32 (l : List Nat) (w : World) (h8 : l.length = 8) (hu : Under 4294967296 l) :
    Calls Tryd.prog 55 #[.agg (arr .u32 l)] w fun e w' => e = .returned (.agg (arr .u64 l)) ∧ Below w.heap.size w w' := by
  have hA : Lies .u32 90 (((w.alloc (.cells (arr .u32 l) 90)).alloc (.cells #[.int .u64 0, .int .u64 0, .int .u64 0, .int .u64 0, .int .u64 0, .int .u64 0, .int .u64 0, .int .u64 0] 79)).alloc (.cells #[.int .u64 0, .int .u64 0, .int .u64 0, .int .u64 0, .int .u64 0, .int .u64 0, .int .u64 0, .int .u64 0] 79)) w.heap.size l := ((Lies.new _ _ w l).alloc _).alloc _
  have hO : Lies .u64 79 (((w.alloc (.cells (arr .u32 l) 90)).alloc (.cells #[.int .u64 0, .int .u64 0, .int .u64 0, .int .u64 0, .int .u64 0, .int .u64 0, .int .u64 0, .int .u64 0] 79)).alloc (.cells #[.int .u64 0, .int .u64 0, .int .u64 0, .int .u64 0, .int .u64 0, .int .u64 0, .int .u64 0, .int .u64 0] 79)) (w.heap.size + 1) (List.replicate 8 0) := by
    have := (Lies.new .u64 79 (w.alloc (.cells (arr .u32 l) 90)) (List.replicate 8 0)).alloc (.cells #[.int .u64 0, .int .u64 0, .int .u64 0, .int .u64 0, .int .u64 0, .int .u64 0, .int .u64 0, .int .u64 0] 79)
    rw [World.size_alloc] at this
    exact this
  have hL : Lies .u64 79 (((w.alloc (.cells (arr .u32 l) 90)).alloc (.cells #[.int .u64 0, .int .u64 0, .int .u64 0, .int .u64 0, .int .u64 0, .int .u64 0, .int .u64 0, .int .u64 0] 79)).alloc (.cells #[.int .u64 0, .int .u64 0, .int .u64 0, .int .u64 0, .int .u64 0, .int .u64 0, .int .u64 0, .int .u64 0] 79)) (w.heap.size + 1 + 1) (pad 8 (l.take 0)) := by
    have := Lies.new .u64 79 ((w.alloc (.cells (arr .u32 l) 90)).alloc (.cells #[.int .u64 0, .int .u64 0, .int .u64 0, .int .u64 0, .int .u64 0, .int .u64 0, .int .u64 0, .int .u64 0] 79)) (List.replicate 8 0)
    rw [World.size_alloc, World.size_alloc] at this
    exact this
  have hb : Below w.heap.size w (((w.alloc (.cells (arr .u32 l) 90)).alloc (.cells #[.int .u64 0, .int .u64 0, .int .u64 0, .int .u64 0, .int .u64 0, .int .u64 0, .int .u64 0, .int .u64 0] 79)).alloc (.cells #[.int .u64 0, .int .u64 0, .int .u64 0, .int .u64 0, .int .u64 0, .int .u64 0, .int .u64 0, .int .u64 0] 79)) := keep_trans (keep_trans (keep_alloc _ _) (keep_alloc _ _)) (keep_alloc _ _)
  have HO := hide hO
  have HL := hide hL
  have HB := hide hb
  clear hO hL hb
  go_enter Tryd.func55, Tryd.ntmps55
  go_wp2_with (first
    | (refine wpList_load_row rfl 90 _ (by rfl) w.heap.size (by rfl) _ _ _ (.array 8 23) hA (by kernel_rfl) rfl (by rw [arr_size, h8]; kernel_rfl) ?_)
    | fail)
  go_loopw [7] (fun i wr => ∃ j : Nat, j ≤ 8 ∧ i = .int .i64 j ∧ Lies .u64 79 wr (w.heap.size + 1 + 1) (pad 8 (l.take j)) ∧ Lies .u64 79 wr (w.heap.size + 1) (List.replicate 8 0) ∧ Below w.heap.size w wr) (fun i _ => 8 - (intOf i).toNat)
  case atStart => exact ⟨0, Nat.zero_le _, rfl, HL.out, HO.out, HB.out⟩
  case round =>
    obtain ⟨j, hj, rfl, hLj, hOj, hbj⟩ := hrel
    clear hA
    by_cases hlt : j < 8
    · have hix : ∀ w : World, (Instr.index 90 (.agg (arr .u32 l)) (.int .i64 (j : Int))).run Tryd.prog w = .ok (.int .u32 (el l j)) w := fun w =>
        index_arr _ 23 8 .u32 l (by kernel_rfl) (by kernel_rfl) (by kernel_rfl) h8 j hlt w
      have hel : el l j < 4294967296 := el_lt hu (by decide) j
      have htl : (l.take j).length = j := by rw [List.length_take]; omega
      have c1 := hLj.cell (i := j) (by rw [pad_length (by omega)]; omega)
      have f1 := hLj.frozen j
      have hst := hLj.set j (el l j)
      have hse := pad_set (n := 8) (l := l.take j) (by omega) (el l j)
      rw [htl, ← take_el (by omega)] at hse
      rw [hse] at hst
      have HST := hide hst
      clear hst hse htl
      have ij0 : (0 : Int) ≤ (j : Int) := Int.natCast_nonneg _
      have ij1 : (j : Int) < 8 := by omega
      go_wp2
      refine ⟨⟨j + 1, by omega, by go_num, HST.out, hOj.but (But.setCell (But.refl (w.heap.size + 1 + 1) _) _ _) (by omega), hbj.setCell (by simp; omega) _⟩, by simp [intOf]; omega⟩
    · obtain rfl : j = 8 := by omega
      rw [List.take_of_length_le (by omega), pad_full h8] at hLj
      have hOf : Lies .u64 79 (wr.setRow (w.heap.size + 1) (arr .u64 l)) (w.heap.size + 1) l := hOj.row
      have hbf : Below w.heap.size w (wr.setRow (w.heap.size + 1) (arr .u64 l)) := hbj.trans ((But.setRow (But.refl _ _) _).below (by omega) hbj.size)
      go_wp2_with (first
        | (refine wpList_load_row rfl 79 _ (by rfl) (w.heap.size + 1 + 1) (by rfl) _ _ _ (.array 8 44) hLj (by kernel_rfl) rfl (by rw [arr_size, h8]; kernel_rfl) ?_)
        | (refine wpList_store_row rfl 79 _ _ (by rfl) (w.heap.size + 1) (arr .u64 l) (by rfl) (by rfl) _ _ hOj (by rw [arr_size, h8]; kernel_rfl) (by rw [arr_size, arr_size, h8, List.length_replicate]) (arr_one _ _) ?_)
        | fail)
      refine bodyPost_ret (v := .agg (arr .u64 l)) ?_ ?_ ?_
      · exact results_cell_row Tryd.results55 _ _ (w.heap.size + 1) _ _ _ (.array 8 44) (by rfl) hOf (by kernel_rfl) rfl (by rw [arr_size, h8]; kernel_rfl)
      · rfl
      · exact ⟨rfl, hbf⟩

set_option maxHeartbeats 2000000 in
set_option maxRecDepth 100000 in
theorem begin_any32 (r : List Nat) (f : Nat) (w : World) (h16 : r.length = 16) (hu : Under 18446744073709551616 r) (hf : f ≤ 8) :
    Calls Tryd.prog 54 #[.agg (arr .u64 r), .int .i64 f] w fun e w' => e = .returned (.agg (arr .u32 (((r.drop f).take 8).map (hi false)))) ∧ Below w.heap.size w w' := by
  have h8 : (((r.drop f).take 8).map (hi false)).length = 8 := by rw [List.length_map, List.length_take, List.length_drop]; omega
  have hel : ∀ j, j < 8 → el (((r.drop f).take 8).map (hi false)) j = hi false (el r (f + j)) := fun j hj => by
    rw [el_at (by omega), List.getElem_map, List.getElem_take, List.getElem_drop, el_at (by omega)]
  have HE := hide hel
  clear hel
  have hA : Lies .u64 92 (((w.alloc (.cells (arr .u64 r) 92)).alloc (.cells #[.int .u32 0, .int .u32 0, .int .u32 0, .int .u32 0, .int .u32 0, .int .u32 0, .int .u32 0, .int .u32 0] 90)).alloc (.cells #[.int .u32 0, .int .u32 0, .int .u32 0, .int .u32 0, .int .u32 0, .int .u32 0, .int .u32 0, .int .u32 0] 90)) w.heap.size r := ((Lies.new _ _ w r).alloc _).alloc _
  have hO : Lies .u32 90 (((w.alloc (.cells (arr .u64 r) 92)).alloc (.cells #[.int .u32 0, .int .u32 0, .int .u32 0, .int .u32 0, .int .u32 0, .int .u32 0, .int .u32 0, .int .u32 0] 90)).alloc (.cells #[.int .u32 0, .int .u32 0, .int .u32 0, .int .u32 0, .int .u32 0, .int .u32 0, .int .u32 0, .int .u32 0] 90)) (w.heap.size + 1) (List.replicate 8 0) := by
    have := (Lies.new .u32 90 (w.alloc (.cells (arr .u64 r) 92)) (List.replicate 8 0)).alloc (.cells #[.int .u32 0, .int .u32 0, .int .u32 0, .int .u32 0, .int .u32 0, .int .u32 0, .int .u32 0, .int .u32 0] 90)
    rw [World.size_alloc] at this
    exact this
  have hL : Lies .u32 90 (((w.alloc (.cells (arr .u64 r) 92)).alloc (.cells #[.int .u32 0, .int .u32 0, .int .u32 0, .int .u32 0, .int .u32 0, .int .u32 0, .int .u32 0, .int .u32 0] 90)).alloc (.cells #[.int .u32 0, .int .u32 0, .int .u32 0, .int .u32 0, .int .u32 0, .int .u32 0, .int .u32 0, .int .u32 0] 90)) (w.heap.size + 1 + 1) (pad 8 ((((r.drop f).take 8).map (hi false)).take 0)) := by
    have := Lies.new .u32 90 ((w.alloc (.cells (arr .u64 r) 92)).alloc (.cells #[.int .u32 0, .int .u32 0, .int .u32 0, .int .u32 0, .int .u32 0, .int .u32 0, .int .u32 0, .int .u32 0] 90)) (List.replicate 8 0)
    rw [World.size_alloc, World.size_alloc] at this
    exact this
  have hb : Below w.heap.size w (((w.alloc (.cells (arr .u64 r) 92)).alloc (.cells #[.int .u32 0, .int .u32 0, .int .u32 0, .int .u32 0, .int .u32 0, .int .u32 0, .int .u32 0, .int .u32 0] 90)).alloc (.cells #[.int .u32 0, .int .u32 0, .int .u32 0, .int .u32 0, .int .u32 0, .int .u32 0, .int .u32 0, .int .u32 0] 90)) := keep_trans (keep_trans (keep_alloc _ _) (keep_alloc _ _)) (keep_alloc _ _)
  have HA := hide hA
  have HO := hide hO
  have HL := hide hL
  have HB := hide hb
  clear hA hO hL hb
  generalize hl : ((r.drop f).take 8).map (hi false) = l at *
  go_enter Tryd.func54, Tryd.ntmps54
  go_wp2
  go_loopw [7] (fun i wr => ∃ j : Nat, j ≤ 8 ∧ i = .int .i64 j ∧ Lies .u32 90 wr (w.heap.size + 1 + 1) (pad 8 (l.take j)) ∧ Lies .u32 90 wr (w.heap.size + 1) (List.replicate 8 0) ∧ Lies .u64 92 wr w.heap.size r ∧ Below w.heap.size w wr) (fun i _ => 8 - (intOf i).toNat)
  case atStart => exact ⟨0, Nat.zero_le _, rfl, HL.out, HO.out, HA.out, HB.out⟩
  case round =>
    obtain ⟨j, hj, rfl, hLj, hOj, hAj, hbj⟩ := hrel
    by_cases hlt : j < 8
    · have hle := HE.out j hlt
      have hrl : el r (f + j) < 18446744073709551616 := el_lt hu (by decide) _
      have htl : (l.take j).length = j := by rw [List.length_take]; omega
      have c1 := hLj.cell (i := j) (by rw [pad_length (by omega)]; omega)
      have c2 := hAj.cell (i := f + j) (by omega)
      have f1 := hLj.frozen j
      have hst := hLj.set j (el l j)
      have hse := pad_set (n := 8) (l := l.take j) (by omega) (el l j)
      rw [htl, ← take_el (by omega)] at hse
      rw [hse, hle] at hst
      have HST := hide hst
      clear hst hse htl hle
      have ij0 : (0 : Int) ≤ (j : Int) := Int.natCast_nonneg _
      have ij1 : (j : Int) < 8 := by omega
      have ij2 : (f : Int) + (j : Int) = ((f + j : Nat) : Int) := by omega
      have ij3 : f + j < 16 := by omega
      have ij4 : ((f + j : Nat) : Int) < 16 := by omega
      have ij5 : (0 : Int) ≤ ((f + j : Nat) : Int) := Int.natCast_nonneg _
      have ij6 : IntKind.i64.wrap ((f + j : Nat) : Int) = ((f + j : Nat) : Int) := by rw [IntKind.wrap_i64]; omega
      generalize f + j = q at *
      go_wp2_with fail
      refine (first32 (el r q) _ hrl).mono ?_
      rintro e w1 ⟨rfl, rfl⟩
      go_wp2
      refine ⟨⟨j + 1, by omega, by go_num, HST.out, hOj.but (But.setCell (But.refl (w.heap.size + 1 + 1) _) _ _) (by omega), hAj.but (But.setCell (But.refl (w.heap.size + 1 + 1) _) _ _) (by omega), hbj.setCell (by simp; omega) _⟩, by simp [intOf]; omega⟩
    · obtain rfl : j = 8 := by omega
      rw [List.take_of_length_le (by omega), pad_full h8] at hLj
      have hOf : Lies .u32 90 (wr.setRow (w.heap.size + 1) (arr .u32 l)) (w.heap.size + 1) l := hOj.row
      have hbf : Below w.heap.size w (wr.setRow (w.heap.size + 1) (arr .u32 l)) := hbj.trans ((But.setRow (But.refl _ _) _).below (by omega) hbj.size)
      go_wp2_with (first
        | (refine wpList_load_row rfl 90 _ (by rfl) (w.heap.size + 1 + 1) (by rfl) _ _ _ (.array 8 23) hLj (by kernel_rfl) rfl (by rw [arr_size, h8]; kernel_rfl) ?_)
        | (refine wpList_store_row rfl 90 _ _ (by rfl) (w.heap.size + 1) (arr .u32 l) (by rfl) (by rfl) _ _ hOj (by rw [arr_size, h8]; kernel_rfl) (by rw [arr_size, arr_size, h8, List.length_replicate]) (arr_one _ _) ?_)
        | fail)
      refine bodyPost_ret (v := .agg (arr .u32 l)) ?_ ?_ ?_
      · exact results_cell_row Tryd.results54 _ _ (w.heap.size + 1) _ _ _ (.array 8 23) (by rfl) hOf (by kernel_rfl) rfl (by rw [arr_size, h8]; kernel_rfl)
      · rfl
      · exact ⟨rfl, hbf⟩

set_option maxRecDepth 100000 in
theorem zero8832 : ∀ w, (zeroValue 109).run Tryd.prog w = .ok (.agg (arr .u32 (List.replicate 88 0))) w := zero_arr (by kernel_rfl)

theorem el_map_hi32 (b : Bool) (r : List Nat) (j : Nat) (hj : j < r.length) : el (r.map (hi b)) j = hi b (el r j) := by
  rw [el_at (by rw [List.length_map]; exact hj), List.getElem_map, el_at hj]

set_option maxHeartbeats 4000000 in
set_option maxRecDepth 100000 in
theorem resume_any32 (hs r : List Nat) (w : World) (h8 : hs.length = 8) (hhu : Under 4294967296 hs) (h80 : r.length = 80) (hru : Under 18446744073709551616 r) :
    Calls Tryd.prog 66 #[.agg (arr .u64 hs), .agg (arr .u64 r)] w fun e w' => ∃ g, e = .returned (.pointer (some ⟨g, 0, none⟩)) ∧ w.heap.size ≤ g ∧ Lies .u32 109 w' g (hs ++ r.map (hi false)) ∧ Below w.heap.size w w' := by
  have hz := zero8832
  have hA : Lies .u64 79 (((w.alloc (.cells (arr .u64 hs) 79)).alloc (.cells (arr .u64 r) 105)).alloc (.cells (arr .u32 (List.replicate 88 0)) 109)) w.heap.size hs := ((Lies.new _ _ w hs).alloc _).alloc _
  have hC : Lies .u64 105 (((w.alloc (.cells (arr .u64 hs) 79)).alloc (.cells (arr .u64 r) 105)).alloc (.cells (arr .u32 (List.replicate 88 0)) 109)) (w.heap.size + 1) r := by
    have := (Lies.new .u64 105 (w.alloc (.cells (arr .u64 hs) 79)) r).alloc (.cells (arr .u32 (List.replicate 88 0)) 109)
    rw [World.size_alloc] at this
    exact this
  have hL : Lies .u32 109 (((w.alloc (.cells (arr .u64 hs) 79)).alloc (.cells (arr .u64 r) 105)).alloc (.cells (arr .u32 (List.replicate 88 0)) 109)) (w.heap.size + 1 + 1) (pad 88 (hs.take 0)) := by
    have := Lies.new .u32 109 ((w.alloc (.cells (arr .u64 hs) 79)).alloc (.cells (arr .u64 r) 105)) (List.replicate 88 0)
    rw [World.size_alloc, World.size_alloc] at this
    exact this
  have hb : Below w.heap.size w (((w.alloc (.cells (arr .u64 hs) 79)).alloc (.cells (arr .u64 r) 105)).alloc (.cells (arr .u32 (List.replicate 88 0)) 109)) := keep_trans (keep_trans (keep_alloc _ _) (keep_alloc _ _)) (keep_alloc _ _)
  have HC := hide hC
  have HL := hide hL
  have HB := hide hb
  clear hC hL hb
  go_enter Tryd.func66, Tryd.ntmps66
  go_wp2_with (first
    | (refine wpList_load_row rfl 79 _ (by rfl) w.heap.size (by rfl) _ _ _ (.array 8 44) hA (by kernel_rfl) rfl (by rw [arr_size, h8]; kernel_rfl) ?_)
    | fail)
  clear hA
  go_loopw [11] (fun i wr => ∃ j : Nat, j ≤ 8 ∧ i = .int .i64 j ∧ Lies .u32 109 wr (w.heap.size + 1 + 1) (pad 88 (hs.take j)) ∧ Lies .u64 105 wr (w.heap.size + 1) r ∧ Below w.heap.size w wr) (fun i _ => 8 - (intOf i).toNat)
  case atStart => exact ⟨0, Nat.zero_le _, rfl, HL.out, HC.out, HB.out⟩
  case round =>
    obtain ⟨j, hj, rfl, hLj, hCj, hbj⟩ := hrel
    by_cases hlt : j < 8
    · have hix : ∀ w : World, (Instr.index 79 (.agg (arr .u64 hs)) (.int .i64 (j : Int))).run Tryd.prog w = .ok (.int .u64 (el hs j)) w := fun w =>
        index_arr _ 44 8 .u64 hs (by kernel_rfl) (by kernel_rfl) (by kernel_rfl) h8 j hlt w
      have hel : el hs j < 4294967296 := el_lt hhu (by decide) j
      have htl : (hs.take j).length = j := by rw [List.length_take]; omega
      have c1 := hLj.cell (i := j) (by rw [pad_length (by omega)]; omega)
      have f1 := hLj.frozen j
      have hst := hLj.set j (el hs j)
      have hse := pad_set (n := 88) (l := hs.take j) (by omega) (el hs j)
      rw [htl, ← take_el (by omega)] at hse
      rw [hse] at hst
      have HST := hide hst
      clear hst hse htl
      have ij0 : (0 : Int) ≤ (j : Int) := Int.natCast_nonneg _
      have ij1 : (j : Int) < 8 := by omega
      go_wp2
      refine ⟨⟨j + 1, by omega, by go_num, HST.out, hCj.but (But.setCell (But.refl (w.heap.size + 1 + 1) _) _ _) (by omega), hbj.setCell (by simp; omega) _⟩, by simp [intOf]; omega⟩
    · obtain rfl : j = 8 := by omega
      rw [List.take_of_length_le (by omega)] at hLj
      clear HL HC HB
      have hL0 : Lies .u32 109 wr (w.heap.size + 1 + 1) (pad 88 (hs ++ (r.map (hi false)).take 0)) := by rw [List.take_zero, List.append_nil]; exact hLj
      have hlr : (r.map (hi false)).length = 80 := by rw [List.length_map]; exact h80
      clear hLj
      go_wp2_with (first
        | (refine wpList_load_row rfl 105 _ (by rfl) (w.heap.size + 1) (by rfl) _ _ _ (.array 80 44) hCj (by kernel_rfl) rfl (by rw [arr_size, h80]; kernel_rfl) ?_)
        | fail)
      clear hCj
      go_loopw [22] (fun i wr => ∃ j : Nat, j ≤ 80 ∧ i = .int .i64 j ∧ Lies .u32 109 wr (w.heap.size + 1 + 1) (pad 88 (hs ++ (r.map (hi false)).take j)) ∧ Below w.heap.size w wr) (fun i _ => 80 - (intOf i).toNat)
      case atStart => exact ⟨0, Nat.zero_le _, rfl, hL0, hbj⟩
      case round =>
        obtain ⟨j, hj, rfl, hLj, hbj⟩ := hrel
        clear hL0
        by_cases hlt : j < 80
        · have hix : ∀ w : World, (Instr.index 105 (.agg (arr .u64 r)) (.int .i64 (j : Int))).run Tryd.prog w = .ok (.int .u64 (el r j)) w := fun w =>
            index_arr _ 44 80 .u64 r (by kernel_rfl) (by kernel_rfl) (by kernel_rfl) h80 j hlt w
          have hrl : el r j < 18446744073709551616 := el_lt hru (by decide) j
          have htl : (hs ++ (r.map (hi false)).take j).length = 8 + j := by rw [List.length_append, List.length_take]; omega
          have c1 := hLj.cell (i := 8 + j) (by rw [pad_length (by omega)]; omega)
          have f1 := hLj.frozen (8 + j)
          have hst := hLj.set (8 + j) (hi false (el r j))
          have hse := pad_set (n := 88) (l := hs ++ (r.map (hi false)).take j) (by omega) (hi false (el r j))
          rw [htl, List.append_assoc, ← el_map_hi32 false r j (by omega), ← take_el (by omega)] at hse
          rw [← el_map_hi32 false r j (by omega), hse, el_map_hi32 false r j (by omega)] at hst
          have HST := hide hst
          clear hst hse htl
          have ij0 : (0 : Int) ≤ (j : Int) := Int.natCast_nonneg _
          have ij1 : (j : Int) < 80 := by omega
          go_wp2_with fail
          refine (first32 (el r j) _ hrl).mono ?_
          rintro e w1 ⟨rfl, rfl⟩
          go_wp2
          refine ⟨⟨j + 1, by omega, by go_num, HST.out, hbj.setCell (by simp; omega) _⟩, by simp [intOf]; omega⟩
        · obtain rfl : j = 80 := by omega
          rw [List.take_of_length_le (by omega), pad_full (by rw [List.length_append]; omega)] at hLj
          go_wp2
          go_ret
          exact ⟨_, rfl, by omega, hLj, hbj⟩
end Go.Proofs.YtnjiilnkobhibaaDoor
