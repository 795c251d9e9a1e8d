/- More words for blocks: rows beside a block, results that are arrays. -/
import Derived.Test.YtogiballdmgcpaaGreatDoorHaM
import Derived.Test.YtogiballdmgcpaaGreatDoorHTur32
import Derived.Test.YtogiballdmgcpaaGreatDoorBase
namespace Go.Proofs.YtogiballdmgcpaaGreatDoor
open Go.RowKit
set_option linter.unusedVariables false
set_option linter.unusedSimpArgs false

/-- a row that does not lie in block g -/
def Away (g : Nat) (v : Value) (l : List Nat) : Prop := 0 < l.length → ∀ q, v.ownBlock = some q → q ≠ g
theorem Row.old {k : IntKind} {m : Nat} {w : World} {v : Value} {l : List Nat} (h : Row k m w v l) (hl : 0 < l.length) {q : Nat} (hq : v.ownBlock = some q) : q < w.heap.size := by
  obtain ⟨a, cap, rfl, h1, h2, h3, h4⟩ := h
  obtain ⟨b, off, rfl, hc⟩ := h3 hl
  have e : b = q := by simpa [Value.ownBlock] using hq
  subst e
  exact World.block_lt_of_cell? w _ (hc 0 hl)
theorem Row.away {k : IntKind} {m : Nat} {w : World} {v : Value} {l : List Nat} (h : Row k m w v l) {g : Nat} (hg : w.heap.size ≤ g) : Away g v l := fun hl q hq => by
  have := h.old hl hq
  omega
theorem Row.but {k : IntKind} {m : Nat} {w w' : World} {v : Value} {l : List Nat} {g : Nat} (h : Row k m w v l) (ha : Away g v l) (hb : But g w w') : Row k m w' v l := by
  obtain ⟨a, cap, rfl, h1, h2, h3, h4⟩ := h
  refine ⟨a, cap, rfl, h1, h2, fun hl => ?_, h4⟩
  obtain ⟨b, off, rfl, hc⟩ := h3 hl
  refine ⟨b, off, rfl, fun i hi => ?_⟩
  exact But.cell (hc i hi) hb (ha hl b (by simp [Value.ownBlock]))
theorem Own.away {e : TypeId} {k : IntKind} {m : Nat} {w : World} {B g : Nat} {v : Value} {l : List Nat} (h : Own e k m w B v l) (hg : g < B) : Away g v l := fun _ q hq => by
  have := (h.1.lt q hq).1
  omega
/-- a text without its first bytes -/
theorem Row.rest {k : IntKind} {m : Nat} {w : World} {b off n cap : Nat} {l : List Nat} (h : Row k m w (.slice (some ⟨b, off, none⟩) n cap) l) {i : Nat} (hi : i ≤ n) (A : Option Addr) (hA : A = some ⟨b, off, none⟩ ∧ cap = i ∨ A = some ⟨b, off + i, none⟩) :
    Row k m w (.slice A (n - i) (cap - i)) (l.drop i) := by
  obtain ⟨a', cap', he, h1, h2, h3, h4⟩ := h
  simp at he
  obtain ⟨rfl, rfl, rfl⟩ := he
  refine ⟨A, _, by rw [List.length_drop], by rw [List.length_drop]; omega, by omega, fun hp => ?_, fun x hx => h4 x (List.mem_of_mem_drop hx)⟩
  rw [List.length_drop] at hp
  rcases hA with ⟨_, hc⟩ | rfl
  · omega
  · obtain ⟨b', o', e, hc⟩ := h3 (by omega)
    simp at e
    obtain ⟨rfl, rfl⟩ := e
    refine ⟨b, off + i, rfl, fun x hx => ?_⟩
    rw [List.length_drop] at hx
    rw [el_drop, Nat.add_assoc]
    exact hc (i + x) (by omega)
/-- how long a slice is -/
def slen : Value → Nat
  | .slice _ n _ => n
  | _ => 0
theorem rndN_congr {b : Bool} {ks ws ws' s : List Nat} : ∀ n, (∀ i, i < n → el ws i = el ws' i) → rndN b ks ws n s = rndN b ks ws' n s
  | 0, _ => rfl
  | n + 1, h => by simp only [rndN]; rw [rndN_congr n (fun i hi => h i (by omega)), h n (by omega)]
theorem comp_pad {b : Bool} (h l : List Nat) : addW b h (rndN b (ks b) (pad 80 (sched b l (rn b - 16))) (rn b) h) 8 = comp b h l := by
  unfold comp
  rw [rndN_congr (ws' := sched b l (rn b - 16)) (rn b) (fun i hi => pad_el (by rw [sched_length]; cases b <;> simp [rn] at hi ⊢ <;> omega))]
end Go.Proofs.YtogiballdmgcpaaGreatDoor

/- Contracts of sha.begin, stored, resume, block at words of 32 bits. -/
namespace Go.Proofs.YtogiballdmgcpaaGreatDoor
open Go.RowKit
set_option linter.unusedVariables false
set_option linter.unusedSimpArgs false

theorem block_any32 (v : Value) (w : World) :
    Calls Tryz.prog 143 #[v] w fun e w' => e = .returned (.int .i64 64) ∧ w' = w := by
  go_enter Tryz.func143, Tryz.ntmps143
  go_wp2_with fail
  refine (either_int32 _ _ _).mono ?_
  rintro e w1 ⟨rfl, rfl⟩
  go_wp2
  go_ret
  exact ⟨rfl, rfl⟩


set_option maxHeartbeats 2000000 in
set_option maxRecDepth 100000 in
theorem stored_any32 (l : List Nat) (w : World) (h8 : l.length = 8) (hu : Under 4294967296 l) :
    Calls Tryz.prog 129 #[.agg (arr .u32 l)] w fun e w' => e = .returned (.agg (arr .u64 l)) ∧ Below w.heap.size w w' := by
  have hA : Lies .u32 165 (((w.alloc (.cells (arr .u32 l) 165)).alloc (.cells #[.int .u64 0, .int .u64 0, .int .u64 0, .int .u64 0, .int .u64 0, .int .u64 0, .int .u64 0, .int .u64 0] 144)).alloc (.cells #[.int .u64 0, .int .u64 0, .int .u64 0, .int .u64 0, .int .u64 0, .int .u64 0, .int .u64 0, .int .u64 0] 144)) w.heap.size l := ((Lies.new _ _ w l).alloc _).alloc _
  have hO : Lies .u64 144 (((w.alloc (.cells (arr .u32 l) 165)).alloc (.cells #[.int .u64 0, .int .u64 0, .int .u64 0, .int .u64 0, .int .u64 0, .int .u64 0, .int .u64 0, .int .u64 0] 144)).alloc (.cells #[.int .u64 0, .int .u64 0, .int .u64 0, .int .u64 0, .int .u64 0, .int .u64 0, .int .u64 0, .int .u64 0] 144)) (w.heap.size + 1) (List.replicate 8 0) := by
    have := (Lies.new .u64 144 (w.alloc (.cells (arr .u32 l) 165)) (List.replicate 8 0)).alloc (.cells #[.int .u64 0, .int .u64 0, .int .u64 0, .int .u64 0, .int .u64 0, .int .u64 0, .int .u64 0, .int .u64 0] 144)
    rw [World.size_alloc] at this
    exact this
  have hL : Lies .u64 144 (((w.alloc (.cells (arr .u32 l) 165)).alloc (.cells #[.int .u64 0, .int .u64 0, .int .u64 0, .int .u64 0, .int .u64 0, .int .u64 0, .int .u64 0, .int .u64 0] 144)).alloc (.cells #[.int .u64 0, .int .u64 0, .int .u64 0, .int .u64 0, .int .u64 0, .int .u64 0, .int .u64 0, .int .u64 0] 144)) (w.heap.size + 1 + 1) (pad 8 (l.take 0)) := by
    have := Lies.new .u64 144 ((w.alloc (.cells (arr .u32 l) 165)).alloc (.cells #[.int .u64 0, .int .u64 0, .int .u64 0, .int .u64 0, .int .u64 0, .int .u64 0, .int .u64 0, .int .u64 0] 144)) (List.replicate 8 0)
    rw [World.size_alloc, World.size_alloc] at this
    exact this
  have hb : Below w.heap.size w (((w.alloc (.cells (arr .u32 l) 165)).alloc (.cells #[.int .u64 0, .int .u64 0, .int .u64 0, .int .u64 0, .int .u64 0, .int .u64 0, .int .u64 0, .int .u64 0] 144)).alloc (.cells #[.int .u64 0, .int .u64 0, .int .u64 0, .int .u64 0, .int .u64 0, .int .u64 0, .int .u64 0, .int .u64 0] 144)) := keep_trans (keep_trans (keep_alloc _ _) (keep_alloc _ _)) (keep_alloc _ _)
  have HO := hide hO
  have HL := hide hL
  have HB := hide hb
  clear hO hL hb
  go_enter Tryz.func129, Tryz.ntmps129
  go_wp2_with (first
    | (refine wpList_load_row rfl 165 _ (by rfl) w.heap.size (by rfl) _ _ _ (.array 8 52) hA (by kernel_rfl) rfl (by rw [arr_size, h8]; kernel_rfl) ?_)
    | fail)
  go_loopw [7] (fun i wr => ∃ j : Nat, j ≤ 8 ∧ i = .int .i64 j ∧ Lies .u64 144 wr (w.heap.size + 1 + 1) (pad 8 (l.take j)) ∧ Lies .u64 144 wr (w.heap.size + 1) (List.replicate 8 0) ∧ Below w.heap.size w wr) (fun i _ => 8 - (intOf i).toNat)
  case atStart => exact ⟨0, Nat.zero_le _, rfl, HL.out, HO.out, HB.out⟩
  case round =>
    obtain ⟨j, hj, rfl, hLj, hOj, hbj⟩ := hrel
    clear hA
    by_cases hlt : j < 8
    · have hix : ∀ w : World, (Instr.index 165 (.agg (arr .u32 l)) (.int .i64 (j : Int))).run Tryz.prog w = .ok (.int .u32 (el l j)) w := fun w =>
        index_arr _ 52 8 .u32 l (by kernel_rfl) (by kernel_rfl) (by kernel_rfl) h8 j hlt w
      have hel : el l j < 4294967296 := el_lt hu (by decide) j
      have htl : (l.take j).length = j := by rw [List.length_take]; omega
      have c1 := hLj.cell (i := j) (by rw [pad_length (by omega)]; omega)
      have f1 := hLj.frozen j
      have hst := hLj.set j (el l j)
      have hse := pad_set (n := 8) (l := l.take j) (by omega) (el l j)
      rw [htl, ← take_el (by omega)] at hse
      rw [hse] at hst
      have HST := hide hst
      clear hst hse htl
      have ij0 : (0 : Int) ≤ (j : Int) := Int.natCast_nonneg _
      have ij1 : (j : Int) < 8 := by omega
      go_wp2
      refine ⟨⟨j + 1, by omega, by go_num, HST.out, hOj.but (But.setCell (But.refl (w.heap.size + 1 + 1) _) _ _) (by omega), hbj.setCell (by simp; omega) _⟩, by simp [intOf]; omega⟩
    · obtain rfl : j = 8 := by omega
      rw [List.take_of_length_le (by omega), pad_full h8] at hLj
      have hOf : Lies .u64 144 (wr.setRow (w.heap.size + 1) (arr .u64 l)) (w.heap.size + 1) l := hOj.row
      have hbf : Below w.heap.size w (wr.setRow (w.heap.size + 1) (arr .u64 l)) := hbj.trans ((But.setRow (But.refl _ _) _).below (by omega) hbj.size)
      go_wp2_with (first
        | (refine wpList_load_row rfl 144 _ (by rfl) (w.heap.size + 1 + 1) (by rfl) _ _ _ (.array 8 26) hLj (by kernel_rfl) rfl (by rw [arr_size, h8]; kernel_rfl) ?_)
        | (refine wpList_store_row rfl 144 _ _ (by rfl) (w.heap.size + 1) (arr .u64 l) (by rfl) (by rfl) _ _ hOj (by rw [arr_size, h8]; kernel_rfl) (by rw [arr_size, arr_size, h8, List.length_replicate]) (arr_one _ _) ?_)
        | fail)
      refine bodyPost_ret (v := .agg (arr .u64 l)) ?_ ?_ ?_
      · exact results_cell_row Tryz.results129 _ _ (w.heap.size + 1) _ _ _ (.array 8 26) (by rfl) hOf (by kernel_rfl) rfl (by rw [arr_size, h8]; kernel_rfl)
      · rfl
      · exact ⟨rfl, hbf⟩

set_option maxHeartbeats 2000000 in
set_option maxRecDepth 100000 in
theorem begin_any32 (r : List Nat) (f : Nat) (w : World) (h16 : r.length = 16) (hu : Under 18446744073709551616 r) (hf : f ≤ 8) :
    Calls Tryz.prog 128 #[.agg (arr .u64 r), .int .i64 f] w fun e w' => e = .returned (.agg (arr .u32 (((r.drop f).take 8).map (hi false)))) ∧ Below w.heap.size w w' := by
  have h8 : (((r.drop f).take 8).map (hi false)).length = 8 := by rw [List.length_map, List.length_take, List.length_drop]; omega
  have hel : ∀ j, j < 8 → el (((r.drop f).take 8).map (hi false)) j = hi false (el r (f + j)) := fun j hj => by
    rw [el_at (by omega), List.getElem_map, List.getElem_take, List.getElem_drop, el_at (by omega)]
  have HE := hide hel
  clear hel
  have hA : Lies .u64 167 (((w.alloc (.cells (arr .u64 r) 167)).alloc (.cells #[.int .u32 0, .int .u32 0, .int .u32 0, .int .u32 0, .int .u32 0, .int .u32 0, .int .u32 0, .int .u32 0] 165)).alloc (.cells #[.int .u32 0, .int .u32 0, .int .u32 0, .int .u32 0, .int .u32 0, .int .u32 0, .int .u32 0, .int .u32 0] 165)) w.heap.size r := ((Lies.new _ _ w r).alloc _).alloc _
  have hO : Lies .u32 165 (((w.alloc (.cells (arr .u64 r) 167)).alloc (.cells #[.int .u32 0, .int .u32 0, .int .u32 0, .int .u32 0, .int .u32 0, .int .u32 0, .int .u32 0, .int .u32 0] 165)).alloc (.cells #[.int .u32 0, .int .u32 0, .int .u32 0, .int .u32 0, .int .u32 0, .int .u32 0, .int .u32 0, .int .u32 0] 165)) (w.heap.size + 1) (List.replicate 8 0) := by
    have := (Lies.new .u32 165 (w.alloc (.cells (arr .u64 r) 167)) (List.replicate 8 0)).alloc (.cells #[.int .u32 0, .int .u32 0, .int .u32 0, .int .u32 0, .int .u32 0, .int .u32 0, .int .u32 0, .int .u32 0] 165)
    rw [World.size_alloc] at this
    exact this
  have hL : Lies .u32 165 (((w.alloc (.cells (arr .u64 r) 167)).alloc (.cells #[.int .u32 0, .int .u32 0, .int .u32 0, .int .u32 0, .int .u32 0, .int .u32 0, .int .u32 0, .int .u32 0] 165)).alloc (.cells #[.int .u32 0, .int .u32 0, .int .u32 0, .int .u32 0, .int .u32 0, .int .u32 0, .int .u32 0, .int .u32 0] 165)) (w.heap.size + 1 + 1) (pad 8 ((((r.drop f).take 8).map (hi false)).take 0)) := by
    have := Lies.new .u32 165 ((w.alloc (.cells (arr .u64 r) 167)).alloc (.cells #[.int .u32 0, .int .u32 0, .int .u32 0, .int .u32 0, .int .u32 0, .int .u32 0, .int .u32 0, .int .u32 0] 165)) (List.replicate 8 0)
    rw [World.size_alloc, World.size_alloc] at this
    exact this
  have hb : Below w.heap.size w (((w.alloc (.cells (arr .u64 r) 167)).alloc (.cells #[.int .u32 0, .int .u32 0, .int .u32 0, .int .u32 0, .int .u32 0, .int .u32 0, .int .u32 0, .int .u32 0] 165)).alloc (.cells #[.int .u32 0, .int .u32 0, .int .u32 0, .int .u32 0, .int .u32 0, .int .u32 0, .int .u32 0, .int .u32 0] 165)) := keep_trans (keep_trans (keep_alloc _ _) (keep_alloc _ _)) (keep_alloc _ _)
  have HA := hide hA
  have HO := hide hO
  have HL := hide hL
  have HB := hide hb
  clear hA hO hL hb
  generalize hl : ((r.drop f).take 8).map (hi false) = l at *
  go_enter Tryz.func128, Tryz.ntmps128
  go_wp2
  go_loopw [7] (fun i wr => ∃ j : Nat, j ≤ 8 ∧ i = .int .i64 j ∧ Lies .u32 165 wr (w.heap.size + 1 + 1) (pad 8 (l.take j)) ∧ Lies .u32 165 wr (w.heap.size + 1) (List.replicate 8 0) ∧ Lies .u64 167 wr w.heap.size r ∧ Below w.heap.size w wr) (fun i _ => 8 - (intOf i).toNat)
  case atStart => exact ⟨0, Nat.zero_le _, rfl, HL.out, HO.out, HA.out, HB.out⟩
  case round =>
    obtain ⟨j, hj, rfl, hLj, hOj, hAj, hbj⟩ := hrel
    by_cases hlt : j < 8
    · have hle := HE.out j hlt
      have hrl : el r (f + j) < 18446744073709551616 := el_lt hu (by decide) _
      have htl : (l.take j).length = j := by rw [List.length_take]; omega
      have c1 := hLj.cell (i := j) (by rw [pad_length (by omega)]; omega)
      have c2 := hAj.cell (i := f + j) (by omega)
      have f1 := hLj.frozen j
      have hst := hLj.set j (el l j)
      have hse := pad_set (n := 8) (l := l.take j) (by omega) (el l j)
      rw [htl, ← take_el (by omega)] at hse
      rw [hse, hle] at hst
      have HST := hide hst
      clear hst hse htl hle
      have ij0 : (0 : Int) ≤ (j : Int) := Int.natCast_nonneg _
      have ij1 : (j : Int) < 8 := by omega
      have ij2 : (f : Int) + (j : Int) = ((f + j : Nat) : Int) := by omega
      have ij3 : f + j < 16 := by omega
      have ij4 : ((f + j : Nat) : Int) < 16 := by omega
      have ij5 : (0 : Int) ≤ ((f + j : Nat) : Int) := Int.natCast_nonneg _
      have ij6 : IntKind.i64.wrap ((f + j : Nat) : Int) = ((f + j : Nat) : Int) := by rw [IntKind.wrap_i64]; omega
      generalize f + j = q at *
      go_wp2_with fail
      refine (first32 (el r q) _ hrl).mono ?_
      rintro e w1 ⟨rfl, rfl⟩
      go_wp2
      refine ⟨⟨j + 1, by omega, by go_num, HST.out, hOj.but (But.setCell (But.refl (w.heap.size + 1 + 1) _) _ _) (by omega), hAj.but (But.setCell (But.refl (w.heap.size + 1 + 1) _) _ _) (by omega), hbj.setCell (by simp; omega) _⟩, by simp [intOf]; omega⟩
    · obtain rfl : j = 8 := by omega
      rw [List.take_of_length_le (by omega), pad_full h8] at hLj
      have hOf : Lies .u32 165 (wr.setRow (w.heap.size + 1) (arr .u32 l)) (w.heap.size + 1) l := hOj.row
      have hbf : Below w.heap.size w (wr.setRow (w.heap.size + 1) (arr .u32 l)) := hbj.trans ((But.setRow (But.refl _ _) _).below (by omega) hbj.size)
      go_wp2_with (first
        | (refine wpList_load_row rfl 165 _ (by rfl) (w.heap.size + 1 + 1) (by rfl) _ _ _ (.array 8 52) hLj (by kernel_rfl) rfl (by rw [arr_size, h8]; kernel_rfl) ?_)
        | (refine wpList_store_row rfl 165 _ _ (by rfl) (w.heap.size + 1) (arr .u32 l) (by rfl) (by rfl) _ _ hOj (by rw [arr_size, h8]; kernel_rfl) (by rw [arr_size, arr_size, h8, List.length_replicate]) (arr_one _ _) ?_)
        | fail)
      refine bodyPost_ret (v := .agg (arr .u32 l)) ?_ ?_ ?_
      · exact results_cell_row Tryz.results128 _ _ (w.heap.size + 1) _ _ _ (.array 8 52) (by rfl) hOf (by kernel_rfl) rfl (by rw [arr_size, h8]; kernel_rfl)
      · rfl
      · exact ⟨rfl, hbf⟩

set_option maxRecDepth 100000 in
theorem zero8832 : ∀ w, (zeroValue 185).run Tryz.prog w = .ok (.agg (arr .u32 (List.replicate 88 0))) w := zero_arr (by kernel_rfl)

theorem el_map_hi32 (b : Bool) (r : List Nat) (j : Nat) (hj : j < r.length) : el (r.map (hi b)) j = hi b (el r j) := by
  rw [el_at (by rw [List.length_map]; exact hj), List.getElem_map, el_at hj]

set_option maxHeartbeats 4000000 in
set_option maxRecDepth 100000 in
theorem resume_any32 (hs r : List Nat) (w : World) (h8 : hs.length = 8) (hhu : Under 4294967296 hs) (h80 : r.length = 80) (hru : Under 18446744073709551616 r) :
    Calls Tryz.prog 141 #[.agg (arr .u64 hs), .agg (arr .u64 r)] w fun e w' => ∃ g, e = .returned (.pointer (some ⟨g, 0, none⟩)) ∧ w.heap.size ≤ g ∧ Lies .u32 185 w' g (hs ++ r.map (hi false)) ∧ Below w.heap.size w w' := by
  have hz := zero8832
  have hA : Lies .u64 144 (((w.alloc (.cells (arr .u64 hs) 144)).alloc (.cells (arr .u64 r) 174)).alloc (.cells (arr .u32 (List.replicate 88 0)) 185)) w.heap.size hs := ((Lies.new _ _ w hs).alloc _).alloc _
  have hC : Lies .u64 174 (((w.alloc (.cells (arr .u64 hs) 144)).alloc (.cells (arr .u64 r) 174)).alloc (.cells (arr .u32 (List.replicate 88 0)) 185)) (w.heap.size + 1) r := by
    have := (Lies.new .u64 174 (w.alloc (.cells (arr .u64 hs) 144)) r).alloc (.cells (arr .u32 (List.replicate 88 0)) 185)
    rw [World.size_alloc] at this
    exact this
  have hL : Lies .u32 185 (((w.alloc (.cells (arr .u64 hs) 144)).alloc (.cells (arr .u64 r) 174)).alloc (.cells (arr .u32 (List.replicate 88 0)) 185)) (w.heap.size + 1 + 1) (pad 88 (hs.take 0)) := by
    have := Lies.new .u32 185 ((w.alloc (.cells (arr .u64 hs) 144)).alloc (.cells (arr .u64 r) 174)) (List.replicate 88 0)
    rw [World.size_alloc, World.size_alloc] at this
    exact this
  have hb : Below w.heap.size w (((w.alloc (.cells (arr .u64 hs) 144)).alloc (.cells (arr .u64 r) 174)).alloc (.cells (arr .u32 (List.replicate 88 0)) 185)) := keep_trans (keep_trans (keep_alloc _ _) (keep_alloc _ _)) (keep_alloc _ _)
  have HC := hide hC
  have HL := hide hL
  have HB := hide hb
  clear hC hL hb
  go_enter Tryz.func141, Tryz.ntmps141
  go_wp2_with (first
    | (refine wpList_load_row rfl 144 _ (by rfl) w.heap.size (by rfl) _ _ _ (.array 8 26) hA (by kernel_rfl) rfl (by rw [arr_size, h8]; kernel_rfl) ?_)
    | fail)
  clear hA
  go_loopw [11] (fun i wr => ∃ j : Nat, j ≤ 8 ∧ i = .int .i64 j ∧ Lies .u32 185 wr (w.heap.size + 1 + 1) (pad 88 (hs.take j)) ∧ Lies .u64 174 wr (w.heap.size + 1) r ∧ Below w.heap.size w wr) (fun i _ => 8 - (intOf i).toNat)
  case atStart => exact ⟨0, Nat.zero_le _, rfl, HL.out, HC.out, HB.out⟩
  case round =>
    obtain ⟨j, hj, rfl, hLj, hCj, hbj⟩ := hrel
    by_cases hlt : j < 8
    · have hix : ∀ w : World, (Instr.index 144 (.agg (arr .u64 hs)) (.int .i64 (j : Int))).run Tryz.prog w = .ok (.int .u64 (el hs j)) w := fun w =>
        index_arr _ 26 8 .u64 hs (by kernel_rfl) (by kernel_rfl) (by kernel_rfl) h8 j hlt w
      have hel : el hs j < 4294967296 := el_lt hhu (by decide) j
      have htl : (hs.take j).length = j := by rw [List.length_take]; omega
      have c1 := hLj.cell (i := j) (by rw [pad_length (by omega)]; omega)
      have f1 := hLj.frozen j
      have hst := hLj.set j (el hs j)
      have hse := pad_set (n := 88) (l := hs.take j) (by omega) (el hs j)
      rw [htl, ← take_el (by omega)] at hse
      rw [hse] at hst
      have HST := hide hst
      clear hst hse htl
      have ij0 : (0 : Int) ≤ (j : Int) := Int.natCast_nonneg _
      have ij1 : (j : Int) < 8 := by omega
      go_wp2
      refine ⟨⟨j + 1, by omega, by go_num, HST.out, hCj.but (But.setCell (But.refl (w.heap.size + 1 + 1) _) _ _) (by omega), hbj.setCell (by simp; omega) _⟩, by simp [intOf]; omega⟩
    · obtain rfl : j = 8 := by omega
      rw [List.take_of_length_le (by omega)] at hLj
      clear HL HC HB
      have hL0 : Lies .u32 185 wr (w.heap.size + 1 + 1) (pad 88 (hs ++ (r.map (hi false)).take 0)) := by rw [List.take_zero, List.append_nil]; exact hLj
      have hlr : (r.map (hi false)).length = 80 := by rw [List.length_map]; exact h80
      clear hLj
      go_wp2_with (first
        | (refine wpList_load_row rfl 174 _ (by rfl) (w.heap.size + 1) (by rfl) _ _ _ (.array 80 26) hCj (by kernel_rfl) rfl (by rw [arr_size, h80]; kernel_rfl) ?_)
        | fail)
      clear hCj
      go_loopw [22] (fun i wr => ∃ j : Nat, j ≤ 80 ∧ i = .int .i64 j ∧ Lies .u32 185 wr (w.heap.size + 1 + 1) (pad 88 (hs ++ (r.map (hi false)).take j)) ∧ Below w.heap.size w wr) (fun i _ => 80 - (intOf i).toNat)
      case atStart => exact ⟨0, Nat.zero_le _, rfl, hL0, hbj⟩
      case round =>
        obtain ⟨j, hj, rfl, hLj, hbj⟩ := hrel
        clear hL0
        by_cases hlt : j < 80
        · have hix : ∀ w : World, (Instr.index 174 (.agg (arr .u64 r)) (.int .i64 (j : Int))).run Tryz.prog w = .ok (.int .u64 (el r j)) w := fun w =>
            index_arr _ 26 80 .u64 r (by kernel_rfl) (by kernel_rfl) (by kernel_rfl) h80 j hlt w
          have hrl : el r j < 18446744073709551616 := el_lt hru (by decide) j
          have htl : (hs ++ (r.map (hi false)).take j).length = 8 + j := by rw [List.length_append, List.length_take]; omega
          have c1 := hLj.cell (i := 8 + j) (by rw [pad_length (by omega)]; omega)
          have f1 := hLj.frozen (8 + j)
          have hst := hLj.set (8 + j) (hi false (el r j))
          have hse := pad_set (n := 88) (l := hs ++ (r.map (hi false)).take j) (by omega) (hi false (el r j))
          rw [htl, List.append_assoc, ← el_map_hi32 false r j (by omega), ← take_el (by omega)] at hse
          rw [← el_map_hi32 false r j (by omega), hse, el_map_hi32 false r j (by omega)] at hst
          have HST := hide hst
          clear hst hse htl
          have ij0 : (0 : Int) ≤ (j : Int) := Int.natCast_nonneg _
          have ij1 : (j : Int) < 80 := by omega
          go_wp2_with fail
          refine (first32 (el r j) _ hrl).mono ?_
          rintro e w1 ⟨rfl, rfl⟩
          go_wp2
          refine ⟨⟨j + 1, by omega, by go_num, HST.out, hbj.setCell (by simp; omega) _⟩, by simp [intOf]; omega⟩
        · obtain rfl : j = 80 := by omega
          rw [List.take_of_length_le (by omega), pad_full (by rw [List.length_append]; omega)] at hLj
          go_wp2
          go_ret
          exact ⟨_, rfl, by omega, hLj, hbj⟩
end Go.Proofs.YtogiballdmgcpaaGreatDoor

/- A slice of texts, and what it reads as. -/
namespace Go.Proofs.YtogiballdmgcpaaGreatDoor
open Go.RowKit
set_option linter.unusedVariables false

/-- the text at a place of a list of texts -/
def tx (ls : List (List Nat)) (i : Nat) : List Nat := ls[i]?.getD []

/-- a slice without an address is nil -/
def Tidy (v : Value) : Prop := ∀ n c, v = .slice none n c → n = 0 ∧ c = 0

/-- v is a slice of texts, which are ls -/
def Rows2 (w : World) (v : Value) (ls : List (List Nat)) : Prop :=
  ∃ a cap, v = .slice a ls.length cap ∧ ls.length ≤ cap ∧ cap ≤ maxLen ∧
    (0 < ls.length → ∃ b off, a = some ⟨b, off, none⟩ ∧ ∀ i, i < ls.length → ∃ u, w.cell? ⟨b, off + i, none⟩ = some u ∧ Row .u8 256 w u (tx ls i) ∧ Tidy u)

theorem Rows2.below {w w' : World} {v : Value} {ls : List (List Nat)} (h : Rows2 w v ls) (hb : Below w.heap.size w w') : Rows2 w' v ls := by
  obtain ⟨a, cap, rfl, h1, h2, h3⟩ := h
  refine ⟨a, cap, rfl, h1, h2, fun hl => ?_⟩
  obtain ⟨b, off, rfl, hc⟩ := h3 hl
  refine ⟨b, off, rfl, fun i hi => ?_⟩
  obtain ⟨u, hu, hr, ht⟩ := hc i hi
  have h5 := World.block_lt_of_cell? w _ hu
  exact ⟨u, by rw [hb.cell (p := ⟨b, off + i, none⟩) h5]; exact hu, hr.below hb, ht⟩

theorem take_tx {ls : List (List Nat)} {k : Nat} (h : k < ls.length) : ls.take (k + 1) = ls.take k ++ [tx ls k] := by
  rw [List.take_succ_eq_append_getElem h]; unfold tx; rw [List.getElem?_eq_getElem h]; rfl
theorem flat_succ {ls : List (List Nat)} {k : Nat} (h : k < ls.length) : (ls.take (k + 1)).flatten = (ls.take k).flatten ++ tx ls k := by
  rw [take_tx h]; simp
theorem flat_le (ls : List (List Nat)) (k : Nat) : (ls.take k).flatten.length ≤ ls.flatten.length := by
  have : ls.flatten = (ls.take k).flatten ++ (ls.drop k).flatten := by rw [← List.flatten_append, List.take_append_drop]
  rw [this]; simp

theorem cells_news {w : World} {k : IntKind} {x : Addr} {l : List Nat} (h : Cells k w (some x) l) : ∀ j u, (vals k l)[j]? = some u → w.cell? (x.add j) = some u := by
  intro j u hj
  have hl : j < l.length := by
    have := (List.getElem?_eq_some_iff.1 hj).1
    rwa [vals_length] at this
  obtain ⟨b, off, he, hc⟩ := h (by omega)
  obtain rfl := Option.some.inj he
  rw [Addr.add_lit, hc j hl, ← vals_get k l j hl]
  exact hj

theorem under_flat (ls : List (List Nat)) (h : ∀ i, i < ls.length → Under 256 (tx ls i)) : Under 256 ls.flatten := by
  intro x hx
  obtain ⟨l, hl, hxl⟩ := List.mem_flatten.1 hx
  obtain ⟨i, hi, rfl⟩ := List.getElem_of_mem hl
  have := h i hi
  unfold tx at this
  rw [List.getElem?_eq_getElem hi] at this
  exact this x hxl

theorem Rows2.under {w : World} {v : Value} {ls : List (List Nat)} (h : Rows2 w v ls) : Under 256 ls.flatten := by
  obtain ⟨a, cap, rfl, h1, h2, h3⟩ := h
  apply under_flat
  intro i hi
  obtain ⟨b, off, rfl, hc⟩ := h3 (by omega)
  obtain ⟨u, _, ⟨_, _, _, _, _, _, h6⟩, _⟩ := hc i hi
  exact h6
end Go.Proofs.YtogiballdmgcpaaGreatDoor

/- Sums that go on, as values; the constants; few texts in a new slice. -/
namespace Go.Proofs.YtogiballdmgcpaaGreatDoor
open Go.RowKit
set_option linter.unusedVariables false
set_option linter.unusedSimpArgs false

/-- a sum that goes on: its cells -/
def hv (kind : Int) (ws : List Nat) (tv : Value) (size : Nat) : Array Value :=
  #[.int .i64 kind, .int .u64 (el ws 0), .int .u64 (el ws 1), .int .u64 (el ws 2), .int .u64 (el ws 3), .int .u64 (el ws 4), .int .u64 (el ws 5), .int .u64 (el ws 6), .int .u64 (el ws 7), tv, .int .u64 size]
/-- it lies in block q -/
def Hb (w : World) (q : Nat) (kind : Int) (ws : List Nat) (tv : Value) (size : Nat) : Prop := w.heap[q]? = some (.cells (hv kind ws tv size) 146 (0, 0))
theorem Hb.new (w : World) (kind : Int) (ws : List Nat) (tv : Value) (size : Nat) : Hb (w.alloc (.cells (hv kind ws tv size) 146)) w.heap.size kind ws tv size := heap_alloc_last w _
theorem Hb.lt {w : World} {q : Nat} {kind : Int} {ws : List Nat} {tv : Value} {size : Nat} (h : Hb w q kind ws tv size) : q < w.heap.size := by
  unfold Hb at h
  rcases Nat.lt_or_ge q w.heap.size with hlt | hge
  · exact hlt
  · rw [Array.getElem?_eq_none hge] at h; cases h
theorem Hb.below {w w' : World} {q : Nat} {kind : Int} {ws : List Nat} {tv : Value} {size : Nat} (h : Hb w q kind ws tv size) (hb : Below w.heap.size w w') : Hb w' q kind ws tv size := (hb.block q h.lt).trans h
theorem Hb.but {w w' : World} {q g : Nat} {kind : Int} {ws : List Nat} {tv : Value} {size : Nat} (h : Hb w q kind ws tv size) (hb : But g w w') (hn : q ≠ g) : Hb w' q kind ws tv size := (hb.block q h.lt hn).trans h
theorem Hb.kind {w : World} {q : Nat} {kind : Int} {ws : List Nat} {tv : Value} {size : Nat} (h : Hb w q kind ws tv size) : w.cell? ⟨q, 0, none⟩ = some (.int .i64 kind) := by rw [cell_of_row w q 0 _ _ (0, 0) h]; rfl
theorem Hb.tail {w : World} {q : Nat} {kind : Int} {ws : List Nat} {tv : Value} {size : Nat} (h : Hb w q kind ws tv size) : w.cell? ⟨q, 9, none⟩ = some tv := by rw [cell_of_row w q 9 _ _ (0, 0) h]; rfl
theorem Hb.size {w : World} {q : Nat} {kind : Int} {ws : List Nat} {tv : Value} {size : Nat} (h : Hb w q kind ws tv size) : w.cell? ⟨q, 10, none⟩ = some (.int .u64 size) := by rw [cell_of_row w q 10 _ _ (0, 0) h]; rfl
theorem Hb.word {w : World} {q : Nat} {kind : Int} {ws : List Nat} {tv : Value} {size : Nat} (h : Hb w q kind ws tv size) {i : Nat} (hi : i < 8) : w.cell? ⟨q, 1 + i, none⟩ = some (.int .u64 (el ws i)) := by
  rw [cell_of_row w q _ _ _ (0, 0) h]
  match i, hi with
  | 0, _ => rfl
  | 1, _ => rfl
  | 2, _ => rfl
  | 3, _ => rfl
  | 4, _ => rfl
  | 5, _ => rfl
  | 6, _ => rfl
  | 7, _ => rfl
theorem Hb.words {w : World} {q : Nat} {kind : Int} {ws : List Nat} {tv : Value} {size : Nat} (h : Hb w q kind ws tv size) (h8 : ws.length = 8) : w.rangeAt q 1 (vals .u64 ws) := fun j v hv => by
  have hj : j < ws.length := by have := (List.getElem?_eq_some_iff.1 hv).1; rwa [vals_length] at this
  rw [h.word (by omega), ← hv, vals_get .u64 ws j hj]
theorem Row.form {k : IntKind} {m : Nat} {w : World} {v : Value} {l : List Nat} (h : Row k m w v l) : ∃ a c, v = .slice a l.length c := by
  obtain ⟨a, c, rfl, _⟩ := h; exact ⟨a, c, rfl⟩

/-- the program's two tables hold what its text lays in them -/
def Roots (w : World) : Prop := w.rangeAt 1 0 (vals .u64 cubes) ∧ w.rangeAt 0 0 (vals .u64 squares)
theorem range_below {w w' : World} {b o : Nat} {cs : List Value} (h : w.rangeAt b o cs) (hb : Below w.heap.size w w') : w'.rangeAt b o cs := fun j v hv => keep_cell (h j v hv) hb
theorem Roots.below {w w' : World} (h : Roots w) (hb : Below w.heap.size w w') : Roots w' := ⟨range_below h.1 hb, range_below h.2 hb⟩

theorem tidy_at (x : Addr) (n c : Nat) : Tidy (.slice (some x) n c) := fun n c he => by simp at he
theorem tidy_nil : Tidy (.slice none 0 0) := fun a c he => by simp at he; omega
theorem Own.tidy {e : TypeId} {k : IntKind} {m : Nat} {w : World} {B : Nat} {v : Value} {l : List Nat} (h : Own e k m w B v l) : Tidy v := by
  obtain ⟨⟨_, ⟨rfl, _⟩ | ⟨g, cap, cur, rfl, _⟩⟩, _⟩ := h
  · exact tidy_nil
  · exact tidy_at _ _ _
theorem rows_lit3 {w : World} {u v x : Value} {a b c : List Nat} (hu : Row .u8 256 w u a) (hv : Row .u8 256 w v b) (hx : Row .u8 256 w x c) (tu : Tidy u) (tv : Tidy v) (tx : Tidy x) :
    Rows2 (w.alloc (.cells #[u, v, x] 23)) (.slice (some ⟨w.heap.size, 0, none⟩) 3 3) [a, b, c] := by
  refine ⟨_, 3, rfl, Nat.le_refl _, by unfold maxLen; decide, fun _ => ⟨_, _, rfl, fun i hi => ?_⟩⟩
  have hb := keep_alloc w (.cells #[u, v, x] 23)
  match i, hi with
  | 0, _ => exact ⟨u, by rw [World.cell?_alloc_at _ _ _ _ rfl]; rfl, hu.below hb, tu⟩
  | 1, _ => exact ⟨v, by rw [World.cell?_alloc_at _ _ _ _ rfl]; rfl, hv.below hb, tv⟩
  | 2, _ => exact ⟨x, by rw [World.cell?_alloc_at _ _ _ _ rfl]; rfl, hx.below hb, tx⟩

/-- bytes of words, at a place -/
theorem el_flat (f : Nat → List Nat) (k : Nat) (hk : 0 < k) (hf : ∀ x, (f x).length = k) : ∀ (l : List Nat) (i : Nat), i < l.length * k → el (l.map f).flatten i = el (f (el l (i / k))) (i % k)
  | [], i, h => by simp at h
  | x :: l, i, h => by
    rw [List.map_cons, List.flatten_cons]
    by_cases hi : i < k
    · rw [el_app_left (by rw [hf]; exact hi), Nat.div_eq_of_lt hi, Nat.mod_eq_of_lt hi]; rfl
    · have e : el (x :: l) (i / k) = el l ((i - k) / k) := by
        rw [Nat.div_eq_sub_div hk (by omega)]; rfl
      rw [el_app_right (by rw [hf]; omega), hf, el_flat f k hk hf l (i - k) (by rw [List.length_cons, Nat.add_mul, Nat.one_mul] at h; omega), e, Nat.mod_eq_sub_mod (by omega : i ≥ k)]
theorem el_be (x k j : Nat) (hj : j < k) : el (leL x k).reverse j = x / 256 ^ (k - 1 - j) % 256 := by
  have hl : (leL x k).length = k := leL_length x k
  rw [el_at (by rw [List.length_reverse, hl]; exact hj), List.getElem_reverse]
  simp only [leL, List.getElem_map, List.getElem_range, List.length_map, List.length_range]
theorem bytesW_length (b : Bool) (h : List Nat) : (bytesW b h).length = h.length * ez b := by
  unfold bytesW
  induction h with
  | nil => simp
  | cons x l ih => rw [List.map_cons, List.flatten_cons, List.length_append, ih, List.length_reverse, leL_length, List.length_cons, Nat.add_mul]; omega
theorem bytesW_el (b : Bool) (h : List Nat) (i : Nat) (hi : i < h.length * ez b) : el (bytesW b h) i = el h (i / ez b) / 256 ^ (ez b - 1 - i % ez b) % 256 := by
  have hp : 0 < ez b := by cases b <;> decide
  unfold bytesW
  rw [el_flat (fun x => (leL x (ez b)).reverse) (ez b) hp (fun x => by rw [List.length_reverse, leL_length]) h i hi, el_be _ _ _ (Nat.mod_lt _ hp)]
theorem bytesW_under (b : Bool) (h : List Nat) : Under 256 (bytesW b h) := by
  intro x hx
  unfold bytesW at hx
  obtain ⟨l, hl, hxl⟩ := List.mem_flatten.1 hx
  obtain ⟨y, _, rfl⟩ := List.mem_map.1 hl
  have := List.mem_reverse.1 hxl
  unfold leL at this
  obtain ⟨i, _, rfl⟩ := List.mem_map.1 this
  omega
theorem el_take {l : List Nat} {n i : Nat} (h : i < n) : el (l.take n) i = el l i := by unfold el; rw [List.getElem?_take_of_lt h]
end Go.Proofs.YtogiballdmgcpaaGreatDoor
