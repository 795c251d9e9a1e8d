/- The code's blocks: an iterator made of slices.Chunk. -/
import Derived.Test.YteiknfcegchbcaaJIt
import Derived.Test.YteiknfcegchbcaaAEch
import Derived.Stop.RegionWithIn
import Derived.Test.YteiknfcegchbcaaJGa
namespace Go.Proofs.Yteiknfcegchbcaa
open Go.RowKit Go.Shelf
set_option linter.unusedVariables false
set_option linter.unusedSimpArgs false
attribute [local go_sem] Oper.semAt_some

set_option maxHeartbeats 2000000 in
set_option maxRecDepth 100000 in
theorem chunk_in (xb xo xc Z : Nat) (w : World) :
    Calls Try.prog 56 #[.slice (some ⟨xb, xo, none⟩) Z xc, .int .i64 16] w fun e w' => e = .returned (.func (.func 64) #[] #[.pointer (some ⟨w.heap.size, 0, none⟩), .pointer (some ⟨w.heap.size + 1, 0, none⟩)]) ∧ w' = (w.alloc (.cells #[.slice (some ⟨xb, xo, none⟩) Z xc] 22)).alloc (.cells #[.int .i64 16] 3) := by
  go_enter Try.func56, Try.ntmps56
  go_wp2
  go_ret
  exact ⟨rfl, rfl⟩
theorem grown_drewN (W : World) (q : Nat) : W.grownBy (W.drewN q) none := ⟨rfl, rfl, rfl, Nat.le_refl _, fun _ _ _ => rfl⟩
theorem chunk_stops (n : Nat) (hn : 1 ≤ n) (lo Bs Bn xb xo xc N Z : Nat) (hZ : Z = 16 * N) (hZc : Z ≤ xc) (hZ6 : xc ≤ 9223372036854775807) (w : World) (hBs : lo ≤ Bs ∧ Bs < w.heap.size) (hBn : lo ≤ Bn ∧ Bn < w.heap.size)
    (hcs : w.cell? ⟨Bs, 0, none⟩ = some (.slice (some ⟨xb, xo, none⟩) Z xc)) (hcn : w.cell? ⟨Bn, 0, none⟩ = some (.int .i64 16)) :
    SeqStopsK Fence.wide n Try.prog 64 #[.pointer (some ⟨Bs, 0, none⟩), .pointer (some ⟨Bn, 0, none⟩)] (fun x : Fin N => #[Value.slice (some ⟨xb, xo + 16 * x.1, none⟩) 16 16]) (KpC lo w.heap.size) (fun ys => ys = finL N N) (fun pre => pre <+: finL N N) N w :=
  fun l J Jx W hW hJ hJx hY h0 => chunk1_in n hn l lo w.heap.size Bs Bn xb xo xc N Z hZ hZc hZ6 w hBs hBn J Jx hY (fun pre W q h => hJ pre W _ none h (grown_drewN W q) (fun r e => by cases e)) W (fun k _ h2 => hW.block k h2) hcs hcn h0
theorem Row.clip {k : IntKind} {m : Nat} {w : World} {a : Option Addr} {n c c' : Nat} {l : List Nat} (h : Row k m w (.slice a n c) l) (h1 : n ≤ c') (h2 : c' ≤ maxLen) : Row k m w (.slice a n c') l := by
  obtain ⟨a', cap, he, g1, g2, g3, g4⟩ := h
  simp at he
  obtain ⟨rfl, rfl, rfl⟩ := he
  exact ⟨_, c', rfl, h1, h2, g3, g4⟩
theorem round_any {n n' l l2 : Nat} {P : Program} {f : FuncId} {tmps : Array Value} {assign body : Code} {w : World} {R : Ending → World → Prop} (h : RoundIn Fence.wide n P l f tmps assign body w R) : RoundIn (Fence.wide.inRound l2) n' P l f tmps assign body w R :=
  ⟨h.1, fun c cs _ => h.2 c cs (by simp [Fence.room, Fence.wide])⟩
/-- what blocks hands out -/
def blkV (L : List Nat) (i : Nat) : Value := .agg (arr .u32 (sw (blkOf L i)))
set_option maxHeartbeats 4000000 in
set_option maxRecDepth 100000 in
theorem blocks1_own (m : Nat) (hm : 4 ≤ m) (Bb xb xo xc N Z : Nat) (L : List Nat) (hZ : Z = 16 * N) (w0 : World) (hBb : Bb < w0.heap.size) (hcb : w0.cell? ⟨Bb, 0, none⟩ = some (.slice (some ⟨xb, xo, none⟩) Z xc)) (rL : Row .u8 256 w0 (.slice (some ⟨xb, xo, none⟩) Z xc) L) :
    OwnSeq m Try.prog 55 #[.pointer (some ⟨Bb, 0, none⟩)] (fun i : Fin N => #[blkV L i.1]) (finL N N) (fun y => Row .u8 256 y (.slice (some ⟨xb, xo, none⟩) Z xc) L) w0 := by
  intro l J W hW hlW hJ hV hY h0
  have hLu := rL.under
  have hLl : L.length = Z ∧ Z ≤ xc ∧ xc ≤ 9223372036854775807 := by
    obtain ⟨_, _, he, g1, g2, _⟩ := rL
    unfold maxLen at g2
    simp at he
    omega
  obtain ⟨hLl, lc1, lc2⟩ := hLl
  have h1m : 1 ≤ m := by omega
  have HZ := hide (And.intro hZ hLl)
  clear hZ hLl
  have hbW : Below W.heap.size W (W.alloc (.cells #[.func (.yield l) #[] #[]] 81)) := (Below.refl _ W).alloc (Nat.le_refl _) _
  have cB : (W.alloc (.cells #[.func (.yield l) #[] #[]] 81)).cell? ⟨Bb, 0, none⟩ = some (.slice (some ⟨xb, xo, none⟩) Z xc) := by
    rw [(hW.trans (hbW.mono hW.size)).cell (p := ⟨Bb, 0, none⟩) hBb]; exact hcb
  refine callsIn_of_wp_marks Try.func55 rfl trivial ?_ rfl
  simp only [Try.ntmps55, List.size_toArray, List.length_cons, List.length_nil, Nat.reduceAdd, Nat.reduceSub, Array.replicate_succ, Array.replicate_zero, List.push_toArray, List.append_toArray, List.nil_append, List.cons_append]
  gi_wp2_with (refine ⟨trivial, ?_⟩; gi_at_call 56; refine (callsIn_wide.2 (chunk_in xb xo xc Z _)).mono ?_; rintro e w' ⟨rfl, rfl⟩)
  obtain ⟨Wc, hWc⟩ : ∃ Wc, Wc = ((W.alloc (.cells #[.func (.yield l) #[] #[]] 81)).alloc (.cells #[.slice (some ⟨xb, xo, none⟩) Z xc] 22)).alloc (.cells #[.int .i64 16] 3) := ⟨_, rfl⟩
  have bY0 := Boxed.new W 81 (.func (.yield l) #[] #[])
  have bS0 := Boxed.new (W.alloc (.cells #[.func (.yield l) #[] #[]] 81)) 22 (.slice (some ⟨xb, xo, none⟩) Z xc)
  have bN0 := Boxed.new ((W.alloc (.cells #[.func (.yield l) #[] #[]] 81)).alloc (.cells #[.slice (some ⟨xb, xo, none⟩) Z xc] 22)) 3 (.int .i64 16)
  rw [World.size_alloc] at bS0
  rw [World.size_alloc, World.size_alloc] at bN0
  have bY : Boxed Wc W.heap.size 81 (.func (.yield l) #[] #[]) := by rw [hWc]; exact (bY0.alloc _).alloc _
  have bS : Boxed Wc (W.heap.size + 1) 22 (.slice (some ⟨xb, xo, none⟩) Z xc) := by rw [hWc]; exact bS0.alloc _
  have bN : Boxed Wc (W.heap.size + 1 + 1) 3 (.int .i64 16) := by rw [hWc]; exact bN0
  have szc : Wc.heap.size = W.heap.size + 3 := by rw [hWc]; simp
  have gW : W.grownBy Wc none := by
    rw [hWc]
    exact ⟨rfl, rfl, rfl, by simp; omega, fun k hk _ => by rw [Below.heap_alloc _ _ _ (by simp; omega), Below.heap_alloc _ _ _ (by simp; omega), Below.heap_alloc _ _ _ hk]⟩
  have bWc : Below W.heap.size W Wc := (Below.refl _ W).grown gW (Nat.le_refl _) (fun k e => by cases e)
  have J0 : J [] Wc := hJ [] W Wc none h0 gW (fun r e => by cases e)
  rw [← hWc]
  clear hWc bY0 bS0 bN0 cB hbW gW
  refine wpIn_rangeFunc_ownG rfl h1m (gf := 64) (lb := #[.pointer (some ⟨W.heap.size + 1, 0, none⟩), .pointer (some ⟨W.heap.size + 1 + 1, 0, none⟩)]) rfl trivial (enters_of Try.func64 (by kernel_rfl) rfl)
    (chunk_stops (m - 1) (by omega) W.heap.size (W.heap.size + 1) (W.heap.size + 1 + 1) xb xo xc N Z HZ.out.1 lc1 lc2 Wc (by omega) (by omega) bS.cell bN.cell) (fun h k => KpC.trans h k) (fun W' l' o o' hl' _ _ _ k h1 h2 => World.putObj_heap_other (by omega)) (Below.refl _ _) (fun _ => rfl)
    (fun pre W' => J pre W' ∧ Boxed W' W.heap.size 81 (.func (.yield l) #[] #[]) ∧ Wc.heap.size ≤ W'.heap.size)
    (fun _ _ _ => False)
    (fun s A B row hs hg hr => ⟨hJ s A B row hs.1 hg (fun r e => ⟨by have := (hr r e).1; omega, (hr r e).2⟩), hs.2.1.kept hg (fun e => by have := (hr _ e.symm).1; omega), Nat.le_trans hs.2.2 hg.size⟩)
    (fun c s A B row hs hg hr => hs)
    ⟨J0, bY, Nat.le_refl _⟩
    (fun x => { tmps := #[.func (.yield l) #[] #[], .pointer (some ⟨Bb, 0, none⟩), .pointer (some ⟨W.heap.size, 0, none⟩), .slice (some ⟨xb, xo + 16 * x.1, none⟩) 16 16, .slice (some ⟨xb, xo, none⟩) Z xc, .func (.func 64) #[] #[.pointer (some ⟨W.heap.size + 1, 0, none⟩), .pointer (some ⟨W.heap.size + 1 + 1, 0, none⟩)], .slice (some ⟨xb, xo + 16 * x.1, none⟩) 16 16, undef, undef, undef, undef, undef], defers := [] }) ?assign ?body ?done ?stop
  case assign =>
    intro l2 x W' K hK
    gi_wp2
    exact hK
  case body =>
    rintro l2 pre x W2 ⟨hJ2, bY2, hs2⟩ hlt
    have cY := bY2.cell
    have rB0 := hV pre W2 hJ2
    obtain ⟨hZ, hLl⟩ := HZ.out
    have hx := x.2
    have rB := rB0.mid (i := 16 * x.1) (j := 16 * x.1 + 16) (by omega) (by omega)
    rw [show 16 * x.1 + 16 - 16 * x.1 = 16 by omega, show ((L.drop (16 * x.1)).take 16) = blkOf L x.1 from rfl] at rB
    have rC := rB.clip (c' := 16) (by omega) (by unfold maxLen; decide)
    have hbl : (blkOf L x.1).length = 16 := by unfold blkOf; rw [List.length_take, List.length_drop]; omega
    have hrd := read_any _ _ W2.drew hbl (rC.below ((Below.refl _ _).drew))
    have hJd : J pre W2.drew := hJ pre W2 _ none hJ2 ⟨rfl, rfl, rfl, Nat.le_refl _, fun _ _ _ => rfl⟩ (fun r e => by cases e)
    have hfl : pre.length < (finL N N).length := by rw [finL_len N (Nat.le_refl _)]; exact hlt
    have h1m2 : 1 ≤ m - 1 - 1 := by omega
    have hcx : ∀ y, Below W2.heap.size W2 y → y.cell? ⟨W.heap.size, 0, none⟩ = some (.func (.yield l) #[] #[]) := fun y hb => keep_cell cY hb
    have hyy : ∀ y, Below W2.heap.size W2 y → YieldAt Fence.wide (m - 1) Try.prog l #[.agg (arr .u32 (sw (blkOf L x.1)))] y fun e W' => e = .returned (.bool true) ∧ J (pre ++ [x]) W' ∧ Kept W.heap.size y W' := fun y hb => by
      have gy : W2.grownBy y none := ⟨hb.os, hb.tape, hb.output, hb.size, fun k hk _ => hb.block k hk⟩
      exact hY pre x y (hJ pre W2 y none hJ2 gy (fun r e => by cases e)) hfl (by have := hb.size; omega)
    have HK := hide (And.intro hZ (And.intro hLl (And.intro rB0 (And.intro rB (And.intro rC hx)))))
    clear hZ hLl rB0 rB rC hx hbl
    gi_wp2
    gi_region_with (first
      | (refine ⟨trivial, ?_⟩; refine (CallsIn.inRound l2 (callsIn_wide.2 hrd)).mono ?_; rintro e w5 ⟨rfl, hb5⟩; have cY5 := hcx w5 (un_drew hb5); obtain ⟨fn, tmps, assign, body, hy, hR⟩ := hyy w5 (un_drew hb5))
      | (refine (round_any hR).mono ?_; rintro e W6 ⟨rfl, hJ6, hk6⟩)
      | fail)
    all_goals
      gi_wp2
      have hb2 := un_drew hb5
      have k25 : Kept W.heap.size W2 W6 := ⟨Nat.le_trans hb2.size hk6.size, fun k h1 h2 => (hk6.block k h1 (Nat.lt_of_lt_of_le h2 hb2.size)).trans (hb2.block k h2)⟩
      refine ⟨⟨k25.size, fun k o h1 h2 _ => k25.at (by omega) h2⟩, fun k h1 h2 => k25.block k h1 (by omega), hJ6, k25.at (Nat.le_refl _) bY2, Nat.le_trans hs2 k25.size⟩
  case done =>
    rintro D ys W2 hD rfl ⟨hJ2, bY2, hs2⟩ hK
    gi_wp2
    refine ⟨by simp, .inl ⟨_, _, rfl, run_takeDeferred hK, ?_⟩⟩
    exact ⟨_, results_none rfl _ _ _, ⟨_, rfl⟩, hJ _ W2 _ (some D) hJ2 (grownBy_putObj' _ D _) (fun r e => by cases e; exact ⟨by omega, _, hK, rfl⟩)⟩
  case stop =>
    rintro D c pre W2 hD hpre hF hK
    exact hF.elim
end Go.Proofs.Yteiknfcegchbcaa

/- The code's mixed, unmixed. -/
namespace Go.Proofs.Yteiknfcegchbcaa
open Go.RowKit
set_option linter.unusedVariables false
set_option linter.unusedSimpArgs false

theorem mix_int {a b c d : Nat} (ha : a < 256) (hb : b < 256) (hc : c < 256) (hd : d < 256) (X : Nat) (hX : X = wd a b c d ^^^ wd b c d a) : bits .xor .u32 (bits .xor .u32 (bits .xor .u32 (dblW X : Int) (wd b c d a : Int)) (wd c d a b : Int)) (wd d a b c : Int) = ((mixW a b c d : Nat) : Int) := by
  have o : ∀ x y : Nat, x < 4294967296 → y < 4294967296 → x ^^^ y < 4294967296 := fun x y hx hy => Nat.xor_lt_two_pow (n := 32) hx hy
  have l1 := wd_lt hb hc hd ha
  have l2 := wd_lt hc hd ha hb
  have l3 := wd_lt hd ha hb hc
  have l0 := dblW_lt X
  rw [xor_32 _ _ l0 l1, xor_32 _ _ (o _ _ l0 l1) l2, xor_32 _ _ (o _ _ (o _ _ l0 l1) l2) l3, hX, mix_is ha hb hc hd]
set_option maxHeartbeats 4000000 in
set_option maxRecDepth 100000 in
theorem mixed_any (s : List Nat) (w : World) (hs : B16 s) :
    Calls Try.prog 47 #[.agg (arr .u32 (sw s))] w fun e w' => e = .returned (.agg (arr .u32 (sw (colsL 2 3 1 1 s)))) ∧ Below w.heap.size w w' := by
  have hz := zero4
  have L0 := (Lies.new .u32 40 w (sw s)).alloc (.cells (arr .u32 (zA 4)) 40)
  have L2 := Lies.new .u32 40 (w.alloc (.cells (arr .u32 (sw s)) 40)) (zA 4)
  have hb0 := keep_trans (keep_alloc w (.cells (arr .u32 (sw s)) 40)) (keep_alloc _ (.cells (arr .u32 (zA 4)) 40))
  simp only [World.size_alloc, Nat.add_assoc, Nat.reduceAdd] at L2
  have lA := sw_len s
  have eA := fun k => sw_el s (c := k)
  have hfin : upd (fun i => mixW (el s (4 * i)) (el s (4 * i + 1)) (el s (4 * i + 2)) (el s (4 * i + 3))) (sw s) 4 = sw (colsL 2 3 1 1 s) := upd_sw rfl fun i hi => (col_mix hi).symm
  have HE := hide (And.intro eA (And.intro lA hfin))
  clear eA hfin
  generalize sw s = A at *
  go_enter Try.func47, Try.ntmps47
  go_wp2_with (first
    | (refine wpList_load_row rfl 40 _ (by rfl) w.heap.size (by rfl) _ _ _ (.array 4 38) L0 (by kernel_rfl) rfl (by rw [arr_size, lA]; kernel_rfl) ?_)
    | fail)
  clear hz
  generalize (w.alloc (.cells (arr .u32 A) 40)).alloc (.cells (arr .u32 (zA 4)) 40) = x1 at *
  go_loopw [7] (fun i wr => ∃ n : Nat, n ≤ 4 ∧ i = .int .i64 n ∧ Lies .u32 40 wr w.heap.size (upd (fun i => mixW (el s (4 * i)) (el s (4 * i + 1)) (el s (4 * i + 2)) (el s (4 * i + 3))) A n) ∧ But w.heap.size x1 wr) (fun i _ => 4 - (intOf i).toNat)
  case atStart => exact ⟨0, Nat.zero_le _, rfl, L0, But.refl _ _⟩
  case round =>
    obtain ⟨n, hn, rfl, hA, hB⟩ := hrel
    have h2 := L2.but hB (by omega)
    by_cases hlt : n < 4
    · obtain ⟨eA, lA, _⟩ := HE.out
      have b0 := hs.el (4 * n)
      have b1 := hs.el (4 * n + 1)
      have b2 := hs.el (4 * n + 2)
      have b3 := hs.el (4 * n + 3)
      have hix := fun y => ix4 A lA n hlt y
      rw [eA n hlt] at hix
      have f1 := hA.frozen n
      have c1 := hA.cell (i := n) (by rw [upd_len, lA]; exact hlt)
      have hst : ∀ y, Lies .u32 40 y w.heap.size (upd (fun i => mixW (el s (4 * i)) (el s (4 * i + 1)) (el s (4 * i + 2)) (el s (4 * i + 3))) A n) → Lies .u32 40 (y.setCell ⟨w.heap.size, n, none⟩ (.int .u32 (mixW (el s (4 * n)) (el s (4 * n + 1)) (el s (4 * n + 2)) (el s (4 * n + 3)) : Nat))) w.heap.size (upd (fun i => mixW (el s (4 * i)) (el s (4 * i + 1)) (el s (4 * i + 2)) (el s (4 * i + 3))) A (n + 1)) := fun y hy => hy.set n _
      have HST := hide hst
      have ecol : col s n = wd (el s (4 * n)) (el s (4 * n + 1)) (el s (4 * n + 2)) (el s (4 * n + 3)) := rfl
      rw [ecol] at hix
      clear hst ecol
      generalize el s (4 * n) = a at *
      generalize el s (4 * n + 1) = b at *
      generalize el s (4 * n + 2) = c at *
      generalize el s (4 * n + 3) = d at *
      have t1 := fun y => turned_1 b0 b1 b2 b3 y
      have t2 := fun y => turned_2 b0 b1 b2 b3 y
      have t3 := fun y => turned_3 b0 b1 b2 b3 y
      have x1 := xor_32 _ _ (wd_lt b0 b1 b2 b3) (wd_lt b1 b2 b3 b0)
      have hX := Nat.xor_lt_two_pow (n := 32) (wd_lt b0 b1 b2 b3) (wd_lt b1 b2 b3 b0)
      have HM := hide (mix_int b0 b1 b2 b3 _ rfl)
      have hdb := fun y => dbl_any _ hX y
      generalize wd a b c d ^^^ wd b c d a = X at *
      generalize dblW X = D at *
      generalize wd a b c d = W at *
      generalize wd b c d a = W1 at *
      generalize wd c d a b = W2 at *
      generalize wd d a b c = W3 at *
      have i0 : (0 : Int) ≤ (n : Int) := Int.natCast_nonneg _
      have i1 : (n : Int) < 4 := by omega
      clear eA lA
      go_wp2_with (first
        | (go_at_call_of 44 (#[Value.int .u32 (W : Int), Value.int .i64 1]); refine (t1 _).mono ?_; rintro e y ⟨rfl, hy⟩; obtain rfl := hy.symm; clear t1)
        | (go_at_call_of 44 (#[Value.int .u32 (W : Int), Value.int .i64 2]); refine (t2 _).mono ?_; rintro e y ⟨rfl, hy⟩; obtain rfl := hy.symm; clear t2)
        | (go_at_call_of 44 (#[Value.int .u32 (W : Int), Value.int .i64 3]); refine (t3 _).mono ?_; rintro e y ⟨rfl, hy⟩; obtain rfl := hy.symm; clear t3)
        | (go_at_call 41; refine (hdb _).mono ?_; rintro e y ⟨rfl, hy⟩; obtain rfl := hy.symm; clear hdb)
        | fail)
      rw [HM.out]
      exact ⟨⟨n + 1, by omega, by go_num, HST.out _ hA, hB.setCell n _⟩, by simp [intOf]; omega⟩
    · obtain rfl : n = 4 := by omega
      obtain ⟨_, _, hfin⟩ := HE.out
      rw [hfin] at hA
      have hsl : (sw (colsL 2 3 1 1 s)).length = 4 := rfl
      have hbr := hb0.trans (hB.below (by omega) hb0.size)
      generalize hX : sw (colsL 2 3 1 1 s) = X at hA hsl
      have HX := hide hX
      clear hX hfin
      have hOf : Lies .u32 40 (wr.setRow (w.heap.size + 1) (arr .u32 X)) (w.heap.size + 1) X := h2.row
      have hbf := hbr.trans ((But.setRow (But.refl (w.heap.size + 1) _) (arr .u32 X)).below (by omega) hbr.size)
      go_wp2_with (first
        | (refine wpList_load_row rfl 40 _ (by rfl) w.heap.size (by rfl) _ _ _ (.array 4 38) hA (by kernel_rfl) rfl (by rw [arr_size, hsl]; kernel_rfl) ?_)
        | (refine wpList_store_row rfl 40 _ _ (by rfl) (w.heap.size + 1) (arr .u32 X) (by rfl) (by rfl) _ _ h2 (by rw [arr_size, hsl]; kernel_rfl) (by rw [arr_size, arr_size, hsl, zA_len]) (arr_one _ _) ?_)
        | fail)
      refine bodyPost_ret (v := .agg (arr .u32 X)) ?_ rfl ⟨by rw [HX.out], hbf⟩
      exact results_cell_row Try.results47 _ _ (w.heap.size + 1) _ _ _ (.array 4 38) (by rfl) hOf (by kernel_rfl) rfl (by rw [arr_size, hsl]; kernel_rfl)
/-- a block ahead of multiplying, to undo it -/
def preS (s : List Nat) : List Nat := of16 fun i => preB (el s i) (el s (4 * (i / 4) + (i % 4 + 2) % 4))
theorem preS_b {s : List Nat} (hs : B16 s) : B16 (preS s) := of16_b fun i _ => preB_lt (hs.el _) (hs.el _)
theorem col_pre {s : List Nat} {c : Nat} (h : c < 4) : col (preS s) c = wd (preB (el s (4 * c)) (el s (4 * c + 2))) (preB (el s (4 * c + 1)) (el s (4 * c + 3))) (preB (el s (4 * c + 2)) (el s (4 * c))) (preB (el s (4 * c + 3)) (el s (4 * c + 1))) := by
  unfold preS
  rw [col_of16 _ h]
  have hm : ∀ k, k < 4 → (4 * c + k) % 4 = k ∧ (4 * c + k) / 4 = c := fun k hk => by omega
  have h0 : (4 * c) % 4 = 0 ∧ (4 * c) / 4 = c := by omega
  rw [(hm 1 (by decide)).1, (hm 2 (by decide)).1, (hm 3 (by decide)).1, (hm 1 (by decide)).2, (hm 2 (by decide)).2, (hm 3 (by decide)).2, h0.1, h0.2]
  rfl
theorem pre_cols {s : List Nat} (hs : B16 s) : colsL 2 3 1 1 (preS s) = colsL 14 11 13 9 s := by
  have key : ∀ c, c < 4 → col (colsL 2 3 1 1 (preS s)) c = col (colsL 14 11 13 9 s) c := fun c hc => by
    rw [col_mix hc, ← col_unmix hs.2 hc]
    have e := col_pre (s := s) hc
    unfold col at e
    have l := fun i => (preS_b hs).el i
    have p := fun i j => preB_lt (hs.el i) (hs.el j)
    have q0 := wd_0 (l (4 * c)) (l (4 * c + 1)) (l (4 * c + 2)) (l (4 * c + 3))
    have q1 := wd_1 (l (4 * c)) (l (4 * c + 1)) (l (4 * c + 2)) (l (4 * c + 3))
    have q2 := wd_2 (l (4 * c)) (l (4 * c + 1)) (l (4 * c + 2)) (l (4 * c + 3))
    have q3 := wd_3 (l (4 * c)) (l (4 * c + 1)) (l (4 * c + 2)) (l (4 * c + 3))
    rw [e] at q0 q1 q2 q3
    rw [wd_0 (p _ _) (p _ _) (p _ _) (p _ _)] at q0
    rw [wd_1 (p _ _) (p _ _) (p _ _) (p _ _)] at q1
    rw [wd_2 (p _ _) (p _ _) (p _ _) (p _ _)] at q2
    rw [wd_3 (p _ _) (p _ _) (p _ _) (p _ _)] at q3
    rw [← q0, ← q1, ← q2, ← q3]
  have ba : B16 (colsL 2 3 1 1 (preS s)) := colsL_b (by decide) (by decide) (by decide) (by decide)
  have bb : B16 (colsL 14 11 13 9 s) := colsL_b (by decide) (by decide) (by decide) (by decide)
  refine ext16 ba.1 bb.1 fun i hi => ?_
  have k := key (i / 4) (by omega)
  unfold col at k
  have la := fun j => ba.el j
  have lb := fun j => bb.el j
  have a0 := wd_0 (la (4 * (i / 4))) (la (4 * (i / 4) + 1)) (la (4 * (i / 4) + 2)) (la (4 * (i / 4) + 3))
  have a1 := wd_1 (la (4 * (i / 4))) (la (4 * (i / 4) + 1)) (la (4 * (i / 4) + 2)) (la (4 * (i / 4) + 3))
  have a2 := wd_2 (la (4 * (i / 4))) (la (4 * (i / 4) + 1)) (la (4 * (i / 4) + 2)) (la (4 * (i / 4) + 3))
  have a3 := wd_3 (la (4 * (i / 4))) (la (4 * (i / 4) + 1)) (la (4 * (i / 4) + 2)) (la (4 * (i / 4) + 3))
  rw [k] at a0 a1 a2 a3
  rw [wd_0 (lb _) (lb _) (lb _) (lb _)] at a0
  rw [wd_1 (lb _) (lb _) (lb _) (lb _)] at a1
  rw [wd_2 (lb _) (lb _) (lb _) (lb _)] at a2
  rw [wd_3 (lb _) (lb _) (lb _) (lb _)] at a3
  have hr : i % 4 = 0 ∨ i % 4 = 1 ∨ i % 4 = 2 ∨ i % 4 = 3 := by omega
  rcases hr with h | h | h | h
  · rw [show i = 4 * (i / 4) by omega]; exact a0.symm
  · rw [show i = 4 * (i / 4) + 1 by omega]; exact a1.symm
  · rw [show i = 4 * (i / 4) + 2 by omega]; exact a2.symm
  · rw [show i = 4 * (i / 4) + 3 by omega]; exact a3.symm
theorem pre_int {a b c d : Nat} (ha : a < 256) (hb : b < 256) (hc : c < 256) (hd : d < 256) (X : Nat) (hX : X = wd a b c d ^^^ wd c d a b) : bits .xor .u32 (wd a b c d : Int) (dblW (dblW X) : Int) = ((wd (preB a c) (preB b d) (preB c a) (preB d b) : Nat) : Int) := by
  rw [xor_32 _ _ (wd_lt ha hb hc hd) (dblW_lt _), hX, pre_is ha hb hc hd]
set_option maxHeartbeats 4000000 in
set_option maxRecDepth 100000 in
theorem unmixed_any (s : List Nat) (w : World) (hs : B16 s) :
    Calls Try.prog 52 #[.agg (arr .u32 (sw s))] w fun e w' => e = .returned (.agg (arr .u32 (sw (colsL 14 11 13 9 s)))) ∧ Below w.heap.size w w' := by
  have hz := zero4
  have L0 := (Lies.new .u32 40 w (sw s)).alloc (.cells (arr .u32 (zA 4)) 40)
  have L2 := Lies.new .u32 40 (w.alloc (.cells (arr .u32 (sw s)) 40)) (zA 4)
  have hb0 := keep_trans (keep_alloc w (.cells (arr .u32 (sw s)) 40)) (keep_alloc _ (.cells (arr .u32 (zA 4)) 40))
  simp only [World.size_alloc, Nat.add_assoc, Nat.reduceAdd] at L2
  have lA := sw_len s
  have eA := fun k => sw_el s (c := k)
  have hfin : upd (fun i => col (preS s) i) (sw s) 4 = sw (preS s) := upd_sw rfl fun i hi => rfl
  have hmx := fun y => mixed_any (preS s) y (preS_b hs)
  rw [pre_cols hs] at hmx
  have HE := hide (And.intro eA (And.intro lA (And.intro hfin hmx)))
  clear eA hfin hmx
  generalize sw s = A at *
  go_enter Try.func52, Try.ntmps52
  go_wp2_with (first
    | (refine wpList_load_row rfl 40 _ (by rfl) w.heap.size (by rfl) _ _ _ (.array 4 38) L0 (by kernel_rfl) rfl (by rw [arr_size, lA]; kernel_rfl) ?_)
    | fail)
  clear hz
  generalize (w.alloc (.cells (arr .u32 A) 40)).alloc (.cells (arr .u32 (zA 4)) 40) = x1 at *
  go_loopw [6] (fun i wr => ∃ n : Nat, n ≤ 4 ∧ i = .int .i64 n ∧ Lies .u32 40 wr w.heap.size (upd (fun i => col (preS s) i) A n) ∧ But w.heap.size x1 wr) (fun i _ => 4 - (intOf i).toNat)
  case atStart => exact ⟨0, Nat.zero_le _, rfl, L0, But.refl _ _⟩
  case round =>
    obtain ⟨n, hn, rfl, hA, hB⟩ := hrel
    have h2 := L2.but hB (by omega)
    by_cases hlt : n < 4
    · obtain ⟨eA, lA, _⟩ := HE.out
      have b0 := hs.el (4 * n)
      have b1 := hs.el (4 * n + 1)
      have b2 := hs.el (4 * n + 2)
      have b3 := hs.el (4 * n + 3)
      have hix := fun y => ix4 A lA n hlt y
      rw [eA n hlt] at hix
      have f1 := hA.frozen n
      have c1 := hA.cell (i := n) (by rw [upd_len, lA]; exact hlt)
      rw [upd_same _ _ (by omega) (Nat.le_refl _), eA n hlt] at c1
      have hst : ∀ y, Lies .u32 40 y w.heap.size (upd (fun i => col (preS s) i) A n) → Lies .u32 40 (y.setCell ⟨w.heap.size, n, none⟩ (.int .u32 (col (preS s) n : Nat))) w.heap.size (upd (fun i => col (preS s) i) A (n + 1)) := fun y hy => hy.set n _
      rw [col_pre hlt] at hst
      have HST := hide hst
      have ecol : col s n = wd (el s (4 * n)) (el s (4 * n + 1)) (el s (4 * n + 2)) (el s (4 * n + 3)) := rfl
      rw [ecol] at hix c1
      clear hst ecol
      generalize el s (4 * n) = a at *
      generalize el s (4 * n + 1) = b at *
      generalize el s (4 * n + 2) = c at *
      generalize el s (4 * n + 3) = d at *
      have t2 := fun y => turned_2 b0 b1 b2 b3 y
      have x1 := xor_32 _ _ (wd_lt b0 b1 b2 b3) (wd_lt b2 b3 b0 b1)
      have hX := Nat.xor_lt_two_pow (n := 32) (wd_lt b0 b1 b2 b3) (wd_lt b2 b3 b0 b1)
      have HM := hide (pre_int b0 b1 b2 b3 _ rfl)
      have hdb := fun y => dbl_any _ hX y
      generalize wd a b c d ^^^ wd c d a b = X at *
      have hdd := fun y => dbl_any _ (dblW_lt X) y
      generalize dblW (dblW X) = E at *
      generalize dblW X = D at *
      generalize wd a b c d = W at *
      generalize wd c d a b = W2 at *
      have i0 : (0 : Int) ≤ (n : Int) := Int.natCast_nonneg _
      have i1 : (n : Int) < 4 := by omega
      clear eA lA
      go_wp2
      go_region_with (first
        | (go_at_call 44; refine (t2 _).mono ?_; rintro e y ⟨rfl, hy⟩; obtain rfl := hy.symm; clear t2)
        | (go_at_call_of 41 (#[Value.int .u32 (X : Int)]); refine (hdb _).mono ?_; rintro e y ⟨rfl, hy⟩; obtain rfl := hy.symm)
        | (go_at_call_of 41 (#[Value.int .u32 (D : Int)]); refine (hdd _).mono ?_; rintro e y ⟨rfl, hy⟩; obtain rfl := hy.symm)
        | fail)
      all_goals
        go_wp2
        rw [HM.out]
        exact ⟨⟨n + 1, by omega, by go_num, HST.out _ hA, (hB.drew).setCell n _⟩, by simp [intOf]; omega⟩
    · obtain rfl : n = 4 := by omega
      obtain ⟨_, _, hfin, hmx⟩ := HE.out
      rw [hfin] at hA
      have hsl : (sw (preS s)).length = 4 := rfl
      have hsm : (sw (colsL 14 11 13 9 s)).length = 4 := rfl
      have hbr := hb0.trans (hB.below (by omega) hb0.size)
      generalize sw (preS s) = X at hA hsl hmx
      generalize hM : sw (colsL 14 11 13 9 s) = M at hsm hmx
      have HX := hide hM
      clear hM hfin HE
      go_wp2_with (first
        | (refine wpList_load_row rfl 40 _ (by rfl) w.heap.size (by rfl) _ _ _ (.array 4 38) hA (by kernel_rfl) rfl (by rw [arr_size, hsl]; kernel_rfl) ?_)
        | (go_at_call 47; refine (hmx _).mono ?_; rintro e w3 ⟨rfl, hb3⟩)
        | (refine wpList_store_row rfl 40 _ _ (by rfl) (w.heap.size + 1) (arr .u32 M) (by rfl) (by rfl) _ _ (h2.below hb3) (by rw [arr_size, hsm]; kernel_rfl) (by rw [arr_size, arr_size, hsm, zA_len]) (arr_one _ _) ?_)
        | fail)
      have hOf : Lies .u32 40 (w3.setRow (w.heap.size + 1) (arr .u32 M)) (w.heap.size + 1) M := (h2.below hb3).row
      have hb4 := keep_trans hbr hb3
      have hbf := hb4.trans ((But.setRow (But.refl (w.heap.size + 1) _) (arr .u32 M)).below (by omega) hb4.size)
      refine bodyPost_ret (v := .agg (arr .u32 M)) ?_ rfl ⟨by rw [HX.out], hbf⟩
      exact results_cell_row Try.results52 _ _ (w.heap.size + 1) _ _ _ (.array 4 38) (by rfl) hOf (by kernel_rfl) rfl (by rw [arr_size, hsm]; kernel_rfl)
end Go.Proofs.Yteiknfcegchbcaa
