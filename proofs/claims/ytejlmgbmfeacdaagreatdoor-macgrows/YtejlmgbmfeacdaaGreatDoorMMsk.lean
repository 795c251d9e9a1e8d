/- The document's Mask, over whatever digest. -/
import Derived.Test.YtejlmgbmfeacdaaGreatDoorMHma
import Derived.Test.YtejlmgbmfeacdaaGreatDoorRev
import Derived.Test.YtejlmgbmfeacdaaGreatDoorYDg
import Derived.Test.YtejlmgbmfeacdaaGreatDoorYBeh
import Derived.Test.YtejlmgbmfeacdaaGreatDoorHTak32
import Derived.Test.YtejlmgbmfeacdaaGreatDoorYXor
import Derived.Laws.EntriesVeiled
namespace Go.Proofs.YtejlmgbmfeacdaaGreatDoor
open Go.RowKit
set_option linter.unusedVariables false
set_option linter.unusedSimpArgs false

/-- where the loop of digests stands -/
def MkL (w : World) (D : List Nat → List Nat) (seed : List Nat) (u i : Value) (wr : World) : Prop := ∃ k : Nat, k ≤ 100000 ∧ i = .int .u64 (k : Int) ∧
  wr.ownsRow w.heap.size 5 1 u (outN (fun i => D (seed ++ (leL i 4).reverse)) k).length (vals .u8 (outN (fun i => D (seed ++ (leL i 4).reverse)) k)) ∧ Below w.heap.size w wr
theorem leS_4 (n : Nat) : leS n 4 = leL n 4 := by unfold leS; rw [if_neg (by decide)]; rfl

set_option maxHeartbeats 1000000 in
set_option maxRecDepth 100000 in
theorem rmask_of (kind : Int) (D : List Nat → List Nat) (Z : Nat) (seed : List Nat) (sv : Value) (n : Nat) (w : World) (hDl : ∀ l, (D l).length = Z) (hDu : ∀ l, Under 256 (D l)) (hZ : 0 < Z) (hZ2 : Z ≤ 64) (hk1 : 1 ≤ kind) (hk3 : kind ≤ 3)
    (hdig : DigE 7 kind D) (rs : Row .u8 256 w sv seed) (ts : Tidy sv) (hsl : seed.length ≤ 80000) (hn : n ≤ 100000) :
    Calls Tryz.prog 17 #[.int .i64 kind, sv, .int .i64 (n : Nat)] w fun e w' => ∃ v', e = .returned (.tuple #[v', .int .i64 0]) ∧ Row .u8 256 w' v' (maskD D seed n) ∧ Below w.heap.size w w' := by
  obtain ⟨sa, sc, rfl⟩ := rs.form
  have i1 : ¬ kind < 1 := by omega
  have i3 : ¬ 3 < kind := by omega
  have n0 : ¬ (n : Int) < 0 := by omega
  have nN : ¬ (1048576 : Int) < (n : Int) := by omega
  have nNn : ¬ 1048576 < n := by omega
  have HD := hide hdig
  have HDl := hide hDl
  have hun : ∀ k, Under 256 (outN (fun i => D (seed ++ (leL i 4).reverse)) k) := fun k => outN_under _ (fun i => hDu _) k
  clear hdig hDl hDu
  go_enter Tryz.func17, Tryz.ntmps17
  go_wp2_with fail
  clear nN nNn n0 i1 i3
  go_loopw [8, 9] (fun u i wr => MkL w D seed u i wr) (fun _ i _ => 100001 - (intOf i).toNat)
  case atStart => exact ⟨0, Nat.zero_le _, rfl, World.ownsRow_nil _ _ _ _, Below.refl _ _⟩
  case round =>
    obtain ⟨k, hk, rfl, hu, hbr⟩ := hrel
    have hsz := hbr.size
    have hol := outN_length (fun i => D (seed ++ (leL i 4).reverse)) Z (fun i => HDl.out _) k
    have hok := maskD_at D Z HDl.out hZ seed (n := n) (i := k)
    have hO1 : outN (fun i => D (seed ++ (leL i 4).reverse)) (k + 1) = outN (fun i => D (seed ++ (leL i 4).reverse)) k ++ D (seed ++ (leL k 4).reverse) := rfl
    have hou := hun k
    have HOK := hide hok
    have HO1 := hide hO1
    have hkz : k ≤ k * Z := le_times hZ
    clear hok hO1
    generalize outN (fun i => D (seed ++ (leL i 4).reverse)) k = O at *
    by_cases hlt : O.length < n
    · have hltI : (O.length : Int) < (n : Int) := by omega
      have hk255 : k < 100000 := by omega
      have hOn : O.length ≤ 100000 := by omega
      clear hol hkz
      obtain ⟨K2, hK2⟩ : ∃ x : Nat, x = k + 1 := ⟨_, rfl⟩
      have e_K2 : (k : Int) + 1 = (K2 : Int) := by omega
      have s_K2 : IntKind.u64.wrap (K2 : Int) = (K2 : Int) := by rw [IntKind.wrap_u64]; omega
      have HK2 := hide hK2
      clear hK2
      have hbe := fun w' => rbe_any k 4 w' (by omega) (by decide) (by decide)
      rw [leS_4] at hbe
      have hbl : (leL k 4).reverse.length = 4 := by rw [List.length_reverse, leL_len]
      have HBL := hide hbl
      clear hbl
      have h4l := HDl.out (seed ++ (leL k 4).reverse)
      generalize (leL k 4).reverse = E4 at *
      have hfl : [seed, E4].flatten = seed ++ E4 := by simp
      obtain ⟨a, cap, rfl⟩ := own_slice hu
      go_wp2_with (first
        | (go_at_call 29; refine (hbe _).mono ?_; rintro e w2 ⟨v2, rfl, hO2, hb2⟩; have hrr := rows_lit2 ((rs.below hbr).below hb2) hO2.row ts hO2.tidy; obtain ⟨a2, c2, rfl⟩ := hO2.row.form; have hb3 := keep_trans hb2 (keep_alloc _ (.cells #[.slice sa seed.length sc, .slice a2 E4.length c2] 22)))
        | (go_at_call 27; refine (rjoin_any _ [seed, E4] _ hrr (by have := HBL.out; simp; omega)).mono ?_; rintro e w4 ⟨v4, rfl, hO4, hb4⟩; rw [hfl] at hO4; have hb5 := keep_trans hb3 hb4)
        | (go_at_call 7; refine (HD.out _ _ _ hO4.row hO4.tidy (by have := HBL.out; simp; omega)).mono ?_; rintro e w6 ⟨v6, rfl, r6, n6, hb6⟩; have hb7 := keep_trans hb5 hb6; have hu6 := own_below hu hb7; have t6 := row_tidy r6 (by rw [h4l]; exact hZ))
        | (at_builtin; refine wpList_app rfl _ _ rfl w.heap.size _ _ _ O _ rfl hu6 rfl r6 t6 (by omega) (by rw [h4l]; omega) (keep_trans hbr hb7).size ?_; intro v7 w7 how7 hg7)
        | fail)
      have hb8 := below_append' (keep_trans hbr hb7) (keep_trans hbr hb7).size hu6 hg7
      have HH := hide (show MkL w D seed v7 (.int .u64 (K2 : Int)) w7 from ⟨k + 1, by omega, by rw [HK2.out], by rw [HO1.out, List.length_append]; exact how7, hb8⟩)
      clear hu hu6 how7 hg7 r6 hb8 hrr
      go_roundw
      case rel => exact HH.out
      case measure => have h2 := HK2.out; simp [intOf]; omega
    · have hltI : ¬ (O.length : Int) < (n : Int) := by omega
      have hro : Row .u8 256 wr u8 O := Own.row (e := 5) (B := w.heap.size) ⟨hu, hou⟩
      obtain ⟨a, cap, rfl⟩ := own_slice hu
      have hcap : n ≤ cap := by obtain ⟨_, _, he, h1, _⟩ := hro; simp at he; omega
      have hsl := slice_to a O.length cap n hcap
      have hcut := hro.cut (M := n) (by omega)
      rw [HOK.out (by omega)] at hcut
      clear hol hkz hro
      go_wp2
      go_ret2
      exact ⟨_, rfl, hcut, hbr⟩
end Go.Proofs.YtejlmgbmfeacdaaGreatDoor

/- The document's side of mac, whole: of each kind. -/
namespace Go.Proofs.YtejlmgbmfeacdaaGreatDoor
open Go.RowKit
set_option linter.unusedVariables false
set_option linter.unusedSimpArgs false

theorem digD_under {kind : Int} (h : 0 < sizeD kind) (b : List Nat) : Under 256 (digD kind b) := by
  unfold digD
  split
  · unfold endS; exact (bytesW_under _ _).take _
  · exact sqzB_under _ _ _
theorem blkD_le (kind : Int) : blkD kind ≤ 200 := by
  unfold blkD
  split
  · cases wide kind <;> decide
  · unfold rateK; (repeat' split) <;> omega
theorem sizeD_pos {kind : Int} (h1 : 1 ≤ kind) (h7 : kind ≤ 7) : 0 < sizeD kind := by
  unfold sizeD; (repeat' split) <;> omega
/-- the document's digest, as Hmac, Expand and Mask lean on it -/
theorem rdig_e {kind : Int} (h : 0 < sizeD kind) : DigE 7 kind (digD kind) := fun x bv b hR tB hl => rdig_ok kind bv b x h hR tB hl
theorem rhmac_ok (kind : Int) (key b : List Nat) (kv bv : Value) (w : World) (h1 : 1 ≤ kind) (h5 : kind ≤ 5) (rk : Row .u8 256 w kv key) (tk : Tidy kv) (rb : Row .u8 256 w bv b) (tb : Tidy bv) (hkl : key.length ≤ 90000) (hbl : b.length ≤ 90000) :
    Calls Tryz.prog 9 #[.int .i64 kind, kv, bv] w fun e w' => ∃ v', e = .returned (.tuple #[v', .int .i64 0]) ∧ Row .u8 256 w' v' (hmacD (digD kind) (blkD kind) key b) ∧ New w.heap.size v' ∧ Below w.heap.size w w' :=
  rhmac_of kind (digD kind) (blkD kind) (sizeD kind) key b kv bv w (digD_length (sizeD_pos h1 (by omega))) (sizeD_pos h1 (by omega)) (sizeD_le kind) (blkD_le kind) h1 h5 (fun x => block9_any kind x) (rdig_e (sizeD_pos h1 (by omega))) rk tk rb tb hkl hbl
theorem rexp_ok (kind : Int) (key info : List Nat) (kv iv : Value) (n : Nat) (w : World) (h1 : 1 ≤ kind) (h5 : kind ≤ 5) (rk : Row .u8 256 w kv key) (tk : Tidy kv) (ri : Row .u8 256 w iv info) (ti : Tidy iv) (hkl : key.length ≤ 90000) (hil : info.length ≤ 80000) (hn : n ≤ 255 * sizeD kind) :
    Calls Tryz.prog 15 #[.int .i64 kind, kv, iv, .int .i64 (n : Nat)] w fun e w' => ∃ v', e = .returned (.tuple #[v', .int .i64 0]) ∧ Row .u8 256 w' v' (expD (digD kind) (blkD kind) key info n) ∧ Below w.heap.size w w' :=
  rexp_of kind (digD kind) (blkD kind) (sizeD kind) key info kv iv n w (digD_length (sizeD_pos h1 (by omega))) (digD_under (sizeD_pos h1 (by omega))) (sizeD_pos h1 (by omega)) (sizeD_le kind) h1 h5 (fun x => size_any kind x)
    (fun x bv b hb hR tB hl => rhmac_ok kind key b kv bv x h1 h5 (rk.below hb) tk hR tB hkl hl) ri ti hil hn
theorem rmask_ok (kind : Int) (seed : List Nat) (sv : Value) (n : Nat) (w : World) (h1 : 1 ≤ kind) (h3 : kind ≤ 3) (rs : Row .u8 256 w sv seed) (ts : Tidy sv) (hsl : seed.length ≤ 80000) (hn : n ≤ 100000) :
    Calls Tryz.prog 17 #[.int .i64 kind, sv, .int .i64 (n : Nat)] w fun e w' => ∃ v', e = .returned (.tuple #[v', .int .i64 0]) ∧ Row .u8 256 w' v' (maskD (digD kind) seed n) ∧ Below w.heap.size w w' :=
  rmask_of kind (digD kind) (sizeD kind) seed sv n w (digD_length (sizeD_pos h1 (by omega))) (digD_under (sizeD_pos h1 (by omega))) (sizeD_pos h1 (by omega)) (sizeD_le kind) h1 h3 (rdig_e (sizeD_pos h1 (by omega))) rs ts hsl hn
set_option maxHeartbeats 1000000 in
set_option maxRecDepth 100000 in
theorem rhmac_no (kind : Int) (kv bv : Value) (w : World) (h : kind < 1 ∨ 5 < kind) : Calls Tryz.prog 9 #[.int .i64 kind, kv, bv] w fun e w' => e = .returned (.tuple #[.slice none 0 0, .int .i64 9]) ∧ w' = w := by
  by_cases h1 : kind < 1
  · go_enter Tryz.func9, Tryz.ntmps9
    go_wp2_with fail
    go_ret2
    exact ⟨rfl, rfl⟩
  · have h5 : 5 < kind := by omega
    go_enter Tryz.func9, Tryz.ntmps9
    go_wp2_with fail
    go_ret2
    exact ⟨rfl, rfl⟩
set_option maxHeartbeats 1000000 in
set_option maxRecDepth 100000 in
theorem rexp_no (kind : Int) (kv iv : Value) (n : Int) (w : World) (h : kind < 1 ∨ 5 < kind) : Calls Tryz.prog 15 #[.int .i64 kind, kv, iv, .int .i64 n] w fun e w' => e = .returned (.tuple #[.slice none 0 0, .int .i64 9]) ∧ w' = w := by
  by_cases h1 : kind < 1
  · go_enter Tryz.func15, Tryz.ntmps15
    go_wp2_with fail
    go_ret2
    exact ⟨rfl, rfl⟩
  · have h5 : 5 < kind := by omega
    go_enter Tryz.func15, Tryz.ntmps15
    go_wp2_with fail
    go_ret2
    exact ⟨rfl, rfl⟩
set_option maxHeartbeats 1000000 in
set_option maxRecDepth 100000 in
theorem rexp_range (kind : Int) (kv iv : Value) (n : Int) (w : World) (h1 : 1 ≤ kind) (h5 : kind ≤ 5) (h : n < 0 ∨ 255 * (sizeD kind : Int) < n) : Calls Tryz.prog 15 #[.int .i64 kind, kv, iv, .int .i64 n] w fun e w' => e = .returned (.tuple #[.slice none 0 0, .int .i64 8]) ∧ Below w.heap.size w w' := by
  have i1 : ¬ kind < 1 := by omega
  have i5 : ¬ 5 < kind := by omega
  by_cases h0 : n < 0
  · clear h
    go_enter Tryz.func15, Tryz.ntmps15
    go_wp2_with fail
    go_ret2
    exact ⟨rfl, Below.refl _ _⟩
  · have hs := fun x => size_any kind x
    have hz := sizeD_le kind
    generalize sizeD kind = Z at *
    obtain ⟨N, hN⟩ : ∃ N : Nat, N = 255 * Z := ⟨_, rfl⟩
    have e_N : 255 * (Z : Int) = (N : Int) := by omega
    have s_N : IntKind.i64.wrap (N : Int) = (N : Int) := by rw [IntKind.wrap_i64]; omega
    have nN : (N : Int) < n := by omega
    clear h hN
    go_enter Tryz.func15, Tryz.ntmps15
    go_wp2_with (first
      | (go_at_call 12; refine (hs _).mono ?_; rintro e x1 ⟨rfl, hb1⟩)
      | fail)
    go_ret2
    exact ⟨rfl, hb1⟩
set_option maxHeartbeats 1000000 in
set_option maxRecDepth 100000 in
theorem rmask_no (kind : Int) (sv : Value) (n : Int) (w : World) (h : kind < 1 ∨ 3 < kind) : Calls Tryz.prog 17 #[.int .i64 kind, sv, .int .i64 n] w fun e w' => e = .returned (.tuple #[.slice none 0 0, .int .i64 9]) ∧ w' = w := by
  by_cases h1 : kind < 1
  · go_enter Tryz.func17, Tryz.ntmps17
    go_wp2_with fail
    go_ret2
    exact ⟨rfl, rfl⟩
  · have h3 : 3 < kind := by omega
    go_enter Tryz.func17, Tryz.ntmps17
    go_wp2_with fail
    go_ret2
    exact ⟨rfl, rfl⟩
set_option maxHeartbeats 1000000 in
set_option maxRecDepth 100000 in
theorem rmask_range (kind : Int) (sv : Value) (n : Int) (w : World) (h1 : 1 ≤ kind) (h3 : kind ≤ 3) (h : n < 0 ∨ 1048576 < n) : Calls Tryz.prog 17 #[.int .i64 kind, sv, .int .i64 n] w fun e w' => e = .returned (.tuple #[.slice none 0 0, .int .i64 8]) ∧ w' = w := by
  have i1 : ¬ kind < 1 := by omega
  have i3 : ¬ 3 < kind := by omega
  by_cases h0 : n < 0
  · clear h
    go_enter Tryz.func17, Tryz.ntmps17
    go_wp2_with fail
    go_ret2
    exact ⟨rfl, rfl⟩
  · have hN : 1048576 < n := by omega
    clear h
    go_enter Tryz.func17, Tryz.ntmps17
    go_wp2_with fail
    go_ret2
    exact ⟨rfl, rfl⟩
/-- the chapter's example -/
theorem hmac_ex : (hmacD (digD 1) 64 [] []).take 4 = [182, 19, 103, 154] := by kernel_rfl
end Go.Proofs.YtejlmgbmfeacdaaGreatDoor

/- mac's keyed: what digests with a key. -/
namespace Go.Proofs.YtejlmgbmfeacdaaGreatDoor
open Go.RowKit
set_option linter.unusedVariables false
set_option linter.unusedSimpArgs false

/-- a key filled up, xored -/
theorem xor_pad (B c : Nat) (K : List Nat) (h : K.length ≤ B) : xrL (K ++ List.replicate (B - K.length) 0) (List.replicate B c) = padK B K c := by
  have hl : (K ++ List.replicate (B - K.length) 0).length = B := by rw [List.length_append, List.length_replicate]; omega
  unfold xrL padK
  rw [hl, List.length_replicate, Nat.min_self]
  apply List.map_congr_left
  intro i hi
  have hi' : i < B := List.mem_range.1 hi
  have e2 : el (List.replicate B c) i = c := by rw [el_at (by rw [List.length_replicate]; exact hi'), List.getElem_replicate]
  have e1 : el (K ++ List.replicate (B - K.length) 0) i = el K i := by
    unfold el
    by_cases hk : i < K.length
    · rw [List.getElem?_append_left hk]
    · rw [List.getElem?_append_right (by omega), List.getElem?_eq_none (by omega : K.length ≤ i), List.getElem?_replicate]
      split <;> rfl
  rw [e1, e2]
/-- what a row of two texts reads as -/
theorem own_zero {e : TypeId} {w : World} {B n : Nat} {v : Value} (h : w.ownsRow B e 1 v n (vals .u8 (List.replicate n 0))) : Own e .u8 256 w B v (List.replicate n 0) := ⟨by rw [List.length_replicate]; exact h, Under.replicate _ _ (by decide)⟩

/-- a box of a function -/
def Fx (w : World) (q : Nat) (f : Value) : Prop := w.heap[q]? = some (.cells #[f] 40 (0, 0))
theorem Fx.lt {w : World} {q : Nat} {f : Value} (h : Fx w q f) : q < w.heap.size := heap_ltY h
theorem Fx.below {w w' : World} {q : Nat} {f : Value} (h : Fx w q f) (hb : Below w.heap.size w w') : Fx w' q f := (hb.block q h.lt).trans h
theorem Fx.cell {w : World} {q : Nat} {f : Value} (h : Fx w q f) : w.cell? ⟨q, 0, none⟩ = some f := by rw [cell_of_row w q 0 _ _ (0, 0) h]; rfl
theorem Fx.new (w : World) (f g : Value) : Fx ((w.alloc (.cells #[g] 40)).setCell ⟨w.heap.size, 0, none⟩ f) w.heap.size f := by
  have h := heap_alloc_last w (.cells #[g] 40)
  unfold Fx
  rw [setCell_eq_setRow _ _ 0 _ _ (0, 0) _ h]
  exact setRow_heap _ _ _ _ _ _ h
theorem keep_box (w : World) (o : Obj) (f : Value) : Below w.heap.size w ((w.alloc o).setCell ⟨w.heap.size, 0, none⟩ f) := (keep_alloc w o).setCell (p := ⟨w.heap.size, 0, none⟩) (Nat.le_refl _) f

theorem size_blk {kind : Int} (h1 : 1 ≤ kind) (h5 : kind ≤ 5) : sizeD kind ≤ blkD kind := by
  have hk : kind = 1 ∨ kind = 2 ∨ kind = 3 ∨ kind = 4 ∨ kind = 5 := by omega
  rcases hk with h | h | h | h | h <;> subst h <;> decide
set_option maxHeartbeats 4000000 in
set_option maxRecDepth 100000 in
/-- from the padded key on -/
theorem keyed_short (kind : Int) (key : List Nat) (kv : Value) (w : World) (h1 : 1 ≤ kind) (h5 : kind ≤ 5) (hB : BehE kind w) (rk : Row .u8 256 w kv key) (tk : Tidy kv) (hkl : key.length ≤ blkD kind) :
    Calls Tryz.prog 22 #[.int .i64 kind, kv] w fun e w' => ∃ fn cap, e = .returned (.func (.func fn) #[] cap) ∧ Dg (fun l => digD kind (padK (blkD kind) key 92 ++ digD kind (padK (blkD kind) key 54 ++ l))) fn cap [] w' ∧ Below w.heap.size w w' := by
  have hblk := fun x => cblk_any kind x
  rw [bkD_ok h1 h5] at hblk
  have hrep := fun (x : World) (v : Value) (c : Nat) (hr : Row .u8 256 x v [c]) => rep_blk kind v c x hr h1 h5
  have hDl : ∀ l, (digD kind l).length ≤ 1000 := fun l => by rw [digD_length (sizeD_pos h1 (by omega))]; have := sizeD_le kind; omega
  have hBl := blkD_le kind
  have hmf : ∀ (fn : Fn) (first cap : Array Value) (w : World), (Instr.makeFunc fn first cap).run Tryz.prog w = .ok (.func fn first cap) w := fun _ _ _ _ => rfl
  obtain ⟨i0, hi, hz0, hz1, hz2⟩ := info_parts Tryz.info5
  have hx54 := xor_pad (blkD kind) 54 key hkl
  have hx92 := xor_pad (blkD kind) 92 key hkl
  have pl54 := padK_length (blkD kind) key 54
  have pl92 := padK_length (blkD kind) key 92
  generalize hP1 : padK (blkD kind) key 54 = P1 at *
  generalize hP2 : padK (blkD kind) key 92 = P2 at *
  clear hP1 hP2
  generalize blkD kind = B at *
  obtain ⟨n, hn⟩ : ∃ n : Nat, n = B - key.length := ⟨_, rfl⟩
  rw [← hn] at hx54 hx92
  have e_n : (B : Int) - (key.length : Int) = (n : Int) := by omega
  have s_n : IntKind.i64.wrap (n : Int) = (n : Int) := by rw [IntKind.wrap_i64]; omega
  have nl : ¬ (B : Int) < (key.length : Int) := by omega
  have nln : ¬ B < key.length := by omega
  have hn2 : n ≤ 1000 := by omega
  have hLn : key.length + n = B := by omega
  have HLn := hide hLn
  have H54 := hide hx54
  have H92 := hide hx92
  have HP54 := hide pl54
  have HP92 := hide pl92
  clear hn hLn hx54 hx92 pl54 pl92
  obtain ⟨ka, kc, rfl⟩ := rk.form
  go_enter Tryz.func22, Tryz.ntmps22
  go_wp2_with (first
    | (go_at_call 21; refine (hblk _).mono ?_; rintro e x0 ⟨rfl, hx0⟩; obtain rfl := hx0.symm)
    | (at_make; refine wpList_make_full _ rfl _ _ 22 rfl w.heap.size 5 i0 (.int .u8 0) 1 Tryz.underlying22 hi hz0 hz1 _ _ _ _ n rfl rfl rfl rfl (by rw [hz2]; omega) (by unfold maxLen; omega) (Nat.le_refl _) ?_; intro w1 hown hgrow)
    | fail)
  rw [made_u8] at hown
  have hZ := own_zero hown
  have hb1 := keep_trans (Below.refl _ _) ((Below.refl w.heap.size w).grown hgrow (Nat.le_refl _) (fun k h => by cases h))
  have rk1 := rk.below ((Below.refl w.heap.size w).grown hgrow (Nat.le_refl _) (fun k h => by cases h))
  clear hown hgrow
  refine (join_any _ [key, List.replicate n 0] _ (rows_lit2 rk1 hZ.row tk hZ.tidy) (by simp; have := HLn.out; omega)).mono ?_
  rintro e w2 ⟨vj, rfl, hOj, hbj⟩
  have ej : [key, List.replicate n 0].flatten = key ++ List.replicate n 0 := by simp
  rw [ej] at hOj
  have rj := hOj.row
  have hb2 := keep_trans (keep_trans hb1 (keep_alloc _ _)) hbj
  have hlj : (key ++ List.replicate n 0).length = B := by rw [List.length_append, List.length_replicate]; exact HLn.out
  have hlj2 : (key ++ List.replicate n 0).length ≤ 140737488355328 := by omega
  generalize key ++ List.replicate n 0 = KZ at *
  have HJ := hide hlj2
  obtain ⟨ja, jc, rfl⟩ := rj.form
  rw [hlj] at rj
  rw [hlj]
  clear hZ hbj hOj ej hb1 rk1 hlj2
  have HRJ := hide rj
  clear rj
  go_wp2_with fail
  refine (hrep _ _ 54 (one_row w2 54 (by decide))).mono ?_
  rintro e w3 ⟨v3, rfl, r3, _, hb3⟩
  obtain ⟨a3, c3, rfl⟩ := r3.form
  have hb3' := keep_trans (keep_alloc _ _) hb3
  have rj3 := HRJ.out.below hb3'
  rw [List.length_replicate] at r3 ⊢
  clear hb3
  go_wp2_with fail
  refine (xr_any _ _ KZ (List.replicate B 54) _ rj3 r3 HJ.out).mono ?_
  rintro e w4 ⟨v4, rfl, hO4, hb4⟩
  rw [H54.out] at hO4
  have hb4' := keep_trans (keep_trans hb2 hb3') hb4
  have rj4 := rj3.below hb4
  obtain ⟨a4, c4, rfl⟩ := hO4.row.form
  clear rj3 r3 hb4 hb3'
  go_wp2_with fail
  refine (hB _ _ [P1] (keep_trans hb4' (keep_alloc _ _)) (rows_lit1 hO4.row hO4.tidy) (by simp; have := HP54.out; omega)).mono ?_
  rintro e w5 ⟨fi, ci, rfl, hI, hb5⟩
  rw [List.flatten_singleton] at hI
  have hb5' := keep_trans (keep_alloc _ _) hb5
  have rj5 := rj4.below hb5'
  have hb5w := keep_trans hb4' hb5'
  clear hO4 hb5 hb5' rj4 hb4' HRJ
  go_wp2_with fail
  have hX5 : Fx (w5.alloc (.cells #[.func (.func fi) #[] ci] 40)) w5.heap.size (.func (.func fi) #[] ci) := heap_alloc_last w5 _
  have h92 := one_row (w5.alloc (.cells #[.func (.func fi) #[] ci] 40)) 92 (by decide)
  rw [World.size_alloc] at h92
  have hb6 := keep_alloc w5 (.cells #[.func (.func fi) #[] ci] 40)
  have rj6 := rj5.below hb6
  have hI6 := hI.below hb6
  have hb6w := keep_trans hb5w hb6
  clear rj5 hI hb5w hb6
  refine (hrep _ _ 92 h92).mono ?_
  rintro e w7 ⟨v7, rfl, r7, _, hb7⟩
  obtain ⟨a7, c7, rfl⟩ := r7.form
  have hb7' := keep_trans (keep_alloc _ _) hb7
  have rj7 := rj6.below hb7'
  have hI7 := hI6.below hb7'
  have hX7 := hX5.below hb7'
  have hb7w := keep_trans hb6w hb7'
  rw [List.length_replicate] at r7 ⊢
  clear hb7 rj6 hI6 hb6w hb7' h92 hX5
  go_wp2_with fail
  refine (xr_any _ _ KZ (List.replicate B 92) _ rj7 r7 HJ.out).mono ?_
  rintro e w8 ⟨v8, rfl, hO8, hb8⟩
  rw [H92.out] at hO8
  have hb8w := keep_trans hb7w hb8
  have hI8 := hI7.below hb8
  have hX8 := hX7.below hb8
  obtain ⟨a8, c8, rfl⟩ := hO8.row.form
  clear rj7 r7 hb8 hI7 hX7 hb7w
  go_wp2_with fail
  refine (hB _ _ [P2] (keep_trans hb8w (keep_alloc _ _)) (rows_lit1 hO8.row hO8.tidy) (by simp; have := HP92.out; omega)).mono ?_
  rintro e w9 ⟨fo, co, rfl, hO, hb9⟩
  rw [List.flatten_singleton] at hO
  have hb9' := keep_trans (keep_alloc _ _) hb9
  have hb9w := keep_trans hb8w hb9'
  have hI9 := hI8.below hb9'
  have hX9 := hX8.below hb9'
  clear hO8 hb9 hb9' hI8 hX8 hb8w
  go_wp2_with fail
  go_ret
  have hb10 := keep_alloc w9 (.cells #[.func (.func fo) #[] co] 40)
  have hX10 : Fx (w9.alloc (.cells #[.func (.func fo) #[] co] 40)) w9.heap.size (.func (.func fo) #[] co) := heap_alloc_last w9 _
  exact ⟨_, _, rfl, dgk hDl (hO.below hb10) (hI9.below hb10) hX10.cell (hX9.below hb10).cell, keep_trans hb9w hb10⟩
set_option maxHeartbeats 4000000 in
set_option maxRecDepth 100000 in
/-- a key longer than a block -/
theorem keyed_long (kind : Int) (key : List Nat) (kv : Value) (w : World) (h1 : 1 ≤ kind) (h5 : kind ≤ 5) (hB : BehE kind w) (rk : Row .u8 256 w kv key) (tk : Tidy kv) (hlong : blkD kind < key.length) (hkl : key.length ≤ 100000) :
    Calls Tryz.prog 22 #[.int .i64 kind, kv] w fun e w' => ∃ fn cap, e = .returned (.func (.func fn) #[] cap) ∧ Dg (fun l => digD kind (padK (blkD kind) (digD kind key) 92 ++ digD kind (padK (blkD kind) (digD kind key) 54 ++ l))) fn cap [] w' ∧ Below w.heap.size w w' := by
  have hblk := fun x => cblk_any kind x
  rw [bkD_ok h1 h5] at hblk
  have hrep := fun (x : World) (v : Value) (c : Nat) (hr : Row .u8 256 x v [c]) => rep_blk kind v c x hr h1 h5
  have hDl : ∀ l, (digD kind l).length ≤ 1000 := fun l => by rw [digD_length (sizeD_pos h1 (by omega))]; have := sizeD_le kind; omega
  have hBl := blkD_le kind
  have hmf : ∀ (fn : Fn) (first cap : Array Value) (w : World), (Instr.makeFunc fn first cap).run Tryz.prog w = .ok (.func fn first cap) w := fun _ _ _ _ => rfl
  obtain ⟨i0, hi, hz0, hz1, hz2⟩ := info_parts Tryz.info5
  have hKl : (digD kind key).length ≤ blkD kind := by rw [digD_length (sizeD_pos h1 (by omega))]; exact size_blk h1 h5
  have hx54 := xor_pad (blkD kind) 54 (digD kind key) hKl
  have hx92 := xor_pad (blkD kind) 92 (digD kind key) hKl
  have pl54 := padK_length (blkD kind) (digD kind key) 54
  have pl92 := padK_length (blkD kind) (digD kind key) 92
  generalize hP1 : padK (blkD kind) (digD kind key) 54 = P1 at *
  generalize hP2 : padK (blkD kind) (digD kind key) 92 = P2 at *
  clear hP1 hP2
  have hkk : [key].flatten = key := by simp
  have hD0 := hB w (.slice none 0 0) [] (Below.refl _ _) (rows_nil _) (by simp)
  generalize hKK : digD kind key = KK at *
  have HKK : Hid (digD kind ([].flatten ++ [key].flatten) = KK) := hide (by rw [hkk]; exact hKK)
  clear hKK hkk
  generalize blkD kind = B at *
  obtain ⟨n, hn⟩ : ∃ n : Nat, n = B - KK.length := ⟨_, rfl⟩
  rw [← hn] at hx54 hx92
  have e_n : (B : Int) - (KK.length : Int) = (n : Int) := by omega
  have s_n : IntKind.i64.wrap (n : Int) = (n : Int) := by rw [IntKind.wrap_i64]; omega
  have nl : (B : Int) < (key.length : Int) := by omega
  have nln : B < key.length := hlong
  have hn2 : n ≤ 1000 := by omega
  have hLn : KK.length + n = B := by omega
  have HLn := hide hLn
  have H54 := hide hx54
  have H92 := hide hx92
  have HP54 := hide pl54
  have HP92 := hide pl92
  clear hn hLn hx54 hx92 pl54 pl92
  obtain ⟨ka, kc, rfl⟩ := rk.form
  go_enter Tryz.func22, Tryz.ntmps22
  go_wp2_with (first
    | (go_at_call 21; refine (hblk _).mono ?_; rintro e x0 ⟨rfl, hx0⟩; obtain rfl := hx0.symm)
    | (go_at_call 18; refine hD0.mono ?_; rintro e x1 ⟨fn, cap, rfl, hD, hb1⟩; have hen := hD.enters)
    | fail)
  refine (hD.calls _ _ [key] (keep_alloc _ _) (rows_lit1 (rk.below hb1) tk) (by simpa using hkl)).mono ?_
  rintro e x2 ⟨vk, rfl, hOk, hb2⟩
  rw [HKK.out] at hOk
  have hbk := keep_trans (keep_trans hb1 (keep_alloc _ _)) hb2
  have rK := hOk.row
  have tK := hOk.tidy
  obtain ⟨ka2, kc2, rfl⟩ := rK.form
  clear hOk hb1 hb2 hD hen rk hD0
  go_wp2_with (first
    | (at_make; refine wpList_make_full _ rfl _ _ 22 rfl x2.heap.size 5 i0 (.int .u8 0) 1 Tryz.underlying22 hi hz0 hz1 _ _ _ _ n rfl rfl rfl rfl (by rw [hz2]; omega) (by unfold maxLen; omega) (Nat.le_refl _) ?_; intro w1 hown hgrow)
    | fail)
  rw [made_u8] at hown
  have hZ := own_zero hown
  have hb1 := keep_trans hbk ((Below.refl x2.heap.size x2).grown hgrow (Nat.le_refl _) (fun k h => by cases h))
  have rk1 := rK.below ((Below.refl x2.heap.size x2).grown hgrow (Nat.le_refl _) (fun k h => by cases h))
  clear hown hgrow
  refine (join_any _ [KK, List.replicate n 0] _ (rows_lit2 rk1 hZ.row tK hZ.tidy) (by simp; have := HLn.out; omega)).mono ?_
  rintro e w2 ⟨vj, rfl, hOj, hbj⟩
  have ej : [KK, List.replicate n 0].flatten = KK ++ List.replicate n 0 := by simp
  rw [ej] at hOj
  have rj := hOj.row
  have hb2 := keep_trans (keep_trans hb1 (keep_alloc _ _)) hbj
  have hlj : (KK ++ List.replicate n 0).length = B := by rw [List.length_append, List.length_replicate]; exact HLn.out
  have hlj2 : (KK ++ List.replicate n 0).length ≤ 140737488355328 := by omega
  generalize KK ++ List.replicate n 0 = KZ at *
  have HJ := hide hlj2
  obtain ⟨ja, jc, rfl⟩ := rj.form
  rw [hlj] at rj
  rw [hlj]
  clear hZ hbj hOj ej hb1 rk1 hlj2
  have HRJ := hide rj
  clear rj
  go_wp2_with fail
  refine (hrep _ _ 54 (one_row w2 54 (by decide))).mono ?_
  rintro e w3 ⟨v3, rfl, r3, _, hb3⟩
  obtain ⟨a3, c3, rfl⟩ := r3.form
  have hb3' := keep_trans (keep_alloc _ _) hb3
  have rj3 := HRJ.out.below hb3'
  rw [List.length_replicate] at r3 ⊢
  clear hb3
  go_wp2_with fail
  refine (xr_any _ _ KZ (List.replicate B 54) _ rj3 r3 HJ.out).mono ?_
  rintro e w4 ⟨v4, rfl, hO4, hb4⟩
  rw [H54.out] at hO4
  have hb4' := keep_trans (keep_trans hb2 hb3') hb4
  have rj4 := rj3.below hb4
  obtain ⟨a4, c4, rfl⟩ := hO4.row.form
  clear rj3 r3 hb4 hb3'
  go_wp2_with fail
  refine (hB _ _ [P1] (keep_trans hb4' (keep_alloc _ _)) (rows_lit1 hO4.row hO4.tidy) (by simp; have := HP54.out; omega)).mono ?_
  rintro e w5 ⟨fi, ci, rfl, hI, hb5⟩
  rw [List.flatten_singleton] at hI
  have hb5' := keep_trans (keep_alloc _ _) hb5
  have rj5 := rj4.below hb5'
  have hb5w := keep_trans hb4' hb5'
  clear hO4 hb5 hb5' rj4 hb4' HRJ
  go_wp2_with fail
  have hX5 : Fx (w5.alloc (.cells #[.func (.func fi) #[] ci] 40)) w5.heap.size (.func (.func fi) #[] ci) := heap_alloc_last w5 _
  have h92 := one_row (w5.alloc (.cells #[.func (.func fi) #[] ci] 40)) 92 (by decide)
  rw [World.size_alloc] at h92
  have hb6 := keep_alloc w5 (.cells #[.func (.func fi) #[] ci] 40)
  have rj6 := rj5.below hb6
  have hI6 := hI.below hb6
  have hb6w := keep_trans hb5w hb6
  clear rj5 hI hb5w hb6
  refine (hrep _ _ 92 h92).mono ?_
  rintro e w7 ⟨v7, rfl, r7, _, hb7⟩
  obtain ⟨a7, c7, rfl⟩ := r7.form
  have hb7' := keep_trans (keep_alloc _ _) hb7
  have rj7 := rj6.below hb7'
  have hI7 := hI6.below hb7'
  have hX7 := hX5.below hb7'
  have hb7w := keep_trans hb6w hb7'
  rw [List.length_replicate] at r7 ⊢
  clear hb7 rj6 hI6 hb6w hb7' h92 hX5
  go_wp2_with fail
  refine (xr_any _ _ KZ (List.replicate B 92) _ rj7 r7 HJ.out).mono ?_
  rintro e w8 ⟨v8, rfl, hO8, hb8⟩
  rw [H92.out] at hO8
  have hb8w := keep_trans hb7w hb8
  have hI8 := hI7.below hb8
  have hX8 := hX7.below hb8
  obtain ⟨a8, c8, rfl⟩ := hO8.row.form
  clear rj7 r7 hb8 hI7 hX7 hb7w
  go_wp2_with fail
  refine (hB _ _ [P2] (keep_trans hb8w (keep_alloc _ _)) (rows_lit1 hO8.row hO8.tidy) (by simp; have := HP92.out; omega)).mono ?_
  rintro e w9 ⟨fo, co, rfl, hO, hb9⟩
  rw [List.flatten_singleton] at hO
  have hb9' := keep_trans (keep_alloc _ _) hb9
  have hb9w := keep_trans hb8w hb9'
  have hI9 := hI8.below hb9'
  have hX9 := hX8.below hb9'
  clear hO8 hb9 hb9' hI8 hX8 hb8w
  go_wp2_with fail
  go_ret
  have hb10 := keep_alloc w9 (.cells #[.func (.func fo) #[] co] 40)
  have hX10 : Fx (w9.alloc (.cells #[.func (.func fo) #[] co] 40)) w9.heap.size (.func (.func fo) #[] co) := heap_alloc_last w9 _
  exact ⟨_, _, rfl, dgk hDl (hO.below hb10) (hI9.below hb10) hX10.cell (hX9.below hb10).cell, keep_trans hb9w hb10⟩
/-- what keyed tells, of whatever key -/
theorem keyed_any (kind : Int) (key : List Nat) (kv : Value) (w : World) (h1 : 1 ≤ kind) (h5 : kind ≤ 5) (hB : BehE kind w) (rk : Row .u8 256 w kv key) (tk : Tidy kv) (hkl : key.length ≤ 100000) :
    Calls Tryz.prog 22 #[.int .i64 kind, kv] w fun e w' => ∃ fn cap, e = .returned (.func (.func fn) #[] cap) ∧ Dg (hmacD (digD kind) (blkD kind) key) fn cap [] w' ∧ Below w.heap.size w w' := by
  by_cases h : blkD kind < key.length
  · have e : hmacD (digD kind) (blkD kind) key = fun l => digD kind (padK (blkD kind) (digD kind key) 92 ++ digD kind (padK (blkD kind) (digD kind key) 54 ++ l)) := by
      funext l; unfold hmacD keyB; rw [if_pos h]
    rw [e]
    exact keyed_long kind key kv w h1 h5 hB rk tk h hkl
  · have e : hmacD (digD kind) (blkD kind) key = fun l => digD kind (padK (blkD kind) key 92 ++ digD kind (padK (blkD kind) key 54 ++ l)) := by
      funext l; unfold hmacD keyB; rw [if_neg h]
    rw [e]
    exact keyed_short kind key kv w h1 h5 hB rk tk (by omega)
end Go.Proofs.YtejlmgbmfeacdaaGreatDoor
