/- Values of bytes alone: Bytes, Null, Part; the document's Bytes, Part, Seq, Box, made. -/
import Derived.Test.YtlddpjcacnahmaaGreatDoorEPar
import Derived.Test.YtlddpjcacnahmaaGreatDoorDFit
namespace Go.Proofs.YtlddpjcacnahmaaGreatDoor
open Go.RowKit Go.Deep
set_option linter.unusedVariables false
set_option linter.unusedSimpArgs false

theorem res_cell (w w' : World) (hb : Below (w.heap.size + 1) (w.alloc (.cells #[.int .i64 0, .slice none 0 0, .slice none 0 0] 28)) w') : w'.heap[w.heap.size]? = some (.cells #[.int .i64 0, .slice none 0 0, .slice none 0 0] 28) :=
  (hb.block _ (by omega)).trans (heap_alloc_new w _)

set_option maxRecDepth 100000 in
set_option maxHeartbeats 2000000 in
theorem vbytes_any (v : Value) (l : List Nat) (w : World) (h : Row .u8 256 w v l) (hl : l.length ≤ 1000000) :
    Calls Tryz.prog 18 #[v] w fun e w' => NodE (.mk 4 l []) w e w' := by
  have hb0 := keep_alloc w (.cells #[.int .i64 0, .slice none 0 0, .slice none 0 0] 28)
  have hc := (leaf_any 4 v l _ (by unfold I64; omega) (h.below hb0) hl).mono (fun _ _ h => h.at)
  rw [World.size_alloc] at hc
  go_enter Tryz.func18, Tryz.ntmps18
  go_wp2_with fail
  refine hc.mono ?_
  rintro e w1 ⟨d, t, a1, n1, p1, a2, n2, p2, rfl, hn, hb1⟩
  have hS := res_cell w w1 hb1
  obtain ⟨y0, y1, y2, z0, z1, z2⟩ := cells3 hS
  clear hc
  go_wp2_with fail
  obtain ⟨s0, s1, s2, _⟩ := cells3 (set3 hS (.int .i64 t) (.slice a1 n1 p1) (.slice a2 n2 p2))
  exact bodyPost_ret (v := .agg #[.int .i64 t, .slice a1 n1 p1, .slice a2 n2 p2]) (by simp [results, Tryz.results18, go_sem, s0, s1, s2]) rfl ⟨⟨d, _, _, _, rfl, hn.set3⟩, below3 (keep_trans hb0 (by rw [World.size_alloc]; exact hb1)) (Nat.le_refl _) _ _ _⟩

set_option maxRecDepth 100000 in
set_option maxHeartbeats 2000000 in
theorem null_any (w : World) : Calls Tryz.prog 20 #[] w fun e w' => NodE (.mk 5 [] []) w e w' := by
  have hb0 := keep_alloc w (.cells #[.int .i64 0, .slice none 0 0, .slice none 0 0] 28)
  have hS := heap_alloc_new w (.cells #[.int .i64 0, .slice none 0 0, .slice none 0 0] 28)
  obtain ⟨y0, y1, y2, z0, z1, z2⟩ := cells3 hS
  go_enter Tryz.func20, Tryz.ntmps20
  go_wp2_with fail
  obtain ⟨s0, s1, s2, _⟩ := cells3 (set3 hS (.int .i64 5) (.slice none 0 0) (.slice none 0 0))
  exact bodyPost_ret (v := .agg #[.int .i64 5, .slice none 0 0, .slice none 0 0]) (by simp [results, Tryz.results20, go_sem, s0, s1, s2]) rfl ⟨⟨1, _, _, _, rfl, in_leaf (by unfold I64; omega) (nil_row _) nil_tidy (fun q hq => by simp [lenV] at hq)⟩, keep_alloc w _⟩

theorem isNumber_any (k : Int) (w : World) : Calls Tryz.prog 80 #[.int .i64 k] w fun e w' => e = .returned (.bool (decide (0 ≤ k ∧ k ≤ 30))) ∧ w' = w := by
  by_cases h : 0 ≤ k ∧ k ≤ 30
  · obtain ⟨h1, h2⟩ := h
    have hd1 : decide (0 ≤ k) = true := decide_eq_true h1
    rw [decide_eq_true (⟨h1, h2⟩ : 0 ≤ k ∧ k ≤ 30)]
    go_enter Tryz.func80, Tryz.ntmps80
    go_wp2
    go_ret
    exact ⟨rfl, rfl⟩
  · rw [decide_eq_false h]
    by_cases h1 : 0 ≤ k
    · have h2 : ¬ k ≤ 30 := fun e => h ⟨h1, e⟩
      clear h
      go_enter Tryz.func80, Tryz.ntmps80
      go_wp2
      go_ret
      exact ⟨rfl, rfl⟩
    · clear h
      go_enter Tryz.func80, Tryz.ntmps80
      go_wp2
      go_ret
      exact ⟨rfl, rfl⟩

/-- a text, or values, as the part of a number -/
def numN (k : Int) (x : Nd) : Nd := if 0 ≤ k ∧ k ≤ 30 then x else nd0
def numR (k : Int) : Int := if 0 ≤ k ∧ k ≤ 30 then 0 else 8

set_option maxRecDepth 100000 in
set_option maxHeartbeats 2000000 in
theorem part_any (k : Int) (v : Value) (l : List Nat) (w : World) (hk : I64 k) (h : Row .u8 256 w v l) (hl : l.length ≤ 1000000) :
    Calls Tryz.prog 37 #[.int .i64 k, v] w fun e w' => NodT (numN k (.mk (128 + k) l [])) (numR k) w e w' := by
  have hb0 := keep_alloc w (.cells #[.int .i64 0, .slice none 0 0, .slice none 0 0] 28)
  have hi := isNumber_any k (w.alloc (.cells #[.int .i64 0, .slice none 0 0, .slice none 0 0] 28))
  have hS0 := heap_alloc_new w (.cells #[.int .i64 0, .slice none 0 0, .slice none 0 0] 28)
  unfold numN numR I64 at *
  by_cases hn : 0 ≤ k ∧ k ≤ 30
  · rw [decide_eq_true hn] at hi
    rw [if_pos hn, if_pos hn]
    obtain ⟨h1, h2⟩ := hn
    have hc := (leaf_any (128 + k) v l _ (by unfold I64; omega) (h.below hb0) hl).mono (fun _ _ h => h.at)
    rw [World.size_alloc] at hc
    go_enter Tryz.func37, Tryz.ntmps37
    go_wp2_with fail
    refine hi.mono ?_
    rintro e w0 ⟨rfl, rfl⟩
    go_wp2_with fail
    refine hc.mono ?_
    rintro e w1 ⟨d, t, a1, n1, p1, a2, n2, p2, rfl, hn, hb1⟩
    have hS := res_cell w w1 hb1
    obtain ⟨y0, y1, y2, z0, z1, z2⟩ := cells3 hS
    clear hc hi
    go_wp2_with fail
    obtain ⟨s0, s1, s2, _⟩ := cells3 (set3 hS (.int .i64 t) (.slice a1 n1 p1) (.slice a2 n2 p2))
    exact bodyPost_ret (v := .tuple #[.agg #[.int .i64 t, .slice a1 n1 p1, .slice a2 n2 p2], .int .i64 0]) (by simp [results, Tryz.results37, go_sem, s0, s1, s2]) rfl ⟨⟨d, _, _, _, rfl, hn.set3⟩, below3 (keep_trans hb0 (by rw [World.size_alloc]; exact hb1)) (Nat.le_refl _) _ _ _⟩
  · rw [decide_eq_false hn] at hi
    rw [if_neg hn, if_neg hn]
    clear hn
    obtain ⟨y0, y1, y2, z0, z1, z2⟩ := cells3 hS0
    go_enter Tryz.func37, Tryz.ntmps37
    go_wp2_with fail
    refine hi.mono ?_
    rintro e w0 ⟨rfl, rfl⟩
    clear hi
    go_wp2_with fail
    obtain ⟨s0, s1, s2, _⟩ := cells3 (set3 hS0 (.int .i64 0) (.slice none 0 0) (.slice none 0 0))
    exact bodyPost_ret (v := .tuple #[.agg #[.int .i64 0, .slice none 0 0, .slice none 0 0], .int .i64 8]) (by simp [results, Tryz.results37, go_sem, s0, s1, s2]) rfl ⟨⟨1, _, _, _, rfl, in_nd0 _ _⟩, keep_alloc w _⟩

set_option maxRecDepth 100000 in
set_option maxHeartbeats 2000000 in
theorem rvbytes_any (v : Value) (l : List Nat) (w : World) (h : Row .u8 256 w v l) :
    Calls Tryz.prog 19 #[v] w fun e w' => e = .returned (.agg #[.int .i64 4, v, .slice none 0 0]) ∧ Below w.heap.size w w' := by
  obtain ⟨a, cap, rfl, g1, g2, g3, g4⟩ := h
  go_enter Tryz.func19, Tryz.ntmps19
  go_wp2_with fail
  exact bodyPost_ret (v := .agg #[.int .i64 4, .slice a l.length cap, .slice none 0 0]) (by simp [results, Tryz.results19, go_sem]) rfl ⟨rfl, keep_alloc w _⟩
set_option maxRecDepth 100000 in
set_option maxHeartbeats 2000000 in
theorem rseq_any (a : Option Addr) (n cap : Nat) (w : World) :
    Calls Tryz.prog 44 #[.slice a n cap] w fun e w' => e = .returned (.agg #[.int .i64 48, .slice none 0 0, .slice a n cap]) ∧ Below w.heap.size w w' := by
  go_enter Tryz.func44, Tryz.ntmps44
  go_wp2_with fail
  exact bodyPost_ret (v := .agg #[.int .i64 48, .slice none 0 0, .slice a n cap]) (by simp [results, Tryz.results44, go_sem]) rfl ⟨rfl, keep_alloc w _⟩
/-- three cells, or those of no value -/
def numC (k : Int) (v : Value) : Value := if 0 ≤ k ∧ k ≤ 30 then v else nod0
set_option maxRecDepth 100000 in
set_option maxHeartbeats 2000000 in
theorem rpart_any (k : Int) (a : Option Addr) (n cap : Nat) (w : World) :
    Calls Tryz.prog 38 #[.int .i64 k, .slice a n cap] w fun e w' => e = .returned (.tuple #[numC k (.agg #[.int .i64 (128 + k), .slice a n cap, .slice none 0 0]), .int .i64 (numR k)]) ∧ Below w.heap.size w w' := by
  unfold numC numR nod0
  by_cases h : 0 ≤ k ∧ k ≤ 30
  · rw [if_pos h, if_pos h]
    obtain ⟨h1, h2⟩ := h
    have h1' : ¬ k < 0 := by omega
    have h2' : ¬ 30 < k := by omega
    go_enter Tryz.func38, Tryz.ntmps38
    go_wp2_with fail
    exact bodyPost_ret (v := .tuple #[.agg #[.int .i64 (128 + k), .slice a n cap, .slice none 0 0], .int .i64 0]) (by simp [results, Tryz.results38, go_sem]) rfl ⟨rfl, keep_alloc w _⟩
  · rw [if_neg h, if_neg h]
    by_cases h1 : k < 0
    · have h1d : decide (k < 0) = true := decide_eq_true h1
      clear h
      go_enter Tryz.func38, Tryz.ntmps38
      go_wp2_with fail
      exact bodyPost_ret (v := .tuple #[.agg #[.int .i64 0, .slice none 0 0, .slice none 0 0], .int .i64 8]) (by simp [results, Tryz.results38, go_sem]) rfl ⟨rfl, keep_alloc w _⟩
    · have h2 : 30 < k := by omega
      have h2d : decide (30 < k) = true := decide_eq_true h2
      clear h
      go_enter Tryz.func38, Tryz.ntmps38
      go_wp2_with fail
      exact bodyPost_ret (v := .tuple #[.agg #[.int .i64 0, .slice none 0 0, .slice none 0 0], .int .i64 8]) (by simp [results, Tryz.results38, go_sem]) rfl ⟨rfl, keep_alloc w _⟩
set_option maxRecDepth 100000 in
set_option maxHeartbeats 2000000 in
theorem rbox_any (k : Int) (a : Option Addr) (n cap : Nat) (w : World) :
    Calls Tryz.prog 40 #[.int .i64 k, .slice a n cap] w fun e w' => e = .returned (.tuple #[numC k (.agg #[.int .i64 (160 + k), .slice none 0 0, .slice a n cap]), .int .i64 (numR k)]) ∧ Below w.heap.size w w' := by
  unfold numC numR nod0
  by_cases h : 0 ≤ k ∧ k ≤ 30
  · rw [if_pos h, if_pos h]
    obtain ⟨h1, h2⟩ := h
    have h1' : ¬ k < 0 := by omega
    have h2' : ¬ 30 < k := by omega
    go_enter Tryz.func40, Tryz.ntmps40
    go_wp2_with fail
    exact bodyPost_ret (v := .tuple #[.agg #[.int .i64 (160 + k), .slice none 0 0, .slice a n cap], .int .i64 0]) (by simp [results, Tryz.results40, go_sem]) rfl ⟨rfl, keep_alloc w _⟩
  · rw [if_neg h, if_neg h]
    by_cases h1 : k < 0
    · have h1d : decide (k < 0) = true := decide_eq_true h1
      clear h
      go_enter Tryz.func40, Tryz.ntmps40
      go_wp2_with fail
      exact bodyPost_ret (v := .tuple #[.agg #[.int .i64 0, .slice none 0 0, .slice none 0 0], .int .i64 8]) (by simp [results, Tryz.results40, go_sem]) rfl ⟨rfl, keep_alloc w _⟩
    · have h2 : 30 < k := by omega
      have h2d : decide (30 < k) = true := decide_eq_true h2
      clear h
      go_enter Tryz.func40, Tryz.ntmps40
      go_wp2_with fail
      exact bodyPost_ret (v := .tuple #[.agg #[.int .i64 0, .slice none 0 0, .slice none 0 0], .int .i64 8]) (by simp [results, Tryz.results40, go_sem]) rfl ⟨rfl, keep_alloc w _⟩
/-- what is made of bytes that may fit -/
def madeN (r : Bool) (x : Nd) : Nd := if r = true then x else nd0
def madeR (r : Bool) : Int := if r = true then 0 else 5
def madeC (r : Bool) (v : Value) : Value := if r = true then v else nod0
set_option maxRecDepth 100000 in
set_option maxHeartbeats 2000000 in
theorem rmade_any (FB : Int → List Nat → Bool) (hFB : FBok FB) (t : Int) (v : Value) (l : List Nat) (w : World) (h : Row .u8 256 w v l) (hl : l.length ≤ 1000000) :
    Calls Tryz.prog 48 #[.int .i64 t, v] w fun e w' => e = .returned (.tuple #[madeC (FB t l) (.agg #[.int .i64 t, v, .slice none 0 0]), .int .i64 (madeR (FB t l))]) ∧ Below w.heap.size w w' := by
  have hb0 := keep_alloc w (.cells #[.int .i64 0, .slice none 0 0, .slice none 0 0] 28)
  have hf := rfitb_any FB hFB t v l _ (h.below hb0) hl
  rw [World.size_alloc] at hf
  obtain ⟨a, cap, rfl, g1, g2, g3, g4⟩ := h
  unfold madeC madeR nod0
  cases hr : FB t l with
  | true =>
    rw [hr] at hf
    rw [if_pos rfl, if_pos rfl]
    clear hr
    go_enter Tryz.func48, Tryz.ntmps48
    go_wp2_with fail
    refine hf.mono ?_
    rintro e w1 ⟨rfl, hb1⟩
    have hS := res_cell w w1 hb1
    obtain ⟨y0, y1, y2, z0, z1, z2⟩ := cells3 hS
    clear hf
    go_wp2_with fail
    obtain ⟨s0, s1, s2, _⟩ := cells3 (set3 hS (.int .i64 t) (.slice a l.length cap) (.slice none 0 0))
    exact bodyPost_ret (v := .tuple #[.agg #[.int .i64 t, .slice a l.length cap, .slice none 0 0], .int .i64 0]) (by simp [results, Tryz.results48, go_sem, s0, s1, s2]) rfl ⟨rfl, below3 (keep_trans hb0 (by rw [World.size_alloc]; exact hb1)) (Nat.le_refl _) _ _ _⟩
  | false =>
    rw [hr] at hf
    rw [if_neg (by decide), if_neg (by decide)]
    clear hr
    go_enter Tryz.func48, Tryz.ntmps48
    go_wp2_with fail
    refine hf.mono ?_
    rintro e w1 ⟨rfl, hb1⟩
    have hS := res_cell w w1 hb1
    obtain ⟨y0, y1, y2, z0, z1, z2⟩ := cells3 hS
    clear hf
    go_wp2_with fail
    obtain ⟨s0, s1, s2, _⟩ := cells3 (set3 hS (.int .i64 0) (.slice none 0 0) (.slice none 0 0))
    exact bodyPost_ret (v := .tuple #[.agg #[.int .i64 0, .slice none 0 0, .slice none 0 0], .int .i64 5]) (by simp [results, Tryz.results48, go_sem, s0, s1, s2]) rfl ⟨rfl, below3 (keep_trans hb0 (by rw [World.size_alloc]; exact hb1)) (Nat.le_refl _) _ _ _⟩
end Go.Proofs.YtlddpjcacnahmaaGreatDoor
