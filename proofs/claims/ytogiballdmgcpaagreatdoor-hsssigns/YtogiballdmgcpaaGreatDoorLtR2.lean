/- Trees of leaves that sign once: the document's over, leafSum, Fit, Size, wrong, head. -/
import Derived.Test.YtogiballdmgcpaaGreatDoorLmR
import Derived.BigQuiet
import Derived.Test.YtogiballdmgcpaaGreatDoorLsFrm
import Derived.Test.YtogiballdmgcpaaGreatDoorHN1
namespace Go.Proofs.YtogiballdmgcpaaGreatDoor
open Go.RowKit
set_option linter.unusedVariables false
set_option linter.unusedSimpArgs false

/-- the sums of a knot and of a leaf -/
def ovL (id : List Nat) (n : Nat) (a b : List Nat) : List Nat := shaL (id ++ (be4 n ++ (be2 33667 ++ (a ++ b))))
def lfS (id : List Nat) (n : Nat) (k : List Nat) : List Nat := shaL (id ++ (be4 n ++ (be2 33410 ++ k)))
set_option maxHeartbeats 4000000 in
set_option maxRecDepth 100000 in
theorem rover_any (id a b : List Nat) (n : Nat) (idv av bv : Value) (w : World) (hi : Row .u8 256 w idv id) (ti : Tidy idv) (ha : Row .u8 256 w av a) (ta : Tidy av) (hb : Row .u8 256 w bv b) (tb : Tidy bv) (hn : n < 18446744073709551616) (hl : id.length + a.length + b.length ≤ 50000) :
    Calls Tryz.prog 71 #[idv, .int .u64 (n : Int), av, bv] w fun e w' => ∃ v, e = .returned v ∧ Row .u8 256 w' v (ovL id n a b) ∧ New w.heap.size v ∧ Below w.heap.size w w' := by
  obtain ⟨ia, ic, rfl, _⟩ := hi.opens rfl
  obtain ⟨aa, ac, rfl, _⟩ := ha.opens rfl
  obtain ⟨ba, bc, rfl, _⟩ := hb.opens rfl
  have h4 := fun y => rbe4 n y hn
  have h2 := fun y => rbe2 33667 y (by decide)
  have hfl : [id, be4 n, be2 33667, a, b].flatten = id ++ (be4 n ++ (be2 33667 ++ (a ++ b))) := by simp
  have hH := fun y lv (r : Rows2 y lv [id, be4 n, be2 33667, a, b]) => rH_any lv _ y r (by rw [hfl]; simp only [List.length_append, be4_len, be2_len]; omega)
  rw [hfl] at hH
  unfold ovL
  generalize shaL = HH at *
  clear hfl
  go_enter Tryz.func71, Tryz.ntmps71
  go_wp2_with (first
    | (go_at_call_of 24 (Value.int .i64 4); refine (h4 _).mono ?_; rintro e w1 ⟨v1, rfl, o1, hb1⟩; obtain ⟨a1, c1, rfl⟩ := o1.row.form)
    | (go_at_call_of 24 (Value.int .i64 2); refine (h2 _).mono ?_; rintro e w2 ⟨v2, rfl, o2, hb2⟩; obtain ⟨a2, c2, rfl⟩ := o2.row.form; have hb12 := keep_trans hb1 hb2; have hT := hH _ _ (rows_litL (B := w2.heap.size) (k := 5) (texts_cons (hi.below hb12) ti (texts_cons (o1.row.below hb2) o1.tidy (texts_cons o2.row o2.tidy (texts_cons (ha.below hb12) ta (texts_cons (hb.below hb12) tb (Texts.nil _)))))) rfl rfl (by decide)))
    | (go_at_call 54; refine hT.mono ?_; rintro e w4 ⟨v4, rfl, r4, n4, hb4⟩)
    | fail)
  go_ret
  exact ⟨_, rfl, r4, n4.mono (keep_trans hb12 (keep_alloc _ _)).size, keep_trans (keep_trans hb12 (keep_alloc _ _)) hb4⟩
set_option maxHeartbeats 4000000 in
set_option maxRecDepth 100000 in
theorem rleaf_any (id k : List Nat) (n : Nat) (idv kv : Value) (w : World) (hi : Row .u8 256 w idv id) (ti : Tidy idv) (ha : Row .u8 256 w kv k) (ta : Tidy kv) (hn : n < 18446744073709551616) (hl : id.length + k.length ≤ 50000) :
    Calls Tryz.prog 70 #[idv, .int .u64 (n : Int), kv] w fun e w' => ∃ v, e = .returned v ∧ Row .u8 256 w' v (lfS id n k) ∧ New w.heap.size v ∧ Below w.heap.size w w' := by
  obtain ⟨ia, ic, rfl, _⟩ := hi.opens rfl
  obtain ⟨aa, ac, rfl, _⟩ := ha.opens rfl
  have h4 := fun y => rbe4 n y hn
  have h2 := fun y => rbe2 33410 y (by decide)
  have hfl : [id, be4 n, be2 33410, k].flatten = id ++ (be4 n ++ (be2 33410 ++ k)) := by simp
  have hH := fun y lv (r : Rows2 y lv [id, be4 n, be2 33410, k]) => rH_any lv _ y r (by rw [hfl]; simp only [List.length_append, be4_len, be2_len]; omega)
  rw [hfl] at hH
  unfold lfS
  generalize shaL = HH at *
  clear hfl
  go_enter Tryz.func70, Tryz.ntmps70
  go_wp2_with (first
    | (go_at_call_of 24 (Value.int .i64 4); refine (h4 _).mono ?_; rintro e w1 ⟨v1, rfl, o1, hb1⟩; obtain ⟨a1, c1, rfl⟩ := o1.row.form)
    | (go_at_call_of 24 (Value.int .i64 2); refine (h2 _).mono ?_; rintro e w2 ⟨v2, rfl, o2, hb2⟩; obtain ⟨a2, c2, rfl⟩ := o2.row.form; have hb12 := keep_trans hb1 hb2; have hT := hH _ _ (rows_litL (B := w2.heap.size) (k := 4) (texts_cons (hi.below hb12) ti (texts_cons (o1.row.below hb2) o1.tidy (texts_cons o2.row o2.tidy (texts_cons (ha.below hb12) ta (Texts.nil _))))) rfl rfl (by decide)))
    | (go_at_call 54; refine hT.mono ?_; rintro e w4 ⟨v4, rfl, r4, n4, hb4⟩)
    | fail)
  go_ret
  exact ⟨_, rfl, r4, n4.mono (keep_trans hb12 (keep_alloc _ _)).size, keep_trans (keep_trans hb12 (keep_alloc _ _)) hb4⟩
/-- how many bytes a leaf's signature has; 0: there is no such kind -/
def szW (x : Int) : Nat := if x = 1 then 8516 else if x = 2 then 4292 else if x = 4 then 2180 else if x = 8 then 1124 else 0
theorem rsizeW (x : Int) (w : World) : Calls Tryz.prog 67 #[.int .i64 x] w fun e w' => e = .returned (.int .i64 (szW x : Nat)) ∧ w' = w := by
  rcases kd_or x with h | ⟨k, n, m, s, c, rfl, h⟩
  · have e0 : szW x = 0 := by
      obtain ⟨h1, h2, h4, h8⟩ := h
      unfold szW
      rw [if_neg h1, if_neg h2, if_neg h4, if_neg h8]
    rw [e0]
    exact rsize_no x w h
  · have e0 : szW (k : Int) = 36 + 32 * (n + m) := by cases h <;> rfl
    rw [e0]
    exact rsize_ok w h
/-- a tree is fit -/
def FitL (h x : Int) : Prop := lmCode h ≠ 0 ∧ szW x ≠ 0
instance (h x : Int) : Decidable (FitL h x) := by unfold FitL; infer_instance
structure Bx2T (W : World) (B : Nat) (v0 v1 : Value) : Prop where
  here : W.heap[B]? = some (.cells #[v0, v1] 45 (0, 0))
theorem Bx2T.lt {W : World} {B : Nat} {v0 v1 : Value} (h : Bx2T W B v0 v1) : B < W.heap.size := (Array.getElem?_eq_some_iff.1 h.here).1
theorem Bx2T.c0 {W : World} {B : Nat} {v0 v1 : Value} (h : Bx2T W B v0 v1) : W.cell? ⟨B, 0, none⟩ = some v0 := by simp [World.cell?, h.here]
theorem Bx2T.c1 {W : World} {B : Nat} {v0 v1 : Value} (h : Bx2T W B v0 v1) : W.cell? ⟨B, 1, none⟩ = some v1 := by simp [World.cell?, h.here]
theorem Bx2T.below {W W' : World} {B : Nat} {v0 v1 : Value} (h : Bx2T W B v0 v1) (hb : Below W.heap.size W W') : Bx2T W' B v0 v1 := ⟨(hb.block _ h.lt).trans h.here⟩
theorem Bx2T.new (W : World) (v0 v1 : Value) : Bx2T (W.alloc (.cells #[v0, v1] 45)) W.heap.size v0 v1 := ⟨heap_alloc_new W _⟩
set_option maxHeartbeats 4000000 in
set_option maxRecDepth 100000 in
theorem rfitT_any (h x : Int) (w : World) : Calls Tryz.prog 40 #[.agg #[.int .i64 h, .int .i64 x]] w fun e w' => e = .returned (.bool (decide (FitL h x))) ∧ Below w.heap.size w w' := by
  have hc := fun y => rcode_any h y
  have hs := fun y => rsizeW x y
  by_cases h1 : lmCode h = 0
  · have hd : decide (FitL h x) = false := decide_eq_false fun hh => hh.1 h1
    rw [hd]
    rw [h1] at hc
    clear hd h1
    go_enter Tryz.func40, Tryz.ntmps40
    go_wp2_with (first | (go_at_call 56; refine (hc _).mono ?_; rintro e yy ⟨rfl, hy⟩; obtain rfl := hy.symm) | fail)
    go_ret
    exact ⟨rfl, keep_alloc _ _⟩
  · obtain ⟨C, hC⟩ : ∃ C, C = lmCode h := ⟨_, rfl⟩
    obtain ⟨Z, hZ⟩ : ∃ Z, Z = szW x := ⟨_, rfl⟩
    have hCb : ((C : Int) != 0) = true := by have : C ≠ 0 := by rw [hC]; exact h1
                                             simp [this]
    have hd : decide (FitL h x) = ((Z : Int) != 0) := by
      by_cases hz : Z = 0
      · rw [decide_eq_false (fun hh => hh.2 (by rw [← hZ]; exact hz))]; simp [hz]
      · rw [decide_eq_true ⟨h1, by rw [← hZ]; exact hz⟩]; simp [hz]
    rw [hd]
    rw [← hC] at hc
    rw [← hZ] at hs
    clear hd h1 hC hZ
    go_enter Tryz.func40, Tryz.ntmps40
    go_wp2_with (first
      | (go_at_call 56; refine (hc _).mono ?_; rintro e yy ⟨rfl, hy⟩; obtain rfl := hy.symm)
      | (go_at_call 67; refine (hs _).mono ?_; rintro e yy ⟨rfl, hy⟩; obtain rfl := hy.symm)
      | fail)
    go_ret
    exact ⟨rfl, keep_alloc _ _⟩
set_option maxHeartbeats 4000000 in
set_option maxRecDepth 100000 in
theorem rhead_any {k n m s c : Nat} (h : Int) (w : World) (hk : Kd k n m s c) : Calls Tryz.prog 47 #[.agg #[.int .i64 h, .int .i64 (k : Int)]] w fun e w' => ∃ v, e = .returned v ∧ Row .u8 256 w' v (be4 (lmCode h) ++ be4 c) ∧ New w.heap.size v ∧ Tidy v ∧ Below w.heap.size w w' := by
  have hc := fun y => rcode_any h y
  have hkk := fun y => rkind_ok y hk
  have hcl := lmCode_32 h
  obtain ⟨C, hC⟩ : ∃ C, C = lmCode h := ⟨_, rfl⟩
  rw [← hC] at hc hcl ⊢
  have h4 := fun y => rbe4 C y (by omega)
  have h4c := fun y => rbe4 c y (by have := hk.pos; omega)
  obtain ⟨P, hP⟩ : ∃ P : Nat, P = n + m := ⟨_, rfl⟩
  rw [← hP] at hkk
  obtain ⟨i0, hi0, hz0, hz1, hz2⟩ := info_byte
  clear hC hP hk hcl
  go_enter Tryz.func47, Tryz.ntmps47
  go_wp2_with (first
    | (go_at_call 77; refine (hkk _).mono ?_; rintro e yy ⟨rfl, hy⟩; obtain rfl := hy.symm)
    | (go_at_call 56; refine (hc _).mono ?_; rintro e yy ⟨rfl, hy⟩; obtain rfl := hy.symm)
    | (go_at_call_of 24 (Value.int .u64 (C : Int)); refine (h4 _).mono ?_; rintro e w1 ⟨v1, rfl, o1, hb1⟩; have r1 := o1.row; obtain ⟨a1, c1, rfl, _⟩ := r1.opens (be4_len _))
    | (go_at_call_of 24 (Value.int .u64 (c : Int)); refine (h4c _).mono ?_; rintro e w2 ⟨v2, rfl, o2, hb2⟩; have r2 := o2.row; obtain ⟨a2, c2, rfl, _, _, g2⟩ := r2.opens (be4_len _); obtain ⟨b2, f2, rfl, _⟩ := g2 (by decide); have hb12 := keep_trans hb1 hb2; have o1' := own_belowA o1.1 hb2; rw [be4_len] at o1')
    | (at_builtin; refine wpList_appA rfl _ _ rfl (w.alloc (.cells #[.int .i64 h, .int .i64 (k : Int)] 45)).heap.size _ _ 4 _ (be4 c) rfl o1' rfl r2 (tidy_atA _ _ _) (by decide) (by rw [be4_len]; decide) hb12.size ?_; intro v3 w3 how3 hg3)
    | fail)
  go_ret
  have hbw := keep_trans (keep_alloc w (.cells #[.int .i64 h, .int .i64 (k : Int)] 45)) hb12
  have oW : Own 5 .u8 256 w3 (w.alloc (.cells #[.int .i64 h, .int .i64 (k : Int)] 45)).heap.size v3 (be4 C ++ be4 c) := ⟨by rw [List.length_append, be4_len, be4_len]; exact how3, Under.append (be4_under _) (be4_under _)⟩
  have oN := oW.mono (B' := w.heap.size) (by rw [World.size_alloc]; omega)
  exact ⟨_, rfl, oN.row, oN.new, oN.tidy, hbw.grown hg3 hbw.size (fun q hq => by have h1 := (o1'.lt q hq).1; rw [World.size_alloc] at h1; omega)⟩
end Go.Proofs.YtogiballdmgcpaaGreatDoor

/- Trees of leaves that sign once: the document's Size, wrong. -/
namespace Go.Proofs.YtogiballdmgcpaaGreatDoor
open Go.RowKit
set_option linter.unusedVariables false
set_option linter.unusedSimpArgs false

theorem FitL.pos {h x : Int} (hf : FitL h x) : 1 ≤ h ∧ h ≤ 25 ∧ 1124 ≤ szW x ∧ szW x ≤ 8516 := by
  obtain ⟨h1, h2⟩ := hf
  refine ⟨?_, ?_, ?_, ?_⟩
  · unfold lmCode at h1; split at h1; · omega
    split at h1 <;> omega
  · unfold lmCode at h1; split at h1; · omega
    split at h1 <;> omega
  · unfold szW at h2 ⊢; repeat' split
    all_goals first | omega | (exfalso; simp_all)
  · unfold szW; repeat' split
    all_goals omega
/-- what is wrong with a tree's kind, an id, a seed -/
def wrgT (h x : Int) (a b : Nat) : Int := if FitL h x then (if a = 16 ∧ b = 32 then (if 10 < h then 8 else 0) else 14) else 9
set_option maxHeartbeats 4000000 in
set_option maxRecDepth 100000 in
theorem rwrongT_any (h x : Int) (id seed : List Nat) (idv sv : Value) (w : World) (hi : Row .u8 256 w idv id) (hs : Row .u8 256 w sv seed) :
    Calls Tryz.prog 46 #[.agg #[.int .i64 h, .int .i64 x], idv, sv] w fun e w' => e = .returned (.int .i64 (wrgT h x id.length seed.length)) ∧ Below w.heap.size w w' := by
  have hf := fun y => rfitT_any h x y
  obtain ⟨ia, ic, rfl, _⟩ := hi.opens rfl
  obtain ⟨sa, sc, rfl, _⟩ := hs.opens rfl
  have bN := Bx2T.new w (.int .i64 h) (.int .i64 x)
  by_cases hh : FitL h x
  · rw [decide_eq_true hh] at hf
    have e0 : wrgT h x id.length seed.length = if id.length = 16 ∧ seed.length = 32 then (if 10 < h then 8 else 0) else 14 := if_pos hh
    rw [e0]
    clear e0 hh
    by_cases h1 : id.length = 16
    · have h1i : (id.length : Int) = 16 := by omega
      by_cases h2 : seed.length = 32
      · have h2i : (seed.length : Int) = 32 := by omega
        rw [if_pos ⟨h1, h2⟩]
        clear h1 h2
        generalize id.length = A at *
        generalize seed.length = B at *
        by_cases h10 : 10 < h
        · rw [if_pos h10]
          go_enter Tryz.func46, Tryz.ntmps46
          go_wp2_with (first | (go_at_call 40; refine (hf _).mono ?_; rintro e w1 ⟨rfl, hb1⟩; have b1 := bN.below hb1; have c0 := b1.c0; have c1 := b1.c1) | fail)
          go_ret
          exact ⟨rfl, keep_trans (keep_alloc _ _) hb1⟩
        · rw [if_neg h10]
          go_enter Tryz.func46, Tryz.ntmps46
          go_wp2_with (first | (go_at_call 40; refine (hf _).mono ?_; rintro e w1 ⟨rfl, hb1⟩; have b1 := bN.below hb1; have c0 := b1.c0; have c1 := b1.c1) | fail)
          go_ret
          exact ⟨rfl, keep_trans (keep_alloc _ _) hb1⟩
      · have h2i : ¬ (seed.length : Int) = 32 := by omega
        rw [if_neg (fun h => h2 h.2)]
        clear h1 h2
        generalize id.length = A at *
        generalize seed.length = B at *
        go_enter Tryz.func46, Tryz.ntmps46
        go_wp2_with (first | (go_at_call 40; refine (hf _).mono ?_; rintro e w1 ⟨rfl, hb1⟩) | fail)
        go_ret
        exact ⟨rfl, keep_trans (keep_alloc _ _) hb1⟩
    · have h1i : ¬ (id.length : Int) = 16 := by omega
      rw [if_neg (fun h => h1 h.1)]
      clear h1
      generalize id.length = A at *
      go_enter Tryz.func46, Tryz.ntmps46
      go_wp2_with (first | (go_at_call 40; refine (hf _).mono ?_; rintro e w1 ⟨rfl, hb1⟩) | fail)
      go_ret
      exact ⟨rfl, keep_trans (keep_alloc _ _) hb1⟩
  · rw [decide_eq_false hh] at hf
    have e0 : wrgT h x id.length seed.length = 9 := if_neg hh
    rw [e0]
    clear e0 hh
    go_enter Tryz.func46, Tryz.ntmps46
    go_wp2_with (first | (go_at_call 40; refine (hf _).mono ?_; rintro e w1 ⟨rfl, hb1⟩) | fail)
    go_ret
    exact ⟨rfl, keep_trans (keep_alloc _ _) hb1⟩
end Go.Proofs.YtogiballdmgcpaaGreatDoor

/- Trees of leaves that sign once: the knots by their numbers, plain. -/
namespace Go.Proofs.YtogiballdmgcpaaGreatDoor
open Go.RowKit
set_option linter.unusedVariables false
set_option linter.unusedSimpArgs false

section
variable (ov : Nat → List Nat → List Nat → List Nat) (lf : Nat → List Nat)
/-- the sum of knot i of a tree of height h -/
def knA (h i : Nat) : List Nat := kn ov lf (h - Nat.log2 i) i
end
/-- i lies l levels below the top -/
def Lev (l i : Nat) : Prop := 2 ^ l ≤ i ∧ i < 2 ^ (l + 1)
theorem Lev.log {l i : Nat} (h : Lev l i) : Nat.log2 i = l := by
  have h0 : i ≠ 0 := by have := Nat.two_pow_pos l; have := h.1; omega
  have h1 := (Nat.le_log2 h0).2 h.1
  have h2 := (Nat.log2_lt h0).2 h.2
  omega
theorem Lev.of {i : Nat} (h : 1 ≤ i) : Lev (Nat.log2 i) i := by
  have h0 : i ≠ 0 := by omega
  exact ⟨(Nat.le_log2 h0).1 (Nat.le_refl _), (Nat.log2_lt h0).1 (Nat.lt_succ_self _)⟩
theorem Lev.left {l i : Nat} (h : Lev l i) : Lev (l + 1) (2 * i) := by
  obtain ⟨h1, h2⟩ := h
  have e1 : 2 ^ (l + 1) = 2 * 2 ^ l := by rw [Nat.pow_succ]; omega
  have e2 : 2 ^ (l + 1 + 1) = 2 * 2 ^ (l + 1) := by rw [Nat.pow_succ]; omega
  exact ⟨by omega, by omega⟩
theorem Lev.right {l i : Nat} (h : Lev l i) : Lev (l + 1) (2 * i + 1) := by
  obtain ⟨h1, h2⟩ := h
  have e1 : 2 ^ (l + 1) = 2 * 2 ^ l := by rw [Nat.pow_succ]; omega
  have e2 : 2 ^ (l + 1 + 1) = 2 * 2 ^ (l + 1) := by rw [Nat.pow_succ]; omega
  exact ⟨by omega, by omega⟩
theorem Lev.up {l i : Nat} (h : Lev (l + 1) i) : Lev l (i / 2) := by
  obtain ⟨h1, h2⟩ := h
  have e1 : 2 ^ (l + 1) = 2 * 2 ^ l := by rw [Nat.pow_succ]; omega
  have e2 : 2 ^ (l + 1 + 1) = 2 * 2 ^ (l + 1) := by rw [Nat.pow_succ]; omega
  exact ⟨by omega, by omega⟩
theorem Lev.next {l i : Nat} (h : Lev (l + 1) i) : Lev (l + 1) (i ^^^ 1) := by
  obtain ⟨h1, h2⟩ := h
  have e1 : 2 ^ (l + 1) = 2 * 2 ^ l := by rw [Nat.pow_succ]; omega
  have e2 : 2 ^ (l + 1 + 1) = 2 * 2 ^ (l + 1) := by rw [Nat.pow_succ]; omega
  rw [xor_one]
  by_cases e : i % 2 = 0
  · rw [if_pos e]; exact ⟨by omega, by omega⟩
  · rw [if_neg e]; exact ⟨by omega, by omega⟩
theorem Lev.le {l i h : Nat} (hl : Lev l i) (hh : i < 2 ^ (h + 1)) : l ≤ h := by
  have h1 := hl.1
  have h2 : 2 ^ l < 2 ^ (h + 1) := by omega
  have := (Nat.pow_lt_pow_iff_right (a := 2) (by decide)).1 h2
  omega
section
variable {ov : Nat → List Nat → List Nat → List Nat} {lf : Nat → List Nat}
theorem knA_lev {h l i : Nat} (hl : Lev l i) : knA ov lf h i = kn ov lf (h - l) i := by
  unfold knA; rw [hl.log]
theorem knA_leaf {h i : Nat} (h1 : 2 ^ h ≤ i) (h2 : i < 2 ^ (h + 1)) : knA ov lf h i = lf i := by
  rw [knA_lev (l := h) ⟨h1, h2⟩, Nat.sub_self]; rfl
theorem knA_ov {h i : Nat} (h1 : 1 ≤ i) (h2 : i < 2 ^ h) : knA ov lf h i = ov i (knA ov lf h (2 * i)) (knA ov lf h (2 * i + 1)) := by
  have hL := Lev.of h1
  obtain ⟨l, hl⟩ : ∃ l, l = Nat.log2 i := ⟨_, rfl⟩
  rw [← hl] at hL
  have hlt : l < h := (Nat.pow_lt_pow_iff_right (a := 2) (by decide)).1 (by have := hL.1; omega)
  rw [knA_lev hL, knA_lev hL.left, knA_lev hL.right]
  obtain ⟨d, rfl⟩ : ∃ d, h = l + 1 + d := ⟨h - (l + 1), by omega⟩
  rw [show l + 1 + d - l = d + 1 by omega, show l + 1 + d - (l + 1) = d by omega]
  rfl
theorem knA_32 (h1 : ∀ n a b, (ov n a b).length = 32) (h2 : ∀ n, (lf n).length = 32) (h i : Nat) : (knA ov lf h i).length = 32 := kn_32 h1 h2 _ _
/-- the neighbours on the way up, by their numbers -/
def pthA (f : Nat → List Nat) : Nat → Nat → List (List Nat)
  | 0, _ => []
  | k + 1, n => f (n ^^^ 1) :: pthA f k (n / 2)
/-- the way up, a step at its end: how many are laid when knot n / 2 ^ j is met -/
theorem pthA_snoc (f : Nat → List Nat) : ∀ (k n : Nat), pthA f (k + 1) n = pthA f k n ++ [f ((n / 2 ^ k) ^^^ 1)]
  | 0, n => by rw [Nat.pow_zero, Nat.div_one]; rfl
  | k + 1, n => by
    show f (n ^^^ 1) :: pthA f (k + 1) (n / 2) = f (n ^^^ 1) :: (pthA f k (n / 2) ++ [f ((n / 2 ^ (k + 1)) ^^^ 1)])
    rw [pthA_snoc f k (n / 2), Nat.div_div_eq_div_mul, Nat.pow_succ, Nat.mul_comm 2]
theorem lev_leaf {h q : Nat} (hq : q < 2 ^ h) : Lev h (2 ^ h + q) := ⟨by omega, by rw [Nat.pow_succ]; omega⟩
end
end Go.Proofs.YtogiballdmgcpaaGreatDoor

/- Trees of trees: plain facts. A key's trees are pairs of a height and a width. -/
namespace Go.Proofs.YtogiballdmgcpaaGreatDoor
open Go.RowKit
set_option linter.unusedVariables false
set_option linter.unusedSimpArgs false

/-- a tree that a key may have -/
def FitG (t : Int × Int) : Prop := FitL t.1 t.2 ∧ t.1 ≤ 10
instance (t : Int × Int) : Decidable (FitG t) := by unfold FitG; infer_instance
def sumH : List (Int × Int) → Int
  | [] => 0
  | t :: ts => t.1 + sumH ts
def FitK (ts : List (Int × Int)) (il sl : Nat) : Prop := 1 ≤ ts.length ∧ ts.length ≤ 8 ∧ (∀ t ∈ ts, FitG t) ∧ sumH ts ≤ 60 ∧ il = 16 ∧ sl = 32
instance (ts : List (Int × Int)) (il sl : Nat) : Decidable (FitK ts il sl) := by unfold FitK; infer_instance
theorem FitG.pos {t : Int × Int} (h : FitG t) : 1 ≤ t.1 ∧ t.1 ≤ 10 := by
  refine ⟨?_, h.2⟩
  have := h.1.1
  unfold lmCode at this
  repeat' split at this
  all_goals omega
theorem sumH_snoc : ∀ (ts : List (Int × Int)) (t : Int × Int), sumH (ts ++ [t]) = sumH ts + t.1
  | [], t => by show t.1 + 0 = 0 + t.1; omega
  | x :: ts, t => by show x.1 + sumH (ts ++ [t]) = x.1 + sumH ts + t.1; rw [sumH_snoc ts t]; omega
theorem sumH_le : ∀ (ts : List (Int × Int)), (∀ t ∈ ts, FitG t) → 0 ≤ sumH ts ∧ sumH ts ≤ 10 * (ts.length : Int)
  | [], _ => by show (0 : Int) ≤ 0 ∧ (0 : Int) ≤ _; simp
  | t :: ts, h => by
    have h1 := sumH_le ts (fun x hx => h x (List.mem_cons_of_mem _ hx))
    have h2 := (h t (by simp)).pos
    show 0 ≤ t.1 + sumH ts ∧ t.1 + sumH ts ≤ _
    rw [List.length_cons]
    omega
/-- the tree at a place -/
def trA (ts : List (Int × Int)) (i : Nat) : Int × Int := ts.getD i (0, 0)
theorem trA_mem {ts : List (Int × Int)} {i : Nat} (h : i < ts.length) : trA ts i ∈ ts := by
  unfold trA
  rw [List.getD_eq_getElem?_getD, List.getElem?_eq_getElem h]
  exact List.getElem_mem h
theorem tr_take {ts : List (Int × Int)} {i : Nat} (h : i < ts.length) : ts.take (i + 1) = ts.take i ++ [trA ts i] := by
  rw [List.take_succ_eq_append_getElem h]
  unfold trA
  rw [List.getD_eq_getElem?_getD, List.getElem?_eq_getElem h]
  rfl
/-- how many texts a key can sign -/
def lvN (ts : List (Int × Int)) : Nat := 2 ^ (sumH ts).toNat
/-- v is a slice of trees -/
def TrS (w : World) (v : Value) (ts : List (Int × Int)) : Prop :=
  ∃ a cap, v = .slice a ts.length cap ∧ ts.length ≤ cap ∧ cap ≤ maxLen ∧ (0 < ts.length → ∃ b off, a = some ⟨b, off, none⟩ ∧ ∀ i, i < ts.length → w.cell? ⟨b, off + i * 2, none⟩ = some (.int .i64 (trA ts i).1) ∧ w.cell? ⟨b, off + i * 2 + 1, none⟩ = some (.int .i64 (trA ts i).2))
theorem TrS.below {w w' : World} {v : Value} {ts : List (Int × Int)} (h : TrS w v ts) (hb : Below w.heap.size w w') : TrS w' v ts := by
  obtain ⟨a, cap, rfl, h1, h2, h3⟩ := h
  refine ⟨a, cap, rfl, h1, h2, fun hl => ?_⟩
  obtain ⟨b, off, rfl, hc⟩ := h3 hl
  refine ⟨b, off, rfl, fun i hi => ?_⟩
  obtain ⟨c1, c2⟩ := hc i hi
  have k1 := World.block_lt_of_cell? w _ c1
  rw [hb.cell (p := ⟨b, off + i * 2, none⟩) k1, hb.cell (p := ⟨b, off + i * 2 + 1, none⟩) k1]
  exact ⟨c1, c2⟩
end Go.Proofs.YtogiballdmgcpaaGreatDoor

/- How a key of trees in trees that came in is read. -/
namespace Go.Proofs.YtogiballdmgcpaaGreatDoor
open Go.ChangeShapes Go.WideShapes Go.ChangeAt Go.RowKit Go.Deep
set_option linter.unusedVariables false
set_option linter.unusedSimpArgs false

theorem Tryz.cellsKyH : Tryz.prog.cellsOf 25 = 3 := by kernel_rfl
theorem Tryz.cellsTsH : Tryz.prog.cellsOf 22 = 1 := by kernel_rfl
theorem add_addH (a : Addr) (m n : Nat) : (a.add m).add n = a.add (m + n) := by
  unfold Addr.add
  split <;> split <;> simp_all [Nat.add_assoc]
/-- a slice of trees that is read -/
theorem read_treesH {H : Type} {enc : TypeId × Value → H} {W : World} {fuel : Nat} {v : Value} {x : DataW H × List MemPlace}
    (h : DataW.trod enc Tryz.prog W 0 (fun _ => true) true fuel 22 [v] = some x) : ∃ ts, TrS W v ts := by
  rcases DataW.trod_slice Tryz.underlying22 h with ⟨hcs, _⟩ | ⟨a, len, cap, elems, rest, m, hfm, hcs, _, _, hl, hm, hel, hx, _⟩
  · simp at hcs
    subst hcs
    exact ⟨[], none, 0, rfl, Nat.le_refl _, Nat.zero_le _, fun h => by simp at h⟩
  · simp at hcs
    subst hcs
    rw [Tryz.cellsTrS] at hx
    have each : ∀ i, i < len → ∃ q : Int × Int, W.cell? (a.add (i * 2)) = some (.int .i64 q.1) ∧ W.cell? (a.add (i * 2 + 1)) = some (.int .i64 q.2) := by
      intro i hi
      have h1 := hx i hi
      rw [List.getElem?_eq_getElem (by omega)] at h1
      obtain ⟨cs', h2, h3⟩ := Option.bind_eq_some_iff.1 h1
      obtain ⟨_, hcl, hcell⟩ := World.cells?_some h2
      match cs', hcl with
      | [k0, k1], _ =>
        obtain ⟨th, tw, hT⟩ := read_treeS (cs := #[k0, k1]) h3
        have e := hT.is
        simp at e
        obtain ⟨rfl, rfl⟩ := e
        have e0 := hcell 0 (by omega)
        have e1 := hcell 1 (by omega)
        rw [add_addH] at e0 e1
        exact ⟨(th, tw), by simpa using e0, by simpa using e1⟩
    obtain ⟨q, hq⟩ := choose_lt (α := Int × Int) each
    have hkl : ((List.range len).map q).length = len := by simp
    refine ⟨(List.range len).map q, some a, cap, by rw [hkl], by rw [hkl]; exact hl, hm, fun hp => ?_⟩
    rw [hkl] at hp
    obtain ⟨b0, off, spot⟩ := a
    have h0 := (hq 0 hp).1
    have hspot : spot = none := by simpa [Addr.add] using World.cell?_spot h0
    subst hspot
    refine ⟨b0, off, rfl, fun i hi => ?_⟩
    rw [hkl] at hi
    obtain ⟨h0, h1⟩ := hq i hi
    rw [Addr.add_lit] at h0 h1
    have e : trA ((List.range len).map q) i = q i := by unfold trA; simp [hi]
    rw [e]
    exact ⟨h0, by rw [← Nat.add_assoc] at h1; exact h1⟩
/-- a key, as it came in -/
structure HkIs (w : World) (cs : Array Value) (tv : Value) (ts : List (Int × Int)) (iv : Value) (il : List Nat) (sv : Value) (sl : List Nat) : Prop where
  is : cs = #[tv, iv, sv]
  tr : TrS w tv ts
  ri : Row .u8 256 w iv il
  ti : Tidy iv
  rs : Row .u8 256 w sv sl
  tis : Tidy sv
set_option maxRecDepth 100000 in
theorem read_keyH {H : Type} {enc : TypeId × Value → H} {W : World} {fuel : Nat} {cs : Array Value} {x : DataW H × List MemPlace}
    (h : DataW.trod enc Tryz.prog W 0 (fun _ => true) true fuel 25 cs.toList = some x) : ∃ tv ts iv il sv sl, HkIs W cs tv ts iv il sv sl := by
  obtain ⟨l⟩ := cs
  obtain ⟨xs, n, _, _, hcl, hlen, hf⟩ := DataW.trod_struct Tryz.underlying25 h
  rw [Tryz.cellsKyH] at hcl
  match l, hcl with
  | [c0, c1, c2], _ =>
    have hlen' : xs.length = 3 := hlen
    match xs, hlen' with
    | [y0, y1, y2], _ =>
      have g0 := hf 0 _ rfl
      have g1 := hf 1 _ rfl
      have g2 := hf 2 _ rfl
      simp [Tryz.cellsTsH, Tryz.cells23] at g0 g1 g2
      obtain ⟨ts, hts⟩ := read_treesH g0
      obtain ⟨il, hri, hti⟩ := read_text g1
      obtain ⟨sl, hrs, hts2⟩ := read_text g2
      exact ⟨c0, ts, c1, il, c2, sl, ⟨rfl, hts, hri, hti, hrs, hts2⟩⟩
end Go.Proofs.YtogiballdmgcpaaGreatDoor
