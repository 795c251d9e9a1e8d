/- Trees of leaves that sign once: the document's knots. -/
import Derived.Test.YtefndnbaifiboaaGreatDoorLtR3
import Derived.Test.YtefndnbaifiboaaGreatDoorLsF
import Derived.Test.YtefndnbaifiboaaGreatDoorGrT
import Derived.Test.YtefndnbaifiboaaGreatDoorPlan3
namespace Go.Proofs.YtefndnbaifiboaaGreatDoor
open Go.RowKit
set_option linter.unusedVariables false
set_option linter.unusedSimpArgs false

/-- from place i on, texts lie in block H of N places -/
def KnS (wr : World) (H N i : Nat) (f : Nat → List Nat) : Prop := ∃ us : Array Value, us.size = N ∧ wr.heap[H]? = some (.cells us 24 (0, 0)) ∧ ∀ j, i ≤ j → j < N → ∃ u, us[j]? = some u ∧ Row .u8 256 wr u (f j) ∧ Tidy u ∧ ∀ q, u.ownBlock = some q → H < q
theorem KnS.lt {wr : World} {H N i : Nat} {f : Nat → List Nat} (h : KnS wr H N i f) : H < wr.heap.size := by
  obtain ⟨us, _, h1, _⟩ := h
  exact (Array.getElem?_eq_some_iff.1 h1).1
theorem KnS.below {wr w' : World} {H N i : Nat} {f : Nat → List Nat} (h : KnS wr H N i f) (hb : Below wr.heap.size wr w') : KnS w' H N i f := by
  have hl := h.lt
  obtain ⟨us, h1, h2, h3⟩ := h
  refine ⟨us, h1, (hb.block _ hl).trans h2, fun j k1 k2 => ?_⟩
  obtain ⟨u, e1, e2, e3, e4⟩ := h3 j k1 k2
  exact ⟨u, e1, e2.below hb, e3, e4⟩
theorem KnS.frozen {wr : World} {H N i : Nat} {f : Nat → List Nat} (h : KnS wr H N i f) (j : Nat) : wr.frozen? ⟨H, j, none⟩ = false := by
  obtain ⟨us, _, h1, _⟩ := h
  simp [World.frozen?, h1]
theorem KnS.any {wr : World} {H N i : Nat} {f : Nat → List Nat} (h : KnS wr H N i f) {j : Nat} (hj : j < N) : ∃ u, wr.cell? ⟨H, j, none⟩ = some u := by
  obtain ⟨us, h0, h1, _⟩ := h
  refine ⟨us[j]'(by omega), ?_⟩
  rw [cell_of_row wr H j _ _ (0, 0) h1]
  exact Array.getElem?_eq_getElem (by omega)
theorem KnS.cell {wr : World} {H N i : Nat} {f : Nat → List Nat} (h : KnS wr H N i f) {j : Nat} (k1 : i ≤ j) (k2 : j < N) : ∃ u, wr.cell? ⟨H, j, none⟩ = some u ∧ Row .u8 256 wr u (f j) ∧ Tidy u := by
  obtain ⟨us, h0, h1, h2⟩ := h
  obtain ⟨u, e1, e2, e3, _⟩ := h2 j k1 k2
  exact ⟨u, by rw [cell_of_row wr H j _ _ (0, 0) h1]; exact e1, e2, e3⟩
theorem KnS.cell2 {wr : World} {H N i : Nat} {f : Nat → List Nat} (h : KnS wr H N i f) {j : Nat} (k1 : i ≤ j) (k2 : j < N) : ∃ u, wr.cell? ⟨H, j, none⟩ = some u ∧ Row .u8 256 wr u (f j) ∧ Tidy u ∧ ∀ q, u.ownBlock = some q → H < q := by
  obtain ⟨us, h0, h1, h2⟩ := h
  obtain ⟨u, e1, e2, e3, e4⟩ := h2 j k1 k2
  exact ⟨u, by rw [cell_of_row wr H j _ _ (0, 0) h1]; exact e1, e2, e3, e4⟩
theorem KnS.store {wr : World} {H N i : Nat} {f : Nat → List Nat} {v : Value} (h : KnS wr H N (i + 1) f) (hi : i < N) (hv : Row .u8 256 wr v (f i)) (tv : Tidy v) (hn : ∀ q, v.ownBlock = some q → H < q) : KnS (wr.setCell ⟨H, i, none⟩ v) H N i f := by
  obtain ⟨us, h0, h1, h2⟩ := h
  have hB : But H wr (wr.setCell ⟨H, i, none⟩ v) := (But.refl H wr).setCell i v
  have rw' : ∀ {u : Value} {l : List Nat}, Row .u8 256 wr u l → (∀ q, u.ownBlock = some q → q ≠ H) → Row .u8 256 (wr.setCell ⟨H, i, none⟩ v) u l := fun {u l} hu hq => by
    obtain ⟨a, cap, rfl, k1, k2, k3, k4⟩ := hu
    refine ⟨a, cap, rfl, k1, k2, fun hl => ?_, k4⟩
    obtain ⟨b, off, rfl, hc⟩ := k3 hl
    exact ⟨b, off, rfl, fun j hj => But.cell (hc j hj) hB (hq b (by simp [Value.ownBlock]))⟩
  refine ⟨us.setIfInBounds i v, by simp [h0], ?_, fun j k1 k2 => ?_⟩
  · rw [setCell_eq_setRow wr H i _ 24 (0, 0) _ h1]
    exact setRow_heap wr H _ _ 24 _ h1
  · by_cases e : j = i
    · subst e
      exact ⟨v, by rw [Array.getElem?_setIfInBounds_self_of_lt (by omega)], rw' hv (fun q hq => by have := hn q hq; omega), tv, hn⟩
    · obtain ⟨u, e1, e2, e3, e4⟩ := h2 j (by omega) k2
      exact ⟨u, by rw [Array.getElem?_setIfInBounds_ne (fun x => e x.symm)]; exact e1, rw' e2 (fun q hq => by have := e4 q hq; omega), e3, e4⟩
theorem KnS.other {wr : World} {H N i : Nat} {f : Nat → List Nat} (h : KnS wr H N i f) {k j : Nat} (hn : j ≠ k) (v u : Value) (hc : wr.cell? ⟨H, j, none⟩ = some u) : (wr.setCell ⟨H, k, none⟩ v).cell? ⟨H, j, none⟩ = some u := by
  obtain ⟨us, h0, h1, _⟩ := h
  have e1 : (wr.setCell ⟨H, k, none⟩ v).heap[H]? = some (.cells (us.setIfInBounds k v) 24 (0, 0)) := by
    rw [setCell_eq_setRow wr H k _ 24 (0, 0) _ h1]
    exact setRow_heap wr H _ _ 24 _ h1
  rw [cell_of_row wr H j _ _ (0, 0) h1] at hc
  rw [cell_of_row _ H j _ _ (0, 0) e1, Array.getElem?_setIfInBounds_ne (fun x => hn x.symm)]
  exact hc
theorem KnS.made {w : World} {base g n : Nat} {xs : List Value} (f : Nat → List Nat) (h : w.ownsRow base 24 1 (.slice (some ⟨g, 0, none⟩) n n) n xs) : KnS w g n n f := by
  obtain ⟨_, ⟨h1, _⟩ | ⟨g', cap, cur, h1, _, h3, _, _, h4, h5⟩⟩ := h
  · cases h1
  · simp only [Value.slice.injEq, Option.some.injEq, Addr.mk.injEq] at h1
    obtain ⟨⟨rfl, _⟩, rfl⟩ : (g = g' ∧ True) ∧ n = cap := ⟨⟨h1.1.1, trivial⟩, h1.2.2⟩
    exact ⟨cur, by omega, h3, fun j k1 k2 => by omega⟩
/-- where the loop stands -/
def KnL (w : World) (H N : Nat) (h x : Int) (f : Nat → List Nat) (vi : Value) (wr : World) : Prop := ∃ i : Nat, i < N ∧ vi = .int .i64 (i : Int) ∧ KnS wr H N (i + 1) f ∧ Bx2T wr w.heap.size (.int .i64 h) (.int .i64 x) ∧ Below w.heap.size w wr
theorem KnL.next {w wr w3 : World} {N i I : Nat} {h x : Int} {f : Nat → List Nat} {v : Value} {B : Nat} (hK : KnS wr (w.heap.size + 1) N (i + 1) f) (hB : Bx2T wr w.heap.size (.int .i64 h) (.int .i64 x)) (hb : Below w.heap.size w wr) (hb3 : Below wr.heap.size wr w3) (r3 : Row .u8 256 w3 v (f i)) (t3 : Tidy v) (n3 : New B v) (hw : wr.heap.size ≤ B) (hI : I + 1 = i) (hi : i < N) :
    KnL w (w.heap.size + 1) N h x f (.int .i64 (I : Int)) (w3.setCell ⟨w.heap.size + 1, i, none⟩ v) := by
  have hl := hK.lt
  have hBt : But (w.heap.size + 1) w3 (w3.setCell ⟨w.heap.size + 1, i, none⟩ v) := (But.refl _ w3).setCell i v
  have hb03 := hb.trans (hb3.mono hb.size)
  refine ⟨I, by omega, rfl, by rw [hI]; exact (hK.below hb3).store hi r3 t3 (fun q hq => by have := n3 q hq; omega), ⟨(hBt.block _ (by have := (hB.below hb3).lt; exact this) (by omega)).trans (hB.below hb3).here⟩, hb03.trans (hBt.below (by omega) hb03.size)⟩
set_option maxHeartbeats 8000000 in
set_option maxRecDepth 100000 in
theorem rknots_any (h M : Nat) (x : Int) (id seed : List Nat) (idv sv : Value) (w : World) (pk : Nat → List Nat) (hi : Row .u8 256 w idv id) (ti : Tidy idv) (hs : Row .u8 256 w sv seed)
    (hM : M = 2 ^ h) (h2 : M ≤ 1024) (hh : h ≤ 10) (hil : id.length = 16) (hpl : ∀ q, (pk q).length = 32)
    (hP : ∀ y q, Below w.heap.size w y → q < M → Calls Tryz.prog 59 #[.int .i64 x, idv, .int .u32 (q : Int), sv] y fun e w' => ∃ v, e = .returned (.tuple #[v, .int .i64 0]) ∧ Row .u8 256 w' v (pk q) ∧ New y.heap.size v ∧ Below y.heap.size y w') :
    Calls Tryz.prog 28 #[.agg #[.int .i64 (h : Int), .int .i64 x], idv, sv] w fun e w' => ∃ H, e = .returned (.slice (some ⟨H, 0, none⟩) (2 * M) (2 * M)) ∧ KnS w' H (2 * M) 1 (knA (ovL id) (fun n => lfS id n (pk (n - M))) h) ∧ w.heap.size ≤ H ∧ Below w.heap.size w w' := by
  obtain ⟨ia, ic, rfl, _⟩ := hi.opens hil
  obtain ⟨sa, sc, rfl, _⟩ := hs.opens rfl
  obtain ⟨i0, hi0, hz0, hz1, hz2⟩ := info_text
  have bN := Bx2T.new w (.int .i64 (h : Int)) (.int .i64 x)
  have c0 := bN.c0
  have c1 := bN.c1
  have hMp : 1 ≤ M := by rw [hM]; exact Nat.two_pow_pos h
  have e_M : (2 : Int) ^ h = (M : Int) := by rw [hM]; norm_cast
  obtain ⟨N, hN⟩ : ∃ N : Nat, N = 2 * M := ⟨_, rfl⟩
  rw [← hN]
  have s_M : IntKind.i64.wrap (M : Int) = (M : Int) := by rw [IntKind.wrap_i64]; omega
  have e_N : (2 : Int) * (M : Int) = (N : Int) := by omega
  have s_N : IntKind.i64.wrap (N : Int) = (N : Int) := by rw [IntKind.wrap_i64]; omega
  have hNb : N ≤ 2048 := by omega
  obtain ⟨f, hf⟩ : ∃ f, f = knA (ovL id) (fun n => lfS id n (pk (n - M))) h := ⟨_, rfl⟩
  have hf1 : ∀ i, M ≤ i → i < N → f i = lfS id i (pk (i - M)) := fun i k1 k2 => by
    rw [hf]; exact knA_leaf (by rw [← hM]; exact k1) (by rw [Nat.pow_succ, ← hM]; omega)
  have hf2 : ∀ i, 1 ≤ i → i < M → f i = ovL id i (f (2 * i)) (f (2 * i + 1)) := fun i k1 k2 => by
    rw [hf]; exact knA_ov k1 (by rw [← hM]; exact k2)
  have hfl : ∀ i, (f i).length = 32 := fun i => by
    rw [hf]; exact knA_32 (fun _ _ _ => shaL_len _) (fun _ => shaL_len _) _ _
  rw [← hf]
  have hLf : ∀ y kv i, Below w.heap.size w y → Row .u8 256 y kv (pk (i - M)) → Tidy kv → M ≤ i → i < N → Calls Tryz.prog 51 #[.slice ia 16 ic, .int .u64 (i : Int), kv] y fun e w' => ∃ v, e = .returned v ∧ Row .u8 256 w' v (f i) ∧ New y.heap.size v ∧ Below y.heap.size y w' := fun y kv i hb rk tk k1 k2 => by
    rw [hf1 i k1 k2]; exact rleaf_any id _ i _ kv y (hi.below hb) ti rk tk (by omega) (by rw [hil, hpl]; decide)
  have hOv : ∀ y av bv i, Below w.heap.size w y → Row .u8 256 y av (f (2 * i)) → Tidy av → Row .u8 256 y bv (f (2 * i + 1)) → Tidy bv → 1 ≤ i → i < M → Calls Tryz.prog 52 #[.slice ia 16 ic, .int .u64 (i : Int), av, bv] y fun e w' => ∃ v, e = .returned v ∧ Row .u8 256 w' v (f i) ∧ New y.heap.size v ∧ Below y.heap.size y w' := fun y av bv i hb ra ta rb tb k1 k2 => by
    rw [hf2 i k1 k2]; exact rover_any id _ _ i _ av bv y (hi.below hb) ti ra ta rb tb (by omega) (by rw [hil, hfl, hfl]; decide)
  obtain ⟨L, hL⟩ : ∃ L : Nat, L + 1 = N := ⟨N - 1, by omega⟩
  have e_L : (N : Int) - 1 = (L : Int) := by omega
  have s_L : IntKind.i64.wrap (L : Int) = (L : Int) := by rw [IntKind.wrap_i64]; omega
  have HM := hide (And.intro hM (And.intro hN (And.intro hL hMp)))
  have HF := hide (And.intro hfl (And.intro hLf (And.intro hOv hpl)))
  have HP := hide hP
  clear hM hN hL hf hf1 hf2 hfl hLf hOv hP hpl hMp hs hi
  go_enter Tryz.func28, Tryz.ntmps28
  go_wp2_with (first | (at_make; refine wpList_make_full _ rfl _ _ 46 rfl (w.alloc (.cells #[.int .i64 (h : Int), .int .i64 x] 23)).heap.size 24 i0 (.slice none 0 0) 1 Tryz.underlying46 hi0 hz0 hz1 _ _ _ _ N rfl rfl rfl rfl (by rw [hz2]; omega) (by unfold maxLen; omega) (Nat.le_refl _) ?_; intro w1 hown hgrow) | fail)
  have hb1 := keep_alloc w (.cells #[.int .i64 (h : Int), .int .i64 x] 23)
  have hbg := (Below.refl (w.alloc (.cells #[.int .i64 (h : Int), .int .i64 x] 23)).heap.size (w.alloc (.cells #[.int .i64 (h : Int), .int .i64 x] 23))).grown hgrow (Nat.le_refl _) (fun k h => by cases h)
  have hk1 := KnS.made f hown
  have h0 : KnL w (w.alloc (.cells #[.int .i64 (h : Int), .int .i64 x] 23)).heap.size N (h : Int) x f (.int .i64 (L : Int)) w1 := ⟨L, by have := HM.out.2.2.1; omega, rfl, by rw [HM.out.2.2.1]; exact hk1, bN.below hbg, keep_trans hb1 hbg⟩
  have hHs : (w.alloc (.cells #[.int .i64 (h : Int), .int .i64 x] 23)).heap.size = w.heap.size + 1 := by rw [World.size_alloc]
  rw [hHs] at h0
  generalize (w.alloc (.cells #[.int .i64 (h : Int), .int .i64 x] 23)).heap.size = H at *
  subst hHs
  have H0 := hide h0
  clear h0 hk1 hbg hb1 hown hgrow bN c0 c1
  go_loopw [9] (fun vi wr => KnL w (w.heap.size + 1) N (h : Int) x f vi wr) (fun vi _ => (intOf vi).toNat)
  case atStart => exact H0.out
  case round =>
    obtain ⟨i, hiN, rfl, hK, hB, hb⟩ := hrel
    clear H0
    rename World => wr
    by_cases hz : i = 0
    · subst hz
      have HK := hide (And.intro hK hb)
      clear hK hb hB
      go_wp2
      go_ret
      exact ⟨_, rfl, HK.out.1, by omega, HK.out.2⟩
    · have h1i : (1 : Int) ≤ (i : Int) := by omega
      have hni : ¬ (i : Int) < 1 := by omega
      have c1 := hB.c1
      have li : (i : Int) < (N : Int) := by omega
      have z_i : (0 : Int) ≤ (i : Int) := Int.natCast_nonneg _
      have u_i : IntKind.u64.wrap (i : Int) = (i : Int) := by rw [IntKind.wrap_u64]; omega
      obtain ⟨I, hI⟩ : ∃ I : Nat, I + 1 = i := ⟨i - 1, by omega⟩
      have e_I : (i : Int) - 1 = (I : Int) := by omega
      have s_I : IntKind.i64.wrap (I : Int) = (I : Int) := by rw [IntKind.wrap_i64]; omega
      obtain ⟨u3, cu⟩ := hK.any hiN
      have cf := hK.frozen i
      by_cases hge : M ≤ i
      · have hgi : (M : Int) ≤ (i : Int) := by omega
        obtain ⟨Q, hQ⟩ : ∃ Q : Nat, Q = i - M := ⟨_, rfl⟩
        have e_Q : (i : Int) - (M : Int) = (Q : Int) := by omega
        have s_Q : IntKind.i64.wrap (Q : Int) = (Q : Int) := by rw [IntKind.wrap_i64]; omega
        have u_Q : IntKind.u32.wrap (Q : Int) = (Q : Int) := by rw [IntKind.wrap_u32]; omega
        have hPu := HP.out wr Q hb (by have := HM.out.2.1; omega)
        have HK := hide (And.intro hK (And.intro hB (And.intro hb (And.intro hiN (And.intro hge (And.intro hQ hI))))))
        clear hK hB hb hiN hge hQ hI hz
        go_wp2_with (first
          | (go_at_call 59; refine hPu.mono ?_; rintro e w2 ⟨v2, rfl, r2, n2, hb2⟩; have t2 := new_ntidy r2 (by have := HF.out.2.2.2 Q; omega); obtain ⟨a2, c2, rfl, _⟩ := r2.opens (HF.out.2.2.2 Q); have hL2 := HF.out.2.1 w2 _ i (HK.out.2.2.1.trans (hb2.mono HK.out.2.2.1.size)) (by rw [← HK.out.2.2.2.2.2.1]; exact r2) t2 HK.out.2.2.2.2.1 HK.out.2.2.2.1)
          | (go_at_call 51; refine hL2.mono ?_; rintro e w3 ⟨v3, rfl, r3, n3, hb3⟩; have t3 := new_ntidy r3 (by have := HF.out.1 i; omega); obtain ⟨a3, c3, rfl, _⟩ := r3.opens (HF.out.1 i); have hb23 := keep_trans hb2 hb3; have cu3 := keep_cell cu hb23; have cf3 := (HK.out.1.below hb23).frozen i)
          | fail)
        obtain ⟨hK, hB, hb, hiN, hge, hQ, hI⟩ := HK.out
        exact ⟨KnL.next hK hB hb hb23 r3 t3 n3 hb2.size hI hiN, by simp [intOf]; omega⟩
      · have hgi : ¬ (M : Int) ≤ (i : Int) := by omega
        obtain ⟨A, hA⟩ : ∃ A : Nat, A = 2 * i := ⟨_, rfl⟩
        have e_A : (2 : Int) * (i : Int) = (A : Int) := by omega
        have s_A : IntKind.i64.wrap (A : Int) = (A : Int) := by rw [IntKind.wrap_i64]; omega
        obtain ⟨B, hBe⟩ : ∃ B : Nat, B = A + 1 := ⟨_, rfl⟩
        have e_B : (A : Int) + 1 = (B : Int) := by omega
        have s_B : IntKind.i64.wrap (B : Int) = (B : Int) := by rw [IntKind.wrap_i64]; omega
        have lA : (A : Int) < (N : Int) := by have := HM.out.2.1; omega
        have lB : (B : Int) < (N : Int) := by have := HM.out.2.1; omega
        have z_A : (0 : Int) ≤ (A : Int) := Int.natCast_nonneg _
        have z_B : (0 : Int) ≤ (B : Int) := Int.natCast_nonneg _
        obtain ⟨ua, ca, ra, ta⟩ := hK.cell (j := A) (by omega) (by omega)
        obtain ⟨ub, cb, rb, tb⟩ := hK.cell (j := B) (by omega) (by omega)
        have hO := fun y (hy : Below wr.heap.size wr y) => HF.out.2.2.1 y ua ub i (hb.trans (hy.mono hb.size)) (by rw [← hA]; exact ra.below hy) ta (by rw [← hA, ← hBe]; exact rb.below hy) tb (by omega) (by omega)
        obtain ⟨aa, ac, rfl, _⟩ := ra.opens (HF.out.1 A)
        obtain ⟨ba, bc, rfl, _⟩ := rb.opens (HF.out.1 B)
        have hbd : Below wr.heap.size wr wr.drew := (Below.refl _ _).drew
        have hS0 : wr.drew.cell? ⟨w.heap.size + 1, A, none⟩ = some (.slice aa 32 ac) ∧ wr.drew.cell? ⟨w.heap.size + 1, B, none⟩ = some (.slice ba 32 bc) := ⟨ca, cb⟩
        have HK := hide (And.intro hK (And.intro hB (And.intro hb (And.intro hiN (And.intro hI (And.intro hbd (And.intro hA hBe)))))))
        clear hK hB hb hiN hge hA hBe hI hz ra rb ta tb hbd
        go_wp2
        go_region_held3 (fun y => y.cell? ⟨w.heap.size + 1, A, none⟩ = some (.slice aa 32 ac) ∧ y.cell? ⟨w.heap.size + 1, B, none⟩ = some (.slice ba 32 bc)) (first | exact hS0 | exact hS3 | exact hS4) (first
          | (go_at_call 52; refine (hO _ HK.out.2.2.2.2.2.1).mono ?_; rintro e w3 ⟨v3, rfl, r3, n3, hb3⟩; have hb3w := keep_trans HK.out.2.2.2.2.2.1 hb3; have t3 := new_ntidy r3 (by have := HF.out.1 i; omega); obtain ⟨a3, c3, rfl, _⟩ := r3.opens (HF.out.1 i); have cu3 := keep_cell cu hb3w; have cf3 := (HK.out.1.below hb3w).frozen i; have hS3 := And.intro (keep_cell ca hb3w) (keep_cell cb hb3w); have hS4 : (w3.setCell ⟨w.heap.size + 1, i, none⟩ (.slice a3 32 c3)).cell? ⟨w.heap.size + 1, A, none⟩ = some (.slice aa 32 ac) ∧ (w3.setCell ⟨w.heap.size + 1, i, none⟩ (.slice a3 32 c3)).cell? ⟨w.heap.size + 1, B, none⟩ = some (.slice ba 32 bc) := ⟨(HK.out.1.below hb3w).other (by have h1 := HK.out.2.2.2.2.2.2.1; omega) _ _ hS3.1, (HK.out.1.below hb3w).other (by have h1 := HK.out.2.2.2.2.2.2.1; have h2 := HK.out.2.2.2.2.2.2.2; omega) _ _ hS3.2⟩)
          | fail)
        all_goals
          go_wp2
          obtain ⟨hK, hB, hb, hiN, hI, hbd, hA, hBe⟩ := HK.out
          exact ⟨KnL.next hK hB hb hb3w r3 t3 n3 hbd.size hI hiN, by simp [intOf]; omega⟩
end Go.Proofs.YtefndnbaifiboaaGreatDoor

/- Trees of leaves that sign once: the document's Public. -/
namespace Go.Proofs.YtefndnbaifiboaaGreatDoor
open Go.RowKit
set_option linter.unusedVariables false
set_option linter.unusedSimpArgs false

/-- a leaf's key -/
def pkT (k n m : Nat) (id seed : List Nat) (q : Nat) : List Nat := pubH shaL (preL id q) (2 ^ k - 1) (n + m) seed
theorem pkT_len (k n m : Nat) (id seed : List Nat) (q : Nat) : (pkT k n m id seed q).length = 32 := shaL_len _
theorem rpubK {k n m s c : Nat} (hk : Kd k n m s c) (h8 : k ≠ 8) (id seed : List Nat) (q : Nat) (idv sv : Value) (w : World) (hi : Row .u8 256 w idv id) (ti : Tidy idv) (hs : Row .u8 256 w sv seed) (ts : Tidy sv) (hq : q < 4294967296) (hl : id.length = 16) (hsl : seed.length = 32) :
    Calls Tryz.prog 59 #[.int .i64 (k : Int), idv, .int .u32 (q : Int), sv] w fun e w' => ∃ v, e = .returned (.tuple #[v, .int .i64 0]) ∧ Row .u8 256 w' v (pkT k n m id seed q) ∧ New w.heap.size v ∧ Below w.heap.size w w' := by
  cases hk
  · exact rpub_1 id seed q idv sv w hi ti hs ts hq hl hsl
  · exact rpub_2 id seed q idv sv w hi ti hs ts hq hl hsl
  · exact rpub_4 id seed q idv sv w hi ti hs ts hq hl hsl
  · exact absurd rfl h8
/-- the knots of a tree -/
def knT (k n m h : Nat) (id seed : List Nat) : Nat → List Nat := knA (ovL id) (fun i => lfS id i (pkT k n m id seed (i - 2 ^ h))) h
theorem knT_len (k n m h : Nat) (id seed : List Nat) (i : Nat) : (knT k n m h id seed i).length = 32 := knA_32 (fun _ _ _ => shaL_len _) (fun _ => shaL_len _) _ _
theorem pow_le_1024 {h : Nat} (hh : h ≤ 10) : 2 ^ h ≤ 1024 := by
  have := Nat.pow_le_pow_right (n := 2) (by decide) hh
  simpa using this
theorem rknotsK {k n m s c : Nat} (hk : Kd k n m s c) (h8 : k ≠ 8) (h : Nat) (hh : h ≤ 10) (id seed : List Nat) (idv sv : Value) (w : World) (hi : Row .u8 256 w idv id) (ti : Tidy idv) (hs : Row .u8 256 w sv seed) (ts : Tidy sv) (hl : id.length = 16) (hsl : seed.length = 32) :
    Calls Tryz.prog 28 #[.agg #[.int .i64 (h : Int), .int .i64 (k : Int)], idv, sv] w fun e w' => ∃ H, e = .returned (.slice (some ⟨H, 0, none⟩) (2 * 2 ^ h) (2 * 2 ^ h)) ∧ KnS w' H (2 * 2 ^ h) 1 (knT k n m h id seed) ∧ w.heap.size ≤ H ∧ Below w.heap.size w w' := by
  have hp := pow_le_1024 hh
  exact rknots_any h (2 ^ h) (k : Int) id seed idv sv w (pkT k n m id seed) hi ti hs rfl hp hh hl (fun q => pkT_len _ _ _ _ _ q) (fun y q hb hq => rpubK hk h8 id seed q idv sv y (hi.below hb) ti (hs.below hb) ts (by omega) hl hsl)
set_option maxHeartbeats 4000000 in
set_option maxRecDepth 100000 in
theorem rpubT_no (h x : Int) (id seed : List Nat) (idv sv : Value) (w : World) (hi : Row .u8 256 w idv id) (hs : Row .u8 256 w sv seed) (hne : wrgT h x id.length seed.length ≠ 0) :
    Calls Tryz.prog 9 #[.agg #[.int .i64 h, .int .i64 x], idv, sv] w fun e w' => e = .returned (.tuple #[.slice none 0 0, .int .i64 (wrgT h x id.length seed.length)]) ∧ Below w.heap.size w w' := by
  have hw := fun y (hb : Below w.heap.size w y) => rwrongT_any h x id seed idv sv y (hi.below hb) (hs.below hb)
  obtain ⟨ia, ic, rfl, _⟩ := hi.opens rfl
  obtain ⟨sa, sc, rfl, _⟩ := hs.opens rfl
  generalize wrgT h x id.length seed.length = C at *
  have hcb : (C != 0) = true := by simp [hne]
  go_enter Tryz.func9, Tryz.ntmps9
  go_wp2_with (first | (go_at_call 25; refine (hw _ (keep_alloc _ _)).mono ?_; rintro e w1 ⟨rfl, hb1⟩) | fail)
  go_ret2
  exact ⟨rfl, keep_trans (keep_alloc _ _) hb1⟩
end Go.Proofs.YtefndnbaifiboaaGreatDoor

/- Trees of leaves that sign once: the document's Public where it answers, by a plan. -/
namespace Go.Proofs.YtefndnbaifiboaaGreatDoor
open Go.RowKit
set_option linter.unusedVariables false
set_option linter.unusedSimpArgs false

theorem Bx2T.range {W : World} {B : Nat} {v0 v1 : Value} (h : Bx2T W B v0 v1) : W.rangeAt B 0 [v0, v1] := fun j v hv => by
  match j, hv with
  | 0, hv => simp at hv; subst hv; exact h.c0
  | 1, hv => simp at hv; subst hv; exact h.c1
section
variable {P : Program} {ops : Array Oper} {Q : Exit → Act → World → Prop} {K : Act → World → Prop}
/-- a load that stands alone -/
theorem p_loadT {i : Nat} {o : Oper} {a : Act} {w : World} {t : TypeId} {x : Operand} {p : Addr} {v : Value} {d : Option Nat} {td : TypeDesc} (hi : ops[i]? = some o) (hg : o.guard = none) (ho : o.op = .load t x) (hx : a.eval x = .pointer (some p)) (hd : o.dst = d) (hu : P.underlying t = some td) (htd : (match td with | .struct _ | .array _ _ => true | _ => false) = false) (hc : w.cell? p = some v) (h : K (a.put d v) w) : wpOp P ops Q i K a w := by
  have hy : YieldsIf P ops (fun y => y = w) o v a := y_load_plain hg ho hx hu htd (fun y e => by rw [e]; exact hc)
  rcases hy with ⟨_, hr⟩ | ⟨hw, _⟩
  · unfold wpOp
    simp only [hi]
    rw [if_pos (wanted_free hg)]
    left
    unfold Oper.wp
    rw [hr w rfl]
    show K (a.put o.dst _) _
    rw [hd]
    exact h
  · rw [wanted_free hg] at hw; cases hw
theorem p_call3 {i : Nat} {o : Oper} {a : Act} {w : World} {f : FuncId} {x y z : Operand} {ts : Array TypeId} {u v t : Value} {d : Option Nat} (hi : ops[i]? = some o) (hg : o.guard = none) (ho : o.op = .call { callee := .value (.func f), args := #[x, y, z], argTypes := ts }) (hx : a.eval x = u) (hy : a.eval y = v) (hz : a.eval z = t) (hd : o.dst = d)
    (hf : ∀ (args : Array Value) (w : World), (callFunc f args).run P w = .ok (.enter f args) w) (h : Calls P f #[u, v, t] w fun e w' => ∃ v, e = .returned v ∧ K (a.put d v) w') : wpOp P ops Q i K a w := p_callD hi hg ho (by simp only [List.map_toArray, List.map_cons, List.map_nil, hx, hy, hz]) hd hf h
theorem p_build3 {i : Nat} {o : Oper} {a : Act} {w : World} {t e : TypeId} {x y z : Operand} {ax ay az : Option Addr} {nx cx ny cy nz cz : Nat} {d : Option Nat} {q : TypeInfo} (hi : ops[i]? = some o) (hg : o.guard = none) (ho : o.op = .buildSlice t 3 #[(0, x), (1, y), (2, z)]) (hx : a.eval x = .slice ax nx cx) (hy : a.eval y = .slice ay ny cy) (hz : a.eval z = .slice az nz cz) (hd : o.dst = d)
    (hu : P.underlying t = some (.slice e)) (hq : P.info? e = some q) (hs : q.size = 1) (hz0 : q.zero = some (.slice none 0 0)) (h : K (a.put d (.slice (some ⟨w.heap.size, 0, none⟩) 3 3)) (w.alloc (.cells #[.slice ax nx cx, .slice ay ny cy, .slice az nz cz] e))) : wpOp P ops Q i K a w := by
  have hr : (execOp a.eval o).run P w = .ok (.value (.slice (some ⟨w.heap.size, 0, none⟩) 3 3)) (w.alloc (.cells #[.slice ax nx cx, .slice ay ny cy, .slice az nz cz] e)) := by
    unfold execOp
    simp only [ho, List.map_toArray, List.map_cons, List.map_nil, hx, hy, hz]
    simp [Sem.run_bind, run_underlying hu, sizeOf, typeInfo, zeroValue, hq, hs, hz0, go_sem]
  unfold wpOp
  simp only [hi]
  rw [if_pos (wanted_free hg)]
  left
  unfold Oper.wp
  rw [hr]
  show K (a.put o.dst _) _
  rw [hd]
  exact h
end
def tplt : List Lt := [(0, some 16, [3]), (1, some 17, [16]), (0, some 18, [1]), (0, some 19, [3]), (0, some 20, [1]), (0, some 21, [2]), (58, some 22, [19, 20, 21]), (64, some 23, [22]), (128, some 24, [23]), (262, some 25, [17, 18, 24]), (576, some 26, [25]), (2047, some 6, [26]), (4095, some 7, [])]
theorem tpreg : Reg (opsA (cLA (cRA (cRA (cRA (Tryz.f9.body.getD .skip)))))) tplt := ⟨by kernel_rfl, by kernel_rfl⟩
set_option maxHeartbeats 4000000 in
set_option maxRecDepth 100000 in
theorem rpubT_ok {k n m s c : Nat} (hk : Kd k n m s c) (h8 : k ≠ 8) (h : Nat) (hh : h ≤ 10) (h0 : 1 ≤ h) (id seed : List Nat) (idv sv : Value) (w : World) (hi : Row .u8 256 w idv id) (ti : Tidy idv) (hs : Row .u8 256 w sv seed) (ts : Tidy sv) (hne : wrgT (h : Int) (k : Int) id.length seed.length = 0) (hl : id.length = 16) (hsl : seed.length = 32) :
    Calls Tryz.prog 9 #[.agg #[.int .i64 (h : Int), .int .i64 (k : Int)], idv, sv] w fun e w' => ∃ v, e = .returned (.tuple #[v, .int .i64 0]) ∧ Row .u8 256 w' v ((be4 (lmCode h) ++ be4 c) ++ (id ++ knT k n m h id seed 1)) ∧ New w.heap.size v ∧ Tidy v ∧ Below w.heap.size w w' := by
  have hw := fun y (hb : Below w.heap.size w y) => rwrongT_any (h : Int) (k : Int) id seed idv sv y (hi.below hb) (hs.below hb)
  rw [hne] at hw
  have bN := Bx2T.new w (.int .i64 (h : Int)) (.int .i64 (k : Int))
  have hhd := fun y => rhead_any (h : Int) y hk
  have hkn := fun y (hb : Below w.heap.size w y) => rknotsK hk h8 h hh id seed idv sv y (hi.below hb) ti (hs.below hb) ts hl hsl
  have hp1 : 1 < 2 * 2 ^ h := by have := Nat.two_pow_pos h; omega
  have hfl := knT_len k n m h id seed 1
  have hhl : (be4 (lmCode h) ++ be4 c).length = 8 := by rw [List.length_append, be4_len, be4_len]
  obtain ⟨ia, ic, rfl, _⟩ := hi.opens hl
  obtain ⟨sa, sc, rfl, _⟩ := hs.opens hsl
  generalize knT k n m h id seed = f at *
  generalize be4 (lmCode h) ++ be4 c = hd at *
  have hfe : [hd, id, f 1].flatten = hd ++ (id ++ f 1) := by simp
  have hj := fun y lv (r : Rows2 y lv [hd, id, f 1]) => rjoin_any lv _ y r (by rw [hfe]; simp only [List.length_append]; omega)
  rw [hfe] at hj
  obtain ⟨N, hN⟩ : ∃ N, N = 2 * 2 ^ h := ⟨_, rfl⟩
  rw [← hN] at hkn hp1
  have lN : (1 : Int) < (N : Int) := by omega
  clear hN hne hfe
  have HI := hide (And.intro hi hp1)
  clear hi hp1 hs
  go_enter Tryz.func9, Tryz.ntmps9
  go_wp2_with (first
    | (go_at_call 25; refine (hw _ (keep_alloc _ _)).mono ?_; rintro e w1 ⟨rfl, hb1'⟩; have b1 := bN.below hb1'; have hb1 := keep_trans (keep_alloc w (.cells #[.int .i64 (h : Int), .int .i64 (k : Int)] 23)) hb1')
    | fail)
  obtain ⟨i0, hi0, hz0, hz1, hz2⟩ := info_text
  have hbd : Below w1.heap.size w1 w1.drew := (Below.refl _ _).drew
  have hS0 := (b1.below hbd).range
  have hb1d := keep_trans hb1 hbd
  refine at_begin (ops := opsA (cLA (cRA (cRA (cRA (Tryz.f9.body.getD .skip)))))) (n := 13) (fun y => y.rangeAt w.heap.size 0 [.int .i64 (h : Int), .int .i64 (k : Int)]) (by kernel_rfl) (by kernel_rfl) ?_
  refine at_takeD (i := 0) (m' := 1) (d := some 16) (v := .agg #[.int .i64 (h : Int), .int .i64 (k : Int)]) tpreg rfl (by decide) rfl rfl (y_load_row (cs := [.int .i64 (h : Int), .int .i64 (k : Int)]) rfl rfl rfl Tryz.underlying23 rfl (by kernel_rfl) (fun _ h => h)) hS0 ?_
  simp only [Act.put, List.setIfInBounds_toArray, List.set_cons_zero, List.set_cons_succ]
  refine at_takeD (i := 2) (m' := 5) (d := some 18) (v := .slice ia 16 ic) tpreg rfl (by decide) rfl rfl (y_move rfl rfl rfl) hS0 ?_
  simp only [Act.put, List.setIfInBounds_toArray, List.set_cons_zero, List.set_cons_succ]
  refine at_takeD (i := 3) (m' := 13) (d := some 19) (v := .agg #[.int .i64 (h : Int), .int .i64 (k : Int)]) tpreg rfl (by decide) rfl rfl (y_load_row (cs := [.int .i64 (h : Int), .int .i64 (k : Int)]) rfl rfl rfl Tryz.underlying23 rfl (by kernel_rfl) (fun _ h => h)) hS0 ?_
  simp only [Act.put, List.setIfInBounds_toArray, List.set_cons_zero, List.set_cons_succ]
  refine at_takeD (i := 4) (m' := 29) (d := some 20) (v := .slice ia 16 ic) tpreg rfl (by decide) rfl rfl (y_move rfl rfl rfl) hS0 ?_
  simp only [Act.put, List.setIfInBounds_toArray, List.set_cons_zero, List.set_cons_succ]
  refine at_takeD (i := 5) (m' := 61) (d := some 21) (v := .slice sa 32 sc) tpreg rfl (by decide) rfl rfl (y_move rfl rfl rfl) hS0 ?_
  simp only [Act.put, List.setIfInBounds_toArray, List.set_cons_zero, List.set_cons_succ]
  refine at_one (i := 1) (m' := 63) tpreg (by decide) rfl ?_
  refine p_call1 (u := .agg #[.int .i64 (h : Int), .int .i64 (k : Int)]) (d := some 17) rfl rfl rfl rfl rfl Tryz.call27 ((hhd _).mono ?_)
  rintro e w2 ⟨v2, rfl, r2, n2, t2, hb2⟩
  obtain ⟨a2, c2, rfl, _⟩ := r2.opens hhl
  have hb12 := keep_trans hb1d hb2
  have b2 := (b1.below hbd).below hb2
  refine ⟨_, rfl, b2.range, ?_⟩
  simp only [Act.put, List.setIfInBounds_toArray, List.set_cons_zero, List.set_cons_succ]
  refine at_one (i := 6) (m' := 127) tpreg (by decide) rfl ?_
  refine p_call3 (u := .agg #[.int .i64 (h : Int), .int .i64 (k : Int)]) (v := .slice ia 16 ic) (t := .slice sa 32 sc) (d := some 22) rfl rfl rfl rfl rfl rfl rfl Tryz.call28 ((hkn _ hb12).mono ?_)
  rintro e w3 ⟨H, rfl, k3, hH, hb3⟩
  obtain ⟨u3, c3, r3, t3⟩ := k3.cell (Nat.le_refl 1) HI.out.2
  obtain ⟨a3, c3', rfl, _⟩ := r3.opens hfl
  have hb13 := keep_trans hb12 hb3
  have b3 := b2.below hb3
  refine ⟨_, rfl, b3.range, ?_⟩
  simp only [Act.put, List.setIfInBounds_toArray, List.set_cons_zero, List.set_cons_succ]
  refine at_takeD (i := 7) (m' := 255) (d := some 23) (v := .pointer (some ⟨H, 1, none⟩)) tpreg rfl (by decide) rfl rfl (y_index_slice (i := 1) rfl rfl rfl rfl Tryz.underlying46 (by kernel_rfl) HI.out.2) b3.range ?_
  simp only [Act.put, List.setIfInBounds_toArray, List.set_cons_zero, List.set_cons_succ]
  refine at_one (i := 8) (m' := 511) tpreg (by decide) rfl ?_
  refine p_loadT (d := some 24) (v := .slice a3 32 c3') rfl rfl rfl rfl rfl Tryz.underlying24 rfl c3 ⟨b3.range, ?_⟩
  simp only [Act.put, List.setIfInBounds_toArray, List.set_cons_zero, List.set_cons_succ]
  have hb34 := keep_alloc w3 (.cells #[.slice a2 8 c2, .slice ia 16 ic, .slice a3 32 c3'] 24)
  have b4 := b3.below hb34
  refine at_one (i := 9) (m' := 1023) tpreg (by decide) rfl ?_
  refine p_build3 (d := some 25) rfl rfl rfl rfl rfl rfl rfl Tryz.underlying46 hi0 hz1 hz0 ⟨b4.range, ?_⟩
  simp only [Act.put, List.setIfInBounds_toArray, List.set_cons_zero, List.set_cons_succ]
  have hT := hj _ _ (rows_litL (B := w3.heap.size) (k := 3) (texts_cons (r2.below hb3) t2 (texts_cons (HI.out.1.below hb13) ti (texts_cons r3 t3 (Texts.nil _)))) rfl rfl (by decide))
  refine at_one (i := 10) (m' := 2047) tpreg (by decide) rfl ?_
  refine p_call1 (u := .slice (some ⟨w3.heap.size, 0, none⟩) 3 3) (d := some 26) rfl rfl rfl rfl rfl Tryz.call26 (hT.mono ?_)
  rintro e w4 ⟨v4, rfl, o4, hb4⟩
  have b5 := b4.below hb4
  refine ⟨_, rfl, b5.range, ?_⟩
  simp only [Act.put, List.setIfInBounds_toArray, List.set_cons_zero, List.set_cons_succ]
  refine at_takeD (i := 11) (m' := 4095) (d := some 6) (v := v4) tpreg rfl (by decide) rfl rfl (y_assignA rfl rfl rfl) b5.range ?_
  simp only [Act.put, List.setIfInBounds_toArray, List.set_cons_zero, List.set_cons_succ]
  refine at_takeD (i := 12) (m' := 8191) (d := some 7) (v := .int .i64 0) tpreg rfl (by decide) rfl rfl (y_assignA rfl rfl rfl) b5.range ?_
  simp only [Act.put, List.setIfInBounds_toArray, List.set_cons_zero, List.set_cons_succ]
  refine at_done tpreg (by decide) ?_
  go_wp2
  go_ret2
  have hb14 := keep_trans hb13 hb34
  exact ⟨_, rfl, o4.row, (o4.mono hb14.size).new, o4.tidy, keep_trans hb14 hb4⟩
end Go.Proofs.YtefndnbaifiboaaGreatDoor
