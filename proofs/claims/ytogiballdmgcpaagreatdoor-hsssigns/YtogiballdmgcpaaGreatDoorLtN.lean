/- Trees of leaves that sign once: the document's knots. -/
import Derived.Test.YtogiballdmgcpaaGreatDoorLtR2
import Derived.Test.YtogiballdmgcpaaGreatDoorHN1
import Derived.Test.YtogiballdmgcpaaGreatDoorLsFrm
import Derived.Deep.AppendLies
namespace Go.Proofs.YtogiballdmgcpaaGreatDoor
open Go.RowKit
set_option linter.unusedVariables false
set_option linter.unusedSimpArgs false

/-- from place i on, texts lie in block H of N places -/
def KnS (wr : World) (H N i : Nat) (f : Nat → List Nat) : Prop := ∃ us : Array Value, us.size = N ∧ wr.heap[H]? = some (.cells us 23 (0, 0)) ∧ ∀ j, i ≤ j → j < N → ∃ u, us[j]? = some u ∧ Row .u8 256 wr u (f j) ∧ Tidy u ∧ ∀ q, u.ownBlock = some q → H < q
theorem KnS.lt {wr : World} {H N i : Nat} {f : Nat → List Nat} (h : KnS wr H N i f) : H < wr.heap.size := by
  obtain ⟨us, _, h1, _⟩ := h
  exact (Array.getElem?_eq_some_iff.1 h1).1
theorem KnS.below {wr w' : World} {H N i : Nat} {f : Nat → List Nat} (h : KnS wr H N i f) (hb : Below wr.heap.size wr w') : KnS w' H N i f := by
  have hl := h.lt
  obtain ⟨us, h1, h2, h3⟩ := h
  refine ⟨us, h1, (hb.block _ hl).trans h2, fun j k1 k2 => ?_⟩
  obtain ⟨u, e1, e2, e3, e4⟩ := h3 j k1 k2
  exact ⟨u, e1, e2.below hb, e3, e4⟩
theorem KnS.frozen {wr : World} {H N i : Nat} {f : Nat → List Nat} (h : KnS wr H N i f) (j : Nat) : wr.frozen? ⟨H, j, none⟩ = false := by
  obtain ⟨us, _, h1, _⟩ := h
  simp [World.frozen?, h1]
theorem KnS.any {wr : World} {H N i : Nat} {f : Nat → List Nat} (h : KnS wr H N i f) {j : Nat} (hj : j < N) : ∃ u, wr.cell? ⟨H, j, none⟩ = some u := by
  obtain ⟨us, h0, h1, _⟩ := h
  refine ⟨us[j]'(by omega), ?_⟩
  rw [cell_of_row wr H j _ _ (0, 0) h1]
  exact Array.getElem?_eq_getElem (by omega)
theorem KnS.cell {wr : World} {H N i : Nat} {f : Nat → List Nat} (h : KnS wr H N i f) {j : Nat} (k1 : i ≤ j) (k2 : j < N) : ∃ u, wr.cell? ⟨H, j, none⟩ = some u ∧ Row .u8 256 wr u (f j) ∧ Tidy u := by
  obtain ⟨us, h0, h1, h2⟩ := h
  obtain ⟨u, e1, e2, e3, _⟩ := h2 j k1 k2
  exact ⟨u, by rw [cell_of_row wr H j _ _ (0, 0) h1]; exact e1, e2, e3⟩
theorem KnS.cell2 {wr : World} {H N i : Nat} {f : Nat → List Nat} (h : KnS wr H N i f) {j : Nat} (k1 : i ≤ j) (k2 : j < N) : ∃ u, wr.cell? ⟨H, j, none⟩ = some u ∧ Row .u8 256 wr u (f j) ∧ Tidy u ∧ ∀ q, u.ownBlock = some q → H < q := by
  obtain ⟨us, h0, h1, h2⟩ := h
  obtain ⟨u, e1, e2, e3, e4⟩ := h2 j k1 k2
  exact ⟨u, by rw [cell_of_row wr H j _ _ (0, 0) h1]; exact e1, e2, e3, e4⟩
theorem KnS.store {wr : World} {H N i : Nat} {f : Nat → List Nat} {v : Value} (h : KnS wr H N (i + 1) f) (hi : i < N) (hv : Row .u8 256 wr v (f i)) (tv : Tidy v) (hn : ∀ q, v.ownBlock = some q → H < q) : KnS (wr.setCell ⟨H, i, none⟩ v) H N i f := by
  obtain ⟨us, h0, h1, h2⟩ := h
  have hB : But H wr (wr.setCell ⟨H, i, none⟩ v) := (But.refl H wr).setCell i v
  have rw' : ∀ {u : Value} {l : List Nat}, Row .u8 256 wr u l → (∀ q, u.ownBlock = some q → q ≠ H) → Row .u8 256 (wr.setCell ⟨H, i, none⟩ v) u l := fun {u l} hu hq => by
    obtain ⟨a, cap, rfl, k1, k2, k3, k4⟩ := hu
    refine ⟨a, cap, rfl, k1, k2, fun hl => ?_, k4⟩
    obtain ⟨b, off, rfl, hc⟩ := k3 hl
    exact ⟨b, off, rfl, fun j hj => But.cell (hc j hj) hB (hq b (by simp [Value.ownBlock]))⟩
  refine ⟨us.setIfInBounds i v, by simp [h0], ?_, fun j k1 k2 => ?_⟩
  · rw [setCell_eq_setRow wr H i _ 23 (0, 0) _ h1]
    exact setRow_heap wr H _ _ 23 _ h1
  · by_cases e : j = i
    · subst e
      exact ⟨v, by rw [Array.getElem?_setIfInBounds_self_of_lt (by omega)], rw' hv (fun q hq => by have := hn q hq; omega), tv, hn⟩
    · obtain ⟨u, e1, e2, e3, e4⟩ := h2 j (by omega) k2
      exact ⟨u, by rw [Array.getElem?_setIfInBounds_ne (fun x => e x.symm)]; exact e1, rw' e2 (fun q hq => by have := e4 q hq; omega), e3, e4⟩
theorem KnS.other {wr : World} {H N i : Nat} {f : Nat → List Nat} (h : KnS wr H N i f) {k j : Nat} (hn : j ≠ k) (v u : Value) (hc : wr.cell? ⟨H, j, none⟩ = some u) : (wr.setCell ⟨H, k, none⟩ v).cell? ⟨H, j, none⟩ = some u := by
  obtain ⟨us, h0, h1, _⟩ := h
  have e1 : (wr.setCell ⟨H, k, none⟩ v).heap[H]? = some (.cells (us.setIfInBounds k v) 23 (0, 0)) := by
    rw [setCell_eq_setRow wr H k _ 23 (0, 0) _ h1]
    exact setRow_heap wr H _ _ 23 _ h1
  rw [cell_of_row wr H j _ _ (0, 0) h1] at hc
  rw [cell_of_row _ H j _ _ (0, 0) e1, Array.getElem?_setIfInBounds_ne (fun x => hn x.symm)]
  exact hc
theorem KnS.made {w : World} {base g n : Nat} {xs : List Value} (f : Nat → List Nat) (h : w.ownsRow base 23 1 (.slice (some ⟨g, 0, none⟩) n n) n xs) : KnS w g n n f := by
  obtain ⟨_, ⟨h1, _⟩ | ⟨g', cap, cur, h1, _, h3, _, _, h4, h5⟩⟩ := h
  · cases h1
  · simp only [Value.slice.injEq, Option.some.injEq, Addr.mk.injEq] at h1
    obtain ⟨⟨rfl, _⟩, rfl⟩ : (g = g' ∧ True) ∧ n = cap := ⟨⟨h1.1.1, trivial⟩, h1.2.2⟩
    exact ⟨cur, by omega, h3, fun j k1 k2 => by omega⟩
/-- where the loop stands -/
def KnL (w : World) (H N : Nat) (h x : Int) (f : Nat → List Nat) (vi : Value) (wr : World) : Prop := ∃ i : Nat, i < N ∧ vi = .int .i64 (i : Int) ∧ KnS wr H N (i + 1) f ∧ Bx2T wr w.heap.size (.int .i64 h) (.int .i64 x) ∧ Below w.heap.size w wr
theorem KnL.next {w wr w3 : World} {N i I : Nat} {h x : Int} {f : Nat → List Nat} {v : Value} {B : Nat} (hK : KnS wr (w.heap.size + 1) N (i + 1) f) (hB : Bx2T wr w.heap.size (.int .i64 h) (.int .i64 x)) (hb : Below w.heap.size w wr) (hb3 : Below wr.heap.size wr w3) (r3 : Row .u8 256 w3 v (f i)) (t3 : Tidy v) (n3 : New B v) (hw : wr.heap.size ≤ B) (hI : I + 1 = i) (hi : i < N) :
    KnL w (w.heap.size + 1) N h x f (.int .i64 (I : Int)) (w3.setCell ⟨w.heap.size + 1, i, none⟩ v) := by
  have hl := hK.lt
  have hBt : But (w.heap.size + 1) w3 (w3.setCell ⟨w.heap.size + 1, i, none⟩ v) := (But.refl _ w3).setCell i v
  have hb03 := hb.trans (hb3.mono hb.size)
  refine ⟨I, by omega, rfl, by rw [hI]; exact (hK.below hb3).store hi r3 t3 (fun q hq => by have := n3 q hq; omega), ⟨(hBt.block _ (by have := (hB.below hb3).lt; exact this) (by omega)).trans (hB.below hb3).here⟩, hb03.trans (hBt.below (by omega) hb03.size)⟩
set_option maxHeartbeats 8000000 in
set_option maxRecDepth 100000 in
theorem rknots_any (h M : Nat) (x : Int) (id seed : List Nat) (idv sv : Value) (w : World) (pk : Nat → List Nat) (hi : Row .u8 256 w idv id) (ti : Tidy idv) (hs : Row .u8 256 w sv seed)
    (hM : M = 2 ^ h) (h2 : M ≤ 1024) (hh : h ≤ 10) (hil : id.length = 16) (hpl : ∀ q, (pk q).length = 32)
    (hP : ∀ y q, Below w.heap.size w y → q < M → Calls Tryz.prog 78 #[.int .i64 x, idv, .int .u32 (q : Int), sv] y fun e w' => ∃ v, e = .returned (.tuple #[v, .int .i64 0]) ∧ Row .u8 256 w' v (pk q) ∧ New y.heap.size v ∧ Below y.heap.size y w') :
    Calls Tryz.prog 48 #[.agg #[.int .i64 (h : Int), .int .i64 x], idv, sv] w fun e w' => ∃ H, e = .returned (.slice (some ⟨H, 0, none⟩) (2 * M) (2 * M)) ∧ KnS w' H (2 * M) 1 (knA (ovL id) (fun n => lfS id n (pk (n - M))) h) ∧ w.heap.size ≤ H ∧ Below w.heap.size w w' := by
  obtain ⟨ia, ic, rfl, _⟩ := hi.opens hil
  obtain ⟨sa, sc, rfl, _⟩ := hs.opens rfl
  obtain ⟨i0, hi0, hz0, hz1, hz2⟩ := info_text
  have bN := Bx2T.new w (.int .i64 (h : Int)) (.int .i64 x)
  have c0 := bN.c0
  have c1 := bN.c1
  have hMp : 1 ≤ M := by rw [hM]; exact Nat.two_pow_pos h
  have e_M : (2 : Int) ^ h = (M : Int) := by rw [hM]; norm_cast
  obtain ⟨N, hN⟩ : ∃ N : Nat, N = 2 * M := ⟨_, rfl⟩
  rw [← hN]
  have s_M : IntKind.i64.wrap (M : Int) = (M : Int) := by rw [IntKind.wrap_i64]; omega
  have e_N : (2 : Int) * (M : Int) = (N : Int) := by omega
  have s_N : IntKind.i64.wrap (N : Int) = (N : Int) := by rw [IntKind.wrap_i64]; omega
  have hNb : N ≤ 2048 := by omega
  obtain ⟨f, hf⟩ : ∃ f, f = knA (ovL id) (fun n => lfS id n (pk (n - M))) h := ⟨_, rfl⟩
  have hf1 : ∀ i, M ≤ i → i < N → f i = lfS id i (pk (i - M)) := fun i k1 k2 => by
    rw [hf]; exact knA_leaf (by rw [← hM]; exact k1) (by rw [Nat.pow_succ, ← hM]; omega)
  have hf2 : ∀ i, 1 ≤ i → i < M → f i = ovL id i (f (2 * i)) (f (2 * i + 1)) := fun i k1 k2 => by
    rw [hf]; exact knA_ov k1 (by rw [← hM]; exact k2)
  have hfl : ∀ i, (f i).length = 32 := fun i => by
    rw [hf]; exact knA_32 (fun _ _ _ => shaL_len _) (fun _ => shaL_len _) _ _
  rw [← hf]
  have hLf : ∀ y kv i, Below w.heap.size w y → Row .u8 256 y kv (pk (i - M)) → Tidy kv → M ≤ i → i < N → Calls Tryz.prog 70 #[.slice ia 16 ic, .int .u64 (i : Int), kv] y fun e w' => ∃ v, e = .returned v ∧ Row .u8 256 w' v (f i) ∧ New y.heap.size v ∧ Below y.heap.size y w' := fun y kv i hb rk tk k1 k2 => by
    rw [hf1 i k1 k2]; exact rleaf_any id _ i _ kv y (hi.below hb) ti rk tk (by omega) (by rw [hil, hpl]; decide)
  have hOv : ∀ y av bv i, Below w.heap.size w y → Row .u8 256 y av (f (2 * i)) → Tidy av → Row .u8 256 y bv (f (2 * i + 1)) → Tidy bv → 1 ≤ i → i < M → Calls Tryz.prog 71 #[.slice ia 16 ic, .int .u64 (i : Int), av, bv] y fun e w' => ∃ v, e = .returned v ∧ Row .u8 256 w' v (f i) ∧ New y.heap.size v ∧ Below y.heap.size y w' := fun y av bv i hb ra ta rb tb k1 k2 => by
    rw [hf2 i k1 k2]; exact rover_any id _ _ i _ av bv y (hi.below hb) ti ra ta rb tb (by omega) (by rw [hil, hfl, hfl]; decide)
  obtain ⟨L, hL⟩ : ∃ L : Nat, L + 1 = N := ⟨N - 1, by omega⟩
  have e_L : (N : Int) - 1 = (L : Int) := by omega
  have s_L : IntKind.i64.wrap (L : Int) = (L : Int) := by rw [IntKind.wrap_i64]; omega
  have HM := hide (And.intro hM (And.intro hN (And.intro hL hMp)))
  have HF := hide (And.intro hfl (And.intro hLf (And.intro hOv hpl)))
  have HP := hide hP
  clear hM hN hL hf hf1 hf2 hfl hLf hOv hP hpl hMp hs hi
  go_enter Tryz.func48, Tryz.ntmps48
  go_wp2_with (first | (at_make; refine wpList_make_full _ rfl _ _ 48 rfl (w.alloc (.cells #[.int .i64 (h : Int), .int .i64 x] 45)).heap.size 23 i0 (.slice none 0 0) 1 Tryz.underlying48 hi0 hz0 hz1 _ _ _ _ N rfl rfl rfl rfl (by rw [hz2]; omega) (by unfold maxLen; omega) (Nat.le_refl _) ?_; intro w1 hown hgrow) | fail)
  have hb1 := keep_alloc w (.cells #[.int .i64 (h : Int), .int .i64 x] 45)
  have hbg := (Below.refl (w.alloc (.cells #[.int .i64 (h : Int), .int .i64 x] 45)).heap.size (w.alloc (.cells #[.int .i64 (h : Int), .int .i64 x] 45))).grown hgrow (Nat.le_refl _) (fun k h => by cases h)
  have hk1 := KnS.made f hown
  have h0 : KnL w (w.alloc (.cells #[.int .i64 (h : Int), .int .i64 x] 45)).heap.size N (h : Int) x f (.int .i64 (L : Int)) w1 := ⟨L, by have := HM.out.2.2.1; omega, rfl, by rw [HM.out.2.2.1]; exact hk1, bN.below hbg, keep_trans hb1 hbg⟩
  have hHs : (w.alloc (.cells #[.int .i64 (h : Int), .int .i64 x] 45)).heap.size = w.heap.size + 1 := by rw [World.size_alloc]
  rw [hHs] at h0
  generalize (w.alloc (.cells #[.int .i64 (h : Int), .int .i64 x] 45)).heap.size = H at *
  subst hHs
  have H0 := hide h0
  clear h0 hk1 hbg hb1 hown hgrow bN c0 c1
  go_loopw [9] (fun vi wr => KnL w (w.heap.size + 1) N (h : Int) x f vi wr) (fun vi _ => (intOf vi).toNat)
  case atStart => exact H0.out
  case round =>
    obtain ⟨i, hiN, rfl, hK, hB, hb⟩ := hrel
    clear H0
    rename World => wr
    by_cases hz : i = 0
    · subst hz
      have HK := hide (And.intro hK hb)
      clear hK hb hB
      go_wp2
      go_ret
      exact ⟨_, rfl, HK.out.1, by omega, HK.out.2⟩
    · have h1i : (1 : Int) ≤ (i : Int) := by omega
      have hni : ¬ (i : Int) < 1 := by omega
      have c1 := hB.c1
      have li : (i : Int) < (N : Int) := by omega
      have z_i : (0 : Int) ≤ (i : Int) := Int.natCast_nonneg _
      have u_i : IntKind.u64.wrap (i : Int) = (i : Int) := by rw [IntKind.wrap_u64]; omega
      obtain ⟨I, hI⟩ : ∃ I : Nat, I + 1 = i := ⟨i - 1, by omega⟩
      have e_I : (i : Int) - 1 = (I : Int) := by omega
      have s_I : IntKind.i64.wrap (I : Int) = (I : Int) := by rw [IntKind.wrap_i64]; omega
      obtain ⟨u3, cu⟩ := hK.any hiN
      have cf := hK.frozen i
      by_cases hge : M ≤ i
      · have hgi : (M : Int) ≤ (i : Int) := by omega
        obtain ⟨Q, hQ⟩ : ∃ Q : Nat, Q = i - M := ⟨_, rfl⟩
        have e_Q : (i : Int) - (M : Int) = (Q : Int) := by omega
        have s_Q : IntKind.i64.wrap (Q : Int) = (Q : Int) := by rw [IntKind.wrap_i64]; omega
        have u_Q : IntKind.u32.wrap (Q : Int) = (Q : Int) := by rw [IntKind.wrap_u32]; omega
        have hPu := HP.out wr Q hb (by have := HM.out.2.1; omega)
        have HK := hide (And.intro hK (And.intro hB (And.intro hb (And.intro hiN (And.intro hge (And.intro hQ hI))))))
        clear hK hB hb hiN hge hQ hI hz
        go_wp2_with (first
          | (go_at_call 78; refine hPu.mono ?_; rintro e w2 ⟨v2, rfl, r2, n2, hb2⟩; have t2 := new_ntidy r2 (by have := HF.out.2.2.2 Q; omega); obtain ⟨a2, c2, rfl, _⟩ := r2.opens (HF.out.2.2.2 Q); have hL2 := HF.out.2.1 w2 _ i (HK.out.2.2.1.trans (hb2.mono HK.out.2.2.1.size)) (by rw [← HK.out.2.2.2.2.2.1]; exact r2) t2 HK.out.2.2.2.2.1 HK.out.2.2.2.1)
          | (go_at_call 70; refine hL2.mono ?_; rintro e w3 ⟨v3, rfl, r3, n3, hb3⟩; have t3 := new_ntidy r3 (by have := HF.out.1 i; omega); obtain ⟨a3, c3, rfl, _⟩ := r3.opens (HF.out.1 i); have hb23 := keep_trans hb2 hb3; have cu3 := keep_cell cu hb23; have cf3 := (HK.out.1.below hb23).frozen i)
          | fail)
        obtain ⟨hK, hB, hb, hiN, hge, hQ, hI⟩ := HK.out
        exact ⟨KnL.next hK hB hb hb23 r3 t3 n3 hb2.size hI hiN, by simp [intOf]; omega⟩
      · have hgi : ¬ (M : Int) ≤ (i : Int) := by omega
        obtain ⟨A, hA⟩ : ∃ A : Nat, A = 2 * i := ⟨_, rfl⟩
        have e_A : (2 : Int) * (i : Int) = (A : Int) := by omega
        have s_A : IntKind.i64.wrap (A : Int) = (A : Int) := by rw [IntKind.wrap_i64]; omega
        obtain ⟨B, hBe⟩ : ∃ B : Nat, B = A + 1 := ⟨_, rfl⟩
        have e_B : (A : Int) + 1 = (B : Int) := by omega
        have s_B : IntKind.i64.wrap (B : Int) = (B : Int) := by rw [IntKind.wrap_i64]; omega
        have lA : (A : Int) < (N : Int) := by have := HM.out.2.1; omega
        have lB : (B : Int) < (N : Int) := by have := HM.out.2.1; omega
        have z_A : (0 : Int) ≤ (A : Int) := Int.natCast_nonneg _
        have z_B : (0 : Int) ≤ (B : Int) := Int.natCast_nonneg _
        obtain ⟨ua, ca, ra, ta⟩ := hK.cell (j := A) (by omega) (by omega)
        obtain ⟨ub, cb, rb, tb⟩ := hK.cell (j := B) (by omega) (by omega)
        have hO := fun y (hy : Below wr.heap.size wr y) => HF.out.2.2.1 y ua ub i (hb.trans (hy.mono hb.size)) (by rw [← hA]; exact ra.below hy) ta (by rw [← hA, ← hBe]; exact rb.below hy) tb (by omega) (by omega)
        obtain ⟨aa, ac, rfl, _⟩ := ra.opens (HF.out.1 A)
        obtain ⟨ba, bc, rfl, _⟩ := rb.opens (HF.out.1 B)
        have hbd : Below wr.heap.size wr wr.drew := (Below.refl _ _).drew
        have hS0 : wr.drew.cell? ⟨w.heap.size + 1, A, none⟩ = some (.slice aa 32 ac) ∧ wr.drew.cell? ⟨w.heap.size + 1, B, none⟩ = some (.slice ba 32 bc) := ⟨ca, cb⟩
        have HK := hide (And.intro hK (And.intro hB (And.intro hb (And.intro hiN (And.intro hI (And.intro hbd (And.intro hA hBe)))))))
        clear hK hB hb hiN hge hA hBe hI hz ra rb ta tb hbd
        go_wp2
        go_region_held3 (fun y => y.cell? ⟨w.heap.size + 1, A, none⟩ = some (.slice aa 32 ac) ∧ y.cell? ⟨w.heap.size + 1, B, none⟩ = some (.slice ba 32 bc)) (first | exact hS0 | exact hS3 | exact hS4) (first
          | (go_at_call 71; refine (hO _ HK.out.2.2.2.2.2.1).mono ?_; rintro e w3 ⟨v3, rfl, r3, n3, hb3⟩; have hb3w := keep_trans HK.out.2.2.2.2.2.1 hb3; have t3 := new_ntidy r3 (by have := HF.out.1 i; omega); obtain ⟨a3, c3, rfl, _⟩ := r3.opens (HF.out.1 i); have cu3 := keep_cell cu hb3w; have cf3 := (HK.out.1.below hb3w).frozen i; have hS3 := And.intro (keep_cell ca hb3w) (keep_cell cb hb3w); have hS4 : (w3.setCell ⟨w.heap.size + 1, i, none⟩ (.slice a3 32 c3)).cell? ⟨w.heap.size + 1, A, none⟩ = some (.slice aa 32 ac) ∧ (w3.setCell ⟨w.heap.size + 1, i, none⟩ (.slice a3 32 c3)).cell? ⟨w.heap.size + 1, B, none⟩ = some (.slice ba 32 bc) := ⟨(HK.out.1.below hb3w).other (by have h1 := HK.out.2.2.2.2.2.2.1; omega) _ _ hS3.1, (HK.out.1.below hb3w).other (by have h1 := HK.out.2.2.2.2.2.2.1; have h2 := HK.out.2.2.2.2.2.2.2; omega) _ _ hS3.2⟩)
          | fail)
        all_goals
          go_wp2
          obtain ⟨hK, hB, hb, hiN, hI, hbd, hA, hBe⟩ := HK.out
          exact ⟨KnL.next hK hB hb hb3w r3 t3 n3 hbd.size hI hiN, by simp [intOf]; omega⟩
end Go.Proofs.YtogiballdmgcpaaGreatDoor

/- Texts that are laid into a slice of the call's own, which grows. -/
namespace Go.Proofs.YtogiballdmgcpaaGreatDoor
open Go.RowKit
set_option linter.unusedVariables false
set_option linter.unusedSimpArgs false

/-- u lies apart from the slice vo -/
def Apart1 (w : World) (vo u : Value) : Prop := ∀ q, u.ownBlock = some q → q < w.heap.size ∧ vo.ownBlock ≠ some q
/-- vo is a slice of the call's own; the texts in it lie apart from it -/
structure GrT (w : World) (B : Nat) (vo : Value) (ls : List (List Nat)) : Prop where
  ex : ∃ us, w.ownsRow B 23 1 vo ls.length us ∧ Texts w us ls ∧ ∀ u ∈ us, Apart1 w vo u
theorem GrT.nil (w : World) (B : Nat) : GrT w B (.slice none 0 0) [] := ⟨⟨[], World.ownsRow_nil _ _ _ _, Texts.nil _, fun u h => by cases h⟩⟩
theorem GrT.rows {w : World} {B : Nat} {vo : Value} {ls : List (List Nat)} (h : GrT w B vo ls) : Rows2 w vo ls := by
  obtain ⟨us, h1, h2, _⟩ := h.ex
  exact h2.rows2 h1
theorem GrT.below {w w' : World} {B : Nat} {vo : Value} {ls : List (List Nat)} (h : GrT w B vo ls) (hb : Below w.heap.size w w') : GrT w' B vo ls := by
  obtain ⟨us, h1, h2, h3⟩ := h.ex
  refine ⟨⟨us, h1.kept (row := none) ⟨hb.os, hb.tape, hb.output, hb.size, fun k hk _ => hb.block k hk⟩ ?_, h2.below hb, fun u hu q hq => ?_⟩⟩
  · cases hvo : vo.ownBlock with
    | none => exact .inl rfl
    | some q => exact .inr (by simp)
  · obtain ⟨k1, k2⟩ := h3 u hu q hq
    exact ⟨Nat.lt_of_lt_of_le k1 hb.size, k2⟩
theorem GrT.slice {w : World} {B : Nat} {vo : Value} {ls : List (List Nat)} (h : GrT w B vo ls) : ∃ a c, vo = .slice a ls.length c := by
  obtain ⟨us, h1, _, _⟩ := h.ex
  rcases h1.2 with ⟨rfl, h0⟩ | ⟨g, cap, cur, rfl, _⟩
  · exact ⟨none, 0, by rw [h0]⟩
  · exact ⟨_, _, rfl⟩
theorem row_grownT {w w' : World} {row : Option Nat} {u : Value} {l : List Nat} (h : Row .u8 256 w u l) (hg : w.grownBy w' row) (hn : ∀ q, u.ownBlock = some q → some q ≠ row) : Row .u8 256 w' u l := by
  obtain ⟨a, cap, rfl, h1, h2, h3, h4⟩ := h
  refine ⟨a, cap, rfl, h1, h2, fun hl => ?_, h4⟩
  obtain ⟨b, off, rfl, hc⟩ := h3 hl
  refine ⟨b, off, rfl, fun i hi => hg.cell (hc i hi) (hn b (by simp [Value.ownBlock]))⟩
/-- a text more -/
theorem GrT.push {w w' : World} {B g cap : Nat} {vo u : Value} {ls : List (List Nat)} {x : List Nat} {us : List Value} (ht : Texts w us ls) (ha : ∀ u ∈ us, Apart1 w vo u) (hu : Row .u8 256 w u x) (tu : Tidy u) (au : Apart1 w vo u)
    (hown : w'.ownsRow B 23 1 (.slice (some ⟨g, 0, none⟩) (ls.length + 1) cap) (ls.length + 1) (us ++ [u])) (hg : w.grownBy w' vo.ownBlock) (hl : vo.ownBlock = some g ∨ g = w.heap.size) : GrT w' B (.slice (some ⟨g, 0, none⟩) (ls.length + 1) cap) (ls ++ [x]) := by
  have ap : ∀ v, Apart1 w vo v → Apart1 w' (.slice (some ⟨g, 0, none⟩) (ls.length + 1) cap) v := fun v hv q hq => by
    obtain ⟨k1, k2⟩ := hv q hq
    refine ⟨Nat.lt_of_lt_of_le k1 hg.size, fun e => ?_⟩
    have eg : g = q := by simpa [Value.ownBlock] using e
    rcases hl with h | h
    · exact k2 (by rw [h, eg])
    · omega
  refine ⟨⟨us ++ [u], by rw [List.length_append]; exact hown, ?_, fun v hv => ?_⟩⟩
  · have h1 : Texts w' us ls := ⟨ht.1, fun i hi => by
      obtain ⟨v, k1, k2, k3⟩ := ht.2 i hi
      exact ⟨v, k1, row_grownT k2 hg (fun q hq e => (ha v (List.mem_of_getElem? k1) q hq).2 e.symm), k3⟩⟩
    exact h1.append (Texts.one (row_grownT hu hg (fun q hq e => (au q hq).2 e.symm)) tu)
  · rcases List.mem_append.1 hv with h | h
    · exact ap v (ha v h)
    · have : v = u := by simpa using h
      rw [this]
      exact ap u au
theorem apart_new {w w' : World} {B n : Nat} {vo u : Value} {l : List Nat} {us : List Value} (hown : w.ownsRow B 23 1 vo n us) (hu : Row .u8 256 w' u l) (hl : 0 < l.length) (hn : New w.heap.size u) : Apart1 w' vo u := fun q hq =>
  ⟨hu.old hl hq, fun e => by have h1 := (hown.lt q e).2; have h2 := hn q hq; omega⟩
theorem Apart1.below {w w' : World} {vo u : Value} (h : Apart1 w vo u) (hs : w.heap.size ≤ w'.heap.size) : Apart1 w' vo u := fun q hq => ⟨Nat.lt_of_lt_of_le (h q hq).1 hs, (h q hq).2⟩
end Go.Proofs.YtogiballdmgcpaaGreatDoor
