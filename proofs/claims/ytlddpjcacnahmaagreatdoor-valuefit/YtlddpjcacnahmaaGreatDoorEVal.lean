/- Contract of utf8.Valid. -/
import Derived.Test.YtlddpjcacnahmaaGreatDoorEVrg
import Derived.Deep.LoopGhost
import Derived.Deep.DeepMust
import Derived.Deep.DeepBigQuietO
import Derived.Deep.CutBlock
import Derived.Deep.DeepCutAuto
namespace Go.Proofs.YtlddpjcacnahmaaGreatDoor
open Go.RowKit
set_option linter.unusedVariables false

/-- the library's two tables hold what its text lays in them -/
def UTabs (w : World) : Prop :=
  (∀ c, c < 256 → w.cell? ⟨1, c, none⟩ = some (.int .u8 (Lib.firstT c))) ∧ (∀ i, i < 16 → w.cell? ⟨2, 2 * i, none⟩ = some (.int .u8 (Lib.accLo i)) ∧ w.cell? ⟨2, 2 * i + 1, none⟩ = some (.int .u8 (Lib.accHi i)))
theorem UTabs.below {w w' : World} (h : UTabs w) (hb : Below w.heap.size w w') : UTabs w' := by
  refine ⟨fun c hc => ?_, fun i hi => ⟨?_, ?_⟩⟩
  · rw [hb.cell (World.block_lt_of_cell? w _ (h.1 c hc))]; exact h.1 c hc
  · rw [hb.cell (World.block_lt_of_cell? w _ (h.2 i hi).1)]; exact (h.2 i hi).1
  · rw [hb.cell (World.block_lt_of_cell? w _ (h.2 i hi).2)]; exact (h.2 i hi).2
theorem below_drewNv {B : Nat} {a w : World} (h : Below B a w) : ∀ q, Below B a (w.drewN q)
  | 0 => h
  | q + 1 => (below_drewNv h q).drew
set_option maxRecDepth 100000 in
theorem and7 : ∀ X : Fin 256, bits .and .u8 ((X.val : Nat) : Int) 7 = ((X.val % 8 : Nat) : Int) := by decide
theorem firstT_lt (c : Nat) : Lib.firstT c < 256 := by unfold Lib.firstT; (repeat' split) <;> omega

theorem Row.len {k : IntKind} {m : Nat} {w : World} {a : Option Addr} {n c : Nat} {t : List Nat} (h : Row k m w (.slice a n c) t) : t.length = n := by
  obtain ⟨a', cap', he, _⟩ := h
  simp at he
  exact he.2.1.symm
theorem Row.at {k : IntKind} {m : Nat} {w : World} {a : Option Addr} {n c : Nat} {t : List Nat} (h : Row k m w (.slice a n c) t) (hn : 0 < n) : ∃ b off, a = some ⟨b, off, none⟩ ∧ ∀ i, i < n → w.cell? ⟨b, off + i, none⟩ = some (.int k (el t i)) := by
  have hl := h.len
  obtain ⟨a', cap', he, _, _, h3, _⟩ := h
  simp at he
  obtain ⟨rfl, _, rfl⟩ := he
  unfold Cells at h3
  rw [hl] at h3
  exact h3 hn
theorem Row.tail {w : World} {b o n : Nat} {t : List Nat} {k : Nat} (h : Row .u8 256 w (.slice (some ⟨b, o, none⟩) n n) t) (hk : k ≤ n) :
    Row .u8 256 w (.slice (some ⟨b, o + k, none⟩) (n - k) (n - k)) (t.drop k) := by
  have hl := h.len
  subst hl
  obtain ⟨a, cap, he, h1, h2, h3, h4⟩ := h
  simp at he
  obtain ⟨rfl, rfl⟩ := he
  refine ⟨_, t.length - k, by rw [List.length_drop], by rw [List.length_drop]; exact Nat.le_refl _, by omega, fun hp => ?_, fun x hx => h4 x (List.mem_of_mem_drop hx)⟩
  rw [List.length_drop] at hp
  obtain ⟨b', o', e, hc⟩ := h3 (by omega)
  simp at e
  obtain ⟨rfl, rfl⟩ := e
  refine ⟨_, _, rfl, fun i hi => ?_⟩
  rw [List.length_drop] at hi
  rw [Nat.add_assoc, el_drop]
  exact hc (k + i) (by omega)
theorem Row.tail' {w : World} {b o n k : Nat} {t : List Nat} (h : Row .u8 256 w (.slice (some ⟨b, o, none⟩) (n + k) (n + k)) t) :
    Row .u8 256 w (.slice (some ⟨b, o + k, none⟩) n n) (t.drop k) := by
  have := Row.tail (k := k) h (by omega)
  rwa [show n + k - k = n by omega] at this
theorem Row.tail0 {w : World} {b o k : Nat} {t : List Nat} (h : Row .u8 256 w (.slice (some ⟨b, o, none⟩) k k) t) :
    Row .u8 256 w (.slice (some ⟨b, o, none⟩) 0 0) (t.drop k) := by
  have hl := h.len
  have e : t.drop k = [] := List.drop_eq_nil_of_le (by omega)
  rw [e]
  exact ⟨_, 0, rfl, Nat.le_refl _, Nat.zero_le _, fun hp => by simp at hp, fun x hx => by simp at hx⟩
theorem word_at {w0 w : World} {v : Value} {t : List Nat} (h : Row .u8 256 w0 v t) (hb : Below w0.heap.size w0 w) (h8 : 8 ≤ t.length) (q : Nat) :
    Calls Tryz.prog 164 #[v] (w.drewN q) fun e w' => e = .returned (.int .u64 (wd t : Nat)) ∧ ∃ m, w' = (w.drewN q).drewN m := word_any v t _ ((h.below hb).drewN q) h8

theorem Below.cells' {w w' : World} (h : Below w.heap.size w w') {a : Addr} {v : Value} (hc : w.cell? a = some v) : w'.cell? a = some v := by
  rw [h.cell (World.block_lt_of_cell? w _ hc)]; exact hc
theorem box2_0 (w : World) (x y : Value) (t : TypeId) : (w.alloc (.cells #[x, y] t)).cell? ⟨w.heap.size, 0, none⟩ = some x := by
  rw [World.cell?_alloc_at _ _ _ _ rfl]; rfl
theorem box2_1 (w : World) (x y : Value) (t : TypeId) : (w.alloc (.cells #[x, y] t)).cell? ⟨w.heap.size, 1, none⟩ = some y := by
  rw [World.cell?_alloc_at _ _ _ _ rfl]; rfl
set_option maxHeartbeats 16000000 in
set_option maxRecDepth 1000000 in
theorem valid_any (v : Value) (l : List Nat) (w : World) (h : Row .u8 256 w v l) (hT : UTabs w) (hl : l.length ≤ 1000000) :
    Calls Tryz.prog 159 #[v] w fun e w' => e = .returned (.bool (utfB l)) ∧ Below w.heap.size w w' := by
  obtain ⟨a0, cap0, rfl, g1, g2, g3, g4⟩ := h
  unfold maxLen at g2
  have hrow : Row .u8 256 w (.slice a0 l.length l.length) l := ⟨a0, l.length, rfl, Nat.le_refl _, by unfold maxLen; omega, g3, g4⟩
  obtain ⟨ANS, hANS⟩ : ∃ ANS, utfB l = ANS := ⟨_, rfl⟩
  rw [hANS]
  clear g3 g4
  generalize l.length = N at *
  go_enter Tryz.func159, Tryz.ntmps159
  go_wp2_with fail
  go_loopg [0] (N + 1) (fun gk s0 wx => Below w.heap.size w wx ∧ ∃ (t : List Nat) (a : Option Addr) (n : Nat), s0 = .slice a n n ∧ Row .u8 256 w (.slice a n n) t ∧ utfB t = ANS ∧ n < gk ∧ n ≤ 1000000)
  case atStart => exact ⟨Below.refl _ _, l, a0, N, rfl, hrow, hANS, by omega, hl⟩
  case round =>
    obtain ⟨hbw, t, a, n, rfl, hrt, hv, hg, hts⟩ := hrel
    clear hANS hrow
    have hTr := hT.below hbw
    have hu := hrt.under
    have hlen := hide hrt.len
    by_cases h0 : 0 < n
    · obtain ⟨g', rfl⟩ : ∃ g', gk = g' + 1 := ⟨gk - 1, by omega⟩
      obtain ⟨bl, off, rfl, hc⟩ := (hrt.below hbw).at h0
      have c0 : wr.cell? ⟨bl, off, none⟩ = some (.int .u8 (el t 0)) := hc 0 h0
      have hx0 := el_lt hu (by decide) 0
      by_cases hasc : el t 0 < 128
      · obtain ⟨n1, rfl⟩ : ∃ n1, n = n1 + 1 := ⟨n - 1, by omega⟩
        have hascz : (el t 0 : Int) < 128 := by omega
        have v1 : utfB (t.drop 1) = ANS := by rw [utfB_one (by have := hlen.out; omega) hasc]; exact hv
        clear hTr hv hc
        generalize el t 0 = x0 at c0 hx0 hasc hascz
        by_cases h1 : n1 = 0
        · subst h1
          have r1 := Row.tail0 hrt
          clear hrt
          go_wp2_with fail
          go_roundg g'
          case measure => omega
          case rel => exact ⟨hbw, t.drop 1, _, 0, rfl, r1, v1, by omega, by omega⟩
        · have r1 := Row.tail' hrt
          have h1' : 0 < n1 := by omega
          clear hrt
          generalize ht1 : t.drop 1 = t1 at v1 r1
          clear ht1 hlen hu
          by_cases c8 : 8 < n1
          · have c8z : (8 : Int) < (n1 : Int) := by omega
            obtain ⟨n2, rfl⟩ : ∃ n2, n1 = n2 + 8 := ⟨n1 - 8, by omega⟩
            have h2' : 0 < n2 := by omega
            have h2e : ¬ n2 = 0 := by omega
            have u1 := r1.under
            have cW1 := word_at r1 hbw (by have := r1.len; omega) 0
            have lA1 := wd_lt u1
            have kA1 := wd_asc u1
            obtain ⟨A1, hA1⟩ : ∃ A1, wd t1 = A1 := ⟨_, rfl⟩
            rw [hA1] at lA1 kA1 cW1
            have hand1 : bits .and .u64 (A1 : Int) 9259542123273814144 = ((A1 &&& 9259542123273814144 : Nat) : Int) := u64_and_nat A1 9259542123273814144 lA1 (by omega)
            obtain ⟨Z1, hZ1⟩ : ∃ Z1, A1 &&& 9259542123273814144 = Z1 := ⟨_, rfl⟩
            rw [hZ1] at hand1 kA1
            clear hA1 hZ1
            by_cases hz1 : Z1 = 0
            · have hz1b : ((Z1 : Int) == 0) = true := by simp [hz1]
              have v2 : utfB (t1.drop 8) = ANS := by rw [utfB_asc 8 t1 (by have := r1.len; omega) (kA1 hz1)]; exact v1
              have r2 := Row.tail' r1
              clear kA1 v1 hz1
              go_wp2_with (go_at_call 164; refine cW1.mono ?_; rintro e W1 ⟨rfl, q1, rfl⟩)
              have hb1 : Below w.heap.size w (wr.drewN q1) := below_drewNv hbw q1
              generalize wr.drewN q1 = wq at hb1 ⊢
              clear cW1 hbw r1
              generalize ht2 : t1.drop 8 = t2 at v2 r2
              clear ht2
              by_cases c16 : 16 < n2
              · have c16z : (16 : Int) < (n2 : Int) := by omega
                have s8z : (8 : Int) ≤ (n2 : Int) := by omega
                have s8n : 8 ≤ n2 := by omega
                have s16z : (16 : Int) ≤ (n2 : Int) := by omega
                have n8e : ¬ n2 = 8 := by omega
                have n8f : ¬ 8 = n2 := by omega
                have n16e : ¬ n2 = 16 := by omega
                have n16f : ¬ 16 = n2 := by omega
                have r2b := Row.tail (k := 8) r2 (by omega)
                have u2 := r2.under
                have u2b := r2b.under
                have cW2 := word_at r2 hb1 (by have := r2.len; omega)
                have cW3 := word_at r2b hb1 (by have := r2b.len; omega)
                have lA2 := wd_lt u2
                have lA3 := wd_lt u2b
                have kA2 := wd_asc u2
                have kA3 := wd_asc u2b
                obtain ⟨A2, hA2⟩ : ∃ A2, wd t2 = A2 := ⟨_, rfl⟩
                obtain ⟨A3, hA3⟩ : ∃ A3, wd (t2.drop 8) = A3 := ⟨_, rfl⟩
                rw [hA2] at lA2 kA2 cW2
                rw [hA3] at lA3 kA3 cW3
                have hor2 : bits .or .u64 (A2 : Int) (A3 : Int) = ((A2 ||| A3 : Nat) : Int) := u64_or_nat A2 A3 lA2 lA3
                have lor2 : A2 ||| A3 < 18446744073709551616 := Nat.or_lt_two_pow (n := 64) lA2 lA3
                have hand2 : bits .and .u64 ((A2 ||| A3 : Nat) : Int) 9259542123273814144 = (((A2 ||| A3) &&& 9259542123273814144 : Nat) : Int) := u64_and_nat _ 9259542123273814144 lor2 (by omega)
                have k2 : (A2 ||| A3) &&& 9259542123273814144 = 0 → AscN t2 16 := fun h0' => by
                  obtain ⟨e1, e2⟩ := (Lib.or_mask A2 A3 _).1 h0'
                  exact AscN.add (j := 8) (k := 8) (kA2 e1) (kA3 e2)
                obtain ⟨O2, hO2⟩ : ∃ O2, A2 ||| A3 = O2 := ⟨_, rfl⟩
                rw [hO2] at hor2 hand2 k2
                obtain ⟨Z2, hZ2⟩ : ∃ Z2, O2 &&& 9259542123273814144 = Z2 := ⟨_, rfl⟩
                rw [hZ2] at hand2 k2
                clear kA2 kA3 lor2 hO2 hZ2 hA2 hA3 r2b u2 u2b
                refine reg_8 c16 (by omega) cW2 cW3 hor2 hand2 ?_
                intro v34 v35 v36 v37 v38 v39 v40 v41 v42 v43 v44 v45 nq
                by_cases hz2 : Z2 = 0
                · have hz2b : ((Z2 : Int) == 0) = true := by simp [hz2]
                  have v3 : utfB (t2.drop 16) = ANS := by rw [utfB_asc 16 t2 (by have := r2.len; omega) (k2 hz2)]; exact v2
                  have r3 := Row.tail (k := 16) r2 (by omega)
                  clear k2 v2 hz2 r2
                  generalize ht3 : t2.drop 16 = t3 at v3 r3
                  clear ht3
                  have hb2 : Below w.heap.size w (wq.drewN nq) := below_drewNv hb1 nq
                  generalize wq.drewN nq = wq2 at hb2 ⊢
                  clear cW2 cW3 hb1
                  go_wp2_with fail
                  obtain ⟨n3, hn3⟩ : ∃ n3, n2 - 16 = n3 := ⟨_, rfl⟩
                  have hn3' : n3 < g' := by omega
                  have hn3'' : n3 ≤ 1000000 := by omega
                  rw [hn3] at r3 ⊢
                  clear hn3
                  go_loopg [0] (n3 + 1) (fun g2 s0 wx => Below w.heap.size w wx ∧ ∃ (u : List Nat) (bu ou m : Nat), s0 = .slice (some ⟨bu, ou, none⟩) m m ∧ Row .u8 256 w (.slice (some ⟨bu, ou, none⟩) m m) u ∧ utfB u = ANS ∧ m < g2 ∧ m ≤ n3)
                  case atStart => exact ⟨hb2, t3, _, _, _, rfl, r3, v3, by omega, Nat.le_refl _⟩
                  case round =>
                    obtain ⟨hbu, u, bu, ou, m, rfl, ru, vu, hgu, hut⟩ := hrel
                    by_cases c32 : 32 < m
                    · obtain ⟨g3, rfl⟩ : ∃ g3, gk = g3 + 1 := ⟨gk - 1, by omega⟩
                      have c32z : (32 : Int) < (m : Int) := by omega
                      have s8u : (8 : Int) ≤ (m : Int) := by omega
                      have s16u : (16 : Int) ≤ (m : Int) := by omega
                      have s24u : (24 : Int) ≤ (m : Int) := by omega
                      have s32u : (32 : Int) ≤ (m : Int) := by omega
                      have s8n' : 8 ≤ m := by omega
                      have s16n' : 16 ≤ m := by omega
                      have s24n' : 24 ≤ m := by omega
                      have s32n' : 32 ≤ m := by omega
                      have m8e : ¬ m = 8 := by omega
                      have m16e : ¬ m = 16 := by omega
                      have m24e : ¬ m = 24 := by omega
                      have m32e : ¬ m = 32 := by omega
                      have m8f : ¬ 8 = m := by omega
                      have m16f : ¬ 16 = m := by omega
                      have m24f : ¬ 24 = m := by omega
                      have m32f : ¬ 32 = m := by omega
                      have rb := Row.tail (k := 8) ru (by omega)
                      have rc := Row.tail (k := 16) ru (by omega)
                      have rd := Row.tail (k := 24) ru (by omega)
                      have u0 := ru.under
                      have u1 := rb.under
                      have u2 := rc.under
                      have u3 := rd.under
                      have cB0 := word_at ru hbu (by have := ru.len; omega)
                      have cB1 := word_at rb hbu (by have := rb.len; omega)
                      have cB2 := word_at rc hbu (by have := rc.len; omega)
                      have cB3 := word_at rd hbu (by have := rd.len; omega)
                      have lB0 := wd_lt u0
                      have lB1 := wd_lt u1
                      have lB2 := wd_lt u2
                      have lB3 := wd_lt u3
                      have kB0 := wd_asc u0
                      have kB1 := wd_asc u1
                      have kB2 := wd_asc u2
                      have kB3 := wd_asc u3
                      clear u0 u1 u2 u3 rb rc rd
                      generalize wd u = B0 at lB0 kB0 cB0
                      generalize wd (u.drop 8) = B1 at lB1 kB1 cB1
                      generalize wd (u.drop 16) = B2 at lB2 kB2 cB2
                      generalize wd (u.drop 24) = B3 at lB3 kB3 cB3
                      have ho1 : bits .or .u64 (B0 : Int) (B1 : Int) = ((B0 ||| B1 : Nat) : Int) := u64_or_nat B0 B1 lB0 lB1
                      have ho2 : bits .or .u64 (B2 : Int) (B3 : Int) = ((B2 ||| B3 : Nat) : Int) := u64_or_nat B2 B3 lB2 lB3
                      have lo1 : B0 ||| B1 < 18446744073709551616 := Nat.or_lt_two_pow (n := 64) lB0 lB1
                      have lo2 : B2 ||| B3 < 18446744073709551616 := Nat.or_lt_two_pow (n := 64) lB2 lB3
                      have ho3 : bits .or .u64 ((B0 ||| B1 : Nat) : Int) ((B2 ||| B3 : Nat) : Int) = (((B0 ||| B1) ||| (B2 ||| B3) : Nat) : Int) := u64_or_nat _ _ lo1 lo2
                      have lo3 : (B0 ||| B1) ||| (B2 ||| B3) < 18446744073709551616 := Nat.or_lt_two_pow (n := 64) lo1 lo2
                      have hand3 : bits .and .u64 (((B0 ||| B1) ||| (B2 ||| B3) : Nat) : Int) 9259542123273814144 = ((((B0 ||| B1) ||| (B2 ||| B3)) &&& 9259542123273814144 : Nat) : Int) := u64_and_nat _ 9259542123273814144 lo3 (by omega)
                      have k3 : ((B0 ||| B1) ||| (B2 ||| B3)) &&& 9259542123273814144 = 0 → AscN u 32 := fun h0' => by
                        obtain ⟨e01, e23⟩ := (Lib.or_mask _ _ _).1 h0'
                        obtain ⟨e0, e1⟩ := (Lib.or_mask _ _ _).1 e01
                        obtain ⟨e2, e3⟩ := (Lib.or_mask _ _ _).1 e23
                        have s16 : AscN u 16 := AscN.add (j := 8) (k := 8) (kB0 e0) (kB1 e1)
                        have s24 : AscN u 24 := AscN.add (j := 16) (k := 8) s16 (kB2 e2)
                        exact AscN.add (j := 24) (k := 8) s24 (kB3 e3)
                      obtain ⟨P1, hP1⟩ : ∃ P1, B0 ||| B1 = P1 := ⟨_, rfl⟩
                      obtain ⟨P2, hP2⟩ : ∃ P2, B2 ||| B3 = P2 := ⟨_, rfl⟩
                      rw [hP1, hP2] at ho3 hand3 k3
                      rw [hP1] at ho1
                      rw [hP2] at ho2
                      obtain ⟨P3, hP3⟩ : ∃ P3, P1 ||| P2 = P3 := ⟨_, rfl⟩
                      rw [hP3] at ho3 hand3 k3
                      obtain ⟨Z3, hZ3⟩ : ∃ Z3, P3 &&& 9259542123273814144 = Z3 := ⟨_, rfl⟩
                      rw [hZ3] at hand3 k3
                      clear kB0 kB1 kB2 kB3 lo1 lo2 lo3 hP1 hP2 hP3 hZ3
                      go_upto_region 10 with fail
                      refine reg_10 c32 (by omega) cB0 cB1 cB2 cB3 ho1 ho2 ho3 hand3 ?_
                      intro v49 v50 v51 v52 v53 v54 v55 v56 v57 v58 v59 v60 v61 v62 v63 v64 v65 v66 v67 v68 nq
                      by_cases hz3 : Z3 = 0
                      · have hz3b : ((Z3 : Int) == 0) = true := by simp [hz3]
                        have vu2 : utfB (u.drop 32) = ANS := by rw [utfB_asc 32 u (by have := ru.len; omega) (k3 hz3)]; exact vu
                        have ru2 := Row.tail (k := 32) ru (by omega)
                        clear k3 hz3
                        go_wp2_with fail
                        go_roundg g3
                        case measure => omega
                        case rel => exact ⟨below_drewNv hbu nq, u.drop 32, _, _, _, rfl, ru2, vu2, by omega, by omega⟩
                      · have hz3b : ((Z3 : Int) == 0) = false := by simp; omega
                        clear k3
                        go_wp2_with fail
                        go_roundg g'
                        case measure => omega
                        case rel => exact ⟨below_drewNv hbu nq, u, _, _, rfl, ru, vu, by omega, by omega⟩
                    · have c32z : ¬ ((32 : Int) < (m : Int)) := by omega
                      have c32b : decide ((32 : Int) < (m : Int)) = false := decide_eq_false c32z
                      have c32d : decide (32 < m) = false := decide_eq_false c32
                      go_wp2_with fail
                      go_big_quiet (fail)
                      go_wp2_with fail
                      go_roundg g'
                      case measure => omega
                      case rel => exact ⟨below_drewNv hbu nq, u, _, _, rfl, ru, vu, by omega, by omega⟩
                · have hz2b : ((Z2 : Int) == 0) = false := by simp; omega
                  go_wp2
                  go_roundg g'
                  case measure => omega
                  case rel => exact ⟨below_drewNv hb1 nq, t2, _, _, rfl, r2, v2, by omega, by omega⟩
              · have c16z : ¬ ((16 : Int) < (n2 : Int)) := by omega
                have c16b : decide ((16 : Int) < (n2 : Int)) = false := decide_eq_false c16z
                have c16d : decide (16 < n2) = false := decide_eq_false c16
                go_big_quiet (fail)
                go_wp2
                go_roundg g'
                case measure => omega
                case rel => exact ⟨below_drewNv hb1 nq, t2, _, _, rfl, r2, v2, by omega, by omega⟩
            · have hz1b : ((Z1 : Int) == 0) = false := by simp; omega
              go_wp2_with (go_at_call 164; refine cW1.mono ?_; rintro e W1 ⟨rfl, q1, rfl⟩)
              go_roundg g'
              case measure => omega
              case rel => exact ⟨below_drewNv hbw q1, t1, _, _, rfl, r1, v1, by omega, by omega⟩
          · have c8z : ¬ ((8 : Int) < (n1 : Int)) := by omega
            go_wp2_with fail
            go_roundg g'
            case measure => omega
            case rel => exact ⟨hbw, t1, _, _, rfl, r1, v1, by omega, by omega⟩
      · have hge : 128 ≤ el t 0 := by omega
        have hascz : ¬ ((el t 0 : Int) < 128) := by omega
        have HLEN := hlen
        have l1 := el_lt hu (by decide) 1
        have l2 := el_lt hu (by decide) 2
        have l3 := el_lt hu (by decide) 3
        have hc1 : 1 < n → wr.cell? ⟨bl, off + 1, none⟩ = some (.int .u8 (el t 1)) := hc 1
        have hc2 : 2 < n → wr.cell? ⟨bl, off + 2, none⟩ = some (.int .u8 (el t 2)) := hc 2
        have hc3 : 3 < n → wr.cell? ⟨bl, off + 3, none⟩ = some (.int .u8 (el t 3)) := hc 3
        have hf0 := hTr.1 (el t 0) hx0
        have hXlt := firstT_lt (el t 0)
        obtain ⟨X, hX'⟩ : ∃ X, Lib.firstT (el t 0) = X := ⟨_, rfl⟩
        rw [hX'] at hf0 hXlt
        have h7 := and7 ⟨X, hXlt⟩
        simp only at h7
        have hL0 : wr.cell? ⟨2, X / 16 * 2, none⟩ = some (.int .u8 (Lib.accLo (X / 16))) := by rw [Nat.mul_comm]; exact (hTr.2 (X / 16) (by omega)).1
        have hL1 : wr.cell? ⟨2, X / 16 * 2 + 1, none⟩ = some (.int .u8 (Lib.accHi (X / 16))) := by rw [Nat.mul_comm]; exact (hTr.2 (X / 16) (by omega)).2
        obtain ⟨LO, hLO⟩ : ∃ LO, Lib.accLo (X / 16) = LO := ⟨_, rfl⟩
        obtain ⟨HI, hHI⟩ : ∃ HI, Lib.accHi (X / 16) = HI := ⟨_, rfl⟩
        rw [hLO] at hL0
        rw [hHI] at hL1
        clear hTr hT hc
        by_cases s2 : X % 8 = 2
        · have hSZz : (X : Int) % 8 = 2 := by omega
          have hS2 : (((X : Int) % 8) == 2) = true := by simp; omega
          have hS3 : (((X : Int) % 8) == 3) = false := by simp; omega
          have hS4 : (((X : Int) % 8) == 4) = false := by simp; omega
          have hlead := lead_2 (b := t) (by omega) (by rw [hX']; exact s2)
          rw [hX', HLEN.out, hLO, hHI] at hlead
          have ha0 := hL0
          generalize el t 1 = x1 at hlead hc1 l1
          go_upto_region 18 with fail
          refine reg_2 (LO := LO) (HI := HI) h0 (box2_0 _ _ _ _) (box2_1 _ _ _ _) (fun h => Below.cells' (keep_alloc wr _) (hc1 h)) l1 ?_
          intro v85 v86 v87 v88 v89 v90 v91 v92 v93 v94 v95 v96 v97 v98 v99 v100 v101 v102 nq
          have hbc : Below w.heap.size w ((wr.alloc (.cells #[.int .u8 LO, .int .u8 HI] 182)).drewN nq) := below_drewNv (hbw.alloc hbw.size _) nq
          generalize (wr.alloc (.cells #[.int .u8 LO, .int .u8 HI] 182)).drewN nq = wz at hbc ⊢
          by_cases hb : n < 2 ∨ x1 < LO ∨ HI < x1
          · have hbd : decide (n < 2 ∨ x1 < LO ∨ HI < x1) = true := decide_eq_true hb
            rw [if_pos hb] at hlead
            have HA : Hid (ANS = false) := hide (by rw [← hv, utfB_bad (by have := HLEN.out; omega) hlead])
            go_wp2
            all_goals (go_ret; exact ⟨by rw [HA.out]; rfl, hbc⟩)
          · have hbd : decide (n < 2 ∨ x1 < LO ∨ HI < x1) = false := decide_eq_false hb
            rw [if_neg hb] at hlead
            have v2 : utfB (t.drop 2) = ANS := by rw [utfB_step (by have := HLEN.out; omega) (by decide) hlead]; exact hv
            by_cases hnz : n = 2
            · subst hnz
              have r2 := Row.tail0 hrt
              go_wp2
              go_roundg g'
              case measure => omega
              case rel => exact ⟨hbc, t.drop 2, _, 0, rfl, r2, v2, by omega, by omega⟩
            · have hnf : ¬ 2 = n := fun e => hnz e.symm
              have hle : (2 : Int) ≤ (n : Int) := by omega
              have hle' : 2 ≤ n := by omega
              have r2 := Row.tail (k := 2) hrt (by omega)
              go_wp2
              go_roundg g'
              case measure => omega
              case rel => exact ⟨hbc, t.drop 2, _, _, rfl, r2, v2, by omega, by omega⟩
        by_cases s3 : X % 8 = 3
        · have hSZz : (X : Int) % 8 = 3 := by omega
          have hS2 : (((X : Int) % 8) == 2) = false := by simp; omega
          have hS3 : (((X : Int) % 8) == 3) = true := by simp; omega
          have hS4 : (((X : Int) % 8) == 4) = false := by simp; omega
          have hlead := lead_3 hu (b := t) (by omega) (by rw [hX']; exact s3)
          rw [hX', HLEN.out, hLO, hHI] at hlead
          have ha0 := hL0
          generalize el t 1 = x1 at hlead hc1 l1
          generalize el t 2 = x2 at hlead hc2 l2
          go_upto_region 22 with fail
          refine reg_3 (LO := LO) (HI := HI) h0 (box2_0 _ _ _ _) (box2_1 _ _ _ _) (fun h => Below.cells' (keep_alloc wr _) (hc1 h)) l1 (fun h => Below.cells' (keep_alloc wr _) (hc2 h)) l2 ?_
          intro v108 v109 v110 v111 v112 v113 v114 v115 v116 v117 v118 v119 v120 v121 v122 v123 v124 v125 v126 v127 v128 v129 v130 v131 v132 v133 v134 v135 v136 v137 nq
          have hbc : Below w.heap.size w ((wr.alloc (.cells #[.int .u8 LO, .int .u8 HI] 182)).drewN nq) := below_drewNv (hbw.alloc hbw.size _) nq
          generalize (wr.alloc (.cells #[.int .u8 LO, .int .u8 HI] 182)).drewN nq = wz at hbc ⊢
          by_cases hb : n < 3 ∨ x1 < LO ∨ HI < x1 ∨ x2 < 128 ∨ 191 < x2
          · have hbd : decide (n < 3 ∨ x1 < LO ∨ HI < x1 ∨ x2 < 128 ∨ 191 < x2) = true := decide_eq_true hb
            rw [if_pos hb] at hlead
            have HA : Hid (ANS = false) := hide (by rw [← hv, utfB_bad (by have := HLEN.out; omega) hlead])
            go_wp2
            all_goals (go_ret; exact ⟨by rw [HA.out]; rfl, hbc⟩)
          · have hbd : decide (n < 3 ∨ x1 < LO ∨ HI < x1 ∨ x2 < 128 ∨ 191 < x2) = false := decide_eq_false hb
            rw [if_neg hb] at hlead
            have v2 : utfB (t.drop 3) = ANS := by rw [utfB_step (by have := HLEN.out; omega) (by decide) hlead]; exact hv
            by_cases hnz : n = 3
            · subst hnz
              have r2 := Row.tail0 hrt
              go_wp2
              go_roundg g'
              case measure => omega
              case rel => exact ⟨hbc, t.drop 3, _, 0, rfl, r2, v2, by omega, by omega⟩
            · have hnf : ¬ 3 = n := fun e => hnz e.symm
              have hle : (3 : Int) ≤ (n : Int) := by omega
              have hle' : 3 ≤ n := by omega
              have r2 := Row.tail (k := 3) hrt (by omega)
              go_wp2
              go_roundg g'
              case measure => omega
              case rel => exact ⟨hbc, t.drop 3, _, _, rfl, r2, v2, by omega, by omega⟩
        by_cases s4 : X % 8 = 4
        · have hSZz : (X : Int) % 8 = 4 := by omega
          have hS2 : (((X : Int) % 8) == 2) = false := by simp; omega
          have hS3 : (((X : Int) % 8) == 3) = false := by simp; omega
          have hS4 : (((X : Int) % 8) == 4) = true := by simp; omega
          have hlead := lead_4 hu (b := t) (by omega) (by rw [hX']; exact s4)
          rw [hX', HLEN.out, hLO, hHI] at hlead
          have ha0 := hL0
          generalize el t 1 = x1 at hlead hc1 l1
          generalize el t 2 = x2 at hlead hc2 l2
          generalize el t 3 = x3 at hlead hc3 l3
          go_upto_region 26 with fail
          refine reg_4 (LO := LO) (HI := HI) h0 (box2_0 _ _ _ _) (box2_1 _ _ _ _) (fun h => Below.cells' (keep_alloc wr _) (hc1 h)) l1 (fun h => Below.cells' (keep_alloc wr _) (hc2 h)) l2 (fun h => Below.cells' (keep_alloc wr _) (hc3 h)) l3 ?_
          intro v143 v144 v145 v146 v147 v148 v149 v150 v151 v152 v153 v154 v155 v156 v157 v158 v159 v160 v161 v162 v163 v164 v165 v166 v167 v168 v169 v170 v171 v172 v173 v174 v175 v176 v177 v178 v179 v180 v181 v182 v183 v184 nq
          have hbc : Below w.heap.size w ((wr.alloc (.cells #[.int .u8 LO, .int .u8 HI] 182)).drewN nq) := below_drewNv (hbw.alloc hbw.size _) nq
          generalize (wr.alloc (.cells #[.int .u8 LO, .int .u8 HI] 182)).drewN nq = wz at hbc ⊢
          by_cases hb : n < 4 ∨ x1 < LO ∨ HI < x1 ∨ x2 < 128 ∨ 191 < x2 ∨ x3 < 128 ∨ 191 < x3
          · have hbd : decide (n < 4 ∨ x1 < LO ∨ HI < x1 ∨ x2 < 128 ∨ 191 < x2 ∨ x3 < 128 ∨ 191 < x3) = true := decide_eq_true hb
            rw [if_pos hb] at hlead
            have HA : Hid (ANS = false) := hide (by rw [← hv, utfB_bad (by have := HLEN.out; omega) hlead])
            go_wp2
            all_goals (go_ret; exact ⟨by rw [HA.out]; rfl, hbc⟩)
          · have hbd : decide (n < 4 ∨ x1 < LO ∨ HI < x1 ∨ x2 < 128 ∨ 191 < x2 ∨ x3 < 128 ∨ 191 < x3) = false := decide_eq_false hb
            rw [if_neg hb] at hlead
            have v2 : utfB (t.drop 4) = ANS := by rw [utfB_step (by have := HLEN.out; omega) (by decide) hlead]; exact hv
            by_cases hnz : n = 4
            · subst hnz
              have r2 := Row.tail0 hrt
              go_wp2
              go_roundg g'
              case measure => omega
              case rel => exact ⟨hbc, t.drop 4, _, 0, rfl, r2, v2, by omega, by omega⟩
            · have hnf : ¬ 4 = n := fun e => hnz e.symm
              have hle : (4 : Int) ≤ (n : Int) := by omega
              have hle' : 4 ≤ n := by omega
              have r2 := Row.tail (k := 4) hrt (by omega)
              go_wp2
              go_roundg g'
              case measure => omega
              case rel => exact ⟨hbc, t.drop 4, _, _, rfl, r2, v2, by omega, by omega⟩
        have hlead := lead_no hu hge (by rw [hX']; exact s2) (by rw [hX']; exact s3) (by rw [hX']; exact s4)
        have HA : Hid (ANS = false) := hide (by rw [← hv, utfB_bad (by have := HLEN.out; omega) hlead])
        have e2b : (((X : Int) % 8) == 2) = false := by simp; omega
        have e3b : (((X : Int) % 8) == 3) = false := by simp; omega
        have e4b : (((X : Int) % 8) == 4) = false := by simp; omega
        clear hLO hHI hX' hlead
        generalize el t 0 = x0 at c0 hx0 hascz hf0
        go_wp2_with fail
        all_goals (go_ret; exact ⟨by rw [HA.out]; rfl, hbw.alloc hbw.size _⟩)
    · have h0z : ¬ ((0 : Int) < (n : Int)) := by omega
      have ht0 : t = [] := List.eq_nil_of_length_eq_zero (by have := hlen.out; omega)
      rw [ht0, utfB_nil] at hv
      subst hv
      go_wp2_with fail
      go_ret
      exact ⟨rfl, hbw⟩
end Go.Proofs.YtlddpjcacnahmaaGreatDoor
