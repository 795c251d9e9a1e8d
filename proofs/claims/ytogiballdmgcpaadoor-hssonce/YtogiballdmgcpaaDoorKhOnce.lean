/- For every key and every two numbers: apostillelaw16.HssOnce returns true, and each argument reads afterwards as it read before; sha's two tables of roots are as the program's text lays them. No other condition. -/
import Derived.Test.YtogiballdmgcpaaDoorHEnd
import Derived.Test.YtogiballdmgcpaaDoorPgF
import Derived.Test.YtogiballdmgcpaaDoorLhD
import Derived.WalkKit
import Derived.ProofKit
import Derived.OpenShut
import Derived.ShutString
import Derived.ChangeOld
import Derived.Below
namespace Go.Proofs.YtogiballdmgcpaaDoor.hssOnce
open Go.ChangeShapes Go.WideShapes Go.ChangeAt Go.RowKit
open Go.ChangeMaps (open_string shut_string)
set_option linter.unusedVariables false

set_option maxRecDepth 100000 in
set_option maxHeartbeats 4000000 in
theorem walk (cs0 : Array Value) (kt0 : Value) (kl0 : List (Int × Int)) (ki0 : Value) (kil0 : List Nat) (ks0 : Value) (ksl0 : List Nat) (a1 : Int) (a2 : Int) (w : World) (w0 : HkIs w cs0 kt0 kl0 ki0 kil0 ks0 ksl0) (w1 : (Lit.int .u64 a1).wf = true) (w2 : (Lit.int .u64 a2).wf = true) (hV : Vars w) :
    Calls Tryd.prog 4 #[.agg cs0, .int .u64 a1, .int .u64 a2] w fun e w' => e = .returned (.bool true) ∧ Below w.heap.size w w' := by
  obtain ⟨rfl, ht, ri, ti, rs, tis⟩ := w0
  have hq1 := wf_u64 a1 w1
  have hq2 := wf_u64 a2 w2
  obtain ⟨n, rfl⟩ : ∃ q : Nat, a1 = (q : Int) := ⟨a1.toNat, by omega⟩
  obtain ⟨m, rfl⟩ : ∃ q : Nat, a2 = (q : Int) := ⟨a2.toNat, by omega⟩
  have hn : n < 18446744073709551616 := by omega
  have hm : m < 18446744073709551616 := by omega
  have hT : Roots w := hV
  have haw := fun y (k : Below w.heap.size w y) => awakeH_any y (hT.below k)
  clear w1 w2 hq1 hq2
  generalize kl0 = kts at *
  generalize kil0 = id at *
  generalize ksl0 = seed at *
  have ri0 := ri
  have rs0 := rs
  obtain ⟨ia, ic, rfl, _⟩ := ri0.opens rfl
  obtain ⟨sa, sc, rfl, _⟩ := rs0.opens rfl
  clear ri0 rs0
  have bT := BxK.new w kt0 (.slice ia id.length ic) (.slice sa seed.length sc)
  have k0 := keep_alloc w (.cells #[kt0, .slice ia id.length ic, .slice sa seed.length sc] 25)
  have hfe := few2H ia sa id.length seed.length ic sc (w.alloc (.cells #[kt0, .slice ia id.length ic, .slice sa seed.length sc] 25))
  rw [World.size_alloc] at hfe
  have hf2 := fun y (k : Below w.heap.size w y) => rfitK_any kts kt0 ia sa id.length ic seed.length sc y (ht.below k)
  have c0 := bT.c0
  have c1 := bT.c1
  have c2 := bT.c2
  by_cases h20 : kts.length > 20
  · have h20i : (kts.length : Int) > 20 := by omega
    have h20j : (20 : Int) < (kts.length : Int) := by omega
    obtain ⟨ta, tc, rfl, _⟩ := ht
    clear hfe hf2 ri rs ti tis hT hn hm
    generalize kts.length = N at *
    go_enter Tryd.func4, Tryd.ntmps4
    go_wp2_with (first
      | (go_at_call 6; refine (haw _ k0).mono ?_; rintro e y2 ⟨rfl, g2⟩)
      | fail)
    go_ret
    exact ⟨rfl, keep_trans k0 g2⟩
  have h20i : ¬ (kts.length : Int) > 20 := by omega
  have h20j : ¬ (20 : Int) < (kts.length : Int) := by omega
  by_cases hf : id.length ≤ 300 ∧ seed.length ≤ 300
  · rw [decide_eq_true hf] at hfe
    by_cases hK : FitK kts id.length seed.length
    · rw [decide_eq_true hK] at hf2
      have hl1 := fun y (k : Below w.heap.size w y) => clvs_any kts kt0 ia sa id.length ic seed.length sc y (ht.below k)
      rw [if_pos hK] at hl1
      have hLp := lvN_pos kts
      have hLl := lvN_lt hK.2.2.2.1
      have hE : vcE kts id.length seed.length (lvN kts) = 13 := by unfold vcE; rw [if_neg (by simpa using hK), if_pos (Nat.le_refl _)]
      have hvg := fun y (k : Below w.heap.size w y) => cvec_no kts kt0 ia sa id.length ic seed.length sc (lvN kts) y (ht.below k) (by rw [hE]; decide) (by omega)
      rw [hE] at hvg
      have hva0 := fun (p : Nat) (hp : p < lvN kts) y (k : Below w.heap.size w y) => cvec_ok kts kt0 _ _ id seed p y (ht.below k) (ri.below k) ti (rs.below k) tis (hT.below k) hK hp
      have hinj := fun (p q : Nat) (hp : p < lvN kts) (hq : q < lvN kts) => vecF_inj hK.2.2.1 hp hq
      have hjoin := fun (i : Nat) (hi : i < kts.length) (p : Nat) => vec_join hK.2.2.1 hi p
      have helb := fun (i : Nat) (hi : i < kts.length) (p : Nat) => vecF_el (ts := kts) (i := i) p hi
      have hpos := fun (i : Nat) (hi : i < kts.length) => (hK.2.2.1 _ (trA_mem (ts := kts) (i := i) hi)).pos
      have hN8 : kts.length ≤ 8 := hK.2.1
      have hvl := fun p => vecF_len kts p
      have hlv0 : ∀ p, p < lvN kts → p / lvN (kts.drop 0) = 0 := fun p hp => by rw [List.drop_zero]; exact Nat.div_eq_of_lt hp
      have hlvN : ∀ p, p / lvN (kts.drop kts.length) = p := fun p => by rw [List.drop_of_length_le (Nat.le_refl _), lvN_nil, Nat.div_one]
      obtain ⟨L, hL⟩ : ∃ L, L = lvN kts := ⟨_, rfl⟩
      rw [← hL] at hl1 hLp hLl hvg hva0 hinj hlv0
      obtain ⟨PA, hPA⟩ : ∃ p, p = n % L := ⟨_, rfl⟩
      obtain ⟨PB, hPB⟩ : ∃ p, p = m % L := ⟨_, rfl⟩
      have hPAl : PA < L := by rw [hPA]; exact Nat.mod_lt _ hLp
      have hPBl : PB < L := by rw [hPB]; exact Nat.mod_lt _ hLp
      have hva := hva0 PA hPAl
      have hvb := hva0 PB hPBl
      obtain ⟨ta, tc, rfl, _, _, tcell⟩ := ht
      obtain ⟨N, hN⟩ : ∃ N, kts.length = N := ⟨_, rfl⟩
      rw [hN] at bT k0 hfe hf2 c0 hl1 hvg hva hvb h20i h20j
      rw [hN]
      have hAl : (vecF kts PA).length = N := (hvl PA).trans hN
      have hBl : (vecF kts PB).length = N := (hvl PB).trans hN
      obtain ⟨A, hA⟩ : ∃ A, A = vecF kts PA := ⟨_, rfl⟩
      obtain ⟨B, hB⟩ : ∃ B, B = vecF kts PB := ⟨_, rfl⟩
      rw [← hA] at hva hAl
      rw [← hB] at hvb hBl
      obtain ⟨SB, hSB0⟩ : ∃ b, b = decide (PA = PB) := ⟨_, rfl⟩
      have hAB : decide (A = B) = SB := by
        rw [hSB0]
        apply decide_eq_decide.2
        constructor
        · intro h; rw [hA, hB] at h; exact hinj _ _ hPAl hPBl h
        · intro h; rw [hA, hB, h]
      have hSB : ((PA : Int) == (PB : Int)) = SB := by
        rw [hSB0]
        by_cases h : PA = PB
        · rw [h]; simp
        · rw [decide_eq_false h]; simp; omega
      have hL0 : ¬ (L : Int) = 0 := by omega
      have hL0b : ((L : Int) == 0) = false := by simp; omega
      have e_PA : (n : Int) % (L : Int) = (PA : Int) ∧ (n : Int).tmod (L : Int) = (PA : Int) ∧ IntKind.u64.wrap (PA : Int) = (PA : Int) := ⟨by rw [hPA]; norm_cast, by rw [hPA]; norm_cast, by rw [IntKind.wrap_u64]; omega⟩
      have e_PB : (m : Int) % (L : Int) = (PB : Int) ∧ (m : Int).tmod (L : Int) = (PB : Int) ∧ IntKind.u64.wrap (PB : Int) = (PB : Int) := ⟨by rw [hPB]; norm_cast, by rw [hPB]; norm_cast, by rw [IntKind.wrap_u64]; omega⟩
      have HX := hide (And.intro hjoin (And.intro helb (And.intro hpos (And.intro hN8 (And.intro hlv0 (And.intro hlvN (And.intro hPAl (And.intro hA (And.intro tcell (And.intro hN (And.intro hLl hAB)))))))))))
      clear hjoin helb hpos hN8 hlv0 hlvN hPA hPB hPAl hPBl hA hB tcell hN hL hva0 hinj hvl hE hLp hK ri rs ti tis hT hn hm hf h20 hAB hSB0
      go_enter Tryd.func4, Tryd.ntmps4
      go_wp2_with (first
        | (go_at_call 5; refine hfe.mono ?_; rintro e y1 ⟨rfl, g1⟩; have k1 := keep_trans k0 (by rw [World.size_alloc]; exact g1); have b1 := bT.below (by rw [World.size_alloc]; exact g1); clear bT)
        | (refine wpList_load_rowK (by rfl) 25 _ (by rfl) w.heap.size (by rfl) _ _ _ _ b1.here Tryd.underlying25 (by kernel_rfl) ?_)
        | (refine wpList_load_row rfl 25 _ (by rfl) w.heap.size (by rfl) _ _ _ _ b1.here Tryd.underlying25 rfl (by kernel_rfl) ?_)
        | (go_at_call 10; refine (hf2 _ k1).mono ?_; rintro e y2 ⟨rfl, g2⟩; have k2 := keep_trans k1 g2; have b2 := b1.below g2; clear b1)
        | (refine wpList_load_row rfl 25 _ (by rfl) w.heap.size (by rfl) _ _ _ _ b2.here Tryd.underlying25 rfl (by kernel_rfl) ?_)
        | (go_at_call 11; refine (hl1 _ k2).mono ?_; rintro e y3 ⟨rfl, g3⟩; have k3 := keep_trans k2 g3; have b3 := b2.below g3; clear b2)
        | fail)
      rename_i K6 hK6
      have hbd : Below y3.heap.size y3 y3.drew := (Below.refl _ _).drew
      clear hf2 hl1 hfe
      refine at_begin (ops := opsA (cLA (cRA (cRA (cRA (cRA (Tryd.f4.body.getD .skip))))))) (n := 10) (fun y => Below y3.heap.size y3 y) (by kernel_rfl) (by kernel_rfl) ?_
      refine at_takeD (i := 0) (m' := 1) (d := some 41) (v := .agg #[.slice ta N tc, .slice ia id.length ic, .slice sa seed.length sc]) ho6reg rfl (by decide) rfl rfl (y_rowG (cs := [.slice ta N tc, .slice ia id.length ic, .slice sa seed.length sc]) (wanted_free rfl) rfl rfl Tryd.underlying25 rfl (by kernel_rfl) (fun _ h => (b3.below h).range)) hbd ?_
      simp only [Act.put, List.setIfInBounds_toArray, List.set_cons_zero, List.set_cons_succ]
      refine at_takeD (i := 1) (m' := 3) (d := some 42) (v := .int .u64 (n : Int)) ho6reg rfl (by decide) rfl rfl (y_moveG (wanted_free rfl) rfl rfl) hbd ?_
      simp only [Act.put, List.setIfInBounds_toArray, List.set_cons_zero, List.set_cons_succ]
      refine at_takeD (i := 2) (m' := 7) (d := some 43) (v := .int .u64 (L : Int)) ho6reg rfl (by decide) rfl rfl (y_moveG (wanted_free rfl) rfl rfl) hbd ?_
      simp only [Act.put, List.setIfInBounds_toArray, List.set_cons_zero, List.set_cons_succ]
      refine at_takeD (i := 3) (m' := 15) (d := some 44) (v := .int .u64 (PA : Int)) ho6reg rfl (by decide) rfl rfl (y_remUH (wanted_free rfl) rfl rfl rfl Tryd.underlying26 hL0 e_PA) hbd ?_
      simp only [Act.put, List.setIfInBounds_toArray, List.set_cons_zero, List.set_cons_succ]
      refine at_one (i := 4) (m' := 31) ho6reg (by decide) rfl ?_
      refine p_callG (args := #[.agg #[.slice ta N tc, .slice ia id.length ic, .slice sa seed.length sc], .int .u64 (PA : Int)]) (d := some 45) rfl (wanted_free rfl) rfl (by simp only [List.map_toArray, List.map_cons, List.map_nil]; rfl) rfl Tryd.call7 ((hva y3.drew (keep_trans k3 hbd)).mono ?_)
      rintro e y5 ⟨va, rfl, oa, g5⟩
      have ra := oa.row
      obtain ⟨aa, ac, rfl, haa⟩ := oa.row.opens hAl
      clear haa oa
      have hb5 := keep_trans hbd g5
      refine ⟨_, rfl, hb5, ?_⟩
      simp only [Act.put, List.setIfInBounds_toArray, List.set_cons_zero, List.set_cons_succ]
      refine at_takeD (i := 5) (m' := 63) (d := some 40) (v := .tuple #[.slice aa N ac, .int .i64 0]) ho6reg rfl (by decide) rfl rfl (y_moveG (wanted_free rfl) rfl rfl) hb5 ?_
      simp only [Act.put, List.setIfInBounds_toArray, List.set_cons_zero, List.set_cons_succ]
      refine at_takeD (i := 6) (m' := 127) (d := some 46) (v := .slice aa N ac) ho6reg rfl (by decide) rfl rfl (y_extractG (wanted_free rfl) rfl rfl rfl) hb5 ?_
      simp only [Act.put, List.setIfInBounds_toArray, List.set_cons_zero, List.set_cons_succ]
      refine at_takeD (i := 7) (m' := 255) (d := some 47) (v := .int .i64 0) ho6reg rfl (by decide) rfl rfl (y_extractG (wanted_free rfl) rfl rfl rfl) hb5 ?_
      simp only [Act.put, List.setIfInBounds_toArray, List.set_cons_zero, List.set_cons_succ]
      refine at_takeD (i := 8) (m' := 511) (d := some 8) (v := .slice aa N ac) ho6reg rfl (by decide) rfl rfl (y_assignG (wanted_free rfl) rfl rfl) hb5 ?_
      simp only [Act.put, List.setIfInBounds_toArray, List.set_cons_zero, List.set_cons_succ]
      refine at_takeD (i := 9) (m' := 1023) (d := some 9) (v := .int .i64 0) ho6reg rfl (by decide) rfl rfl (y_assignG (wanted_free rfl) rfl rfl) hb5 ?_
      simp only [Act.put, List.setIfInBounds_toArray, List.set_cons_zero, List.set_cons_succ]
      refine at_done ho6reg (by decide) ?_
      refine hK6 _ _ ?_
      have k4 := keep_trans k3 hb5
      have b4 := b3.below hb5
      generalize y5 = y4 at *
      clear hb5 b3
      go_wp2
      rename_i K7 hK7
      have hbd : Below y4.heap.size y4 y4.drew := (Below.refl _ _).drew
      refine at_begin (ops := opsA (cLA (cRA (cRA (cRA (cRA (cRA (Tryd.f4.body.getD .skip)))))))) (n := 10) (fun y => Below y4.heap.size y4 y) (by kernel_rfl) (by kernel_rfl) ?_
      refine at_takeD (i := 0) (m' := 1) (d := some 49) (v := .agg #[.slice ta N tc, .slice ia id.length ic, .slice sa seed.length sc]) ho7reg rfl (by decide) rfl rfl (y_rowG (cs := [.slice ta N tc, .slice ia id.length ic, .slice sa seed.length sc]) (wanted_free rfl) rfl rfl Tryd.underlying25 rfl (by kernel_rfl) (fun _ h => (b4.below h).range)) hbd ?_
      simp only [Act.put, List.setIfInBounds_toArray, List.set_cons_zero, List.set_cons_succ]
      refine at_takeD (i := 1) (m' := 3) (d := some 50) (v := .int .u64 (m : Int)) ho7reg rfl (by decide) rfl rfl (y_moveG (wanted_free rfl) rfl rfl) hbd ?_
      simp only [Act.put, List.setIfInBounds_toArray, List.set_cons_zero, List.set_cons_succ]
      refine at_takeD (i := 2) (m' := 7) (d := some 51) (v := .int .u64 (L : Int)) ho7reg rfl (by decide) rfl rfl (y_moveG (wanted_free rfl) rfl rfl) hbd ?_
      simp only [Act.put, List.setIfInBounds_toArray, List.set_cons_zero, List.set_cons_succ]
      refine at_takeD (i := 3) (m' := 15) (d := some 52) (v := .int .u64 (PB : Int)) ho7reg rfl (by decide) rfl rfl (y_remUH (wanted_free rfl) rfl rfl rfl Tryd.underlying26 hL0 e_PB) hbd ?_
      simp only [Act.put, List.setIfInBounds_toArray, List.set_cons_zero, List.set_cons_succ]
      refine at_one (i := 4) (m' := 31) ho7reg (by decide) rfl ?_
      refine p_callG (args := #[.agg #[.slice ta N tc, .slice ia id.length ic, .slice sa seed.length sc], .int .u64 (PB : Int)]) (d := some 53) rfl (wanted_free rfl) rfl (by simp only [List.map_toArray, List.map_cons, List.map_nil]; rfl) rfl Tryd.call7 ((hvb y4.drew (keep_trans k4 hbd)).mono ?_)
      rintro e y5 ⟨vb, rfl, ob, g5⟩
      have rb := ob.row
      obtain ⟨ba, bc, rfl, hbb⟩ := ob.row.opens hBl
      clear hbb ob
      have hb5 := keep_trans hbd g5
      refine ⟨_, rfl, hb5, ?_⟩
      simp only [Act.put, List.setIfInBounds_toArray, List.set_cons_zero, List.set_cons_succ]
      refine at_takeD (i := 5) (m' := 63) (d := some 48) (v := .tuple #[.slice ba N bc, .int .i64 0]) ho7reg rfl (by decide) rfl rfl (y_moveG (wanted_free rfl) rfl rfl) hb5 ?_
      simp only [Act.put, List.setIfInBounds_toArray, List.set_cons_zero, List.set_cons_succ]
      refine at_takeD (i := 6) (m' := 127) (d := some 54) (v := .slice ba N bc) ho7reg rfl (by decide) rfl rfl (y_extractG (wanted_free rfl) rfl rfl rfl) hb5 ?_
      simp only [Act.put, List.setIfInBounds_toArray, List.set_cons_zero, List.set_cons_succ]
      refine at_takeD (i := 7) (m' := 255) (d := some 55) (v := .int .i64 0) ho7reg rfl (by decide) rfl rfl (y_extractG (wanted_free rfl) rfl rfl rfl) hb5 ?_
      simp only [Act.put, List.setIfInBounds_toArray, List.set_cons_zero, List.set_cons_succ]
      refine at_takeD (i := 8) (m' := 511) (d := some 10) (v := .slice ba N bc) ho7reg rfl (by decide) rfl rfl (y_assignG (wanted_free rfl) rfl rfl) hb5 ?_
      simp only [Act.put, List.setIfInBounds_toArray, List.set_cons_zero, List.set_cons_succ]
      refine at_takeD (i := 9) (m' := 1023) (d := some 11) (v := .int .i64 0) ho7reg rfl (by decide) rfl rfl (y_assignG (wanted_free rfl) rfl rfl) hb5 ?_
      simp only [Act.put, List.setIfInBounds_toArray, List.set_cons_zero, List.set_cons_succ]
      refine at_done ho7reg (by decide) ?_
      refine hK7 _ _ ?_
      have k5 := keep_trans k4 hb5
      have b5 := b4.below hb5
      have ra5 := ra.below hb5
      generalize y5 = y5 at *
      clear hb5 b4 ra
      go_wp2_with (first
        | (refine wpList_load_row rfl 25 _ (by rfl) w.heap.size (by rfl) _ _ _ _ b5.here Tryd.underlying25 rfl (by kernel_rfl) ?_)
        | (go_at_call 7; refine (hvg _ k5).mono ?_; rintro e y6 ⟨rfl, g6⟩; have k6 := keep_trans k5 g6; have b6 := b5.below g6; have ra6 := ra5.below g6; have rb6 := rb.below g6)
        | fail)
      rename_i K9 hK9
      have hbd : Below y6.heap.size y6 y6.drew := (Below.refl _ _).drew
      have hsn : ∀ y, Row .u32 4294967296 y (.slice aa N ac) A → Row .u32 4294967296 y (.slice ba N bc) B → Calls Tryd.prog 13 #[.slice aa N ac, .slice ba N bc] y fun e w' => e = .returned (.bool SB) ∧ Below y.heap.size y w' := fun y r1 r2 => (rsameNums_any _ _ A B y r1 r2).mono fun _ _ ⟨he, q, hw⟩ => ⟨by rw [he, HX.out.2.2.2.2.2.2.2.2.2.2.2], by rw [hw]; exact Go.below_drewN (Below.refl _ _) q⟩
      refine at_begin (ops := opsA (cLA (cLA (cRA (cRA (cRA (cRA (cRA (cRA (cRA (Tryd.f4.body.getD .skip))))))))))) (n := 23) (fun y => Below y6.heap.size y6 y) (by kernel_rfl) (by kernel_rfl) ?_
      refine at_takeD (i := 0) (m' := 1) (d := some 62) (v := .int .i64 0) ho9reg rfl (by decide) rfl rfl (y_moveG (wanted_free rfl) rfl rfl) hbd ?_
      simp only [Act.put, List.setIfInBounds_toArray, List.set_cons_zero, List.set_cons_succ]
      refine at_takeD (i := 1) (m' := 3) (d := some 63) (v := .bool false) ho9reg rfl (by decide) rfl rfl (y_neI (wanted_free rfl) rfl rfl rfl Tryd.underlying30 (by simp)) hbd ?_
      simp only [Act.put, List.setIfInBounds_toArray, List.set_cons_zero, List.set_cons_succ]
      refine at_takeD (i := 2) (m' := 7) (d := some 64) (v := .bool false) ho9reg rfl (by decide) rfl rfl (y_moveG (wanted_free rfl) rfl rfl) hbd ?_
      simp only [Act.put, List.setIfInBounds_toArray, List.set_cons_zero, List.set_cons_succ]
      refine at_takeD (i := 3) (m' := 15) (d := some 65) (v := .int .i64 0) ho9reg rfl (by decide) rfl rfl (y_moveG (wanted_gG (j := 2) (d := 64) (b := false) rfl rfl rfl rfl) rfl rfl) hbd ?_
      simp only [Act.put, List.setIfInBounds_toArray, List.set_cons_zero, List.set_cons_succ]
      refine at_takeD (i := 4) (m' := 31) (d := some 66) (v := .bool false) ho9reg rfl (by decide) rfl rfl (y_neI (wanted_gG (j := 2) (d := 64) (b := false) rfl rfl rfl rfl) rfl rfl rfl Tryd.underlying30 (by simp)) hbd ?_
      simp only [Act.put, List.setIfInBounds_toArray, List.set_cons_zero, List.set_cons_succ]
      refine at_takeD (i := 5) (m' := 63) (d := some 67) (v := .bool false) ho9reg rfl (by decide) rfl rfl (y_pickEG (wanted_free rfl) rfl rfl rfl) hbd ?_
      simp only [Act.put, List.setIfInBounds_toArray, List.set_cons_zero, List.set_cons_succ]
      refine at_takeD (i := 6) (m' := 127) (d := some 68) (v := .bool false) ho9reg rfl (by decide) rfl rfl (y_moveG (wanted_free rfl) rfl rfl) hbd ?_
      simp only [Act.put, List.setIfInBounds_toArray, List.set_cons_zero, List.set_cons_succ]
      refine at_takeD (i := 7) (m' := 255) (d := some 69) (v := .int .i64 13) ho9reg rfl (by decide) rfl rfl (y_moveG (wanted_gG (j := 6) (d := 68) (b := false) rfl rfl rfl rfl) rfl rfl) hbd ?_
      simp only [Act.put, List.setIfInBounds_toArray, List.set_cons_zero, List.set_cons_succ]
      refine at_takeD (i := 8) (m' := 511) (d := some 70) (v := .bool false) ho9reg rfl (by decide) rfl rfl (y_neI (wanted_gG (j := 6) (d := 68) (b := false) rfl rfl rfl rfl) rfl rfl rfl Tryd.underlying30 (by simp)) hbd ?_
      simp only [Act.put, List.setIfInBounds_toArray, List.set_cons_zero, List.set_cons_succ]
      refine at_takeD (i := 9) (m' := 1023) (d := some 71) (v := .bool false) ho9reg rfl (by decide) rfl rfl (y_pickEG (wanted_free rfl) rfl rfl rfl) hbd ?_
      simp only [Act.put, List.setIfInBounds_toArray, List.set_cons_zero, List.set_cons_succ]
      refine at_takeD (i := 10) (m' := 2047) (d := some 72) (v := .bool false) ho9reg rfl (by decide) rfl rfl (y_moveG (wanted_free rfl) rfl rfl) hbd ?_
      simp only [Act.put, List.setIfInBounds_toArray, List.set_cons_zero, List.set_cons_succ]
      refine at_takeD (i := 11) (m' := 4095) (d := some 73) (v := .slice aa N ac) ho9reg rfl (by decide) rfl rfl (y_moveG (wanted_gG (j := 10) (d := 72) (b := false) rfl rfl rfl rfl) rfl rfl) hbd ?_
      simp only [Act.put, List.setIfInBounds_toArray, List.set_cons_zero, List.set_cons_succ]
      refine at_takeD (i := 12) (m' := 8191) (d := some 74) (v := .slice ba N bc) ho9reg rfl (by decide) rfl rfl (y_moveG (wanted_gG (j := 10) (d := 72) (b := false) rfl rfl rfl rfl) rfl rfl) hbd ?_
      simp only [Act.put, List.setIfInBounds_toArray, List.set_cons_zero, List.set_cons_succ]
      refine at_takeD (i := 14) (m' := 24575) (d := some 76) (v := .int .u64 (n : Int)) ho9reg rfl (by decide) rfl rfl (y_moveG (wanted_gG (j := 10) (d := 72) (b := false) rfl rfl rfl rfl) rfl rfl) hbd ?_
      simp only [Act.put, List.setIfInBounds_toArray, List.set_cons_zero, List.set_cons_succ]
      refine at_takeD (i := 15) (m' := 57343) (d := some 77) (v := .int .u64 (L : Int)) ho9reg rfl (by decide) rfl rfl (y_moveG (wanted_gG (j := 10) (d := 72) (b := false) rfl rfl rfl rfl) rfl rfl) hbd ?_
      simp only [Act.put, List.setIfInBounds_toArray, List.set_cons_zero, List.set_cons_succ]
      refine at_takeD (i := 16) (m' := 122879) (d := some 78) (v := .int .u64 (PA : Int)) ho9reg rfl (by decide) rfl rfl (y_remUH (wanted_gG (j := 10) (d := 72) (b := false) rfl rfl rfl rfl) rfl rfl rfl Tryd.underlying26 hL0 e_PA) hbd ?_
      simp only [Act.put, List.setIfInBounds_toArray, List.set_cons_zero, List.set_cons_succ]
      refine at_takeD (i := 17) (m' := 253951) (d := some 79) (v := .int .u64 (m : Int)) ho9reg rfl (by decide) rfl rfl (y_moveG (wanted_gG (j := 10) (d := 72) (b := false) rfl rfl rfl rfl) rfl rfl) hbd ?_
      simp only [Act.put, List.setIfInBounds_toArray, List.set_cons_zero, List.set_cons_succ]
      refine at_takeD (i := 18) (m' := 516095) (d := some 80) (v := .int .u64 (L : Int)) ho9reg rfl (by decide) rfl rfl (y_moveG (wanted_gG (j := 10) (d := 72) (b := false) rfl rfl rfl rfl) rfl rfl) hbd ?_
      simp only [Act.put, List.setIfInBounds_toArray, List.set_cons_zero, List.set_cons_succ]
      refine at_takeD (i := 19) (m' := 1040383) (d := some 81) (v := .int .u64 (PB : Int)) ho9reg rfl (by decide) rfl rfl (y_remUH (wanted_gG (j := 10) (d := 72) (b := false) rfl rfl rfl rfl) rfl rfl rfl Tryd.underlying26 hL0 e_PB) hbd ?_
      simp only [Act.put, List.setIfInBounds_toArray, List.set_cons_zero, List.set_cons_succ]
      refine at_takeD (i := 20) (m' := 2088959) (d := some 82) (v := .bool SB) ho9reg rfl (by decide) rfl rfl (y_eqUH (wanted_gG (j := 10) (d := 72) (b := false) rfl rfl rfl rfl) rfl rfl rfl Tryd.underlying26 hSB) hbd ?_
      simp only [Act.put, List.setIfInBounds_toArray, List.set_cons_zero, List.set_cons_succ]
      refine at_one (i := 13) (m' := 2097151) ho9reg (by decide) rfl ?_
      refine p_callG (args := #[.slice aa N ac, .slice ba N bc]) (d := some 75) rfl (wanted_gG (j := 10) (d := 72) (b := false) rfl rfl rfl rfl) rfl (by simp only [List.map_toArray, List.map_cons, List.map_nil]; rfl) rfl Tryd.call13 ((hsn y6.drew (ra6.below hbd) (rb6.below hbd)).mono ?_)
      rintro e y21 ⟨rfl, g21⟩
      have hb21 := keep_trans hbd g21
      refine ⟨_, rfl, hb21, ?_⟩
      simp only [Act.put, List.setIfInBounds_toArray, List.set_cons_zero, List.set_cons_succ]
      refine at_takeD (i := 21) (m' := 4194303) (d := some 83) (v := .bool false) ho9reg rfl (by decide) rfl rfl (y_neBH (wanted_gG (j := 10) (d := 72) (b := false) rfl rfl rfl rfl) rfl rfl rfl Tryd.underlying4 (by simp)) hb21 ?_
      simp only [Act.put, List.setIfInBounds_toArray, List.set_cons_zero, List.set_cons_succ]
      refine at_takeD (i := 22) (m' := 8388607) (d := some 84) (v := .bool false) ho9reg rfl (by decide) rfl rfl (y_pickEG (wanted_free rfl) rfl rfl rfl) hb21 ?_
      simp only [Act.put, List.setIfInBounds_toArray, List.set_cons_zero, List.set_cons_succ]
      refine at_done ho9reg (by decide) ?_
      refine hK9 _ _ ?_
      have k7 := keep_trans k6 hb21
      have b7 := b6.below hb21
      have ra7 := ra6.below hb21
      generalize y21 = y7 at *
      clear hb21 b6 b5 ra6 ra5 rb6 rb hsn hvg hva hvb
      have d0 := b7.c0
      go_wp2
      have H0 : Hid (HoL kts PA y7 (.int .u64 0) (.int .i64 0) y7) := hide ⟨0, Nat.zero_le _, rfl, by rw [HX.out.2.2.2.2.1 _ HX.out.2.2.2.2.2.2.1]; rfl, rfl⟩
      go_loopw [14, 87] (fun vb vi wr => HoL kts PA y7 vb vi wr) (fun _ vi _ => N - (intOf vi).toNat)
      case atStart => exact H0.out
      case round =>
        obtain ⟨i, hi, rfl, rfl, rfl⟩ := hrel
        clear H0
        obtain ⟨hjoin, helb, hpos, hN8, hlv0, hlvN, hPAl, hA, tcell, hN, hLl, hAB⟩ := HX.out
        by_cases hlt : i < N
        · have hlt' : (i : Int) < (N : Int) := by omega
          have hge' : ¬ ((N : Int) ≤ (i : Int)) := by omega
          obtain ⟨tb, to, rfl, tcc⟩ := tcell (by omega)
          obtain ⟨x1, _⟩ := tcc i (by omega)
          have y1 := keep_cell x1 k7
          obtain ⟨_, _, hae, _, _, hcc⟩ := ra7.opens hAl
          obtain ⟨ab, ao, hab, hcell⟩ := hcc (by omega)
          simp only [Value.slice.injEq] at hae
          rw [hab] at hae
          obtain ⟨rfl, _, rfl⟩ := hae
          have cq := hcell i hlt
          have hqm := helb i (by omega) PA
          have hj := hjoin i (by omega) PA
          have hp := hpos i (by omega)
          rw [← hA] at hqm hj
          obtain ⟨th, hth⟩ : ∃ t : Nat, (trA kts i).1 = (t : Int) := ⟨(trA kts i).1.toNat, by omega⟩
          rw [hth] at y1 hp
          rw [hth, Int.toNat_natCast] at hqm hj
          have hM10 := pow_le_1024 (h := th) (by omega)
          obtain ⟨q, hq⟩ : ∃ q, q = el A i := ⟨_, rfl⟩
          rw [← hq] at cq hqm hj
          obtain ⟨M, hM⟩ : ∃ M, M = 2 ^ th := ⟨_, rfl⟩
          have e_M : (2 : Int) ^ th = (M : Int) := by rw [hM]; norm_cast
          have hmin : min th 32 = th := by omega
          have e_M3 : 2 ^ min th 32 % 4294967296 = M := by rw [hmin, ← hM]; omega
          have e_M4 : (2 : Int) ^ min th 32 % 4294967296 = (M : Int) := by rw [hmin, e_M]; omega
          rw [← hM] at hqm hj hM10
          have s_M32 : IntKind.u32.wrap (M : Int) = (M : Int) := by rw [IntKind.wrap_u32]; omega
          have hqM : ¬ ((M : Int) ≤ (q : Int)) := by omega
          have hqM' : ¬ ((q : Int) ≥ (M : Int)) := by omega
          have hqM2 : (q : Int) < (M : Int) := by omega
          obtain ⟨D, hD⟩ : ∃ D, D = PA / lvN (kts.drop i) := ⟨_, rfl⟩
          obtain ⟨D2, hD2⟩ : ∃ D, D = PA / lvN (kts.drop (i + 1)) := ⟨_, rfl⟩
          have hD2l : D2 ≤ PA := by rw [hD2]; exact Nat.div_le_self _ _
          rw [← hD, ← hD2] at hj
          rw [← hD]
          obtain ⟨DM, hDM⟩ : ∃ x, x = D * M := ⟨_, rfl⟩
          have e_DM : (D : Int) * (M : Int) = (DM : Int) := by rw [hDM]; norm_cast
          have e_DM2 : (D : Int) * 2 ^ th = (DM : Int) := by rw [e_M, e_DM]
          rw [← hDM] at hj
          have s_DM : IntKind.u64.wrap (DM : Int) = (DM : Int) := by rw [IntKind.wrap_u64]; omega
          have s_q : IntKind.u64.wrap (q : Int) = (q : Int) := by rw [IntKind.wrap_u64]; omega
          have e_D2 : (DM : Int) + (q : Int) = (D2 : Int) := by omega
          have s_D2 : IntKind.u64.wrap (D2 : Int) = (D2 : Int) := by rw [IntKind.wrap_u64]; omega
          have th64 : (th : Int) < 64 := by omega
          have th32 : (th : Int) < 32 := by omega
          obtain ⟨Q, hQ⟩ : ∃ Q : Nat, i + 1 = Q := ⟨_, rfl⟩
          have e_Q : (i : Int) + 1 = (Q : Int) := by omega
          have s_Q : IntKind.i64.wrap (Q : Int) = (Q : Int) := by rw [IntKind.wrap_i64]; omega
          have hge0 : (0 : Int) ≤ (i : Int) := Int.natCast_nonneg _
          have HQ := hide (And.intro hQ (And.intro hD2 (And.intro hN hlt)))
          clear hjoin helb hpos hN8 hlv0 hlvN hPAl hA tcell hN hLl hAB tcc x1 hcell hcc hab hqm hj hp hth hM10 hq hM hmin hD hD2 hD2l hDM hQ hlt
          go_wp2
          obtain ⟨hQ, hD2, hN, hlt⟩ := HQ.out
          exact ⟨⟨Q, by omega, rfl, by rw [← hQ, ← hD2], rfl⟩, by simp [intOf]; omega⟩
        · obtain rfl : i = N := by omega
          have hge : ¬ ((i : Int) < (i : Int)) := by omega
          rw [← hN, hlvN PA, hN]
          have ea : (n : Int) % (L : Int) = (PA : Int) := e_PA.1
          have eb : (n : Int).tmod (L : Int) = (PA : Int) := e_PA.2.1
          have s_PA := e_PA.2.2
          have haw2 := haw _ k7
          clear hjoin helb hpos hN8 hlv0 hlvN hPAl hA tcell hN hLl hAB e_PA e_PB haw hi
          go_wp2_with (first
            | (go_at_call 6; refine haw2.mono ?_; rintro e y9 ⟨rfl, g9⟩)
            | fail)
          go_ret
          exact ⟨rfl, keep_trans k7 g9⟩
    · rw [decide_eq_false hK] at hf2
      obtain ⟨ta, tc, rfl, _⟩ := ht
      clear ri rs ti tis hT hn hm hf h20 hK
      generalize kts.length = N at *
      go_enter Tryd.func4, Tryd.ntmps4
      go_wp2_with (first
        | (go_at_call 5; refine hfe.mono ?_; rintro e y1 ⟨rfl, g1⟩; have k1 := keep_trans k0 (by rw [World.size_alloc]; exact g1); have b1 := bT.below (by rw [World.size_alloc]; exact g1); clear bT)
        | (refine wpList_load_rowK (by rfl) 25 _ (by rfl) w.heap.size (by rfl) _ _ _ _ b1.here Tryd.underlying25 (by kernel_rfl) ?_)
        | (go_at_call 10; refine (hf2 _ k1).mono ?_; rintro e y2 ⟨rfl, g2⟩; have k2 := keep_trans k1 g2)
        | (go_at_call 6; refine (haw _ k2).mono ?_; rintro e y3 ⟨rfl, g3⟩)
        | fail)
      go_ret
      exact ⟨rfl, keep_trans k2 g3⟩
  · rw [decide_eq_false hf] at hfe
    obtain ⟨ta, tc, rfl, _⟩ := ht
    clear hf h20 hf2 ri rs ti tis hT hn hm
    generalize kts.length = N at *
    go_enter Tryd.func4, Tryd.ntmps4
    go_wp2_with (first
      | (go_at_call 5; refine hfe.mono ?_; rintro e y1 ⟨rfl, g1⟩; have k1 := keep_trans k0 (by rw [World.size_alloc]; exact g1))
      | (go_at_call 6; refine (haw _ k1).mono ?_; rintro e y2 ⟨rfl, g2⟩)
      | fail)
    go_ret
    exact ⟨rfl, keep_trans k1 g2⟩

set_option maxRecDepth 100000 in
theorem lifted (os : Os) (started : os.Started) (H : Type) (enc : TypeId × Value → H) :
    ReturnsInHanded {} Tryd.checked os 4 .any (fun w args => (Rows.hssOnceSpec.pre enc Tryd.prog Tryd.f4 Rows.hssOnceRow.domain false w args ∧ laidMetH Tryd.prog Rows.hssOnceRow.laid w) ∧ sizedMet enc Tryd.prog Tryd.f4 (OpenSpec.ofChange Rows.hssOnceSpec) false w args) (Rows.hssOnceSpec.post enc Tryd.prog Tryd.f4 false true false false) := by
  refine change_laid_shaped (C := Tryd.checked) (X := fun w _ => laidMetH Tryd.prog Rows.hssOnceRow.laid w) (fun _ _ _ hh h => h.of_heap hh) own started (by kernel_rfl) Tryd.func4
    (ChangeSpec.witness_shaped (enc := enc) (C := Tryd.checked) (os := os) (X := fun w _ => laidMetH Tryd.prog Rows.hssOnceRow.laid w) false (World.laidAll Tryd.prog os Rows.hssOnceRow.laid) #[.agg #[.slice none 0 0, .slice none 0 0, .slice none 0 0], .int .u64 0, .int .u64 0] 8 (World.laidAll_os _ _ _)
      (World.shaped_of_ZipB (by kernel_rfl) (by kernel_rfl)) (by kernel_rfl) (by kernel_rfl) (by kernel_rfl)
      (by rw [MakeChecks.laidMetH_plain _ _ _ (by kernel_rfl)]; exact laidMet_laidAll _ (by kernel_rfl) (by kernel_rfl))) ?_
  intro W base args ds gs before hval0 hW hsz0 hL hsh
  have hVars : Vars W := vars_of_laid hL hsh
  have hval : ∀ (j : Nat) t v, Tryd.f4.params[j]? = some t → args[j]? = some v → Value.okWide Tryd.prog W .any base t v := hval0
  have hW' := hW
  obtain ⟨p, q, hA0, hV, rfl, hfz, hnd⟩ := hW
  have hA : DataW.TrodAll enc Tryd.prog W 0 (fun _ => true) true Tryd.f4.params.toList args.toList ds p := hA0
  rw [Tryd.params4] at hA hval
  obtain ⟨v0, vs0, d0, ds0, p0, q0, hargs, rfl, rfl, h0, r0⟩ := trodAll_cons hA
  obtain ⟨v1, vs1, d1, ds1, p1, q1, rfl, rfl, rfl, h1, r1⟩ := trodAll_cons r0
  obtain ⟨v2, vs2, d2, ds2, p2, q2, rfl, rfl, rfl, h2, r2⟩ := trodAll_cons r1
  obtain ⟨rfl, rfl, rfl⟩ := trodAll_nil r2
  obtain rfl : args = #[v0, v1, v2] := by cases args; simp_all
  obtain ⟨rfl, rfl⟩ := trodVars_none hV
  obtain ⟨cs0, rfl, hcz0⟩ := okWide_struct Tryd.underlying25 (hval 0 25 v0 rfl rfl)
  have k0 := h0
  have lt0 : ∀ x ∈ p0, x.block < W.heap.size := by obtain ⟨m, hm⟩ := k0; exact DataW.trod_lt m _ _ _ hm
  obtain ⟨kt0, kl0, ki0, kil0, ks0, ksl0, w0⟩ : ∃ kt kl ki kil ks ksl, HkIs W cs0 kt kl ki kil ks ksl := by
    obtain ⟨fuel, hf⟩ := h0
    exact read_keyH (by simpa [Value.cells] using hf)
  obtain ⟨a1, rfl, rfl, rfl, w1⟩ := open_int Tryd.underlying26 (hval 1 26 v1 rfl rfl) h1
  obtain ⟨a2, rfl, rfl, rfl, w2⟩ := open_int Tryd.underlying26 (hval 2 26 v2 rfl rfl) h2
  clear hA0 hval0
  refine (walk cs0 kt0 kl0 ki0 kil0 ks0 ksl0 a1 a2 W w0 w1 w2 hVars).mono fun e W' ⟨he, bel⟩ => ?_
  subst he
  exact ⟨_, rfl, _, _, _, [], _, [], hW', trodAll_mk1 (shut_bool Tryd.underlying4 _), (trodAll_cons_mk (Below.trod laidOut (by kernel_rfl) (of_decide_eq_true (by kernel_rfl)) k0 bel lt0) (trodAll_cons_mk (shut_int Tryd.underlying26 w1) (trodAll_cons_mk (shut_int Tryd.underlying26 w2) trodAll_mk0))), rfl, bel.frame _, fun h => by cases h⟩

theorem over : Rows.hssOnceRow.holds Tryd.pinned (OpenSpec.ofChange Rows.hssOnceSpec) :=
  OpenClaim.holds_of_wide 4 Tryd.f4 rfl rfl rfl rfl rfl rfl rfl ⟨rfl, rfl, rfl, rfl, rfl⟩ rfl rfl rfl rfl rfl (by kernel_rfl) Tryd.func4 (by kernel_rfl)
    (of_decide_eq_true (by kernel_rfl)) (by unfold Func.isWrapper; first | (rw [if_pos (by decide +kernel)]; kernel_rfl) | (rw [if_neg (by decide +kernel)]; exact ⟨rfl, rfl⟩))
    (fun os started H enc _ => lifted os started H enc)

end Go.Proofs.YtogiballdmgcpaaDoor.hssOnce
namespace Go.Proofs.YtogiballdmgcpaaDoor
theorem hssOnce_card : Rows.HssOnceCardSaid :=
  Claim7.holds_tied_plain_at .later [] [.data, .data] true (true, "4fb66fb80f73eec8f1866452493b3e6691afe7a0023ea6c3062878210be6d3dd") false
    hssOnce.over (fun _ h => by cases h) (by kernel_rfl) (fun _ h => by cases h) hssOnce_row_tie rfl ⟨rfl, rfl⟩ (by kernel_rfl) rfl
    (fun f fn hf hfn => by
      obtain rfl : f = 4 := Option.some.inj ((show Tryd.prog.funcNamed Tryd.f4.name = some 4 by kernel_rfl).symm.trans hf) |>.symm
      obtain rfl : fn = Tryd.f4 := (Option.some.inj (Tryd.func4.symm.trans hfn)).symm
      exact ⟨by kernel_rfl, fun j t ht => by
        rw [Tryd.params4] at ht
        have hm : t ∈ [25, 26, 26] := by simpa using Array.mem_of_getElem? ht
        have hall : ([25, 26, 26].all fun u => !Tryd.prog.wantsStandIn u) = true := by kernel_rfl
        exact (show Tryd.prog.wantsStandIn t = false by simpa using List.all_eq_true.1 hall t hm)⟩)
    (by kernel_rfl)
end Go.Proofs.YtogiballdmgcpaaDoor
