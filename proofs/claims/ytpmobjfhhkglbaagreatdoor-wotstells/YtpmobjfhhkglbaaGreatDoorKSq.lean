/- Contract of the document's Squeeze. -/
import Derived.Test.YtpmobjfhhkglbaaGreatDoorKPt
import Derived.Deep.AppendLies
import Derived.Deep.Onto
import Derived.Deep.RegionHeld3
namespace Go.Proofs.YtpmobjfhhkglbaaGreatDoor
open Go.RowKit
set_option linter.unusedVariables false
set_option linter.unusedSimpArgs false

/-- where squeezing begins -/
def begK (kind : Int) (ws : List Nat) (p : Nat) (o : Bool) : List Nat × Nat := bif o then (ws, p) else (endK (rateK kind) (markK kind) (ws, p), 0)
/-- where the loop of bytes stands -/
def KSqz (w : World) (kind : Int) (s0 : List Nat × Nat) (n : Nat) (u : Value) (wr : World) : Prop := ∃ k : Nat, k ≤ n ∧ slen u = k ∧ wr.ownsRow (w.heap.size + 2) 5 1 u k (vals .u8 (sqzB (rateK kind) s0 k)) ∧ Sg wr w.heap.size kind (sqzS (rateK kind) s0 k).1 ((sqzS (rateK kind) s0 k).2 : Nat) true ∧ wr.heap[w.heap.size + 1]? = some (.cells (sl 0 (zs 25) 0 false).toArray 81 (0, 0)) ∧ Below w.heap.size w wr
theorem heap_lt {w : World} {b : Nat} {o : Obj} (h : w.heap[b]? = some o) : b < w.heap.size := by
  rcases Nat.lt_or_ge b w.heap.size with h' | h'
  · exact h'
  · rw [Array.getElem?_eq_none h'] at h; cases h
theorem own_but {w w' : World} {base g : Nat} {e : TypeId} {size : Nat} {v : Value} {n : Nat} {xs : List Value} (h : w.ownsRow base e size v n xs) (hb : But g w w') (hg : g < base) : w'.ownsRow base e size v n xs := by
  obtain ⟨h1, h2⟩ := h
  refine ⟨h1, ?_⟩
  rcases h2 with h2 | ⟨q, cap, cur, rfl, h3, h4, h5⟩
  · exact .inl h2
  · exact .inr ⟨q, cap, cur, rfl, h3, by rw [hb.block q (heap_lt h4) (by omega)]; exact h4, h5⟩
theorem own_bel {w w' : World} {base : Nat} {e : TypeId} {size : Nat} {v : Value} {n : Nat} {xs : List Value} (h : w.ownsRow base e size v n xs) (hb : Below w.heap.size w w') : w'.ownsRow base e size v n xs := by
  obtain ⟨h1, h2⟩ := h
  refine ⟨h1, ?_⟩
  rcases h2 with h2 | ⟨q, cap, cur, rfl, h3, h4, h5⟩
  · exact .inl h2
  · exact .inr ⟨q, cap, cur, rfl, h3, by rw [hb.block q (heap_lt h4)]; exact h4, h5⟩
theorem Sg.belowB {B : Nat} {w w' : World} {q : Nat} {kind : Int} {ws : List Nat} {p : Int} {o : Bool} (h : Sg w q kind ws p o) (hb : Below B w w') (hq : q < B) : Sg w' q kind ws p o :=
  ⟨fun j v hv => by rw [hb.cell (p := ⟨q, 0 + j, none⟩) hq]; exact h.all j v hv, fun j hj => by rw [hb.cell (p := ⟨q, 0 + j, none⟩) hq, hb.frozen (p := ⟨q, 0 + j, none⟩) hq]; exact h.th j hj, h.len⟩
theorem own_slice {w : World} {base : Nat} {e : TypeId} {v : Value} {n : Nat} {xs : List Value} (h : w.ownsRow base e 1 v n xs) : ∃ a c, v = .slice a n c := by
  obtain ⟨_, ⟨rfl, h0⟩ | ⟨g, cap, cur, rfl, _⟩⟩ := h
  · exact ⟨none, 0, by rw [h0]⟩
  · exact ⟨_, _, rfl⟩

set_option maxHeartbeats 8000000 in
set_option maxRecDepth 100000 in
theorem ksqz_any (kind : Int) (ws : List Nat) (p : Nat) (o : Bool) (n : Nat) (w : World) (hw : W25 ws) (hr : 0 < rateK kind) (hp : p ≤ rateK kind) (ho : o = false → p < rateK kind) (hn : n ≤ 20000000) :
    Calls Tryz.prog 58 #[.agg (sl kind ws p o).toArray, .int .i64 n] w fun e w' => ∃ v, e = .returned (.tuple #[.agg (sl kind (sqzS (rateK kind) (begK kind ws p o) n).1 ((sqzS (rateK kind) (begK kind ws p o) n).2 : Nat) true).toArray, v]) ∧ Own 5 .u8 256 w' w.heap.size v (sqzB (rateK kind) (begK kind ws p o) n) ∧ Below w.heap.size w w' := by
  have hz := zero28
  have hS : Sg ((w.alloc (.cells (sl kind ws p o).toArray 81)).alloc (.cells (sl 0 (zs 25) 0 false).toArray 81)) w.heap.size kind ws p o := (Sg.new w 81 kind ws p o hw.1).below (keep_alloc _ _)
  have hR : ((w.alloc (.cells (sl kind ws p o).toArray 81)).alloc (.cells (sl 0 (zs 25) 0 false).toArray 81)).heap[w.heap.size + 1]? = some (.cells (sl 0 (zs 25) 0 false).toArray 81 (0, 0)) := by
    have := heap_alloc_last (w.alloc (.cells (sl kind ws p o).toArray 81)) (.cells (sl 0 (zs 25) 0 false).toArray 81)
    rw [World.size_alloc] at this
    exact this
  have hb := keep_trans (keep_alloc w (.cells (sl kind ws p o).toArray 81)) (keep_alloc _ (.cells (sl 0 (zs 25) 0 false).toArray 81))
  have c27 := hS.out
  have c0 := hS.kind
  have c26 := hS.at
  have hrt := rateK_le kind
  have hrk := fun w' => krate_any kind w'
  have hsz0 : (sl 0 (zs 25) 0 false).toArray.size = 28 := by simp [sl_len (zs_len 25)]
  have i_n : ¬ (n : Int) < 0 := by omega
  have HZ := hide hsz0
  obtain ⟨i0, hi, hz0, hz1, hz2⟩ := info_parts Tryz.info5
  cases o with
  | true =>
    have hbg : begK kind ws p true = (ws, p) := rfl
    have HBG := hide hbg
    have hPP := hp
    clear hbg hsz0
    go_enter Tryz.func58, Tryz.ntmps58
    go_wp2_with (first
      | (go_at_call 69; refine (hrk _).mono ?_; rintro e w' ⟨rfl, rfl⟩)
      | fail)
    clear hz c27 c0 c26
    generalize ((w.alloc (.cells (sl kind ws p true).toArray 81)).alloc (.cells (sl 0 (zs 25) 0 false).toArray 81)) = x1 at *
    have hs2 : w.heap.size + 2 ≤ x1.heap.size := heap_lt hR
    go_loopw [8] (fun u wr => KSqz w kind (ws, p) n u wr) (fun u _ => n - slen u)
    case atStart => exact ⟨0, Nat.zero_le _, rfl, World.ownsRow_nil _ _ _ _, hS, hR, hb⟩
    case round =>
      clear hS hR hb
      obtain ⟨k, hk, hsl, how, hS, hR, hbr⟩ := hrel
      obtain ⟨ua, uc, rfl⟩ := own_slice how
      have hsw : W25 (sqzS (rateK kind) (ws, p) k).1 := sqzS_w hw k
      have hsa : (sqzS (rateK kind) (ws, p) k).2 ≤ rateK kind := sqzS_at hr hPP k
      by_cases hlt : k < n
      · have hnS : sqzS (rateK kind) (ws, p) (k + 1) = ((fresh (rateK kind) (sqzS (rateK kind) (ws, p) k)).1, (fresh (rateK kind) (sqzS (rateK kind) (ws, p) k)).2 + 1) := rfl
        have hnB : sqzB (rateK kind) (ws, p) (k + 1) = sqzB (rateK kind) (ws, p) k ++ [outB (fresh (rateK kind) (sqzS (rateK kind) (ws, p) k))] := rfl
        generalize sqzS (rateK kind) (ws, p) k = st at *
        obtain ⟨A, P⟩ := st
        dsimp only at hS hsw hsa
        have c26 := hS.at
        have hAl := hsw.1
        have hltI : (k : Int) < (n : Int) := by omega
        have hsr : w.heap.size + 2 ≤ wr.heap.size := heap_lt hR
        obtain ⟨s2, hs2e⟩ : ∃ x, x = fresh (rateK kind) (A, P) := ⟨_, rfl⟩
        rw [← hs2e] at hnS hnB
        have HNS := hide hnS
        have HNB := hide hnB
        clear hnS hnB
        obtain ⟨A2, P2⟩ := s2
        have hfw : W25 A2 := by have h := fresh_w (rate := rateK kind) (s := (A, P)) hsw; rw [← hs2e] at h; exact h
        have hfa : P2 < rateK kind := by have h := fresh_at (rate := rateK kind) (s := (A, P)) hr hsa; rw [← hs2e] at h; exact h
        have hwd := hS.words
        have hvl : (vals .u64 A).length = 25 := by rw [vals_length, hAl]
        by_cases hfull : P = rateK kind
        · have hbe : ((P : Int) == ((rateK kind : Nat) : Int)) = true := by rw [hfull]; exact beq_self_eq_true _
          have hf2 : (A2, P2) = (perm A, 0) := by rw [hs2e]; unfold fresh; rw [if_pos (show P = rateK kind from hfull)]
          have hprm := fun w' => kperm_any A w' hsw
          have hql := (perm_w hsw).1
          have hqs : (arr .u64 (perm A)).size = 25 := by rw [arr_size, hql]
          have HF2 := hide hf2
          clear hf2
          generalize perm A = M at *
          have HFL := hide hfull
          clear hfull
          go_wp2_with (first
            | (refine wpList_load_mid rfl 79 _ (by rfl) w.heap.size 1 (by rfl) (vals .u64 A) (.array 25 26) hwd (by kernel_rfl) rfl (by rw [hvl]; kernel_rfl) ?_)
            | (go_at_call 70; refine (hprm _).mono ?_; rintro e w6 ⟨rfl, hb7⟩; have hS7 := hS.below hb7; have hth : w6.there w.heap.size 1 (arr .u64 (M)).size := fun j hj => (by rw [hqs] at hj; have := hS7.th (1 + j) (by omega); rw [Nat.zero_add] at this; exact this))
            | (refine wpList_store_mid rfl 79 _ _ (by rfl) w.heap.size 1 (arr .u64 (M)) (by rfl) (by rfl) hth (by rw [hqs]; kernel_rfl) (arr_one _ _) ?_; have hS8 : Sg (w6.setCells w.heap.size 1 (arr .u64 (M)).toList) w.heap.size kind (M) P true := hS7.setWords _ hql; have c26' := hS8.at; have f26 := hS8.frozen 26 (by decide))
            | fail)
          have hBt : But w.heap.size w6 ((w6.setCells w.heap.size 1 (arr .u64 M).toList).setCell ⟨w.heap.size, 26, none⟩ (.int .i64 0)) := ((But.refl _ _).setCells _ _).setCell _ _
          have hSa : Sg ((w6.setCells w.heap.size 1 (arr .u64 M).toList).setCell ⟨w.heap.size, 26, none⟩ (.int .i64 0)) w.heap.size kind A2 ((P2 : Nat) : Int) true := by
            obtain ⟨e1, e2⟩ := Prod.mk.inj HF2.out
            rw [e1, e2]
            exact hS8.setAt 0
          have hRa := (hBt.block (w.heap.size + 1) (by have := hb7.size; omega) (by omega)).trans ((hb7.block _ (by omega)).trans hR)
          have hba := (keep_trans hbr hb7).trans (hBt.below (Nat.le_refl _) (keep_trans hbr hb7).size)
          have howa := own_but (own_bel how hb7) hBt (by omega)
          clear hBt hS8 hS7 hS c26 c26' f26 hth hprm hwd hb7 hR hbr how
          generalize (w6.setCells w.heap.size 1 (arr .u64 M).toList).setCell ⟨w.heap.size, 26, none⟩ (.int .i64 0) = xa at *
          obtain ⟨j, hj⟩ : ∃ x : Nat, x = P2 / 8 := ⟨_, rfl⟩
          obtain ⟨m, hm⟩ : ∃ x : Nat, x = P2 % 8 := ⟨_, rfl⟩
          obtain ⟨m8, hm8⟩ : ∃ x : Nat, x = 8 * m := ⟨_, rfl⟩
          have e_j : (P2 : Int) / 8 = (j : Int) := by omega
          have t_j : (P2 : Int).tdiv 8 = (j : Int) := by rw [Int.tdiv_eq_ediv_of_nonneg (by omega)]; exact e_j
          have r_j : IntKind.i64.wrap (j : Int) = (j : Int) := by rw [IntKind.wrap_i64]; omega
          have e_m : (P2 : Int) % 8 = (m : Int) := by omega
          have r_m : IntKind.i64.wrap (m : Int) = (m : Int) := by rw [IntKind.wrap_i64]; omega
          have t_m : (P2 : Int).tmod 8 = (m : Int) := by rw [Int.tmod_eq_emod_of_nonneg (by omega)]; exact e_m
          have e_8 : 8 * (m : Int) = (m8 : Int) := by omega
          have r_8 : IntKind.i64.wrap (m8 : Int) = (m8 : Int) := by rw [IntKind.wrap_i64]; omega
          have mn : min m8 64 = m8 := by omega
          have j0 : (0 : Int) ≤ (j : Int) := Int.natCast_nonneg _
          have j1 : (j : Int) < 25 := by omega
          have j2 : (0 : Int) ≤ (m8 : Int) := Int.natCast_nonneg _
          obtain ⟨P3, hP3⟩ : ∃ x : Nat, x = P2 + 1 := ⟨_, rfl⟩
          have e_P : (P2 : Int) + 1 = (P3 : Int) := by omega
          have r_P : IntKind.i64.wrap (P3 : Int) = (P3 : Int) := by rw [IntKind.wrap_i64]; omega
          obtain ⟨B, hB⟩ : ∃ x : Nat, x = el A2 j / 2 ^ m8 % 256 := ⟨_, rfl⟩
          have hBo : outB (A2, P2) = B := by rw [hB, hm8, hm, hj]; rfl
          have hB256 : B < 256 := by rw [hB]; exact Nat.mod_lt _ (by decide)
          have e_b2 : (el A2 j : Int) / 2 ^ m8 % 256 = (B : Int) := by rw [hB]; simp
          have e_b1 : IntKind.u8.wrap ((el A2 j : Int) / 2 ^ m8) = (B : Int) := by rw [IntKind.wrap_u8]; exact e_b2
          have cj : xa.cell? ⟨w.heap.size, 1 + j, none⟩ = some (.int .u64 (el A2 j)) := hSa.words j _ (vals_get .u64 A2 j (by rw [hfw.1]; omega))
          have ca := hSa.at
          have hq : w.heap.size < xa.heap.size := hSa.lt
          have hsx : w.heap.size + 2 ≤ xa.heap.size := heap_lt hRa
          have hna : ∀ g, (Value.slice ua k uc).ownBlock = some g → w.heap.size + 2 ≤ g := fun g h => (howa.lt g h).1
          rw [hBo] at HNB
          have HP3 := hide hP3
          clear hj hm hm8 hP3 hB hBo hs2e
          generalize el A2 j = xw at *
          go_region_held3 (fun w' => w'.cell? ⟨w.heap.size, 26, none⟩ = some (.int .i64 (P2 : Int)) ∧ w'.cell? ⟨w.heap.size, 1 + j, none⟩ = some (.int .u64 (xw : Int)))
            (first
              | exact ⟨ca, cj⟩
              | exact ⟨keep_cell ca (keep_alloc _ _), keep_cell cj (keep_alloc _ _)⟩
              | (go_split_ands
                 refine ⟨?_, ?_⟩
                 · (rw [hgrow.cell_far _ (by simp; omega) (fun h => by have := hna _ h.symm; simp at this; omega)]; assumption)
                 · (rw [hgrow.cell_far _ (by simp; omega) (fun h => by have := hna _ h.symm; simp at this; omega)]; assumption))
              | go_keep)
            ((refine step_append_lies _ (by rfl) _ _ _ (by rfl) (w.heap.size + 2) 5 i0 _ 1 1 Tryz.underlying27 hi hz0 hz1 hz2 rfl (by omega) _ k _ (by rfl) ((howa.alloc _).drew)
                ⟨xa.heap.size, 0, none⟩ 1 1 [.int .u8 (B : Int)] (by rfl) (by rfl) (World.news_of_block (cs := #[.int .u8 (B : Int)]) (t := 5) (fr := (0, 0)) (heap_alloc_new xa _)) (by simp [Value.oneCell'])
                (by omega) (by unfold maxLen; omega) (by omega) (by simp; omega) (xa.heap.size + 1) (by simp) ?_; intro gg cap w7 how7 hgrow hat hltg))
          have hb7 : Below (w.heap.size + 2) xa w7 := (((Below.refl _ xa).alloc hsx _).drew).grown hgrow (by simp; omega) hna
          have hS7 := hSa.belowB hb7 (by omega)
          have hR7 := (hb7.block (w.heap.size + 1) (by omega)).trans hRa
          have hbw7 := hba.trans (hb7.mono (by omega))
          have hs7 : w.heap.size + 2 ≤ w7.heap.size := heap_lt hR7
          have c7 := hS7.at
          have f7 := hS7.frozen 26 (by decide)
          have hS9 := hS7.setAt (P3 : Int)
          have hBt : But w.heap.size w7 (w7.setCell ⟨w.heap.size, 26, none⟩ (.int .i64 (P3 : Int))) := (But.refl _ _).setCell _ _
          have hR9 := (hBt.block (w.heap.size + 1) (by omega) (by omega)).trans hR7
          have hb9 := hbw7.trans (hBt.below (Nat.le_refl _) hbw7.size)
          have how9 := own_but how7 hBt (by omega)
          have how10 : (w7.setCell ⟨w.heap.size, 26, none⟩ (.int .i64 (P3 : Int))).ownsRow (w.heap.size + 2) 5 1 (.slice (some ⟨gg, 0, none⟩) (k + 1) cap) (k + 1) (vals .u8 (sqzB (rateK kind) (ws, p) (k + 1))) := by rw [HNB.out, vals_append]; exact how9
          have hS10 : Sg (w7.setCell ⟨w.heap.size, 26, none⟩ (.int .i64 (P3 : Int))) w.heap.size kind (sqzS (rateK kind) (ws, p) (k + 1)).1 ((sqzS (rateK kind) (ws, p) (k + 1)).2 : Nat) true := by
            rw [HNS.out]
            show Sg _ _ _ A2 ((P2 + 1 : Nat) : Int) true
            rw [← HP3.out]
            exact hS9
          have HH := hide (show KSqz w kind (ws, p) n (.slice (some ⟨gg, 0, none⟩) (k + 1) cap) (w7.setCell ⟨w.heap.size, 26, none⟩ (.int .i64 (P3 : Int))) from ⟨k + 1, by omega, rfl, how10, hS10, hR9, hb9⟩)
          clear how10 hS10 hR9 hb9 how9 hBt hS9 hbw7 hR7 hS7 hb7 how7 hgrow hat hltg cj ca hRa hba howa hSa
          go_wp2
          first
            | exact ⟨HH.out, by simp [slen]; omega⟩
            | (go_roundw
               case rel =>
                 (repeat apply Exists.intro)
                 exact ⟨HH.out, rfl⟩
               case measure => simp [slen]; omega)
        · have hbe : ((P : Int) == ((rateK kind : Nat) : Int)) = false := by rw [beq_eq_false_iff_ne]; omega
          have hf2 : (A2, P2) = (A, P) := by rw [hs2e]; unfold fresh; rw [if_neg (show ¬ P = rateK kind from hfull)]
          have HF2 := hide hf2
          clear hf2
          go_wp2
          have hSa : Sg wr w.heap.size kind A2 ((P2 : Nat) : Int) true := by
            obtain ⟨e1, e2⟩ := Prod.mk.inj HF2.out
            rw [e1, e2]
            exact hS
          have hRa := hR
          have hba := hbr
          have howa := how
          clear hS c26 hwd hR hbr how
          generalize wr = xa at *
          obtain ⟨j, hj⟩ : ∃ x : Nat, x = P2 / 8 := ⟨_, rfl⟩
          obtain ⟨m, hm⟩ : ∃ x : Nat, x = P2 % 8 := ⟨_, rfl⟩
          obtain ⟨m8, hm8⟩ : ∃ x : Nat, x = 8 * m := ⟨_, rfl⟩
          have e_j : (P2 : Int) / 8 = (j : Int) := by omega
          have t_j : (P2 : Int).tdiv 8 = (j : Int) := by rw [Int.tdiv_eq_ediv_of_nonneg (by omega)]; exact e_j
          have r_j : IntKind.i64.wrap (j : Int) = (j : Int) := by rw [IntKind.wrap_i64]; omega
          have e_m : (P2 : Int) % 8 = (m : Int) := by omega
          have r_m : IntKind.i64.wrap (m : Int) = (m : Int) := by rw [IntKind.wrap_i64]; omega
          have t_m : (P2 : Int).tmod 8 = (m : Int) := by rw [Int.tmod_eq_emod_of_nonneg (by omega)]; exact e_m
          have e_8 : 8 * (m : Int) = (m8 : Int) := by omega
          have r_8 : IntKind.i64.wrap (m8 : Int) = (m8 : Int) := by rw [IntKind.wrap_i64]; omega
          have mn : min m8 64 = m8 := by omega
          have j0 : (0 : Int) ≤ (j : Int) := Int.natCast_nonneg _
          have j1 : (j : Int) < 25 := by omega
          have j2 : (0 : Int) ≤ (m8 : Int) := Int.natCast_nonneg _
          obtain ⟨P3, hP3⟩ : ∃ x : Nat, x = P2 + 1 := ⟨_, rfl⟩
          have e_P : (P2 : Int) + 1 = (P3 : Int) := by omega
          have r_P : IntKind.i64.wrap (P3 : Int) = (P3 : Int) := by rw [IntKind.wrap_i64]; omega
          obtain ⟨B, hB⟩ : ∃ x : Nat, x = el A2 j / 2 ^ m8 % 256 := ⟨_, rfl⟩
          have hBo : outB (A2, P2) = B := by rw [hB, hm8, hm, hj]; rfl
          have hB256 : B < 256 := by rw [hB]; exact Nat.mod_lt _ (by decide)
          have e_b2 : (el A2 j : Int) / 2 ^ m8 % 256 = (B : Int) := by rw [hB]; simp
          have e_b1 : IntKind.u8.wrap ((el A2 j : Int) / 2 ^ m8) = (B : Int) := by rw [IntKind.wrap_u8]; exact e_b2
          have cj : xa.cell? ⟨w.heap.size, 1 + j, none⟩ = some (.int .u64 (el A2 j)) := hSa.words j _ (vals_get .u64 A2 j (by rw [hfw.1]; omega))
          have ca := hSa.at
          have hq : w.heap.size < xa.heap.size := hSa.lt
          have hsx : w.heap.size + 2 ≤ xa.heap.size := heap_lt hRa
          have hna : ∀ g, (Value.slice ua k uc).ownBlock = some g → w.heap.size + 2 ≤ g := fun g h => (howa.lt g h).1
          rw [hBo] at HNB
          have HP3 := hide hP3
          clear hj hm hm8 hP3 hB hBo hs2e
          generalize el A2 j = xw at *
          go_region_held3 (fun w' => w'.cell? ⟨w.heap.size, 26, none⟩ = some (.int .i64 (P2 : Int)) ∧ w'.cell? ⟨w.heap.size, 1 + j, none⟩ = some (.int .u64 (xw : Int)))
            (first
              | exact ⟨ca, cj⟩
              | exact ⟨keep_cell ca (keep_alloc _ _), keep_cell cj (keep_alloc _ _)⟩
              | (go_split_ands
                 refine ⟨?_, ?_⟩
                 · (rw [hgrow.cell_far _ (by simp; omega) (fun h => by have := hna _ h.symm; simp at this; omega)]; assumption)
                 · (rw [hgrow.cell_far _ (by simp; omega) (fun h => by have := hna _ h.symm; simp at this; omega)]; assumption))
              | go_keep)
            ((refine step_append_lies _ (by rfl) _ _ _ (by rfl) (w.heap.size + 2) 5 i0 _ 1 1 Tryz.underlying27 hi hz0 hz1 hz2 rfl (by omega) _ k _ (by rfl) ((howa.alloc _).drew)
                ⟨xa.heap.size, 0, none⟩ 1 1 [.int .u8 (B : Int)] (by rfl) (by rfl) (World.news_of_block (cs := #[.int .u8 (B : Int)]) (t := 5) (fr := (0, 0)) (heap_alloc_new xa _)) (by simp [Value.oneCell'])
                (by omega) (by unfold maxLen; omega) (by omega) (by simp; omega) (xa.heap.size + 1) (by simp) ?_; intro gg cap w7 how7 hgrow hat hltg))
          have hb7 : Below (w.heap.size + 2) xa w7 := (((Below.refl _ xa).alloc hsx _).drew).grown hgrow (by simp; omega) hna
          have hS7 := hSa.belowB hb7 (by omega)
          have hR7 := (hb7.block (w.heap.size + 1) (by omega)).trans hRa
          have hbw7 := hba.trans (hb7.mono (by omega))
          have hs7 : w.heap.size + 2 ≤ w7.heap.size := heap_lt hR7
          have c7 := hS7.at
          have f7 := hS7.frozen 26 (by decide)
          have hS9 := hS7.setAt (P3 : Int)
          have hBt : But w.heap.size w7 (w7.setCell ⟨w.heap.size, 26, none⟩ (.int .i64 (P3 : Int))) := (But.refl _ _).setCell _ _
          have hR9 := (hBt.block (w.heap.size + 1) (by omega) (by omega)).trans hR7
          have hb9 := hbw7.trans (hBt.below (Nat.le_refl _) hbw7.size)
          have how9 := own_but how7 hBt (by omega)
          have how10 : (w7.setCell ⟨w.heap.size, 26, none⟩ (.int .i64 (P3 : Int))).ownsRow (w.heap.size + 2) 5 1 (.slice (some ⟨gg, 0, none⟩) (k + 1) cap) (k + 1) (vals .u8 (sqzB (rateK kind) (ws, p) (k + 1))) := by rw [HNB.out, vals_append]; exact how9
          have hS10 : Sg (w7.setCell ⟨w.heap.size, 26, none⟩ (.int .i64 (P3 : Int))) w.heap.size kind (sqzS (rateK kind) (ws, p) (k + 1)).1 ((sqzS (rateK kind) (ws, p) (k + 1)).2 : Nat) true := by
            rw [HNS.out]
            show Sg _ _ _ A2 ((P2 + 1 : Nat) : Int) true
            rw [← HP3.out]
            exact hS9
          have HH := hide (show KSqz w kind (ws, p) n (.slice (some ⟨gg, 0, none⟩) (k + 1) cap) (w7.setCell ⟨w.heap.size, 26, none⟩ (.int .i64 (P3 : Int))) from ⟨k + 1, by omega, rfl, how10, hS10, hR9, hb9⟩)
          clear how10 hS10 hR9 hb9 how9 hBt hS9 hbw7 hR7 hS7 hb7 how7 hgrow hat hltg cj ca hRa hba howa hSa
          go_wp2
          first
            | exact ⟨HH.out, by simp [slen]; omega⟩
            | (go_roundw
               case rel =>
                 (repeat apply Exists.intro)
                 exact ⟨HH.out, rfl⟩
               case measure => simp [slen]; omega)
      · obtain rfl : k = n := by omega
        generalize hst : sqzS (rateK kind) (ws, p) k = st at hS hsw hsa
        obtain ⟨A, P⟩ := st
        dsimp only at hS
        have HST := hide hst
        clear hst hsw hsa
        have hll := hS.all
        have hslen := sl_len (kind := kind) (p := (P : Int)) (o := true) hS.len
        have hsz : (sl kind A P true).toArray.size = 28 := by simp [hslen]
        have hfu := setRow_heap wr (w.heap.size + 1) _ (sl kind A P true).toArray 81 _ hR
        have hBs : But (w.heap.size + 1) wr (wr.setRow (w.heap.size + 1) (sl kind A P true).toArray) := (But.refl (w.heap.size + 1) _).setRow _
        have hbf := hbr.trans (hBs.below (by omega) hbr.size)
        have howf := own_but how hBs (by omega)
        have hltI : ¬ (k : Int) < (k : Int) := by omega
        have hsz0 := HZ.out
        go_wp2_with (first
          | (refine wpList_load_mid rfl 81 _ (by rfl) w.heap.size 0 (by rfl) (sl kind A P true) _ hll Tryz.underlying81 rfl (by rw [hslen]; kernel_rfl) ?_)
          | (refine wpList_store_row rfl 81 _ _ (by rfl) (w.heap.size + 1) (sl kind A P true).toArray (by rfl) (by rfl) _ _ hR (by rw [hsz]; kernel_rfl) (by rw [hsz, hsz0]) (all_oneCell_toArray (sl_one _ _ _ _)) ?_)
          | fail)
        have hlv := run_loadVar_row (P := Tryz.prog) (wr.setRow (w.heap.size + 1) (sl kind A P true).toArray) (w.heap.size + 1) _ 81 _ _ _ hfu Tryz.underlying81 rfl (by rw [hsz]; kernel_rfl)
        refine bodyPost_ret (v := .tuple #[.agg (sl kind A P true).toArray, .slice ua k uc]) ?_ rfl ⟨_, by show _ = Ending.returned (.tuple #[.agg (sl kind (sqzS (rateK kind) (ws, p) k).1 ((sqzS (rateK kind) (ws, p) k).2 : Nat) true).toArray, _]); rw [HST.out], ?_, hbf⟩
        · simp [results, Tryz.results58, asAddr, hlv]
        · skip
          refine ⟨?_, sqzB_under _ _ _⟩
          rw [sqzB_length]
          exact howf.mono (by omega)
  | false =>
    have hpr := ho rfl
    obtain ⟨rm, hrm⟩ : ∃ x : Nat, x = rateK kind - 1 := ⟨_, rfl⟩
    have e_rm : ((rateK kind : Nat) : Int) - 1 = (rm : Int) := by omega
    have r_rm : IntKind.i64.wrap (rm : Int) = (rm : Int) := by rw [IntKind.wrap_i64]; omega
    have hwd := hS.words
    have hvl : (vals .u64 ws).length = 25 := by rw [vals_length, hw.1]
    obtain ⟨mk, hmk, hm3⟩ : ∃ mk : Nat, markK kind = mk ∧ ((kind == 4) = true ∧ mk = 6 ∨ (kind == 4) = false ∧ (kind == 5) = true ∧ mk = 6 ∨ (kind == 4) = false ∧ (kind == 5) = false ∧ mk = 31) := by
      refine ⟨_, rfl, ?_⟩
      unfold markK
      by_cases h4 : kind = 4
      · left; exact ⟨by simp [h4], by simp [h4]⟩
      · by_cases h5 : kind = 5
        · right; left; exact ⟨by simp [h4], by simp [h5], by simp [h5]⟩
        · right; right; exact ⟨by simp [h4], by simp [h5], by simp [h4, h5]⟩
    have hput1 := fun w' => kput_any ws p mk w' hw (by omega) (by omega)
    have hw1 := putK_w hw p mk
    have hput2 := fun w' => kput_any (putK ws p mk) rm 128 w' hw1 (by omega) (by decide)
    have hw2 := putK_w hw1 rm 128
    have hprm := fun w' => kperm_any (putK (putK ws p mk) rm 128) w' hw2
    have hW0 := perm_w hw2
    have hE : endK (rateK kind) (markK kind) (ws, p) = perm (putK (putK ws p mk) rm 128) := by unfold endK; rw [hmk, hrm]
    have HE := hide hE
    clear hE hmk hrm
    generalize perm (putK (putK ws p mk) rm 128) = E at *
    generalize putK (putK ws p mk) rm 128 = E2 at *
    generalize putK ws p mk = E1 at *
    have hql := hW0.1
    have hqs : (arr .u64 E).size = 25 := by rw [arr_size, hql]
    have hPP : 0 ≤ rateK kind := Nat.zero_le _
    clear hsz0
    rcases hm3 with ⟨b4, rfl⟩ | ⟨b4, b5, rfl⟩ | ⟨b4, b5, rfl⟩
    all_goals (
      go_enter Tryz.func58, Tryz.ntmps58
      go_wp2_with (first
        | (go_at_call 69; refine (hrk _).mono ?_; rintro e w' ⟨rfl, rfl⟩)
        | (refine wpList_load_mid rfl 79 _ (by rfl) w.heap.size 1 (by rfl) (vals .u64 ws) (.array 25 26) hwd (by kernel_rfl) rfl (by rw [hvl]; kernel_rfl) ?_)
        | (go_at_call 71; refine (hput1 _).mono ?_; rintro e w3 ⟨rfl, hb3⟩; clear hput1)
        | (go_at_call 71; refine (hput2 _).mono ?_; rintro e w4 ⟨rfl, hb4⟩)
        | (go_at_call 70; refine (hprm _).mono ?_; rintro e w6 ⟨rfl, hb7⟩; have hb8 := keep_trans (keep_trans hb3 hb4) hb7; have hS7 := hS.below hb8; have hth : w6.there w.heap.size 1 (arr .u64 E).size := fun j hj => (by rw [hqs] at hj; have := hS7.th (1 + j) (by omega); rw [Nat.zero_add] at this; exact this))
        | (refine wpList_store_mid rfl 79 _ _ (by rfl) w.heap.size 1 (arr .u64 E) (by rfl) (by rfl) hth (by rw [hqs]; kernel_rfl) (arr_one _ _) ?_; have hS8 : Sg (w6.setCells w.heap.size 1 (arr .u64 E).toList) w.heap.size kind E p false := hS7.setWords _ hql; have d26 := hS8.at; have f26 := hS8.frozen 26 (by decide); have d27 := (hS8.setAt 0).out; have f27 := (hS8.setAt 0).frozen 27 (by decide))
        | fail)
      have hBt : But w.heap.size w6 (((w6.setCells w.heap.size 1 (arr .u64 E).toList).setCell ⟨w.heap.size, 26, none⟩ (.int .i64 0)).setCell ⟨w.heap.size, 27, none⟩ (.bool true)) := (((But.refl _ _).setCells _ _).setCell _ _).setCell _ _
      have hS9 : Sg (((w6.setCells w.heap.size 1 (arr .u64 E).toList).setCell ⟨w.heap.size, 26, none⟩ (.int .i64 0)).setCell ⟨w.heap.size, 27, none⟩ (.bool true)) w.heap.size kind E 0 true := (hS8.setAt 0).setOut true
      have hR9 := (hBt.block (w.heap.size + 1) (by have := hb8.size; have := heap_lt hR; omega) (by omega)).trans ((hb8.block _ (heap_lt hR)).trans hR)
      have hb9 := (keep_trans hb hb8).trans (hBt.below (Nat.le_refl _) (keep_trans hb hb8).size)
      clear hBt hS8 hS7 hS hR hb hb3 hb4 hb7 hb8 hth d26 d27 f26 f27 hz c27 c0 c26 hwd hput2 hprm hw1 hw2
      have hS := hS9
      have hR := hR9
      have hb := hb9
      clear hS9 hR9 hb9
      generalize ((w6.setCells w.heap.size 1 (arr .u64 E).toList).setCell ⟨w.heap.size, 26, none⟩ (.int .i64 0)).setCell ⟨w.heap.size, 27, none⟩ (.bool true) = x1 at *
      have hs2 : w.heap.size + 2 ≤ x1.heap.size := heap_lt hR
      go_loopw [8] (fun u wr => KSqz w kind (E, 0) n u wr) (fun u _ => n - slen u)
      case atStart => exact ⟨0, Nat.zero_le _, rfl, World.ownsRow_nil _ _ _ _, hS, hR, hb⟩
      case round =>
        clear hS hR hb
        obtain ⟨k, hk, hsl, how, hS, hR, hbr⟩ := hrel
        obtain ⟨ua, uc, rfl⟩ := own_slice how
        have hsw : W25 (sqzS (rateK kind) (E, 0) k).1 := sqzS_w hW0 k
        have hsa : (sqzS (rateK kind) (E, 0) k).2 ≤ rateK kind := sqzS_at hr hPP k
        by_cases hlt : k < n
        · have hnS : sqzS (rateK kind) (E, 0) (k + 1) = ((fresh (rateK kind) (sqzS (rateK kind) (E, 0) k)).1, (fresh (rateK kind) (sqzS (rateK kind) (E, 0) k)).2 + 1) := rfl
          have hnB : sqzB (rateK kind) (E, 0) (k + 1) = sqzB (rateK kind) (E, 0) k ++ [outB (fresh (rateK kind) (sqzS (rateK kind) (E, 0) k))] := rfl
          generalize sqzS (rateK kind) (E, 0) k = st at *
          obtain ⟨A, P⟩ := st
          dsimp only at hS hsw hsa
          have c26 := hS.at
          have hAl := hsw.1
          have hltI : (k : Int) < (n : Int) := by omega
          have hsr : w.heap.size + 2 ≤ wr.heap.size := heap_lt hR
          obtain ⟨s2, hs2e⟩ : ∃ x, x = fresh (rateK kind) (A, P) := ⟨_, rfl⟩
          rw [← hs2e] at hnS hnB
          have HNS := hide hnS
          have HNB := hide hnB
          clear hnS hnB
          obtain ⟨A2, P2⟩ := s2
          have hfw : W25 A2 := by have h := fresh_w (rate := rateK kind) (s := (A, P)) hsw; rw [← hs2e] at h; exact h
          have hfa : P2 < rateK kind := by have h := fresh_at (rate := rateK kind) (s := (A, P)) hr hsa; rw [← hs2e] at h; exact h
          have hwd := hS.words
          have hvl : (vals .u64 A).length = 25 := by rw [vals_length, hAl]
          by_cases hfull : P = rateK kind
          · have hbe : ((P : Int) == ((rateK kind : Nat) : Int)) = true := by rw [hfull]; exact beq_self_eq_true _
            have hf2 : (A2, P2) = (perm A, 0) := by rw [hs2e]; unfold fresh; rw [if_pos (show P = rateK kind from hfull)]
            have hprm := fun w' => kperm_any A w' hsw
            have hql := (perm_w hsw).1
            have hqs : (arr .u64 (perm A)).size = 25 := by rw [arr_size, hql]
            have HF2 := hide hf2
            clear hf2
            generalize perm A = M at *
            have HFL := hide hfull
            clear hfull
            go_wp2_with (first
              | (refine wpList_load_mid rfl 79 _ (by rfl) w.heap.size 1 (by rfl) (vals .u64 A) (.array 25 26) hwd (by kernel_rfl) rfl (by rw [hvl]; kernel_rfl) ?_)
              | (go_at_call 70; refine (hprm _).mono ?_; rintro e w6 ⟨rfl, hb7⟩; have hS7 := hS.below hb7; have hth : w6.there w.heap.size 1 (arr .u64 (M)).size := fun j hj => (by rw [hqs] at hj; have := hS7.th (1 + j) (by omega); rw [Nat.zero_add] at this; exact this))
              | (refine wpList_store_mid rfl 79 _ _ (by rfl) w.heap.size 1 (arr .u64 (M)) (by rfl) (by rfl) hth (by rw [hqs]; kernel_rfl) (arr_one _ _) ?_; have hS8 : Sg (w6.setCells w.heap.size 1 (arr .u64 (M)).toList) w.heap.size kind (M) P true := hS7.setWords _ hql; have c26' := hS8.at; have f26 := hS8.frozen 26 (by decide))
              | fail)
            have hBt : But w.heap.size w6 ((w6.setCells w.heap.size 1 (arr .u64 M).toList).setCell ⟨w.heap.size, 26, none⟩ (.int .i64 0)) := ((But.refl _ _).setCells _ _).setCell _ _
            have hSa : Sg ((w6.setCells w.heap.size 1 (arr .u64 M).toList).setCell ⟨w.heap.size, 26, none⟩ (.int .i64 0)) w.heap.size kind A2 ((P2 : Nat) : Int) true := by
              obtain ⟨e1, e2⟩ := Prod.mk.inj HF2.out
              rw [e1, e2]
              exact hS8.setAt 0
            have hRa := (hBt.block (w.heap.size + 1) (by have := hb7.size; omega) (by omega)).trans ((hb7.block _ (by omega)).trans hR)
            have hba := (keep_trans hbr hb7).trans (hBt.below (Nat.le_refl _) (keep_trans hbr hb7).size)
            have howa := own_but (own_bel how hb7) hBt (by omega)
            clear hBt hS8 hS7 hS c26 c26' f26 hth hprm hwd hb7 hR hbr how
            generalize (w6.setCells w.heap.size 1 (arr .u64 M).toList).setCell ⟨w.heap.size, 26, none⟩ (.int .i64 0) = xa at *
            obtain ⟨j, hj⟩ : ∃ x : Nat, x = P2 / 8 := ⟨_, rfl⟩
            obtain ⟨m, hm⟩ : ∃ x : Nat, x = P2 % 8 := ⟨_, rfl⟩
            obtain ⟨m8, hm8⟩ : ∃ x : Nat, x = 8 * m := ⟨_, rfl⟩
            have e_j : (P2 : Int) / 8 = (j : Int) := by omega
            have t_j : (P2 : Int).tdiv 8 = (j : Int) := by rw [Int.tdiv_eq_ediv_of_nonneg (by omega)]; exact e_j
            have r_j : IntKind.i64.wrap (j : Int) = (j : Int) := by rw [IntKind.wrap_i64]; omega
            have e_m : (P2 : Int) % 8 = (m : Int) := by omega
            have r_m : IntKind.i64.wrap (m : Int) = (m : Int) := by rw [IntKind.wrap_i64]; omega
            have t_m : (P2 : Int).tmod 8 = (m : Int) := by rw [Int.tmod_eq_emod_of_nonneg (by omega)]; exact e_m
            have e_8 : 8 * (m : Int) = (m8 : Int) := by omega
            have r_8 : IntKind.i64.wrap (m8 : Int) = (m8 : Int) := by rw [IntKind.wrap_i64]; omega
            have mn : min m8 64 = m8 := by omega
            have j0 : (0 : Int) ≤ (j : Int) := Int.natCast_nonneg _
            have j1 : (j : Int) < 25 := by omega
            have j2 : (0 : Int) ≤ (m8 : Int) := Int.natCast_nonneg _
            obtain ⟨P3, hP3⟩ : ∃ x : Nat, x = P2 + 1 := ⟨_, rfl⟩
            have e_P : (P2 : Int) + 1 = (P3 : Int) := by omega
            have r_P : IntKind.i64.wrap (P3 : Int) = (P3 : Int) := by rw [IntKind.wrap_i64]; omega
            obtain ⟨B, hB⟩ : ∃ x : Nat, x = el A2 j / 2 ^ m8 % 256 := ⟨_, rfl⟩
            have hBo : outB (A2, P2) = B := by rw [hB, hm8, hm, hj]; rfl
            have hB256 : B < 256 := by rw [hB]; exact Nat.mod_lt _ (by decide)
            have e_b2 : (el A2 j : Int) / 2 ^ m8 % 256 = (B : Int) := by rw [hB]; simp
            have e_b1 : IntKind.u8.wrap ((el A2 j : Int) / 2 ^ m8) = (B : Int) := by rw [IntKind.wrap_u8]; exact e_b2
            have cj : xa.cell? ⟨w.heap.size, 1 + j, none⟩ = some (.int .u64 (el A2 j)) := hSa.words j _ (vals_get .u64 A2 j (by rw [hfw.1]; omega))
            have ca := hSa.at
            have hq : w.heap.size < xa.heap.size := hSa.lt
            have hsx : w.heap.size + 2 ≤ xa.heap.size := heap_lt hRa
            have hna : ∀ g, (Value.slice ua k uc).ownBlock = some g → w.heap.size + 2 ≤ g := fun g h => (howa.lt g h).1
            rw [hBo] at HNB
            have HP3 := hide hP3
            clear hj hm hm8 hP3 hB hBo hs2e
            generalize el A2 j = xw at *
            go_region_held3 (fun w' => w'.cell? ⟨w.heap.size, 26, none⟩ = some (.int .i64 (P2 : Int)) ∧ w'.cell? ⟨w.heap.size, 1 + j, none⟩ = some (.int .u64 (xw : Int)))
              (first
                | exact ⟨ca, cj⟩
                | exact ⟨keep_cell ca (keep_alloc _ _), keep_cell cj (keep_alloc _ _)⟩
                | (go_split_ands
                   refine ⟨?_, ?_⟩
                   · (rw [hgrow.cell_far _ (by simp; omega) (fun h => by have := hna _ h.symm; simp at this; omega)]; assumption)
                   · (rw [hgrow.cell_far _ (by simp; omega) (fun h => by have := hna _ h.symm; simp at this; omega)]; assumption))
                | go_keep)
              ((refine step_append_lies _ (by rfl) _ _ _ (by rfl) (w.heap.size + 2) 5 i0 _ 1 1 Tryz.underlying27 hi hz0 hz1 hz2 rfl (by omega) _ k _ (by rfl) ((howa.alloc _).drew)
                  ⟨xa.heap.size, 0, none⟩ 1 1 [.int .u8 (B : Int)] (by rfl) (by rfl) (World.news_of_block (cs := #[.int .u8 (B : Int)]) (t := 5) (fr := (0, 0)) (heap_alloc_new xa _)) (by simp [Value.oneCell'])
                  (by omega) (by unfold maxLen; omega) (by omega) (by simp; omega) (xa.heap.size + 1) (by simp) ?_; intro gg cap w7 how7 hgrow hat hltg))
            have hb7 : Below (w.heap.size + 2) xa w7 := (((Below.refl _ xa).alloc hsx _).drew).grown hgrow (by simp; omega) hna
            have hS7 := hSa.belowB hb7 (by omega)
            have hR7 := (hb7.block (w.heap.size + 1) (by omega)).trans hRa
            have hbw7 := hba.trans (hb7.mono (by omega))
            have hs7 : w.heap.size + 2 ≤ w7.heap.size := heap_lt hR7
            have c7 := hS7.at
            have f7 := hS7.frozen 26 (by decide)
            have hS9 := hS7.setAt (P3 : Int)
            have hBt : But w.heap.size w7 (w7.setCell ⟨w.heap.size, 26, none⟩ (.int .i64 (P3 : Int))) := (But.refl _ _).setCell _ _
            have hR9 := (hBt.block (w.heap.size + 1) (by omega) (by omega)).trans hR7
            have hb9 := hbw7.trans (hBt.below (Nat.le_refl _) hbw7.size)
            have how9 := own_but how7 hBt (by omega)
            have how10 : (w7.setCell ⟨w.heap.size, 26, none⟩ (.int .i64 (P3 : Int))).ownsRow (w.heap.size + 2) 5 1 (.slice (some ⟨gg, 0, none⟩) (k + 1) cap) (k + 1) (vals .u8 (sqzB (rateK kind) (E, 0) (k + 1))) := by rw [HNB.out, vals_append]; exact how9
            have hS10 : Sg (w7.setCell ⟨w.heap.size, 26, none⟩ (.int .i64 (P3 : Int))) w.heap.size kind (sqzS (rateK kind) (E, 0) (k + 1)).1 ((sqzS (rateK kind) (E, 0) (k + 1)).2 : Nat) true := by
              rw [HNS.out]
              show Sg _ _ _ A2 ((P2 + 1 : Nat) : Int) true
              rw [← HP3.out]
              exact hS9
            have HH := hide (show KSqz w kind (E, 0) n (.slice (some ⟨gg, 0, none⟩) (k + 1) cap) (w7.setCell ⟨w.heap.size, 26, none⟩ (.int .i64 (P3 : Int))) from ⟨k + 1, by omega, rfl, how10, hS10, hR9, hb9⟩)
            clear how10 hS10 hR9 hb9 how9 hBt hS9 hbw7 hR7 hS7 hb7 how7 hgrow hat hltg cj ca hRa hba howa hSa
            go_wp2
            first
              | exact ⟨HH.out, by simp [slen]; omega⟩
              | (go_roundw
                 case rel =>
                   (repeat apply Exists.intro)
                   exact ⟨HH.out, rfl⟩
                 case measure => simp [slen]; omega)
          · have hbe : ((P : Int) == ((rateK kind : Nat) : Int)) = false := by rw [beq_eq_false_iff_ne]; omega
            have hf2 : (A2, P2) = (A, P) := by rw [hs2e]; unfold fresh; rw [if_neg (show ¬ P = rateK kind from hfull)]
            have HF2 := hide hf2
            clear hf2
            go_wp2
            have hSa : Sg wr w.heap.size kind A2 ((P2 : Nat) : Int) true := by
              obtain ⟨e1, e2⟩ := Prod.mk.inj HF2.out
              rw [e1, e2]
              exact hS
            have hRa := hR
            have hba := hbr
            have howa := how
            clear hS c26 hwd hR hbr how
            generalize wr = xa at *
            obtain ⟨j, hj⟩ : ∃ x : Nat, x = P2 / 8 := ⟨_, rfl⟩
            obtain ⟨m, hm⟩ : ∃ x : Nat, x = P2 % 8 := ⟨_, rfl⟩
            obtain ⟨m8, hm8⟩ : ∃ x : Nat, x = 8 * m := ⟨_, rfl⟩
            have e_j : (P2 : Int) / 8 = (j : Int) := by omega
            have t_j : (P2 : Int).tdiv 8 = (j : Int) := by rw [Int.tdiv_eq_ediv_of_nonneg (by omega)]; exact e_j
            have r_j : IntKind.i64.wrap (j : Int) = (j : Int) := by rw [IntKind.wrap_i64]; omega
            have e_m : (P2 : Int) % 8 = (m : Int) := by omega
            have r_m : IntKind.i64.wrap (m : Int) = (m : Int) := by rw [IntKind.wrap_i64]; omega
            have t_m : (P2 : Int).tmod 8 = (m : Int) := by rw [Int.tmod_eq_emod_of_nonneg (by omega)]; exact e_m
            have e_8 : 8 * (m : Int) = (m8 : Int) := by omega
            have r_8 : IntKind.i64.wrap (m8 : Int) = (m8 : Int) := by rw [IntKind.wrap_i64]; omega
            have mn : min m8 64 = m8 := by omega
            have j0 : (0 : Int) ≤ (j : Int) := Int.natCast_nonneg _
            have j1 : (j : Int) < 25 := by omega
            have j2 : (0 : Int) ≤ (m8 : Int) := Int.natCast_nonneg _
            obtain ⟨P3, hP3⟩ : ∃ x : Nat, x = P2 + 1 := ⟨_, rfl⟩
            have e_P : (P2 : Int) + 1 = (P3 : Int) := by omega
            have r_P : IntKind.i64.wrap (P3 : Int) = (P3 : Int) := by rw [IntKind.wrap_i64]; omega
            obtain ⟨B, hB⟩ : ∃ x : Nat, x = el A2 j / 2 ^ m8 % 256 := ⟨_, rfl⟩
            have hBo : outB (A2, P2) = B := by rw [hB, hm8, hm, hj]; rfl
            have hB256 : B < 256 := by rw [hB]; exact Nat.mod_lt _ (by decide)
            have e_b2 : (el A2 j : Int) / 2 ^ m8 % 256 = (B : Int) := by rw [hB]; simp
            have e_b1 : IntKind.u8.wrap ((el A2 j : Int) / 2 ^ m8) = (B : Int) := by rw [IntKind.wrap_u8]; exact e_b2
            have cj : xa.cell? ⟨w.heap.size, 1 + j, none⟩ = some (.int .u64 (el A2 j)) := hSa.words j _ (vals_get .u64 A2 j (by rw [hfw.1]; omega))
            have ca := hSa.at
            have hq : w.heap.size < xa.heap.size := hSa.lt
            have hsx : w.heap.size + 2 ≤ xa.heap.size := heap_lt hRa
            have hna : ∀ g, (Value.slice ua k uc).ownBlock = some g → w.heap.size + 2 ≤ g := fun g h => (howa.lt g h).1
            rw [hBo] at HNB
            have HP3 := hide hP3
            clear hj hm hm8 hP3 hB hBo hs2e
            generalize el A2 j = xw at *
            go_region_held3 (fun w' => w'.cell? ⟨w.heap.size, 26, none⟩ = some (.int .i64 (P2 : Int)) ∧ w'.cell? ⟨w.heap.size, 1 + j, none⟩ = some (.int .u64 (xw : Int)))
              (first
                | exact ⟨ca, cj⟩
                | exact ⟨keep_cell ca (keep_alloc _ _), keep_cell cj (keep_alloc _ _)⟩
                | (go_split_ands
                   refine ⟨?_, ?_⟩
                   · (rw [hgrow.cell_far _ (by simp; omega) (fun h => by have := hna _ h.symm; simp at this; omega)]; assumption)
                   · (rw [hgrow.cell_far _ (by simp; omega) (fun h => by have := hna _ h.symm; simp at this; omega)]; assumption))
                | go_keep)
              ((refine step_append_lies _ (by rfl) _ _ _ (by rfl) (w.heap.size + 2) 5 i0 _ 1 1 Tryz.underlying27 hi hz0 hz1 hz2 rfl (by omega) _ k _ (by rfl) ((howa.alloc _).drew)
                  ⟨xa.heap.size, 0, none⟩ 1 1 [.int .u8 (B : Int)] (by rfl) (by rfl) (World.news_of_block (cs := #[.int .u8 (B : Int)]) (t := 5) (fr := (0, 0)) (heap_alloc_new xa _)) (by simp [Value.oneCell'])
                  (by omega) (by unfold maxLen; omega) (by omega) (by simp; omega) (xa.heap.size + 1) (by simp) ?_; intro gg cap w7 how7 hgrow hat hltg))
            have hb7 : Below (w.heap.size + 2) xa w7 := (((Below.refl _ xa).alloc hsx _).drew).grown hgrow (by simp; omega) hna
            have hS7 := hSa.belowB hb7 (by omega)
            have hR7 := (hb7.block (w.heap.size + 1) (by omega)).trans hRa
            have hbw7 := hba.trans (hb7.mono (by omega))
            have hs7 : w.heap.size + 2 ≤ w7.heap.size := heap_lt hR7
            have c7 := hS7.at
            have f7 := hS7.frozen 26 (by decide)
            have hS9 := hS7.setAt (P3 : Int)
            have hBt : But w.heap.size w7 (w7.setCell ⟨w.heap.size, 26, none⟩ (.int .i64 (P3 : Int))) := (But.refl _ _).setCell _ _
            have hR9 := (hBt.block (w.heap.size + 1) (by omega) (by omega)).trans hR7
            have hb9 := hbw7.trans (hBt.below (Nat.le_refl _) hbw7.size)
            have how9 := own_but how7 hBt (by omega)
            have how10 : (w7.setCell ⟨w.heap.size, 26, none⟩ (.int .i64 (P3 : Int))).ownsRow (w.heap.size + 2) 5 1 (.slice (some ⟨gg, 0, none⟩) (k + 1) cap) (k + 1) (vals .u8 (sqzB (rateK kind) (E, 0) (k + 1))) := by rw [HNB.out, vals_append]; exact how9
            have hS10 : Sg (w7.setCell ⟨w.heap.size, 26, none⟩ (.int .i64 (P3 : Int))) w.heap.size kind (sqzS (rateK kind) (E, 0) (k + 1)).1 ((sqzS (rateK kind) (E, 0) (k + 1)).2 : Nat) true := by
              rw [HNS.out]
              show Sg _ _ _ A2 ((P2 + 1 : Nat) : Int) true
              rw [← HP3.out]
              exact hS9
            have HH := hide (show KSqz w kind (E, 0) n (.slice (some ⟨gg, 0, none⟩) (k + 1) cap) (w7.setCell ⟨w.heap.size, 26, none⟩ (.int .i64 (P3 : Int))) from ⟨k + 1, by omega, rfl, how10, hS10, hR9, hb9⟩)
            clear how10 hS10 hR9 hb9 how9 hBt hS9 hbw7 hR7 hS7 hb7 how7 hgrow hat hltg cj ca hRa hba howa hSa
            go_wp2
            first
              | exact ⟨HH.out, by simp [slen]; omega⟩
              | (go_roundw
                 case rel =>
                   (repeat apply Exists.intro)
                   exact ⟨HH.out, rfl⟩
                 case measure => simp [slen]; omega)
        · obtain rfl : k = n := by omega
          generalize hst : sqzS (rateK kind) (E, 0) k = st at hS hsw hsa
          obtain ⟨A, P⟩ := st
          dsimp only at hS
          have HST := hide hst
          clear hst hsw hsa
          have hll := hS.all
          have hslen := sl_len (kind := kind) (p := (P : Int)) (o := true) hS.len
          have hsz : (sl kind A P true).toArray.size = 28 := by simp [hslen]
          have hfu := setRow_heap wr (w.heap.size + 1) _ (sl kind A P true).toArray 81 _ hR
          have hBs : But (w.heap.size + 1) wr (wr.setRow (w.heap.size + 1) (sl kind A P true).toArray) := (But.refl (w.heap.size + 1) _).setRow _
          have hbf := hbr.trans (hBs.below (by omega) hbr.size)
          have howf := own_but how hBs (by omega)
          have hltI : ¬ (k : Int) < (k : Int) := by omega
          have hsz0 := HZ.out
          go_wp2_with (first
            | (refine wpList_load_mid rfl 81 _ (by rfl) w.heap.size 0 (by rfl) (sl kind A P true) _ hll Tryz.underlying81 rfl (by rw [hslen]; kernel_rfl) ?_)
            | (refine wpList_store_row rfl 81 _ _ (by rfl) (w.heap.size + 1) (sl kind A P true).toArray (by rfl) (by rfl) _ _ hR (by rw [hsz]; kernel_rfl) (by rw [hsz, hsz0]) (all_oneCell_toArray (sl_one _ _ _ _)) ?_)
            | fail)
          have hlv := run_loadVar_row (P := Tryz.prog) (wr.setRow (w.heap.size + 1) (sl kind A P true).toArray) (w.heap.size + 1) _ 81 _ _ _ hfu Tryz.underlying81 rfl (by rw [hsz]; kernel_rfl)
          refine bodyPost_ret (v := .tuple #[.agg (sl kind A P true).toArray, .slice ua k uc]) ?_ rfl ⟨_, by show _ = Ending.returned (.tuple #[.agg (sl kind (sqzS (rateK kind) (endK (rateK kind) (markK kind) (ws, p), 0) k).1 ((sqzS (rateK kind) (endK (rateK kind) (markK kind) (ws, p), 0) k).2 : Nat) true).toArray, _]); rw [HE.out]; rw [HST.out], ?_, hbf⟩
          · simp [results, Tryz.results58, asAddr, hlv]
          · show Own _ _ _ _ _ _ (sqzB (rateK kind) (endK (rateK kind) (markK kind) (ws, p), 0) k); rw [HE.out]
            refine ⟨?_, sqzB_under _ _ _⟩
            rw [sqzB_length]
            exact howf.mono (by omega))
end Go.Proofs.YtpmobjfhhkglbaaGreatDoor
