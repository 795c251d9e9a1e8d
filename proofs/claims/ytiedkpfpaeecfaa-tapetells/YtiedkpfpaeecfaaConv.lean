/- Texts as strings: conversions, bytes.Equal. -/
import Derived.Test.YtiedkpfpaeecfaaStr
import Derived.Test.YtiedkpfpaeecfaaTcA
namespace Go.Proofs.Ytiedkpfpaeecfaa
open Go.RowKit
set_option linter.unusedVariables false

set_option maxRecDepth 100000 in
theorem conv_row {w : World} {u : Value} {l : List Nat} (h : Row .u8 256 w u l) : (convert 22 9 u).run Try.prog w = .ok (.string ⟨(bts l).toArray⟩) w := by
  have hu := h.under
  obtain ⟨a, cap, rfl, h1, h2, h3, h4⟩ := h
  cases a with
  | none =>
    have hl0 : l = [] := by
      cases l with
      | nil => rfl
      | cons x l => obtain ⟨_, _, h', _⟩ := h3 (by simp); cases h'
    subst hl0
    rfl
  | some x =>
    have hl : (bts l).length = l.length := by simp [bts]
    rw [← hl]
    refine run_convert_bytes_back (P := Try.prog) _ 22 9 5 x cap (bts l) Try.underlying22 Try.underlying5 Try.underlying9 ?_
    intro j hj
    rw [hl] at hj
    obtain ⟨b, off, hx, hc⟩ := h3 (by omega)
    obtain rfl := Option.some.inj hx
    rw [Addr.add_lit, hc j hj, el_at hj]
    simp only [bts, List.getElem_map]
    rw [ch_nat (hu _ (List.getElem_mem hj))]
theorem bts_inj {l m : List Nat} (hl : Under 256 l) (hm : Under 256 m) (h : bts l = bts m) : l = m := by
  have h1 := cmp_less l m hl hm
  have h2 := cmp_less m l hm hl
  have h3 := cmp_less l l hl hl
  rw [less_self] at h3
  rw [← h, h3] at h1 h2
  exact less_total l m h1.symm h2.symm
/-- a text as a string -/
def stg (l : List Nat) : ByteArray := ⟨(bts l).toArray⟩
theorem stg_inj {l m : List Nat} (hl : Under 256 l) (hm : Under 256 m) (h : stg l = stg m) : l = m := by
  refine bts_inj hl hm ?_
  have := congrArg (fun b => b.data.toList) h
  simpa [stg] using this
theorem toList_inj {a b : ByteArray} (h : a.toList = b.toList) : a = b := by
  rw [Lib.toList_data, Lib.toList_data] at h
  apply ByteArray.ext
  exact Array.toList_inj.1 h
theorem beq_any (va vb : Value) (l m : List Nat) (w : World) (ha : Row .u8 256 w va l) (hb : Row .u8 256 w vb m) :
    Calls Try.prog 23 #[va, vb] w fun e w' => e = .returned (.bool (decide (l = m))) ∧ w' = w := by
  have v1 : (convert 22 9 va).run Try.prog w = .ok (.string (stg l)) w := conv_row ha
  have v2 : (convert 22 9 vb).run Try.prog w = .ok (.string (stg m)) w := conv_row hb
  by_cases he : l = m
  · have e2 : stg l = stg m := by rw [he]
    rw [decide_eq_true he]
    clear he
    go_enter Try.func23, Try.ntmps23
    go_wp2
    go_ret
    exact ⟨rfl, rfl⟩
  · have hne2 : ((stg l).toList == (stg m).toList) = false := beq_eq_false_iff_ne.2 (fun h => he (stg_inj ha.under hb.under (toList_inj h)))
    rw [decide_eq_false he]
    clear he
    go_enter Try.func23, Try.ntmps23
    go_wp2
    go_ret
    exact ⟨rfl, rfl⟩
end Go.Proofs.Ytiedkpfpaeecfaa

/- tape's own Take and Same. -/
namespace Go.Proofs.Ytiedkpfpaeecfaa
open Go.RowKit
set_option linter.unusedVariables false
set_option linter.unusedSimpArgs false

/-- what is taken: nothing beside an error -/
def tkB (l : List Nat) (x k : Int) : List Nat := if tkC l.length x k = 0 then tkL l x k else []
theorem three_bx (w : World) (v0 v1 u0 u1 : Value) :
    Bx2 (((w.alloc (.cells #[v0, v1] 24)).alloc (.cells #[u0, u1] 24)).alloc (.cells #[v0, v1] 46)) w.heap.size v0 v1
    ∧ Bx2 (((w.alloc (.cells #[v0, v1] 24)).alloc (.cells #[u0, u1] 24)).alloc (.cells #[v0, v1] 46)) (w.heap.size + 1) u0 u1
    ∧ BxR (((w.alloc (.cells #[v0, v1] 24)).alloc (.cells #[u0, u1] 24)).alloc (.cells #[v0, v1] 46)) (w.heap.size + 1 + 1) v0 v1
    ∧ Below w.heap.size w (((w.alloc (.cells #[v0, v1] 24)).alloc (.cells #[u0, u1] 24)).alloc (.cells #[v0, v1] 46)) := by
  obtain ⟨a1, a2, a3⟩ := two_bx w v0 v1 u0 u1
  have hs : ((w.alloc (.cells #[v0, v1] 24)).alloc (.cells #[u0, u1] 24)).heap.size = w.heap.size + 1 + 1 := by rw [World.size_alloc, World.size_alloc]
  generalize (w.alloc (.cells #[v0, v1] 24)).alloc (.cells #[u0, u1] 24) = W at *
  have b3 := BxR.new W v0 v1
  rw [hs] at b3
  exact ⟨a1.below (keep_alloc _ _), a2.below (keep_alloc _ _), b3, keep_trans a3 (keep_alloc _ _)⟩
theorem own_bx2 {z : World} {b Z : Nat} {u v0 v1 u0 u1 : Value} {l : List Nat} (h : Own 5 .u8 256 z b u l) (hz : Bx2 z Z v0 v1) : Own 5 .u8 256 ((z.setCell ⟨Z, 0, none⟩ u0).setCell ⟨Z, 1, none⟩ u1) b u l := by
  refine ⟨?_, h.2⟩
  have hb := but_set2 z Z u0 u1
  refine h.1.kept (row := some Z) ⟨hb.os, hb.tape, hb.output, hb.size, fun k hk hne => hb.block k hk fun e => hne (by rw [e])⟩ ?_
  rcases h.1.2 with ⟨rfl, _⟩ | ⟨g, cap, cur, rfl, _, hg1, _⟩
  · exact .inl rfl
  · refine .inr fun e => ?_
    have e2 : g = Z := by simpa [Value.ownBlock] using e
    subst e2
    rw [hz.here] at hg1
    simp at hg1
set_option maxHeartbeats 4000000 in
set_option maxRecDepth 100000 in
theorem tTake_any (l : List Nat) (v : Value) (x k : Int) (w : World) (hv : Row .u8 256 w v l) (tv : Tidy v) (hll : l.length ≤ 1000000) :
    Calls Try.prog 6 #[.agg #[v, .int .i64 x], .int .i64 k] w fun e w' => ∃ u b, e = .returned (.tuple #[.agg #[u, .int .i64 (tkY l.length x k)], b, .int .i64 (tkC l.length x k)]) ∧ Own 5 .u8 256 w' w.heap.size u l ∧ Own 5 .u8 256 w' w.heap.size b (tkB l x k) ∧ Below w.heap.size w w' := by
  have hv' := hv
  obtain ⟨a, c, rfl, _⟩ := hv'.opens rfl
  clear hv'
  obtain ⟨n, hn⟩ : ∃ n, l.length = n := ⟨_, rfl⟩
  have HB : Hid ((tkC l.length x k = 0 → tkB l x k = tkL l x k) ∧ (tkC l.length x k ≠ 0 → tkB l x k = [])) := hide ⟨fun h => if_pos h, fun h => if_neg h⟩
  obtain ⟨T, hT⟩ : ∃ T, tkB l x k = T := ⟨_, rfl⟩
  rw [hT] at HB
  have htk := fun (y : World) (B : Nat) (hB : w.heap.size ≤ B) (hb : Below w.heap.size w y) (bx : BxR y B (.slice a n c) (.int .i64 x)) => ttake_any l (.slice a n c) x k B w y (by rw [← hn]; exact hv) (by rw [← hn]; exact tv) hll hB hb bx
  rw [hT, hn]
  rw [hn] at hv tv HB htk
  obtain ⟨b0, z0, r0, hbw⟩ := three_bx w (.slice a n c) (.int .i64 x) (.slice none 0 0) (.int .i64 0)
  have HH := hide (And.intro hv (And.intro tv hll))
  generalize tkY n x k = Y at *
  generalize tkC n x k = C at *
  clear hT
  go_enter Try.func6, Try.ntmps6
  go_wp2_with (first
    | (go_at_call 19; refine (htk _ (w.heap.size + 1 + 1) (by omega) hbw r0).mono ?_; rintro e w1 ⟨u, rfl, hu1, hu2, r1, hb1⟩; have z1 := z0.but hb1 (by omega); have hbw1 := hbw.trans (hb1.below (by omega) hbw.size); have c0 := r1.c0; have c1 := r1.c1)
    | (go_at_call 20; refine (tcop_any l _ Y w1 (HH.out.1.below hbw1) HH.out.2.1 HH.out.2.2).mono ?_; rintro e w2 ⟨u2, rfl, ou2, hb2⟩; have z2 := z1.below hb2; have d0 := z2.c0; have d1 := z2.c1; have e0 := z2.f0; have e1 := z2.f1; obtain ⟨ua, uc, rfl⟩ := own_sliceA ou2.1; rw [hn] at ou2)
    | fail)
  refine bodyPost_ret ((z2.set _ (.int .i64 Y)).load rfl rfl _ rfl) rfl ?_
  have hbZ := keep_trans hbw1 hb2
  have hbt := but_set2 w2 (w.heap.size + 1) (.slice ua n uc) (.int .i64 Y)
  have hbF := hbZ.trans (hbt.below (by omega) hbZ.size)
  refine ⟨_, _, rfl, own_bx2 (ou2.mono hbw1.size) z2, ?_, hbF⟩
  by_cases hC : C = 0
  · rw [HB.out.1 hC]
    exact own_bx2 (Own.mono ⟨own_belowA (hu1 hC).1 hb2, (hu1 hC).2⟩ hbw.size) z2
  · rw [HB.out.2 hC, hu2 hC]
    exact own_nil _ _ _ _ _
set_option maxHeartbeats 2000000 in
set_option maxRecDepth 100000 in
theorem tSame_any (u v : Value) (l m : List Nat) (x y : Int) (w : World) (hu : Row .u8 256 w u l) (hv : Row .u8 256 w v m) :
    Calls Try.prog 17 #[.agg #[u, .int .i64 x], .agg #[v, .int .i64 y]] w fun e w' => e = .returned (.bool (decide (x = y ∧ l = m))) ∧ Below w.heap.size w w' := by
  have hs := fun z (h : Below w.heap.size w z) => beq_any u v l m z (hu.below h) (hv.below h)
  obtain ⟨a, c, rfl, _⟩ := hu.opens rfl
  obtain ⟨a', c', rfl, _⟩ := hv.opens rfl
  by_cases h : x = y
  · have hd : decide (x = y ∧ l = m) = decide (l = m) := by simp [h]
    rw [hd]
    subst h
    clear hd
    go_enter Try.func17, Try.ntmps17
    go_wp2_with (first | (go_at_call 23; refine (hs _ (keep_trans (keep_alloc _ _) (keep_alloc _ _))).mono ?_; rintro e w1 ⟨rfl, rfl⟩) | fail)
    go_ret
    exact ⟨rfl, keep_trans (keep_alloc _ _) (keep_alloc _ _)⟩
  · have hd : decide (x = y ∧ l = m) = false := by simp [h]
    rw [hd]
    have hb : (x == y) = false := by simp [h]
    clear hd
    go_enter Try.func17, Try.ntmps17
    go_wp2
    go_ret
    exact ⟨rfl, keep_trans (keep_alloc _ _) (keep_alloc _ _)⟩
end Go.Proofs.Ytiedkpfpaeecfaa
