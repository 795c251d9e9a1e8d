/- Whether two values are the same: der's Same, slices.EqualFunc. -/
import Derived.Test.YtjkciheoknjfhaaDoorETag
import Derived.Test.YtjkciheoknjfhaaDoorDTag
namespace Go.Proofs.YtjkciheoknjfhaaDoor
open Go.RowKit Go.Deep
set_option linter.unusedVariables false

def DSame (d : Nat) : Prop := ∀ (a0 a1 a2 b0 b1 b2 : Value) (x y : Nd) (w : World), NdAt w d a0 a1 a2 x → NdAt w d b0 b1 b2 y →
    Calls Tryd.prog 20 #[.agg #[a0, a1, a2], .agg #[b0, b1, b2]] w fun e w' => SameE x y w e w'
def EqE (ks ms : List Nd) (w : World) (e : Ending) (w' : World) : Prop := (∃ r : Bool, e = .returned (.bool r) ∧ (r = true ↔ ks = ms)) ∧ Below w.heap.size w w'
set_option maxHeartbeats 4000000 in
theorem eqf_any (d : Nat) (ih : DSame d) (vk vm : Value) (ks ms : List Nd) (w : World) (hk : KidsAt (NdAt w d) w vk ks) (hm : KidsAt (NdAt w d) w vm ms) :
    Calls Tryd.prog 27 #[vk, vm, .func (.func 20) #[] #[]] w fun e w' => EqE ks ms w e w' := by
  obtain ⟨ka, kcap, rfl, hk1, hk2, hk3⟩ := hk
  obtain ⟨ma, mcap, rfl, hm1, hm2, hm3⟩ := hm
  unfold maxLen at hk2 hm2
  by_cases hlen : ks.length = ms.length
  · have hli : ((ks.length : Int) != (ms.length : Int)) = false := by simp; omega
    have HLE := hide hlen
    clear hlen
    go_enter Tryd.func27, Tryd.ntmps27
    go_wp2_with fail
    go_loopw [17] (fun i wr => ∃ k : Nat, k ≤ ks.length ∧ i = .int .i64 k ∧ Hid (∀ j, j < k → kx ks j = kx ms j) ∧ Below w.heap.size w wr) (fun i _ => ks.length - (intOf i).toNat)
    case atStart => exact ⟨0, Nat.zero_le _, rfl, hide (fun j hj => by omega), Below.refl _ _⟩
    case round =>
      obtain ⟨k, hk, rfl, HA, hbr⟩ := hrel
      by_cases hlt : k < ks.length
      · have hlt2 : k < ms.length := by have := HLE.out; omega
        obtain ⟨bk, ok, rfl, hck⟩ := hk3 (by omega)
        obtain ⟨bm, om, rfl, hcm⟩ := hm3 (by omega)
        obtain ⟨x0, x1, x2, xc, xn⟩ := hck k hlt
        obtain ⟨y0, y1, y2, yc, yn⟩ := hcm k hlt2
        obtain ⟨xc0, xc1, xc2⟩ := xc.below hbr
        cases d with
        | zero => exact xn.elim
        | succ d =>
          generalize hX : kx ks k = X at *
          generalize hY : kx ms k = Y at *
          obtain ⟨t1, bs1, ks1⟩ := X
          obtain ⟨t2, bs2, ks2⟩ := Y
          have xn' := xn
          have yn' := yn
          obtain ⟨rfl, _, ⟨a1, p1, rfl, _⟩, _, _, a2, p2, rfl, _⟩ := xn'
          obtain ⟨rfl, _, ⟨b1, q1, rfl, _⟩, _, _, b2, q2, rfl, _⟩ := yn'
          generalize bs1.length = n1 at *
          generalize ks1.length = n2 at *
          generalize bs2.length = m1 at *
          generalize ks2.length = m2 at *
          have hB1 := keep_alloc wr (.cells #[.int .i64 t1, .slice a1 n1 p1, .slice a2 n2 p2] 26)
          obtain ⟨yc0, yc1, yc2⟩ := (yc.below hbr).below hB1
          have hB2 := keep_alloc (wr.alloc (.cells #[.int .i64 t1, .slice a1 n1 p1, .slice a2 n2 p2] 26)) (.cells #[.int .i64 t2, .slice b1 m1 q1, .slice b2 m2 q2] 26)
          obtain ⟨e0, e1, e2⟩ := (box_cell wr (.int .i64 t1) (.slice a1 n1 p1) (.slice a2 n2 p2) 26).below hB2
          obtain ⟨g0, g1, g2⟩ := box_cell (wr.alloc (.cells #[.int .i64 t1, .slice a1 n1 p1, .slice a2 n2 p2] 26)) (.int .i64 t2) (.slice b1 m1 q1) (.slice b2 m2 q2) 26
          have hbf := keep_trans hbr (keep_trans hB1 hB2)
          have hih := ih _ _ _ _ _ _ _ _ _ (NdAt.below hbf _ _ _ _ _ xn) (NdAt.below hbf _ _ _ _ _ yn)
          have HX := hide hX
          have HY := hide hY
          clear hck hcm xc yc xn yn hX hY hB1 hB2
          by_cases hxy : Nd.mk t1 bs1 ks1 = Nd.mk t2 bs2 ks2
          · have hcl := hih.mono (fun _ _ h => SameE.true h hxy)
            have HXY := hide hxy
            clear hih hxy
            go_wp2_with fail
            refine hcl.mono ?_
            rintro e w2 ⟨rfl, hb2⟩
            have hb3 := keep_trans hbf hb2
            clear hcl hb2
            go_wp2_with fail
            first
              | (go_roundw
                 case rel => exact ⟨k + 1, by omega, by go_num, hide (fun j hj => by
                     by_cases hjk : j = k
                     · subst hjk; rw [HX.out, HY.out]; exact HXY.out
                     · exact HA.out j (by omega)), hb3⟩
                 case measure => simp [intOf]; omega)
              | exact ⟨⟨k + 1, by omega, by simp, hide (fun j hj => by
                     by_cases hjk : j = k
                     · subst hjk; rw [HX.out, HY.out]; exact HXY.out
                     · exact HA.out j (by omega)), hb3⟩, by simp [intOf]; omega⟩
          · have hcl := hih.mono (fun _ _ h => SameE.false h hxy)
            have HN : Hid (ks ≠ ms) := hide (fun e => hxy (by rw [← HX.out, ← HY.out, e]))
            clear hih hxy
            go_wp2_with fail
            refine hcl.mono ?_
            rintro e w2 ⟨rfl, hb2⟩
            have hb3 := keep_trans hbf hb2
            clear hcl hb2
            go_wp2_with fail
            go_ret
            exact ⟨⟨false, rfl, ⟨fun e => (by cases e), fun e => absurd e HN.out⟩⟩, hb3⟩
      · have HE : Hid (ks = ms) := hide (kx_ext HLE.out (fun j hj => HA.out j (by omega)))
        go_wp2_with fail
        go_ret
        exact ⟨⟨true, rfl, ⟨fun _ => HE.out, fun _ => rfl⟩⟩, hbr⟩
  · have hli : ((ks.length : Int) != (ms.length : Int)) = true := by simp; omega
    have HN : Hid (ks ≠ ms) := hide (fun e => hlen (by rw [e]))
    clear hlen
    go_enter Tryd.func27, Tryd.ntmps27
    go_wp2_with fail
    go_ret
    exact ⟨⟨false, rfl, ⟨fun e => (by cases e), fun e => absurd e HN.out⟩⟩, Below.refl _ _⟩

set_option maxHeartbeats 4000000 in
theorem dsame_any : ∀ d, DSame d := by
  intro d
  induction d with
  | zero => intro a0 a1 a2 b0 b1 b2 x y w h; exact h.elim
  | succ d ih =>
    rintro a0 a1 a2 b0 b1 b2 ⟨t, b, ks⟩ ⟨s, c, ms⟩ w ⟨rfl, ht, hrb, htb, htk, hkk⟩ ⟨rfl, hs, hrc, htc, htm, hmm⟩
    obtain ⟨ka, kcap, rfl⟩ : ∃ a c, a2 = .slice a ks.length c := by obtain ⟨a, c, h, _⟩ := hkk; exact ⟨a, c, h⟩
    obtain ⟨ma, mcap, rfl⟩ : ∃ a c, b2 = .slice a ms.length c := by obtain ⟨a, c, h, _⟩ := hmm; exact ⟨a, c, h⟩
    obtain ⟨ba, bcap, rfl⟩ : ∃ a c, a1 = .slice a b.length c := by obtain ⟨a, c, h, _⟩ := hrb; exact ⟨a, c, h⟩
    obtain ⟨ca, ccap, rfl⟩ : ∃ a c', b1 = .slice a c.length c' := by obtain ⟨a, c', h, _⟩ := hrc; exact ⟨a, c', h⟩
    have hbw : Below w.heap.size w ((w.alloc (.cells #[.int .i64 t, .slice ba b.length bcap, .slice ka ks.length kcap] 26)).alloc (.cells #[.int .i64 s, .slice ca c.length ccap, .slice ma ms.length mcap] 26)) := keep_trans (keep_alloc w _) (keep_alloc _ _)
    by_cases hts : t = s
    · subst hts
      have hti : (t == t) = true := by simp
      have heq := beq_any _ _ b c _ (hrb.below hbw) (hrc.below hbw)
      by_cases hbc : b = c
      · rw [decide_eq_true hbc] at heq
        have hmk : ∀ {v : Value} {ls : List Nd}, KidsAt (NdAt w d) w v ls → KidsAt (NdAt ((w.alloc (.cells #[.int .i64 t, .slice ba b.length bcap, .slice ka ks.length kcap] 26)).alloc (.cells #[.int .i64 t, .slice ca c.length ccap, .slice ma ms.length mcap] 26)) d) ((w.alloc (.cells #[.int .i64 t, .slice ba b.length bcap, .slice ka ks.length kcap] 26)).alloc (.cells #[.int .i64 t, .slice ca c.length ccap, .slice ma ms.length mcap] 26)) v ls := fun {v ls} h => by
          obtain ⟨a, cap, h6, h7, h8, h9⟩ := h
          refine ⟨a, cap, h6, h7, h8, fun hl => ?_⟩
          obtain ⟨bl, off, e, hc⟩ := h9 hl
          refine ⟨bl, off, e, fun i hi => ?_⟩
          obtain ⟨k0, k1, k2, k3, k4⟩ := hc i hi
          exact ⟨k0, k1, k2, k3.below hbw, NdAt.below hbw _ _ _ _ _ k4⟩
        have hef := eqf_any d ih _ _ ks ms _ (hmk hkk) (hmk hmm)
        have HBC := hide hbc
        clear hmk hbc
        go_enter Tryd.func20, Tryd.ntmps20
        go_wp2_with fail
        refine heq.mono ?_
        rintro e w1 ⟨rfl, rfl⟩
        clear heq
        go_wp2_with fail
        refine hef.mono ?_
        rintro e w2 ⟨⟨r, rfl, hr⟩, hb2⟩
        have HR := hide hr
        clear hr hef
        go_wp2_with fail
        go_ret
        refine ⟨⟨r, rfl, ⟨fun e => by rw [HBC.out, HR.out.1 e], fun e => HR.out.2 (by injection e)⟩⟩, keep_trans hbw hb2⟩
      · rw [decide_eq_false hbc] at heq
        go_enter Tryd.func20, Tryd.ntmps20
        go_wp2_with fail
        refine heq.mono ?_
        rintro e w1 ⟨rfl, rfl⟩
        go_wp2_with fail
        go_ret
        exact SameE.no (fun e => hbc (by injection e)) hbw
    · have hti : (t == s) = false := by simpa using hts
      go_enter Tryd.func20, Tryd.ntmps20
      go_wp2_with fail
      go_ret
      exact SameE.no (fun e => hts (by injection e)) hbw
end Go.Proofs.YtjkciheoknjfhaaDoor
