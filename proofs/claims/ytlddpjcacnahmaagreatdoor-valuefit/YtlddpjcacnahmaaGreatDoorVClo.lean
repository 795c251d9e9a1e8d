/- What a value is: what is told of it, once its tag is right. -/
import Derived.Test.YtlddpjcacnahmaaGreatDoorVAsk
namespace Go.Proofs.YtlddpjcacnahmaaGreatDoor
open Go.RowKit Go.Deep
set_option linter.unusedVariables false
set_option linter.unusedSimpArgs false

set_option maxRecDepth 100000 in
set_option maxHeartbeats 2000000 in
theorem intOf1_any (FB : Int → List Nat → Bool) (hFB : FBok FB) (P d : Nat) (a1 a2 : Option Addr) (n1 p1 n2 p2 : Nat) (b : List Nat) (w : World) (hc : Cell3 w P 0 (.int .i64 2) (.slice a1 n1 p1) (.slice a2 n2 p2)) (hn : NdAt w d (.int .i64 2) (.slice a1 n1 p1) (.slice a2 n2 p2) (.mk 2 b [])) (hl : szF d (.mk 2 b []) ≤ 10000) (hT : UTabs w) :
    Calls Tryz.prog 59 #[.pointer (some ⟨P, 0, none⟩)] w fun e w' => (∃ v er, e = .returned (.tuple #[v, .int .i64 er]) ∧ (v = .int .i64 (ioV FB (.mk 2 b [])) ∧ er = ioR FB (.mk 2 b []))) ∧ Below w.heap.size w w' := by
  obtain ⟨x0, x1, x2⟩ := hc
  have hop := hn.open hl
  obtain ⟨_, _, _, _, _, _, _, _, _, _, he1, _, he3, hbl, hrb⟩ := hop
  obtain ⟨rfl, rfl, rfl⟩ := Value.slice.inj he1
  obtain ⟨rfl, rfl, rfl⟩ := Nd.mk.inj he3
  have hfd := fit_der FB hFB d _ _ _ _ w hn hl hT
  rw [leaf_fit FB (by decide) hbl] at hfd
  clear he1 he3
  cases hf : FB 2 b with
  | false =>
    rw [hf] at hfd
    have HI := hide (io_no (t := 2) (ks := []) (b := b) (FB := FB) (by rw [cod_unfit hf]; decide))
    have HC : Hid (codN FB 2 (.mk 2 b []) = 5) := hide (cod_unfit hf)
    clear hf
    go_enter Tryz.func59, Tryz.ntmps59
    go_wp2_with fail
    refine hfd.mono ?_
    rintro e w1 ⟨rfl, hb1⟩
    clear hfd
    go_wp2_with fail
    go_ret2
    exact ⟨⟨_, _, rfl, by rw [HI.out.1]; rfl, by rw [HI.out.2, HC.out]⟩, hb1⟩
  | true =>
    rw [hf] at hfd
    have hcz : codN FB 2 (.mk 2 b []) = 0 := cod_ok rfl hf
    have h0 := intF_pos ((fb_int hFB b).1 hf)
    have hrb' := hrb
    obtain ⟨b', c', he, g1, g2, _⟩ := hrb'
    obtain ⟨rfl, rfl, rfl⟩ := Value.slice.inj he
    unfold maxLen at g2
    clear hf he
    by_cases h8 : 8 < b.length
    · have HI := hide (io_long hcz h8)
      have h8i : (8 : Int) < (b.length : Int) := by omega
      clear hcz
      go_enter Tryz.func59, Tryz.ntmps59
      go_wp2_with fail
      refine hfd.mono ?_
      rintro e w1 ⟨rfl, hb1⟩
      have x1 := Below.cells hb1 x1
      clear hfd
      go_wp2_with fail
      go_ret2
      exact ⟨⟨_, _, rfl, by rw [HI.out.1]; rfl, by rw [HI.out.2]⟩, hb1⟩
    · have HI := hide (io_ok hcz (by omega))
      have h8i : ¬ (8 : Int) < (b.length : Int) := by omega
      clear hcz
      go_enter Tryz.func59, Tryz.ntmps59
      go_wp2_with fail
      refine hfd.mono ?_
      rintro e w1 ⟨rfl, hb1⟩
      have x1 := Below.cells hb1 x1
      have hsg := signed_any _ b w1 (hrb.below hb1) h0 (by omega)
      clear hfd
      go_wp2_with fail
      refine hsg.mono ?_
      rintro e w2 ⟨rfl, rfl⟩
      clear hsg
      go_wp2_with fail
      go_ret2
      exact ⟨⟨_, _, rfl, by rw [HI.out.1]; rfl, by rw [HI.out.2]⟩, hb1⟩

set_option maxRecDepth 100000 in
set_option maxHeartbeats 2000000 in
theorem utf8Of1_any (FB : Int → List Nat → Bool) (hFB : FBok FB) (P d : Nat) (a1 a2 : Option Addr) (n1 p1 n2 p2 : Nat) (b : List Nat) (w : World) (hc : Cell3 w P 0 (.int .i64 12) (.slice a1 n1 p1) (.slice a2 n2 p2)) (hn : NdAt w d (.int .i64 12) (.slice a1 n1 p1) (.slice a2 n2 p2) (.mk 12 b [])) (hl : szF d (.mk 12 b []) ≤ 10000) (hT : UTabs w) :
    Calls Tryz.prog 66 #[.pointer (some ⟨P, 0, none⟩)] w fun e w' => (∃ v er, e = .returned (.tuple #[v, .int .i64 er]) ∧ (v = str (bts (byO FB 12 (.mk 12 b []))) ∧ er = codN FB 12 (.mk 12 b []))) ∧ Below w.heap.size w w' := by
  obtain ⟨x0, x1, x2⟩ := hc
  have hop := hn.open hl
  obtain ⟨_, _, _, _, _, _, _, _, _, _, he1, _, he3, hbl, hrb⟩ := hop
  obtain ⟨rfl, rfl, rfl⟩ := Value.slice.inj he1
  obtain ⟨rfl, rfl, rfl⟩ := Nd.mk.inj he3
  have hfd := fit_der FB hFB d _ _ _ _ w hn hl hT
  rw [leaf_fit FB (by decide) hbl] at hfd
  clear he1 he3
  cases hf : FB 12 b with
  | false =>
    rw [hf] at hfd
    have HC : Hid (codN FB 12 (.mk 12 b []) = 5) := hide (cod_unfit hf)
    clear hf
    go_enter Tryz.func66, Tryz.ntmps66
    go_wp2_with fail
    refine hfd.mono ?_
    rintro e w1 ⟨rfl, hb1⟩
    clear hfd
    go_wp2_with fail
    go_ret2
    exact ⟨⟨_, _, rfl, by rw [byO_no (by rw [HC.out]; decide)]; rfl, by rw [HC.out]⟩, hb1⟩
  | true =>
    rw [hf] at hfd
    have HC : Hid (codN FB 12 (.mk 12 b []) = 0) := hide (cod_ok rfl hf)
    clear hf
    go_enter Tryz.func66, Tryz.ntmps66
    go_wp2_with fail
    refine hfd.mono ?_
    rintro e w1 ⟨rfl, hb1⟩
    have x1 := Below.cells hb1 x1
    have hcv := conv_row (hrb.below hb1)
    clear hfd
    go_wp2_with fail
    go_ret2
    exact ⟨⟨_, _, rfl, by rw [byO_ok HC.out]; rfl, by rw [HC.out]⟩, hb1⟩

set_option maxRecDepth 100000 in
set_option maxHeartbeats 2000000 in
theorem bytesOf1_any (FB : Int → List Nat → Bool) (hFB : FBok FB) (P : Nat) (a1 : Option Addr) (n1 p1 : Nat) (b : List Nat) (w : World) (x1 : w.cell? ⟨P, 1, none⟩ = some (.slice a1 n1 p1)) (hrb : Row .u8 256 w (.slice a1 n1 p1) b) (hbl : b.length ≤ 10000) :
    Calls Tryz.prog 64 #[.pointer (some ⟨P, 0, none⟩)] w fun e w' => (∃ v er, e = .returned (.tuple #[v, .int .i64 er]) ∧ (er = codN FB 4 (.mk 4 b []) ∧ Row .u8 256 w' v (byO FB 4 (.mk 4 b [])))) ∧ Below w.heap.size w w' := by
  have hf : FB 4 b = true := (hFB 4 b).2 (fitp_other (by omega) b)
  have HC : Hid (codN FB 4 (.mk 4 b []) = 0) := hide (cod_ok rfl hf)
  have hu := hrb.under
  have hnw := (row_news hrb).2
  obtain ⟨b', c', he, g1, g2, _⟩ := hrb
  obtain ⟨rfl, rfl, rfl⟩ := Value.slice.inj he
  obtain ⟨i0, hi, hz0, hz1, hz2⟩ := info_byte
  clear hf he
  go_enter Tryz.func64, Tryz.ntmps64
  go_wp2_with (first
    | (at_builtin; refine wpList_append_rows _ rfl _ _ 22 22 5 (by rfl) Tryz.underlying22 w.heap.size 5 i0 (.int .u8 0) 1 Tryz.underlying22 hi hz0 hz1 hz2 rfl _ _ _ (by rfl) (World.ownsRow_nil _ _ _ _) a1 b.length p1 (vals .u8 b) (by rfl) (vals_length _ _) hnw (vals_one _ _) (by unfold maxLen; simp; omega) (by simp; omega) (by simp) ?_; intro v6 w6 ho6 hg6; obtain ⟨va, vc, rfl⟩ := own_slice ho6)
    | go_in)
  rw [List.nil_append, Nat.zero_add] at ho6
  have hb6 : Below w.heap.size w w6 := (Below.refl _ _).grown hg6 (Nat.le_refl _) (fun k h => by cases h)
  go_ret2
  exact ⟨⟨_, _, rfl, by rw [HC.out], by rw [byO_ok HC.out]; exact Own.row ⟨ho6, hu⟩⟩, hb6⟩

set_option maxRecDepth 100000 in
set_option maxHeartbeats 2000000 in
theorem idOf1_any (FB : Int → List Nat → Bool) (hFB : FBok FB) (P : Nat) (a1 : Option Addr) (n1 p1 : Nat) (b : List Nat) (w : World) (x1 : w.cell? ⟨P, 1, none⟩ = some (.slice a1 n1 p1)) (hrb : Row .u8 256 w (.slice a1 n1 p1) b) :
    Calls Tryz.prog 68 #[.pointer (some ⟨P, 0, none⟩)] w fun e w' => (∃ v er, e = .returned (.tuple #[v, .int .i64 er]) ∧ (er = codN FB 6 (.mk 6 b []) ∧ Row .u32 4294967296 w' v (idO FB (.mk 6 b [])))) ∧ Below w.heap.size w w' := by
  have hpa := parse_any _ b w hrb
  have hpe : parO b = parR b := (parR_eq hrb.under).symm
  rw [hpe] at hpa
  have hcod : codN FB 6 (.mk 6 b []) = (if (parR b).isSome = true then 0 else 5) ∧ idO FB (.mk 6 b []) = (parR b).getD [] := by
    have hff : FB 6 b = (parR b).isSome := by
      cases hs : (parR b).isSome with
      | true => exact (hFB 6 b).2 ((fitp_6 b).2 hs)
      | false =>
        cases hf : FB 6 b with
        | false => rfl
        | true => rw [(fitp_6 b).1 ((hFB 6 b).1 hf)] at hs; cases hs
    unfold idO
    cases hs : (parR b).isSome with
    | true => rw [hs] at hff; rw [byO_ok (cod_ok rfl hff)]; exact ⟨cod_ok rfl hff, rfl⟩
    | false =>
      rw [hs] at hff
      rw [byO_no (by rw [cod_unfit hff]; decide), par_nil, cod_unfit hff]
      refine ⟨rfl, ?_⟩
      cases hp : parR b with
      | none => rfl
      | some o => rw [hp] at hs; cases hs
  have HC := hide hcod
  clear hcod hpe
  go_enter Tryz.func68, Tryz.ntmps68
  go_wp2_with fail
  refine hpa.mono ?_
  rintro e w1 ⟨⟨u, rfl, hru⟩, hb1⟩
  have HER : Hid ((if (parR b).isSome = true then (0 : Int) else 5) = codN FB 6 (.mk 6 b [])) := hide HC.out.1.symm
  generalize (if (parR b).isSome = true then (0 : Int) else 5) = er at *
  clear hpa
  go_wp2_with fail
  go_ret2
  exact ⟨⟨_, _, rfl, HER.out, by rw [HC.out.2]; exact hru⟩, hb1⟩

set_option maxRecDepth 100000 in
set_option maxHeartbeats 2000000 in
theorem timeOf1_any (FB : Int → List Nat → Bool) (hFB : FBok FB) (P : Nat) (a1 : Option Addr) (n1 p1 : Nat) (b : List Nat) (w : World) (x1 : w.cell? ⟨P, 1, none⟩ = some (.slice a1 n1 p1)) (hrb : Row .u8 256 w (.slice a1 n1 p1) b) (hbl : b.length ≤ 10000) :
    Calls Tryz.prog 71 #[.pointer (some ⟨P, 0, none⟩)] w fun e w' => (∃ v er, e = .returned (.tuple #[v, .int .i64 er]) ∧ (er = codN FB 24 (.mk 24 b []) ∧ ∃ u, v = .int .i64 u ∧ TimO FB (.mk 24 b []) u)) ∧ Below w.heap.size w w' := by
  have hcv := conv_row hrb
  have hrd := sread_any (bts b) w (by unfold bts; rw [List.length_map]; omega)
  go_enter Tryz.func71, Tryz.ntmps71
  go_wp2_with fail
  refine hrd.mono ?_
  rintro e w1 ⟨⟨v, c, rfl, hR⟩, hb1⟩
  have hrt := read_time hR
  by_cases hc0 : c = 0
  · have hf : FB 24 b = true := (hFB 24 b).2 ((fitp_24 b).2 (hrt.2 (by rw [hc0]; rfl)))
    have HC : Hid (codN FB 24 (.mk 24 b []) = 0) := hide (cod_ok rfl hf)
    rw [hc0] at hR
    have HR := hide hR
    rw [hc0]
    clear hf hc0 hrd hcv hR hrt
    go_wp2_with fail
    go_ret2
    exact ⟨⟨_, _, rfl, by rw [HC.out], v, rfl, .inl ⟨HC.out, by rw [byO_ok HC.out]; exact HR.out⟩⟩, hb1⟩
  · have hf : FB 24 b = false := by
      cases hf : FB 24 b with
      | false => rfl
      | true =>
        have := hrt.1 ((fitp_24 b).1 ((hFB 24 b).1 hf))
        exact absurd (by simpa using this) hc0
    have HC : Hid (codN FB 24 (.mk 24 b []) = 5) := hide (cod_unfit hf)
    have hci : (c != 0) = true := by simpa using hc0
    clear hf hc0 hrd hcv hR hrt
    go_wp2_with fail
    go_ret2
    exact ⟨⟨_, _, rfl, by rw [HC.out], 0, rfl, .inr ⟨by rw [HC.out]; decide, rfl⟩⟩, hb1⟩

set_option maxRecDepth 100000 in
set_option maxHeartbeats 2000000 in
theorem kids1_any (P d : Nat) (a2 : Option Addr) (n2 p2 : Nat) (ks : List Nd) (w : World) (x2 : w.cell? ⟨P, 2, none⟩ = some (.slice a2 n2 p2)) (hk : KidsAt (NdAt w d) w (.slice a2 n2 p2) ks) (hs : (ks.map (szF d)).sum ≤ 100000) :
    Calls Tryz.prog 83 #[.pointer (some ⟨P, 0, none⟩)] w fun e w' => (∃ v er, e = .returned (.tuple #[v, .int .i64 er]) ∧ (er = 0 ∧ ∃ d, KidsAt (NdAt w' d) w' v ks ∧ Tidy v)) ∧ Below w.heap.size w w' := by
  have hc := copies_any d _ ks w hk hs
  go_enter Tryz.func83, Tryz.ntmps83
  go_wp2_with fail
  refine hc.mono ?_
  rintro e w1 ⟨⟨d1, v1, rfl, htd, hvi, hk1⟩, hb1⟩
  clear hc
  go_wp2_with fail
  go_ret2
  exact ⟨⟨_, _, rfl, rfl, d1, kids_at hk1, htd⟩, hb1⟩
end Go.Proofs.YtlddpjcacnahmaaGreatDoor

/- What a value is: IntOf, BytesOf, Utf8Of, IdOf, TimeOf. -/
namespace Go.Proofs.YtlddpjcacnahmaaGreatDoor
open Go.RowKit Go.Deep
set_option linter.unusedVariables false
set_option linter.unusedSimpArgs false

theorem mix_no {t : Int} (hx : boxedB t = false) {b : List Nat} {ks : List Nd} (h : mixB t b ks = false) : ks = [] := by
  rw [mix_plain hx] at h
  exact List.eq_nil_of_length_eq_zero (by simpa using h)
theorem mix_yes {t : Int} (hx : boxedB t = false) {b : List Nat} {ks : List Nd} (h : mixB t b ks = true) : ks.length ≠ 0 := by
  rw [mix_plain hx] at h
  have : 0 < ks.length := by simpa using h
  omega

set_option maxRecDepth 100000 in
set_option maxHeartbeats 2000000 in
theorem intOf_any (FB : Int → List Nat → Bool) (hFB : FBok FB) (d : Nat) (c0 c1 c2 : Value) (x : Nd) (w : World) (hn : NdAt w d c0 c1 c2 x) (hl : szF d x ≤ 10000) (hT : UTabs w) :
    Calls Tryz.prog 22 #[.agg #[c0, c1, c2]] w fun e w' => NofE FB x w e w' := by
  obtain ⟨t, a1, n1, p1, a2, n2, p2, b, ks, rfl, rfl, rfl, rfl, hbl, hrb⟩ := hn.open hl
  have hb0 := keep_alloc w (.cells #[.int .i64 t, .slice a1 n1 p1, .slice a2 n2 p2] 28)
  have hcc := box_cell w (.int .i64 t) (.slice a1 n1 p1) (.slice a2 n2 p2) 28
  have hask := ask_int 2 t d a1 a2 n1 p1 n2 p2 w.heap.size b ks (w.alloc (.cells #[.int .i64 t, .slice a1 n1 p1, .slice a2 n2 p2] 28)) (fun v er _ => v = .int .i64 (ioV FB (.mk 2 b [])) ∧ er = ioR FB (.mk 2 b [])) (NdAt.below hb0 _ _ _ _ _ hn) (by
    intro ht hm w1 hb1
    subst ht
    have h0 := mix_no (by decide) hm
    subst h0
    have hbW := keep_trans hb0 hb1
    exact intOf1_any FB hFB w.heap.size d a1 a2 n1 p1 n2 p2 b w1 (hcc.below hb1) (NdAt.below hbW _ _ _ _ _ hn) hl (hT.below hbW))
  obtain ⟨x0, x1, x2⟩ := hcc
  have HB : Hid (Row .u8 256 w (.slice a1 n1 p1) b) := hide hrb
  clear hrb hn
  go_enter Tryz.func22, Tryz.ntmps22
  go_wp2_with fail
  refine hask.mono ?_
  rintro e w1 ⟨⟨h1, rfl⟩ | ⟨h1, hm, rfl⟩ | ⟨h1, hm, v, er, rfl, hR⟩, hb1⟩
  · have H1 := hide h1
    clear hask h1
    go_wp2_with fail
    go_ret2
    have hcd : codN FB 2 (.mk t b ks) = 4 := cod_tag H1.out
    exact ⟨by rw [(io_no (by rw [hcd]; decide)).1, (io_no (by rw [hcd]; decide)).2, hcd]; rfl, keep_trans hb0 hb1⟩
  · have hcd : codN FB 2 (.mk t b ks) = 5 := by rw [h1] at hm ⊢; exact cod_kids (mix_yes (by decide) hm)
    have HC := hide hcd
    clear hask hcd hm h1
    go_wp2_with fail
    go_ret2
    have hcd := HC.out
    exact ⟨by rw [(io_no (by rw [hcd]; decide)).1, (io_no (by rw [hcd]; decide)).2, hcd]; rfl, keep_trans hb0 hb1⟩
  · have HH := hide (And.intro h1 (And.intro hm hR))
    clear hask h1 hm hR
    go_wp2_with fail
    go_ret2
    obtain ⟨h1, hm, hR⟩ := HH.out
    subst h1
    have h0 := mix_no (by decide) hm
    subst h0
    exact ⟨by rw [← hR.1, ← hR.2]; rfl, keep_trans hb0 hb1⟩

set_option maxRecDepth 100000 in
set_option maxHeartbeats 2000000 in
theorem bytesOf_any (FB : Int → List Nat → Bool) (hFB : FBok FB) (d : Nat) (c0 c1 c2 : Value) (x : Nd) (w : World) (hn : NdAt w d c0 c1 c2 x) (hl : szF d x ≤ 10000) (hT : UTabs w) :
    Calls Tryz.prog 24 #[.agg #[c0, c1, c2]] w fun e w' => BofE FB x w e w' := by
  obtain ⟨t, a1, n1, p1, a2, n2, p2, b, ks, rfl, rfl, rfl, rfl, hbl, hrb⟩ := hn.open hl
  have hb0 := keep_alloc w (.cells #[.int .i64 t, .slice a1 n1 p1, .slice a2 n2 p2] 28)
  have hcc := box_cell w (.int .i64 t) (.slice a1 n1 p1) (.slice a2 n2 p2) 28
  have hask := ask_bytes 4 t d a1 a2 n1 p1 n2 p2 w.heap.size b ks (w.alloc (.cells #[.int .i64 t, .slice a1 n1 p1, .slice a2 n2 p2] 28)) (fun v er w' => er = codN FB 4 (.mk 4 b []) ∧ Row .u8 256 w' v (byO FB 4 (.mk 4 b []))) (NdAt.below hb0 _ _ _ _ _ hn) (by
    intro ht hm w1 hb1
    subst ht
    have h0 := mix_no (by decide) hm
    subst h0
    have hbW := keep_trans hb0 hb1
    exact bytesOf1_any FB hFB w.heap.size a1 n1 p1 b w1 (hcc.below hb1).2.1 (hrb.below hbW) hbl)
  obtain ⟨x0, x1, x2⟩ := hcc
  have HB : Hid (Row .u8 256 w (.slice a1 n1 p1) b) := hide hrb
  clear hrb hn
  go_enter Tryz.func24, Tryz.ntmps24
  go_wp2_with fail
  refine hask.mono ?_
  rintro e w1 ⟨⟨h1, rfl⟩ | ⟨h1, hm, rfl⟩ | ⟨h1, hm, v, er, rfl, hR⟩, hb1⟩
  · have H1 := hide h1
    clear hask h1
    go_wp2_with fail
    go_ret2
    have hcd : codN FB 4 (.mk t b ks) = 4 := cod_tag H1.out
    exact ⟨⟨none, 0, 0, by rw [hcd]; rfl, by rw [byO_no (by rw [hcd]; decide)]; exact Row.nil _ _ _⟩, keep_trans hb0 hb1⟩
  · have hcd : codN FB 4 (.mk t b ks) = 5 := by rw [h1] at hm ⊢; exact cod_kids (mix_yes (by decide) hm)
    have HC := hide hcd
    clear hask hcd hm h1
    go_wp2_with fail
    go_ret2
    have hcd := HC.out
    exact ⟨⟨none, 0, 0, by rw [hcd]; rfl, by rw [byO_no (by rw [hcd]; decide)]; exact Row.nil _ _ _⟩, keep_trans hb0 hb1⟩
  · have HH := hide (And.intro h1 (And.intro hm hR))
    clear hask h1 hm hR
    go_wp2_with fail
    go_ret2
    obtain ⟨h1, hm, hR⟩ := HH.out
    subst h1
    have h0 := mix_no (by decide) hm
    subst h0
    exact by obtain ⟨a, c, he, h5⟩ := hR.2; exact ⟨⟨a, _, c, by rw [← hR.1, ← he]; rfl, by rw [← he]; exact hR.2⟩, keep_trans hb0 hb1⟩

set_option maxRecDepth 100000 in
set_option maxHeartbeats 2000000 in
theorem utf8Of_any (FB : Int → List Nat → Bool) (hFB : FBok FB) (d : Nat) (c0 c1 c2 : Value) (x : Nd) (w : World) (hn : NdAt w d c0 c1 c2 x) (hl : szF d x ≤ 10000) (hT : UTabs w) :
    Calls Tryz.prog 26 #[.agg #[c0, c1, c2]] w fun e w' => UofE FB x w e w' := by
  obtain ⟨t, a1, n1, p1, a2, n2, p2, b, ks, rfl, rfl, rfl, rfl, hbl, hrb⟩ := hn.open hl
  have hb0 := keep_alloc w (.cells #[.int .i64 t, .slice a1 n1 p1, .slice a2 n2 p2] 28)
  have hcc := box_cell w (.int .i64 t) (.slice a1 n1 p1) (.slice a2 n2 p2) 28
  have hask := ask_utf8 12 t d a1 a2 n1 p1 n2 p2 w.heap.size b ks (w.alloc (.cells #[.int .i64 t, .slice a1 n1 p1, .slice a2 n2 p2] 28)) (fun v er _ => v = str (bts (byO FB 12 (.mk 12 b []))) ∧ er = codN FB 12 (.mk 12 b [])) (NdAt.below hb0 _ _ _ _ _ hn) (by
    intro ht hm w1 hb1
    subst ht
    have h0 := mix_no (by decide) hm
    subst h0
    have hbW := keep_trans hb0 hb1
    exact utf8Of1_any FB hFB w.heap.size d a1 a2 n1 p1 n2 p2 b w1 (hcc.below hb1) (NdAt.below hbW _ _ _ _ _ hn) hl (hT.below hbW))
  obtain ⟨x0, x1, x2⟩ := hcc
  have HB : Hid (Row .u8 256 w (.slice a1 n1 p1) b) := hide hrb
  clear hrb hn
  go_enter Tryz.func26, Tryz.ntmps26
  go_wp2_with fail
  refine hask.mono ?_
  rintro e w1 ⟨⟨h1, rfl⟩ | ⟨h1, hm, rfl⟩ | ⟨h1, hm, v, er, rfl, hR⟩, hb1⟩
  · have H1 := hide h1
    clear hask h1
    go_wp2_with fail
    go_ret2
    have hcd : codN FB 12 (.mk t b ks) = 4 := cod_tag H1.out
    exact ⟨by rw [byO_no (by rw [hcd]; decide), hcd]; rfl, keep_trans hb0 hb1⟩
  · have hcd : codN FB 12 (.mk t b ks) = 5 := by rw [h1] at hm ⊢; exact cod_kids (mix_yes (by decide) hm)
    have HC := hide hcd
    clear hask hcd hm h1
    go_wp2_with fail
    go_ret2
    have hcd := HC.out
    exact ⟨by rw [byO_no (by rw [hcd]; decide), hcd]; rfl, keep_trans hb0 hb1⟩
  · have HH := hide (And.intro h1 (And.intro hm hR))
    clear hask h1 hm hR
    go_wp2_with fail
    go_ret2
    obtain ⟨h1, hm, hR⟩ := HH.out
    subst h1
    have h0 := mix_no (by decide) hm
    subst h0
    exact ⟨by rw [← hR.1, ← hR.2]; rfl, keep_trans hb0 hb1⟩

set_option maxRecDepth 100000 in
set_option maxHeartbeats 2000000 in
theorem idOf_any (FB : Int → List Nat → Bool) (hFB : FBok FB) (d : Nat) (c0 c1 c2 : Value) (x : Nd) (w : World) (hn : NdAt w d c0 c1 c2 x) (hl : szF d x ≤ 10000) (hT : UTabs w) :
    Calls Tryz.prog 28 #[.agg #[c0, c1, c2]] w fun e w' => OofE FB x w e w' := by
  obtain ⟨t, a1, n1, p1, a2, n2, p2, b, ks, rfl, rfl, rfl, rfl, hbl, hrb⟩ := hn.open hl
  have hb0 := keep_alloc w (.cells #[.int .i64 t, .slice a1 n1 p1, .slice a2 n2 p2] 28)
  have hcc := box_cell w (.int .i64 t) (.slice a1 n1 p1) (.slice a2 n2 p2) 28
  have hask := ask_id 6 t d a1 a2 n1 p1 n2 p2 w.heap.size b ks (w.alloc (.cells #[.int .i64 t, .slice a1 n1 p1, .slice a2 n2 p2] 28)) (fun v er w' => er = codN FB 6 (.mk 6 b []) ∧ Row .u32 4294967296 w' v (idO FB (.mk 6 b []))) (NdAt.below hb0 _ _ _ _ _ hn) (by
    intro ht hm w1 hb1
    subst ht
    have h0 := mix_no (by decide) hm
    subst h0
    have hbW := keep_trans hb0 hb1
    exact idOf1_any FB hFB w.heap.size a1 n1 p1 b w1 (hcc.below hb1).2.1 (hrb.below hbW))
  obtain ⟨x0, x1, x2⟩ := hcc
  have HB : Hid (Row .u8 256 w (.slice a1 n1 p1) b) := hide hrb
  clear hrb hn
  go_enter Tryz.func28, Tryz.ntmps28
  go_wp2_with fail
  refine hask.mono ?_
  rintro e w1 ⟨⟨h1, rfl⟩ | ⟨h1, hm, rfl⟩ | ⟨h1, hm, v, er, rfl, hR⟩, hb1⟩
  · have H1 := hide h1
    clear hask h1
    go_wp2_with fail
    go_ret2
    have hcd : codN FB 6 (.mk t b ks) = 4 := cod_tag H1.out
    exact ⟨⟨none, 0, 0, by rw [hcd]; rfl, by unfold idO; rw [byO_no (by rw [hcd]; decide), par_nil]; exact Row.nil _ _ _⟩, keep_trans hb0 hb1⟩
  · have hcd : codN FB 6 (.mk t b ks) = 5 := by rw [h1] at hm ⊢; exact cod_kids (mix_yes (by decide) hm)
    have HC := hide hcd
    clear hask hcd hm h1
    go_wp2_with fail
    go_ret2
    have hcd := HC.out
    exact ⟨⟨none, 0, 0, by rw [hcd]; rfl, by unfold idO; rw [byO_no (by rw [hcd]; decide), par_nil]; exact Row.nil _ _ _⟩, keep_trans hb0 hb1⟩
  · have HH := hide (And.intro h1 (And.intro hm hR))
    clear hask h1 hm hR
    go_wp2_with fail
    go_ret2
    obtain ⟨h1, hm, hR⟩ := HH.out
    subst h1
    have h0 := mix_no (by decide) hm
    subst h0
    exact by obtain ⟨a, c, he, h5⟩ := hR.2; exact ⟨⟨a, _, c, by rw [← hR.1, ← he]; rfl, by rw [← he]; exact hR.2⟩, keep_trans hb0 hb1⟩

set_option maxRecDepth 100000 in
set_option maxHeartbeats 2000000 in
theorem timeOf_any (FB : Int → List Nat → Bool) (hFB : FBok FB) (d : Nat) (c0 c1 c2 : Value) (x : Nd) (w : World) (hn : NdAt w d c0 c1 c2 x) (hl : szF d x ≤ 10000) (hT : UTabs w) :
    Calls Tryz.prog 30 #[.agg #[c0, c1, c2]] w fun e w' => TofE FB x w e w' := by
  obtain ⟨t, a1, n1, p1, a2, n2, p2, b, ks, rfl, rfl, rfl, rfl, hbl, hrb⟩ := hn.open hl
  have hb0 := keep_alloc w (.cells #[.int .i64 t, .slice a1 n1 p1, .slice a2 n2 p2] 28)
  have hcc := box_cell w (.int .i64 t) (.slice a1 n1 p1) (.slice a2 n2 p2) 28
  have hask := ask_time 24 t d a1 a2 n1 p1 n2 p2 w.heap.size b ks (w.alloc (.cells #[.int .i64 t, .slice a1 n1 p1, .slice a2 n2 p2] 28)) (fun v er _ => er = codN FB 24 (.mk 24 b []) ∧ ∃ u, v = .int .i64 u ∧ TimO FB (.mk 24 b []) u) (NdAt.below hb0 _ _ _ _ _ hn) (by
    intro ht hm w1 hb1
    subst ht
    have h0 := mix_no (by decide) hm
    subst h0
    have hbW := keep_trans hb0 hb1
    exact timeOf1_any FB hFB w.heap.size a1 n1 p1 b w1 (hcc.below hb1).2.1 (hrb.below hbW) hbl)
  obtain ⟨x0, x1, x2⟩ := hcc
  have HB : Hid (Row .u8 256 w (.slice a1 n1 p1) b) := hide hrb
  clear hrb hn
  go_enter Tryz.func30, Tryz.ntmps30
  go_wp2_with fail
  refine hask.mono ?_
  rintro e w1 ⟨⟨h1, rfl⟩ | ⟨h1, hm, rfl⟩ | ⟨h1, hm, v, er, rfl, hR⟩, hb1⟩
  · have H1 := hide h1
    clear hask h1
    go_wp2_with fail
    go_ret2
    have hcd : codN FB 24 (.mk t b ks) = 4 := cod_tag H1.out
    exact ⟨⟨0, by rw [hcd]; rfl, .inr ⟨by rw [hcd]; decide, rfl⟩⟩, keep_trans hb0 hb1⟩
  · have hcd : codN FB 24 (.mk t b ks) = 5 := by rw [h1] at hm ⊢; exact cod_kids (mix_yes (by decide) hm)
    have HC := hide hcd
    clear hask hcd hm h1
    go_wp2_with fail
    go_ret2
    have hcd := HC.out
    exact ⟨⟨0, by rw [hcd]; rfl, .inr ⟨by rw [hcd]; decide, rfl⟩⟩, keep_trans hb0 hb1⟩
  · have HH := hide (And.intro h1 (And.intro hm hR))
    clear hask h1 hm hR
    go_wp2_with fail
    go_ret2
    obtain ⟨h1, hm, hR⟩ := HH.out
    subst h1
    have h0 := mix_no (by decide) hm
    subst h0
    exact by obtain ⟨u, he, h5⟩ := hR.2; exact ⟨⟨u, by rw [← hR.1, ← he]; rfl, h5⟩, keep_trans hb0 hb1⟩
end Go.Proofs.YtlddpjcacnahmaaGreatDoor
