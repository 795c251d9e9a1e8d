/- Drawn region 2 of keccak.round. -/
import Derived.Test.YtpmobjfhhkglbaaDoorCBk
namespace Go.Proofs.YtpmobjfhhkglbaaDoor
open Go.RowKit
set_option linter.unusedVariables false
set_option linter.unusedSimpArgs false

def lt0 : List Lt := [(0, some 86, [1]), (1, some 87, [86]), (0, some 88, [3]), (6, some 89, [87, 88]), (0, some 90, [1]), (16, some 91, [90]), (0, some 92, [4]), (96, some 93, [91, 92]), (128, some 94, [93]), (0, some 95, [1]), (512, some 96, [95]), (0, some 97, [5]), (3072, some 98, [96, 97]), (4352, some 99, [98]), (0, some 100, [1]), (16384, some 101, [100]), (0, some 102, [6]), (98304, some 103, [101, 102]), (139264, some 104, [103]), (0, some 105, [1]), (524288, some 106, [105]), (0, some 107, [7]), (3145728, some 108, [106, 107]), (4456448, some 109, [108]), (8659208, some 110, [89, 94, 99, 104, 109]), (16777216, some 85, [110]), (33554432, some 111, [85]), (33554432, some 112, [85]), (33554432, some 113, [85]), (33554432, some 114, [85]), (33554432, some 115, [85]), (134217727, some 116, [2]), (2281701375, none, [116, 111]), (6710886399, some 117, [2]), (15300820991, none, [117, 112]), (32749125631, some 118, [2]), (67108863999, none, [118, 113]), (136365211647, some 119, [2]), (273804165119, none, [119, 114]), (549755813887, some 120, [2]), (1099511627775, none, [120, 115])]
def plan0 : List (Nat × Bool) := [(0, true), (1, true), (2, true), (3, true), (4, true), (5, true), (6, true), (7, true), (9, true), (10, true), (11, true), (12, true), (14, true), (15, true), (16, true), (17, true), (19, true), (20, true), (21, true), (22, true), (8, false), (13, false), (18, false), (23, false), (24, false), (25, true), (26, true), (27, true), (28, true), (29, true), (30, true), (31, true), (32, false), (33, true), (34, false), (35, true), (36, false), (37, true), (38, false), (39, true), (40, false)]
theorem lt0_is : ltOf (opsOf (cL (cR (cR (Tryd.f64.body.getD .skip))))) = lt0 := by kernel_rfl
theorem plan0_ok : goL (opsOf (cL (cR (cR (Tryd.f64.body.getD .skip))))).size lt0 plan0 0 = true := by kernel_rfl
theorem sel0 : Region.noSelect (opsOf (cL (cR (cR (Tryd.f64.body.getD .skip))))) = true := by kernel_rfl
theorem reg0_is : (cL (cR (cR (Tryd.f64.body.getD .skip)))) = .region 2 (opsOf (cL (cR (cR (Tryd.f64.body.getD .skip))))) true := by kernel_rfl
set_option maxHeartbeats 4000000 in
set_option maxRecDepth 100000 in
theorem reg_0 {q d0 d1 d2 d3 d4 : Nat} {a L : List Nat} {Q : Exit → Act → World → Prop} {f : Act} {x : World} (hw : W25 a) (k0 : d0 < 18446744073709551616) (k1 : d1 < 18446744073709551616) (k2 : d2 < 18446744073709551616) (k3 : d3 < 18446744073709551616) (k4 : d4 < 18446744073709551616) (hA : Lies .u64 68 x q a) (hR : Lies .u64 68 x (q + 1) L) (hl : L.length = 25) (F : FrC q d0 d1 d2 d3 d4 f)
    (hQ : ∀ (f' : Act) (x' : World) (L' : List Nat), L' = (((((L).set 0 (mixW (el a 0 ^^^ d0) (rotl (el a 6 ^^^ d1) 44) (rotl (el a 12 ^^^ d2) 43))).set 1 (mixW (rotl (el a 6 ^^^ d1) 44) (rotl (el a 12 ^^^ d2) 43) (rotl (el a 18 ^^^ d3) 21))).set 2 (mixW (rotl (el a 12 ^^^ d2) 43) (rotl (el a 18 ^^^ d3) 21) (rotl (el a 24 ^^^ d4) 14))).set 3 (mixW (rotl (el a 18 ^^^ d3) 21) (rotl (el a 24 ^^^ d4) 14) (el a 0 ^^^ d0))).set 4 (mixW (rotl (el a 24 ^^^ d4) 14) (el a 0 ^^^ d0) (rotl (el a 6 ^^^ d1) 44)) → L'.length = 25 → FrC q d0 d1 d2 d3 d4 f' → Lies .u64 68 x' (q + 1) L' → But (q + 1) x x' → Q .normal f' x') :
    Code.wp Tryd.prog (cL (cR (cR (Tryd.f64.body.getD .skip)))) Q f x := by
  rw [reg0_is]
  have hS : RK q a x.drew := RK.of hA hR hl
  refine wp_region_plan (RK q a) lt0 plan0 (by kernel_rfl) lt0_is (by kernel_rfl) sel0 plan0_ok hS ?_
  have hal := hw.1
  refine st_take (k := 86) F rfl rfl (by decide) (by decide) (y_ix (i := 0) (d0 := d0) (d1 := d1) (d2 := d2) (d3 := d3) (d4 := d4) (q := q) rfl rfl F.t1 (by decide)) ?_
  intro f1 F s86 e
  clear e
  refine st_take (k := 87) F rfl rfl (by decide) (by decide) (y_ld (i := 0) hal rfl rfl s86 (by decide)) ?_
  intro f2 F s87 e
  clear e
  refine st_take (k := 88) F rfl rfl (by decide) (by decide) (y_move rfl rfl F.t3) ?_
  intro f3 F s88 e
  replace s87 := (e 87 (by decide)).trans s87
  clear e
  refine st_take (k := 89) F rfl rfl (by decide) (by decide) (y_xor rfl rfl s87 s88 (hw.el 0) k0) ?_
  intro f4 F s89 e
  clear e
  refine st_take (k := 90) F rfl rfl (by decide) (by decide) (y_ix (i := 6) (d0 := d0) (d1 := d1) (d2 := d2) (d3 := d3) (d4 := d4) (q := q) rfl rfl F.t1 (by decide)) ?_
  intro f5 F s90 e
  replace s89 := (e 89 (by decide)).trans s89
  clear e
  refine st_take (k := 91) F rfl rfl (by decide) (by decide) (y_ld (i := 6) hal rfl rfl s90 (by decide)) ?_
  intro f6 F s91 e
  replace s89 := (e 89 (by decide)).trans s89
  clear e
  refine st_take (k := 92) F rfl rfl (by decide) (by decide) (y_move rfl rfl F.t4) ?_
  intro f7 F s92 e
  replace s89 := (e 89 (by decide)).trans s89
  replace s91 := (e 91 (by decide)).trans s91
  clear e
  refine st_take (k := 93) F rfl rfl (by decide) (by decide) (y_xor rfl rfl s91 s92 (hw.el 6) k1) ?_
  intro f8 F s93 e
  replace s89 := (e 89 (by decide)).trans s89
  clear e
  refine st_take (k := 95) F rfl rfl (by decide) (by decide) (y_ix (i := 12) (d0 := d0) (d1 := d1) (d2 := d2) (d3 := d3) (d4 := d4) (q := q) rfl rfl F.t1 (by decide)) ?_
  intro f9 F s95 e
  replace s89 := (e 89 (by decide)).trans s89
  replace s93 := (e 93 (by decide)).trans s93
  clear e
  refine st_take (k := 96) F rfl rfl (by decide) (by decide) (y_ld (i := 12) hal rfl rfl s95 (by decide)) ?_
  intro f10 F s96 e
  replace s89 := (e 89 (by decide)).trans s89
  replace s93 := (e 93 (by decide)).trans s93
  clear e
  refine st_take (k := 97) F rfl rfl (by decide) (by decide) (y_move rfl rfl F.t5) ?_
  intro f11 F s97 e
  replace s89 := (e 89 (by decide)).trans s89
  replace s93 := (e 93 (by decide)).trans s93
  replace s96 := (e 96 (by decide)).trans s96
  clear e
  refine st_take (k := 98) F rfl rfl (by decide) (by decide) (y_xor rfl rfl s96 s97 (hw.el 12) k2) ?_
  intro f12 F s98 e
  replace s89 := (e 89 (by decide)).trans s89
  replace s93 := (e 93 (by decide)).trans s93
  clear e
  refine st_take (k := 100) F rfl rfl (by decide) (by decide) (y_ix (i := 18) (d0 := d0) (d1 := d1) (d2 := d2) (d3 := d3) (d4 := d4) (q := q) rfl rfl F.t1 (by decide)) ?_
  intro f13 F s100 e
  replace s89 := (e 89 (by decide)).trans s89
  replace s93 := (e 93 (by decide)).trans s93
  replace s98 := (e 98 (by decide)).trans s98
  clear e
  refine st_take (k := 101) F rfl rfl (by decide) (by decide) (y_ld (i := 18) hal rfl rfl s100 (by decide)) ?_
  intro f14 F s101 e
  replace s89 := (e 89 (by decide)).trans s89
  replace s93 := (e 93 (by decide)).trans s93
  replace s98 := (e 98 (by decide)).trans s98
  clear e
  refine st_take (k := 102) F rfl rfl (by decide) (by decide) (y_move rfl rfl F.t6) ?_
  intro f15 F s102 e
  replace s89 := (e 89 (by decide)).trans s89
  replace s93 := (e 93 (by decide)).trans s93
  replace s98 := (e 98 (by decide)).trans s98
  replace s101 := (e 101 (by decide)).trans s101
  clear e
  refine st_take (k := 103) F rfl rfl (by decide) (by decide) (y_xor rfl rfl s101 s102 (hw.el 18) k3) ?_
  intro f16 F s103 e
  replace s89 := (e 89 (by decide)).trans s89
  replace s93 := (e 93 (by decide)).trans s93
  replace s98 := (e 98 (by decide)).trans s98
  clear e
  refine st_take (k := 105) F rfl rfl (by decide) (by decide) (y_ix (i := 24) (d0 := d0) (d1 := d1) (d2 := d2) (d3 := d3) (d4 := d4) (q := q) rfl rfl F.t1 (by decide)) ?_
  intro f17 F s105 e
  replace s89 := (e 89 (by decide)).trans s89
  replace s93 := (e 93 (by decide)).trans s93
  replace s98 := (e 98 (by decide)).trans s98
  replace s103 := (e 103 (by decide)).trans s103
  clear e
  refine st_take (k := 106) F rfl rfl (by decide) (by decide) (y_ld (i := 24) hal rfl rfl s105 (by decide)) ?_
  intro f18 F s106 e
  replace s89 := (e 89 (by decide)).trans s89
  replace s93 := (e 93 (by decide)).trans s93
  replace s98 := (e 98 (by decide)).trans s98
  replace s103 := (e 103 (by decide)).trans s103
  clear e
  refine st_take (k := 107) F rfl rfl (by decide) (by decide) (y_move rfl rfl F.t7) ?_
  intro f19 F s107 e
  replace s89 := (e 89 (by decide)).trans s89
  replace s93 := (e 93 (by decide)).trans s93
  replace s98 := (e 98 (by decide)).trans s98
  replace s103 := (e 103 (by decide)).trans s103
  replace s106 := (e 106 (by decide)).trans s106
  clear e
  refine st_take (k := 108) F rfl rfl (by decide) (by decide) (y_xor rfl rfl s106 s107 (hw.el 24) k4) ?_
  intro f20 F s108 e
  replace s89 := (e 89 (by decide)).trans s89
  replace s93 := (e 93 (by decide)).trans s93
  replace s98 := (e 98 (by decide)).trans s98
  replace s103 := (e 103 (by decide)).trans s103
  clear e
  refine st_call (k := 94) (args := #[.int .u64 ((el a 6 ^^^ d1 : Nat) : Int), .int .i64 44]) F rfl rfl (by decide) (by decide) rfl rfl Tryd.call80 (by simp only [List.map_toArray, List.map_cons, List.map_nil, ev_const, s93]) (turn_any _ 44 _ (xor_w (hw.el 6) k1) (by decide)) hS ?_
  intro f21 F s94 e
  replace s89 := (e 89 (by decide)).trans s89
  replace s98 := (e 98 (by decide)).trans s98
  replace s103 := (e 103 (by decide)).trans s103
  replace s108 := (e 108 (by decide)).trans s108
  clear e
  refine st_call (k := 99) (args := #[.int .u64 ((el a 12 ^^^ d2 : Nat) : Int), .int .i64 43]) F rfl rfl (by decide) (by decide) rfl rfl Tryd.call80 (by simp only [List.map_toArray, List.map_cons, List.map_nil, ev_const, s98]) (turn_any _ 43 _ (xor_w (hw.el 12) k2) (by decide)) hS ?_
  intro f22 F s99 e
  replace s89 := (e 89 (by decide)).trans s89
  replace s103 := (e 103 (by decide)).trans s103
  replace s108 := (e 108 (by decide)).trans s108
  replace s94 := (e 94 (by decide)).trans s94
  clear e
  refine st_call (k := 104) (args := #[.int .u64 ((el a 18 ^^^ d3 : Nat) : Int), .int .i64 21]) F rfl rfl (by decide) (by decide) rfl rfl Tryd.call80 (by simp only [List.map_toArray, List.map_cons, List.map_nil, ev_const, s103]) (turn_any _ 21 _ (xor_w (hw.el 18) k3) (by decide)) hS ?_
  intro f23 F s104 e
  replace s89 := (e 89 (by decide)).trans s89
  replace s108 := (e 108 (by decide)).trans s108
  replace s94 := (e 94 (by decide)).trans s94
  replace s99 := (e 99 (by decide)).trans s99
  clear e
  refine st_call (k := 109) (args := #[.int .u64 ((el a 24 ^^^ d4 : Nat) : Int), .int .i64 14]) F rfl rfl (by decide) (by decide) rfl rfl Tryd.call80 (by simp only [List.map_toArray, List.map_cons, List.map_nil, ev_const, s108]) (turn_any _ 14 _ (xor_w (hw.el 24) k4) (by decide)) hS ?_
  intro f24 F s109 e
  replace s89 := (e 89 (by decide)).trans s89
  replace s94 := (e 94 (by decide)).trans s94
  replace s99 := (e 99 (by decide)).trans s99
  replace s104 := (e 104 (by decide)).trans s104
  clear e
  refine st_call (k := 110) (args := #[.int .u64 (((el a 0 ^^^ d0) : Nat) : Int), .int .u64 (((rotl (el a 6 ^^^ d1) 44) : Nat) : Int), .int .u64 (((rotl (el a 12 ^^^ d2) 43) : Nat) : Int), .int .u64 (((rotl (el a 18 ^^^ d3) 21) : Nat) : Int), .int .u64 (((rotl (el a 24 ^^^ d4) 14) : Nat) : Int)]) F rfl rfl (by decide) (by decide) rfl rfl Tryd.call79 (by simp only [List.map_toArray, List.map_cons, List.map_nil, s89, s94, s99, s104, s109]) (mixed_any _ _ _ _ _ _ (xor_w (hw.el 0) k0) (rotl_lt (xor_w (hw.el 6) k1) 44) (rotl_lt (xor_w (hw.el 12) k2) 43) (rotl_lt (xor_w (hw.el 18) k3) 21) (rotl_lt (xor_w (hw.el 24) k4) 14)) hS ?_
  intro f25 F s110 e
  clear e
  refine st_take (k := 85) F rfl rfl (by decide) (by decide) (y_move rfl rfl s110) ?_
  intro f26 F s85 e
  clear e
  refine st_take (k := 111) F rfl rfl (by decide) (by decide) (y_extract (k := 0) rfl rfl s85 rfl) ?_
  intro f27 F s111 e
  replace s85 := (e 85 (by decide)).trans s85
  clear e
  refine st_take (k := 112) F rfl rfl (by decide) (by decide) (y_extract (k := 1) rfl rfl s85 rfl) ?_
  intro f28 F s112 e
  replace s85 := (e 85 (by decide)).trans s85
  replace s111 := (e 111 (by decide)).trans s111
  clear e
  refine st_take (k := 113) F rfl rfl (by decide) (by decide) (y_extract (k := 2) rfl rfl s85 rfl) ?_
  intro f29 F s113 e
  replace s85 := (e 85 (by decide)).trans s85
  replace s111 := (e 111 (by decide)).trans s111
  replace s112 := (e 112 (by decide)).trans s112
  clear e
  refine st_take (k := 114) F rfl rfl (by decide) (by decide) (y_extract (k := 3) rfl rfl s85 rfl) ?_
  intro f30 F s114 e
  replace s85 := (e 85 (by decide)).trans s85
  replace s111 := (e 111 (by decide)).trans s111
  replace s112 := (e 112 (by decide)).trans s112
  replace s113 := (e 113 (by decide)).trans s113
  clear e
  refine st_take (k := 115) F rfl rfl (by decide) (by decide) (y_extract (k := 4) rfl rfl s85 rfl) ?_
  intro f31 F s115 e
  replace s85 := (e 85 (by decide)).trans s85
  replace s111 := (e 111 (by decide)).trans s111
  replace s112 := (e 112 (by decide)).trans s112
  replace s113 := (e 113 (by decide)).trans s113
  replace s114 := (e 114 (by decide)).trans s114
  clear e
  refine st_take (k := 116) F rfl rfl (by decide) (by decide) (y_ix (i := 0) (d0 := d0) (d1 := d1) (d2 := d2) (d3 := d3) (d4 := d4) (q := q) rfl rfl F.t2 (by decide)) ?_
  intro f32 F s116 e
  replace s85 := (e 85 (by decide)).trans s85
  replace s111 := (e 111 (by decide)).trans s111
  replace s112 := (e 112 (by decide)).trans s112
  replace s113 := (e 113 (by decide)).trans s113
  replace s114 := (e 114 (by decide)).trans s114
  replace s115 := (e 115 (by decide)).trans s115
  clear e
  refine st_store (c := 0) rfl rfl rfl rfl s116 s111 (by decide) hS ?_
  replace hS := hS.set 0 (.int .u64 ((mixW (el a 0 ^^^ d0) (rotl (el a 6 ^^^ d1) 44) (rotl (el a 12 ^^^ d2) 43)) : Nat))
  refine st_take (k := 117) F rfl rfl (by decide) (by decide) (y_ix (i := 1) (d0 := d0) (d1 := d1) (d2 := d2) (d3 := d3) (d4 := d4) (q := q) rfl rfl F.t2 (by decide)) ?_
  intro f33 F s117 e
  replace s85 := (e 85 (by decide)).trans s85
  replace s111 := (e 111 (by decide)).trans s111
  replace s112 := (e 112 (by decide)).trans s112
  replace s113 := (e 113 (by decide)).trans s113
  replace s114 := (e 114 (by decide)).trans s114
  replace s115 := (e 115 (by decide)).trans s115
  clear e
  refine st_store (c := 1) rfl rfl rfl rfl s117 s112 (by decide) hS ?_
  replace hS := hS.set 1 (.int .u64 ((mixW (rotl (el a 6 ^^^ d1) 44) (rotl (el a 12 ^^^ d2) 43) (rotl (el a 18 ^^^ d3) 21)) : Nat))
  refine st_take (k := 118) F rfl rfl (by decide) (by decide) (y_ix (i := 2) (d0 := d0) (d1 := d1) (d2 := d2) (d3 := d3) (d4 := d4) (q := q) rfl rfl F.t2 (by decide)) ?_
  intro f34 F s118 e
  replace s85 := (e 85 (by decide)).trans s85
  replace s111 := (e 111 (by decide)).trans s111
  replace s112 := (e 112 (by decide)).trans s112
  replace s113 := (e 113 (by decide)).trans s113
  replace s114 := (e 114 (by decide)).trans s114
  replace s115 := (e 115 (by decide)).trans s115
  clear e
  refine st_store (c := 2) rfl rfl rfl rfl s118 s113 (by decide) hS ?_
  replace hS := hS.set 2 (.int .u64 ((mixW (rotl (el a 12 ^^^ d2) 43) (rotl (el a 18 ^^^ d3) 21) (rotl (el a 24 ^^^ d4) 14)) : Nat))
  refine st_take (k := 119) F rfl rfl (by decide) (by decide) (y_ix (i := 3) (d0 := d0) (d1 := d1) (d2 := d2) (d3 := d3) (d4 := d4) (q := q) rfl rfl F.t2 (by decide)) ?_
  intro f35 F s119 e
  replace s85 := (e 85 (by decide)).trans s85
  replace s111 := (e 111 (by decide)).trans s111
  replace s112 := (e 112 (by decide)).trans s112
  replace s113 := (e 113 (by decide)).trans s113
  replace s114 := (e 114 (by decide)).trans s114
  replace s115 := (e 115 (by decide)).trans s115
  clear e
  refine st_store (c := 3) rfl rfl rfl rfl s119 s114 (by decide) hS ?_
  replace hS := hS.set 3 (.int .u64 ((mixW (rotl (el a 18 ^^^ d3) 21) (rotl (el a 24 ^^^ d4) 14) (el a 0 ^^^ d0)) : Nat))
  refine st_take (k := 120) F rfl rfl (by decide) (by decide) (y_ix (i := 4) (d0 := d0) (d1 := d1) (d2 := d2) (d3 := d3) (d4 := d4) (q := q) rfl rfl F.t2 (by decide)) ?_
  intro f36 F s120 e
  replace s85 := (e 85 (by decide)).trans s85
  replace s111 := (e 111 (by decide)).trans s111
  replace s112 := (e 112 (by decide)).trans s112
  replace s113 := (e 113 (by decide)).trans s113
  replace s114 := (e 114 (by decide)).trans s114
  replace s115 := (e 115 (by decide)).trans s115
  clear e
  refine st_store (c := 4) rfl rfl rfl rfl s120 s115 (by decide) hS ?_
  replace hS := hS.set 4 (.int .u64 ((mixW (rotl (el a 24 ^^^ d4) 14) (el a 0 ^^^ d0) (rotl (el a 6 ^^^ d1) 44)) : Nat))
  exact NoPanic.normal (hQ _ _ _ rfl (by simp only [List.length_set]; exact hl) F (Lies.set (Lies.set (Lies.set (Lies.set (Lies.set (Lies.drewN hR 1) 0 (mixW (el a 0 ^^^ d0) (rotl (el a 6 ^^^ d1) 44) (rotl (el a 12 ^^^ d2) 43))) 1 (mixW (rotl (el a 6 ^^^ d1) 44) (rotl (el a 12 ^^^ d2) 43) (rotl (el a 18 ^^^ d3) 21))) 2 (mixW (rotl (el a 12 ^^^ d2) 43) (rotl (el a 18 ^^^ d3) 21) (rotl (el a 24 ^^^ d4) 14))) 3 (mixW (rotl (el a 18 ^^^ d3) 21) (rotl (el a 24 ^^^ d4) 14) (el a 0 ^^^ d0))) 4 (mixW (rotl (el a 24 ^^^ d4) 14) (el a 0 ^^^ d0) (rotl (el a 6 ^^^ d1) 44))) (((((((But.refl (q + 1) x).drew).setCell _ _).setCell _ _).setCell _ _).setCell _ _).setCell _ _))
end Go.Proofs.YtpmobjfhhkglbaaDoor
