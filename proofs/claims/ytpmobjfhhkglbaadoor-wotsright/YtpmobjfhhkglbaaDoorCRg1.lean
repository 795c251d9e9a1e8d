/- Drawn region 3 of keccak.round. -/
import Derived.Test.YtpmobjfhhkglbaaDoorCBk
namespace Go.Proofs.YtpmobjfhhkglbaaDoor
open Go.RowKit
set_option linter.unusedVariables false
set_option linter.unusedSimpArgs false

def lt1 : List Lt := [(0, some 122, [1]), (1, some 123, [122]), (0, some 124, [6]), (6, some 125, [123, 124]), (8, some 126, [125]), (0, some 127, [1]), (32, some 128, [127]), (0, some 129, [7]), (192, some 130, [128, 129]), (272, some 131, [130]), (0, some 132, [1]), (1024, some 133, [132]), (0, some 134, [3]), (6144, some 135, [133, 134]), (8704, some 136, [135]), (0, some 137, [1]), (32768, some 138, [137]), (0, some 139, [4]), (196608, some 140, [138, 139]), (278528, some 141, [140]), (0, some 142, [1]), (1048576, some 143, [142]), (0, some 144, [5]), (6291456, some 145, [143, 144]), (8912896, some 146, [145]), (17318416, some 147, [126, 131, 136, 141, 146]), (33554432, some 121, [147]), (67108864, some 148, [121]), (67108864, some 149, [121]), (67108864, some 150, [121]), (67108864, some 151, [121]), (67108864, some 152, [121]), (268435455, some 153, [2]), (4563402751, none, [153, 148]), (13421772799, some 154, [2]), (30601641983, none, [154, 149]), (65498251263, some 155, [2]), (134217727999, none, [155, 150]), (272730423295, some 156, [2]), (547608330239, none, [156, 151]), (1099511627775, some 157, [2]), (2199023255551, none, [157, 152])]
def plan1 : List (Nat × Bool) := [(0, true), (1, true), (2, true), (3, true), (5, true), (6, true), (7, true), (8, true), (10, true), (11, true), (12, true), (13, true), (15, true), (16, true), (17, true), (18, true), (20, true), (21, true), (22, true), (23, true), (4, false), (9, false), (14, false), (19, false), (24, false), (25, false), (26, true), (27, true), (28, true), (29, true), (30, true), (31, true), (32, true), (33, false), (34, true), (35, false), (36, true), (37, false), (38, true), (39, false), (40, true), (41, false)]
theorem lt1_is : ltOf (opsOf (cL (cR (cR (cR (Tryd.f64.body.getD .skip)))))) = lt1 := by kernel_rfl
theorem plan1_ok : goL (opsOf (cL (cR (cR (cR (Tryd.f64.body.getD .skip)))))).size lt1 plan1 0 = true := by kernel_rfl
theorem sel1 : Region.noSelect (opsOf (cL (cR (cR (cR (Tryd.f64.body.getD .skip)))))) = true := by kernel_rfl
theorem reg1_is : (cL (cR (cR (cR (Tryd.f64.body.getD .skip))))) = .region 3 (opsOf (cL (cR (cR (cR (Tryd.f64.body.getD .skip)))))) true := by kernel_rfl
set_option maxHeartbeats 4000000 in
set_option maxRecDepth 100000 in
theorem reg_1 {q d0 d1 d2 d3 d4 : Nat} {a L : List Nat} {Q : Exit → Act → World → Prop} {f : Act} {x : World} (hw : W25 a) (k0 : d0 < 18446744073709551616) (k1 : d1 < 18446744073709551616) (k2 : d2 < 18446744073709551616) (k3 : d3 < 18446744073709551616) (k4 : d4 < 18446744073709551616) (hA : Lies .u64 68 x q a) (hR : Lies .u64 68 x (q + 1) L) (hl : L.length = 25) (F : FrC q d0 d1 d2 d3 d4 f)
    (hQ : ∀ (f' : Act) (x' : World) (L' : List Nat), L' = (((((L).set 5 (mixW (rotl (el a 3 ^^^ d3) 28) (rotl (el a 9 ^^^ d4) 20) (rotl (el a 10 ^^^ d0) 3))).set 6 (mixW (rotl (el a 9 ^^^ d4) 20) (rotl (el a 10 ^^^ d0) 3) (rotl (el a 16 ^^^ d1) 45))).set 7 (mixW (rotl (el a 10 ^^^ d0) 3) (rotl (el a 16 ^^^ d1) 45) (rotl (el a 22 ^^^ d2) 61))).set 8 (mixW (rotl (el a 16 ^^^ d1) 45) (rotl (el a 22 ^^^ d2) 61) (rotl (el a 3 ^^^ d3) 28))).set 9 (mixW (rotl (el a 22 ^^^ d2) 61) (rotl (el a 3 ^^^ d3) 28) (rotl (el a 9 ^^^ d4) 20)) → L'.length = 25 → FrC q d0 d1 d2 d3 d4 f' → Lies .u64 68 x' (q + 1) L' → But (q + 1) x x' → Q .normal f' x') :
    Code.wp Tryd.prog (cL (cR (cR (cR (Tryd.f64.body.getD .skip))))) Q f x := by
  rw [reg1_is]
  have hS : RK q a x.drew := RK.of hA hR hl
  refine wp_region_plan (RK q a) lt1 plan1 (by kernel_rfl) lt1_is (by kernel_rfl) sel1 plan1_ok hS ?_
  have hal := hw.1
  refine st_take (k := 122) F rfl rfl (by decide) (by decide) (y_ix (i := 3) (d0 := d0) (d1 := d1) (d2 := d2) (d3 := d3) (d4 := d4) (q := q) rfl rfl F.t1 (by decide)) ?_
  intro f1 F s122 e
  clear e
  refine st_take (k := 123) F rfl rfl (by decide) (by decide) (y_ld (i := 3) hal rfl rfl s122 (by decide)) ?_
  intro f2 F s123 e
  clear e
  refine st_take (k := 124) F rfl rfl (by decide) (by decide) (y_move rfl rfl F.t6) ?_
  intro f3 F s124 e
  replace s123 := (e 123 (by decide)).trans s123
  clear e
  refine st_take (k := 125) F rfl rfl (by decide) (by decide) (y_xor rfl rfl s123 s124 (hw.el 3) k3) ?_
  intro f4 F s125 e
  clear e
  refine st_take (k := 127) F rfl rfl (by decide) (by decide) (y_ix (i := 9) (d0 := d0) (d1 := d1) (d2 := d2) (d3 := d3) (d4 := d4) (q := q) rfl rfl F.t1 (by decide)) ?_
  intro f5 F s127 e
  replace s125 := (e 125 (by decide)).trans s125
  clear e
  refine st_take (k := 128) F rfl rfl (by decide) (by decide) (y_ld (i := 9) hal rfl rfl s127 (by decide)) ?_
  intro f6 F s128 e
  replace s125 := (e 125 (by decide)).trans s125
  clear e
  refine st_take (k := 129) F rfl rfl (by decide) (by decide) (y_move rfl rfl F.t7) ?_
  intro f7 F s129 e
  replace s125 := (e 125 (by decide)).trans s125
  replace s128 := (e 128 (by decide)).trans s128
  clear e
  refine st_take (k := 130) F rfl rfl (by decide) (by decide) (y_xor rfl rfl s128 s129 (hw.el 9) k4) ?_
  intro f8 F s130 e
  replace s125 := (e 125 (by decide)).trans s125
  clear e
  refine st_take (k := 132) F rfl rfl (by decide) (by decide) (y_ix (i := 10) (d0 := d0) (d1 := d1) (d2 := d2) (d3 := d3) (d4 := d4) (q := q) rfl rfl F.t1 (by decide)) ?_
  intro f9 F s132 e
  replace s125 := (e 125 (by decide)).trans s125
  replace s130 := (e 130 (by decide)).trans s130
  clear e
  refine st_take (k := 133) F rfl rfl (by decide) (by decide) (y_ld (i := 10) hal rfl rfl s132 (by decide)) ?_
  intro f10 F s133 e
  replace s125 := (e 125 (by decide)).trans s125
  replace s130 := (e 130 (by decide)).trans s130
  clear e
  refine st_take (k := 134) F rfl rfl (by decide) (by decide) (y_move rfl rfl F.t3) ?_
  intro f11 F s134 e
  replace s125 := (e 125 (by decide)).trans s125
  replace s130 := (e 130 (by decide)).trans s130
  replace s133 := (e 133 (by decide)).trans s133
  clear e
  refine st_take (k := 135) F rfl rfl (by decide) (by decide) (y_xor rfl rfl s133 s134 (hw.el 10) k0) ?_
  intro f12 F s135 e
  replace s125 := (e 125 (by decide)).trans s125
  replace s130 := (e 130 (by decide)).trans s130
  clear e
  refine st_take (k := 137) F rfl rfl (by decide) (by decide) (y_ix (i := 16) (d0 := d0) (d1 := d1) (d2 := d2) (d3 := d3) (d4 := d4) (q := q) rfl rfl F.t1 (by decide)) ?_
  intro f13 F s137 e
  replace s125 := (e 125 (by decide)).trans s125
  replace s130 := (e 130 (by decide)).trans s130
  replace s135 := (e 135 (by decide)).trans s135
  clear e
  refine st_take (k := 138) F rfl rfl (by decide) (by decide) (y_ld (i := 16) hal rfl rfl s137 (by decide)) ?_
  intro f14 F s138 e
  replace s125 := (e 125 (by decide)).trans s125
  replace s130 := (e 130 (by decide)).trans s130
  replace s135 := (e 135 (by decide)).trans s135
  clear e
  refine st_take (k := 139) F rfl rfl (by decide) (by decide) (y_move rfl rfl F.t4) ?_
  intro f15 F s139 e
  replace s125 := (e 125 (by decide)).trans s125
  replace s130 := (e 130 (by decide)).trans s130
  replace s135 := (e 135 (by decide)).trans s135
  replace s138 := (e 138 (by decide)).trans s138
  clear e
  refine st_take (k := 140) F rfl rfl (by decide) (by decide) (y_xor rfl rfl s138 s139 (hw.el 16) k1) ?_
  intro f16 F s140 e
  replace s125 := (e 125 (by decide)).trans s125
  replace s130 := (e 130 (by decide)).trans s130
  replace s135 := (e 135 (by decide)).trans s135
  clear e
  refine st_take (k := 142) F rfl rfl (by decide) (by decide) (y_ix (i := 22) (d0 := d0) (d1 := d1) (d2 := d2) (d3 := d3) (d4 := d4) (q := q) rfl rfl F.t1 (by decide)) ?_
  intro f17 F s142 e
  replace s125 := (e 125 (by decide)).trans s125
  replace s130 := (e 130 (by decide)).trans s130
  replace s135 := (e 135 (by decide)).trans s135
  replace s140 := (e 140 (by decide)).trans s140
  clear e
  refine st_take (k := 143) F rfl rfl (by decide) (by decide) (y_ld (i := 22) hal rfl rfl s142 (by decide)) ?_
  intro f18 F s143 e
  replace s125 := (e 125 (by decide)).trans s125
  replace s130 := (e 130 (by decide)).trans s130
  replace s135 := (e 135 (by decide)).trans s135
  replace s140 := (e 140 (by decide)).trans s140
  clear e
  refine st_take (k := 144) F rfl rfl (by decide) (by decide) (y_move rfl rfl F.t5) ?_
  intro f19 F s144 e
  replace s125 := (e 125 (by decide)).trans s125
  replace s130 := (e 130 (by decide)).trans s130
  replace s135 := (e 135 (by decide)).trans s135
  replace s140 := (e 140 (by decide)).trans s140
  replace s143 := (e 143 (by decide)).trans s143
  clear e
  refine st_take (k := 145) F rfl rfl (by decide) (by decide) (y_xor rfl rfl s143 s144 (hw.el 22) k2) ?_
  intro f20 F s145 e
  replace s125 := (e 125 (by decide)).trans s125
  replace s130 := (e 130 (by decide)).trans s130
  replace s135 := (e 135 (by decide)).trans s135
  replace s140 := (e 140 (by decide)).trans s140
  clear e
  refine st_call (k := 126) (args := #[.int .u64 ((el a 3 ^^^ d3 : Nat) : Int), .int .i64 28]) F rfl rfl (by decide) (by decide) rfl rfl Tryd.call80 (by simp only [List.map_toArray, List.map_cons, List.map_nil, ev_const, s125]) (turn_any _ 28 _ (xor_w (hw.el 3) k3) (by decide)) hS ?_
  intro f21 F s126 e
  replace s130 := (e 130 (by decide)).trans s130
  replace s135 := (e 135 (by decide)).trans s135
  replace s140 := (e 140 (by decide)).trans s140
  replace s145 := (e 145 (by decide)).trans s145
  clear e
  refine st_call (k := 131) (args := #[.int .u64 ((el a 9 ^^^ d4 : Nat) : Int), .int .i64 20]) F rfl rfl (by decide) (by decide) rfl rfl Tryd.call80 (by simp only [List.map_toArray, List.map_cons, List.map_nil, ev_const, s130]) (turn_any _ 20 _ (xor_w (hw.el 9) k4) (by decide)) hS ?_
  intro f22 F s131 e
  replace s135 := (e 135 (by decide)).trans s135
  replace s140 := (e 140 (by decide)).trans s140
  replace s145 := (e 145 (by decide)).trans s145
  replace s126 := (e 126 (by decide)).trans s126
  clear e
  refine st_call (k := 136) (args := #[.int .u64 ((el a 10 ^^^ d0 : Nat) : Int), .int .i64 3]) F rfl rfl (by decide) (by decide) rfl rfl Tryd.call80 (by simp only [List.map_toArray, List.map_cons, List.map_nil, ev_const, s135]) (turn_any _ 3 _ (xor_w (hw.el 10) k0) (by decide)) hS ?_
  intro f23 F s136 e
  replace s140 := (e 140 (by decide)).trans s140
  replace s145 := (e 145 (by decide)).trans s145
  replace s126 := (e 126 (by decide)).trans s126
  replace s131 := (e 131 (by decide)).trans s131
  clear e
  refine st_call (k := 141) (args := #[.int .u64 ((el a 16 ^^^ d1 : Nat) : Int), .int .i64 45]) F rfl rfl (by decide) (by decide) rfl rfl Tryd.call80 (by simp only [List.map_toArray, List.map_cons, List.map_nil, ev_const, s140]) (turn_any _ 45 _ (xor_w (hw.el 16) k1) (by decide)) hS ?_
  intro f24 F s141 e
  replace s145 := (e 145 (by decide)).trans s145
  replace s126 := (e 126 (by decide)).trans s126
  replace s131 := (e 131 (by decide)).trans s131
  replace s136 := (e 136 (by decide)).trans s136
  clear e
  refine st_call (k := 146) (args := #[.int .u64 ((el a 22 ^^^ d2 : Nat) : Int), .int .i64 61]) F rfl rfl (by decide) (by decide) rfl rfl Tryd.call80 (by simp only [List.map_toArray, List.map_cons, List.map_nil, ev_const, s145]) (turn_any _ 61 _ (xor_w (hw.el 22) k2) (by decide)) hS ?_
  intro f25 F s146 e
  replace s126 := (e 126 (by decide)).trans s126
  replace s131 := (e 131 (by decide)).trans s131
  replace s136 := (e 136 (by decide)).trans s136
  replace s141 := (e 141 (by decide)).trans s141
  clear e
  refine st_call (k := 147) (args := #[.int .u64 (((rotl (el a 3 ^^^ d3) 28) : Nat) : Int), .int .u64 (((rotl (el a 9 ^^^ d4) 20) : Nat) : Int), .int .u64 (((rotl (el a 10 ^^^ d0) 3) : Nat) : Int), .int .u64 (((rotl (el a 16 ^^^ d1) 45) : Nat) : Int), .int .u64 (((rotl (el a 22 ^^^ d2) 61) : Nat) : Int)]) F rfl rfl (by decide) (by decide) rfl rfl Tryd.call79 (by simp only [List.map_toArray, List.map_cons, List.map_nil, s126, s131, s136, s141, s146]) (mixed_any _ _ _ _ _ _ (rotl_lt (xor_w (hw.el 3) k3) 28) (rotl_lt (xor_w (hw.el 9) k4) 20) (rotl_lt (xor_w (hw.el 10) k0) 3) (rotl_lt (xor_w (hw.el 16) k1) 45) (rotl_lt (xor_w (hw.el 22) k2) 61)) hS ?_
  intro f26 F s147 e
  clear e
  refine st_take (k := 121) F rfl rfl (by decide) (by decide) (y_move rfl rfl s147) ?_
  intro f27 F s121 e
  clear e
  refine st_take (k := 148) F rfl rfl (by decide) (by decide) (y_extract (k := 0) rfl rfl s121 rfl) ?_
  intro f28 F s148 e
  replace s121 := (e 121 (by decide)).trans s121
  clear e
  refine st_take (k := 149) F rfl rfl (by decide) (by decide) (y_extract (k := 1) rfl rfl s121 rfl) ?_
  intro f29 F s149 e
  replace s121 := (e 121 (by decide)).trans s121
  replace s148 := (e 148 (by decide)).trans s148
  clear e
  refine st_take (k := 150) F rfl rfl (by decide) (by decide) (y_extract (k := 2) rfl rfl s121 rfl) ?_
  intro f30 F s150 e
  replace s121 := (e 121 (by decide)).trans s121
  replace s148 := (e 148 (by decide)).trans s148
  replace s149 := (e 149 (by decide)).trans s149
  clear e
  refine st_take (k := 151) F rfl rfl (by decide) (by decide) (y_extract (k := 3) rfl rfl s121 rfl) ?_
  intro f31 F s151 e
  replace s121 := (e 121 (by decide)).trans s121
  replace s148 := (e 148 (by decide)).trans s148
  replace s149 := (e 149 (by decide)).trans s149
  replace s150 := (e 150 (by decide)).trans s150
  clear e
  refine st_take (k := 152) F rfl rfl (by decide) (by decide) (y_extract (k := 4) rfl rfl s121 rfl) ?_
  intro f32 F s152 e
  replace s121 := (e 121 (by decide)).trans s121
  replace s148 := (e 148 (by decide)).trans s148
  replace s149 := (e 149 (by decide)).trans s149
  replace s150 := (e 150 (by decide)).trans s150
  replace s151 := (e 151 (by decide)).trans s151
  clear e
  refine st_take (k := 153) F rfl rfl (by decide) (by decide) (y_ix (i := 5) (d0 := d0) (d1 := d1) (d2 := d2) (d3 := d3) (d4 := d4) (q := q) rfl rfl F.t2 (by decide)) ?_
  intro f33 F s153 e
  replace s121 := (e 121 (by decide)).trans s121
  replace s148 := (e 148 (by decide)).trans s148
  replace s149 := (e 149 (by decide)).trans s149
  replace s150 := (e 150 (by decide)).trans s150
  replace s151 := (e 151 (by decide)).trans s151
  replace s152 := (e 152 (by decide)).trans s152
  clear e
  refine st_store (c := 5) rfl rfl rfl rfl s153 s148 (by decide) hS ?_
  replace hS := hS.set 5 (.int .u64 ((mixW (rotl (el a 3 ^^^ d3) 28) (rotl (el a 9 ^^^ d4) 20) (rotl (el a 10 ^^^ d0) 3)) : Nat))
  refine st_take (k := 154) F rfl rfl (by decide) (by decide) (y_ix (i := 6) (d0 := d0) (d1 := d1) (d2 := d2) (d3 := d3) (d4 := d4) (q := q) rfl rfl F.t2 (by decide)) ?_
  intro f34 F s154 e
  replace s121 := (e 121 (by decide)).trans s121
  replace s148 := (e 148 (by decide)).trans s148
  replace s149 := (e 149 (by decide)).trans s149
  replace s150 := (e 150 (by decide)).trans s150
  replace s151 := (e 151 (by decide)).trans s151
  replace s152 := (e 152 (by decide)).trans s152
  clear e
  refine st_store (c := 6) rfl rfl rfl rfl s154 s149 (by decide) hS ?_
  replace hS := hS.set 6 (.int .u64 ((mixW (rotl (el a 9 ^^^ d4) 20) (rotl (el a 10 ^^^ d0) 3) (rotl (el a 16 ^^^ d1) 45)) : Nat))
  refine st_take (k := 155) F rfl rfl (by decide) (by decide) (y_ix (i := 7) (d0 := d0) (d1 := d1) (d2 := d2) (d3 := d3) (d4 := d4) (q := q) rfl rfl F.t2 (by decide)) ?_
  intro f35 F s155 e
  replace s121 := (e 121 (by decide)).trans s121
  replace s148 := (e 148 (by decide)).trans s148
  replace s149 := (e 149 (by decide)).trans s149
  replace s150 := (e 150 (by decide)).trans s150
  replace s151 := (e 151 (by decide)).trans s151
  replace s152 := (e 152 (by decide)).trans s152
  clear e
  refine st_store (c := 7) rfl rfl rfl rfl s155 s150 (by decide) hS ?_
  replace hS := hS.set 7 (.int .u64 ((mixW (rotl (el a 10 ^^^ d0) 3) (rotl (el a 16 ^^^ d1) 45) (rotl (el a 22 ^^^ d2) 61)) : Nat))
  refine st_take (k := 156) F rfl rfl (by decide) (by decide) (y_ix (i := 8) (d0 := d0) (d1 := d1) (d2 := d2) (d3 := d3) (d4 := d4) (q := q) rfl rfl F.t2 (by decide)) ?_
  intro f36 F s156 e
  replace s121 := (e 121 (by decide)).trans s121
  replace s148 := (e 148 (by decide)).trans s148
  replace s149 := (e 149 (by decide)).trans s149
  replace s150 := (e 150 (by decide)).trans s150
  replace s151 := (e 151 (by decide)).trans s151
  replace s152 := (e 152 (by decide)).trans s152
  clear e
  refine st_store (c := 8) rfl rfl rfl rfl s156 s151 (by decide) hS ?_
  replace hS := hS.set 8 (.int .u64 ((mixW (rotl (el a 16 ^^^ d1) 45) (rotl (el a 22 ^^^ d2) 61) (rotl (el a 3 ^^^ d3) 28)) : Nat))
  refine st_take (k := 157) F rfl rfl (by decide) (by decide) (y_ix (i := 9) (d0 := d0) (d1 := d1) (d2 := d2) (d3 := d3) (d4 := d4) (q := q) rfl rfl F.t2 (by decide)) ?_
  intro f37 F s157 e
  replace s121 := (e 121 (by decide)).trans s121
  replace s148 := (e 148 (by decide)).trans s148
  replace s149 := (e 149 (by decide)).trans s149
  replace s150 := (e 150 (by decide)).trans s150
  replace s151 := (e 151 (by decide)).trans s151
  replace s152 := (e 152 (by decide)).trans s152
  clear e
  refine st_store (c := 9) rfl rfl rfl rfl s157 s152 (by decide) hS ?_
  replace hS := hS.set 9 (.int .u64 ((mixW (rotl (el a 22 ^^^ d2) 61) (rotl (el a 3 ^^^ d3) 28) (rotl (el a 9 ^^^ d4) 20)) : Nat))
  exact NoPanic.normal (hQ _ _ _ rfl (by simp only [List.length_set]; exact hl) F (Lies.set (Lies.set (Lies.set (Lies.set (Lies.set (Lies.drewN hR 1) 5 (mixW (rotl (el a 3 ^^^ d3) 28) (rotl (el a 9 ^^^ d4) 20) (rotl (el a 10 ^^^ d0) 3))) 6 (mixW (rotl (el a 9 ^^^ d4) 20) (rotl (el a 10 ^^^ d0) 3) (rotl (el a 16 ^^^ d1) 45))) 7 (mixW (rotl (el a 10 ^^^ d0) 3) (rotl (el a 16 ^^^ d1) 45) (rotl (el a 22 ^^^ d2) 61))) 8 (mixW (rotl (el a 16 ^^^ d1) 45) (rotl (el a 22 ^^^ d2) 61) (rotl (el a 3 ^^^ d3) 28))) 9 (mixW (rotl (el a 22 ^^^ d2) 61) (rotl (el a 3 ^^^ d3) 28) (rotl (el a 9 ^^^ d4) 20))) (((((((But.refl (q + 1) x).drew).setCell _ _).setCell _ _).setCell _ _).setCell _ _).setCell _ _))
end Go.Proofs.YtpmobjfhhkglbaaDoor
