/- Drawn region 6 of keccak.round. -/
import Derived.Test.YtnbohjoakngkeaaDoorPlan2
namespace Go.Proofs.YtnbohjoakngkeaaDoor
open Go.RowKit
set_option linter.unusedVariables false
set_option linter.unusedSimpArgs false

def lt4 : List Lt := [(0, some 233, [1]), (1, some 234, [233]), (0, some 235, [5]), (6, some 236, [234, 235]), (8, some 237, [236]), (0, some 238, [1]), (32, some 239, [238]), (0, some 240, [6]), (192, some 241, [239, 240]), (272, some 242, [241]), (0, some 243, [1]), (1024, some 244, [243]), (0, some 245, [7]), (6144, some 246, [244, 245]), (8704, some 247, [246]), (0, some 248, [1]), (32768, some 249, [248]), (0, some 250, [3]), (196608, some 251, [249, 250]), (278528, some 252, [251]), (0, some 253, [1]), (1048576, some 254, [253]), (0, some 255, [4]), (6291456, some 256, [254, 255]), (8912896, some 257, [256]), (17318416, some 258, [237, 242, 247, 252, 257]), (33554432, some 232, [258]), (67108864, some 259, [232]), (67108864, some 260, [232]), (67108864, some 261, [232]), (67108864, some 262, [232]), (67108864, some 263, [232]), (268435455, some 264, [2]), (4563402751, none, [264, 259]), (13421772799, some 265, [2]), (30601641983, none, [265, 260]), (65498251263, some 266, [2]), (134217727999, none, [266, 261]), (272730423295, some 267, [2]), (547608330239, none, [267, 262]), (1099511627775, some 268, [2]), (2199023255551, none, [268, 263])]
def plan4 : List (Nat × Bool) := [(0, true), (1, true), (2, true), (3, true), (5, true), (6, true), (7, true), (8, true), (10, true), (11, true), (12, true), (13, true), (15, true), (16, true), (17, true), (18, true), (20, true), (21, true), (22, true), (23, true), (4, false), (9, false), (14, false), (19, false), (24, false), (25, false), (26, true), (27, true), (28, true), (29, true), (30, true), (31, true), (32, true), (33, false), (34, true), (35, false), (36, true), (37, false), (38, true), (39, false), (40, true), (41, false)]
theorem lt4_is : ltOf (opsOf (cL (cR (cR (cR (cR (cR (cR (Tryd.f24.body.getD .skip))))))))) = lt4 := by kernel_rfl
theorem plan4_ok : goL (opsOf (cL (cR (cR (cR (cR (cR (cR (Tryd.f24.body.getD .skip))))))))).size lt4 plan4 0 = true := by kernel_rfl
theorem sel4 : Region.noSelect (opsOf (cL (cR (cR (cR (cR (cR (cR (Tryd.f24.body.getD .skip))))))))) = true := by kernel_rfl
theorem reg4_is : (cL (cR (cR (cR (cR (cR (cR (Tryd.f24.body.getD .skip)))))))) = .region 6 (opsOf (cL (cR (cR (cR (cR (cR (cR (Tryd.f24.body.getD .skip))))))))) true := by kernel_rfl
set_option maxHeartbeats 4000000 in
set_option maxRecDepth 100000 in
theorem reg_4 {q d0 d1 d2 d3 d4 : Nat} {a L : List Nat} {Q : Exit → Act → World → Prop} {f : Act} {x : World} (hw : W25 a) (k0 : d0 < 18446744073709551616) (k1 : d1 < 18446744073709551616) (k2 : d2 < 18446744073709551616) (k3 : d3 < 18446744073709551616) (k4 : d4 < 18446744073709551616) (hA : Lies .u64 23 x q a) (hR : Lies .u64 23 x (q + 1) L) (hl : L.length = 25) (F : Fr q d0 d1 d2 d3 d4 f)
    (hQ : ∀ (f' : Act) (x' : World) (L' : List Nat), L' = (((((L).set 20 (mixW (rotl (el a 2 ^^^ d2) 62) (rotl (el a 8 ^^^ d3) 55) (rotl (el a 14 ^^^ d4) 39))).set 21 (mixW (rotl (el a 8 ^^^ d3) 55) (rotl (el a 14 ^^^ d4) 39) (rotl (el a 15 ^^^ d0) 41))).set 22 (mixW (rotl (el a 14 ^^^ d4) 39) (rotl (el a 15 ^^^ d0) 41) (rotl (el a 21 ^^^ d1) 2))).set 23 (mixW (rotl (el a 15 ^^^ d0) 41) (rotl (el a 21 ^^^ d1) 2) (rotl (el a 2 ^^^ d2) 62))).set 24 (mixW (rotl (el a 21 ^^^ d1) 2) (rotl (el a 2 ^^^ d2) 62) (rotl (el a 8 ^^^ d3) 55)) → L'.length = 25 → Fr q d0 d1 d2 d3 d4 f' → Lies .u64 23 x' (q + 1) L' → But (q + 1) x x' → Q .normal f' x') :
    Code.wp Tryd.prog (cL (cR (cR (cR (cR (cR (cR (Tryd.f24.body.getD .skip)))))))) Q f x := by
  rw [reg4_is]
  have hS : RK q a x.drew := RK.of hA hR hl
  refine wp_region_plan (RK q a) lt4 plan4 (by kernel_rfl) lt4_is (by kernel_rfl) sel4 plan4_ok hS ?_
  have hal := hw.1
  refine st_take (k := 233) F rfl rfl (by decide) (by decide) (y_ix (i := 2) (d0 := d0) (d1 := d1) (d2 := d2) (d3 := d3) (d4 := d4) (q := q) rfl rfl F.t1 (by decide)) ?_
  intro f1 F s233 e
  clear e
  refine st_take (k := 234) F rfl rfl (by decide) (by decide) (y_ld (i := 2) hal rfl rfl s233 (by decide)) ?_
  intro f2 F s234 e
  clear e
  refine st_take (k := 235) F rfl rfl (by decide) (by decide) (y_move rfl rfl F.t5) ?_
  intro f3 F s235 e
  replace s234 := (e 234 (by decide)).trans s234
  clear e
  refine st_take (k := 236) F rfl rfl (by decide) (by decide) (y_xor rfl rfl s234 s235 (hw.el 2) k2) ?_
  intro f4 F s236 e
  clear e
  refine st_take (k := 238) F rfl rfl (by decide) (by decide) (y_ix (i := 8) (d0 := d0) (d1 := d1) (d2 := d2) (d3 := d3) (d4 := d4) (q := q) rfl rfl F.t1 (by decide)) ?_
  intro f5 F s238 e
  replace s236 := (e 236 (by decide)).trans s236
  clear e
  refine st_take (k := 239) F rfl rfl (by decide) (by decide) (y_ld (i := 8) hal rfl rfl s238 (by decide)) ?_
  intro f6 F s239 e
  replace s236 := (e 236 (by decide)).trans s236
  clear e
  refine st_take (k := 240) F rfl rfl (by decide) (by decide) (y_move rfl rfl F.t6) ?_
  intro f7 F s240 e
  replace s236 := (e 236 (by decide)).trans s236
  replace s239 := (e 239 (by decide)).trans s239
  clear e
  refine st_take (k := 241) F rfl rfl (by decide) (by decide) (y_xor rfl rfl s239 s240 (hw.el 8) k3) ?_
  intro f8 F s241 e
  replace s236 := (e 236 (by decide)).trans s236
  clear e
  refine st_take (k := 243) F rfl rfl (by decide) (by decide) (y_ix (i := 14) (d0 := d0) (d1 := d1) (d2 := d2) (d3 := d3) (d4 := d4) (q := q) rfl rfl F.t1 (by decide)) ?_
  intro f9 F s243 e
  replace s236 := (e 236 (by decide)).trans s236
  replace s241 := (e 241 (by decide)).trans s241
  clear e
  refine st_take (k := 244) F rfl rfl (by decide) (by decide) (y_ld (i := 14) hal rfl rfl s243 (by decide)) ?_
  intro f10 F s244 e
  replace s236 := (e 236 (by decide)).trans s236
  replace s241 := (e 241 (by decide)).trans s241
  clear e
  refine st_take (k := 245) F rfl rfl (by decide) (by decide) (y_move rfl rfl F.t7) ?_
  intro f11 F s245 e
  replace s236 := (e 236 (by decide)).trans s236
  replace s241 := (e 241 (by decide)).trans s241
  replace s244 := (e 244 (by decide)).trans s244
  clear e
  refine st_take (k := 246) F rfl rfl (by decide) (by decide) (y_xor rfl rfl s244 s245 (hw.el 14) k4) ?_
  intro f12 F s246 e
  replace s236 := (e 236 (by decide)).trans s236
  replace s241 := (e 241 (by decide)).trans s241
  clear e
  refine st_take (k := 248) F rfl rfl (by decide) (by decide) (y_ix (i := 15) (d0 := d0) (d1 := d1) (d2 := d2) (d3 := d3) (d4 := d4) (q := q) rfl rfl F.t1 (by decide)) ?_
  intro f13 F s248 e
  replace s236 := (e 236 (by decide)).trans s236
  replace s241 := (e 241 (by decide)).trans s241
  replace s246 := (e 246 (by decide)).trans s246
  clear e
  refine st_take (k := 249) F rfl rfl (by decide) (by decide) (y_ld (i := 15) hal rfl rfl s248 (by decide)) ?_
  intro f14 F s249 e
  replace s236 := (e 236 (by decide)).trans s236
  replace s241 := (e 241 (by decide)).trans s241
  replace s246 := (e 246 (by decide)).trans s246
  clear e
  refine st_take (k := 250) F rfl rfl (by decide) (by decide) (y_move rfl rfl F.t3) ?_
  intro f15 F s250 e
  replace s236 := (e 236 (by decide)).trans s236
  replace s241 := (e 241 (by decide)).trans s241
  replace s246 := (e 246 (by decide)).trans s246
  replace s249 := (e 249 (by decide)).trans s249
  clear e
  refine st_take (k := 251) F rfl rfl (by decide) (by decide) (y_xor rfl rfl s249 s250 (hw.el 15) k0) ?_
  intro f16 F s251 e
  replace s236 := (e 236 (by decide)).trans s236
  replace s241 := (e 241 (by decide)).trans s241
  replace s246 := (e 246 (by decide)).trans s246
  clear e
  refine st_take (k := 253) F rfl rfl (by decide) (by decide) (y_ix (i := 21) (d0 := d0) (d1 := d1) (d2 := d2) (d3 := d3) (d4 := d4) (q := q) rfl rfl F.t1 (by decide)) ?_
  intro f17 F s253 e
  replace s236 := (e 236 (by decide)).trans s236
  replace s241 := (e 241 (by decide)).trans s241
  replace s246 := (e 246 (by decide)).trans s246
  replace s251 := (e 251 (by decide)).trans s251
  clear e
  refine st_take (k := 254) F rfl rfl (by decide) (by decide) (y_ld (i := 21) hal rfl rfl s253 (by decide)) ?_
  intro f18 F s254 e
  replace s236 := (e 236 (by decide)).trans s236
  replace s241 := (e 241 (by decide)).trans s241
  replace s246 := (e 246 (by decide)).trans s246
  replace s251 := (e 251 (by decide)).trans s251
  clear e
  refine st_take (k := 255) F rfl rfl (by decide) (by decide) (y_move rfl rfl F.t4) ?_
  intro f19 F s255 e
  replace s236 := (e 236 (by decide)).trans s236
  replace s241 := (e 241 (by decide)).trans s241
  replace s246 := (e 246 (by decide)).trans s246
  replace s251 := (e 251 (by decide)).trans s251
  replace s254 := (e 254 (by decide)).trans s254
  clear e
  refine st_take (k := 256) F rfl rfl (by decide) (by decide) (y_xor rfl rfl s254 s255 (hw.el 21) k1) ?_
  intro f20 F s256 e
  replace s236 := (e 236 (by decide)).trans s236
  replace s241 := (e 241 (by decide)).trans s241
  replace s246 := (e 246 (by decide)).trans s246
  replace s251 := (e 251 (by decide)).trans s251
  clear e
  refine st_call (k := 237) (args := #[.int .u64 ((el a 2 ^^^ d2 : Nat) : Int), .int .i64 62]) F rfl rfl (by decide) (by decide) rfl rfl Tryd.call34 (by simp only [List.map_toArray, List.map_cons, List.map_nil, ev_const, s236]) (turn_any _ 62 _ (xor_w (hw.el 2) k2) (by decide)) hS ?_
  intro f21 F s237 e
  replace s241 := (e 241 (by decide)).trans s241
  replace s246 := (e 246 (by decide)).trans s246
  replace s251 := (e 251 (by decide)).trans s251
  replace s256 := (e 256 (by decide)).trans s256
  clear e
  refine st_call (k := 242) (args := #[.int .u64 ((el a 8 ^^^ d3 : Nat) : Int), .int .i64 55]) F rfl rfl (by decide) (by decide) rfl rfl Tryd.call34 (by simp only [List.map_toArray, List.map_cons, List.map_nil, ev_const, s241]) (turn_any _ 55 _ (xor_w (hw.el 8) k3) (by decide)) hS ?_
  intro f22 F s242 e
  replace s246 := (e 246 (by decide)).trans s246
  replace s251 := (e 251 (by decide)).trans s251
  replace s256 := (e 256 (by decide)).trans s256
  replace s237 := (e 237 (by decide)).trans s237
  clear e
  refine st_call (k := 247) (args := #[.int .u64 ((el a 14 ^^^ d4 : Nat) : Int), .int .i64 39]) F rfl rfl (by decide) (by decide) rfl rfl Tryd.call34 (by simp only [List.map_toArray, List.map_cons, List.map_nil, ev_const, s246]) (turn_any _ 39 _ (xor_w (hw.el 14) k4) (by decide)) hS ?_
  intro f23 F s247 e
  replace s251 := (e 251 (by decide)).trans s251
  replace s256 := (e 256 (by decide)).trans s256
  replace s237 := (e 237 (by decide)).trans s237
  replace s242 := (e 242 (by decide)).trans s242
  clear e
  refine st_call (k := 252) (args := #[.int .u64 ((el a 15 ^^^ d0 : Nat) : Int), .int .i64 41]) F rfl rfl (by decide) (by decide) rfl rfl Tryd.call34 (by simp only [List.map_toArray, List.map_cons, List.map_nil, ev_const, s251]) (turn_any _ 41 _ (xor_w (hw.el 15) k0) (by decide)) hS ?_
  intro f24 F s252 e
  replace s256 := (e 256 (by decide)).trans s256
  replace s237 := (e 237 (by decide)).trans s237
  replace s242 := (e 242 (by decide)).trans s242
  replace s247 := (e 247 (by decide)).trans s247
  clear e
  refine st_call (k := 257) (args := #[.int .u64 ((el a 21 ^^^ d1 : Nat) : Int), .int .i64 2]) F rfl rfl (by decide) (by decide) rfl rfl Tryd.call34 (by simp only [List.map_toArray, List.map_cons, List.map_nil, ev_const, s256]) (turn_any _ 2 _ (xor_w (hw.el 21) k1) (by decide)) hS ?_
  intro f25 F s257 e
  replace s237 := (e 237 (by decide)).trans s237
  replace s242 := (e 242 (by decide)).trans s242
  replace s247 := (e 247 (by decide)).trans s247
  replace s252 := (e 252 (by decide)).trans s252
  clear e
  refine st_call (k := 258) (args := #[.int .u64 (((rotl (el a 2 ^^^ d2) 62) : Nat) : Int), .int .u64 (((rotl (el a 8 ^^^ d3) 55) : Nat) : Int), .int .u64 (((rotl (el a 14 ^^^ d4) 39) : Nat) : Int), .int .u64 (((rotl (el a 15 ^^^ d0) 41) : Nat) : Int), .int .u64 (((rotl (el a 21 ^^^ d1) 2) : Nat) : Int)]) F rfl rfl (by decide) (by decide) rfl rfl Tryd.call33 (by simp only [List.map_toArray, List.map_cons, List.map_nil, s237, s242, s247, s252, s257]) (mixed_any _ _ _ _ _ _ (rotl_lt (xor_w (hw.el 2) k2) 62) (rotl_lt (xor_w (hw.el 8) k3) 55) (rotl_lt (xor_w (hw.el 14) k4) 39) (rotl_lt (xor_w (hw.el 15) k0) 41) (rotl_lt (xor_w (hw.el 21) k1) 2)) hS ?_
  intro f26 F s258 e
  clear e
  refine st_take (k := 232) F rfl rfl (by decide) (by decide) (y_move rfl rfl s258) ?_
  intro f27 F s232 e
  clear e
  refine st_take (k := 259) F rfl rfl (by decide) (by decide) (y_extract (k := 0) rfl rfl s232 rfl) ?_
  intro f28 F s259 e
  replace s232 := (e 232 (by decide)).trans s232
  clear e
  refine st_take (k := 260) F rfl rfl (by decide) (by decide) (y_extract (k := 1) rfl rfl s232 rfl) ?_
  intro f29 F s260 e
  replace s232 := (e 232 (by decide)).trans s232
  replace s259 := (e 259 (by decide)).trans s259
  clear e
  refine st_take (k := 261) F rfl rfl (by decide) (by decide) (y_extract (k := 2) rfl rfl s232 rfl) ?_
  intro f30 F s261 e
  replace s232 := (e 232 (by decide)).trans s232
  replace s259 := (e 259 (by decide)).trans s259
  replace s260 := (e 260 (by decide)).trans s260
  clear e
  refine st_take (k := 262) F rfl rfl (by decide) (by decide) (y_extract (k := 3) rfl rfl s232 rfl) ?_
  intro f31 F s262 e
  replace s232 := (e 232 (by decide)).trans s232
  replace s259 := (e 259 (by decide)).trans s259
  replace s260 := (e 260 (by decide)).trans s260
  replace s261 := (e 261 (by decide)).trans s261
  clear e
  refine st_take (k := 263) F rfl rfl (by decide) (by decide) (y_extract (k := 4) rfl rfl s232 rfl) ?_
  intro f32 F s263 e
  replace s232 := (e 232 (by decide)).trans s232
  replace s259 := (e 259 (by decide)).trans s259
  replace s260 := (e 260 (by decide)).trans s260
  replace s261 := (e 261 (by decide)).trans s261
  replace s262 := (e 262 (by decide)).trans s262
  clear e
  refine st_take (k := 264) F rfl rfl (by decide) (by decide) (y_ix (i := 20) (d0 := d0) (d1 := d1) (d2 := d2) (d3 := d3) (d4 := d4) (q := q) rfl rfl F.t2 (by decide)) ?_
  intro f33 F s264 e
  replace s232 := (e 232 (by decide)).trans s232
  replace s259 := (e 259 (by decide)).trans s259
  replace s260 := (e 260 (by decide)).trans s260
  replace s261 := (e 261 (by decide)).trans s261
  replace s262 := (e 262 (by decide)).trans s262
  replace s263 := (e 263 (by decide)).trans s263
  clear e
  refine st_store (c := 20) rfl rfl rfl rfl s264 s259 (by decide) hS ?_
  replace hS := hS.set 20 (.int .u64 ((mixW (rotl (el a 2 ^^^ d2) 62) (rotl (el a 8 ^^^ d3) 55) (rotl (el a 14 ^^^ d4) 39)) : Nat))
  refine st_take (k := 265) F rfl rfl (by decide) (by decide) (y_ix (i := 21) (d0 := d0) (d1 := d1) (d2 := d2) (d3 := d3) (d4 := d4) (q := q) rfl rfl F.t2 (by decide)) ?_
  intro f34 F s265 e
  replace s232 := (e 232 (by decide)).trans s232
  replace s259 := (e 259 (by decide)).trans s259
  replace s260 := (e 260 (by decide)).trans s260
  replace s261 := (e 261 (by decide)).trans s261
  replace s262 := (e 262 (by decide)).trans s262
  replace s263 := (e 263 (by decide)).trans s263
  clear e
  refine st_store (c := 21) rfl rfl rfl rfl s265 s260 (by decide) hS ?_
  replace hS := hS.set 21 (.int .u64 ((mixW (rotl (el a 8 ^^^ d3) 55) (rotl (el a 14 ^^^ d4) 39) (rotl (el a 15 ^^^ d0) 41)) : Nat))
  refine st_take (k := 266) F rfl rfl (by decide) (by decide) (y_ix (i := 22) (d0 := d0) (d1 := d1) (d2 := d2) (d3 := d3) (d4 := d4) (q := q) rfl rfl F.t2 (by decide)) ?_
  intro f35 F s266 e
  replace s232 := (e 232 (by decide)).trans s232
  replace s259 := (e 259 (by decide)).trans s259
  replace s260 := (e 260 (by decide)).trans s260
  replace s261 := (e 261 (by decide)).trans s261
  replace s262 := (e 262 (by decide)).trans s262
  replace s263 := (e 263 (by decide)).trans s263
  clear e
  refine st_store (c := 22) rfl rfl rfl rfl s266 s261 (by decide) hS ?_
  replace hS := hS.set 22 (.int .u64 ((mixW (rotl (el a 14 ^^^ d4) 39) (rotl (el a 15 ^^^ d0) 41) (rotl (el a 21 ^^^ d1) 2)) : Nat))
  refine st_take (k := 267) F rfl rfl (by decide) (by decide) (y_ix (i := 23) (d0 := d0) (d1 := d1) (d2 := d2) (d3 := d3) (d4 := d4) (q := q) rfl rfl F.t2 (by decide)) ?_
  intro f36 F s267 e
  replace s232 := (e 232 (by decide)).trans s232
  replace s259 := (e 259 (by decide)).trans s259
  replace s260 := (e 260 (by decide)).trans s260
  replace s261 := (e 261 (by decide)).trans s261
  replace s262 := (e 262 (by decide)).trans s262
  replace s263 := (e 263 (by decide)).trans s263
  clear e
  refine st_store (c := 23) rfl rfl rfl rfl s267 s262 (by decide) hS ?_
  replace hS := hS.set 23 (.int .u64 ((mixW (rotl (el a 15 ^^^ d0) 41) (rotl (el a 21 ^^^ d1) 2) (rotl (el a 2 ^^^ d2) 62)) : Nat))
  refine st_take (k := 268) F rfl rfl (by decide) (by decide) (y_ix (i := 24) (d0 := d0) (d1 := d1) (d2 := d2) (d3 := d3) (d4 := d4) (q := q) rfl rfl F.t2 (by decide)) ?_
  intro f37 F s268 e
  replace s232 := (e 232 (by decide)).trans s232
  replace s259 := (e 259 (by decide)).trans s259
  replace s260 := (e 260 (by decide)).trans s260
  replace s261 := (e 261 (by decide)).trans s261
  replace s262 := (e 262 (by decide)).trans s262
  replace s263 := (e 263 (by decide)).trans s263
  clear e
  refine st_store (c := 24) rfl rfl rfl rfl s268 s263 (by decide) hS ?_
  replace hS := hS.set 24 (.int .u64 ((mixW (rotl (el a 21 ^^^ d1) 2) (rotl (el a 2 ^^^ d2) 62) (rotl (el a 8 ^^^ d3) 55)) : Nat))
  exact NoPanic.normal (hQ _ _ _ rfl (by simp only [List.length_set]; exact hl) F (Lies.set (Lies.set (Lies.set (Lies.set (Lies.set (Lies.drewN hR 1) 20 (mixW (rotl (el a 2 ^^^ d2) 62) (rotl (el a 8 ^^^ d3) 55) (rotl (el a 14 ^^^ d4) 39))) 21 (mixW (rotl (el a 8 ^^^ d3) 55) (rotl (el a 14 ^^^ d4) 39) (rotl (el a 15 ^^^ d0) 41))) 22 (mixW (rotl (el a 14 ^^^ d4) 39) (rotl (el a 15 ^^^ d0) 41) (rotl (el a 21 ^^^ d1) 2))) 23 (mixW (rotl (el a 15 ^^^ d0) 41) (rotl (el a 21 ^^^ d1) 2) (rotl (el a 2 ^^^ d2) 62))) 24 (mixW (rotl (el a 21 ^^^ d1) 2) (rotl (el a 2 ^^^ d2) 62) (rotl (el a 8 ^^^ d3) 55))) (((((((But.refl (q + 1) x).drew).setCell _ _).setCell _ _).setCell _ _).setCell _ _).setCell _ _))
end Go.Proofs.YtnbohjoakngkeaaDoor
