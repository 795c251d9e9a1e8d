/- Drawn region 6 of keccak.round. -/
import Derived.Test.YtpmobjfhhkglbaaDoorCBk
import Derived.Test.YtpmobjfhhkglbaaDoorCRg0
import Derived.Test.YtpmobjfhhkglbaaDoorCRg1
import Derived.Test.YtpmobjfhhkglbaaDoorCRg2
import Derived.Test.YtpmobjfhhkglbaaDoorCRg3
namespace Go.Proofs.YtpmobjfhhkglbaaDoor
open Go.RowKit
set_option linter.unusedVariables false
set_option linter.unusedSimpArgs false

def lt4 : List Lt := [(0, some 233, [1]), (1, some 234, [233]), (0, some 235, [5]), (6, some 236, [234, 235]), (8, some 237, [236]), (0, some 238, [1]), (32, some 239, [238]), (0, some 240, [6]), (192, some 241, [239, 240]), (272, some 242, [241]), (0, some 243, [1]), (1024, some 244, [243]), (0, some 245, [7]), (6144, some 246, [244, 245]), (8704, some 247, [246]), (0, some 248, [1]), (32768, some 249, [248]), (0, some 250, [3]), (196608, some 251, [249, 250]), (278528, some 252, [251]), (0, some 253, [1]), (1048576, some 254, [253]), (0, some 255, [4]), (6291456, some 256, [254, 255]), (8912896, some 257, [256]), (17318416, some 258, [237, 242, 247, 252, 257]), (33554432, some 232, [258]), (67108864, some 259, [232]), (67108864, some 260, [232]), (67108864, some 261, [232]), (67108864, some 262, [232]), (67108864, some 263, [232]), (268435455, some 264, [2]), (4563402751, none, [264, 259]), (13421772799, some 265, [2]), (30601641983, none, [265, 260]), (65498251263, some 266, [2]), (134217727999, none, [266, 261]), (272730423295, some 267, [2]), (547608330239, none, [267, 262]), (1099511627775, some 268, [2]), (2199023255551, none, [268, 263])]
def plan4 : List (Nat × Bool) := [(0, true), (1, true), (2, true), (3, true), (5, true), (6, true), (7, true), (8, true), (10, true), (11, true), (12, true), (13, true), (15, true), (16, true), (17, true), (18, true), (20, true), (21, true), (22, true), (23, true), (4, false), (9, false), (14, false), (19, false), (24, false), (25, false), (26, true), (27, true), (28, true), (29, true), (30, true), (31, true), (32, true), (33, false), (34, true), (35, false), (36, true), (37, false), (38, true), (39, false), (40, true), (41, false)]
theorem lt4_is : ltOf (opsOf (cL (cR (cR (cR (cR (cR (cR (Tryd.f64.body.getD .skip))))))))) = lt4 := by kernel_rfl
theorem plan4_ok : goL (opsOf (cL (cR (cR (cR (cR (cR (cR (Tryd.f64.body.getD .skip))))))))).size lt4 plan4 0 = true := by kernel_rfl
theorem sel4 : Region.noSelect (opsOf (cL (cR (cR (cR (cR (cR (cR (Tryd.f64.body.getD .skip))))))))) = true := by kernel_rfl
theorem reg4_is : (cL (cR (cR (cR (cR (cR (cR (Tryd.f64.body.getD .skip)))))))) = .region 6 (opsOf (cL (cR (cR (cR (cR (cR (cR (Tryd.f64.body.getD .skip))))))))) true := by kernel_rfl
set_option maxHeartbeats 4000000 in
set_option maxRecDepth 100000 in
theorem reg_4 {q d0 d1 d2 d3 d4 : Nat} {a L : List Nat} {Q : Exit → Act → World → Prop} {f : Act} {x : World} (hw : W25 a) (k0 : d0 < 18446744073709551616) (k1 : d1 < 18446744073709551616) (k2 : d2 < 18446744073709551616) (k3 : d3 < 18446744073709551616) (k4 : d4 < 18446744073709551616) (hA : Lies .u64 68 x q a) (hR : Lies .u64 68 x (q + 1) L) (hl : L.length = 25) (F : FrC q d0 d1 d2 d3 d4 f)
    (hQ : ∀ (f' : Act) (x' : World) (L' : List Nat), L' = (((((L).set 20 (mixW (rotl (el a 2 ^^^ d2) 62) (rotl (el a 8 ^^^ d3) 55) (rotl (el a 14 ^^^ d4) 39))).set 21 (mixW (rotl (el a 8 ^^^ d3) 55) (rotl (el a 14 ^^^ d4) 39) (rotl (el a 15 ^^^ d0) 41))).set 22 (mixW (rotl (el a 14 ^^^ d4) 39) (rotl (el a 15 ^^^ d0) 41) (rotl (el a 21 ^^^ d1) 2))).set 23 (mixW (rotl (el a 15 ^^^ d0) 41) (rotl (el a 21 ^^^ d1) 2) (rotl (el a 2 ^^^ d2) 62))).set 24 (mixW (rotl (el a 21 ^^^ d1) 2) (rotl (el a 2 ^^^ d2) 62) (rotl (el a 8 ^^^ d3) 55)) → L'.length = 25 → FrC q d0 d1 d2 d3 d4 f' → Lies .u64 68 x' (q + 1) L' → But (q + 1) x x' → Q .normal f' x') :
    Code.wp Tryd.prog (cL (cR (cR (cR (cR (cR (cR (Tryd.f64.body.getD .skip)))))))) Q f x := by
  rw [reg4_is]
  have hS : RK q a x.drew := RK.of hA hR hl
  refine wp_region_plan (RK q a) lt4 plan4 (by kernel_rfl) lt4_is (by kernel_rfl) sel4 plan4_ok hS ?_
  have hal := hw.1
  refine st_take (k := 233) F rfl rfl (by decide) (by decide) (y_ix (i := 2) (d0 := d0) (d1 := d1) (d2 := d2) (d3 := d3) (d4 := d4) (q := q) rfl rfl F.t1 (by decide)) ?_
  intro f1 F s233 e
  clear e
  refine st_take (k := 234) F rfl rfl (by decide) (by decide) (y_ld (i := 2) hal rfl rfl s233 (by decide)) ?_
  intro f2 F s234 e
  clear e
  refine st_take (k := 235) F rfl rfl (by decide) (by decide) (y_move rfl rfl F.t5) ?_
  intro f3 F s235 e
  replace s234 := (e 234 (by decide)).trans s234
  clear e
  refine st_take (k := 236) F rfl rfl (by decide) (by decide) (y_xor rfl rfl s234 s235 (hw.el 2) k2) ?_
  intro f4 F s236 e
  clear e
  refine st_take (k := 238) F rfl rfl (by decide) (by decide) (y_ix (i := 8) (d0 := d0) (d1 := d1) (d2 := d2) (d3 := d3) (d4 := d4) (q := q) rfl rfl F.t1 (by decide)) ?_
  intro f5 F s238 e
  replace s236 := (e 236 (by decide)).trans s236
  clear e
  refine st_take (k := 239) F rfl rfl (by decide) (by decide) (y_ld (i := 8) hal rfl rfl s238 (by decide)) ?_
  intro f6 F s239 e
  replace s236 := (e 236 (by decide)).trans s236
  clear e
  refine st_take (k := 240) F rfl rfl (by decide) (by decide) (y_move rfl rfl F.t6) ?_
  intro f7 F s240 e
  replace s236 := (e 236 (by decide)).trans s236
  replace s239 := (e 239 (by decide)).trans s239
  clear e
  refine st_take (k := 241) F rfl rfl (by decide) (by decide) (y_xor rfl rfl s239 s240 (hw.el 8) k3) ?_
  intro f8 F s241 e
  replace s236 := (e 236 (by decide)).trans s236
  clear e
  refine st_take (k := 243) F rfl rfl (by decide) (by decide) (y_ix (i := 14) (d0 := d0) (d1 := d1) (d2 := d2) (d3 := d3) (d4 := d4) (q := q) rfl rfl F.t1 (by decide)) ?_
  intro f9 F s243 e
  replace s236 := (e 236 (by decide)).trans s236
  replace s241 := (e 241 (by decide)).trans s241
  clear e
  refine st_take (k := 244) F rfl rfl (by decide) (by decide) (y_ld (i := 14) hal rfl rfl s243 (by decide)) ?_
  intro f10 F s244 e
  replace s236 := (e 236 (by decide)).trans s236
  replace s241 := (e 241 (by decide)).trans s241
  clear e
  refine st_take (k := 245) F rfl rfl (by decide) (by decide) (y_move rfl rfl F.t7) ?_
  intro f11 F s245 e
  replace s236 := (e 236 (by decide)).trans s236
  replace s241 := (e 241 (by decide)).trans s241
  replace s244 := (e 244 (by decide)).trans s244
  clear e
  refine st_take (k := 246) F rfl rfl (by decide) (by decide) (y_xor rfl rfl s244 s245 (hw.el 14) k4) ?_
  intro f12 F s246 e
  replace s236 := (e 236 (by decide)).trans s236
  replace s241 := (e 241 (by decide)).trans s241
  clear e
  refine st_take (k := 248) F rfl rfl (by decide) (by decide) (y_ix (i := 15) (d0 := d0) (d1 := d1) (d2 := d2) (d3 := d3) (d4 := d4) (q := q) rfl rfl F.t1 (by decide)) ?_
  intro f13 F s248 e
  replace s236 := (e 236 (by decide)).trans s236
  replace s241 := (e 241 (by decide)).trans s241
  replace s246 := (e 246 (by decide)).trans s246
  clear e
  refine st_take (k := 249) F rfl rfl (by decide) (by decide) (y_ld (i := 15) hal rfl rfl s248 (by decide)) ?_
  intro f14 F s249 e
  replace s236 := (e 236 (by decide)).trans s236
  replace s241 := (e 241 (by decide)).trans s241
  replace s246 := (e 246 (by decide)).trans s246
  clear e
  refine st_take (k := 250) F rfl rfl (by decide) (by decide) (y_move rfl rfl F.t3) ?_
  intro f15 F s250 e
  replace s236 := (e 236 (by decide)).trans s236
  replace s241 := (e 241 (by decide)).trans s241
  replace s246 := (e 246 (by decide)).trans s246
  replace s249 := (e 249 (by decide)).trans s249
  clear e
  refine st_take (k := 251) F rfl rfl (by decide) (by decide) (y_xor rfl rfl s249 s250 (hw.el 15) k0) ?_
  intro f16 F s251 e
  replace s236 := (e 236 (by decide)).trans s236
  replace s241 := (e 241 (by decide)).trans s241
  replace s246 := (e 246 (by decide)).trans s246
  clear e
  refine st_take (k := 253) F rfl rfl (by decide) (by decide) (y_ix (i := 21) (d0 := d0) (d1 := d1) (d2 := d2) (d3 := d3) (d4 := d4) (q := q) rfl rfl F.t1 (by decide)) ?_
  intro f17 F s253 e
  replace s236 := (e 236 (by decide)).trans s236
  replace s241 := (e 241 (by decide)).trans s241
  replace s246 := (e 246 (by decide)).trans s246
  replace s251 := (e 251 (by decide)).trans s251
  clear e
  refine st_take (k := 254) F rfl rfl (by decide) (by decide) (y_ld (i := 21) hal rfl rfl s253 (by decide)) ?_
  intro f18 F s254 e
  replace s236 := (e 236 (by decide)).trans s236
  replace s241 := (e 241 (by decide)).trans s241
  replace s246 := (e 246 (by decide)).trans s246
  replace s251 := (e 251 (by decide)).trans s251
  clear e
  refine st_take (k := 255) F rfl rfl (by decide) (by decide) (y_move rfl rfl F.t4) ?_
  intro f19 F s255 e
  replace s236 := (e 236 (by decide)).trans s236
  replace s241 := (e 241 (by decide)).trans s241
  replace s246 := (e 246 (by decide)).trans s246
  replace s251 := (e 251 (by decide)).trans s251
  replace s254 := (e 254 (by decide)).trans s254
  clear e
  refine st_take (k := 256) F rfl rfl (by decide) (by decide) (y_xor rfl rfl s254 s255 (hw.el 21) k1) ?_
  intro f20 F s256 e
  replace s236 := (e 236 (by decide)).trans s236
  replace s241 := (e 241 (by decide)).trans s241
  replace s246 := (e 246 (by decide)).trans s246
  replace s251 := (e 251 (by decide)).trans s251
  clear e
  refine st_call (k := 237) (args := #[.int .u64 ((el a 2 ^^^ d2 : Nat) : Int), .int .i64 62]) F rfl rfl (by decide) (by decide) rfl rfl Tryd.call80 (by simp only [List.map_toArray, List.map_cons, List.map_nil, ev_const, s236]) (turn_any _ 62 _ (xor_w (hw.el 2) k2) (by decide)) hS ?_
  intro f21 F s237 e
  replace s241 := (e 241 (by decide)).trans s241
  replace s246 := (e 246 (by decide)).trans s246
  replace s251 := (e 251 (by decide)).trans s251
  replace s256 := (e 256 (by decide)).trans s256
  clear e
  refine st_call (k := 242) (args := #[.int .u64 ((el a 8 ^^^ d3 : Nat) : Int), .int .i64 55]) F rfl rfl (by decide) (by decide) rfl rfl Tryd.call80 (by simp only [List.map_toArray, List.map_cons, List.map_nil, ev_const, s241]) (turn_any _ 55 _ (xor_w (hw.el 8) k3) (by decide)) hS ?_
  intro f22 F s242 e
  replace s246 := (e 246 (by decide)).trans s246
  replace s251 := (e 251 (by decide)).trans s251
  replace s256 := (e 256 (by decide)).trans s256
  replace s237 := (e 237 (by decide)).trans s237
  clear e
  refine st_call (k := 247) (args := #[.int .u64 ((el a 14 ^^^ d4 : Nat) : Int), .int .i64 39]) F rfl rfl (by decide) (by decide) rfl rfl Tryd.call80 (by simp only [List.map_toArray, List.map_cons, List.map_nil, ev_const, s246]) (turn_any _ 39 _ (xor_w (hw.el 14) k4) (by decide)) hS ?_
  intro f23 F s247 e
  replace s251 := (e 251 (by decide)).trans s251
  replace s256 := (e 256 (by decide)).trans s256
  replace s237 := (e 237 (by decide)).trans s237
  replace s242 := (e 242 (by decide)).trans s242
  clear e
  refine st_call (k := 252) (args := #[.int .u64 ((el a 15 ^^^ d0 : Nat) : Int), .int .i64 41]) F rfl rfl (by decide) (by decide) rfl rfl Tryd.call80 (by simp only [List.map_toArray, List.map_cons, List.map_nil, ev_const, s251]) (turn_any _ 41 _ (xor_w (hw.el 15) k0) (by decide)) hS ?_
  intro f24 F s252 e
  replace s256 := (e 256 (by decide)).trans s256
  replace s237 := (e 237 (by decide)).trans s237
  replace s242 := (e 242 (by decide)).trans s242
  replace s247 := (e 247 (by decide)).trans s247
  clear e
  refine st_call (k := 257) (args := #[.int .u64 ((el a 21 ^^^ d1 : Nat) : Int), .int .i64 2]) F rfl rfl (by decide) (by decide) rfl rfl Tryd.call80 (by simp only [List.map_toArray, List.map_cons, List.map_nil, ev_const, s256]) (turn_any _ 2 _ (xor_w (hw.el 21) k1) (by decide)) hS ?_
  intro f25 F s257 e
  replace s237 := (e 237 (by decide)).trans s237
  replace s242 := (e 242 (by decide)).trans s242
  replace s247 := (e 247 (by decide)).trans s247
  replace s252 := (e 252 (by decide)).trans s252
  clear e
  refine st_call (k := 258) (args := #[.int .u64 (((rotl (el a 2 ^^^ d2) 62) : Nat) : Int), .int .u64 (((rotl (el a 8 ^^^ d3) 55) : Nat) : Int), .int .u64 (((rotl (el a 14 ^^^ d4) 39) : Nat) : Int), .int .u64 (((rotl (el a 15 ^^^ d0) 41) : Nat) : Int), .int .u64 (((rotl (el a 21 ^^^ d1) 2) : Nat) : Int)]) F rfl rfl (by decide) (by decide) rfl rfl Tryd.call79 (by simp only [List.map_toArray, List.map_cons, List.map_nil, s237, s242, s247, s252, s257]) (mixed_any _ _ _ _ _ _ (rotl_lt (xor_w (hw.el 2) k2) 62) (rotl_lt (xor_w (hw.el 8) k3) 55) (rotl_lt (xor_w (hw.el 14) k4) 39) (rotl_lt (xor_w (hw.el 15) k0) 41) (rotl_lt (xor_w (hw.el 21) k1) 2)) hS ?_
  intro f26 F s258 e
  clear e
  refine st_take (k := 232) F rfl rfl (by decide) (by decide) (y_move rfl rfl s258) ?_
  intro f27 F s232 e
  clear e
  refine st_take (k := 259) F rfl rfl (by decide) (by decide) (y_extract (k := 0) rfl rfl s232 rfl) ?_
  intro f28 F s259 e
  replace s232 := (e 232 (by decide)).trans s232
  clear e
  refine st_take (k := 260) F rfl rfl (by decide) (by decide) (y_extract (k := 1) rfl rfl s232 rfl) ?_
  intro f29 F s260 e
  replace s232 := (e 232 (by decide)).trans s232
  replace s259 := (e 259 (by decide)).trans s259
  clear e
  refine st_take (k := 261) F rfl rfl (by decide) (by decide) (y_extract (k := 2) rfl rfl s232 rfl) ?_
  intro f30 F s261 e
  replace s232 := (e 232 (by decide)).trans s232
  replace s259 := (e 259 (by decide)).trans s259
  replace s260 := (e 260 (by decide)).trans s260
  clear e
  refine st_take (k := 262) F rfl rfl (by decide) (by decide) (y_extract (k := 3) rfl rfl s232 rfl) ?_
  intro f31 F s262 e
  replace s232 := (e 232 (by decide)).trans s232
  replace s259 := (e 259 (by decide)).trans s259
  replace s260 := (e 260 (by decide)).trans s260
  replace s261 := (e 261 (by decide)).trans s261
  clear e
  refine st_take (k := 263) F rfl rfl (by decide) (by decide) (y_extract (k := 4) rfl rfl s232 rfl) ?_
  intro f32 F s263 e
  replace s232 := (e 232 (by decide)).trans s232
  replace s259 := (e 259 (by decide)).trans s259
  replace s260 := (e 260 (by decide)).trans s260
  replace s261 := (e 261 (by decide)).trans s261
  replace s262 := (e 262 (by decide)).trans s262
  clear e
  refine st_take (k := 264) F rfl rfl (by decide) (by decide) (y_ix (i := 20) (d0 := d0) (d1 := d1) (d2 := d2) (d3 := d3) (d4 := d4) (q := q) rfl rfl F.t2 (by decide)) ?_
  intro f33 F s264 e
  replace s232 := (e 232 (by decide)).trans s232
  replace s259 := (e 259 (by decide)).trans s259
  replace s260 := (e 260 (by decide)).trans s260
  replace s261 := (e 261 (by decide)).trans s261
  replace s262 := (e 262 (by decide)).trans s262
  replace s263 := (e 263 (by decide)).trans s263
  clear e
  refine st_store (c := 20) rfl rfl rfl rfl s264 s259 (by decide) hS ?_
  replace hS := hS.set 20 (.int .u64 ((mixW (rotl (el a 2 ^^^ d2) 62) (rotl (el a 8 ^^^ d3) 55) (rotl (el a 14 ^^^ d4) 39)) : Nat))
  refine st_take (k := 265) F rfl rfl (by decide) (by decide) (y_ix (i := 21) (d0 := d0) (d1 := d1) (d2 := d2) (d3 := d3) (d4 := d4) (q := q) rfl rfl F.t2 (by decide)) ?_
  intro f34 F s265 e
  replace s232 := (e 232 (by decide)).trans s232
  replace s259 := (e 259 (by decide)).trans s259
  replace s260 := (e 260 (by decide)).trans s260
  replace s261 := (e 261 (by decide)).trans s261
  replace s262 := (e 262 (by decide)).trans s262
  replace s263 := (e 263 (by decide)).trans s263
  clear e
  refine st_store (c := 21) rfl rfl rfl rfl s265 s260 (by decide) hS ?_
  replace hS := hS.set 21 (.int .u64 ((mixW (rotl (el a 8 ^^^ d3) 55) (rotl (el a 14 ^^^ d4) 39) (rotl (el a 15 ^^^ d0) 41)) : Nat))
  refine st_take (k := 266) F rfl rfl (by decide) (by decide) (y_ix (i := 22) (d0 := d0) (d1 := d1) (d2 := d2) (d3 := d3) (d4 := d4) (q := q) rfl rfl F.t2 (by decide)) ?_
  intro f35 F s266 e
  replace s232 := (e 232 (by decide)).trans s232
  replace s259 := (e 259 (by decide)).trans s259
  replace s260 := (e 260 (by decide)).trans s260
  replace s261 := (e 261 (by decide)).trans s261
  replace s262 := (e 262 (by decide)).trans s262
  replace s263 := (e 263 (by decide)).trans s263
  clear e
  refine st_store (c := 22) rfl rfl rfl rfl s266 s261 (by decide) hS ?_
  replace hS := hS.set 22 (.int .u64 ((mixW (rotl (el a 14 ^^^ d4) 39) (rotl (el a 15 ^^^ d0) 41) (rotl (el a 21 ^^^ d1) 2)) : Nat))
  refine st_take (k := 267) F rfl rfl (by decide) (by decide) (y_ix (i := 23) (d0 := d0) (d1 := d1) (d2 := d2) (d3 := d3) (d4 := d4) (q := q) rfl rfl F.t2 (by decide)) ?_
  intro f36 F s267 e
  replace s232 := (e 232 (by decide)).trans s232
  replace s259 := (e 259 (by decide)).trans s259
  replace s260 := (e 260 (by decide)).trans s260
  replace s261 := (e 261 (by decide)).trans s261
  replace s262 := (e 262 (by decide)).trans s262
  replace s263 := (e 263 (by decide)).trans s263
  clear e
  refine st_store (c := 23) rfl rfl rfl rfl s267 s262 (by decide) hS ?_
  replace hS := hS.set 23 (.int .u64 ((mixW (rotl (el a 15 ^^^ d0) 41) (rotl (el a 21 ^^^ d1) 2) (rotl (el a 2 ^^^ d2) 62)) : Nat))
  refine st_take (k := 268) F rfl rfl (by decide) (by decide) (y_ix (i := 24) (d0 := d0) (d1 := d1) (d2 := d2) (d3 := d3) (d4 := d4) (q := q) rfl rfl F.t2 (by decide)) ?_
  intro f37 F s268 e
  replace s232 := (e 232 (by decide)).trans s232
  replace s259 := (e 259 (by decide)).trans s259
  replace s260 := (e 260 (by decide)).trans s260
  replace s261 := (e 261 (by decide)).trans s261
  replace s262 := (e 262 (by decide)).trans s262
  replace s263 := (e 263 (by decide)).trans s263
  clear e
  refine st_store (c := 24) rfl rfl rfl rfl s268 s263 (by decide) hS ?_
  replace hS := hS.set 24 (.int .u64 ((mixW (rotl (el a 21 ^^^ d1) 2) (rotl (el a 2 ^^^ d2) 62) (rotl (el a 8 ^^^ d3) 55)) : Nat))
  exact NoPanic.normal (hQ _ _ _ rfl (by simp only [List.length_set]; exact hl) F (Lies.set (Lies.set (Lies.set (Lies.set (Lies.set (Lies.drewN hR 1) 20 (mixW (rotl (el a 2 ^^^ d2) 62) (rotl (el a 8 ^^^ d3) 55) (rotl (el a 14 ^^^ d4) 39))) 21 (mixW (rotl (el a 8 ^^^ d3) 55) (rotl (el a 14 ^^^ d4) 39) (rotl (el a 15 ^^^ d0) 41))) 22 (mixW (rotl (el a 14 ^^^ d4) 39) (rotl (el a 15 ^^^ d0) 41) (rotl (el a 21 ^^^ d1) 2))) 23 (mixW (rotl (el a 15 ^^^ d0) 41) (rotl (el a 21 ^^^ d1) 2) (rotl (el a 2 ^^^ d2) 62))) 24 (mixW (rotl (el a 21 ^^^ d1) 2) (rotl (el a 2 ^^^ d2) 62) (rotl (el a 8 ^^^ d3) 55))) (((((((But.refl (q + 1) x).drew).setCell _ _).setCell _ _).setCell _ _).setCell _ _).setCell _ _))
end Go.Proofs.YtpmobjfhhkglbaaDoor

/- Contract of keccak.round: the words behind a round, all but its constant. -/
namespace Go.Proofs.YtpmobjfhhkglbaaDoor
open Go.RowKit
set_option linter.unusedVariables false
set_option linter.unusedSimpArgs false

theorem sets25 (m0 m1 m2 m3 m4 m5 m6 m7 m8 m9 m10 m11 m12 m13 m14 m15 m16 m17 m18 m19 m20 m21 m22 m23 m24 : Nat) : (((((((((((((((((((((((((zs 25).set 0 m0).set 1 m1).set 2 m2).set 3 m3).set 4 m4).set 5 m5).set 6 m6).set 7 m7).set 8 m8).set 9 m9).set 10 m10).set 11 m11).set 12 m12).set 13 m13).set 14 m14).set 15 m15).set 16 m16).set 17 m17).set 18 m18).set 19 m19).set 20 m20).set 21 m21).set 22 m22).set 23 m23).set 24 m24 = [m0, m1, m2, m3, m4, m5, m6, m7, m8, m9, m10, m11, m12, m13, m14, m15, m16, m17, m18, m19, m20, m21, m22, m23, m24] := by kernel_rfl
theorem rows_is (a : List Nat) (d0 d1 d2 d3 d4 : Nat) : row0 a [d0, d1, d2, d3, d4] ++ row1 a [d0, d1, d2, d3, d4] ++ row2 a [d0, d1, d2, d3, d4] ++ row3 a [d0, d1, d2, d3, d4] ++ row4 a [d0, d1, d2, d3, d4] = [mixW (el a 0 ^^^ d0) (rotl (el a 6 ^^^ d1) 44) (rotl (el a 12 ^^^ d2) 43), mixW (rotl (el a 6 ^^^ d1) 44) (rotl (el a 12 ^^^ d2) 43) (rotl (el a 18 ^^^ d3) 21), mixW (rotl (el a 12 ^^^ d2) 43) (rotl (el a 18 ^^^ d3) 21) (rotl (el a 24 ^^^ d4) 14), mixW (rotl (el a 18 ^^^ d3) 21) (rotl (el a 24 ^^^ d4) 14) (el a 0 ^^^ d0), mixW (rotl (el a 24 ^^^ d4) 14) (el a 0 ^^^ d0) (rotl (el a 6 ^^^ d1) 44), mixW (rotl (el a 3 ^^^ d3) 28) (rotl (el a 9 ^^^ d4) 20) (rotl (el a 10 ^^^ d0) 3), mixW (rotl (el a 9 ^^^ d4) 20) (rotl (el a 10 ^^^ d0) 3) (rotl (el a 16 ^^^ d1) 45), mixW (rotl (el a 10 ^^^ d0) 3) (rotl (el a 16 ^^^ d1) 45) (rotl (el a 22 ^^^ d2) 61), mixW (rotl (el a 16 ^^^ d1) 45) (rotl (el a 22 ^^^ d2) 61) (rotl (el a 3 ^^^ d3) 28), mixW (rotl (el a 22 ^^^ d2) 61) (rotl (el a 3 ^^^ d3) 28) (rotl (el a 9 ^^^ d4) 20), mixW (rotl (el a 1 ^^^ d1) 1) (rotl (el a 7 ^^^ d2) 6) (rotl (el a 13 ^^^ d3) 25), mixW (rotl (el a 7 ^^^ d2) 6) (rotl (el a 13 ^^^ d3) 25) (rotl (el a 19 ^^^ d4) 8), mixW (rotl (el a 13 ^^^ d3) 25) (rotl (el a 19 ^^^ d4) 8) (rotl (el a 20 ^^^ d0) 18), mixW (rotl (el a 19 ^^^ d4) 8) (rotl (el a 20 ^^^ d0) 18) (rotl (el a 1 ^^^ d1) 1), mixW (rotl (el a 20 ^^^ d0) 18) (rotl (el a 1 ^^^ d1) 1) (rotl (el a 7 ^^^ d2) 6), mixW (rotl (el a 4 ^^^ d4) 27) (rotl (el a 5 ^^^ d0) 36) (rotl (el a 11 ^^^ d1) 10), mixW (rotl (el a 5 ^^^ d0) 36) (rotl (el a 11 ^^^ d1) 10) (rotl (el a 17 ^^^ d2) 15), mixW (rotl (el a 11 ^^^ d1) 10) (rotl (el a 17 ^^^ d2) 15) (rotl (el a 23 ^^^ d3) 56), mixW (rotl (el a 17 ^^^ d2) 15) (rotl (el a 23 ^^^ d3) 56) (rotl (el a 4 ^^^ d4) 27), mixW (rotl (el a 23 ^^^ d3) 56) (rotl (el a 4 ^^^ d4) 27) (rotl (el a 5 ^^^ d0) 36), mixW (rotl (el a 2 ^^^ d2) 62) (rotl (el a 8 ^^^ d3) 55) (rotl (el a 14 ^^^ d4) 39), mixW (rotl (el a 8 ^^^ d3) 55) (rotl (el a 14 ^^^ d4) 39) (rotl (el a 15 ^^^ d0) 41), mixW (rotl (el a 14 ^^^ d4) 39) (rotl (el a 15 ^^^ d0) 41) (rotl (el a 21 ^^^ d1) 2), mixW (rotl (el a 15 ^^^ d0) 41) (rotl (el a 21 ^^^ d1) 2) (rotl (el a 2 ^^^ d2) 62), mixW (rotl (el a 21 ^^^ d1) 2) (rotl (el a 2 ^^^ d2) 62) (rotl (el a 8 ^^^ d3) 55)] := by
  have e0 : el [d0, d1, d2, d3, d4] 0 = d0 := rfl
  have e1 : el [d0, d1, d2, d3, d4] 1 = d1 := rfl
  have e2 : el [d0, d1, d2, d3, d4] 2 = d2 := rfl
  have e3 : el [d0, d1, d2, d3, d4] 3 = d3 := rfl
  have e4 : el [d0, d1, d2, d3, d4] 4 = d4 := rfl
  unfold row0 row1 row2 row3 row4 mixL
  simp only [e0, e1, e2, e3, e4, List.cons_append, List.nil_append]
set_option maxHeartbeats 4000000 in
set_option maxRecDepth 100000 in
theorem round_any (a : List Nat) (w : World) (hw : W25 a) :
    Calls Tryd.prog 64 #[.agg (arr .u64 a)] w fun e w' => e = .returned (.agg (arr .u64 (roundK a))) ∧ Below w.heap.size w w' := by
  have hz := zero25
  have hA0 : Lies .u64 68 ((w.alloc (.cells (arr .u64 a) 68)).alloc (.cells (arr .u64 (zs 25)) 68)) w.heap.size a := (Lies.new .u64 68 w a).alloc _
  have hR0 : Lies .u64 68 ((w.alloc (.cells (arr .u64 a) 68)).alloc (.cells (arr .u64 (zs 25)) 68)) (w.heap.size + 1) (zs 25) := by
    have := Lies.new .u64 68 (w.alloc (.cells (arr .u64 a) 68)) (zs 25)
    rw [World.size_alloc] at this
    exact this
  have hb0 := keep_trans (keep_alloc w (.cells (arr .u64 a) 68)) (keep_alloc _ (.cells (arr .u64 (zs 25)) 68))
  have hal := hw.1
  have c0 := hA0.cell (i := 0) (by rw [hal]; decide)
  have c1 := hA0.cell (i := 1) (by rw [hal]; decide)
  have c2 := hA0.cell (i := 2) (by rw [hal]; decide)
  have c3 := hA0.cell (i := 3) (by rw [hal]; decide)
  have c4 := hA0.cell (i := 4) (by rw [hal]; decide)
  have c5 := hA0.cell (i := 5) (by rw [hal]; decide)
  have c6 := hA0.cell (i := 6) (by rw [hal]; decide)
  have c7 := hA0.cell (i := 7) (by rw [hal]; decide)
  have c8 := hA0.cell (i := 8) (by rw [hal]; decide)
  have c9 := hA0.cell (i := 9) (by rw [hal]; decide)
  have c10 := hA0.cell (i := 10) (by rw [hal]; decide)
  have c11 := hA0.cell (i := 11) (by rw [hal]; decide)
  have c12 := hA0.cell (i := 12) (by rw [hal]; decide)
  have c13 := hA0.cell (i := 13) (by rw [hal]; decide)
  have c14 := hA0.cell (i := 14) (by rw [hal]; decide)
  have c15 := hA0.cell (i := 15) (by rw [hal]; decide)
  have c16 := hA0.cell (i := 16) (by rw [hal]; decide)
  have c17 := hA0.cell (i := 17) (by rw [hal]; decide)
  have c18 := hA0.cell (i := 18) (by rw [hal]; decide)
  have c19 := hA0.cell (i := 19) (by rw [hal]; decide)
  have c20 := hA0.cell (i := 20) (by rw [hal]; decide)
  have c21 := hA0.cell (i := 21) (by rw [hal]; decide)
  have c22 := hA0.cell (i := 22) (by rw [hal]; decide)
  have c23 := hA0.cell (i := 23) (by rw [hal]; decide)
  have c24 := hA0.cell (i := 24) (by rw [hal]; decide)
  have p0 : bits .xor .u64 (bits .xor .u64 (bits .xor .u64 (bits .xor .u64 (el a 0 : Int) (el a 5 : Int)) (el a 10 : Int)) (el a 15 : Int)) (el a 20 : Int) = ((parK a 0 : Nat) : Int) := par_is a 0 hw
  have l0 := parK_lt a 0 hw
  have p1 : bits .xor .u64 (bits .xor .u64 (bits .xor .u64 (bits .xor .u64 (el a 1 : Int) (el a 6 : Int)) (el a 11 : Int)) (el a 16 : Int)) (el a 21 : Int) = ((parK a 1 : Nat) : Int) := par_is a 1 hw
  have l1 := parK_lt a 1 hw
  have p2 : bits .xor .u64 (bits .xor .u64 (bits .xor .u64 (bits .xor .u64 (el a 2 : Int) (el a 7 : Int)) (el a 12 : Int)) (el a 17 : Int)) (el a 22 : Int) = ((parK a 2 : Nat) : Int) := par_is a 2 hw
  have l2 := parK_lt a 2 hw
  have p3 : bits .xor .u64 (bits .xor .u64 (bits .xor .u64 (bits .xor .u64 (el a 3 : Int) (el a 8 : Int)) (el a 13 : Int)) (el a 18 : Int)) (el a 23 : Int) = ((parK a 3 : Nat) : Int) := par_is a 3 hw
  have l3 := parK_lt a 3 hw
  have p4 : bits .xor .u64 (bits .xor .u64 (bits .xor .u64 (bits .xor .u64 (el a 4 : Int) (el a 9 : Int)) (el a 14 : Int)) (el a 19 : Int)) (el a 24 : Int) = ((parK a 4 : Nat) : Int) := par_is a 4 hw
  have l4 := parK_lt a 4 hw
  have hres : roundK a = row0 a (colK a) ++ row1 a (colK a) ++ row2 a (colK a) ++ row3 a (colK a) ++ row4 a (colK a) := rfl
  have hcol : colK a = [besK (parK a 4) (parK a 1), besK (parK a 0) (parK a 2), besK (parK a 1) (parK a 3), besK (parK a 2) (parK a 4), besK (parK a 3) (parK a 0)] := rfl
  have HRES := hide hres
  have HCOL := hide hcol
  clear hres hcol
  go_enter Tryd.func64, Tryd.ntmps64
  go_wp2_with fail
  refine (beside_any (parK a 0) (parK a 1) (parK a 2) (parK a 3) (parK a 4) _ l0 l1 l2 l3 l4).mono ?_
  rintro e w1 ⟨rfl, rfl⟩
  unfold five
  have k0 := besK_lt l4 l1
  have k1 := besK_lt l0 l2
  have k2 := besK_lt l1 l3
  have k3 := besK_lt l2 l4
  have k4 := besK_lt l3 l0
  clear c0 c1 c2 c3 c4 c5 c6 c7 c8 c9 c10 c11 c12 c13 c14 c15 c16 c17 c18 c19 c20 c21 c22 c23 c24 p0 l0 p1 l1 p2 l2 p3 l3 p4 l4 hz
  generalize hk0 : besK (parK a 4) (parK a 1) = d0 at *
  have HK0 := hide hk0
  clear hk0
  generalize hk1 : besK (parK a 0) (parK a 2) = d1 at *
  have HK1 := hide hk1
  clear hk1
  generalize hk2 : besK (parK a 1) (parK a 3) = d2 at *
  have HK2 := hide hk2
  clear hk2
  generalize hk3 : besK (parK a 2) (parK a 4) = d3 at *
  have HK3 := hide hk3
  clear hk3
  generalize hk4 : besK (parK a 3) (parK a 0) = d4 at *
  have HK4 := hide hk4
  clear hk4
  generalize (w.alloc (.cells (arr .u64 a) 68)).alloc (.cells (arr .u64 (zs 25)) 68) = x0 at *
  have hl0 : (zs 25).length = 25 := zs_len 25
  go_wp2
  refine reg_0 (q := w.heap.size) (d0 := d0) (d1 := d1) (d2 := d2) (d3 := d3) (d4 := d4) hw k0 k1 k2 k3 k4 hA0 hR0 hl0 ⟨rfl, rfl, rfl, rfl, rfl, rfl, rfl, rfl, rfl⟩ ?_
  rename_i Q' K hK
  intro f1 x1 L1 e1 hl1 F1 hR1 hB1
  have hA1 := hA0.but hB1 (by omega)
  have hb1 := hb0.trans (hB1.below (by omega) hb0.size)
  refine hK f1 x1 (wp_seq (reg_1 hw k0 k1 k2 k3 k4 hA1 hR1 hl1 F1 ?_))
  clear hK
  intro f2 x2 L2 e2 hl2 F2 hR2 hB2
  have hA2 := hA1.but hB2 (by omega)
  have hb2 := hb1.trans (hB2.below (by omega) hb1.size)
  refine wp_seq (reg_2 hw k0 k1 k2 k3 k4 hA2 hR2 hl2 F2 ?_)
  intro f3 x3 L3 e3 hl3 F3 hR3 hB3
  have hA3 := hA2.but hB3 (by omega)
  have hb3 := hb2.trans (hB3.below (by omega) hb2.size)
  refine wp_seq (reg_3 hw k0 k1 k2 k3 k4 hA3 hR3 hl3 F3 ?_)
  intro f4 x4 L4 e4 hl4 F4 hR4 hB4
  have hA4 := hA3.but hB4 (by omega)
  have hb4 := hb3.trans (hB4.below (by omega) hb3.size)
  refine wp_seq (reg_4 hw k0 k1 k2 k3 k4 hA4 hR4 hl4 F4 ?_)
  intro f5 x5 L5 e5 hl5 F5 hR5 hB5
  have hA5 := hA4.but hB5 (by omega)
  have hb5 := hb4.trans (hB5.below (by omega) hb4.size)
  have hfin : L5 = roundK a := by
    rw [HRES.out, HCOL.out]
    subst e5 e4 e3 e2 e1
    exact (sets25 _ _ _ _ _ _ _ _ _ _ _ _ _ _ _ _ _ _ _ _ _ _ _ _ _ ).trans (rows_is a d0 d1 d2 d3 d4).symm
  rw [hfin] at hR5 hl5
  clear hfin e1 e2 e3 e4 e5
  have hOf : Lies .u64 68 (x5.setRow (w.heap.size + 1) (arr .u64 (roundK a))) (w.heap.size + 1) (roundK a) := hR5.row
  have hbf := hb5.trans ((But.setRow (But.refl (w.heap.size + 1) _) (arr .u64 (roundK a))).below (by omega) hb5.size)
  refine wp_seq (wp_region_lit ?_)
  refine wpList_load_row rfl 68 _ rfl (w.heap.size + 1) F5.t2 _ _ _ (.array 25 49) hR5 (by kernel_rfl) rfl (by rw [arr_size, hl5]; kernel_rfl) ?_
  have F6 := F5.put (k := 269) (by decide) (.agg (arr .u64 (roundK a)))
  refine wpList_store_row rfl 68 _ _ rfl (w.heap.size + 1) (arr .u64 (roundK a)) F6.t2 (put_same (by rw [F5.size]; decide)) _ _ hR5 (by rw [arr_size, hl5]; kernel_rfl) rfl (arr_one _ _) ?_
  refine wp_ret ?_
  refine bodyPost_ret (v := .agg (arr .u64 (roundK a))) ?_ F6.dfr ⟨rfl, hbf⟩
  exact results_cell_row Tryd.results64 _ _ (w.heap.size + 1) _ _ _ (.array 25 49) F6.t2 hOf (by kernel_rfl) rfl (by rw [arr_size, hl5]; kernel_rfl)
end Go.Proofs.YtpmobjfhhkglbaaDoor
