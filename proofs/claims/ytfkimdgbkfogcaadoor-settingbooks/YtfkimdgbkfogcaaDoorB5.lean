/- The law's first. -/
import Derived.Test.YtfkimdgbkfogcaaDoorB4
import Derived.Test.YtfkimdgbkfogcaaDoorA4
import Derived.Test.YtfkimdgbkfogcaaDoorA5
import Derived.Test.YtfkimdgbkfogcaaDoorA6
import Derived.Test.YtfkimdgbkfogcaaDoorA7
namespace Go.Proofs.YtfkimdgbkfogcaaDoor
open Go.RowKit
set_option linter.unusedVariables false
set_option linter.unusedSimpArgs false

def s1 : St := ⟨0, 1, 2147483647, 100, 16384, 2147483647⟩
def s5 : St := ⟨4096, 0, 2147483647, 65535, 16384, 2147483647⟩

/-- what lies there where first compares -/
structure Fv (w : World) (a1 a2 a5 b : Nat) (v lv : Value) (W : World) : Prop where
  bel : Below w.heap.size w W
  d1 : W.heap[a1]? = some (.cells St.dfl.a 27 (0, 0))
  d2 : W.heap[a2]? = some (.cells s1.a 27 (0, 0))
  d5 : W.heap[a5]? = some (.cells s5.a 27 (0, 0))
  bk : Bk W b true s5 v []
  row : R EP W lv [(1, 0), (4, 100)]
theorem Fv.below {w : World} {a1 a2 a5 b : Nat} {v lv : Value} {W V : World} (h : Fv w a1 a2 a5 b v lv W) (hb : Below W.heap.size W V) : Fv w a1 a2 a5 b v lv V :=
  ⟨h.bel.trans (hb.mono h.bel.size), (hb.block _ (heap_lt h.d1)).trans h.d1, (hb.block _ (heap_lt h.d2)).trans h.d2, (hb.block _ (heap_lt h.d5)).trans h.d5, h.bk.below hb, h.row.below hb⟩

/-- the same ahead of the last list -/
structure F0 (w : World) (a1 : Nat) (W : World) : Prop where
  bel : Below w.heap.size w W
  std : Std W
  d1 : W.heap[a1]? = some (.cells St.dfl.a 27 (0, 0))
theorem F0.below {w : World} {a1 : Nat} {W V : World} (h : F0 w a1 W) (hb : Below W.heap.size W V) : F0 w a1 V :=
  ⟨h.bel.trans (hb.mono h.bel.size), h.std.below hb, (hb.block _ (heap_lt h.d1)).trans h.d1⟩

set_option maxRecDepth 100000 in
set_option maxHeartbeats 16000000 in
theorem first_any (w : World) (hS : Std w) :
    Calls Tryd.prog 9 #[] w fun e w' => e = .returned (.bool true) ∧ Below w.heap.size w w' := by
  have hd := dflt hS
  have hw1 : 0 < w.heap.size := hS.lt
  -- the first Apply
  have hAp : Calls Tryd.prog 11 #[.agg St.dfl.a, .slice (some ⟨w.heap.size + 1 + 1, 0, none⟩) 2 2, .bool true] (((w.alloc (.cells St.dfl.a 27)).alloc (.cells St.dfl.a 27)).alloc (.cells #[.int .i64 1, .int .i64 0, .int .i64 4, .int .i64 100] 46)) fun e w2 => e = .returned (.tuple #[.agg s1.a, .int .i64 0]) ∧ Hid (F0 w (w.heap.size + 1) (w2.alloc (.cells s1.a 27)) ∧ (w2.alloc (.cells s1.a 27)).heap[w2.heap.size]? = some (.cells s1.a 27 (0, 0))) := by
    have hb3 := bel3 w (.cells St.dfl.a 27) (.cells St.dfl.a 27) (.cells #[.int .i64 1, .int .i64 0, .int .i64 4, .int .i64 100] 46)
    refine (apply_any St.dfl _ [(1, 0), (4, 100)] true _ (in_two _ _ _ _ _ _ 46 (0, 0) (fresh3 _ _ _ _))).mono ?_
    rintro e w2 ⟨rfl, hb⟩
    have hbb := hb.trans ((bel1 w2 (.cells s1.a 27)).mono hb.size)
    have e1 : (((w.alloc (.cells St.dfl.a 27)).alloc (.cells St.dfl.a 27)).alloc (.cells #[.int .i64 1, .int .i64 0, .int .i64 4, .int .i64 100] 46)).heap[w.heap.size + 1]? = some (.cells St.dfl.a 27 (0, 0)) := by
      rw [heap_al, if_neg (by simp)]
      exact fresh2 _ _ _
    exact ⟨rfl, ⟨hb3.trans (hbb.mono hb3.size), (hS.below hb3).below hbb, (hbb.block _ (heap_lt e1)).trans e1⟩, heap_alloc_new _ _⟩
  have hNw : ∀ (W : World) (a2 : Nat), Hid (F0 w (w.heap.size + 1) W ∧ W.heap[a2]? = some (.cells s1.a 27 (0, 0))) → Calls Tryd.prog 8 #[.bool true] W fun e w3 => ∃ b, e = .returned (.pointer (some ⟨b, 0, none⟩)) ∧ Hid (F0 w (w.heap.size + 1) w3 ∧ w3.heap[a2]? = some (.cells s1.a 27 (0, 0)) ∧ Bk w3 b true St.dfl (.slice none 0 0) [] ∧ w.heap.size + 1 < b ∧ a2 < b) := by
    intro W a2 h
    obtain ⟨k0, k1⟩ := h.out
    refine (new_any true W k0.std).mono ?_
    rintro e w3 ⟨b, rfl, hB, hb, hBel⟩
    exact ⟨b, rfl, k0.below hBel, (hBel.block _ (heap_lt k1)).trans k1, hB, Nat.lt_of_lt_of_le (heap_lt k0.d1) hb, Nat.lt_of_lt_of_le (heap_lt k1) hb⟩
  have hSd : ∀ (W : World) (a2 b : Nat), Hid (F0 w (w.heap.size + 1) W ∧ W.heap[a2]? = some (.cells s1.a 27 (0, 0)) ∧ Bk W b true St.dfl (.slice none 0 0) [] ∧ w.heap.size + 1 < b ∧ a2 < b) → Calls Tryd.prog 12 #[.pointer (some ⟨b, 0, none⟩), .slice (some ⟨W.heap.size, 0, none⟩) 1 1] (W.alloc (.cells #[.int .i64 2, .int .i64 0] 46)) fun e w4 => e = .returned (.int .i64 0) ∧ Hid (∃ v, F0 w (w.heap.size + 1) w4 ∧ w4.heap[a2]? = some (.cells s1.a 27 (0, 0)) ∧ Bk w4 b true St.dfl v [s5] ∧ w.heap.size + 1 < b ∧ a2 < b ∧ ∀ k, v.ownBlock = some k → b < k) := by
    intro W a2 b h
    obtain ⟨k0, k1, k2, k3, k4⟩ := h.out
    have hb1 := bel1 W (.cells #[.int .i64 2, .int .i64 0] 46)
    refine (send_any _ b true St.dfl _ [] (k2.below hb1) _ [(2, 0)] (in_one (E := EP) _ W.heap.size (2, 0) _ 46 (0, 0) (heap_alloc_new _ _) rfl)).mono ?_
    rintro e w4 ⟨rfl, v, hB, hK, hown⟩
    have hbel : Below b (W.alloc (.cells #[.int .i64 2, .int .i64 0] 46)) w4 := hK.below (by have := (k2.below hb1).lt; omega) (fun i hi => by
      rintro (e | e)
      · omega
      · simp [Value.ownBlock] at e)
    have hlt := (k2.below hb1).lt
    have g0 := k0.below hb1
    have hws : w.heap.size ≤ b := by omega
    refine ⟨rfl, v, ⟨g0.bel.trans (hbel.mono hws), ?_, (hbel.block _ k3).trans g0.d1⟩, (hbel.block _ k4).trans ((hb1.block _ (heap_lt k1)).trans k1), hB, k3, k4, fun k hk => ?_⟩
    · obtain ⟨t, ht⟩ := g0.std
      exact ⟨t, (hbel.block 0 (by omega)).trans ht⟩
    · rcases hown k hk with h | h
      · simp [Value.ownBlock] at h
      · omega
  have hWt : ∀ (W : World) (a2 b : Nat), Hid (∃ v, F0 w (w.heap.size + 1) W ∧ W.heap[a2]? = some (.cells s1.a 27 (0, 0)) ∧ Bk W b true St.dfl v [s5] ∧ w.heap.size + 1 < b ∧ a2 < b ∧ ∀ k, v.ownBlock = some k → b < k) → Calls Tryd.prog 15 #[.pointer (some ⟨b, 0, none⟩)] W fun e w4 => e = .returned (.int .i64 1) ∧ w4 = W := by
    intro W a2 b h
    obtain ⟨v, _, _, hB, _⟩ := h.out
    exact waiting_any W b true St.dfl v [s5] hB
  have hAk : ∀ (W : World) (a2 b : Nat), Hid (∃ v, F0 w (w.heap.size + 1) W ∧ W.heap[a2]? = some (.cells s1.a 27 (0, 0)) ∧ Bk W b true St.dfl v [s5] ∧ w.heap.size + 1 < b ∧ a2 < b ∧ ∀ k, v.ownBlock = some k → b < k) → Calls Tryd.prog 13 #[.pointer (some ⟨b, 0, none⟩)] W fun e w5 => e = .returned (.tuple #[.agg s5.a, .bool true]) ∧ C6 (w5.alloc (.cells s5.a 27)) (w.heap.size + 1) St.dfl ∧ C6 (w5.alloc (.cells s5.a 27)) a2 s1 ∧ Hid (∃ v, F0 w (w.heap.size + 1) (w5.alloc (.cells s5.a 27)) ∧ (w5.alloc (.cells s5.a 27)).heap[a2]? = some (.cells s1.a 27 (0, 0)) ∧ Bk (w5.alloc (.cells s5.a 27)) b true s5 v [] ∧ (w5.alloc (.cells s5.a 27)).heap[w5.heap.size]? = some (.cells s5.a 27 (0, 0))) := by
    intro W a2 b h
    obtain ⟨v, k0, k1, k2, k3, k4, k5⟩ := h.out
    refine (ack_some W b true St.dfl v s5 [] k2).mono ?_
    rintro e w5 ⟨rfl, v', hB, hK, hown⟩
    have hbel : Below b W w5 := hK.below (by have := k2.lt; omega) (fun i hi => by
      rintro (e | e)
      · omega
      · have := k5 i e; omega)
    have hb1 := bel1 w5 (.cells s5.a 27)
    have g0 : F0 w (w.heap.size + 1) w5 := by
      refine ⟨k0.bel.trans (hbel.mono (by omega)), ?_, (hbel.block _ k3).trans k0.d1⟩
      obtain ⟨t, ht⟩ := k0.std
      exact ⟨t, (hbel.block 0 (by omega)).trans ht⟩
    have g1 : w5.heap[a2]? = some (.cells s1.a 27 (0, 0)) := (hbel.block _ k4).trans k1
    exact ⟨rfl, c6 (g0.below hb1).d1, c6 ((hb1.block _ (heap_lt g1)).trans g1), v', g0.below hb1, (hb1.block _ (heap_lt g1)).trans g1, hB.below hb1, heap_alloc_new _ _⟩
  have hPa : ∀ (W : World) (a2 a5 b : Nat), Hid (∃ v, F0 w (w.heap.size + 1) W ∧ W.heap[a2]? = some (.cells s1.a 27 (0, 0)) ∧ Bk W b true s5 v [] ∧ W.heap[a5]? = some (.cells s5.a 27 (0, 0))) → Calls Tryd.prog 17 #[.agg St.dfl.a, .agg s1.a, .bool true] W fun e w6 => ∃ lb ln lc, e = .returned (.slice lb ln lc) ∧ Hid (∃ v, Fv w (w.heap.size + 1) a2 a5 b v (.slice lb ln lc) w6) := by
    intro W a2 a5 b h
    obtain ⟨v, k0, k1, k2, k5⟩ := h.out
    refine (params_any St.dfl s1 true W).mono ?_
    rintro e w6 ⟨o, rfl, hR, hfr, hB⟩
    have hR' : R EP w6 o [(1, 0), (4, 100)] := hR
    obtain ⟨lb, lc, rfl, _, _⟩ := hR'.slice
    exact ⟨lb, _, lc, rfl, v, k0.bel.trans (hB.mono k0.bel.size), (hB.block _ (heap_lt k0.d1)).trans k0.d1, (hB.block _ (heap_lt k1)).trans k1, (hB.block _ (heap_lt k5)).trans k5, k2.below hB, hR'⟩
  simp only [St.a, St.dfl, s1, s5] at hd hAp hAk hPa
  go_enter Tryd.func9, Tryd.ntmps9
  go_wp2_with (first | (go_at_call 10; refine hd.mono ?_; clear hd; rintro e w' ⟨rfl, rfl⟩) | (go_at_call 11; refine hAp.mono ?_; clear hAp; rintro e w2 ⟨rfl, H2⟩) | (go_at_call 8; refine (hNw _ _ H2).mono ?_; clear hNw H2; rintro e w3 ⟨b, rfl, H3⟩) | (go_at_call 12; refine (hSd _ _ _ H3).mono ?_; clear hSd H3; rintro e w4 ⟨rfl, H4⟩) | (go_at_call 15; refine (hWt _ _ _ H4).mono ?_; clear hWt; rintro e w' ⟨rfl, rfl⟩) | (go_at_call 13; refine (hAk _ _ _ H4).mono ?_; clear hAk H4; rintro e w5 ⟨rfl, ⟨a0, a1, a2, a3, a4, a5⟩, ⟨b0, b1, b2, b3, b4, b5⟩, H5⟩; try simp only at a0 a1 a2 a3 a4 a5 b0 b1 b2 b3 b4 b5) | (go_at_call 17; refine (hPa _ _ _ _ H5).mono ?_; clear hPa H5; rintro e w6 ⟨lb, ln, lc, rfl, H6⟩))
  obtain ⟨v, hF⟩ := H6.out
  have hfull : Hid (∀ W, Fv w (w.heap.size + 1) w2.heap.size w5.heap.size b v (.slice lb ln lc) W → (fun W => W.cell? ⟨w.heap.size + 1, 0, none⟩ = some (.int .i64 4096) ∧ W.cell? ⟨w.heap.size + 1, 1, none⟩ = some (.int .i64 1) ∧ W.cell? ⟨w.heap.size + 1, 2, none⟩ = some (.int .i64 2147483647) ∧ W.cell? ⟨w.heap.size + 1, 3, none⟩ = some (.int .i64 65535) ∧ W.cell? ⟨w.heap.size + 1, 4, none⟩ = some (.int .i64 16384) ∧ W.cell? ⟨w.heap.size + 1, 5, none⟩ = some (.int .i64 2147483647) ∧ W.cell? ⟨w2.heap.size, 0, none⟩ = some (.int .i64 0) ∧ W.cell? ⟨w2.heap.size, 3, none⟩ = some (.int .i64 100) ∧ W.cell? ⟨w5.heap.size, 0, none⟩ = some (.int .i64 4096) ∧ W.cell? ⟨w5.heap.size, 1, none⟩ = some (.int .i64 0) ∧ W.cell? ⟨w5.heap.size, 2, none⟩ = some (.int .i64 2147483647) ∧ W.cell? ⟨w5.heap.size, 3, none⟩ = some (.int .i64 65535) ∧ W.cell? ⟨w5.heap.size, 4, none⟩ = some (.int .i64 16384) ∧ W.cell? ⟨w5.heap.size, 5, none⟩ = some (.int .i64 2147483647) ∧ Fv w (w.heap.size + 1) w2.heap.size w5.heap.size b v (.slice lb ln lc) W) W) := fun W hW =>
    ⟨cell_blk hW.d1 0, cell_blk hW.d1 1, cell_blk hW.d1 2, cell_blk hW.d1 3, cell_blk hW.d1 4, cell_blk hW.d1 5, cell_blk hW.d2 0, cell_blk hW.d2 3, cell_blk hW.d5 0, cell_blk hW.d5 1, cell_blk hW.d5 2, cell_blk hW.d5 3, cell_blk hW.d5 4, cell_blk hW.d5 5, hW⟩
  have hfits : Hid (∀ W, Calls Tryd.prog 18 #[.agg #[.int .i64 4096, .int .i64 1, .int .i64 2147483647, .int .i64 65535, .int .i64 16384, .int .i64 2147483647]] W fun e w' => e = .returned (.bool true) ∧ Below W.heap.size W w') := fun W => fits_any St.dfl W
  have hval : Hid (∀ W, Calls Tryd.prog 20 #[.agg #[.int .i64 2, .int .i64 2], .bool true] W fun e w' => e = .returned (.int .i64 1) ∧ Below W.heap.size W w') := fun W => valid_any 2 2 true W
  have htab : Hid (∀ W : World, R EP W (.slice lb ln lc) [(1, 0), (4, 100)] → Calls Tryd.prog 25 #[.slice lb ln lc] W fun e w' => ∃ ob on oc, e = .returned (.slice ob on oc) ∧ In EI w' (.slice ob on oc) [0] ∧ Below W.heap.size W w') := fun W hR => by
    refine (tables_any _ _ W hR.isIn (by decide)).mono ?_
    rintro e w' ⟨o, rfl, ho, _, hb⟩
    obtain ⟨ob, oc, rfl, _, _⟩ := ho.slice
    exact ⟨ob, _, oc, rfl, ho.isIn, hb⟩
  have hack : Hid (∀ W : World, Bk W b true s5 v [] → Calls Tryd.prog 14 #[.pointer (some ⟨b, 0, none⟩)] W fun e w' => e = .returned (.agg #[.int .i64 4096, .int .i64 0, .int .i64 2147483647, .int .i64 65535, .int .i64 16384, .int .i64 2147483647]) ∧ Below W.heap.size W w') := fun W hB => acked_any W b true s5 v [] hB
  have hwt : Hid (∀ W : World, Bk W b true s5 v [] → Calls Tryd.prog 15 #[.pointer (some ⟨b, 0, none⟩)] W fun e w' => e = .returned (.int .i64 0) ∧ Below W.heap.size W w') := fun W hB => (waiting_any W b true s5 v [] hB).mono (by rintro e w' ⟨rfl, rfl⟩; exact ⟨rfl, Below.refl _ _⟩)
  have hIW := hF.below (Below.refl _ _).drew
  refine wp_region_held_drew (S := (fun W => W.cell? ⟨w.heap.size + 1, 0, none⟩ = some (.int .i64 4096) ∧ W.cell? ⟨w.heap.size + 1, 1, none⟩ = some (.int .i64 1) ∧ W.cell? ⟨w.heap.size + 1, 2, none⟩ = some (.int .i64 2147483647) ∧ W.cell? ⟨w.heap.size + 1, 3, none⟩ = some (.int .i64 65535) ∧ W.cell? ⟨w.heap.size + 1, 4, none⟩ = some (.int .i64 16384) ∧ W.cell? ⟨w.heap.size + 1, 5, none⟩ = some (.int .i64 2147483647) ∧ W.cell? ⟨w2.heap.size, 0, none⟩ = some (.int .i64 0) ∧ W.cell? ⟨w2.heap.size, 3, none⟩ = some (.int .i64 100) ∧ W.cell? ⟨w5.heap.size, 0, none⟩ = some (.int .i64 4096) ∧ W.cell? ⟨w5.heap.size, 1, none⟩ = some (.int .i64 0) ∧ W.cell? ⟨w5.heap.size, 2, none⟩ = some (.int .i64 2147483647) ∧ W.cell? ⟨w5.heap.size, 3, none⟩ = some (.int .i64 65535) ∧ W.cell? ⟨w5.heap.size, 4, none⟩ = some (.int .i64 16384) ∧ W.cell? ⟨w5.heap.size, 5, none⟩ = some (.int .i64 2147483647) ∧ Fv w (w.heap.size + 1) w2.heap.size w5.heap.size b v (.slice lb ln lc) W)) (by kernel_rfl) (hfull.out _ hIW) (fun hHeld => ?_)
  generalize hWg : World.drew _ = W at hIW hHeld ⊢
  clear hWg hF H6 a0 a1 a2 a3 a4 a5 b0 b1 b2 b3 b4 b5
  refine wpAnyH_take (i := 0) (oi := { dst := some 40, op := Op.load 27 (Operand.tmp 1), type := 27, pos := "law.go:57", after := #[], guard := none }) (v := ?vv1) rfl (by kernel_rfl) (by kernel_rfl) (by kernel_rfl) (fun _ _ _ h => h) (Or.inl ⟨by rfl, ?hy1⟩) (by assumption) ?_
  case hy1 => (intro w hSw; (try dsimp only at hSw); go_simp; all_goals with_reducible rfl)
  try simp only [Act.put, List.setIfInBounds_toArray, List.set_cons_zero, List.set_cons_succ]
  refine wpAnyH_take (i := 1) (oi := { dst := some 41, op := Op.build 27 #[(0, Operand.const (Value.int IntKind.i64 4096)), (1, Operand.const (Value.int IntKind.i64 1)), (2, Operand.const (Value.int IntKind.i64 2147483647)), (3, Operand.const (Value.int IntKind.i64 65535)), (4, Operand.const (Value.int IntKind.i64 16384)), (5, Operand.const (Value.int IntKind.i64 2147483647))], type := 27, pos := "law.go:57", after := #[], guard := none }) (v := ?vv2) rfl (by kernel_rfl) (by kernel_rfl) (by kernel_rfl) (fun _ _ _ h => h) (Or.inl ⟨by rfl, ?hy2⟩) (by assumption) ?_
  case hy2 => (intro w hSw; (try dsimp only at hSw); go_simp; all_goals with_reducible rfl)
  try simp only [Act.put, List.setIfInBounds_toArray, List.set_cons_zero, List.set_cons_succ]
  refine wpAnyH_take (i := 2) (oi := { dst := some 42, op := Op.binOp BinOp.eql 27 (Operand.tmp 40) (Operand.tmp 41) 27, type := 4, pos := "law.go:57", after := #[{ on := 0, ground := Ground.data }, { on := 1, ground := Ground.data }], guard := none }) (v := ?vv3) rfl (by kernel_rfl) (by kernel_rfl) (by kernel_rfl) (fun _ _ _ h => h) (Or.inl ⟨by rfl, ?hy3⟩) (by assumption) ?_
  case hy3 => (intro w hSw; (try dsimp only at hSw); go_simp; all_goals with_reducible rfl)
  try simp only [Act.put, List.setIfInBounds_toArray, List.set_cons_zero, List.set_cons_succ]
  refine wpAnyH_take (i := 3) (oi := { dst := some 43, op := Op.move (Operand.tmp 42), type := 4, pos := "law.go:57", after := #[{ on := 2, ground := Ground.data }], guard := none }) (v := ?vv4) rfl (by kernel_rfl) (by kernel_rfl) (by kernel_rfl) (fun _ _ _ h => h) (Or.inl ⟨by rfl, ?hy4⟩) (by assumption) ?_
  case hy4 => (intro w hSw; (try dsimp only at hSw); go_simp; all_goals with_reducible rfl)
  try simp only [Act.put, List.setIfInBounds_toArray, List.set_cons_zero, List.set_cons_succ]
  refine wpAnyH_take (i := 4) (oi := { dst := some 44, op := Op.move (Operand.tmp 3), type := 2, pos := "law.go:57", after := #[{ on := 3, ground := Ground.guard }], guard := some (3, true) }) (v := ?vv5) rfl (by kernel_rfl) (by kernel_rfl) (by kernel_rfl) (fun _ _ _ h => h) (Or.inl ⟨by rfl, ?hy5⟩) (by assumption) ?_
  case hy5 => (intro w hSw; (try dsimp only at hSw); go_simp; all_goals with_reducible rfl)
  try simp only [Act.put, List.setIfInBounds_toArray, List.set_cons_zero, List.set_cons_succ]
  refine wpAnyH_take (i := 5) (oi := { dst := some 45, op := Op.binOp BinOp.eql 2 (Operand.tmp 44) (Operand.const (Value.int IntKind.i64 0)) 2, type := 4, pos := "law.go:57", after := #[{ on := 4, ground := Ground.data }, { on := 3, ground := Ground.guard }], guard := some (3, true) }) (v := ?vv6) rfl (by kernel_rfl) (by kernel_rfl) (by kernel_rfl) (fun _ _ _ h => h) (Or.inl ⟨by rfl, ?hy6⟩) (by assumption) ?_
  case hy6 => (intro w hSw; (try dsimp only at hSw); go_simp; all_goals with_reducible rfl)
  try simp only [Act.put, List.setIfInBounds_toArray, List.set_cons_zero, List.set_cons_succ]
  refine wpAnyH_take (i := 6) (oi := { dst := some 46, op := Op.pick (Operand.tmp 43) (Operand.tmp 45) (Operand.const (Value.bool false)), type := 4, pos := "law.go:57", after := #[{ on := 3, ground := Ground.data }, { on := 5, ground := Ground.data }], guard := none }) (v := ?vv7) rfl (by kernel_rfl) (by kernel_rfl) (by kernel_rfl) (fun _ _ _ h => h) (Or.inl ⟨by rfl, ?hy7⟩) (by assumption) ?_
  case hy7 => (intro w hSw; (try dsimp only at hSw); go_simp; all_goals with_reducible rfl)
  try simp only [Act.put, List.setIfInBounds_toArray, List.set_cons_zero, List.set_cons_succ]
  refine wpAnyH_take (i := 7) (oi := { dst := some 47, op := Op.move (Operand.tmp 46), type := 4, pos := "law.go:57", after := #[{ on := 6, ground := Ground.data }, { on := 3, ground := Ground.chain }], guard := none }) (v := ?vv8) rfl (by kernel_rfl) (by kernel_rfl) (by kernel_rfl) (fun _ _ _ h => h) (Or.inl ⟨by rfl, ?hy8⟩) (by assumption) ?_
  case hy8 => (intro w hSw; (try dsimp only at hSw); go_simp; all_goals with_reducible rfl)
  try simp only [Act.put, List.setIfInBounds_toArray, List.set_cons_zero, List.set_cons_succ]
  refine wpAnyH_take (i := 8) (oi := { dst := some 48, op := Op.fieldAddr 27 (Operand.tmp 2) 0, type := 0, pos := "law.go:57", after := #[{ on := 7, ground := Ground.guard }], guard := some (7, true) }) (v := ?vv9) rfl (by kernel_rfl) (by kernel_rfl) (by kernel_rfl) (fun _ _ _ h => h) (Or.inl ⟨by rfl, ?hy9⟩) (by assumption) ?_
  case hy9 => (intro w hSw; (try dsimp only at hSw); go_simp; all_goals with_reducible rfl)
  try simp only [Act.put, List.setIfInBounds_toArray, List.set_cons_zero, List.set_cons_succ]
  refine wpAnyH_take (i := 9) (oi := { dst := some 49, op := Op.load 2 (Operand.tmp 48), type := 2, pos := "law.go:57", after := #[{ on := 8, ground := Ground.data }, { on := 7, ground := Ground.guard }], guard := some (7, true) }) (v := ?vv10) rfl (by kernel_rfl) (by kernel_rfl) (by kernel_rfl) (fun _ _ _ h => h) (Or.inl ⟨by rfl, ?hy10⟩) (by assumption) ?_
  case hy10 => (intro w hSw; (try dsimp only at hSw); go_simp; all_goals with_reducible rfl)
  try simp only [Act.put, List.setIfInBounds_toArray, List.set_cons_zero, List.set_cons_succ]
  refine wpAnyH_take (i := 10) (oi := { dst := some 50, op := Op.binOp BinOp.eql 2 (Operand.tmp 49) (Operand.const (Value.int IntKind.i64 0)) 2, type := 4, pos := "law.go:57", after := #[{ on := 9, ground := Ground.data }, { on := 7, ground := Ground.guard }], guard := some (7, true) }) (v := ?vv11) rfl (by kernel_rfl) (by kernel_rfl) (by kernel_rfl) (fun _ _ _ h => h) (Or.inl ⟨by rfl, ?hy11⟩) (by assumption) ?_
  case hy11 => (intro w hSw; (try dsimp only at hSw); go_simp; all_goals with_reducible rfl)
  try simp only [Act.put, List.setIfInBounds_toArray, List.set_cons_zero, List.set_cons_succ]
  refine wpAnyH_take (i := 11) (oi := { dst := some 51, op := Op.pick (Operand.tmp 47) (Operand.tmp 50) (Operand.const (Value.bool false)), type := 4, pos := "law.go:57", after := #[{ on := 7, ground := Ground.data }, { on := 10, ground := Ground.data }], guard := none }) (v := ?vv12) rfl (by kernel_rfl) (by kernel_rfl) (by kernel_rfl) (fun _ _ _ h => h) (Or.inl ⟨by rfl, ?hy12⟩) (by assumption) ?_
  case hy12 => (intro w hSw; (try dsimp only at hSw); go_simp; all_goals with_reducible rfl)
  try simp only [Act.put, List.setIfInBounds_toArray, List.set_cons_zero, List.set_cons_succ]
  refine wpAnyH_take (i := 12) (oi := { dst := some 52, op := Op.move (Operand.tmp 51), type := 4, pos := "law.go:57", after := #[{ on := 11, ground := Ground.data }, { on := 7, ground := Ground.chain }], guard := none }) (v := ?vv13) rfl (by kernel_rfl) (by kernel_rfl) (by kernel_rfl) (fun _ _ _ h => h) (Or.inl ⟨by rfl, ?hy13⟩) (by assumption) ?_
  case hy13 => (intro w hSw; (try dsimp only at hSw); go_simp; all_goals with_reducible rfl)
  try simp only [Act.put, List.setIfInBounds_toArray, List.set_cons_zero, List.set_cons_succ]
  refine wpAnyH_take (i := 13) (oi := { dst := some 53, op := Op.fieldAddr 27 (Operand.tmp 2) 3, type := 0, pos := "law.go:57", after := #[{ on := 12, ground := Ground.guard }], guard := some (12, true) }) (v := ?vv14) rfl (by kernel_rfl) (by kernel_rfl) (by kernel_rfl) (fun _ _ _ h => h) (Or.inl ⟨by rfl, ?hy14⟩) (by assumption) ?_
  case hy14 => (intro w hSw; (try dsimp only at hSw); go_simp; all_goals with_reducible rfl)
  try simp only [Act.put, List.setIfInBounds_toArray, List.set_cons_zero, List.set_cons_succ]
  refine wpAnyH_take (i := 14) (oi := { dst := some 54, op := Op.load 2 (Operand.tmp 53), type := 2, pos := "law.go:57", after := #[{ on := 13, ground := Ground.data }, { on := 12, ground := Ground.guard }], guard := some (12, true) }) (v := ?vv15) rfl (by kernel_rfl) (by kernel_rfl) (by kernel_rfl) (fun _ _ _ h => h) (Or.inl ⟨by rfl, ?hy15⟩) (by assumption) ?_
  case hy15 => (intro w hSw; (try dsimp only at hSw); go_simp; all_goals with_reducible rfl)
  try simp only [Act.put, List.setIfInBounds_toArray, List.set_cons_zero, List.set_cons_succ]
  refine wpAnyH_take (i := 15) (oi := { dst := some 55, op := Op.binOp BinOp.eql 2 (Operand.tmp 54) (Operand.const (Value.int IntKind.i64 100)) 2, type := 4, pos := "law.go:57", after := #[{ on := 14, ground := Ground.data }, { on := 12, ground := Ground.guard }], guard := some (12, true) }) (v := ?vv16) rfl (by kernel_rfl) (by kernel_rfl) (by kernel_rfl) (fun _ _ _ h => h) (Or.inl ⟨by rfl, ?hy16⟩) (by assumption) ?_
  case hy16 => (intro w hSw; (try dsimp only at hSw); go_simp; all_goals with_reducible rfl)
  try simp only [Act.put, List.setIfInBounds_toArray, List.set_cons_zero, List.set_cons_succ]
  refine wpAnyH_take (i := 16) (oi := { dst := some 56, op := Op.pick (Operand.tmp 52) (Operand.tmp 55) (Operand.const (Value.bool false)), type := 4, pos := "law.go:57", after := #[{ on := 12, ground := Ground.data }, { on := 15, ground := Ground.data }], guard := none }) (v := ?vv17) rfl (by kernel_rfl) (by kernel_rfl) (by kernel_rfl) (fun _ _ _ h => h) (Or.inl ⟨by rfl, ?hy17⟩) (by assumption) ?_
  case hy17 => (intro w hSw; (try dsimp only at hSw); go_simp; all_goals with_reducible rfl)
  try simp only [Act.put, List.setIfInBounds_toArray, List.set_cons_zero, List.set_cons_succ]
  refine wpAnyH_take (i := 17) (oi := { dst := some 57, op := Op.move (Operand.tmp 56), type := 4, pos := "law.go:57", after := #[{ on := 16, ground := Ground.data }, { on := 12, ground := Ground.chain }], guard := none }) (v := ?vv18) rfl (by kernel_rfl) (by kernel_rfl) (by kernel_rfl) (fun _ _ _ h => h) (Or.inl ⟨by rfl, ?hy18⟩) (by assumption) ?_
  case hy18 => (intro w hSw; (try dsimp only at hSw); go_simp; all_goals with_reducible rfl)
  try simp only [Act.put, List.setIfInBounds_toArray, List.set_cons_zero, List.set_cons_succ]
  refine wpAnyH_take (i := 18) (oi := { dst := some 58, op := Op.move (Operand.tmp 6), type := 4, pos := "law.go:57", after := #[{ on := 17, ground := Ground.guard }], guard := some (17, true) }) (v := ?vv19) rfl (by kernel_rfl) (by kernel_rfl) (by kernel_rfl) (fun _ _ _ h => h) (Or.inl ⟨by rfl, ?hy19⟩) (by assumption) ?_
  case hy19 => (intro w hSw; (try dsimp only at hSw); go_simp; all_goals with_reducible rfl)
  try simp only [Act.put, List.setIfInBounds_toArray, List.set_cons_zero, List.set_cons_succ]
  refine wpAnyH_take (i := 19) (oi := { dst := some 59, op := Op.pick (Operand.tmp 57) (Operand.tmp 58) (Operand.const (Value.bool false)), type := 4, pos := "law.go:57", after := #[{ on := 17, ground := Ground.data }, { on := 18, ground := Ground.data }], guard := none }) (v := ?vv20) rfl (by kernel_rfl) (by kernel_rfl) (by kernel_rfl) (fun _ _ _ h => h) (Or.inl ⟨by rfl, ?hy20⟩) (by assumption) ?_
  case hy20 => (intro w hSw; (try dsimp only at hSw); go_simp; all_goals with_reducible rfl)
  try simp only [Act.put, List.setIfInBounds_toArray, List.set_cons_zero, List.set_cons_succ]
  refine wpAnyH_take (i := 20) (oi := { dst := some 60, op := Op.move (Operand.tmp 59), type := 4, pos := "law.go:57", after := #[{ on := 19, ground := Ground.data }, { on := 17, ground := Ground.chain }], guard := none }) (v := ?vv21) rfl (by kernel_rfl) (by kernel_rfl) (by kernel_rfl) (fun _ _ _ h => h) (Or.inl ⟨by rfl, ?hy21⟩) (by assumption) ?_
  case hy21 => (intro w hSw; (try dsimp only at hSw); go_simp; all_goals with_reducible rfl)
  try simp only [Act.put, List.setIfInBounds_toArray, List.set_cons_zero, List.set_cons_succ]
  refine wpAnyH_take (i := 21) (oi := { dst := some 61, op := Op.fieldAddr 27 (Operand.tmp 5) 1, type := 0, pos := "law.go:57", after := #[{ on := 20, ground := Ground.guard }], guard := some (20, true) }) (v := ?vv22) rfl (by kernel_rfl) (by kernel_rfl) (by kernel_rfl) (fun _ _ _ h => h) (Or.inl ⟨by rfl, ?hy22⟩) (by assumption) ?_
  case hy22 => (intro w hSw; (try dsimp only at hSw); go_simp; all_goals with_reducible rfl)
  try simp only [Act.put, List.setIfInBounds_toArray, List.set_cons_zero, List.set_cons_succ]
  refine wpAnyH_take (i := 22) (oi := { dst := some 62, op := Op.load 2 (Operand.tmp 61), type := 2, pos := "law.go:57", after := #[{ on := 21, ground := Ground.data }, { on := 20, ground := Ground.guard }], guard := some (20, true) }) (v := ?vv23) rfl (by kernel_rfl) (by kernel_rfl) (by kernel_rfl) (fun _ _ _ h => h) (Or.inl ⟨by rfl, ?hy23⟩) (by assumption) ?_
  case hy23 => (intro w hSw; (try dsimp only at hSw); go_simp; all_goals with_reducible rfl)
  try simp only [Act.put, List.setIfInBounds_toArray, List.set_cons_zero, List.set_cons_succ]
  refine wpAnyH_take (i := 23) (oi := { dst := some 63, op := Op.binOp BinOp.eql 2 (Operand.tmp 62) (Operand.const (Value.int IntKind.i64 0)) 2, type := 4, pos := "law.go:57", after := #[{ on := 22, ground := Ground.data }, { on := 20, ground := Ground.guard }], guard := some (20, true) }) (v := ?vv24) rfl (by kernel_rfl) (by kernel_rfl) (by kernel_rfl) (fun _ _ _ h => h) (Or.inl ⟨by rfl, ?hy24⟩) (by assumption) ?_
  case hy24 => (intro w hSw; (try dsimp only at hSw); go_simp; all_goals with_reducible rfl)
  try simp only [Act.put, List.setIfInBounds_toArray, List.set_cons_zero, List.set_cons_succ]
  refine wpAnyH_take (i := 24) (oi := { dst := some 64, op := Op.pick (Operand.tmp 60) (Operand.tmp 63) (Operand.const (Value.bool false)), type := 4, pos := "law.go:57", after := #[{ on := 20, ground := Ground.data }, { on := 23, ground := Ground.data }], guard := none }) (v := ?vv25) rfl (by kernel_rfl) (by kernel_rfl) (by kernel_rfl) (fun _ _ _ h => h) (Or.inl ⟨by rfl, ?hy25⟩) (by assumption) ?_
  case hy25 => (intro w hSw; (try dsimp only at hSw); go_simp; all_goals with_reducible rfl)
  try simp only [Act.put, List.setIfInBounds_toArray, List.set_cons_zero, List.set_cons_succ]
  refine wpAnyH_take (i := 25) (oi := { dst := some 65, op := Op.move (Operand.tmp 64), type := 4, pos := "law.go:57", after := #[{ on := 24, ground := Ground.data }, { on := 20, ground := Ground.chain }], guard := none }) (v := ?vv26) rfl (by kernel_rfl) (by kernel_rfl) (by kernel_rfl) (fun _ _ _ h => h) (Or.inl ⟨by rfl, ?hy26⟩) (by assumption) ?_
  case hy26 => (intro w hSw; (try dsimp only at hSw); go_simp; all_goals with_reducible rfl)
  try simp only [Act.put, List.setIfInBounds_toArray, List.set_cons_zero, List.set_cons_succ]
  refine wpAnyH_take (i := 26) (oi := { dst := some 66, op := Op.fieldAddr 27 (Operand.tmp 5) 0, type := 0, pos := "law.go:57", after := #[{ on := 25, ground := Ground.guard }], guard := some (25, true) }) (v := ?vv27) rfl (by kernel_rfl) (by kernel_rfl) (by kernel_rfl) (fun _ _ _ h => h) (Or.inl ⟨by rfl, ?hy27⟩) (by assumption) ?_
  case hy27 => (intro w hSw; (try dsimp only at hSw); go_simp; all_goals with_reducible rfl)
  try simp only [Act.put, List.setIfInBounds_toArray, List.set_cons_zero, List.set_cons_succ]
  refine wpAnyH_take (i := 27) (oi := { dst := some 67, op := Op.load 2 (Operand.tmp 66), type := 2, pos := "law.go:57", after := #[{ on := 26, ground := Ground.data }, { on := 25, ground := Ground.guard }], guard := some (25, true) }) (v := ?vv28) rfl (by kernel_rfl) (by kernel_rfl) (by kernel_rfl) (fun _ _ _ h => h) (Or.inl ⟨by rfl, ?hy28⟩) (by assumption) ?_
  case hy28 => (intro w hSw; (try dsimp only at hSw); go_simp; all_goals with_reducible rfl)
  try simp only [Act.put, List.setIfInBounds_toArray, List.set_cons_zero, List.set_cons_succ]
  refine wpAnyH_take (i := 28) (oi := { dst := some 68, op := Op.binOp BinOp.eql 2 (Operand.tmp 67) (Operand.const (Value.int IntKind.i64 4096)) 2, type := 4, pos := "law.go:57", after := #[{ on := 27, ground := Ground.data }, { on := 25, ground := Ground.guard }], guard := some (25, true) }) (v := ?vv29) rfl (by kernel_rfl) (by kernel_rfl) (by kernel_rfl) (fun _ _ _ h => h) (Or.inl ⟨by rfl, ?hy29⟩) (by assumption) ?_
  case hy29 => (intro w hSw; (try dsimp only at hSw); go_simp; all_goals with_reducible rfl)
  try simp only [Act.put, List.setIfInBounds_toArray, List.set_cons_zero, List.set_cons_succ]
  refine wpAnyH_take (i := 29) (oi := { dst := some 69, op := Op.pick (Operand.tmp 65) (Operand.tmp 68) (Operand.const (Value.bool false)), type := 4, pos := "law.go:57", after := #[{ on := 25, ground := Ground.data }, { on := 28, ground := Ground.data }], guard := none }) (v := ?vv30) rfl (by kernel_rfl) (by kernel_rfl) (by kernel_rfl) (fun _ _ _ h => h) (Or.inl ⟨by rfl, ?hy30⟩) (by assumption) ?_
  case hy30 => (intro w hSw; (try dsimp only at hSw); go_simp; all_goals with_reducible rfl)
  try simp only [Act.put, List.setIfInBounds_toArray, List.set_cons_zero, List.set_cons_succ]
  refine wpAnyH_take (i := 30) (oi := { dst := some 70, op := Op.move (Operand.tmp 69), type := 4, pos := "law.go:57", after := #[{ on := 29, ground := Ground.data }, { on := 25, ground := Ground.chain }], guard := none }) (v := ?vv31) rfl (by kernel_rfl) (by kernel_rfl) (by kernel_rfl) (fun _ _ _ h => h) (Or.inl ⟨by rfl, ?hy31⟩) (by assumption) ?_
  case hy31 => (intro w hSw; (try dsimp only at hSw); go_simp; all_goals with_reducible rfl)
  try simp only [Act.put, List.setIfInBounds_toArray, List.set_cons_zero, List.set_cons_succ]
  refine wpAnyH_take (i := 31) (oi := { dst := some 71, op := Op.move (Operand.tmp 7), type := 30, pos := "law.go:57", after := #[{ on := 30, ground := Ground.guard }], guard := some (30, true) }) (v := ?vv32) rfl (by kernel_rfl) (by kernel_rfl) (by kernel_rfl) (fun _ _ _ h => h) (Or.inl ⟨by rfl, ?hy32⟩) (by assumption) ?_
  case hy32 => (intro w hSw; (try dsimp only at hSw); go_simp; all_goals with_reducible rfl)
  try simp only [Act.put, List.setIfInBounds_toArray, List.set_cons_zero, List.set_cons_succ]
  refine wpAnyH_take (i := 32) (oi := { dst := some 72, op := Op.build 46 #[(0, Operand.const (Value.int IntKind.i64 1)), (1, Operand.const (Value.int IntKind.i64 0))], type := 46, pos := "law.go:57", after := #[{ on := 30, ground := Ground.guard }], guard := some (30, true) }) (v := ?vv33) rfl (by kernel_rfl) (by kernel_rfl) (by kernel_rfl) (fun _ _ _ h => h) (Or.inl ⟨by rfl, ?hy33⟩) (by assumption) ?_
  case hy33 => (intro w hSw; (try dsimp only at hSw); go_simp; all_goals with_reducible rfl)
  try simp only [Act.put, List.setIfInBounds_toArray, List.set_cons_zero, List.set_cons_succ]
  refine wpAnyH_take (i := 33) (oi := { dst := some 73, op := Op.build 46 #[(0, Operand.const (Value.int IntKind.i64 4)), (1, Operand.const (Value.int IntKind.i64 100))], type := 46, pos := "law.go:57", after := #[{ on := 30, ground := Ground.guard }], guard := some (30, true) }) (v := ?vv34) rfl (by kernel_rfl) (by kernel_rfl) (by kernel_rfl) (fun _ _ _ h => h) (Or.inl ⟨by rfl, ?hy34⟩) (by assumption) ?_
  case hy34 => (intro w hSw; (try dsimp only at hSw); go_simp; all_goals with_reducible rfl)
  try simp only [Act.put, List.setIfInBounds_toArray, List.set_cons_zero, List.set_cons_succ]
  refine wpAnyH_ready (rs := [34]) (by kernel_rfl) (by simp) ?_
  refine AllReadyH.cons (o := { dst := some 74, op := Op.buildSlice 30 2 #[(0, Operand.tmp 72), (1, Operand.tmp 73)], type := 30, pos := "law.go:57", after := #[{ on := 32, ground := Ground.data }, { on := 33, ground := Ground.data }, { on := 30, ground := Ground.guard }], guard := some (30, true) }) rfl (fun K hK => ?_) AllReadyH.nil
  go_simp
  obtain ⟨Wx, hV⟩ : ∃ Wx, Wx = W.alloc (.cells #[.int .i64 1, .int .i64 0, .int .i64 4, .int .i64 100] 46) := ⟨_, rfl⟩
  obtain ⟨g74, hg⟩ : ∃ g74, g74 = W.heap.size := ⟨_, rfl⟩
  have hb : Below W.heap.size W Wx := by rw [hV]; exact bel1 _ _
  have h74 : In EP Wx (.slice (some ⟨g74, 0, none⟩) 2 2) [(1, 0), (4, 100)] := by rw [hV, hg]; exact in_two _ _ _ _ _ _ 46 (0, 0) (heap_alloc_new _ _)
  have hIWx := hIW.below hb
  rw [← hV, ← hg]
  clear hV hg
  refine hK.out _ _ (hfull.out _ hIWx) (fun hHeld => ?_)
  clear hK K hb hIW
  try simp only [Act.put, List.setIfInBounds_toArray, List.set_cons_zero, List.set_cons_succ]
  refine wpAnyH_ready (rs := [35]) (by kernel_rfl) (by simp) ?_
  refine AllReadyH.cons (o := { dst := some 75, op := Op.call { callee := Callee.value (Operand.func 19), args := #[Operand.tmp 71, Operand.tmp 74], argTypes := #[30, 30] }, type := 4, pos := "law.go:57", after := #[{ on := 31, ground := Ground.data }, { on := 34, ground := Ground.data }, { on := 30, ground := Ground.chain }, { on := 30, ground := Ground.guard }], guard := some (30, true) }) rfl (fun K hK => ?_) AllReadyH.nil
  go_simp
  refine (sameParams_eq Wx _ _ [(1, 0), (4, 100)] hIWx.row.isIn h74).mono ?_
  rintro e' Wxx ⟨rfl, hb⟩
  have hIWxx := hIWx.below hb
  go_wp2_with fail
  refine hK.out _ _ (hfull.out _ hIWxx) (fun hHeld => ?_)
  clear hK K hb hIWx
  try simp only [Act.put, List.setIfInBounds_toArray, List.set_cons_zero, List.set_cons_succ]
  refine wpAnyH_take (i := 36) (oi := { dst := some 76, op := Op.pick (Operand.tmp 70) (Operand.tmp 75) (Operand.const (Value.bool false)), type := 4, pos := "law.go:57", after := #[{ on := 30, ground := Ground.data }, { on := 35, ground := Ground.data }], guard := none }) (v := ?vv35) rfl (by kernel_rfl) (by kernel_rfl) (by kernel_rfl) (fun _ _ _ h => h) (Or.inl ⟨by rfl, ?hy35⟩) (by assumption) ?_
  case hy35 => (intro w hSw; (try dsimp only at hSw); go_simp; all_goals with_reducible rfl)
  try simp only [Act.put, List.setIfInBounds_toArray, List.set_cons_zero, List.set_cons_succ]
  refine wpAnyH_take (i := 37) (oi := { dst := some 77, op := Op.move (Operand.tmp 76), type := 4, pos := "law.go:57", after := #[{ on := 36, ground := Ground.data }, { on := 35, ground := Ground.chain }], guard := none }) (v := ?vv36) rfl (by kernel_rfl) (by kernel_rfl) (by kernel_rfl) (fun _ _ _ h => h) (Or.inl ⟨by rfl, ?hy36⟩) (by assumption) ?_
  case hy36 => (intro w hSw; (try dsimp only at hSw); go_simp; all_goals with_reducible rfl)
  try simp only [Act.put, List.setIfInBounds_toArray, List.set_cons_zero, List.set_cons_succ]
  refine wpAnyH_take (i := 38) (oi := { dst := some 78, op := Op.load 27 (Operand.tmp 1), type := 27, pos := "law.go:57", after := #[{ on := 37, ground := Ground.guard }], guard := some (37, true) }) (v := ?vv37) rfl (by kernel_rfl) (by kernel_rfl) (by kernel_rfl) (fun _ _ _ h => h) (Or.inl ⟨by rfl, ?hy37⟩) (by assumption) ?_
  case hy37 => (intro w hSw; (try dsimp only at hSw); go_simp; all_goals with_reducible rfl)
  try simp only [Act.put, List.setIfInBounds_toArray, List.set_cons_zero, List.set_cons_succ]
  refine wpAnyH_ready (rs := [39]) (by kernel_rfl) (by simp) ?_
  refine AllReadyH.cons (o := { dst := some 79, op := Op.call { callee := Callee.value (Operand.func 18), args := #[Operand.tmp 78], argTypes := #[27] }, type := 4, pos := "law.go:57", after := #[{ on := 38, ground := Ground.data }, { on := 37, ground := Ground.chain }, { on := 37, ground := Ground.guard }], guard := some (37, true) }) rfl (fun K hK => ?_) AllReadyH.nil
  go_simp
  refine (hfits.out Wxx).mono ?_
  rintro e' Wxxx ⟨rfl, hb⟩
  have hIWxxx := hIWxx.below hb
  go_wp2_with fail
  refine hK.out _ _ (hfull.out _ hIWxxx) (fun hHeld => ?_)
  clear hK K hb hIWxx
  try simp only [Act.put, List.setIfInBounds_toArray, List.set_cons_zero, List.set_cons_succ]
  refine wpAnyH_take (i := 40) (oi := { dst := some 80, op := Op.pick (Operand.tmp 77) (Operand.tmp 79) (Operand.const (Value.bool false)), type := 4, pos := "law.go:57", after := #[{ on := 37, ground := Ground.data }, { on := 39, ground := Ground.data }], guard := none }) (v := ?vv38) rfl (by kernel_rfl) (by kernel_rfl) (by kernel_rfl) (fun _ _ _ h => h) (Or.inl ⟨by rfl, ?hy38⟩) (by assumption) ?_
  case hy38 => (intro w hSw; (try dsimp only at hSw); go_simp; all_goals with_reducible rfl)
  try simp only [Act.put, List.setIfInBounds_toArray, List.set_cons_zero, List.set_cons_succ]
  refine wpAnyH_take (i := 41) (oi := { dst := some 81, op := Op.move (Operand.tmp 80), type := 4, pos := "law.go:57", after := #[{ on := 40, ground := Ground.data }, { on := 39, ground := Ground.chain }], guard := none }) (v := ?vv39) rfl (by kernel_rfl) (by kernel_rfl) (by kernel_rfl) (fun _ _ _ h => h) (Or.inl ⟨by rfl, ?hy39⟩) (by assumption) ?_
  case hy39 => (intro w hSw; (try dsimp only at hSw); go_simp; all_goals with_reducible rfl)
  try simp only [Act.put, List.setIfInBounds_toArray, List.set_cons_zero, List.set_cons_succ]
  refine wpAnyH_take (i := 42) (oi := { dst := some 82, op := Op.build 46 #[(0, Operand.const (Value.int IntKind.i64 2)), (1, Operand.const (Value.int IntKind.i64 2))], type := 46, pos := "law.go:57", after := #[{ on := 41, ground := Ground.guard }], guard := some (41, true) }) (v := ?vv40) rfl (by kernel_rfl) (by kernel_rfl) (by kernel_rfl) (fun _ _ _ h => h) (Or.inl ⟨by rfl, ?hy40⟩) (by assumption) ?_
  case hy40 => (intro w hSw; (try dsimp only at hSw); go_simp; all_goals with_reducible rfl)
  try simp only [Act.put, List.setIfInBounds_toArray, List.set_cons_zero, List.set_cons_succ]
  refine wpAnyH_ready (rs := [43]) (by kernel_rfl) (by simp) ?_
  refine AllReadyH.cons (o := { dst := some 83, op := Op.call { callee := Callee.value (Operand.func 20), args := #[Operand.tmp 82, Operand.const (Value.bool true)], argTypes := #[46, 4] }, type := 2, pos := "law.go:57", after := #[{ on := 42, ground := Ground.data }, { on := 41, ground := Ground.chain }, { on := 41, ground := Ground.guard }], guard := some (41, true) }) rfl (fun K hK => ?_) AllReadyH.nil
  go_simp
  refine (hval.out Wxxx).mono ?_
  rintro e' Wxxxx ⟨rfl, hb⟩
  have hIWxxxx := hIWxxx.below hb
  go_wp2_with fail
  refine hK.out _ _ (hfull.out _ hIWxxxx) (fun hHeld => ?_)
  clear hK K hb hIWxxx
  try simp only [Act.put, List.setIfInBounds_toArray, List.set_cons_zero, List.set_cons_succ]
  refine wpAnyH_take (i := 44) (oi := { dst := some 84, op := Op.binOp BinOp.eql 2 (Operand.tmp 83) (Operand.const (Value.int IntKind.i64 1)) 2, type := 4, pos := "law.go:57", after := #[{ on := 43, ground := Ground.data }, { on := 41, ground := Ground.guard }], guard := some (41, true) }) (v := ?vv41) rfl (by kernel_rfl) (by kernel_rfl) (by kernel_rfl) (fun _ _ _ h => h) (Or.inl ⟨by rfl, ?hy41⟩) (by assumption) ?_
  case hy41 => (intro w hSw; (try dsimp only at hSw); go_simp; all_goals with_reducible rfl)
  try simp only [Act.put, List.setIfInBounds_toArray, List.set_cons_zero, List.set_cons_succ]
  refine wpAnyH_take (i := 45) (oi := { dst := some 85, op := Op.pick (Operand.tmp 81) (Operand.tmp 84) (Operand.const (Value.bool false)), type := 4, pos := "law.go:57", after := #[{ on := 41, ground := Ground.data }, { on := 44, ground := Ground.data }], guard := none }) (v := ?vv42) rfl (by kernel_rfl) (by kernel_rfl) (by kernel_rfl) (fun _ _ _ h => h) (Or.inl ⟨by rfl, ?hy42⟩) (by assumption) ?_
  case hy42 => (intro w hSw; (try dsimp only at hSw); go_simp; all_goals with_reducible rfl)
  try simp only [Act.put, List.setIfInBounds_toArray, List.set_cons_zero, List.set_cons_succ]
  refine wpAnyH_take (i := 46) (oi := { dst := some 86, op := Op.move (Operand.tmp 85), type := 4, pos := "law.go:57", after := #[{ on := 45, ground := Ground.data }, { on := 43, ground := Ground.chain }], guard := none }) (v := ?vv43) rfl (by kernel_rfl) (by kernel_rfl) (by kernel_rfl) (fun _ _ _ h => h) (Or.inl ⟨by rfl, ?hy43⟩) (by assumption) ?_
  case hy43 => (intro w hSw; (try dsimp only at hSw); go_simp; all_goals with_reducible rfl)
  try simp only [Act.put, List.setIfInBounds_toArray, List.set_cons_zero, List.set_cons_succ]
  refine wpAnyH_take (i := 47) (oi := { dst := some 87, op := Op.move (Operand.tmp 7), type := 30, pos := "law.go:57", after := #[{ on := 46, ground := Ground.guard }], guard := some (46, true) }) (v := ?vv44) rfl (by kernel_rfl) (by kernel_rfl) (by kernel_rfl) (fun _ _ _ h => h) (Or.inl ⟨by rfl, ?hy44⟩) (by assumption) ?_
  case hy44 => (intro w hSw; (try dsimp only at hSw); go_simp; all_goals with_reducible rfl)
  try simp only [Act.put, List.setIfInBounds_toArray, List.set_cons_zero, List.set_cons_succ]
  refine wpAnyH_ready (rs := [48, 49]) (by kernel_rfl) (by simp) ?_
  refine AllReadyH.cons (o := { dst := some 88, op := Op.call { callee := Callee.value (Operand.func 25), args := #[Operand.tmp 87], argTypes := #[30] }, type := 51, pos := "law.go:57", after := #[{ on := 47, ground := Ground.data }, { on := 46, ground := Ground.chain }, { on := 46, ground := Ground.guard }], guard := some (46, true) }) rfl (fun K hK => ?_) ?_
  · go_simp
    refine (htab.out Wxxxx hIWxxxx.row).mono ?_
    rintro e' Wxxxxx ⟨ob, on, oc, rfl, ho, hb⟩
    have hIWxxxxx := hIWxxxx.below hb
    go_wp2_with fail
    refine hK.out _ _ (hfull.out _ hIWxxxxx) (fun hHeld => ?_)
    clear hK K hb hIWxxxx
    try simp only [Act.put, List.setIfInBounds_toArray, List.set_cons_zero, List.set_cons_succ]
    refine wpAnyH_ready (rs := [49]) (by kernel_rfl) (by simp) ?_
    refine AllReadyH.cons (o := { dst := some 89, op := Op.buildSlice 51 1 #[(0, Operand.const (Value.int IntKind.i64 0))], type := 51, pos := "law.go:57", after := #[{ on := 46, ground := Ground.guard }], guard := some (46, true) }) rfl (fun K hK => ?_) AllReadyH.nil
    go_simp
    obtain ⟨Wxxxxxx, hV⟩ : ∃ Wxxxxxx, Wxxxxxx = Wxxxxx.alloc (.cells #[.int .i64 0] 2) := ⟨_, rfl⟩
    obtain ⟨g89, hg⟩ : ∃ g89, g89 = Wxxxxx.heap.size := ⟨_, rfl⟩
    have hb : Below Wxxxxx.heap.size Wxxxxx Wxxxxxx := by rw [hV]; exact bel1 _ _
    have h89 : In EI Wxxxxxx (.slice (some ⟨g89, 0, none⟩) 1 1) [0] := by rw [hV, hg]; exact in_one (E := EI) _ _ 0 _ 2 (0, 0) (heap_alloc_new _ _) rfl
    have hIWxxxxxx := hIWxxxxx.below hb
    rw [← hV, ← hg]
    clear hV hg
    refine hK.out _ _ (hfull.out _ hIWxxxxxx) (fun hHeld => ?_)
    replace ho := ho.below hb
    clear hK K hb hIWxxxxx
    try simp only [Act.put, List.setIfInBounds_toArray, List.set_cons_zero, List.set_cons_succ]
    refine wpAnyH_ready (rs := [50]) (by kernel_rfl) (by simp) ?_
    refine AllReadyH.cons (o := { dst := some 90, op := Op.call { callee := Callee.value (Operand.func 26), args := #[Operand.tmp 88, Operand.tmp 89], argTypes := #[51, 51] }, type := 4, pos := "law.go:57", after := #[{ on := 48, ground := Ground.data }, { on := 49, ground := Ground.data }, { on := 48, ground := Ground.chain }, { on := 46, ground := Ground.guard }], guard := some (46, true) }) rfl (fun K hK => ?_) AllReadyH.nil
    go_simp
    refine (sameInts_eq Wxxxxxx _ _ [0] ho h89).mono ?_
    rintro e' Wxxxxxxx ⟨rfl, hb⟩
    have hIWxxxxxxx := hIWxxxxxx.below hb
    go_wp2_with fail
    refine hK.out _ _ (hfull.out _ hIWxxxxxxx) (fun hHeld => ?_)
    clear hK K hb hIWxxxxxx
    try simp only [Act.put, List.setIfInBounds_toArray, List.set_cons_zero, List.set_cons_succ]
    refine wpAnyH_take (i := 51) (oi := { dst := some 91, op := Op.pick (Operand.tmp 86) (Operand.tmp 90) (Operand.const (Value.bool false)), type := 4, pos := "law.go:57", after := #[{ on := 46, ground := Ground.data }, { on := 50, ground := Ground.data }], guard := none }) (v := ?vv45) rfl (by kernel_rfl) (by kernel_rfl) (by kernel_rfl) (fun _ _ _ h => h) (Or.inl ⟨by rfl, ?hy45⟩) (by assumption) ?_
    case hy45 => (intro w hSw; (try dsimp only at hSw); go_simp; all_goals with_reducible rfl)
    try simp only [Act.put, List.setIfInBounds_toArray, List.set_cons_zero, List.set_cons_succ]
    refine wpAnyH_take (i := 52) (oi := { dst := some 92, op := Op.move (Operand.tmp 91), type := 4, pos := "law.go:57", after := #[{ on := 51, ground := Ground.data }, { on := 50, ground := Ground.chain }], guard := none }) (v := ?vv46) rfl (by kernel_rfl) (by kernel_rfl) (by kernel_rfl) (fun _ _ _ h => h) (Or.inl ⟨by rfl, ?hy46⟩) (by assumption) ?_
    case hy46 => (intro w hSw; (try dsimp only at hSw); go_simp; all_goals with_reducible rfl)
    try simp only [Act.put, List.setIfInBounds_toArray, List.set_cons_zero, List.set_cons_succ]
    refine wpAnyH_take (i := 53) (oi := { dst := some 93, op := Op.move (Operand.tmp 4), type := 23, pos := "law.go:57", after := #[{ on := 52, ground := Ground.guard }], guard := some (52, true) }) (v := ?vv47) rfl (by kernel_rfl) (by kernel_rfl) (by kernel_rfl) (fun _ _ _ h => h) (Or.inl ⟨by rfl, ?hy47⟩) (by assumption) ?_
    case hy47 => (intro w hSw; (try dsimp only at hSw); go_simp; all_goals with_reducible rfl)
    try simp only [Act.put, List.setIfInBounds_toArray, List.set_cons_zero, List.set_cons_succ]
    refine wpAnyH_take (i := 55) (oi := { dst := some 95, op := Op.load 27 (Operand.tmp 5), type := 27, pos := "law.go:57", after := #[{ on := 52, ground := Ground.guard }], guard := some (52, true) }) (v := ?vv48) rfl (by kernel_rfl) (by kernel_rfl) (by kernel_rfl) (fun _ _ _ h => h) (Or.inl ⟨by rfl, ?hy48⟩) (by assumption) ?_
    case hy48 => (intro w hSw; (try dsimp only at hSw); go_simp; all_goals with_reducible rfl)
    try simp only [Act.put, List.setIfInBounds_toArray, List.set_cons_zero, List.set_cons_succ]
    refine wpAnyH_ready (rs := [54]) (by kernel_rfl) (by simp) ?_
    refine AllReadyH.cons (o := { dst := some 94, op := Op.call { callee := Callee.value (Operand.func 14), args := #[Operand.tmp 93], argTypes := #[23] }, type := 27, pos := "law.go:57", after := #[{ on := 53, ground := Ground.data }, { on := 52, ground := Ground.chain }, { on := 52, ground := Ground.guard }], guard := some (52, true) }) rfl (fun K hK => ?_) AllReadyH.nil
    go_simp
    refine (hack.out Wxxxxxxx hIWxxxxxxx.bk).mono ?_
    rintro e' Wxxxxxxxx ⟨rfl, hb⟩
    have hIWxxxxxxxx := hIWxxxxxxx.below hb
    go_wp2_with fail
    refine hK.out _ _ (hfull.out _ hIWxxxxxxxx) (fun hHeld => ?_)
    clear hK K hb hIWxxxxxxx
    try simp only [Act.put, List.setIfInBounds_toArray, List.set_cons_zero, List.set_cons_succ]
    refine wpAnyH_take (i := 56) (oi := { dst := some 96, op := Op.binOp BinOp.eql 27 (Operand.tmp 94) (Operand.tmp 95) 27, type := 4, pos := "law.go:57", after := #[{ on := 54, ground := Ground.data }, { on := 55, ground := Ground.data }, { on := 52, ground := Ground.guard }], guard := some (52, true) }) (v := ?vv49) rfl (by kernel_rfl) (by kernel_rfl) (by kernel_rfl) (fun _ _ _ h => h) (Or.inl ⟨by rfl, ?hy49⟩) (by assumption) ?_
    case hy49 => (intro w hSw; (try dsimp only at hSw); go_simp; all_goals with_reducible rfl)
    try simp only [Act.put, List.setIfInBounds_toArray, List.set_cons_zero, List.set_cons_succ]
    refine wpAnyH_take (i := 57) (oi := { dst := some 97, op := Op.pick (Operand.tmp 92) (Operand.tmp 96) (Operand.const (Value.bool false)), type := 4, pos := "law.go:57", after := #[{ on := 52, ground := Ground.data }, { on := 56, ground := Ground.data }], guard := none }) (v := ?vv50) rfl (by kernel_rfl) (by kernel_rfl) (by kernel_rfl) (fun _ _ _ h => h) (Or.inl ⟨by rfl, ?hy50⟩) (by assumption) ?_
    case hy50 => (intro w hSw; (try dsimp only at hSw); go_simp; all_goals with_reducible rfl)
    try simp only [Act.put, List.setIfInBounds_toArray, List.set_cons_zero, List.set_cons_succ]
    refine wpAnyH_take (i := 58) (oi := { dst := some 98, op := Op.move (Operand.tmp 97), type := 4, pos := "law.go:57", after := #[{ on := 57, ground := Ground.data }, { on := 54, ground := Ground.chain }], guard := none }) (v := ?vv51) rfl (by kernel_rfl) (by kernel_rfl) (by kernel_rfl) (fun _ _ _ h => h) (Or.inl ⟨by rfl, ?hy51⟩) (by assumption) ?_
    case hy51 => (intro w hSw; (try dsimp only at hSw); go_simp; all_goals with_reducible rfl)
    try simp only [Act.put, List.setIfInBounds_toArray, List.set_cons_zero, List.set_cons_succ]
    refine wpAnyH_take (i := 59) (oi := { dst := some 99, op := Op.move (Operand.tmp 4), type := 23, pos := "law.go:57", after := #[{ on := 58, ground := Ground.guard }], guard := some (58, true) }) (v := ?vv52) rfl (by kernel_rfl) (by kernel_rfl) (by kernel_rfl) (fun _ _ _ h => h) (Or.inl ⟨by rfl, ?hy52⟩) (by assumption) ?_
    case hy52 => (intro w hSw; (try dsimp only at hSw); go_simp; all_goals with_reducible rfl)
    try simp only [Act.put, List.setIfInBounds_toArray, List.set_cons_zero, List.set_cons_succ]
    refine wpAnyH_ready (rs := [60]) (by kernel_rfl) (by simp) ?_
    refine AllReadyH.cons (o := { dst := some 100, op := Op.call { callee := Callee.value (Operand.func 15), args := #[Operand.tmp 99], argTypes := #[23] }, type := 3, pos := "law.go:57", after := #[{ on := 59, ground := Ground.data }, { on := 58, ground := Ground.chain }, { on := 58, ground := Ground.guard }], guard := some (58, true) }) rfl (fun K hK => ?_) AllReadyH.nil
    go_simp
    refine (hwt.out Wxxxxxxxx hIWxxxxxxxx.bk).mono ?_
    rintro e' Wxxxxxxxxx ⟨rfl, hb⟩
    have hIWxxxxxxxxx := hIWxxxxxxxx.below hb
    go_wp2_with fail
    refine hK.out _ _ (hfull.out _ hIWxxxxxxxxx) (fun hHeld => ?_)
    clear hK K hb hIWxxxxxxxx
    try simp only [Act.put, List.setIfInBounds_toArray, List.set_cons_zero, List.set_cons_succ]
    refine wpAnyH_take (i := 61) (oi := { dst := some 101, op := Op.binOp BinOp.eql 3 (Operand.tmp 100) (Operand.const (Value.int IntKind.i64 0)) 3, type := 4, pos := "law.go:57", after := #[{ on := 60, ground := Ground.data }, { on := 58, ground := Ground.guard }], guard := some (58, true) }) (v := ?vv53) rfl (by kernel_rfl) (by kernel_rfl) (by kernel_rfl) (fun _ _ _ h => h) (Or.inl ⟨by rfl, ?hy53⟩) (by assumption) ?_
    case hy53 => (intro w hSw; (try dsimp only at hSw); go_simp; all_goals with_reducible rfl)
    try simp only [Act.put, List.setIfInBounds_toArray, List.set_cons_zero, List.set_cons_succ]
    refine wpAnyH_take (i := 62) (oi := { dst := some 102, op := Op.pick (Operand.tmp 98) (Operand.tmp 101) (Operand.const (Value.bool false)), type := 4, pos := "law.go:57", after := #[{ on := 58, ground := Ground.data }, { on := 61, ground := Ground.data }], guard := none }) (v := ?vv54) rfl (by kernel_rfl) (by kernel_rfl) (by kernel_rfl) (fun _ _ _ h => h) (Or.inl ⟨by rfl, ?hy54⟩) (by assumption) ?_
    case hy54 => (intro w hSw; (try dsimp only at hSw); go_simp; all_goals with_reducible rfl)
    try simp only [Act.put, List.setIfInBounds_toArray, List.set_cons_zero, List.set_cons_succ]
    refine wpAnyH_take (i := 63) (oi := { dst := some 0, op := Op.assign (Operand.tmp 102), type := 4, pos := "law.go:57", after := ([{ on := 62, ground := Ground.data }, { on := 60, ground := Ground.chain }, { on := 0, ground := Ground.phase }, { on := 1, ground := Ground.phase }, { on := 2, ground := Ground.phase }, { on := 3, ground := Ground.phase }, { on := 4, ground := Ground.phase }, { on := 5, ground := Ground.phase }, { on := 6, ground := Ground.phase }, { on := 7, ground := Ground.phase }, { on := 8, ground := Ground.phase }, { on := 9, ground := Ground.phase }, { on := 10, ground := Ground.phase }, { on := 11, ground := Ground.phase }, { on := 12, ground := Ground.phase }, { on := 13, ground := Ground.phase }, { on := 14, ground := Ground.phase }, { on := 15, ground := Ground.phase }, { on := 16, ground := Ground.phase }, { on := 17, ground := Ground.phase }, { on := 18, ground := Ground.phase }, { on := 19, ground := Ground.phase }, { on := 20, ground := Ground.phase }, { on := 21, ground := Ground.phase }, { on := 22, ground := Ground.phase }, { on := 23, ground := Ground.phase }, { on := 24, ground := Ground.phase }, { on := 25, ground := Ground.phase }, { on := 26, ground := Ground.phase }, { on := 27, ground := Ground.phase }, { on := 28, ground := Ground.phase }, { on := 29, ground := Ground.phase }].append [{ on := 30, ground := Ground.phase }, { on := 31, ground := Ground.phase }, { on := 32, ground := Ground.phase }, { on := 33, ground := Ground.phase }, { on := 34, ground := Ground.phase }, { on := 35, ground := Ground.phase }, { on := 36, ground := Ground.phase }, { on := 37, ground := Ground.phase }, { on := 38, ground := Ground.phase }, { on := 39, ground := Ground.phase }, { on := 40, ground := Ground.phase }, { on := 41, ground := Ground.phase }, { on := 42, ground := Ground.phase }, { on := 43, ground := Ground.phase }, { on := 44, ground := Ground.phase }, { on := 45, ground := Ground.phase }, { on := 46, ground := Ground.phase }, { on := 47, ground := Ground.phase }, { on := 48, ground := Ground.phase }, { on := 49, ground := Ground.phase }, { on := 50, ground := Ground.phase }, { on := 51, ground := Ground.phase }, { on := 52, ground := Ground.phase }, { on := 53, ground := Ground.phase }, { on := 54, ground := Ground.phase }, { on := 55, ground := Ground.phase }, { on := 56, ground := Ground.phase }, { on := 57, ground := Ground.phase }, { on := 58, ground := Ground.phase }, { on := 59, ground := Ground.phase }, { on := 60, ground := Ground.phase }, { on := 61, ground := Ground.phase }, { on := 62, ground := Ground.phase }]).toArray, guard := none }) (v := ?vv55) rfl (by kernel_rfl) (by kernel_rfl) (by kernel_rfl) (fun _ _ _ h => h) (Or.inl ⟨by rfl, ?hy55⟩) (by assumption) ?_
    case hy55 => (intro w hSw; (try dsimp only at hSw); go_simp; all_goals with_reducible rfl)
    try simp only [Act.put, List.setIfInBounds_toArray, List.set_cons_zero, List.set_cons_succ]
    refine wpAnyH_done (by kernel_rfl) ?_ _
    go_wp2_with fail
    go_ret
    exact ⟨rfl, hIWxxxxxxxxx.bel⟩
  refine AllReadyH.cons (o := { dst := some 89, op := Op.buildSlice 51 1 #[(0, Operand.const (Value.int IntKind.i64 0))], type := 51, pos := "law.go:57", after := #[{ on := 46, ground := Ground.guard }], guard := some (46, true) }) rfl (fun K hK => ?_) AllReadyH.nil
  go_simp
  obtain ⟨Wxxxxx, hV⟩ : ∃ Wxxxxx, Wxxxxx = Wxxxx.alloc (.cells #[.int .i64 0] 2) := ⟨_, rfl⟩
  obtain ⟨g89, hg⟩ : ∃ g89, g89 = Wxxxx.heap.size := ⟨_, rfl⟩
  have hb : Below Wxxxx.heap.size Wxxxx Wxxxxx := by rw [hV]; exact bel1 _ _
  have h89 : In EI Wxxxxx (.slice (some ⟨g89, 0, none⟩) 1 1) [0] := by rw [hV, hg]; exact in_one (E := EI) _ _ 0 _ 2 (0, 0) (heap_alloc_new _ _) rfl
  have hIWxxxxx := hIWxxxx.below hb
  rw [← hV, ← hg]
  clear hV hg
  refine hK.out _ _ (hfull.out _ hIWxxxxx) (fun hHeld => ?_)
  clear hK K hb hIWxxxx
  try simp only [Act.put, List.setIfInBounds_toArray, List.set_cons_zero, List.set_cons_succ]
  refine wpAnyH_ready (rs := [48]) (by kernel_rfl) (by simp) ?_
  refine AllReadyH.cons (o := { dst := some 88, op := Op.call { callee := Callee.value (Operand.func 25), args := #[Operand.tmp 87], argTypes := #[30] }, type := 51, pos := "law.go:57", after := #[{ on := 47, ground := Ground.data }, { on := 46, ground := Ground.chain }, { on := 46, ground := Ground.guard }], guard := some (46, true) }) rfl (fun K hK => ?_) AllReadyH.nil
  go_simp
  refine (htab.out Wxxxxx hIWxxxxx.row).mono ?_
  rintro e' Wxxxxxx ⟨ob, on, oc, rfl, ho, hb⟩
  have hIWxxxxxx := hIWxxxxx.below hb
  go_wp2_with fail
  refine hK.out _ _ (hfull.out _ hIWxxxxxx) (fun hHeld => ?_)
  replace h89 := h89.below hb
  clear hK K hb hIWxxxxx
  try simp only [Act.put, List.setIfInBounds_toArray, List.set_cons_zero, List.set_cons_succ]
  refine wpAnyH_ready (rs := [50]) (by kernel_rfl) (by simp) ?_
  refine AllReadyH.cons (o := { dst := some 90, op := Op.call { callee := Callee.value (Operand.func 26), args := #[Operand.tmp 88, Operand.tmp 89], argTypes := #[51, 51] }, type := 4, pos := "law.go:57", after := #[{ on := 48, ground := Ground.data }, { on := 49, ground := Ground.data }, { on := 48, ground := Ground.chain }, { on := 46, ground := Ground.guard }], guard := some (46, true) }) rfl (fun K hK => ?_) AllReadyH.nil
  go_simp
  refine (sameInts_eq Wxxxxxx _ _ [0] ho h89).mono ?_
  rintro e' Wxxxxxxx ⟨rfl, hb⟩
  have hIWxxxxxxx := hIWxxxxxx.below hb
  go_wp2_with fail
  refine hK.out _ _ (hfull.out _ hIWxxxxxxx) (fun hHeld => ?_)
  clear hK K hb hIWxxxxxx
  try simp only [Act.put, List.setIfInBounds_toArray, List.set_cons_zero, List.set_cons_succ]
  refine wpAnyH_take (i := 51) (oi := { dst := some 91, op := Op.pick (Operand.tmp 86) (Operand.tmp 90) (Operand.const (Value.bool false)), type := 4, pos := "law.go:57", after := #[{ on := 46, ground := Ground.data }, { on := 50, ground := Ground.data }], guard := none }) (v := ?vv56) rfl (by kernel_rfl) (by kernel_rfl) (by kernel_rfl) (fun _ _ _ h => h) (Or.inl ⟨by rfl, ?hy56⟩) (by assumption) ?_
  case hy56 => (intro w hSw; (try dsimp only at hSw); go_simp; all_goals with_reducible rfl)
  try simp only [Act.put, List.setIfInBounds_toArray, List.set_cons_zero, List.set_cons_succ]
  refine wpAnyH_take (i := 52) (oi := { dst := some 92, op := Op.move (Operand.tmp 91), type := 4, pos := "law.go:57", after := #[{ on := 51, ground := Ground.data }, { on := 50, ground := Ground.chain }], guard := none }) (v := ?vv57) rfl (by kernel_rfl) (by kernel_rfl) (by kernel_rfl) (fun _ _ _ h => h) (Or.inl ⟨by rfl, ?hy57⟩) (by assumption) ?_
  case hy57 => (intro w hSw; (try dsimp only at hSw); go_simp; all_goals with_reducible rfl)
  try simp only [Act.put, List.setIfInBounds_toArray, List.set_cons_zero, List.set_cons_succ]
  refine wpAnyH_take (i := 53) (oi := { dst := some 93, op := Op.move (Operand.tmp 4), type := 23, pos := "law.go:57", after := #[{ on := 52, ground := Ground.guard }], guard := some (52, true) }) (v := ?vv58) rfl (by kernel_rfl) (by kernel_rfl) (by kernel_rfl) (fun _ _ _ h => h) (Or.inl ⟨by rfl, ?hy58⟩) (by assumption) ?_
  case hy58 => (intro w hSw; (try dsimp only at hSw); go_simp; all_goals with_reducible rfl)
  try simp only [Act.put, List.setIfInBounds_toArray, List.set_cons_zero, List.set_cons_succ]
  refine wpAnyH_take (i := 55) (oi := { dst := some 95, op := Op.load 27 (Operand.tmp 5), type := 27, pos := "law.go:57", after := #[{ on := 52, ground := Ground.guard }], guard := some (52, true) }) (v := ?vv59) rfl (by kernel_rfl) (by kernel_rfl) (by kernel_rfl) (fun _ _ _ h => h) (Or.inl ⟨by rfl, ?hy59⟩) (by assumption) ?_
  case hy59 => (intro w hSw; (try dsimp only at hSw); go_simp; all_goals with_reducible rfl)
  try simp only [Act.put, List.setIfInBounds_toArray, List.set_cons_zero, List.set_cons_succ]
  refine wpAnyH_ready (rs := [54]) (by kernel_rfl) (by simp) ?_
  refine AllReadyH.cons (o := { dst := some 94, op := Op.call { callee := Callee.value (Operand.func 14), args := #[Operand.tmp 93], argTypes := #[23] }, type := 27, pos := "law.go:57", after := #[{ on := 53, ground := Ground.data }, { on := 52, ground := Ground.chain }, { on := 52, ground := Ground.guard }], guard := some (52, true) }) rfl (fun K hK => ?_) AllReadyH.nil
  go_simp
  refine (hack.out Wxxxxxxx hIWxxxxxxx.bk).mono ?_
  rintro e' Wxxxxxxxx ⟨rfl, hb⟩
  have hIWxxxxxxxx := hIWxxxxxxx.below hb
  go_wp2_with fail
  refine hK.out _ _ (hfull.out _ hIWxxxxxxxx) (fun hHeld => ?_)
  clear hK K hb hIWxxxxxxx
  try simp only [Act.put, List.setIfInBounds_toArray, List.set_cons_zero, List.set_cons_succ]
  refine wpAnyH_take (i := 56) (oi := { dst := some 96, op := Op.binOp BinOp.eql 27 (Operand.tmp 94) (Operand.tmp 95) 27, type := 4, pos := "law.go:57", after := #[{ on := 54, ground := Ground.data }, { on := 55, ground := Ground.data }, { on := 52, ground := Ground.guard }], guard := some (52, true) }) (v := ?vv60) rfl (by kernel_rfl) (by kernel_rfl) (by kernel_rfl) (fun _ _ _ h => h) (Or.inl ⟨by rfl, ?hy60⟩) (by assumption) ?_
  case hy60 => (intro w hSw; (try dsimp only at hSw); go_simp; all_goals with_reducible rfl)
  try simp only [Act.put, List.setIfInBounds_toArray, List.set_cons_zero, List.set_cons_succ]
  refine wpAnyH_take (i := 57) (oi := { dst := some 97, op := Op.pick (Operand.tmp 92) (Operand.tmp 96) (Operand.const (Value.bool false)), type := 4, pos := "law.go:57", after := #[{ on := 52, ground := Ground.data }, { on := 56, ground := Ground.data }], guard := none }) (v := ?vv61) rfl (by kernel_rfl) (by kernel_rfl) (by kernel_rfl) (fun _ _ _ h => h) (Or.inl ⟨by rfl, ?hy61⟩) (by assumption) ?_
  case hy61 => (intro w hSw; (try dsimp only at hSw); go_simp; all_goals with_reducible rfl)
  try simp only [Act.put, List.setIfInBounds_toArray, List.set_cons_zero, List.set_cons_succ]
  refine wpAnyH_take (i := 58) (oi := { dst := some 98, op := Op.move (Operand.tmp 97), type := 4, pos := "law.go:57", after := #[{ on := 57, ground := Ground.data }, { on := 54, ground := Ground.chain }], guard := none }) (v := ?vv62) rfl (by kernel_rfl) (by kernel_rfl) (by kernel_rfl) (fun _ _ _ h => h) (Or.inl ⟨by rfl, ?hy62⟩) (by assumption) ?_
  case hy62 => (intro w hSw; (try dsimp only at hSw); go_simp; all_goals with_reducible rfl)
  try simp only [Act.put, List.setIfInBounds_toArray, List.set_cons_zero, List.set_cons_succ]
  refine wpAnyH_take (i := 59) (oi := { dst := some 99, op := Op.move (Operand.tmp 4), type := 23, pos := "law.go:57", after := #[{ on := 58, ground := Ground.guard }], guard := some (58, true) }) (v := ?vv63) rfl (by kernel_rfl) (by kernel_rfl) (by kernel_rfl) (fun _ _ _ h => h) (Or.inl ⟨by rfl, ?hy63⟩) (by assumption) ?_
  case hy63 => (intro w hSw; (try dsimp only at hSw); go_simp; all_goals with_reducible rfl)
  try simp only [Act.put, List.setIfInBounds_toArray, List.set_cons_zero, List.set_cons_succ]
  refine wpAnyH_ready (rs := [60]) (by kernel_rfl) (by simp) ?_
  refine AllReadyH.cons (o := { dst := some 100, op := Op.call { callee := Callee.value (Operand.func 15), args := #[Operand.tmp 99], argTypes := #[23] }, type := 3, pos := "law.go:57", after := #[{ on := 59, ground := Ground.data }, { on := 58, ground := Ground.chain }, { on := 58, ground := Ground.guard }], guard := some (58, true) }) rfl (fun K hK => ?_) AllReadyH.nil
  go_simp
  refine (hwt.out Wxxxxxxxx hIWxxxxxxxx.bk).mono ?_
  rintro e' Wxxxxxxxxx ⟨rfl, hb⟩
  have hIWxxxxxxxxx := hIWxxxxxxxx.below hb
  go_wp2_with fail
  refine hK.out _ _ (hfull.out _ hIWxxxxxxxxx) (fun hHeld => ?_)
  clear hK K hb hIWxxxxxxxx
  try simp only [Act.put, List.setIfInBounds_toArray, List.set_cons_zero, List.set_cons_succ]
  refine wpAnyH_take (i := 61) (oi := { dst := some 101, op := Op.binOp BinOp.eql 3 (Operand.tmp 100) (Operand.const (Value.int IntKind.i64 0)) 3, type := 4, pos := "law.go:57", after := #[{ on := 60, ground := Ground.data }, { on := 58, ground := Ground.guard }], guard := some (58, true) }) (v := ?vv64) rfl (by kernel_rfl) (by kernel_rfl) (by kernel_rfl) (fun _ _ _ h => h) (Or.inl ⟨by rfl, ?hy64⟩) (by assumption) ?_
  case hy64 => (intro w hSw; (try dsimp only at hSw); go_simp; all_goals with_reducible rfl)
  try simp only [Act.put, List.setIfInBounds_toArray, List.set_cons_zero, List.set_cons_succ]
  refine wpAnyH_take (i := 62) (oi := { dst := some 102, op := Op.pick (Operand.tmp 98) (Operand.tmp 101) (Operand.const (Value.bool false)), type := 4, pos := "law.go:57", after := #[{ on := 58, ground := Ground.data }, { on := 61, ground := Ground.data }], guard := none }) (v := ?vv65) rfl (by kernel_rfl) (by kernel_rfl) (by kernel_rfl) (fun _ _ _ h => h) (Or.inl ⟨by rfl, ?hy65⟩) (by assumption) ?_
  case hy65 => (intro w hSw; (try dsimp only at hSw); go_simp; all_goals with_reducible rfl)
  try simp only [Act.put, List.setIfInBounds_toArray, List.set_cons_zero, List.set_cons_succ]
  refine wpAnyH_take (i := 63) (oi := { dst := some 0, op := Op.assign (Operand.tmp 102), type := 4, pos := "law.go:57", after := ([{ on := 62, ground := Ground.data }, { on := 60, ground := Ground.chain }, { on := 0, ground := Ground.phase }, { on := 1, ground := Ground.phase }, { on := 2, ground := Ground.phase }, { on := 3, ground := Ground.phase }, { on := 4, ground := Ground.phase }, { on := 5, ground := Ground.phase }, { on := 6, ground := Ground.phase }, { on := 7, ground := Ground.phase }, { on := 8, ground := Ground.phase }, { on := 9, ground := Ground.phase }, { on := 10, ground := Ground.phase }, { on := 11, ground := Ground.phase }, { on := 12, ground := Ground.phase }, { on := 13, ground := Ground.phase }, { on := 14, ground := Ground.phase }, { on := 15, ground := Ground.phase }, { on := 16, ground := Ground.phase }, { on := 17, ground := Ground.phase }, { on := 18, ground := Ground.phase }, { on := 19, ground := Ground.phase }, { on := 20, ground := Ground.phase }, { on := 21, ground := Ground.phase }, { on := 22, ground := Ground.phase }, { on := 23, ground := Ground.phase }, { on := 24, ground := Ground.phase }, { on := 25, ground := Ground.phase }, { on := 26, ground := Ground.phase }, { on := 27, ground := Ground.phase }, { on := 28, ground := Ground.phase }, { on := 29, ground := Ground.phase }].append [{ on := 30, ground := Ground.phase }, { on := 31, ground := Ground.phase }, { on := 32, ground := Ground.phase }, { on := 33, ground := Ground.phase }, { on := 34, ground := Ground.phase }, { on := 35, ground := Ground.phase }, { on := 36, ground := Ground.phase }, { on := 37, ground := Ground.phase }, { on := 38, ground := Ground.phase }, { on := 39, ground := Ground.phase }, { on := 40, ground := Ground.phase }, { on := 41, ground := Ground.phase }, { on := 42, ground := Ground.phase }, { on := 43, ground := Ground.phase }, { on := 44, ground := Ground.phase }, { on := 45, ground := Ground.phase }, { on := 46, ground := Ground.phase }, { on := 47, ground := Ground.phase }, { on := 48, ground := Ground.phase }, { on := 49, ground := Ground.phase }, { on := 50, ground := Ground.phase }, { on := 51, ground := Ground.phase }, { on := 52, ground := Ground.phase }, { on := 53, ground := Ground.phase }, { on := 54, ground := Ground.phase }, { on := 55, ground := Ground.phase }, { on := 56, ground := Ground.phase }, { on := 57, ground := Ground.phase }, { on := 58, ground := Ground.phase }, { on := 59, ground := Ground.phase }, { on := 60, ground := Ground.phase }, { on := 61, ground := Ground.phase }, { on := 62, ground := Ground.phase }]).toArray, guard := none }) (v := ?vv66) rfl (by kernel_rfl) (by kernel_rfl) (by kernel_rfl) (fun _ _ _ h => h) (Or.inl ⟨by rfl, ?hy66⟩) (by assumption) ?_
  case hy66 => (intro w hSw; (try dsimp only at hSw); go_simp; all_goals with_reducible rfl)
  try simp only [Act.put, List.setIfInBounds_toArray, List.set_cons_zero, List.set_cons_succ]
  refine wpAnyH_done (by kernel_rfl) ?_ _
  go_wp2_with fail
  go_ret
  exact ⟨rfl, hIWxxxxxxxxx.bel⟩
end Go.Proofs.YtfkimdgbkfogcaaDoor
