/- Next. -/
import Derived.Test.YtfmljlflnpmceaaGreatDoorTA1
import Derived.Laws.EntriesVeiled
namespace Go.Proofs.YtfmljlflnpmceaaGreatDoor
open Go.RowKit
set_option linter.unusedVariables false
set_option linter.unusedSimpArgs false

/-- results: a cell's and a slot's -/
theorem results_ct {P : Program} {fn : Func} {p r : Tmp} {ty : TypeId} (h : fn.results = #[.cell p ty, .tmp r]) (tmps : Array Value) (w : World) (g : Nat) (t : TypeId) (cs : Array Value) (fr : Nat × Nat) (d : TypeDesc)
    (hp : tmps.getD p undef = .pointer (some ⟨g, 0, none⟩)) (hg : w.heap[g]? = some (.cells cs t fr)) (hu : P.underlying ty = some d) (hd : (match d with | .struct _ | .array _ _ => true | _ => false) = true) (hi : (P.info? ty).map (·.size) = some cs.size) :
    (results fn tmps).run P w = .ok (.tuple #[.agg cs, tmps.getD r undef]) w := by
  have hp' : tmps[p]?.getD undef = .pointer (some ⟨g, 0, none⟩) := by simpa using hp
  simp [results, h, hp', asAddr, run_loadVar_row w g t ty cs fr d hg hu hd hi]

/-- what is written into a block that was made since -/
theorem fin' {w w2 : World} {a b : Value} {t : TypeId} {g : Nat} (k : Below w.heap.size w w2) (hg : w.heap.size ≤ g) (hb : w2.heap[g]? = some (.cells #[a, b] t)) :
    w2.cell? ⟨g, 0, none⟩ = some a ∧ w2.cell? ⟨g, 1, none⟩ = some b ∧ w2.frozen? ⟨g, 0, none⟩ = false ∧ w2.frozen? ⟨g, 1, none⟩ = false ∧
      ∀ x y, ((w2.setCell ⟨g, 0, none⟩ x).setCell ⟨g, 1, none⟩ y).heap[g]? = some (.cells #[x, y] t) ∧ Below w.heap.size w ((w2.setCell ⟨g, 0, none⟩ x).setCell ⟨g, 1, none⟩ y) := by
  refine ⟨cell_blk hb 0, cell_blk hb 1, frozen_blk hb 0, frozen_blk hb 1, fun x y => ⟨?_, ?_⟩⟩
  · exact setCell_block _ _ 1 y _ _ _ (setCell_block _ _ 0 x _ _ _ hb)
  · have k2 : Below w.heap.size w2 (w2.setCell ⟨g, 0, none⟩ x) := ⟨rfl, rfl, rfl, by simp [World.setCell], fun i hi => setCell_other _ _ _ _ _ (by omega)⟩
    exact (k.trans k2).trans ⟨rfl, rfl, rfl, by simp [World.setCell], fun i hi => setCell_other _ _ _ _ _ (by omega)⟩

set_option maxRecDepth 100000 in
set_option maxHeartbeats 1000000 in
theorem rule_1 (w : World) : Calls Tryz.prog 114 #[.int .i64 1] w fun e w' => e = .returned (.tuple #[.agg #[.func (.func 121) #[] #[], .func (.func 122) #[] #[]], .bool true]) ∧ Below w.heap.size w w' := by
  go_enter Tryz.func114, Tryz.ntmps114
  go_wp2
  refine bodyPost_ret (results_ct (p := 2) (r := 3) (ty := 153) rfl _ _ w.heap.size 153 _ (0, 0) _ rfl (heap_alloc_new _ _) Tryz.underlying153 rfl (by kernel_rfl)) rfl ⟨rfl, bel1 _ _⟩

set_option maxRecDepth 100000 in
set_option maxHeartbeats 1000000 in
theorem rule_2 (w : World) : Calls Tryz.prog 114 #[.int .i64 2] w fun e w' => e = .returned (.tuple #[.agg #[.func (.func 123) #[] #[], .func (.func 124) #[] #[]], .bool true]) ∧ Below w.heap.size w w' := by
  go_enter Tryz.func114, Tryz.ntmps114
  go_wp2
  refine bodyPost_ret (results_ct (p := 2) (r := 3) (ty := 153) rfl _ _ w.heap.size 153 _ (0, 0) _ rfl (heap_alloc_new _ _) Tryz.underlying153 rfl (by kernel_rfl)) rfl ⟨rfl, bel1 _ _⟩

set_option maxRecDepth 100000 in
set_option maxHeartbeats 1000000 in
theorem rule_3 (w : World) : Calls Tryz.prog 114 #[.int .i64 3] w fun e w' => e = .returned (.tuple #[.agg #[.func (.func 125) #[] #[], .func (.func 126) #[] #[]], .bool true]) ∧ Below w.heap.size w w' := by
  go_enter Tryz.func114, Tryz.ntmps114
  go_wp2
  refine bodyPost_ret (results_ct (p := 2) (r := 3) (ty := 153) rfl _ _ w.heap.size 153 _ (0, 0) _ rfl (heap_alloc_new _ _) Tryz.underlying153 rfl (by kernel_rfl)) rfl ⟨rfl, bel1 _ _⟩

set_option maxRecDepth 100000 in
set_option maxHeartbeats 1000000 in
theorem rule_4 (w : World) : Calls Tryz.prog 114 #[.int .i64 4] w fun e w' => e = .returned (.tuple #[.agg #[.func (.func 127) #[] #[], .func (.func 128) #[] #[]], .bool true]) ∧ Below w.heap.size w w' := by
  go_enter Tryz.func114, Tryz.ntmps114
  go_wp2
  refine bodyPost_ret (results_ct (p := 2) (r := 3) (ty := 153) rfl _ _ w.heap.size 153 _ (0, 0) _ rfl (heap_alloc_new _ _) Tryz.underlying153 rfl (by kernel_rfl)) rfl ⟨rfl, bel1 _ _⟩

set_option maxRecDepth 100000 in
set_option maxHeartbeats 1000000 in
theorem rule_5 (w : World) : Calls Tryz.prog 114 #[.int .i64 5] w fun e w' => e = .returned (.tuple #[.agg #[.func (.func 129) #[] #[], .func (.func 130) #[] #[]], .bool true]) ∧ Below w.heap.size w w' := by
  go_enter Tryz.func114, Tryz.ntmps114
  go_wp2
  refine bodyPost_ret (results_ct (p := 2) (r := 3) (ty := 153) rfl _ _ w.heap.size 153 _ (0, 0) _ rfl (heap_alloc_new _ _) Tryz.underlying153 rfl (by kernel_rfl)) rfl ⟨rfl, bel1 _ _⟩

set_option maxRecDepth 100000 in
set_option maxHeartbeats 1000000 in
theorem rule_6 (w : World) : Calls Tryz.prog 114 #[.int .i64 6] w fun e w' => e = .returned (.tuple #[.agg #[.func (.func 131) #[] #[], .func (.func 132) #[] #[]], .bool true]) ∧ Below w.heap.size w w' := by
  go_enter Tryz.func114, Tryz.ntmps114
  go_wp2
  refine bodyPost_ret (results_ct (p := 2) (r := 3) (ty := 153) rfl _ _ w.heap.size 153 _ (0, 0) _ rfl (heap_alloc_new _ _) Tryz.underlying153 rfl (by kernel_rfl)) rfl ⟨rfl, bel1 _ _⟩

set_option maxRecDepth 100000 in
set_option maxHeartbeats 1000000 in
theorem rule_7 (w : World) : Calls Tryz.prog 114 #[.int .i64 7] w fun e w' => e = .returned (.tuple #[.agg #[.func (.func 133) #[] #[], .func (.func 134) #[] #[]], .bool true]) ∧ Below w.heap.size w w' := by
  go_enter Tryz.func114, Tryz.ntmps114
  go_wp2
  refine bodyPost_ret (results_ct (p := 2) (r := 3) (ty := 153) rfl _ _ w.heap.size 153 _ (0, 0) _ rfl (heap_alloc_new _ _) Tryz.underlying153 rfl (by kernel_rfl)) rfl ⟨rfl, bel1 _ _⟩

set_option maxRecDepth 100000 in
set_option maxHeartbeats 1000000 in
theorem rule_8 (w : World) : Calls Tryz.prog 114 #[.int .i64 8] w fun e w' => e = .returned (.tuple #[.agg #[.func (.func 135) #[] #[], .func (.func 136) #[] #[]], .bool true]) ∧ Below w.heap.size w w' := by
  go_enter Tryz.func114, Tryz.ntmps114
  go_wp2
  refine bodyPost_ret (results_ct (p := 2) (r := 3) (ty := 153) rfl _ _ w.heap.size 153 _ (0, 0) _ rfl (heap_alloc_new _ _) Tryz.underlying153 rfl (by kernel_rfl)) rfl ⟨rfl, bel1 _ _⟩

set_option maxRecDepth 100000 in
set_option maxHeartbeats 1000000 in
theorem rule_no (k : Int) (h1 : (k == 1) = false) (h2 : (k == 2) = false) (h3 : (k == 3) = false) (h4 : (k == 4) = false) (h5 : (k == 5) = false) (h6 : (k == 6) = false) (h7 : (k == 7) = false) (h8 : (k == 8) = false) (w : World) : Calls Tryz.prog 114 #[.int .i64 k] w fun e w' => e = .returned (.tuple #[.agg #[.nilFunc, .nilFunc], .bool false]) ∧ Below w.heap.size w w' := by
  go_enter Tryz.func114, Tryz.ntmps114
  go_wp2
  refine bodyPost_ret (results_ct (p := 2) (r := 3) (ty := 153) rfl _ _ w.heap.size 153 _ (0, 0) _ rfl (heap_alloc_new _ _) Tryz.underlying153 rfl (by kernel_rfl)) rfl ⟨rfl, bel1 _ _⟩

/-- what Next answers -/
def NxS (s : Int) (g : Bool) (k s' v c : Int) : Prop := ∀ w, Calls Tryz.prog 88 #[.int .i64 s, .agg #[.bool g, .int .i64 k]] w fun e w' => e = .returned (.tuple #[.int .i64 s', .agg #[.int .i64 v, .int .i64 c]]) ∧ Below w.heap.size w w'

theorem mid {w w1 : World} {g : Bool} {k : Int} (h : Below ((w.alloc (.cells #[.bool g, .int .i64 k] 119)).alloc (.cells #[.int .i64 0, .int .i64 0] 116)).heap.size ((w.alloc (.cells #[.bool g, .int .i64 k] 119)).alloc (.cells #[.int .i64 0, .int .i64 0] 116)) w1) :
    w1.cell? ⟨w.heap.size, 0, none⟩ = some (.bool g) ∧ w.heap.size < w1.heap.size ∧ w.heap.size + 1 < w1.heap.size ∧ w1.heap[w.heap.size + 1]? = some (.cells #[.int .i64 0, .int .i64 0] 116) ∧ Below w.heap.size w w1 := by
  have h0 : w1.heap[w.heap.size]? = some (.cells #[.bool g, .int .i64 k] 119) := (h.block w.heap.size (by simp; omega)).trans (by rw [heap_al, if_neg (by simp), heap_al, if_pos rfl])
  have h1 : w1.heap[w.heap.size + 1]? = some (.cells #[.int .i64 0, .int .i64 0] 116) := (h.block (w.heap.size + 1) (by simp)).trans (fresh2 w _ _)
  exact ⟨cell_blk h0 0, heap_lt h0, heap_lt h1, h1, (bel2 w _ _).trans (h.mono (by simp; omega))⟩

set_option maxRecDepth 100000 in
set_option maxHeartbeats 1000000 in
theorem nx_1_f (s s' v c : Int) (h0 : ¬ s < 0) (h6 : ¬ 6 < s) (h : Ans 121 s s' v c) : NxS s false 1 s' v c := by
  intro w
  go_enter Tryz.func88, Tryz.ntmps88
  go_wp2_with fail
  refine (rule_1 _).mono ?_
  rintro e w1 ⟨rfl, hB1⟩
  obtain ⟨d0, d1, d2, d3, hb⟩ := mid hB1
  clear hB1
  go_wp2_with fail
  refine (h _).mono ?_
  rintro e w2 ⟨rfl, hB2⟩
  have d4 := (hB2.block (w.heap.size + 1) (by simp; omega)).trans ((heap_al _ _ _).trans (if_neg (by omega)) |>.trans d3)
  obtain ⟨c0, c1, f0, f1, hF⟩ := fin' (hb.trans (((bel1 w1 _).mono hb.size).trans (hB2.mono (by simp; have := hb.size; omega)))) (Nat.le_succ _) d4
  clear hB2 hb d0 d1 d2 d3 d4
  go_wp2
  refine bodyPost_ret (results_tc (p := 5) (r := 4) (ty := 116) rfl _ _ (w.heap.size + 1) 116 _ (0, 0) _ rfl (hF _ _).1 Tryz.underlying116 rfl (by kernel_rfl)) rfl ⟨rfl, (hF _ _).2⟩

set_option maxRecDepth 100000 in
set_option maxHeartbeats 1000000 in
theorem nx_1_t (s s' v c : Int) (h0 : ¬ s < 0) (h6 : ¬ 6 < s) (h : Ans 122 s s' v c) : NxS s true 1 s' v c := by
  intro w
  go_enter Tryz.func88, Tryz.ntmps88
  go_wp2_with fail
  refine (rule_1 _).mono ?_
  rintro e w1 ⟨rfl, hB1⟩
  obtain ⟨d0, d1, d2, d3, hb⟩ := mid hB1
  clear hB1
  go_wp2_with fail
  refine (h _).mono ?_
  rintro e w2 ⟨rfl, hB2⟩
  have d4 := (hB2.block (w.heap.size + 1) (by simp; omega)).trans ((heap_al _ _ _).trans (if_neg (by omega)) |>.trans d3)
  obtain ⟨c0, c1, f0, f1, hF⟩ := fin' (hb.trans (((bel1 w1 _).mono hb.size).trans (hB2.mono (by simp; have := hb.size; omega)))) (Nat.le_succ _) d4
  clear hB2 hb d0 d1 d2 d3 d4
  go_wp2
  refine bodyPost_ret (results_tc (p := 5) (r := 4) (ty := 116) rfl _ _ (w.heap.size + 1) 116 _ (0, 0) _ rfl (hF _ _).1 Tryz.underlying116 rfl (by kernel_rfl)) rfl ⟨rfl, (hF _ _).2⟩

set_option maxRecDepth 100000 in
set_option maxHeartbeats 1000000 in
theorem nx_2_f (s s' v c : Int) (h0 : ¬ s < 0) (h6 : ¬ 6 < s) (h : Ans 123 s s' v c) : NxS s false 2 s' v c := by
  intro w
  go_enter Tryz.func88, Tryz.ntmps88
  go_wp2_with fail
  refine (rule_2 _).mono ?_
  rintro e w1 ⟨rfl, hB1⟩
  obtain ⟨d0, d1, d2, d3, hb⟩ := mid hB1
  clear hB1
  go_wp2_with fail
  refine (h _).mono ?_
  rintro e w2 ⟨rfl, hB2⟩
  have d4 := (hB2.block (w.heap.size + 1) (by simp; omega)).trans ((heap_al _ _ _).trans (if_neg (by omega)) |>.trans d3)
  obtain ⟨c0, c1, f0, f1, hF⟩ := fin' (hb.trans (((bel1 w1 _).mono hb.size).trans (hB2.mono (by simp; have := hb.size; omega)))) (Nat.le_succ _) d4
  clear hB2 hb d0 d1 d2 d3 d4
  go_wp2
  refine bodyPost_ret (results_tc (p := 5) (r := 4) (ty := 116) rfl _ _ (w.heap.size + 1) 116 _ (0, 0) _ rfl (hF _ _).1 Tryz.underlying116 rfl (by kernel_rfl)) rfl ⟨rfl, (hF _ _).2⟩

set_option maxRecDepth 100000 in
set_option maxHeartbeats 1000000 in
theorem nx_2_t (s s' v c : Int) (h0 : ¬ s < 0) (h6 : ¬ 6 < s) (h : Ans 124 s s' v c) : NxS s true 2 s' v c := by
  intro w
  go_enter Tryz.func88, Tryz.ntmps88
  go_wp2_with fail
  refine (rule_2 _).mono ?_
  rintro e w1 ⟨rfl, hB1⟩
  obtain ⟨d0, d1, d2, d3, hb⟩ := mid hB1
  clear hB1
  go_wp2_with fail
  refine (h _).mono ?_
  rintro e w2 ⟨rfl, hB2⟩
  have d4 := (hB2.block (w.heap.size + 1) (by simp; omega)).trans ((heap_al _ _ _).trans (if_neg (by omega)) |>.trans d3)
  obtain ⟨c0, c1, f0, f1, hF⟩ := fin' (hb.trans (((bel1 w1 _).mono hb.size).trans (hB2.mono (by simp; have := hb.size; omega)))) (Nat.le_succ _) d4
  clear hB2 hb d0 d1 d2 d3 d4
  go_wp2
  refine bodyPost_ret (results_tc (p := 5) (r := 4) (ty := 116) rfl _ _ (w.heap.size + 1) 116 _ (0, 0) _ rfl (hF _ _).1 Tryz.underlying116 rfl (by kernel_rfl)) rfl ⟨rfl, (hF _ _).2⟩

set_option maxRecDepth 100000 in
set_option maxHeartbeats 1000000 in
theorem nx_3_f (s s' v c : Int) (h0 : ¬ s < 0) (h6 : ¬ 6 < s) (h : Ans 125 s s' v c) : NxS s false 3 s' v c := by
  intro w
  go_enter Tryz.func88, Tryz.ntmps88
  go_wp2_with fail
  refine (rule_3 _).mono ?_
  rintro e w1 ⟨rfl, hB1⟩
  obtain ⟨d0, d1, d2, d3, hb⟩ := mid hB1
  clear hB1
  go_wp2_with fail
  refine (h _).mono ?_
  rintro e w2 ⟨rfl, hB2⟩
  have d4 := (hB2.block (w.heap.size + 1) (by simp; omega)).trans ((heap_al _ _ _).trans (if_neg (by omega)) |>.trans d3)
  obtain ⟨c0, c1, f0, f1, hF⟩ := fin' (hb.trans (((bel1 w1 _).mono hb.size).trans (hB2.mono (by simp; have := hb.size; omega)))) (Nat.le_succ _) d4
  clear hB2 hb d0 d1 d2 d3 d4
  go_wp2
  refine bodyPost_ret (results_tc (p := 5) (r := 4) (ty := 116) rfl _ _ (w.heap.size + 1) 116 _ (0, 0) _ rfl (hF _ _).1 Tryz.underlying116 rfl (by kernel_rfl)) rfl ⟨rfl, (hF _ _).2⟩

set_option maxRecDepth 100000 in
set_option maxHeartbeats 1000000 in
theorem nx_3_t (s s' v c : Int) (h0 : ¬ s < 0) (h6 : ¬ 6 < s) (h : Ans 126 s s' v c) : NxS s true 3 s' v c := by
  intro w
  go_enter Tryz.func88, Tryz.ntmps88
  go_wp2_with fail
  refine (rule_3 _).mono ?_
  rintro e w1 ⟨rfl, hB1⟩
  obtain ⟨d0, d1, d2, d3, hb⟩ := mid hB1
  clear hB1
  go_wp2_with fail
  refine (h _).mono ?_
  rintro e w2 ⟨rfl, hB2⟩
  have d4 := (hB2.block (w.heap.size + 1) (by simp; omega)).trans ((heap_al _ _ _).trans (if_neg (by omega)) |>.trans d3)
  obtain ⟨c0, c1, f0, f1, hF⟩ := fin' (hb.trans (((bel1 w1 _).mono hb.size).trans (hB2.mono (by simp; have := hb.size; omega)))) (Nat.le_succ _) d4
  clear hB2 hb d0 d1 d2 d3 d4
  go_wp2
  refine bodyPost_ret (results_tc (p := 5) (r := 4) (ty := 116) rfl _ _ (w.heap.size + 1) 116 _ (0, 0) _ rfl (hF _ _).1 Tryz.underlying116 rfl (by kernel_rfl)) rfl ⟨rfl, (hF _ _).2⟩

set_option maxRecDepth 100000 in
set_option maxHeartbeats 1000000 in
theorem nx_4_f (s s' v c : Int) (h0 : ¬ s < 0) (h6 : ¬ 6 < s) (h : Ans 127 s s' v c) : NxS s false 4 s' v c := by
  intro w
  go_enter Tryz.func88, Tryz.ntmps88
  go_wp2_with fail
  refine (rule_4 _).mono ?_
  rintro e w1 ⟨rfl, hB1⟩
  obtain ⟨d0, d1, d2, d3, hb⟩ := mid hB1
  clear hB1
  go_wp2_with fail
  refine (h _).mono ?_
  rintro e w2 ⟨rfl, hB2⟩
  have d4 := (hB2.block (w.heap.size + 1) (by simp; omega)).trans ((heap_al _ _ _).trans (if_neg (by omega)) |>.trans d3)
  obtain ⟨c0, c1, f0, f1, hF⟩ := fin' (hb.trans (((bel1 w1 _).mono hb.size).trans (hB2.mono (by simp; have := hb.size; omega)))) (Nat.le_succ _) d4
  clear hB2 hb d0 d1 d2 d3 d4
  go_wp2
  refine bodyPost_ret (results_tc (p := 5) (r := 4) (ty := 116) rfl _ _ (w.heap.size + 1) 116 _ (0, 0) _ rfl (hF _ _).1 Tryz.underlying116 rfl (by kernel_rfl)) rfl ⟨rfl, (hF _ _).2⟩

set_option maxRecDepth 100000 in
set_option maxHeartbeats 1000000 in
theorem nx_4_t (s s' v c : Int) (h0 : ¬ s < 0) (h6 : ¬ 6 < s) (h : Ans 128 s s' v c) : NxS s true 4 s' v c := by
  intro w
  go_enter Tryz.func88, Tryz.ntmps88
  go_wp2_with fail
  refine (rule_4 _).mono ?_
  rintro e w1 ⟨rfl, hB1⟩
  obtain ⟨d0, d1, d2, d3, hb⟩ := mid hB1
  clear hB1
  go_wp2_with fail
  refine (h _).mono ?_
  rintro e w2 ⟨rfl, hB2⟩
  have d4 := (hB2.block (w.heap.size + 1) (by simp; omega)).trans ((heap_al _ _ _).trans (if_neg (by omega)) |>.trans d3)
  obtain ⟨c0, c1, f0, f1, hF⟩ := fin' (hb.trans (((bel1 w1 _).mono hb.size).trans (hB2.mono (by simp; have := hb.size; omega)))) (Nat.le_succ _) d4
  clear hB2 hb d0 d1 d2 d3 d4
  go_wp2
  refine bodyPost_ret (results_tc (p := 5) (r := 4) (ty := 116) rfl _ _ (w.heap.size + 1) 116 _ (0, 0) _ rfl (hF _ _).1 Tryz.underlying116 rfl (by kernel_rfl)) rfl ⟨rfl, (hF _ _).2⟩

set_option maxRecDepth 100000 in
set_option maxHeartbeats 1000000 in
theorem nx_5_f (s s' v c : Int) (h0 : ¬ s < 0) (h6 : ¬ 6 < s) (h : Ans 129 s s' v c) : NxS s false 5 s' v c := by
  intro w
  go_enter Tryz.func88, Tryz.ntmps88
  go_wp2_with fail
  refine (rule_5 _).mono ?_
  rintro e w1 ⟨rfl, hB1⟩
  obtain ⟨d0, d1, d2, d3, hb⟩ := mid hB1
  clear hB1
  go_wp2_with fail
  refine (h _).mono ?_
  rintro e w2 ⟨rfl, hB2⟩
  have d4 := (hB2.block (w.heap.size + 1) (by simp; omega)).trans ((heap_al _ _ _).trans (if_neg (by omega)) |>.trans d3)
  obtain ⟨c0, c1, f0, f1, hF⟩ := fin' (hb.trans (((bel1 w1 _).mono hb.size).trans (hB2.mono (by simp; have := hb.size; omega)))) (Nat.le_succ _) d4
  clear hB2 hb d0 d1 d2 d3 d4
  go_wp2
  refine bodyPost_ret (results_tc (p := 5) (r := 4) (ty := 116) rfl _ _ (w.heap.size + 1) 116 _ (0, 0) _ rfl (hF _ _).1 Tryz.underlying116 rfl (by kernel_rfl)) rfl ⟨rfl, (hF _ _).2⟩

set_option maxRecDepth 100000 in
set_option maxHeartbeats 1000000 in
theorem nx_5_t (s s' v c : Int) (h0 : ¬ s < 0) (h6 : ¬ 6 < s) (h : Ans 130 s s' v c) : NxS s true 5 s' v c := by
  intro w
  go_enter Tryz.func88, Tryz.ntmps88
  go_wp2_with fail
  refine (rule_5 _).mono ?_
  rintro e w1 ⟨rfl, hB1⟩
  obtain ⟨d0, d1, d2, d3, hb⟩ := mid hB1
  clear hB1
  go_wp2_with fail
  refine (h _).mono ?_
  rintro e w2 ⟨rfl, hB2⟩
  have d4 := (hB2.block (w.heap.size + 1) (by simp; omega)).trans ((heap_al _ _ _).trans (if_neg (by omega)) |>.trans d3)
  obtain ⟨c0, c1, f0, f1, hF⟩ := fin' (hb.trans (((bel1 w1 _).mono hb.size).trans (hB2.mono (by simp; have := hb.size; omega)))) (Nat.le_succ _) d4
  clear hB2 hb d0 d1 d2 d3 d4
  go_wp2
  refine bodyPost_ret (results_tc (p := 5) (r := 4) (ty := 116) rfl _ _ (w.heap.size + 1) 116 _ (0, 0) _ rfl (hF _ _).1 Tryz.underlying116 rfl (by kernel_rfl)) rfl ⟨rfl, (hF _ _).2⟩

set_option maxRecDepth 100000 in
set_option maxHeartbeats 1000000 in
theorem nx_6_f (s s' v c : Int) (h0 : ¬ s < 0) (h6 : ¬ 6 < s) (h : Ans 131 s s' v c) : NxS s false 6 s' v c := by
  intro w
  go_enter Tryz.func88, Tryz.ntmps88
  go_wp2_with fail
  refine (rule_6 _).mono ?_
  rintro e w1 ⟨rfl, hB1⟩
  obtain ⟨d0, d1, d2, d3, hb⟩ := mid hB1
  clear hB1
  go_wp2_with fail
  refine (h _).mono ?_
  rintro e w2 ⟨rfl, hB2⟩
  have d4 := (hB2.block (w.heap.size + 1) (by simp; omega)).trans ((heap_al _ _ _).trans (if_neg (by omega)) |>.trans d3)
  obtain ⟨c0, c1, f0, f1, hF⟩ := fin' (hb.trans (((bel1 w1 _).mono hb.size).trans (hB2.mono (by simp; have := hb.size; omega)))) (Nat.le_succ _) d4
  clear hB2 hb d0 d1 d2 d3 d4
  go_wp2
  refine bodyPost_ret (results_tc (p := 5) (r := 4) (ty := 116) rfl _ _ (w.heap.size + 1) 116 _ (0, 0) _ rfl (hF _ _).1 Tryz.underlying116 rfl (by kernel_rfl)) rfl ⟨rfl, (hF _ _).2⟩

set_option maxRecDepth 100000 in
set_option maxHeartbeats 1000000 in
theorem nx_6_t (s s' v c : Int) (h0 : ¬ s < 0) (h6 : ¬ 6 < s) (h : Ans 132 s s' v c) : NxS s true 6 s' v c := by
  intro w
  go_enter Tryz.func88, Tryz.ntmps88
  go_wp2_with fail
  refine (rule_6 _).mono ?_
  rintro e w1 ⟨rfl, hB1⟩
  obtain ⟨d0, d1, d2, d3, hb⟩ := mid hB1
  clear hB1
  go_wp2_with fail
  refine (h _).mono ?_
  rintro e w2 ⟨rfl, hB2⟩
  have d4 := (hB2.block (w.heap.size + 1) (by simp; omega)).trans ((heap_al _ _ _).trans (if_neg (by omega)) |>.trans d3)
  obtain ⟨c0, c1, f0, f1, hF⟩ := fin' (hb.trans (((bel1 w1 _).mono hb.size).trans (hB2.mono (by simp; have := hb.size; omega)))) (Nat.le_succ _) d4
  clear hB2 hb d0 d1 d2 d3 d4
  go_wp2
  refine bodyPost_ret (results_tc (p := 5) (r := 4) (ty := 116) rfl _ _ (w.heap.size + 1) 116 _ (0, 0) _ rfl (hF _ _).1 Tryz.underlying116 rfl (by kernel_rfl)) rfl ⟨rfl, (hF _ _).2⟩

set_option maxRecDepth 100000 in
set_option maxHeartbeats 1000000 in
theorem nx_7_f (s s' v c : Int) (h0 : ¬ s < 0) (h6 : ¬ 6 < s) (h : Ans 133 s s' v c) : NxS s false 7 s' v c := by
  intro w
  go_enter Tryz.func88, Tryz.ntmps88
  go_wp2_with fail
  refine (rule_7 _).mono ?_
  rintro e w1 ⟨rfl, hB1⟩
  obtain ⟨d0, d1, d2, d3, hb⟩ := mid hB1
  clear hB1
  go_wp2_with fail
  refine (h _).mono ?_
  rintro e w2 ⟨rfl, hB2⟩
  have d4 := (hB2.block (w.heap.size + 1) (by simp; omega)).trans ((heap_al _ _ _).trans (if_neg (by omega)) |>.trans d3)
  obtain ⟨c0, c1, f0, f1, hF⟩ := fin' (hb.trans (((bel1 w1 _).mono hb.size).trans (hB2.mono (by simp; have := hb.size; omega)))) (Nat.le_succ _) d4
  clear hB2 hb d0 d1 d2 d3 d4
  go_wp2
  refine bodyPost_ret (results_tc (p := 5) (r := 4) (ty := 116) rfl _ _ (w.heap.size + 1) 116 _ (0, 0) _ rfl (hF _ _).1 Tryz.underlying116 rfl (by kernel_rfl)) rfl ⟨rfl, (hF _ _).2⟩

set_option maxRecDepth 100000 in
set_option maxHeartbeats 1000000 in
theorem nx_7_t (s s' v c : Int) (h0 : ¬ s < 0) (h6 : ¬ 6 < s) (h : Ans 134 s s' v c) : NxS s true 7 s' v c := by
  intro w
  go_enter Tryz.func88, Tryz.ntmps88
  go_wp2_with fail
  refine (rule_7 _).mono ?_
  rintro e w1 ⟨rfl, hB1⟩
  obtain ⟨d0, d1, d2, d3, hb⟩ := mid hB1
  clear hB1
  go_wp2_with fail
  refine (h _).mono ?_
  rintro e w2 ⟨rfl, hB2⟩
  have d4 := (hB2.block (w.heap.size + 1) (by simp; omega)).trans ((heap_al _ _ _).trans (if_neg (by omega)) |>.trans d3)
  obtain ⟨c0, c1, f0, f1, hF⟩ := fin' (hb.trans (((bel1 w1 _).mono hb.size).trans (hB2.mono (by simp; have := hb.size; omega)))) (Nat.le_succ _) d4
  clear hB2 hb d0 d1 d2 d3 d4
  go_wp2
  refine bodyPost_ret (results_tc (p := 5) (r := 4) (ty := 116) rfl _ _ (w.heap.size + 1) 116 _ (0, 0) _ rfl (hF _ _).1 Tryz.underlying116 rfl (by kernel_rfl)) rfl ⟨rfl, (hF _ _).2⟩

set_option maxRecDepth 100000 in
set_option maxHeartbeats 1000000 in
theorem nx_8_f (s s' v c : Int) (h0 : ¬ s < 0) (h6 : ¬ 6 < s) (h : Ans 135 s s' v c) : NxS s false 8 s' v c := by
  intro w
  go_enter Tryz.func88, Tryz.ntmps88
  go_wp2_with fail
  refine (rule_8 _).mono ?_
  rintro e w1 ⟨rfl, hB1⟩
  obtain ⟨d0, d1, d2, d3, hb⟩ := mid hB1
  clear hB1
  go_wp2_with fail
  refine (h _).mono ?_
  rintro e w2 ⟨rfl, hB2⟩
  have d4 := (hB2.block (w.heap.size + 1) (by simp; omega)).trans ((heap_al _ _ _).trans (if_neg (by omega)) |>.trans d3)
  obtain ⟨c0, c1, f0, f1, hF⟩ := fin' (hb.trans (((bel1 w1 _).mono hb.size).trans (hB2.mono (by simp; have := hb.size; omega)))) (Nat.le_succ _) d4
  clear hB2 hb d0 d1 d2 d3 d4
  go_wp2
  refine bodyPost_ret (results_tc (p := 5) (r := 4) (ty := 116) rfl _ _ (w.heap.size + 1) 116 _ (0, 0) _ rfl (hF _ _).1 Tryz.underlying116 rfl (by kernel_rfl)) rfl ⟨rfl, (hF _ _).2⟩

set_option maxRecDepth 100000 in
set_option maxHeartbeats 1000000 in
theorem nx_8_t (s s' v c : Int) (h0 : ¬ s < 0) (h6 : ¬ 6 < s) (h : Ans 136 s s' v c) : NxS s true 8 s' v c := by
  intro w
  go_enter Tryz.func88, Tryz.ntmps88
  go_wp2_with fail
  refine (rule_8 _).mono ?_
  rintro e w1 ⟨rfl, hB1⟩
  obtain ⟨d0, d1, d2, d3, hb⟩ := mid hB1
  clear hB1
  go_wp2_with fail
  refine (h _).mono ?_
  rintro e w2 ⟨rfl, hB2⟩
  have d4 := (hB2.block (w.heap.size + 1) (by simp; omega)).trans ((heap_al _ _ _).trans (if_neg (by omega)) |>.trans d3)
  obtain ⟨c0, c1, f0, f1, hF⟩ := fin' (hb.trans (((bel1 w1 _).mono hb.size).trans (hB2.mono (by simp; have := hb.size; omega)))) (Nat.le_succ _) d4
  clear hB2 hb d0 d1 d2 d3 d4
  go_wp2
  refine bodyPost_ret (results_tc (p := 5) (r := 4) (ty := 116) rfl _ _ (w.heap.size + 1) 116 _ (0, 0) _ rfl (hF _ _).1 Tryz.underlying116 rfl (by kernel_rfl)) rfl ⟨rfl, (hF _ _).2⟩

set_option maxRecDepth 100000 in
set_option maxHeartbeats 1000000 in
theorem nx_1_low (s : Int) (g : Bool) (h0 : s < 0) : NxS s g 1 s 4 0 := by
  intro w
  go_enter Tryz.func88, Tryz.ntmps88
  go_wp2_with fail
  refine (rule_1 _).mono ?_
  rintro e w1 ⟨rfl, hB1⟩
  obtain ⟨d0, d1, d2, d3, hb⟩ := mid hB1
  clear hB1
  go_wp2_with fail
  refine (a51_any s _).mono ?_
  rintro e w2 ⟨rfl, hB2⟩
  have d4 := (hB2.block (w.heap.size + 1) (by simp; omega)).trans ((heap_al _ _ _).trans (if_neg (by omega)) |>.trans d3)
  obtain ⟨c0, c1, f0, f1, hF⟩ := fin' (hb.trans (((bel1 w1 _).mono hb.size).trans (hB2.mono (by simp; have := hb.size; omega)))) (Nat.le_succ _) d4
  clear hB2 hb d0 d1 d2 d3 d4
  go_wp2
  refine bodyPost_ret (results_tc (p := 5) (r := 4) (ty := 116) rfl _ _ (w.heap.size + 1) 116 _ (0, 0) _ rfl (hF _ _).1 Tryz.underlying116 rfl (by kernel_rfl)) rfl ⟨rfl, (hF _ _).2⟩

set_option maxRecDepth 100000 in
set_option maxHeartbeats 1000000 in
theorem nx_1_high (s : Int) (g : Bool) (h0 : ¬ s < 0) (h6 : 6 < s) : NxS s g 1 s 4 0 := by
  intro w
  go_enter Tryz.func88, Tryz.ntmps88
  go_wp2_with fail
  refine (rule_1 _).mono ?_
  rintro e w1 ⟨rfl, hB1⟩
  obtain ⟨d0, d1, d2, d3, hb⟩ := mid hB1
  clear hB1
  go_wp2_with fail
  refine (a51_any s _).mono ?_
  rintro e w2 ⟨rfl, hB2⟩
  have d4 := (hB2.block (w.heap.size + 1) (by simp; omega)).trans ((heap_al _ _ _).trans (if_neg (by omega)) |>.trans d3)
  obtain ⟨c0, c1, f0, f1, hF⟩ := fin' (hb.trans (((bel1 w1 _).mono hb.size).trans (hB2.mono (by simp; have := hb.size; omega)))) (Nat.le_succ _) d4
  clear hB2 hb d0 d1 d2 d3 d4
  go_wp2
  refine bodyPost_ret (results_tc (p := 5) (r := 4) (ty := 116) rfl _ _ (w.heap.size + 1) 116 _ (0, 0) _ rfl (hF _ _).1 Tryz.underlying116 rfl (by kernel_rfl)) rfl ⟨rfl, (hF _ _).2⟩

set_option maxRecDepth 100000 in
set_option maxHeartbeats 1000000 in
theorem nx_2_low (s : Int) (g : Bool) (h0 : s < 0) : NxS s g 2 s 4 0 := by
  intro w
  go_enter Tryz.func88, Tryz.ntmps88
  go_wp2_with fail
  refine (rule_2 _).mono ?_
  rintro e w1 ⟨rfl, hB1⟩
  obtain ⟨d0, d1, d2, d3, hb⟩ := mid hB1
  clear hB1
  go_wp2_with fail
  refine (a51_any s _).mono ?_
  rintro e w2 ⟨rfl, hB2⟩
  have d4 := (hB2.block (w.heap.size + 1) (by simp; omega)).trans ((heap_al _ _ _).trans (if_neg (by omega)) |>.trans d3)
  obtain ⟨c0, c1, f0, f1, hF⟩ := fin' (hb.trans (((bel1 w1 _).mono hb.size).trans (hB2.mono (by simp; have := hb.size; omega)))) (Nat.le_succ _) d4
  clear hB2 hb d0 d1 d2 d3 d4
  go_wp2
  refine bodyPost_ret (results_tc (p := 5) (r := 4) (ty := 116) rfl _ _ (w.heap.size + 1) 116 _ (0, 0) _ rfl (hF _ _).1 Tryz.underlying116 rfl (by kernel_rfl)) rfl ⟨rfl, (hF _ _).2⟩

set_option maxRecDepth 100000 in
set_option maxHeartbeats 1000000 in
theorem nx_2_high (s : Int) (g : Bool) (h0 : ¬ s < 0) (h6 : 6 < s) : NxS s g 2 s 4 0 := by
  intro w
  go_enter Tryz.func88, Tryz.ntmps88
  go_wp2_with fail
  refine (rule_2 _).mono ?_
  rintro e w1 ⟨rfl, hB1⟩
  obtain ⟨d0, d1, d2, d3, hb⟩ := mid hB1
  clear hB1
  go_wp2_with fail
  refine (a51_any s _).mono ?_
  rintro e w2 ⟨rfl, hB2⟩
  have d4 := (hB2.block (w.heap.size + 1) (by simp; omega)).trans ((heap_al _ _ _).trans (if_neg (by omega)) |>.trans d3)
  obtain ⟨c0, c1, f0, f1, hF⟩ := fin' (hb.trans (((bel1 w1 _).mono hb.size).trans (hB2.mono (by simp; have := hb.size; omega)))) (Nat.le_succ _) d4
  clear hB2 hb d0 d1 d2 d3 d4
  go_wp2
  refine bodyPost_ret (results_tc (p := 5) (r := 4) (ty := 116) rfl _ _ (w.heap.size + 1) 116 _ (0, 0) _ rfl (hF _ _).1 Tryz.underlying116 rfl (by kernel_rfl)) rfl ⟨rfl, (hF _ _).2⟩

set_option maxRecDepth 100000 in
set_option maxHeartbeats 1000000 in
theorem nx_3_low (s : Int) (g : Bool) (h0 : s < 0) : NxS s g 3 s 4 0 := by
  intro w
  go_enter Tryz.func88, Tryz.ntmps88
  go_wp2_with fail
  refine (rule_3 _).mono ?_
  rintro e w1 ⟨rfl, hB1⟩
  obtain ⟨d0, d1, d2, d3, hb⟩ := mid hB1
  clear hB1
  go_wp2_with fail
  refine (a51_any s _).mono ?_
  rintro e w2 ⟨rfl, hB2⟩
  have d4 := (hB2.block (w.heap.size + 1) (by simp; omega)).trans ((heap_al _ _ _).trans (if_neg (by omega)) |>.trans d3)
  obtain ⟨c0, c1, f0, f1, hF⟩ := fin' (hb.trans (((bel1 w1 _).mono hb.size).trans (hB2.mono (by simp; have := hb.size; omega)))) (Nat.le_succ _) d4
  clear hB2 hb d0 d1 d2 d3 d4
  go_wp2
  refine bodyPost_ret (results_tc (p := 5) (r := 4) (ty := 116) rfl _ _ (w.heap.size + 1) 116 _ (0, 0) _ rfl (hF _ _).1 Tryz.underlying116 rfl (by kernel_rfl)) rfl ⟨rfl, (hF _ _).2⟩

set_option maxRecDepth 100000 in
set_option maxHeartbeats 1000000 in
theorem nx_3_high (s : Int) (g : Bool) (h0 : ¬ s < 0) (h6 : 6 < s) : NxS s g 3 s 4 0 := by
  intro w
  go_enter Tryz.func88, Tryz.ntmps88
  go_wp2_with fail
  refine (rule_3 _).mono ?_
  rintro e w1 ⟨rfl, hB1⟩
  obtain ⟨d0, d1, d2, d3, hb⟩ := mid hB1
  clear hB1
  go_wp2_with fail
  refine (a51_any s _).mono ?_
  rintro e w2 ⟨rfl, hB2⟩
  have d4 := (hB2.block (w.heap.size + 1) (by simp; omega)).trans ((heap_al _ _ _).trans (if_neg (by omega)) |>.trans d3)
  obtain ⟨c0, c1, f0, f1, hF⟩ := fin' (hb.trans (((bel1 w1 _).mono hb.size).trans (hB2.mono (by simp; have := hb.size; omega)))) (Nat.le_succ _) d4
  clear hB2 hb d0 d1 d2 d3 d4
  go_wp2
  refine bodyPost_ret (results_tc (p := 5) (r := 4) (ty := 116) rfl _ _ (w.heap.size + 1) 116 _ (0, 0) _ rfl (hF _ _).1 Tryz.underlying116 rfl (by kernel_rfl)) rfl ⟨rfl, (hF _ _).2⟩

set_option maxRecDepth 100000 in
set_option maxHeartbeats 1000000 in
theorem nx_4_low (s : Int) (g : Bool) (h0 : s < 0) : NxS s g 4 s 4 0 := by
  intro w
  go_enter Tryz.func88, Tryz.ntmps88
  go_wp2_with fail
  refine (rule_4 _).mono ?_
  rintro e w1 ⟨rfl, hB1⟩
  obtain ⟨d0, d1, d2, d3, hb⟩ := mid hB1
  clear hB1
  go_wp2_with fail
  refine (a51_any s _).mono ?_
  rintro e w2 ⟨rfl, hB2⟩
  have d4 := (hB2.block (w.heap.size + 1) (by simp; omega)).trans ((heap_al _ _ _).trans (if_neg (by omega)) |>.trans d3)
  obtain ⟨c0, c1, f0, f1, hF⟩ := fin' (hb.trans (((bel1 w1 _).mono hb.size).trans (hB2.mono (by simp; have := hb.size; omega)))) (Nat.le_succ _) d4
  clear hB2 hb d0 d1 d2 d3 d4
  go_wp2
  refine bodyPost_ret (results_tc (p := 5) (r := 4) (ty := 116) rfl _ _ (w.heap.size + 1) 116 _ (0, 0) _ rfl (hF _ _).1 Tryz.underlying116 rfl (by kernel_rfl)) rfl ⟨rfl, (hF _ _).2⟩

set_option maxRecDepth 100000 in
set_option maxHeartbeats 1000000 in
theorem nx_4_high (s : Int) (g : Bool) (h0 : ¬ s < 0) (h6 : 6 < s) : NxS s g 4 s 4 0 := by
  intro w
  go_enter Tryz.func88, Tryz.ntmps88
  go_wp2_with fail
  refine (rule_4 _).mono ?_
  rintro e w1 ⟨rfl, hB1⟩
  obtain ⟨d0, d1, d2, d3, hb⟩ := mid hB1
  clear hB1
  go_wp2_with fail
  refine (a51_any s _).mono ?_
  rintro e w2 ⟨rfl, hB2⟩
  have d4 := (hB2.block (w.heap.size + 1) (by simp; omega)).trans ((heap_al _ _ _).trans (if_neg (by omega)) |>.trans d3)
  obtain ⟨c0, c1, f0, f1, hF⟩ := fin' (hb.trans (((bel1 w1 _).mono hb.size).trans (hB2.mono (by simp; have := hb.size; omega)))) (Nat.le_succ _) d4
  clear hB2 hb d0 d1 d2 d3 d4
  go_wp2
  refine bodyPost_ret (results_tc (p := 5) (r := 4) (ty := 116) rfl _ _ (w.heap.size + 1) 116 _ (0, 0) _ rfl (hF _ _).1 Tryz.underlying116 rfl (by kernel_rfl)) rfl ⟨rfl, (hF _ _).2⟩

set_option maxRecDepth 100000 in
set_option maxHeartbeats 1000000 in
theorem nx_5_low (s : Int) (g : Bool) (h0 : s < 0) : NxS s g 5 s 4 0 := by
  intro w
  go_enter Tryz.func88, Tryz.ntmps88
  go_wp2_with fail
  refine (rule_5 _).mono ?_
  rintro e w1 ⟨rfl, hB1⟩
  obtain ⟨d0, d1, d2, d3, hb⟩ := mid hB1
  clear hB1
  go_wp2_with fail
  refine (a51_any s _).mono ?_
  rintro e w2 ⟨rfl, hB2⟩
  have d4 := (hB2.block (w.heap.size + 1) (by simp; omega)).trans ((heap_al _ _ _).trans (if_neg (by omega)) |>.trans d3)
  obtain ⟨c0, c1, f0, f1, hF⟩ := fin' (hb.trans (((bel1 w1 _).mono hb.size).trans (hB2.mono (by simp; have := hb.size; omega)))) (Nat.le_succ _) d4
  clear hB2 hb d0 d1 d2 d3 d4
  go_wp2
  refine bodyPost_ret (results_tc (p := 5) (r := 4) (ty := 116) rfl _ _ (w.heap.size + 1) 116 _ (0, 0) _ rfl (hF _ _).1 Tryz.underlying116 rfl (by kernel_rfl)) rfl ⟨rfl, (hF _ _).2⟩

set_option maxRecDepth 100000 in
set_option maxHeartbeats 1000000 in
theorem nx_5_high (s : Int) (g : Bool) (h0 : ¬ s < 0) (h6 : 6 < s) : NxS s g 5 s 4 0 := by
  intro w
  go_enter Tryz.func88, Tryz.ntmps88
  go_wp2_with fail
  refine (rule_5 _).mono ?_
  rintro e w1 ⟨rfl, hB1⟩
  obtain ⟨d0, d1, d2, d3, hb⟩ := mid hB1
  clear hB1
  go_wp2_with fail
  refine (a51_any s _).mono ?_
  rintro e w2 ⟨rfl, hB2⟩
  have d4 := (hB2.block (w.heap.size + 1) (by simp; omega)).trans ((heap_al _ _ _).trans (if_neg (by omega)) |>.trans d3)
  obtain ⟨c0, c1, f0, f1, hF⟩ := fin' (hb.trans (((bel1 w1 _).mono hb.size).trans (hB2.mono (by simp; have := hb.size; omega)))) (Nat.le_succ _) d4
  clear hB2 hb d0 d1 d2 d3 d4
  go_wp2
  refine bodyPost_ret (results_tc (p := 5) (r := 4) (ty := 116) rfl _ _ (w.heap.size + 1) 116 _ (0, 0) _ rfl (hF _ _).1 Tryz.underlying116 rfl (by kernel_rfl)) rfl ⟨rfl, (hF _ _).2⟩

set_option maxRecDepth 100000 in
set_option maxHeartbeats 1000000 in
theorem nx_6_low (s : Int) (g : Bool) (h0 : s < 0) : NxS s g 6 s 4 0 := by
  intro w
  go_enter Tryz.func88, Tryz.ntmps88
  go_wp2_with fail
  refine (rule_6 _).mono ?_
  rintro e w1 ⟨rfl, hB1⟩
  obtain ⟨d0, d1, d2, d3, hb⟩ := mid hB1
  clear hB1
  go_wp2_with fail
  refine (a51_any s _).mono ?_
  rintro e w2 ⟨rfl, hB2⟩
  have d4 := (hB2.block (w.heap.size + 1) (by simp; omega)).trans ((heap_al _ _ _).trans (if_neg (by omega)) |>.trans d3)
  obtain ⟨c0, c1, f0, f1, hF⟩ := fin' (hb.trans (((bel1 w1 _).mono hb.size).trans (hB2.mono (by simp; have := hb.size; omega)))) (Nat.le_succ _) d4
  clear hB2 hb d0 d1 d2 d3 d4
  go_wp2
  refine bodyPost_ret (results_tc (p := 5) (r := 4) (ty := 116) rfl _ _ (w.heap.size + 1) 116 _ (0, 0) _ rfl (hF _ _).1 Tryz.underlying116 rfl (by kernel_rfl)) rfl ⟨rfl, (hF _ _).2⟩

set_option maxRecDepth 100000 in
set_option maxHeartbeats 1000000 in
theorem nx_6_high (s : Int) (g : Bool) (h0 : ¬ s < 0) (h6 : 6 < s) : NxS s g 6 s 4 0 := by
  intro w
  go_enter Tryz.func88, Tryz.ntmps88
  go_wp2_with fail
  refine (rule_6 _).mono ?_
  rintro e w1 ⟨rfl, hB1⟩
  obtain ⟨d0, d1, d2, d3, hb⟩ := mid hB1
  clear hB1
  go_wp2_with fail
  refine (a51_any s _).mono ?_
  rintro e w2 ⟨rfl, hB2⟩
  have d4 := (hB2.block (w.heap.size + 1) (by simp; omega)).trans ((heap_al _ _ _).trans (if_neg (by omega)) |>.trans d3)
  obtain ⟨c0, c1, f0, f1, hF⟩ := fin' (hb.trans (((bel1 w1 _).mono hb.size).trans (hB2.mono (by simp; have := hb.size; omega)))) (Nat.le_succ _) d4
  clear hB2 hb d0 d1 d2 d3 d4
  go_wp2
  refine bodyPost_ret (results_tc (p := 5) (r := 4) (ty := 116) rfl _ _ (w.heap.size + 1) 116 _ (0, 0) _ rfl (hF _ _).1 Tryz.underlying116 rfl (by kernel_rfl)) rfl ⟨rfl, (hF _ _).2⟩

set_option maxRecDepth 100000 in
set_option maxHeartbeats 1000000 in
theorem nx_7_low (s : Int) (g : Bool) (h0 : s < 0) : NxS s g 7 s 4 0 := by
  intro w
  go_enter Tryz.func88, Tryz.ntmps88
  go_wp2_with fail
  refine (rule_7 _).mono ?_
  rintro e w1 ⟨rfl, hB1⟩
  obtain ⟨d0, d1, d2, d3, hb⟩ := mid hB1
  clear hB1
  go_wp2_with fail
  refine (a51_any s _).mono ?_
  rintro e w2 ⟨rfl, hB2⟩
  have d4 := (hB2.block (w.heap.size + 1) (by simp; omega)).trans ((heap_al _ _ _).trans (if_neg (by omega)) |>.trans d3)
  obtain ⟨c0, c1, f0, f1, hF⟩ := fin' (hb.trans (((bel1 w1 _).mono hb.size).trans (hB2.mono (by simp; have := hb.size; omega)))) (Nat.le_succ _) d4
  clear hB2 hb d0 d1 d2 d3 d4
  go_wp2
  refine bodyPost_ret (results_tc (p := 5) (r := 4) (ty := 116) rfl _ _ (w.heap.size + 1) 116 _ (0, 0) _ rfl (hF _ _).1 Tryz.underlying116 rfl (by kernel_rfl)) rfl ⟨rfl, (hF _ _).2⟩

set_option maxRecDepth 100000 in
set_option maxHeartbeats 1000000 in
theorem nx_7_high (s : Int) (g : Bool) (h0 : ¬ s < 0) (h6 : 6 < s) : NxS s g 7 s 4 0 := by
  intro w
  go_enter Tryz.func88, Tryz.ntmps88
  go_wp2_with fail
  refine (rule_7 _).mono ?_
  rintro e w1 ⟨rfl, hB1⟩
  obtain ⟨d0, d1, d2, d3, hb⟩ := mid hB1
  clear hB1
  go_wp2_with fail
  refine (a51_any s _).mono ?_
  rintro e w2 ⟨rfl, hB2⟩
  have d4 := (hB2.block (w.heap.size + 1) (by simp; omega)).trans ((heap_al _ _ _).trans (if_neg (by omega)) |>.trans d3)
  obtain ⟨c0, c1, f0, f1, hF⟩ := fin' (hb.trans (((bel1 w1 _).mono hb.size).trans (hB2.mono (by simp; have := hb.size; omega)))) (Nat.le_succ _) d4
  clear hB2 hb d0 d1 d2 d3 d4
  go_wp2
  refine bodyPost_ret (results_tc (p := 5) (r := 4) (ty := 116) rfl _ _ (w.heap.size + 1) 116 _ (0, 0) _ rfl (hF _ _).1 Tryz.underlying116 rfl (by kernel_rfl)) rfl ⟨rfl, (hF _ _).2⟩

set_option maxRecDepth 100000 in
set_option maxHeartbeats 1000000 in
theorem nx_8_low (s : Int) (g : Bool) (h0 : s < 0) : NxS s g 8 s 4 0 := by
  intro w
  go_enter Tryz.func88, Tryz.ntmps88
  go_wp2_with fail
  refine (rule_8 _).mono ?_
  rintro e w1 ⟨rfl, hB1⟩
  obtain ⟨d0, d1, d2, d3, hb⟩ := mid hB1
  clear hB1
  go_wp2_with fail
  refine (a51_any s _).mono ?_
  rintro e w2 ⟨rfl, hB2⟩
  have d4 := (hB2.block (w.heap.size + 1) (by simp; omega)).trans ((heap_al _ _ _).trans (if_neg (by omega)) |>.trans d3)
  obtain ⟨c0, c1, f0, f1, hF⟩ := fin' (hb.trans (((bel1 w1 _).mono hb.size).trans (hB2.mono (by simp; have := hb.size; omega)))) (Nat.le_succ _) d4
  clear hB2 hb d0 d1 d2 d3 d4
  go_wp2
  refine bodyPost_ret (results_tc (p := 5) (r := 4) (ty := 116) rfl _ _ (w.heap.size + 1) 116 _ (0, 0) _ rfl (hF _ _).1 Tryz.underlying116 rfl (by kernel_rfl)) rfl ⟨rfl, (hF _ _).2⟩

set_option maxRecDepth 100000 in
set_option maxHeartbeats 1000000 in
theorem nx_8_high (s : Int) (g : Bool) (h0 : ¬ s < 0) (h6 : 6 < s) : NxS s g 8 s 4 0 := by
  intro w
  go_enter Tryz.func88, Tryz.ntmps88
  go_wp2_with fail
  refine (rule_8 _).mono ?_
  rintro e w1 ⟨rfl, hB1⟩
  obtain ⟨d0, d1, d2, d3, hb⟩ := mid hB1
  clear hB1
  go_wp2_with fail
  refine (a51_any s _).mono ?_
  rintro e w2 ⟨rfl, hB2⟩
  have d4 := (hB2.block (w.heap.size + 1) (by simp; omega)).trans ((heap_al _ _ _).trans (if_neg (by omega)) |>.trans d3)
  obtain ⟨c0, c1, f0, f1, hF⟩ := fin' (hb.trans (((bel1 w1 _).mono hb.size).trans (hB2.mono (by simp; have := hb.size; omega)))) (Nat.le_succ _) d4
  clear hB2 hb d0 d1 d2 d3 d4
  go_wp2
  refine bodyPost_ret (results_tc (p := 5) (r := 4) (ty := 116) rfl _ _ (w.heap.size + 1) 116 _ (0, 0) _ rfl (hF _ _).1 Tryz.underlying116 rfl (by kernel_rfl)) rfl ⟨rfl, (hF _ _).2⟩

set_option maxRecDepth 100000 in
set_option maxHeartbeats 1000000 in
theorem nx_no (s k : Int) (g : Bool) (h1 : (k == 1) = false) (h2 : (k == 2) = false) (h3 : (k == 3) = false) (h4 : (k == 4) = false) (h5 : (k == 5) = false) (h6 : (k == 6) = false) (h7 : (k == 7) = false) (h8 : (k == 8) = false) : NxS s g k s 4 0 := by
  intro w
  go_enter Tryz.func88, Tryz.ntmps88
  go_wp2_with fail
  refine (rule_no k h1 h2 h3 h4 h5 h6 h7 h8 _).mono ?_
  rintro e w1 ⟨rfl, hB1⟩
  obtain ⟨d0, d1, d2, d3, hb⟩ := mid hB1
  clear hB1
  go_wp2_with fail
  refine (a51_any s _).mono ?_
  rintro e w2 ⟨rfl, hB2⟩
  have d4 := (hB2.block (w.heap.size + 1) (by simp; omega)).trans ((heap_al _ _ _).trans (if_neg (by omega)) |>.trans d3)
  obtain ⟨c0, c1, f0, f1, hF⟩ := fin' (hb.trans (((bel1 w1 _).mono hb.size).trans (hB2.mono (by simp; have := hb.size; omega)))) (Nat.le_succ _) d4
  clear hB2 hb d0 d1 d2 d3 d4
  go_wp2
  refine bodyPost_ret (results_tc (p := 5) (r := 4) (ty := 116) rfl _ _ (w.heap.size + 1) 116 _ (0, 0) _ rfl (hF _ _).1 Tryz.underlying116 rfl (by kernel_rfl)) rfl ⟨rfl, (hF _ _).2⟩

end Go.Proofs.YtfmljlflnpmceaaGreatDoor
