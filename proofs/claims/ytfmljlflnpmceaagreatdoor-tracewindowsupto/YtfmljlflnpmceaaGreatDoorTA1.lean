/- The small functions. -/
import Derived.Test.YtfmljlflnpmceaaGreatDoorVa
namespace Go.Proofs.YtfmljlflnpmceaaGreatDoor
open Go.RowKit
set_option linter.unusedVariables false
set_option linter.unusedSimpArgs false

/-- results: a slot's and a cell's -/
theorem results_tc {P : Program} {fn : Func} {p r : Tmp} {ty : TypeId} (h : fn.results = #[.tmp r, .cell p ty]) (tmps : Array Value) (w : World) (g : Nat) (t : TypeId) (cs : Array Value) (fr : Nat × Nat) (d : TypeDesc)
    (hp : tmps.getD p undef = .pointer (some ⟨g, 0, none⟩)) (hg : w.heap[g]? = some (.cells cs t fr)) (hu : P.underlying ty = some d) (hd : (match d with | .struct _ | .array _ _ => true | _ => false) = true) (hi : (P.info? ty).map (·.size) = some cs.size) :
    (results fn tmps).run P w = .ok (.tuple #[tmps.getD r undef, .agg cs]) w := by
  have hp' : tmps[p]?.getD undef = .pointer (some ⟨g, 0, none⟩) := by simpa using hp
  simp [results, h, hp', asAddr, run_loadVar_row w g t ty cs fr d hg hu hd hi]

/-- what a function of a state answers -/
def Ans (f : FuncId) (s s' k c : Int) : Prop := ∀ w, Calls Tryz.prog f #[.int .i64 s] w fun e w' => e = .returned (.tuple #[.int .i64 s', .agg #[.int .i64 k, .int .i64 c]]) ∧ Below w.heap.size w w'
/-- the same of one that is given a verdict too -/
def Ans2 (f : FuncId) (s k c s' : Int) : Prop := ∀ w, Calls Tryz.prog f #[.int .i64 s, .agg #[.int .i64 k, .int .i64 c]] w fun e w' => e = .returned (.tuple #[.int .i64 s', .agg #[.int .i64 k, .int .i64 c]]) ∧ Below w.heap.size w w'

/-- what is written into the block that was made first -/
theorem fin {w w1 : World} {a b : Value} {t : TypeId} (h : Below (w.alloc (.cells #[a, b] t)).heap.size (w.alloc (.cells #[a, b] t)) w1) :
    w1.cell? ⟨w.heap.size, 0, none⟩ = some a ∧ w1.cell? ⟨w.heap.size, 1, none⟩ = some b ∧ w1.frozen? ⟨w.heap.size, 0, none⟩ = false ∧ w1.frozen? ⟨w.heap.size, 1, none⟩ = false ∧
      ∀ x y, ((w1.setCell ⟨w.heap.size, 0, none⟩ x).setCell ⟨w.heap.size, 1, none⟩ y).heap[w.heap.size]? = some (.cells #[x, y] t) ∧ Below w.heap.size w ((w1.setCell ⟨w.heap.size, 0, none⟩ x).setCell ⟨w.heap.size, 1, none⟩ y) := by
  have hg : w1.heap[w.heap.size]? = some (.cells #[a, b] t) := (h.block w.heap.size (by simp)).trans (heap_alloc_new w _)
  refine ⟨cell_blk hg 0, cell_blk hg 1, frozen_blk hg 0, frozen_blk hg 1, fun x y => ⟨?_, ?_⟩⟩
  · exact setCell_block _ _ 1 y _ _ _ (setCell_block _ _ 0 x _ _ _ hg)
  · have k : Below w.heap.size w w1 := (bel1 w _).trans (h.mono (by simp))
    have s1 := k.size
    have k2 : Below w.heap.size w1 (w1.setCell ⟨w.heap.size, 0, none⟩ x) := ⟨rfl, rfl, rfl, by simp [World.setCell], fun i hi => setCell_other _ _ _ _ _ (by omega)⟩
    exact (k.trans k2).trans ⟨rfl, rfl, rfl, by simp [World.setCell], fun i hi => setCell_other _ _ _ _ _ (by omega)⟩

set_option maxRecDepth 100000 in
set_option maxHeartbeats 1000000 in
theorem a51_any (s : Int) : Ans 115 s s 4 0 := by
  intro w
  go_enter Tryz.func115, Tryz.ntmps115
  go_wp2
  refine bodyPost_ret (results_tc (p := 3) (r := 2) (ty := 116) rfl _ _ w.heap.size 116 _ (0, 0) _ rfl (heap_alloc_new _ _) Tryz.underlying116 rfl (by kernel_rfl)) rfl ⟨rfl, bel1 _ _⟩

set_option maxRecDepth 100000 in
set_option maxHeartbeats 1000000 in
theorem a79_any (s : Int) : Ans 135 s s 0 0 := by
  intro w
  go_enter Tryz.func135, Tryz.ntmps135
  go_wp2
  refine bodyPost_ret (results_tc (p := 3) (r := 2) (ty := 116) rfl _ _ w.heap.size 116 _ (0, 0) _ rfl (heap_alloc_new _ _) Tryz.underlying116 rfl (by kernel_rfl)) rfl ⟨rfl, bel1 _ _⟩

set_option maxRecDepth 100000 in
set_option maxHeartbeats 1000000 in
theorem a90_any (s : Int) : Ans 143 s s 3 1 := by
  intro w
  go_enter Tryz.func143, Tryz.ntmps143
  go_wp2
  refine bodyPost_ret (results_tc (p := 3) (r := 2) (ty := 116) rfl _ _ w.heap.size 116 _ (0, 0) _ rfl (heap_alloc_new _ _) Tryz.underlying116 rfl (by kernel_rfl)) rfl ⟨rfl, bel1 _ _⟩

set_option maxRecDepth 100000 in
set_option maxHeartbeats 1000000 in
theorem a91_any (s : Int) : Ans 144 s s 1 0 := by
  intro w
  go_enter Tryz.func144, Tryz.ntmps144
  go_wp2
  refine bodyPost_ret (results_tc (p := 3) (r := 2) (ty := 116) rfl _ _ w.heap.size 116 _ (0, 0) _ rfl (heap_alloc_new _ _) Tryz.underlying116 rfl (by kernel_rfl)) rfl ⟨rfl, bel1 _ _⟩

set_option maxRecDepth 100000 in
set_option maxHeartbeats 1000000 in
theorem a87_no (s k c : Int) (hk : (k == 0) = false) : Ans2 140 s k c s := by
  intro w
  go_enter Tryz.func140, Tryz.ntmps140
  go_wp2
  go_region
  go_wp2
  refine bodyPost_ret (results_tc (p := 5) (r := 4) (ty := 116) rfl _ _ (w.heap.size + 1) 116 _ (0, 0) _ rfl (fresh2 _ _ _) Tryz.underlying116 rfl (by kernel_rfl)) rfl ⟨rfl, (bel2 _ _ _).drew⟩

set_option maxRecDepth 100000 in
set_option maxHeartbeats 1000000 in
theorem a87_over (c : Int) : Ans2 140 5 0 c 6 := by
  intro w
  go_enter Tryz.func140, Tryz.ntmps140
  go_wp2
  go_region
  go_wp2
  refine bodyPost_ret (results_tc (p := 5) (r := 4) (ty := 116) rfl _ _ (w.heap.size + 1) 116 _ (0, 0) _ rfl (fresh2 _ _ _) Tryz.underlying116 rfl (by kernel_rfl)) rfl ⟨rfl, (bel2 _ _ _).drew⟩

set_option maxRecDepth 100000 in
set_option maxHeartbeats 1000000 in
theorem a87_end (s c : Int) (hs : (s == 5) = false) : Ans2 140 s 0 c 4 := by
  intro w
  go_enter Tryz.func140, Tryz.ntmps140
  go_wp2
  go_region
  go_wp2
  refine bodyPost_ret (results_tc (p := 5) (r := 4) (ty := 116) rfl _ _ (w.heap.size + 1) 116 _ (0, 0) _ rfl (fresh2 _ _ _) Tryz.underlying116 rfl (by kernel_rfl)) rfl ⟨rfl, (bel2 _ _ _).drew⟩

set_option maxRecDepth 100000 in
set_option maxHeartbeats 1000000 in
theorem a88_no (s k c : Int) (hk : (k == 0) = false) : Ans2 141 s k c s := by
  intro w
  go_enter Tryz.func141, Tryz.ntmps141
  go_wp2
  go_region
  go_wp2
  refine bodyPost_ret (results_tc (p := 5) (r := 4) (ty := 116) rfl _ _ (w.heap.size + 1) 116 _ (0, 0) _ rfl (fresh2 _ _ _) Tryz.underlying116 rfl (by kernel_rfl)) rfl ⟨rfl, (bel2 _ _ _).drew⟩

set_option maxRecDepth 100000 in
set_option maxHeartbeats 1000000 in
theorem a88_over (c : Int) : Ans2 141 4 0 c 6 := by
  intro w
  go_enter Tryz.func141, Tryz.ntmps141
  go_wp2
  go_region
  go_wp2
  refine bodyPost_ret (results_tc (p := 5) (r := 4) (ty := 116) rfl _ _ (w.heap.size + 1) 116 _ (0, 0) _ rfl (fresh2 _ _ _) Tryz.underlying116 rfl (by kernel_rfl)) rfl ⟨rfl, (bel2 _ _ _).drew⟩

set_option maxRecDepth 100000 in
set_option maxHeartbeats 1000000 in
theorem a88_end (s c : Int) (hs : (s == 4) = false) : Ans2 141 s 0 c 5 := by
  intro w
  go_enter Tryz.func141, Tryz.ntmps141
  go_wp2
  go_region
  go_wp2
  refine bodyPost_ret (results_tc (p := 5) (r := 4) (ty := 116) rfl _ _ (w.heap.size + 1) 116 _ (0, 0) _ rfl (fresh2 _ _ _) Tryz.underlying116 rfl (by kernel_rfl)) rfl ⟨rfl, (bel2 _ _ _).drew⟩

set_option maxRecDepth 100000 in
set_option maxHeartbeats 1000000 in
theorem a89_0 : Ans 142 0 0 3 1 := by
  intro w
  go_enter Tryz.func142, Tryz.ntmps142
  go_wp2_with fail
  refine (a90_any (0) _).mono ?_
  rintro e w1 ⟨rfl, hB1⟩
  obtain ⟨c0, c1, f0, f1, hF⟩ := fin hB1
  clear hB1
  go_wp2
  refine bodyPost_ret (results_tc (p := 3) (r := 2) (ty := 116) rfl _ _ w.heap.size 116 _ (0, 0) _ rfl (hF _ _).1 Tryz.underlying116 rfl (by kernel_rfl)) rfl ⟨rfl, (hF _ _).2⟩

set_option maxRecDepth 100000 in
set_option maxHeartbeats 1000000 in
theorem a89_1 : Ans 142 1 1 3 1 := by
  intro w
  go_enter Tryz.func142, Tryz.ntmps142
  go_wp2_with fail
  refine (a90_any (1) _).mono ?_
  rintro e w1 ⟨rfl, hB1⟩
  obtain ⟨c0, c1, f0, f1, hF⟩ := fin hB1
  clear hB1
  go_wp2
  refine bodyPost_ret (results_tc (p := 3) (r := 2) (ty := 116) rfl _ _ w.heap.size 116 _ (0, 0) _ rfl (hF _ _).1 Tryz.underlying116 rfl (by kernel_rfl)) rfl ⟨rfl, (hF _ _).2⟩

set_option maxRecDepth 100000 in
set_option maxHeartbeats 1000000 in
theorem a89_2 : Ans 142 2 2 3 1 := by
  intro w
  go_enter Tryz.func142, Tryz.ntmps142
  go_wp2_with fail
  refine (a90_any (2) _).mono ?_
  rintro e w1 ⟨rfl, hB1⟩
  obtain ⟨c0, c1, f0, f1, hF⟩ := fin hB1
  clear hB1
  go_wp2
  refine bodyPost_ret (results_tc (p := 3) (r := 2) (ty := 116) rfl _ _ w.heap.size 116 _ (0, 0) _ rfl (hF _ _).1 Tryz.underlying116 rfl (by kernel_rfl)) rfl ⟨rfl, (hF _ _).2⟩

set_option maxRecDepth 100000 in
set_option maxHeartbeats 1000000 in
theorem a89_5 : Ans 142 5 5 2 5 := by
  intro w
  go_enter Tryz.func142, Tryz.ntmps142
  go_wp2
  refine bodyPost_ret (results_tc (p := 3) (r := 2) (ty := 116) rfl _ _ w.heap.size 116 _ (0, 0) _ rfl (heap_alloc_new _ _) Tryz.underlying116 rfl (by kernel_rfl)) rfl ⟨rfl, bel1 _ _⟩

set_option maxRecDepth 100000 in
set_option maxHeartbeats 1000000 in
theorem a89_6 : Ans 142 6 6 3 5 := by
  intro w
  go_enter Tryz.func142, Tryz.ntmps142
  go_wp2
  refine bodyPost_ret (results_tc (p := 3) (r := 2) (ty := 116) rfl _ _ w.heap.size 116 _ (0, 0) _ rfl (heap_alloc_new _ _) Tryz.underlying116 rfl (by kernel_rfl)) rfl ⟨rfl, bel1 _ _⟩

set_option maxRecDepth 100000 in
set_option maxHeartbeats 1000000 in
theorem a69_0 : Ans 125 0 0 4 0 := by
  intro w
  go_enter Tryz.func125, Tryz.ntmps125
  go_wp2_with fail
  refine (a51_any (0) _).mono ?_
  rintro e w1 ⟨rfl, hB1⟩
  obtain ⟨c0, c1, f0, f1, hF⟩ := fin hB1
  clear hB1
  go_wp2
  refine bodyPost_ret (results_tc (p := 3) (r := 2) (ty := 116) rfl _ _ w.heap.size 116 _ (0, 0) _ rfl (hF _ _).1 Tryz.underlying116 rfl (by kernel_rfl)) rfl ⟨rfl, (hF _ _).2⟩

set_option maxRecDepth 100000 in
set_option maxHeartbeats 1000000 in
theorem a69_1 : Ans 125 1 1 4 0 := by
  intro w
  go_enter Tryz.func125, Tryz.ntmps125
  go_wp2_with fail
  refine (a51_any (1) _).mono ?_
  rintro e w1 ⟨rfl, hB1⟩
  obtain ⟨c0, c1, f0, f1, hF⟩ := fin hB1
  clear hB1
  go_wp2
  refine bodyPost_ret (results_tc (p := 3) (r := 2) (ty := 116) rfl _ _ w.heap.size 116 _ (0, 0) _ rfl (hF _ _).1 Tryz.underlying116 rfl (by kernel_rfl)) rfl ⟨rfl, (hF _ _).2⟩

set_option maxRecDepth 100000 in
set_option maxHeartbeats 1000000 in
theorem a69_2 : Ans 125 2 2 4 0 := by
  intro w
  go_enter Tryz.func125, Tryz.ntmps125
  go_wp2_with fail
  refine (a51_any (2) _).mono ?_
  rintro e w1 ⟨rfl, hB1⟩
  obtain ⟨c0, c1, f0, f1, hF⟩ := fin hB1
  clear hB1
  go_wp2
  refine bodyPost_ret (results_tc (p := 3) (r := 2) (ty := 116) rfl _ _ w.heap.size 116 _ (0, 0) _ rfl (hF _ _).1 Tryz.underlying116 rfl (by kernel_rfl)) rfl ⟨rfl, (hF _ _).2⟩

set_option maxRecDepth 100000 in
set_option maxHeartbeats 1000000 in
theorem a69_3 : Ans 125 3 3 0 0 := by
  intro w
  go_enter Tryz.func125, Tryz.ntmps125
  go_wp2_with fail
  refine (a79_any (3) _).mono ?_
  rintro e w1 ⟨rfl, hB1⟩
  obtain ⟨c0, c1, f0, f1, hF⟩ := fin hB1
  clear hB1
  go_wp2
  refine bodyPost_ret (results_tc (p := 3) (r := 2) (ty := 116) rfl _ _ w.heap.size 116 _ (0, 0) _ rfl (hF _ _).1 Tryz.underlying116 rfl (by kernel_rfl)) rfl ⟨rfl, (hF _ _).2⟩

set_option maxRecDepth 100000 in
set_option maxHeartbeats 1000000 in
theorem a69_4 : Ans 125 4 4 4 0 := by
  intro w
  go_enter Tryz.func125, Tryz.ntmps125
  go_wp2_with fail
  refine (a51_any (4) _).mono ?_
  rintro e w1 ⟨rfl, hB1⟩
  obtain ⟨c0, c1, f0, f1, hF⟩ := fin hB1
  clear hB1
  go_wp2
  refine bodyPost_ret (results_tc (p := 3) (r := 2) (ty := 116) rfl _ _ w.heap.size 116 _ (0, 0) _ rfl (hF _ _).1 Tryz.underlying116 rfl (by kernel_rfl)) rfl ⟨rfl, (hF _ _).2⟩

set_option maxRecDepth 100000 in
set_option maxHeartbeats 1000000 in
theorem a69_5 : Ans 125 5 5 0 0 := by
  intro w
  go_enter Tryz.func125, Tryz.ntmps125
  go_wp2_with fail
  refine (a79_any (5) _).mono ?_
  rintro e w1 ⟨rfl, hB1⟩
  obtain ⟨c0, c1, f0, f1, hF⟩ := fin hB1
  clear hB1
  go_wp2
  refine bodyPost_ret (results_tc (p := 3) (r := 2) (ty := 116) rfl _ _ w.heap.size 116 _ (0, 0) _ rfl (hF _ _).1 Tryz.underlying116 rfl (by kernel_rfl)) rfl ⟨rfl, (hF _ _).2⟩

set_option maxRecDepth 100000 in
set_option maxHeartbeats 1000000 in
theorem a69_6 : Ans 125 6 6 4 0 := by
  intro w
  go_enter Tryz.func125, Tryz.ntmps125
  go_wp2_with fail
  refine (a51_any (6) _).mono ?_
  rintro e w1 ⟨rfl, hB1⟩
  obtain ⟨c0, c1, f0, f1, hF⟩ := fin hB1
  clear hB1
  go_wp2
  refine bodyPost_ret (results_tc (p := 3) (r := 2) (ty := 116) rfl _ _ w.heap.size 116 _ (0, 0) _ rfl (hF _ _).1 Tryz.underlying116 rfl (by kernel_rfl)) rfl ⟨rfl, (hF _ _).2⟩

set_option maxRecDepth 100000 in
set_option maxHeartbeats 1000000 in
theorem a70_0 : Ans 126 0 0 3 1 := by
  intro w
  go_enter Tryz.func126, Tryz.ntmps126
  go_wp2_with fail
  refine (a89_0 _).mono ?_
  rintro e w1 ⟨rfl, hB1⟩
  obtain ⟨c0, c1, f0, f1, hF⟩ := fin hB1
  clear hB1
  go_wp2
  refine bodyPost_ret (results_tc (p := 3) (r := 2) (ty := 116) rfl _ _ w.heap.size 116 _ (0, 0) _ rfl (hF _ _).1 Tryz.underlying116 rfl (by kernel_rfl)) rfl ⟨rfl, (hF _ _).2⟩

set_option maxRecDepth 100000 in
set_option maxHeartbeats 1000000 in
theorem a70_1 : Ans 126 1 1 3 1 := by
  intro w
  go_enter Tryz.func126, Tryz.ntmps126
  go_wp2_with fail
  refine (a89_1 _).mono ?_
  rintro e w1 ⟨rfl, hB1⟩
  obtain ⟨c0, c1, f0, f1, hF⟩ := fin hB1
  clear hB1
  go_wp2
  refine bodyPost_ret (results_tc (p := 3) (r := 2) (ty := 116) rfl _ _ w.heap.size 116 _ (0, 0) _ rfl (hF _ _).1 Tryz.underlying116 rfl (by kernel_rfl)) rfl ⟨rfl, (hF _ _).2⟩

set_option maxRecDepth 100000 in
set_option maxHeartbeats 1000000 in
theorem a70_2 : Ans 126 2 2 3 1 := by
  intro w
  go_enter Tryz.func126, Tryz.ntmps126
  go_wp2_with fail
  refine (a89_2 _).mono ?_
  rintro e w1 ⟨rfl, hB1⟩
  obtain ⟨c0, c1, f0, f1, hF⟩ := fin hB1
  clear hB1
  go_wp2
  refine bodyPost_ret (results_tc (p := 3) (r := 2) (ty := 116) rfl _ _ w.heap.size 116 _ (0, 0) _ rfl (hF _ _).1 Tryz.underlying116 rfl (by kernel_rfl)) rfl ⟨rfl, (hF _ _).2⟩

set_option maxRecDepth 100000 in
set_option maxHeartbeats 1000000 in
theorem a70_3 : Ans 126 3 3 0 0 := by
  intro w
  go_enter Tryz.func126, Tryz.ntmps126
  go_wp2_with fail
  refine (a79_any (3) _).mono ?_
  rintro e w1 ⟨rfl, hB1⟩
  obtain ⟨c0, c1, f0, f1, hF⟩ := fin hB1
  clear hB1
  go_wp2
  refine bodyPost_ret (results_tc (p := 3) (r := 2) (ty := 116) rfl _ _ w.heap.size 116 _ (0, 0) _ rfl (hF _ _).1 Tryz.underlying116 rfl (by kernel_rfl)) rfl ⟨rfl, (hF _ _).2⟩

set_option maxRecDepth 100000 in
set_option maxHeartbeats 1000000 in
theorem a70_4 : Ans 126 4 4 0 0 := by
  intro w
  go_enter Tryz.func126, Tryz.ntmps126
  go_wp2_with fail
  refine (a79_any (4) _).mono ?_
  rintro e w1 ⟨rfl, hB1⟩
  obtain ⟨c0, c1, f0, f1, hF⟩ := fin hB1
  clear hB1
  go_wp2
  refine bodyPost_ret (results_tc (p := 3) (r := 2) (ty := 116) rfl _ _ w.heap.size 116 _ (0, 0) _ rfl (hF _ _).1 Tryz.underlying116 rfl (by kernel_rfl)) rfl ⟨rfl, (hF _ _).2⟩

set_option maxRecDepth 100000 in
set_option maxHeartbeats 1000000 in
theorem a70_5 : Ans 126 5 5 2 5 := by
  intro w
  go_enter Tryz.func126, Tryz.ntmps126
  go_wp2_with fail
  refine (a89_5 _).mono ?_
  rintro e w1 ⟨rfl, hB1⟩
  obtain ⟨c0, c1, f0, f1, hF⟩ := fin hB1
  clear hB1
  go_wp2
  refine bodyPost_ret (results_tc (p := 3) (r := 2) (ty := 116) rfl _ _ w.heap.size 116 _ (0, 0) _ rfl (hF _ _).1 Tryz.underlying116 rfl (by kernel_rfl)) rfl ⟨rfl, (hF _ _).2⟩

set_option maxRecDepth 100000 in
set_option maxHeartbeats 1000000 in
theorem a70_6 : Ans 126 6 6 3 5 := by
  intro w
  go_enter Tryz.func126, Tryz.ntmps126
  go_wp2_with fail
  refine (a89_6 _).mono ?_
  rintro e w1 ⟨rfl, hB1⟩
  obtain ⟨c0, c1, f0, f1, hF⟩ := fin hB1
  clear hB1
  go_wp2
  refine bodyPost_ret (results_tc (p := 3) (r := 2) (ty := 116) rfl _ _ w.heap.size 116 _ (0, 0) _ rfl (hF _ _).1 Tryz.underlying116 rfl (by kernel_rfl)) rfl ⟨rfl, (hF _ _).2⟩

set_option maxRecDepth 100000 in
set_option maxHeartbeats 1000000 in
theorem a65_0 : Ans 121 0 3 0 0 := by
  intro w
  go_enter Tryz.func121, Tryz.ntmps121
  go_wp2_with fail
  refine (a79_any (3) _).mono ?_
  rintro e w1 ⟨rfl, hB1⟩
  obtain ⟨c0, c1, f0, f1, hF⟩ := fin hB1
  clear hB1
  go_wp2
  refine bodyPost_ret (results_tc (p := 3) (r := 2) (ty := 116) rfl _ _ w.heap.size 116 _ (0, 0) _ rfl (hF _ _).1 Tryz.underlying116 rfl (by kernel_rfl)) rfl ⟨rfl, (hF _ _).2⟩

set_option maxRecDepth 100000 in
set_option maxHeartbeats 1000000 in
theorem a65_1 : Ans 121 1 5 0 0 := by
  intro w
  go_enter Tryz.func121, Tryz.ntmps121
  go_wp2_with fail
  refine (a79_any (5) _).mono ?_
  rintro e w1 ⟨rfl, hB1⟩
  obtain ⟨c0, c1, f0, f1, hF⟩ := fin hB1
  clear hB1
  go_wp2
  refine bodyPost_ret (results_tc (p := 3) (r := 2) (ty := 116) rfl _ _ w.heap.size 116 _ (0, 0) _ rfl (hF _ _).1 Tryz.underlying116 rfl (by kernel_rfl)) rfl ⟨rfl, (hF _ _).2⟩

set_option maxRecDepth 100000 in
set_option maxHeartbeats 1000000 in
theorem a65_2 : Ans 121 2 2 4 0 := by
  intro w
  go_enter Tryz.func121, Tryz.ntmps121
  go_wp2_with fail
  refine (a69_2 _).mono ?_
  rintro e w1 ⟨rfl, hB1⟩
  obtain ⟨c0, c1, f0, f1, hF⟩ := fin hB1
  clear hB1
  go_wp2
  refine bodyPost_ret (results_tc (p := 3) (r := 2) (ty := 116) rfl _ _ w.heap.size 116 _ (0, 0) _ rfl (hF _ _).1 Tryz.underlying116 rfl (by kernel_rfl)) rfl ⟨rfl, (hF _ _).2⟩

set_option maxRecDepth 100000 in
set_option maxHeartbeats 1000000 in
theorem a65_3 : Ans 121 3 3 0 0 := by
  intro w
  go_enter Tryz.func121, Tryz.ntmps121
  go_wp2_with fail
  refine (a69_3 _).mono ?_
  rintro e w1 ⟨rfl, hB1⟩
  obtain ⟨c0, c1, f0, f1, hF⟩ := fin hB1
  clear hB1
  go_wp2
  refine bodyPost_ret (results_tc (p := 3) (r := 2) (ty := 116) rfl _ _ w.heap.size 116 _ (0, 0) _ rfl (hF _ _).1 Tryz.underlying116 rfl (by kernel_rfl)) rfl ⟨rfl, (hF _ _).2⟩

set_option maxRecDepth 100000 in
set_option maxHeartbeats 1000000 in
theorem a65_4 : Ans 121 4 4 4 0 := by
  intro w
  go_enter Tryz.func121, Tryz.ntmps121
  go_wp2_with fail
  refine (a69_4 _).mono ?_
  rintro e w1 ⟨rfl, hB1⟩
  obtain ⟨c0, c1, f0, f1, hF⟩ := fin hB1
  clear hB1
  go_wp2
  refine bodyPost_ret (results_tc (p := 3) (r := 2) (ty := 116) rfl _ _ w.heap.size 116 _ (0, 0) _ rfl (hF _ _).1 Tryz.underlying116 rfl (by kernel_rfl)) rfl ⟨rfl, (hF _ _).2⟩

set_option maxRecDepth 100000 in
set_option maxHeartbeats 1000000 in
theorem a65_5 : Ans 121 5 5 0 0 := by
  intro w
  go_enter Tryz.func121, Tryz.ntmps121
  go_wp2_with fail
  refine (a69_5 _).mono ?_
  rintro e w1 ⟨rfl, hB1⟩
  obtain ⟨c0, c1, f0, f1, hF⟩ := fin hB1
  clear hB1
  go_wp2
  refine bodyPost_ret (results_tc (p := 3) (r := 2) (ty := 116) rfl _ _ w.heap.size 116 _ (0, 0) _ rfl (hF _ _).1 Tryz.underlying116 rfl (by kernel_rfl)) rfl ⟨rfl, (hF _ _).2⟩

set_option maxRecDepth 100000 in
set_option maxHeartbeats 1000000 in
theorem a65_6 : Ans 121 6 6 4 0 := by
  intro w
  go_enter Tryz.func121, Tryz.ntmps121
  go_wp2_with fail
  refine (a69_6 _).mono ?_
  rintro e w1 ⟨rfl, hB1⟩
  obtain ⟨c0, c1, f0, f1, hF⟩ := fin hB1
  clear hB1
  go_wp2
  refine bodyPost_ret (results_tc (p := 3) (r := 2) (ty := 116) rfl _ _ w.heap.size 116 _ (0, 0) _ rfl (hF _ _).1 Tryz.underlying116 rfl (by kernel_rfl)) rfl ⟨rfl, (hF _ _).2⟩

set_option maxRecDepth 100000 in
set_option maxHeartbeats 1000000 in
theorem a66_0 : Ans 122 0 3 0 0 := by
  intro w
  go_enter Tryz.func122, Tryz.ntmps122
  go_wp2_with fail
  refine (a79_any (3) _).mono ?_
  rintro e w1 ⟨rfl, hB1⟩
  obtain ⟨c0, c1, f0, f1, hF⟩ := fin hB1
  clear hB1
  go_wp2
  refine bodyPost_ret (results_tc (p := 3) (r := 2) (ty := 116) rfl _ _ w.heap.size 116 _ (0, 0) _ rfl (hF _ _).1 Tryz.underlying116 rfl (by kernel_rfl)) rfl ⟨rfl, (hF _ _).2⟩

set_option maxRecDepth 100000 in
set_option maxHeartbeats 1000000 in
theorem a66_1 : Ans 122 1 1 3 1 := by
  intro w
  go_enter Tryz.func122, Tryz.ntmps122
  go_wp2_with fail
  refine (a70_1 _).mono ?_
  rintro e w1 ⟨rfl, hB1⟩
  obtain ⟨c0, c1, f0, f1, hF⟩ := fin hB1
  clear hB1
  go_wp2
  refine bodyPost_ret (results_tc (p := 3) (r := 2) (ty := 116) rfl _ _ w.heap.size 116 _ (0, 0) _ rfl (hF _ _).1 Tryz.underlying116 rfl (by kernel_rfl)) rfl ⟨rfl, (hF _ _).2⟩

set_option maxRecDepth 100000 in
set_option maxHeartbeats 1000000 in
theorem a66_2 : Ans 122 2 4 0 0 := by
  intro w
  go_enter Tryz.func122, Tryz.ntmps122
  go_wp2_with fail
  refine (a79_any (4) _).mono ?_
  rintro e w1 ⟨rfl, hB1⟩
  obtain ⟨c0, c1, f0, f1, hF⟩ := fin hB1
  clear hB1
  go_wp2
  refine bodyPost_ret (results_tc (p := 3) (r := 2) (ty := 116) rfl _ _ w.heap.size 116 _ (0, 0) _ rfl (hF _ _).1 Tryz.underlying116 rfl (by kernel_rfl)) rfl ⟨rfl, (hF _ _).2⟩

set_option maxRecDepth 100000 in
set_option maxHeartbeats 1000000 in
theorem a66_3 : Ans 122 3 3 0 0 := by
  intro w
  go_enter Tryz.func122, Tryz.ntmps122
  go_wp2_with fail
  refine (a70_3 _).mono ?_
  rintro e w1 ⟨rfl, hB1⟩
  obtain ⟨c0, c1, f0, f1, hF⟩ := fin hB1
  clear hB1
  go_wp2
  refine bodyPost_ret (results_tc (p := 3) (r := 2) (ty := 116) rfl _ _ w.heap.size 116 _ (0, 0) _ rfl (hF _ _).1 Tryz.underlying116 rfl (by kernel_rfl)) rfl ⟨rfl, (hF _ _).2⟩

set_option maxRecDepth 100000 in
set_option maxHeartbeats 1000000 in
theorem a66_4 : Ans 122 4 4 0 0 := by
  intro w
  go_enter Tryz.func122, Tryz.ntmps122
  go_wp2_with fail
  refine (a70_4 _).mono ?_
  rintro e w1 ⟨rfl, hB1⟩
  obtain ⟨c0, c1, f0, f1, hF⟩ := fin hB1
  clear hB1
  go_wp2
  refine bodyPost_ret (results_tc (p := 3) (r := 2) (ty := 116) rfl _ _ w.heap.size 116 _ (0, 0) _ rfl (hF _ _).1 Tryz.underlying116 rfl (by kernel_rfl)) rfl ⟨rfl, (hF _ _).2⟩

set_option maxRecDepth 100000 in
set_option maxHeartbeats 1000000 in
theorem a66_5 : Ans 122 5 5 2 5 := by
  intro w
  go_enter Tryz.func122, Tryz.ntmps122
  go_wp2_with fail
  refine (a70_5 _).mono ?_
  rintro e w1 ⟨rfl, hB1⟩
  obtain ⟨c0, c1, f0, f1, hF⟩ := fin hB1
  clear hB1
  go_wp2
  refine bodyPost_ret (results_tc (p := 3) (r := 2) (ty := 116) rfl _ _ w.heap.size 116 _ (0, 0) _ rfl (hF _ _).1 Tryz.underlying116 rfl (by kernel_rfl)) rfl ⟨rfl, (hF _ _).2⟩

set_option maxRecDepth 100000 in
set_option maxHeartbeats 1000000 in
theorem a66_6 : Ans 122 6 6 3 5 := by
  intro w
  go_enter Tryz.func122, Tryz.ntmps122
  go_wp2_with fail
  refine (a70_6 _).mono ?_
  rintro e w1 ⟨rfl, hB1⟩
  obtain ⟨c0, c1, f0, f1, hF⟩ := fin hB1
  clear hB1
  go_wp2
  refine bodyPost_ret (results_tc (p := 3) (r := 2) (ty := 116) rfl _ _ w.heap.size 116 _ (0, 0) _ rfl (hF _ _).1 Tryz.underlying116 rfl (by kernel_rfl)) rfl ⟨rfl, (hF _ _).2⟩

set_option maxRecDepth 100000 in
set_option maxHeartbeats 1000000 in
theorem a67_0 : Ans 123 0 4 0 0 := by
  intro w
  go_enter Tryz.func123, Tryz.ntmps123
  go_wp2_with fail
  refine (a65_0 _).mono ?_
  rintro e w1 ⟨rfl, hB1⟩
  go_wp2_with fail
  refine (a87_end 3 0 rfl _).mono ?_
  rintro e w2 ⟨rfl, hB2⟩
  replace hB1 := hB1.trans (hB2.mono hB1.size)
  obtain ⟨c0, c1, f0, f1, hF⟩ := fin hB1
  clear hB1
  go_wp2
  refine bodyPost_ret (results_tc (p := 3) (r := 2) (ty := 116) rfl _ _ w.heap.size 116 _ (0, 0) _ rfl (hF _ _).1 Tryz.underlying116 rfl (by kernel_rfl)) rfl ⟨rfl, (hF _ _).2⟩

set_option maxRecDepth 100000 in
set_option maxHeartbeats 1000000 in
theorem a67_1 : Ans 123 1 6 0 0 := by
  intro w
  go_enter Tryz.func123, Tryz.ntmps123
  go_wp2_with fail
  refine (a65_1 _).mono ?_
  rintro e w1 ⟨rfl, hB1⟩
  go_wp2_with fail
  refine (a87_over 0 _).mono ?_
  rintro e w2 ⟨rfl, hB2⟩
  replace hB1 := hB1.trans (hB2.mono hB1.size)
  obtain ⟨c0, c1, f0, f1, hF⟩ := fin hB1
  clear hB1
  go_wp2
  refine bodyPost_ret (results_tc (p := 3) (r := 2) (ty := 116) rfl _ _ w.heap.size 116 _ (0, 0) _ rfl (hF _ _).1 Tryz.underlying116 rfl (by kernel_rfl)) rfl ⟨rfl, (hF _ _).2⟩

set_option maxRecDepth 100000 in
set_option maxHeartbeats 1000000 in
theorem a67_2 : Ans 123 2 2 4 0 := by
  intro w
  go_enter Tryz.func123, Tryz.ntmps123
  go_wp2_with fail
  refine (a65_2 _).mono ?_
  rintro e w1 ⟨rfl, hB1⟩
  go_wp2_with fail
  refine (a87_no 2 4 0 rfl _).mono ?_
  rintro e w2 ⟨rfl, hB2⟩
  replace hB1 := hB1.trans (hB2.mono hB1.size)
  obtain ⟨c0, c1, f0, f1, hF⟩ := fin hB1
  clear hB1
  go_wp2
  refine bodyPost_ret (results_tc (p := 3) (r := 2) (ty := 116) rfl _ _ w.heap.size 116 _ (0, 0) _ rfl (hF _ _).1 Tryz.underlying116 rfl (by kernel_rfl)) rfl ⟨rfl, (hF _ _).2⟩

set_option maxRecDepth 100000 in
set_option maxHeartbeats 1000000 in
theorem a67_3 : Ans 123 3 4 0 0 := by
  intro w
  go_enter Tryz.func123, Tryz.ntmps123
  go_wp2_with fail
  refine (a65_3 _).mono ?_
  rintro e w1 ⟨rfl, hB1⟩
  go_wp2_with fail
  refine (a87_end 3 0 rfl _).mono ?_
  rintro e w2 ⟨rfl, hB2⟩
  replace hB1 := hB1.trans (hB2.mono hB1.size)
  obtain ⟨c0, c1, f0, f1, hF⟩ := fin hB1
  clear hB1
  go_wp2
  refine bodyPost_ret (results_tc (p := 3) (r := 2) (ty := 116) rfl _ _ w.heap.size 116 _ (0, 0) _ rfl (hF _ _).1 Tryz.underlying116 rfl (by kernel_rfl)) rfl ⟨rfl, (hF _ _).2⟩

set_option maxRecDepth 100000 in
set_option maxHeartbeats 1000000 in
theorem a67_4 : Ans 123 4 4 4 0 := by
  intro w
  go_enter Tryz.func123, Tryz.ntmps123
  go_wp2_with fail
  refine (a65_4 _).mono ?_
  rintro e w1 ⟨rfl, hB1⟩
  go_wp2_with fail
  refine (a87_no 4 4 0 rfl _).mono ?_
  rintro e w2 ⟨rfl, hB2⟩
  replace hB1 := hB1.trans (hB2.mono hB1.size)
  obtain ⟨c0, c1, f0, f1, hF⟩ := fin hB1
  clear hB1
  go_wp2
  refine bodyPost_ret (results_tc (p := 3) (r := 2) (ty := 116) rfl _ _ w.heap.size 116 _ (0, 0) _ rfl (hF _ _).1 Tryz.underlying116 rfl (by kernel_rfl)) rfl ⟨rfl, (hF _ _).2⟩

set_option maxRecDepth 100000 in
set_option maxHeartbeats 1000000 in
theorem a67_5 : Ans 123 5 6 0 0 := by
  intro w
  go_enter Tryz.func123, Tryz.ntmps123
  go_wp2_with fail
  refine (a65_5 _).mono ?_
  rintro e w1 ⟨rfl, hB1⟩
  go_wp2_with fail
  refine (a87_over 0 _).mono ?_
  rintro e w2 ⟨rfl, hB2⟩
  replace hB1 := hB1.trans (hB2.mono hB1.size)
  obtain ⟨c0, c1, f0, f1, hF⟩ := fin hB1
  clear hB1
  go_wp2
  refine bodyPost_ret (results_tc (p := 3) (r := 2) (ty := 116) rfl _ _ w.heap.size 116 _ (0, 0) _ rfl (hF _ _).1 Tryz.underlying116 rfl (by kernel_rfl)) rfl ⟨rfl, (hF _ _).2⟩

set_option maxRecDepth 100000 in
set_option maxHeartbeats 1000000 in
theorem a67_6 : Ans 123 6 6 4 0 := by
  intro w
  go_enter Tryz.func123, Tryz.ntmps123
  go_wp2_with fail
  refine (a65_6 _).mono ?_
  rintro e w1 ⟨rfl, hB1⟩
  go_wp2_with fail
  refine (a87_no 6 4 0 rfl _).mono ?_
  rintro e w2 ⟨rfl, hB2⟩
  replace hB1 := hB1.trans (hB2.mono hB1.size)
  obtain ⟨c0, c1, f0, f1, hF⟩ := fin hB1
  clear hB1
  go_wp2
  refine bodyPost_ret (results_tc (p := 3) (r := 2) (ty := 116) rfl _ _ w.heap.size 116 _ (0, 0) _ rfl (hF _ _).1 Tryz.underlying116 rfl (by kernel_rfl)) rfl ⟨rfl, (hF _ _).2⟩

set_option maxRecDepth 100000 in
set_option maxHeartbeats 1000000 in
theorem a68_0 : Ans 124 0 5 0 0 := by
  intro w
  go_enter Tryz.func124, Tryz.ntmps124
  go_wp2_with fail
  refine (a66_0 _).mono ?_
  rintro e w1 ⟨rfl, hB1⟩
  go_wp2_with fail
  refine (a88_end 3 0 rfl _).mono ?_
  rintro e w2 ⟨rfl, hB2⟩
  replace hB1 := hB1.trans (hB2.mono hB1.size)
  obtain ⟨c0, c1, f0, f1, hF⟩ := fin hB1
  clear hB1
  go_wp2
  refine bodyPost_ret (results_tc (p := 3) (r := 2) (ty := 116) rfl _ _ w.heap.size 116 _ (0, 0) _ rfl (hF _ _).1 Tryz.underlying116 rfl (by kernel_rfl)) rfl ⟨rfl, (hF _ _).2⟩

set_option maxRecDepth 100000 in
set_option maxHeartbeats 1000000 in
theorem a68_1 : Ans 124 1 1 3 1 := by
  intro w
  go_enter Tryz.func124, Tryz.ntmps124
  go_wp2_with fail
  refine (a66_1 _).mono ?_
  rintro e w1 ⟨rfl, hB1⟩
  go_wp2_with fail
  refine (a88_no 1 3 1 rfl _).mono ?_
  rintro e w2 ⟨rfl, hB2⟩
  replace hB1 := hB1.trans (hB2.mono hB1.size)
  obtain ⟨c0, c1, f0, f1, hF⟩ := fin hB1
  clear hB1
  go_wp2
  refine bodyPost_ret (results_tc (p := 3) (r := 2) (ty := 116) rfl _ _ w.heap.size 116 _ (0, 0) _ rfl (hF _ _).1 Tryz.underlying116 rfl (by kernel_rfl)) rfl ⟨rfl, (hF _ _).2⟩

set_option maxRecDepth 100000 in
set_option maxHeartbeats 1000000 in
theorem a68_2 : Ans 124 2 6 0 0 := by
  intro w
  go_enter Tryz.func124, Tryz.ntmps124
  go_wp2_with fail
  refine (a66_2 _).mono ?_
  rintro e w1 ⟨rfl, hB1⟩
  go_wp2_with fail
  refine (a88_over 0 _).mono ?_
  rintro e w2 ⟨rfl, hB2⟩
  replace hB1 := hB1.trans (hB2.mono hB1.size)
  obtain ⟨c0, c1, f0, f1, hF⟩ := fin hB1
  clear hB1
  go_wp2
  refine bodyPost_ret (results_tc (p := 3) (r := 2) (ty := 116) rfl _ _ w.heap.size 116 _ (0, 0) _ rfl (hF _ _).1 Tryz.underlying116 rfl (by kernel_rfl)) rfl ⟨rfl, (hF _ _).2⟩

set_option maxRecDepth 100000 in
set_option maxHeartbeats 1000000 in
theorem a68_3 : Ans 124 3 5 0 0 := by
  intro w
  go_enter Tryz.func124, Tryz.ntmps124
  go_wp2_with fail
  refine (a66_3 _).mono ?_
  rintro e w1 ⟨rfl, hB1⟩
  go_wp2_with fail
  refine (a88_end 3 0 rfl _).mono ?_
  rintro e w2 ⟨rfl, hB2⟩
  replace hB1 := hB1.trans (hB2.mono hB1.size)
  obtain ⟨c0, c1, f0, f1, hF⟩ := fin hB1
  clear hB1
  go_wp2
  refine bodyPost_ret (results_tc (p := 3) (r := 2) (ty := 116) rfl _ _ w.heap.size 116 _ (0, 0) _ rfl (hF _ _).1 Tryz.underlying116 rfl (by kernel_rfl)) rfl ⟨rfl, (hF _ _).2⟩

set_option maxRecDepth 100000 in
set_option maxHeartbeats 1000000 in
theorem a68_4 : Ans 124 4 6 0 0 := by
  intro w
  go_enter Tryz.func124, Tryz.ntmps124
  go_wp2_with fail
  refine (a66_4 _).mono ?_
  rintro e w1 ⟨rfl, hB1⟩
  go_wp2_with fail
  refine (a88_over 0 _).mono ?_
  rintro e w2 ⟨rfl, hB2⟩
  replace hB1 := hB1.trans (hB2.mono hB1.size)
  obtain ⟨c0, c1, f0, f1, hF⟩ := fin hB1
  clear hB1
  go_wp2
  refine bodyPost_ret (results_tc (p := 3) (r := 2) (ty := 116) rfl _ _ w.heap.size 116 _ (0, 0) _ rfl (hF _ _).1 Tryz.underlying116 rfl (by kernel_rfl)) rfl ⟨rfl, (hF _ _).2⟩

set_option maxRecDepth 100000 in
set_option maxHeartbeats 1000000 in
theorem a68_5 : Ans 124 5 5 2 5 := by
  intro w
  go_enter Tryz.func124, Tryz.ntmps124
  go_wp2_with fail
  refine (a66_5 _).mono ?_
  rintro e w1 ⟨rfl, hB1⟩
  go_wp2_with fail
  refine (a88_no 5 2 5 rfl _).mono ?_
  rintro e w2 ⟨rfl, hB2⟩
  replace hB1 := hB1.trans (hB2.mono hB1.size)
  obtain ⟨c0, c1, f0, f1, hF⟩ := fin hB1
  clear hB1
  go_wp2
  refine bodyPost_ret (results_tc (p := 3) (r := 2) (ty := 116) rfl _ _ w.heap.size 116 _ (0, 0) _ rfl (hF _ _).1 Tryz.underlying116 rfl (by kernel_rfl)) rfl ⟨rfl, (hF _ _).2⟩

set_option maxRecDepth 100000 in
set_option maxHeartbeats 1000000 in
theorem a68_6 : Ans 124 6 6 3 5 := by
  intro w
  go_enter Tryz.func124, Tryz.ntmps124
  go_wp2_with fail
  refine (a66_6 _).mono ?_
  rintro e w1 ⟨rfl, hB1⟩
  go_wp2_with fail
  refine (a88_no 6 3 5 rfl _).mono ?_
  rintro e w2 ⟨rfl, hB2⟩
  replace hB1 := hB1.trans (hB2.mono hB1.size)
  obtain ⟨c0, c1, f0, f1, hF⟩ := fin hB1
  clear hB1
  go_wp2
  refine bodyPost_ret (results_tc (p := 3) (r := 2) (ty := 116) rfl _ _ w.heap.size 116 _ (0, 0) _ rfl (hF _ _).1 Tryz.underlying116 rfl (by kernel_rfl)) rfl ⟨rfl, (hF _ _).2⟩

set_option maxRecDepth 100000 in
set_option maxHeartbeats 1000000 in
theorem a71_0 : Ans 127 0 0 4 0 := by
  intro w
  go_enter Tryz.func127, Tryz.ntmps127
  go_wp2_with fail
  refine (a69_0 _).mono ?_
  rintro e w1 ⟨rfl, hB1⟩
  go_wp2_with fail
  refine (a87_no 0 4 0 rfl _).mono ?_
  rintro e w2 ⟨rfl, hB2⟩
  replace hB1 := hB1.trans (hB2.mono hB1.size)
  obtain ⟨c0, c1, f0, f1, hF⟩ := fin hB1
  clear hB1
  go_wp2
  refine bodyPost_ret (results_tc (p := 3) (r := 2) (ty := 116) rfl _ _ w.heap.size 116 _ (0, 0) _ rfl (hF _ _).1 Tryz.underlying116 rfl (by kernel_rfl)) rfl ⟨rfl, (hF _ _).2⟩

set_option maxRecDepth 100000 in
set_option maxHeartbeats 1000000 in
theorem a71_1 : Ans 127 1 1 4 0 := by
  intro w
  go_enter Tryz.func127, Tryz.ntmps127
  go_wp2_with fail
  refine (a69_1 _).mono ?_
  rintro e w1 ⟨rfl, hB1⟩
  go_wp2_with fail
  refine (a87_no 1 4 0 rfl _).mono ?_
  rintro e w2 ⟨rfl, hB2⟩
  replace hB1 := hB1.trans (hB2.mono hB1.size)
  obtain ⟨c0, c1, f0, f1, hF⟩ := fin hB1
  clear hB1
  go_wp2
  refine bodyPost_ret (results_tc (p := 3) (r := 2) (ty := 116) rfl _ _ w.heap.size 116 _ (0, 0) _ rfl (hF _ _).1 Tryz.underlying116 rfl (by kernel_rfl)) rfl ⟨rfl, (hF _ _).2⟩

set_option maxRecDepth 100000 in
set_option maxHeartbeats 1000000 in
theorem a71_2 : Ans 127 2 2 4 0 := by
  intro w
  go_enter Tryz.func127, Tryz.ntmps127
  go_wp2_with fail
  refine (a69_2 _).mono ?_
  rintro e w1 ⟨rfl, hB1⟩
  go_wp2_with fail
  refine (a87_no 2 4 0 rfl _).mono ?_
  rintro e w2 ⟨rfl, hB2⟩
  replace hB1 := hB1.trans (hB2.mono hB1.size)
  obtain ⟨c0, c1, f0, f1, hF⟩ := fin hB1
  clear hB1
  go_wp2
  refine bodyPost_ret (results_tc (p := 3) (r := 2) (ty := 116) rfl _ _ w.heap.size 116 _ (0, 0) _ rfl (hF _ _).1 Tryz.underlying116 rfl (by kernel_rfl)) rfl ⟨rfl, (hF _ _).2⟩

set_option maxRecDepth 100000 in
set_option maxHeartbeats 1000000 in
theorem a71_3 : Ans 127 3 4 0 0 := by
  intro w
  go_enter Tryz.func127, Tryz.ntmps127
  go_wp2_with fail
  refine (a69_3 _).mono ?_
  rintro e w1 ⟨rfl, hB1⟩
  go_wp2_with fail
  refine (a87_end 3 0 rfl _).mono ?_
  rintro e w2 ⟨rfl, hB2⟩
  replace hB1 := hB1.trans (hB2.mono hB1.size)
  obtain ⟨c0, c1, f0, f1, hF⟩ := fin hB1
  clear hB1
  go_wp2
  refine bodyPost_ret (results_tc (p := 3) (r := 2) (ty := 116) rfl _ _ w.heap.size 116 _ (0, 0) _ rfl (hF _ _).1 Tryz.underlying116 rfl (by kernel_rfl)) rfl ⟨rfl, (hF _ _).2⟩

set_option maxRecDepth 100000 in
set_option maxHeartbeats 1000000 in
theorem a71_4 : Ans 127 4 4 4 0 := by
  intro w
  go_enter Tryz.func127, Tryz.ntmps127
  go_wp2_with fail
  refine (a69_4 _).mono ?_
  rintro e w1 ⟨rfl, hB1⟩
  go_wp2_with fail
  refine (a87_no 4 4 0 rfl _).mono ?_
  rintro e w2 ⟨rfl, hB2⟩
  replace hB1 := hB1.trans (hB2.mono hB1.size)
  obtain ⟨c0, c1, f0, f1, hF⟩ := fin hB1
  clear hB1
  go_wp2
  refine bodyPost_ret (results_tc (p := 3) (r := 2) (ty := 116) rfl _ _ w.heap.size 116 _ (0, 0) _ rfl (hF _ _).1 Tryz.underlying116 rfl (by kernel_rfl)) rfl ⟨rfl, (hF _ _).2⟩

set_option maxRecDepth 100000 in
set_option maxHeartbeats 1000000 in
theorem a71_5 : Ans 127 5 6 0 0 := by
  intro w
  go_enter Tryz.func127, Tryz.ntmps127
  go_wp2_with fail
  refine (a69_5 _).mono ?_
  rintro e w1 ⟨rfl, hB1⟩
  go_wp2_with fail
  refine (a87_over 0 _).mono ?_
  rintro e w2 ⟨rfl, hB2⟩
  replace hB1 := hB1.trans (hB2.mono hB1.size)
  obtain ⟨c0, c1, f0, f1, hF⟩ := fin hB1
  clear hB1
  go_wp2
  refine bodyPost_ret (results_tc (p := 3) (r := 2) (ty := 116) rfl _ _ w.heap.size 116 _ (0, 0) _ rfl (hF _ _).1 Tryz.underlying116 rfl (by kernel_rfl)) rfl ⟨rfl, (hF _ _).2⟩

set_option maxRecDepth 100000 in
set_option maxHeartbeats 1000000 in
theorem a71_6 : Ans 127 6 6 4 0 := by
  intro w
  go_enter Tryz.func127, Tryz.ntmps127
  go_wp2_with fail
  refine (a69_6 _).mono ?_
  rintro e w1 ⟨rfl, hB1⟩
  go_wp2_with fail
  refine (a87_no 6 4 0 rfl _).mono ?_
  rintro e w2 ⟨rfl, hB2⟩
  replace hB1 := hB1.trans (hB2.mono hB1.size)
  obtain ⟨c0, c1, f0, f1, hF⟩ := fin hB1
  clear hB1
  go_wp2
  refine bodyPost_ret (results_tc (p := 3) (r := 2) (ty := 116) rfl _ _ w.heap.size 116 _ (0, 0) _ rfl (hF _ _).1 Tryz.underlying116 rfl (by kernel_rfl)) rfl ⟨rfl, (hF _ _).2⟩

set_option maxRecDepth 100000 in
set_option maxHeartbeats 1000000 in
theorem a72_0 : Ans 128 0 0 3 1 := by
  intro w
  go_enter Tryz.func128, Tryz.ntmps128
  go_wp2_with fail
  refine (a70_0 _).mono ?_
  rintro e w1 ⟨rfl, hB1⟩
  go_wp2_with fail
  refine (a88_no 0 3 1 rfl _).mono ?_
  rintro e w2 ⟨rfl, hB2⟩
  replace hB1 := hB1.trans (hB2.mono hB1.size)
  obtain ⟨c0, c1, f0, f1, hF⟩ := fin hB1
  clear hB1
  go_wp2
  refine bodyPost_ret (results_tc (p := 3) (r := 2) (ty := 116) rfl _ _ w.heap.size 116 _ (0, 0) _ rfl (hF _ _).1 Tryz.underlying116 rfl (by kernel_rfl)) rfl ⟨rfl, (hF _ _).2⟩

set_option maxRecDepth 100000 in
set_option maxHeartbeats 1000000 in
theorem a72_1 : Ans 128 1 1 3 1 := by
  intro w
  go_enter Tryz.func128, Tryz.ntmps128
  go_wp2_with fail
  refine (a70_1 _).mono ?_
  rintro e w1 ⟨rfl, hB1⟩
  go_wp2_with fail
  refine (a88_no 1 3 1 rfl _).mono ?_
  rintro e w2 ⟨rfl, hB2⟩
  replace hB1 := hB1.trans (hB2.mono hB1.size)
  obtain ⟨c0, c1, f0, f1, hF⟩ := fin hB1
  clear hB1
  go_wp2
  refine bodyPost_ret (results_tc (p := 3) (r := 2) (ty := 116) rfl _ _ w.heap.size 116 _ (0, 0) _ rfl (hF _ _).1 Tryz.underlying116 rfl (by kernel_rfl)) rfl ⟨rfl, (hF _ _).2⟩

set_option maxRecDepth 100000 in
set_option maxHeartbeats 1000000 in
theorem a72_2 : Ans 128 2 2 3 1 := by
  intro w
  go_enter Tryz.func128, Tryz.ntmps128
  go_wp2_with fail
  refine (a70_2 _).mono ?_
  rintro e w1 ⟨rfl, hB1⟩
  go_wp2_with fail
  refine (a88_no 2 3 1 rfl _).mono ?_
  rintro e w2 ⟨rfl, hB2⟩
  replace hB1 := hB1.trans (hB2.mono hB1.size)
  obtain ⟨c0, c1, f0, f1, hF⟩ := fin hB1
  clear hB1
  go_wp2
  refine bodyPost_ret (results_tc (p := 3) (r := 2) (ty := 116) rfl _ _ w.heap.size 116 _ (0, 0) _ rfl (hF _ _).1 Tryz.underlying116 rfl (by kernel_rfl)) rfl ⟨rfl, (hF _ _).2⟩

set_option maxRecDepth 100000 in
set_option maxHeartbeats 1000000 in
theorem a72_3 : Ans 128 3 5 0 0 := by
  intro w
  go_enter Tryz.func128, Tryz.ntmps128
  go_wp2_with fail
  refine (a70_3 _).mono ?_
  rintro e w1 ⟨rfl, hB1⟩
  go_wp2_with fail
  refine (a88_end 3 0 rfl _).mono ?_
  rintro e w2 ⟨rfl, hB2⟩
  replace hB1 := hB1.trans (hB2.mono hB1.size)
  obtain ⟨c0, c1, f0, f1, hF⟩ := fin hB1
  clear hB1
  go_wp2
  refine bodyPost_ret (results_tc (p := 3) (r := 2) (ty := 116) rfl _ _ w.heap.size 116 _ (0, 0) _ rfl (hF _ _).1 Tryz.underlying116 rfl (by kernel_rfl)) rfl ⟨rfl, (hF _ _).2⟩

set_option maxRecDepth 100000 in
set_option maxHeartbeats 1000000 in
theorem a72_4 : Ans 128 4 6 0 0 := by
  intro w
  go_enter Tryz.func128, Tryz.ntmps128
  go_wp2_with fail
  refine (a70_4 _).mono ?_
  rintro e w1 ⟨rfl, hB1⟩
  go_wp2_with fail
  refine (a88_over 0 _).mono ?_
  rintro e w2 ⟨rfl, hB2⟩
  replace hB1 := hB1.trans (hB2.mono hB1.size)
  obtain ⟨c0, c1, f0, f1, hF⟩ := fin hB1
  clear hB1
  go_wp2
  refine bodyPost_ret (results_tc (p := 3) (r := 2) (ty := 116) rfl _ _ w.heap.size 116 _ (0, 0) _ rfl (hF _ _).1 Tryz.underlying116 rfl (by kernel_rfl)) rfl ⟨rfl, (hF _ _).2⟩

set_option maxRecDepth 100000 in
set_option maxHeartbeats 1000000 in
theorem a72_5 : Ans 128 5 5 2 5 := by
  intro w
  go_enter Tryz.func128, Tryz.ntmps128
  go_wp2_with fail
  refine (a70_5 _).mono ?_
  rintro e w1 ⟨rfl, hB1⟩
  go_wp2_with fail
  refine (a88_no 5 2 5 rfl _).mono ?_
  rintro e w2 ⟨rfl, hB2⟩
  replace hB1 := hB1.trans (hB2.mono hB1.size)
  obtain ⟨c0, c1, f0, f1, hF⟩ := fin hB1
  clear hB1
  go_wp2
  refine bodyPost_ret (results_tc (p := 3) (r := 2) (ty := 116) rfl _ _ w.heap.size 116 _ (0, 0) _ rfl (hF _ _).1 Tryz.underlying116 rfl (by kernel_rfl)) rfl ⟨rfl, (hF _ _).2⟩

set_option maxRecDepth 100000 in
set_option maxHeartbeats 1000000 in
theorem a72_6 : Ans 128 6 6 3 5 := by
  intro w
  go_enter Tryz.func128, Tryz.ntmps128
  go_wp2_with fail
  refine (a70_6 _).mono ?_
  rintro e w1 ⟨rfl, hB1⟩
  go_wp2_with fail
  refine (a88_no 6 3 5 rfl _).mono ?_
  rintro e w2 ⟨rfl, hB2⟩
  replace hB1 := hB1.trans (hB2.mono hB1.size)
  obtain ⟨c0, c1, f0, f1, hF⟩ := fin hB1
  clear hB1
  go_wp2
  refine bodyPost_ret (results_tc (p := 3) (r := 2) (ty := 116) rfl _ _ w.heap.size 116 _ (0, 0) _ rfl (hF _ _).1 Tryz.underlying116 rfl (by kernel_rfl)) rfl ⟨rfl, (hF _ _).2⟩

set_option maxRecDepth 100000 in
set_option maxHeartbeats 1000000 in
theorem a73_0 : Ans 129 0 1 0 0 := by
  intro w
  go_enter Tryz.func129, Tryz.ntmps129
  go_wp2_with fail
  refine (a79_any (1) _).mono ?_
  rintro e w1 ⟨rfl, hB1⟩
  obtain ⟨c0, c1, f0, f1, hF⟩ := fin hB1
  clear hB1
  go_wp2
  refine bodyPost_ret (results_tc (p := 3) (r := 2) (ty := 116) rfl _ _ w.heap.size 116 _ (0, 0) _ rfl (hF _ _).1 Tryz.underlying116 rfl (by kernel_rfl)) rfl ⟨rfl, (hF _ _).2⟩

set_option maxRecDepth 100000 in
set_option maxHeartbeats 1000000 in
theorem a73_1 : Ans 129 1 1 4 0 := by
  intro w
  go_enter Tryz.func129, Tryz.ntmps129
  go_wp2_with fail
  refine (a51_any (1) _).mono ?_
  rintro e w1 ⟨rfl, hB1⟩
  obtain ⟨c0, c1, f0, f1, hF⟩ := fin hB1
  clear hB1
  go_wp2
  refine bodyPost_ret (results_tc (p := 3) (r := 2) (ty := 116) rfl _ _ w.heap.size 116 _ (0, 0) _ rfl (hF _ _).1 Tryz.underlying116 rfl (by kernel_rfl)) rfl ⟨rfl, (hF _ _).2⟩

set_option maxRecDepth 100000 in
set_option maxHeartbeats 1000000 in
theorem a73_2 : Ans 129 2 2 4 0 := by
  intro w
  go_enter Tryz.func129, Tryz.ntmps129
  go_wp2_with fail
  refine (a51_any (2) _).mono ?_
  rintro e w1 ⟨rfl, hB1⟩
  obtain ⟨c0, c1, f0, f1, hF⟩ := fin hB1
  clear hB1
  go_wp2
  refine bodyPost_ret (results_tc (p := 3) (r := 2) (ty := 116) rfl _ _ w.heap.size 116 _ (0, 0) _ rfl (hF _ _).1 Tryz.underlying116 rfl (by kernel_rfl)) rfl ⟨rfl, (hF _ _).2⟩

set_option maxRecDepth 100000 in
set_option maxHeartbeats 1000000 in
theorem a73_3 : Ans 129 3 3 4 0 := by
  intro w
  go_enter Tryz.func129, Tryz.ntmps129
  go_wp2_with fail
  refine (a51_any (3) _).mono ?_
  rintro e w1 ⟨rfl, hB1⟩
  obtain ⟨c0, c1, f0, f1, hF⟩ := fin hB1
  clear hB1
  go_wp2
  refine bodyPost_ret (results_tc (p := 3) (r := 2) (ty := 116) rfl _ _ w.heap.size 116 _ (0, 0) _ rfl (hF _ _).1 Tryz.underlying116 rfl (by kernel_rfl)) rfl ⟨rfl, (hF _ _).2⟩

set_option maxRecDepth 100000 in
set_option maxHeartbeats 1000000 in
theorem a73_4 : Ans 129 4 4 4 0 := by
  intro w
  go_enter Tryz.func129, Tryz.ntmps129
  go_wp2_with fail
  refine (a51_any (4) _).mono ?_
  rintro e w1 ⟨rfl, hB1⟩
  obtain ⟨c0, c1, f0, f1, hF⟩ := fin hB1
  clear hB1
  go_wp2
  refine bodyPost_ret (results_tc (p := 3) (r := 2) (ty := 116) rfl _ _ w.heap.size 116 _ (0, 0) _ rfl (hF _ _).1 Tryz.underlying116 rfl (by kernel_rfl)) rfl ⟨rfl, (hF _ _).2⟩

set_option maxRecDepth 100000 in
set_option maxHeartbeats 1000000 in
theorem a73_5 : Ans 129 5 5 4 0 := by
  intro w
  go_enter Tryz.func129, Tryz.ntmps129
  go_wp2_with fail
  refine (a51_any (5) _).mono ?_
  rintro e w1 ⟨rfl, hB1⟩
  obtain ⟨c0, c1, f0, f1, hF⟩ := fin hB1
  clear hB1
  go_wp2
  refine bodyPost_ret (results_tc (p := 3) (r := 2) (ty := 116) rfl _ _ w.heap.size 116 _ (0, 0) _ rfl (hF _ _).1 Tryz.underlying116 rfl (by kernel_rfl)) rfl ⟨rfl, (hF _ _).2⟩

set_option maxRecDepth 100000 in
set_option maxHeartbeats 1000000 in
theorem a73_6 : Ans 129 6 6 4 0 := by
  intro w
  go_enter Tryz.func129, Tryz.ntmps129
  go_wp2_with fail
  refine (a51_any (6) _).mono ?_
  rintro e w1 ⟨rfl, hB1⟩
  obtain ⟨c0, c1, f0, f1, hF⟩ := fin hB1
  clear hB1
  go_wp2
  refine bodyPost_ret (results_tc (p := 3) (r := 2) (ty := 116) rfl _ _ w.heap.size 116 _ (0, 0) _ rfl (hF _ _).1 Tryz.underlying116 rfl (by kernel_rfl)) rfl ⟨rfl, (hF _ _).2⟩

set_option maxRecDepth 100000 in
set_option maxHeartbeats 1000000 in
theorem a74_0 : Ans 130 0 2 0 0 := by
  intro w
  go_enter Tryz.func130, Tryz.ntmps130
  go_wp2_with fail
  refine (a79_any (2) _).mono ?_
  rintro e w1 ⟨rfl, hB1⟩
  obtain ⟨c0, c1, f0, f1, hF⟩ := fin hB1
  clear hB1
  go_wp2
  refine bodyPost_ret (results_tc (p := 3) (r := 2) (ty := 116) rfl _ _ w.heap.size 116 _ (0, 0) _ rfl (hF _ _).1 Tryz.underlying116 rfl (by kernel_rfl)) rfl ⟨rfl, (hF _ _).2⟩

set_option maxRecDepth 100000 in
set_option maxHeartbeats 1000000 in
theorem a74_1 : Ans 130 1 1 3 1 := by
  intro w
  go_enter Tryz.func130, Tryz.ntmps130
  go_wp2_with fail
  refine (a90_any (1) _).mono ?_
  rintro e w1 ⟨rfl, hB1⟩
  obtain ⟨c0, c1, f0, f1, hF⟩ := fin hB1
  clear hB1
  go_wp2
  refine bodyPost_ret (results_tc (p := 3) (r := 2) (ty := 116) rfl _ _ w.heap.size 116 _ (0, 0) _ rfl (hF _ _).1 Tryz.underlying116 rfl (by kernel_rfl)) rfl ⟨rfl, (hF _ _).2⟩

set_option maxRecDepth 100000 in
set_option maxHeartbeats 1000000 in
theorem a74_2 : Ans 130 2 2 3 1 := by
  intro w
  go_enter Tryz.func130, Tryz.ntmps130
  go_wp2_with fail
  refine (a90_any (2) _).mono ?_
  rintro e w1 ⟨rfl, hB1⟩
  obtain ⟨c0, c1, f0, f1, hF⟩ := fin hB1
  clear hB1
  go_wp2
  refine bodyPost_ret (results_tc (p := 3) (r := 2) (ty := 116) rfl _ _ w.heap.size 116 _ (0, 0) _ rfl (hF _ _).1 Tryz.underlying116 rfl (by kernel_rfl)) rfl ⟨rfl, (hF _ _).2⟩

set_option maxRecDepth 100000 in
set_option maxHeartbeats 1000000 in
theorem a74_3 : Ans 130 3 3 3 1 := by
  intro w
  go_enter Tryz.func130, Tryz.ntmps130
  go_wp2_with fail
  refine (a90_any (3) _).mono ?_
  rintro e w1 ⟨rfl, hB1⟩
  obtain ⟨c0, c1, f0, f1, hF⟩ := fin hB1
  clear hB1
  go_wp2
  refine bodyPost_ret (results_tc (p := 3) (r := 2) (ty := 116) rfl _ _ w.heap.size 116 _ (0, 0) _ rfl (hF _ _).1 Tryz.underlying116 rfl (by kernel_rfl)) rfl ⟨rfl, (hF _ _).2⟩

set_option maxRecDepth 100000 in
set_option maxHeartbeats 1000000 in
theorem a74_4 : Ans 130 4 4 3 1 := by
  intro w
  go_enter Tryz.func130, Tryz.ntmps130
  go_wp2_with fail
  refine (a90_any (4) _).mono ?_
  rintro e w1 ⟨rfl, hB1⟩
  obtain ⟨c0, c1, f0, f1, hF⟩ := fin hB1
  clear hB1
  go_wp2
  refine bodyPost_ret (results_tc (p := 3) (r := 2) (ty := 116) rfl _ _ w.heap.size 116 _ (0, 0) _ rfl (hF _ _).1 Tryz.underlying116 rfl (by kernel_rfl)) rfl ⟨rfl, (hF _ _).2⟩

set_option maxRecDepth 100000 in
set_option maxHeartbeats 1000000 in
theorem a74_5 : Ans 130 5 5 3 1 := by
  intro w
  go_enter Tryz.func130, Tryz.ntmps130
  go_wp2_with fail
  refine (a90_any (5) _).mono ?_
  rintro e w1 ⟨rfl, hB1⟩
  obtain ⟨c0, c1, f0, f1, hF⟩ := fin hB1
  clear hB1
  go_wp2
  refine bodyPost_ret (results_tc (p := 3) (r := 2) (ty := 116) rfl _ _ w.heap.size 116 _ (0, 0) _ rfl (hF _ _).1 Tryz.underlying116 rfl (by kernel_rfl)) rfl ⟨rfl, (hF _ _).2⟩

set_option maxRecDepth 100000 in
set_option maxHeartbeats 1000000 in
theorem a74_6 : Ans 130 6 6 3 1 := by
  intro w
  go_enter Tryz.func130, Tryz.ntmps130
  go_wp2_with fail
  refine (a90_any (6) _).mono ?_
  rintro e w1 ⟨rfl, hB1⟩
  obtain ⟨c0, c1, f0, f1, hF⟩ := fin hB1
  clear hB1
  go_wp2
  refine bodyPost_ret (results_tc (p := 3) (r := 2) (ty := 116) rfl _ _ w.heap.size 116 _ (0, 0) _ rfl (hF _ _).1 Tryz.underlying116 rfl (by kernel_rfl)) rfl ⟨rfl, (hF _ _).2⟩

set_option maxRecDepth 100000 in
set_option maxHeartbeats 1000000 in
theorem a75_0 : Ans 131 0 0 4 0 := by
  intro w
  go_enter Tryz.func131, Tryz.ntmps131
  go_wp2_with fail
  refine (a51_any (0) _).mono ?_
  rintro e w1 ⟨rfl, hB1⟩
  obtain ⟨c0, c1, f0, f1, hF⟩ := fin hB1
  clear hB1
  go_wp2
  refine bodyPost_ret (results_tc (p := 3) (r := 2) (ty := 116) rfl _ _ w.heap.size 116 _ (0, 0) _ rfl (hF _ _).1 Tryz.underlying116 rfl (by kernel_rfl)) rfl ⟨rfl, (hF _ _).2⟩

set_option maxRecDepth 100000 in
set_option maxHeartbeats 1000000 in
theorem a75_1 : Ans 131 1 6 0 0 := by
  intro w
  go_enter Tryz.func131, Tryz.ntmps131
  go_wp2_with fail
  refine (a79_any (6) _).mono ?_
  rintro e w1 ⟨rfl, hB1⟩
  obtain ⟨c0, c1, f0, f1, hF⟩ := fin hB1
  clear hB1
  go_wp2
  refine bodyPost_ret (results_tc (p := 3) (r := 2) (ty := 116) rfl _ _ w.heap.size 116 _ (0, 0) _ rfl (hF _ _).1 Tryz.underlying116 rfl (by kernel_rfl)) rfl ⟨rfl, (hF _ _).2⟩

set_option maxRecDepth 100000 in
set_option maxHeartbeats 1000000 in
theorem a75_2 : Ans 131 2 6 0 0 := by
  intro w
  go_enter Tryz.func131, Tryz.ntmps131
  go_wp2_with fail
  refine (a79_any (6) _).mono ?_
  rintro e w1 ⟨rfl, hB1⟩
  obtain ⟨c0, c1, f0, f1, hF⟩ := fin hB1
  clear hB1
  go_wp2
  refine bodyPost_ret (results_tc (p := 3) (r := 2) (ty := 116) rfl _ _ w.heap.size 116 _ (0, 0) _ rfl (hF _ _).1 Tryz.underlying116 rfl (by kernel_rfl)) rfl ⟨rfl, (hF _ _).2⟩

set_option maxRecDepth 100000 in
set_option maxHeartbeats 1000000 in
theorem a75_3 : Ans 131 3 6 0 0 := by
  intro w
  go_enter Tryz.func131, Tryz.ntmps131
  go_wp2_with fail
  refine (a79_any (6) _).mono ?_
  rintro e w1 ⟨rfl, hB1⟩
  obtain ⟨c0, c1, f0, f1, hF⟩ := fin hB1
  clear hB1
  go_wp2
  refine bodyPost_ret (results_tc (p := 3) (r := 2) (ty := 116) rfl _ _ w.heap.size 116 _ (0, 0) _ rfl (hF _ _).1 Tryz.underlying116 rfl (by kernel_rfl)) rfl ⟨rfl, (hF _ _).2⟩

set_option maxRecDepth 100000 in
set_option maxHeartbeats 1000000 in
theorem a75_4 : Ans 131 4 6 0 0 := by
  intro w
  go_enter Tryz.func131, Tryz.ntmps131
  go_wp2_with fail
  refine (a79_any (6) _).mono ?_
  rintro e w1 ⟨rfl, hB1⟩
  obtain ⟨c0, c1, f0, f1, hF⟩ := fin hB1
  clear hB1
  go_wp2
  refine bodyPost_ret (results_tc (p := 3) (r := 2) (ty := 116) rfl _ _ w.heap.size 116 _ (0, 0) _ rfl (hF _ _).1 Tryz.underlying116 rfl (by kernel_rfl)) rfl ⟨rfl, (hF _ _).2⟩

set_option maxRecDepth 100000 in
set_option maxHeartbeats 1000000 in
theorem a75_5 : Ans 131 5 6 0 0 := by
  intro w
  go_enter Tryz.func131, Tryz.ntmps131
  go_wp2_with fail
  refine (a79_any (6) _).mono ?_
  rintro e w1 ⟨rfl, hB1⟩
  obtain ⟨c0, c1, f0, f1, hF⟩ := fin hB1
  clear hB1
  go_wp2
  refine bodyPost_ret (results_tc (p := 3) (r := 2) (ty := 116) rfl _ _ w.heap.size 116 _ (0, 0) _ rfl (hF _ _).1 Tryz.underlying116 rfl (by kernel_rfl)) rfl ⟨rfl, (hF _ _).2⟩

set_option maxRecDepth 100000 in
set_option maxHeartbeats 1000000 in
theorem a75_6 : Ans 131 6 6 4 0 := by
  intro w
  go_enter Tryz.func131, Tryz.ntmps131
  go_wp2_with fail
  refine (a51_any (6) _).mono ?_
  rintro e w1 ⟨rfl, hB1⟩
  obtain ⟨c0, c1, f0, f1, hF⟩ := fin hB1
  clear hB1
  go_wp2
  refine bodyPost_ret (results_tc (p := 3) (r := 2) (ty := 116) rfl _ _ w.heap.size 116 _ (0, 0) _ rfl (hF _ _).1 Tryz.underlying116 rfl (by kernel_rfl)) rfl ⟨rfl, (hF _ _).2⟩

set_option maxRecDepth 100000 in
set_option maxHeartbeats 1000000 in
theorem a76_0 : Ans 132 0 0 3 1 := by
  intro w
  go_enter Tryz.func132, Tryz.ntmps132
  go_wp2_with fail
  refine (a90_any (0) _).mono ?_
  rintro e w1 ⟨rfl, hB1⟩
  obtain ⟨c0, c1, f0, f1, hF⟩ := fin hB1
  clear hB1
  go_wp2
  refine bodyPost_ret (results_tc (p := 3) (r := 2) (ty := 116) rfl _ _ w.heap.size 116 _ (0, 0) _ rfl (hF _ _).1 Tryz.underlying116 rfl (by kernel_rfl)) rfl ⟨rfl, (hF _ _).2⟩

set_option maxRecDepth 100000 in
set_option maxHeartbeats 1000000 in
theorem a76_1 : Ans 132 1 6 0 0 := by
  intro w
  go_enter Tryz.func132, Tryz.ntmps132
  go_wp2_with fail
  refine (a79_any (6) _).mono ?_
  rintro e w1 ⟨rfl, hB1⟩
  obtain ⟨c0, c1, f0, f1, hF⟩ := fin hB1
  clear hB1
  go_wp2
  refine bodyPost_ret (results_tc (p := 3) (r := 2) (ty := 116) rfl _ _ w.heap.size 116 _ (0, 0) _ rfl (hF _ _).1 Tryz.underlying116 rfl (by kernel_rfl)) rfl ⟨rfl, (hF _ _).2⟩

set_option maxRecDepth 100000 in
set_option maxHeartbeats 1000000 in
theorem a76_2 : Ans 132 2 6 0 0 := by
  intro w
  go_enter Tryz.func132, Tryz.ntmps132
  go_wp2_with fail
  refine (a79_any (6) _).mono ?_
  rintro e w1 ⟨rfl, hB1⟩
  obtain ⟨c0, c1, f0, f1, hF⟩ := fin hB1
  clear hB1
  go_wp2
  refine bodyPost_ret (results_tc (p := 3) (r := 2) (ty := 116) rfl _ _ w.heap.size 116 _ (0, 0) _ rfl (hF _ _).1 Tryz.underlying116 rfl (by kernel_rfl)) rfl ⟨rfl, (hF _ _).2⟩

set_option maxRecDepth 100000 in
set_option maxHeartbeats 1000000 in
theorem a76_3 : Ans 132 3 6 0 0 := by
  intro w
  go_enter Tryz.func132, Tryz.ntmps132
  go_wp2_with fail
  refine (a79_any (6) _).mono ?_
  rintro e w1 ⟨rfl, hB1⟩
  obtain ⟨c0, c1, f0, f1, hF⟩ := fin hB1
  clear hB1
  go_wp2
  refine bodyPost_ret (results_tc (p := 3) (r := 2) (ty := 116) rfl _ _ w.heap.size 116 _ (0, 0) _ rfl (hF _ _).1 Tryz.underlying116 rfl (by kernel_rfl)) rfl ⟨rfl, (hF _ _).2⟩

set_option maxRecDepth 100000 in
set_option maxHeartbeats 1000000 in
theorem a76_4 : Ans 132 4 6 0 0 := by
  intro w
  go_enter Tryz.func132, Tryz.ntmps132
  go_wp2_with fail
  refine (a79_any (6) _).mono ?_
  rintro e w1 ⟨rfl, hB1⟩
  obtain ⟨c0, c1, f0, f1, hF⟩ := fin hB1
  clear hB1
  go_wp2
  refine bodyPost_ret (results_tc (p := 3) (r := 2) (ty := 116) rfl _ _ w.heap.size 116 _ (0, 0) _ rfl (hF _ _).1 Tryz.underlying116 rfl (by kernel_rfl)) rfl ⟨rfl, (hF _ _).2⟩

set_option maxRecDepth 100000 in
set_option maxHeartbeats 1000000 in
theorem a76_5 : Ans 132 5 6 0 0 := by
  intro w
  go_enter Tryz.func132, Tryz.ntmps132
  go_wp2_with fail
  refine (a79_any (6) _).mono ?_
  rintro e w1 ⟨rfl, hB1⟩
  obtain ⟨c0, c1, f0, f1, hF⟩ := fin hB1
  clear hB1
  go_wp2
  refine bodyPost_ret (results_tc (p := 3) (r := 2) (ty := 116) rfl _ _ w.heap.size 116 _ (0, 0) _ rfl (hF _ _).1 Tryz.underlying116 rfl (by kernel_rfl)) rfl ⟨rfl, (hF _ _).2⟩

set_option maxRecDepth 100000 in
set_option maxHeartbeats 1000000 in
theorem a76_6 : Ans 132 6 6 1 0 := by
  intro w
  go_enter Tryz.func132, Tryz.ntmps132
  go_wp2_with fail
  refine (a91_any (6) _).mono ?_
  rintro e w1 ⟨rfl, hB1⟩
  obtain ⟨c0, c1, f0, f1, hF⟩ := fin hB1
  clear hB1
  go_wp2
  refine bodyPost_ret (results_tc (p := 3) (r := 2) (ty := 116) rfl _ _ w.heap.size 116 _ (0, 0) _ rfl (hF _ _).1 Tryz.underlying116 rfl (by kernel_rfl)) rfl ⟨rfl, (hF _ _).2⟩

set_option maxRecDepth 100000 in
set_option maxHeartbeats 1000000 in
theorem a77_0 : Ans 133 0 0 4 0 := by
  intro w
  go_enter Tryz.func133, Tryz.ntmps133
  go_wp2_with fail
  refine (a51_any (0) _).mono ?_
  rintro e w1 ⟨rfl, hB1⟩
  obtain ⟨c0, c1, f0, f1, hF⟩ := fin hB1
  clear hB1
  go_wp2
  refine bodyPost_ret (results_tc (p := 3) (r := 2) (ty := 116) rfl _ _ w.heap.size 116 _ (0, 0) _ rfl (hF _ _).1 Tryz.underlying116 rfl (by kernel_rfl)) rfl ⟨rfl, (hF _ _).2⟩

set_option maxRecDepth 100000 in
set_option maxHeartbeats 1000000 in
theorem a77_1 : Ans 133 1 1 4 0 := by
  intro w
  go_enter Tryz.func133, Tryz.ntmps133
  go_wp2_with fail
  refine (a51_any (1) _).mono ?_
  rintro e w1 ⟨rfl, hB1⟩
  obtain ⟨c0, c1, f0, f1, hF⟩ := fin hB1
  clear hB1
  go_wp2
  refine bodyPost_ret (results_tc (p := 3) (r := 2) (ty := 116) rfl _ _ w.heap.size 116 _ (0, 0) _ rfl (hF _ _).1 Tryz.underlying116 rfl (by kernel_rfl)) rfl ⟨rfl, (hF _ _).2⟩

set_option maxRecDepth 100000 in
set_option maxHeartbeats 1000000 in
theorem a77_2 : Ans 133 2 2 0 0 := by
  intro w
  go_enter Tryz.func133, Tryz.ntmps133
  go_wp2_with fail
  refine (a79_any (2) _).mono ?_
  rintro e w1 ⟨rfl, hB1⟩
  obtain ⟨c0, c1, f0, f1, hF⟩ := fin hB1
  clear hB1
  go_wp2
  refine bodyPost_ret (results_tc (p := 3) (r := 2) (ty := 116) rfl _ _ w.heap.size 116 _ (0, 0) _ rfl (hF _ _).1 Tryz.underlying116 rfl (by kernel_rfl)) rfl ⟨rfl, (hF _ _).2⟩

set_option maxRecDepth 100000 in
set_option maxHeartbeats 1000000 in
theorem a77_3 : Ans 133 3 3 0 0 := by
  intro w
  go_enter Tryz.func133, Tryz.ntmps133
  go_wp2_with fail
  refine (a79_any (3) _).mono ?_
  rintro e w1 ⟨rfl, hB1⟩
  obtain ⟨c0, c1, f0, f1, hF⟩ := fin hB1
  clear hB1
  go_wp2
  refine bodyPost_ret (results_tc (p := 3) (r := 2) (ty := 116) rfl _ _ w.heap.size 116 _ (0, 0) _ rfl (hF _ _).1 Tryz.underlying116 rfl (by kernel_rfl)) rfl ⟨rfl, (hF _ _).2⟩

set_option maxRecDepth 100000 in
set_option maxHeartbeats 1000000 in
theorem a77_4 : Ans 133 4 4 0 0 := by
  intro w
  go_enter Tryz.func133, Tryz.ntmps133
  go_wp2_with fail
  refine (a79_any (4) _).mono ?_
  rintro e w1 ⟨rfl, hB1⟩
  obtain ⟨c0, c1, f0, f1, hF⟩ := fin hB1
  clear hB1
  go_wp2
  refine bodyPost_ret (results_tc (p := 3) (r := 2) (ty := 116) rfl _ _ w.heap.size 116 _ (0, 0) _ rfl (hF _ _).1 Tryz.underlying116 rfl (by kernel_rfl)) rfl ⟨rfl, (hF _ _).2⟩

set_option maxRecDepth 100000 in
set_option maxHeartbeats 1000000 in
theorem a77_5 : Ans 133 5 5 0 0 := by
  intro w
  go_enter Tryz.func133, Tryz.ntmps133
  go_wp2_with fail
  refine (a79_any (5) _).mono ?_
  rintro e w1 ⟨rfl, hB1⟩
  obtain ⟨c0, c1, f0, f1, hF⟩ := fin hB1
  clear hB1
  go_wp2
  refine bodyPost_ret (results_tc (p := 3) (r := 2) (ty := 116) rfl _ _ w.heap.size 116 _ (0, 0) _ rfl (hF _ _).1 Tryz.underlying116 rfl (by kernel_rfl)) rfl ⟨rfl, (hF _ _).2⟩

set_option maxRecDepth 100000 in
set_option maxHeartbeats 1000000 in
theorem a77_6 : Ans 133 6 6 4 0 := by
  intro w
  go_enter Tryz.func133, Tryz.ntmps133
  go_wp2_with fail
  refine (a51_any (6) _).mono ?_
  rintro e w1 ⟨rfl, hB1⟩
  obtain ⟨c0, c1, f0, f1, hF⟩ := fin hB1
  clear hB1
  go_wp2
  refine bodyPost_ret (results_tc (p := 3) (r := 2) (ty := 116) rfl _ _ w.heap.size 116 _ (0, 0) _ rfl (hF _ _).1 Tryz.underlying116 rfl (by kernel_rfl)) rfl ⟨rfl, (hF _ _).2⟩

set_option maxRecDepth 100000 in
set_option maxHeartbeats 1000000 in
theorem a78_0 : Ans 134 0 0 3 1 := by
  intro w
  go_enter Tryz.func134, Tryz.ntmps134
  go_wp2_with fail
  refine (a90_any (0) _).mono ?_
  rintro e w1 ⟨rfl, hB1⟩
  obtain ⟨c0, c1, f0, f1, hF⟩ := fin hB1
  clear hB1
  go_wp2
  refine bodyPost_ret (results_tc (p := 3) (r := 2) (ty := 116) rfl _ _ w.heap.size 116 _ (0, 0) _ rfl (hF _ _).1 Tryz.underlying116 rfl (by kernel_rfl)) rfl ⟨rfl, (hF _ _).2⟩

set_option maxRecDepth 100000 in
set_option maxHeartbeats 1000000 in
theorem a78_1 : Ans 134 1 1 0 0 := by
  intro w
  go_enter Tryz.func134, Tryz.ntmps134
  go_wp2_with fail
  refine (a79_any (1) _).mono ?_
  rintro e w1 ⟨rfl, hB1⟩
  obtain ⟨c0, c1, f0, f1, hF⟩ := fin hB1
  clear hB1
  go_wp2
  refine bodyPost_ret (results_tc (p := 3) (r := 2) (ty := 116) rfl _ _ w.heap.size 116 _ (0, 0) _ rfl (hF _ _).1 Tryz.underlying116 rfl (by kernel_rfl)) rfl ⟨rfl, (hF _ _).2⟩

set_option maxRecDepth 100000 in
set_option maxHeartbeats 1000000 in
theorem a78_2 : Ans 134 2 2 3 1 := by
  intro w
  go_enter Tryz.func134, Tryz.ntmps134
  go_wp2_with fail
  refine (a90_any (2) _).mono ?_
  rintro e w1 ⟨rfl, hB1⟩
  obtain ⟨c0, c1, f0, f1, hF⟩ := fin hB1
  clear hB1
  go_wp2
  refine bodyPost_ret (results_tc (p := 3) (r := 2) (ty := 116) rfl _ _ w.heap.size 116 _ (0, 0) _ rfl (hF _ _).1 Tryz.underlying116 rfl (by kernel_rfl)) rfl ⟨rfl, (hF _ _).2⟩

set_option maxRecDepth 100000 in
set_option maxHeartbeats 1000000 in
theorem a78_3 : Ans 134 3 3 0 0 := by
  intro w
  go_enter Tryz.func134, Tryz.ntmps134
  go_wp2_with fail
  refine (a79_any (3) _).mono ?_
  rintro e w1 ⟨rfl, hB1⟩
  obtain ⟨c0, c1, f0, f1, hF⟩ := fin hB1
  clear hB1
  go_wp2
  refine bodyPost_ret (results_tc (p := 3) (r := 2) (ty := 116) rfl _ _ w.heap.size 116 _ (0, 0) _ rfl (hF _ _).1 Tryz.underlying116 rfl (by kernel_rfl)) rfl ⟨rfl, (hF _ _).2⟩

set_option maxRecDepth 100000 in
set_option maxHeartbeats 1000000 in
theorem a78_4 : Ans 134 4 4 0 0 := by
  intro w
  go_enter Tryz.func134, Tryz.ntmps134
  go_wp2_with fail
  refine (a79_any (4) _).mono ?_
  rintro e w1 ⟨rfl, hB1⟩
  obtain ⟨c0, c1, f0, f1, hF⟩ := fin hB1
  clear hB1
  go_wp2
  refine bodyPost_ret (results_tc (p := 3) (r := 2) (ty := 116) rfl _ _ w.heap.size 116 _ (0, 0) _ rfl (hF _ _).1 Tryz.underlying116 rfl (by kernel_rfl)) rfl ⟨rfl, (hF _ _).2⟩

set_option maxRecDepth 100000 in
set_option maxHeartbeats 1000000 in
theorem a78_5 : Ans 134 5 5 0 0 := by
  intro w
  go_enter Tryz.func134, Tryz.ntmps134
  go_wp2_with fail
  refine (a79_any (5) _).mono ?_
  rintro e w1 ⟨rfl, hB1⟩
  obtain ⟨c0, c1, f0, f1, hF⟩ := fin hB1
  clear hB1
  go_wp2
  refine bodyPost_ret (results_tc (p := 3) (r := 2) (ty := 116) rfl _ _ w.heap.size 116 _ (0, 0) _ rfl (hF _ _).1 Tryz.underlying116 rfl (by kernel_rfl)) rfl ⟨rfl, (hF _ _).2⟩

set_option maxRecDepth 100000 in
set_option maxHeartbeats 1000000 in
theorem a78_6 : Ans 134 6 6 1 0 := by
  intro w
  go_enter Tryz.func134, Tryz.ntmps134
  go_wp2_with fail
  refine (a91_any (6) _).mono ?_
  rintro e w1 ⟨rfl, hB1⟩
  obtain ⟨c0, c1, f0, f1, hF⟩ := fin hB1
  clear hB1
  go_wp2
  refine bodyPost_ret (results_tc (p := 3) (r := 2) (ty := 116) rfl _ _ w.heap.size 116 _ (0, 0) _ rfl (hF _ _).1 Tryz.underlying116 rfl (by kernel_rfl)) rfl ⟨rfl, (hF _ _).2⟩

set_option maxRecDepth 100000 in
set_option maxHeartbeats 1000000 in
theorem a80_0 : Ans 136 0 0 0 0 := by
  intro w
  go_enter Tryz.func136, Tryz.ntmps136
  go_wp2_with fail
  refine (a79_any (0) _).mono ?_
  rintro e w1 ⟨rfl, hB1⟩
  obtain ⟨c0, c1, f0, f1, hF⟩ := fin hB1
  clear hB1
  go_wp2
  refine bodyPost_ret (results_tc (p := 3) (r := 2) (ty := 116) rfl _ _ w.heap.size 116 _ (0, 0) _ rfl (hF _ _).1 Tryz.underlying116 rfl (by kernel_rfl)) rfl ⟨rfl, (hF _ _).2⟩

set_option maxRecDepth 100000 in
set_option maxHeartbeats 1000000 in
theorem a80_1 : Ans 136 1 1 0 0 := by
  intro w
  go_enter Tryz.func136, Tryz.ntmps136
  go_wp2_with fail
  refine (a79_any (1) _).mono ?_
  rintro e w1 ⟨rfl, hB1⟩
  obtain ⟨c0, c1, f0, f1, hF⟩ := fin hB1
  clear hB1
  go_wp2
  refine bodyPost_ret (results_tc (p := 3) (r := 2) (ty := 116) rfl _ _ w.heap.size 116 _ (0, 0) _ rfl (hF _ _).1 Tryz.underlying116 rfl (by kernel_rfl)) rfl ⟨rfl, (hF _ _).2⟩

set_option maxRecDepth 100000 in
set_option maxHeartbeats 1000000 in
theorem a80_2 : Ans 136 2 2 0 0 := by
  intro w
  go_enter Tryz.func136, Tryz.ntmps136
  go_wp2_with fail
  refine (a79_any (2) _).mono ?_
  rintro e w1 ⟨rfl, hB1⟩
  obtain ⟨c0, c1, f0, f1, hF⟩ := fin hB1
  clear hB1
  go_wp2
  refine bodyPost_ret (results_tc (p := 3) (r := 2) (ty := 116) rfl _ _ w.heap.size 116 _ (0, 0) _ rfl (hF _ _).1 Tryz.underlying116 rfl (by kernel_rfl)) rfl ⟨rfl, (hF _ _).2⟩

set_option maxRecDepth 100000 in
set_option maxHeartbeats 1000000 in
theorem a80_3 : Ans 136 3 3 0 0 := by
  intro w
  go_enter Tryz.func136, Tryz.ntmps136
  go_wp2_with fail
  refine (a79_any (3) _).mono ?_
  rintro e w1 ⟨rfl, hB1⟩
  obtain ⟨c0, c1, f0, f1, hF⟩ := fin hB1
  clear hB1
  go_wp2
  refine bodyPost_ret (results_tc (p := 3) (r := 2) (ty := 116) rfl _ _ w.heap.size 116 _ (0, 0) _ rfl (hF _ _).1 Tryz.underlying116 rfl (by kernel_rfl)) rfl ⟨rfl, (hF _ _).2⟩

set_option maxRecDepth 100000 in
set_option maxHeartbeats 1000000 in
theorem a80_4 : Ans 136 4 4 0 0 := by
  intro w
  go_enter Tryz.func136, Tryz.ntmps136
  go_wp2_with fail
  refine (a79_any (4) _).mono ?_
  rintro e w1 ⟨rfl, hB1⟩
  obtain ⟨c0, c1, f0, f1, hF⟩ := fin hB1
  clear hB1
  go_wp2
  refine bodyPost_ret (results_tc (p := 3) (r := 2) (ty := 116) rfl _ _ w.heap.size 116 _ (0, 0) _ rfl (hF _ _).1 Tryz.underlying116 rfl (by kernel_rfl)) rfl ⟨rfl, (hF _ _).2⟩

set_option maxRecDepth 100000 in
set_option maxHeartbeats 1000000 in
theorem a80_5 : Ans 136 5 5 0 0 := by
  intro w
  go_enter Tryz.func136, Tryz.ntmps136
  go_wp2_with fail
  refine (a79_any (5) _).mono ?_
  rintro e w1 ⟨rfl, hB1⟩
  obtain ⟨c0, c1, f0, f1, hF⟩ := fin hB1
  clear hB1
  go_wp2
  refine bodyPost_ret (results_tc (p := 3) (r := 2) (ty := 116) rfl _ _ w.heap.size 116 _ (0, 0) _ rfl (hF _ _).1 Tryz.underlying116 rfl (by kernel_rfl)) rfl ⟨rfl, (hF _ _).2⟩

set_option maxRecDepth 100000 in
set_option maxHeartbeats 1000000 in
theorem a80_6 : Ans 136 6 6 1 0 := by
  intro w
  go_enter Tryz.func136, Tryz.ntmps136
  go_wp2_with fail
  refine (a91_any (6) _).mono ?_
  rintro e w1 ⟨rfl, hB1⟩
  obtain ⟨c0, c1, f0, f1, hF⟩ := fin hB1
  clear hB1
  go_wp2
  refine bodyPost_ret (results_tc (p := 3) (r := 2) (ty := 116) rfl _ _ w.heap.size 116 _ (0, 0) _ rfl (hF _ _).1 Tryz.underlying116 rfl (by kernel_rfl)) rfl ⟨rfl, (hF _ _).2⟩

end Go.Proofs.YtfmljlflnpmceaaGreatDoor
