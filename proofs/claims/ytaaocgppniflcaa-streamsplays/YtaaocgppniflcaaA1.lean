/- The small functions. -/
import Derived.Test.YtaaocgppniflcaaM
namespace Go.Proofs.Ytaaocgppniflcaa
open Go.RowKit
set_option linter.unusedVariables false
set_option linter.unusedSimpArgs false

/-- results: a slot's and a cell's -/
theorem results_tc {P : Program} {fn : Func} {p r : Tmp} {ty : TypeId} (h : fn.results = #[.tmp r, .cell p ty]) (tmps : Array Value) (w : World) (g : Nat) (t : TypeId) (cs : Array Value) (fr : Nat × Nat) (d : TypeDesc)
    (hp : tmps.getD p undef = .pointer (some ⟨g, 0, none⟩)) (hg : w.heap[g]? = some (.cells cs t fr)) (hu : P.underlying ty = some d) (hd : (match d with | .struct _ | .array _ _ => true | _ => false) = true) (hi : (P.info? ty).map (·.size) = some cs.size) :
    (results fn tmps).run P w = .ok (.tuple #[tmps.getD r undef, .agg cs]) w := by
  have hp' : tmps[p]?.getD undef = .pointer (some ⟨g, 0, none⟩) := by simpa using hp
  simp [results, h, hp', asAddr, run_loadVar_row w g t ty cs fr d hg hu hd hi]

/-- what a function of a state answers -/
def Ans (f : FuncId) (s s' k c : Int) : Prop := ∀ w, Calls Try.prog f #[.int .i64 s] w fun e w' => e = .returned (.tuple #[.int .i64 s', .agg #[.int .i64 k, .int .i64 c]]) ∧ Below w.heap.size w w'
/-- the same of one that is given a verdict too -/
def Ans2 (f : FuncId) (s k c s' : Int) : Prop := ∀ w, Calls Try.prog f #[.int .i64 s, .agg #[.int .i64 k, .int .i64 c]] w fun e w' => e = .returned (.tuple #[.int .i64 s', .agg #[.int .i64 k, .int .i64 c]]) ∧ Below w.heap.size w w'

/-- what is written into the block that was made first -/
theorem fin {w w1 : World} {a b : Value} {t : TypeId} (h : Below (w.alloc (.cells #[a, b] t)).heap.size (w.alloc (.cells #[a, b] t)) w1) :
    w1.cell? ⟨w.heap.size, 0, none⟩ = some a ∧ w1.cell? ⟨w.heap.size, 1, none⟩ = some b ∧ w1.frozen? ⟨w.heap.size, 0, none⟩ = false ∧ w1.frozen? ⟨w.heap.size, 1, none⟩ = false ∧
      ∀ x y, ((w1.setCell ⟨w.heap.size, 0, none⟩ x).setCell ⟨w.heap.size, 1, none⟩ y).heap[w.heap.size]? = some (.cells #[x, y] t) ∧ Below w.heap.size w ((w1.setCell ⟨w.heap.size, 0, none⟩ x).setCell ⟨w.heap.size, 1, none⟩ y) := by
  have hg : w1.heap[w.heap.size]? = some (.cells #[a, b] t) := (h.block w.heap.size (by simp)).trans (heap_alloc_new w _)
  refine ⟨cell_blk hg 0, cell_blk hg 1, frozen_blk hg 0, frozen_blk hg 1, fun x y => ⟨?_, ?_⟩⟩
  · exact setCell_block _ _ 1 y _ _ _ (setCell_block _ _ 0 x _ _ _ hg)
  · have k : Below w.heap.size w w1 := (bel1 w _).trans (h.mono (by simp))
    have s1 := k.size
    have k2 : Below w.heap.size w1 (w1.setCell ⟨w.heap.size, 0, none⟩ x) := ⟨rfl, rfl, rfl, by simp [World.setCell], fun i hi => setCell_other _ _ _ _ _ (by omega)⟩
    exact (k.trans k2).trans ⟨rfl, rfl, rfl, by simp [World.setCell], fun i hi => setCell_other _ _ _ _ _ (by omega)⟩

set_option maxRecDepth 100000 in
set_option maxHeartbeats 1000000 in
theorem a51_any (s : Int) : Ans 51 s s 4 0 := by
  intro w
  go_enter Try.func51, Try.ntmps51
  go_wp2
  refine bodyPost_ret (results_tc (p := 3) (r := 2) (ty := 44) rfl _ _ w.heap.size 44 _ (0, 0) _ rfl (heap_alloc_new _ _) Try.underlying44 rfl (by kernel_rfl)) rfl ⟨rfl, bel1 _ _⟩

set_option maxRecDepth 100000 in
set_option maxHeartbeats 1000000 in
theorem a79_any (s : Int) : Ans 79 s s 0 0 := by
  intro w
  go_enter Try.func79, Try.ntmps79
  go_wp2
  refine bodyPost_ret (results_tc (p := 3) (r := 2) (ty := 44) rfl _ _ w.heap.size 44 _ (0, 0) _ rfl (heap_alloc_new _ _) Try.underlying44 rfl (by kernel_rfl)) rfl ⟨rfl, bel1 _ _⟩

set_option maxRecDepth 100000 in
set_option maxHeartbeats 1000000 in
theorem a90_any (s : Int) : Ans 90 s s 3 1 := by
  intro w
  go_enter Try.func90, Try.ntmps90
  go_wp2
  refine bodyPost_ret (results_tc (p := 3) (r := 2) (ty := 44) rfl _ _ w.heap.size 44 _ (0, 0) _ rfl (heap_alloc_new _ _) Try.underlying44 rfl (by kernel_rfl)) rfl ⟨rfl, bel1 _ _⟩

set_option maxRecDepth 100000 in
set_option maxHeartbeats 1000000 in
theorem a91_any (s : Int) : Ans 91 s s 1 0 := by
  intro w
  go_enter Try.func91, Try.ntmps91
  go_wp2
  refine bodyPost_ret (results_tc (p := 3) (r := 2) (ty := 44) rfl _ _ w.heap.size 44 _ (0, 0) _ rfl (heap_alloc_new _ _) Try.underlying44 rfl (by kernel_rfl)) rfl ⟨rfl, bel1 _ _⟩

set_option maxRecDepth 100000 in
set_option maxHeartbeats 1000000 in
theorem a87_no (s k c : Int) (hk : (k == 0) = false) : Ans2 87 s k c s := by
  intro w
  go_enter Try.func87, Try.ntmps87
  go_wp2
  go_region
  go_wp2
  refine bodyPost_ret (results_tc (p := 5) (r := 4) (ty := 44) rfl _ _ (w.heap.size + 1) 44 _ (0, 0) _ rfl (fresh2 _ _ _) Try.underlying44 rfl (by kernel_rfl)) rfl ⟨rfl, (bel2 _ _ _).drew⟩

set_option maxRecDepth 100000 in
set_option maxHeartbeats 1000000 in
theorem a87_over (c : Int) : Ans2 87 5 0 c 6 := by
  intro w
  go_enter Try.func87, Try.ntmps87
  go_wp2
  go_region
  go_wp2
  refine bodyPost_ret (results_tc (p := 5) (r := 4) (ty := 44) rfl _ _ (w.heap.size + 1) 44 _ (0, 0) _ rfl (fresh2 _ _ _) Try.underlying44 rfl (by kernel_rfl)) rfl ⟨rfl, (bel2 _ _ _).drew⟩

set_option maxRecDepth 100000 in
set_option maxHeartbeats 1000000 in
theorem a87_end (s c : Int) (hs : (s == 5) = false) : Ans2 87 s 0 c 4 := by
  intro w
  go_enter Try.func87, Try.ntmps87
  go_wp2
  go_region
  go_wp2
  refine bodyPost_ret (results_tc (p := 5) (r := 4) (ty := 44) rfl _ _ (w.heap.size + 1) 44 _ (0, 0) _ rfl (fresh2 _ _ _) Try.underlying44 rfl (by kernel_rfl)) rfl ⟨rfl, (bel2 _ _ _).drew⟩

set_option maxRecDepth 100000 in
set_option maxHeartbeats 1000000 in
theorem a88_no (s k c : Int) (hk : (k == 0) = false) : Ans2 88 s k c s := by
  intro w
  go_enter Try.func88, Try.ntmps88
  go_wp2
  go_region
  go_wp2
  refine bodyPost_ret (results_tc (p := 5) (r := 4) (ty := 44) rfl _ _ (w.heap.size + 1) 44 _ (0, 0) _ rfl (fresh2 _ _ _) Try.underlying44 rfl (by kernel_rfl)) rfl ⟨rfl, (bel2 _ _ _).drew⟩

set_option maxRecDepth 100000 in
set_option maxHeartbeats 1000000 in
theorem a88_over (c : Int) : Ans2 88 4 0 c 6 := by
  intro w
  go_enter Try.func88, Try.ntmps88
  go_wp2
  go_region
  go_wp2
  refine bodyPost_ret (results_tc (p := 5) (r := 4) (ty := 44) rfl _ _ (w.heap.size + 1) 44 _ (0, 0) _ rfl (fresh2 _ _ _) Try.underlying44 rfl (by kernel_rfl)) rfl ⟨rfl, (bel2 _ _ _).drew⟩

set_option maxRecDepth 100000 in
set_option maxHeartbeats 1000000 in
theorem a88_end (s c : Int) (hs : (s == 4) = false) : Ans2 88 s 0 c 5 := by
  intro w
  go_enter Try.func88, Try.ntmps88
  go_wp2
  go_region
  go_wp2
  refine bodyPost_ret (results_tc (p := 5) (r := 4) (ty := 44) rfl _ _ (w.heap.size + 1) 44 _ (0, 0) _ rfl (fresh2 _ _ _) Try.underlying44 rfl (by kernel_rfl)) rfl ⟨rfl, (bel2 _ _ _).drew⟩

set_option maxRecDepth 100000 in
set_option maxHeartbeats 1000000 in
theorem a89_0 : Ans 89 0 0 3 1 := by
  intro w
  go_enter Try.func89, Try.ntmps89
  go_wp2_with fail
  refine (a90_any (0) _).mono ?_
  rintro e w1 ⟨rfl, hB1⟩
  obtain ⟨c0, c1, f0, f1, hF⟩ := fin hB1
  clear hB1
  go_wp2
  refine bodyPost_ret (results_tc (p := 3) (r := 2) (ty := 44) rfl _ _ w.heap.size 44 _ (0, 0) _ rfl (hF _ _).1 Try.underlying44 rfl (by kernel_rfl)) rfl ⟨rfl, (hF _ _).2⟩

set_option maxRecDepth 100000 in
set_option maxHeartbeats 1000000 in
theorem a89_1 : Ans 89 1 1 3 1 := by
  intro w
  go_enter Try.func89, Try.ntmps89
  go_wp2_with fail
  refine (a90_any (1) _).mono ?_
  rintro e w1 ⟨rfl, hB1⟩
  obtain ⟨c0, c1, f0, f1, hF⟩ := fin hB1
  clear hB1
  go_wp2
  refine bodyPost_ret (results_tc (p := 3) (r := 2) (ty := 44) rfl _ _ w.heap.size 44 _ (0, 0) _ rfl (hF _ _).1 Try.underlying44 rfl (by kernel_rfl)) rfl ⟨rfl, (hF _ _).2⟩

set_option maxRecDepth 100000 in
set_option maxHeartbeats 1000000 in
theorem a89_2 : Ans 89 2 2 3 1 := by
  intro w
  go_enter Try.func89, Try.ntmps89
  go_wp2_with fail
  refine (a90_any (2) _).mono ?_
  rintro e w1 ⟨rfl, hB1⟩
  obtain ⟨c0, c1, f0, f1, hF⟩ := fin hB1
  clear hB1
  go_wp2
  refine bodyPost_ret (results_tc (p := 3) (r := 2) (ty := 44) rfl _ _ w.heap.size 44 _ (0, 0) _ rfl (hF _ _).1 Try.underlying44 rfl (by kernel_rfl)) rfl ⟨rfl, (hF _ _).2⟩

set_option maxRecDepth 100000 in
set_option maxHeartbeats 1000000 in
theorem a89_3 : Ans 89 3 3 3 1 := by
  intro w
  go_enter Try.func89, Try.ntmps89
  go_wp2_with fail
  refine (a90_any (3) _).mono ?_
  rintro e w1 ⟨rfl, hB1⟩
  obtain ⟨c0, c1, f0, f1, hF⟩ := fin hB1
  clear hB1
  go_wp2
  refine bodyPost_ret (results_tc (p := 3) (r := 2) (ty := 44) rfl _ _ w.heap.size 44 _ (0, 0) _ rfl (hF _ _).1 Try.underlying44 rfl (by kernel_rfl)) rfl ⟨rfl, (hF _ _).2⟩

set_option maxRecDepth 100000 in
set_option maxHeartbeats 1000000 in
theorem a89_4 : Ans 89 4 4 3 1 := by
  intro w
  go_enter Try.func89, Try.ntmps89
  go_wp2_with fail
  refine (a90_any (4) _).mono ?_
  rintro e w1 ⟨rfl, hB1⟩
  obtain ⟨c0, c1, f0, f1, hF⟩ := fin hB1
  clear hB1
  go_wp2
  refine bodyPost_ret (results_tc (p := 3) (r := 2) (ty := 44) rfl _ _ w.heap.size 44 _ (0, 0) _ rfl (hF _ _).1 Try.underlying44 rfl (by kernel_rfl)) rfl ⟨rfl, (hF _ _).2⟩

set_option maxRecDepth 100000 in
set_option maxHeartbeats 1000000 in
theorem a89_5 : Ans 89 5 5 2 5 := by
  intro w
  go_enter Try.func89, Try.ntmps89
  go_wp2
  refine bodyPost_ret (results_tc (p := 3) (r := 2) (ty := 44) rfl _ _ w.heap.size 44 _ (0, 0) _ rfl (heap_alloc_new _ _) Try.underlying44 rfl (by kernel_rfl)) rfl ⟨rfl, bel1 _ _⟩

set_option maxRecDepth 100000 in
set_option maxHeartbeats 1000000 in
theorem a89_6 : Ans 89 6 6 3 5 := by
  intro w
  go_enter Try.func89, Try.ntmps89
  go_wp2
  refine bodyPost_ret (results_tc (p := 3) (r := 2) (ty := 44) rfl _ _ w.heap.size 44 _ (0, 0) _ rfl (heap_alloc_new _ _) Try.underlying44 rfl (by kernel_rfl)) rfl ⟨rfl, bel1 _ _⟩

set_option maxRecDepth 100000 in
set_option maxHeartbeats 1000000 in
theorem a69_0 : Ans 69 0 0 4 0 := by
  intro w
  go_enter Try.func69, Try.ntmps69
  go_wp2_with fail
  refine (a51_any (0) _).mono ?_
  rintro e w1 ⟨rfl, hB1⟩
  obtain ⟨c0, c1, f0, f1, hF⟩ := fin hB1
  clear hB1
  go_wp2
  refine bodyPost_ret (results_tc (p := 3) (r := 2) (ty := 44) rfl _ _ w.heap.size 44 _ (0, 0) _ rfl (hF _ _).1 Try.underlying44 rfl (by kernel_rfl)) rfl ⟨rfl, (hF _ _).2⟩

set_option maxRecDepth 100000 in
set_option maxHeartbeats 1000000 in
theorem a69_1 : Ans 69 1 1 4 0 := by
  intro w
  go_enter Try.func69, Try.ntmps69
  go_wp2_with fail
  refine (a51_any (1) _).mono ?_
  rintro e w1 ⟨rfl, hB1⟩
  obtain ⟨c0, c1, f0, f1, hF⟩ := fin hB1
  clear hB1
  go_wp2
  refine bodyPost_ret (results_tc (p := 3) (r := 2) (ty := 44) rfl _ _ w.heap.size 44 _ (0, 0) _ rfl (hF _ _).1 Try.underlying44 rfl (by kernel_rfl)) rfl ⟨rfl, (hF _ _).2⟩

set_option maxRecDepth 100000 in
set_option maxHeartbeats 1000000 in
theorem a69_2 : Ans 69 2 2 4 0 := by
  intro w
  go_enter Try.func69, Try.ntmps69
  go_wp2_with fail
  refine (a51_any (2) _).mono ?_
  rintro e w1 ⟨rfl, hB1⟩
  obtain ⟨c0, c1, f0, f1, hF⟩ := fin hB1
  clear hB1
  go_wp2
  refine bodyPost_ret (results_tc (p := 3) (r := 2) (ty := 44) rfl _ _ w.heap.size 44 _ (0, 0) _ rfl (hF _ _).1 Try.underlying44 rfl (by kernel_rfl)) rfl ⟨rfl, (hF _ _).2⟩

set_option maxRecDepth 100000 in
set_option maxHeartbeats 1000000 in
theorem a69_3 : Ans 69 3 3 0 0 := by
  intro w
  go_enter Try.func69, Try.ntmps69
  go_wp2_with fail
  refine (a79_any (3) _).mono ?_
  rintro e w1 ⟨rfl, hB1⟩
  obtain ⟨c0, c1, f0, f1, hF⟩ := fin hB1
  clear hB1
  go_wp2
  refine bodyPost_ret (results_tc (p := 3) (r := 2) (ty := 44) rfl _ _ w.heap.size 44 _ (0, 0) _ rfl (hF _ _).1 Try.underlying44 rfl (by kernel_rfl)) rfl ⟨rfl, (hF _ _).2⟩

set_option maxRecDepth 100000 in
set_option maxHeartbeats 1000000 in
theorem a69_4 : Ans 69 4 4 4 0 := by
  intro w
  go_enter Try.func69, Try.ntmps69
  go_wp2_with fail
  refine (a51_any (4) _).mono ?_
  rintro e w1 ⟨rfl, hB1⟩
  obtain ⟨c0, c1, f0, f1, hF⟩ := fin hB1
  clear hB1
  go_wp2
  refine bodyPost_ret (results_tc (p := 3) (r := 2) (ty := 44) rfl _ _ w.heap.size 44 _ (0, 0) _ rfl (hF _ _).1 Try.underlying44 rfl (by kernel_rfl)) rfl ⟨rfl, (hF _ _).2⟩

set_option maxRecDepth 100000 in
set_option maxHeartbeats 1000000 in
theorem a69_5 : Ans 69 5 5 0 0 := by
  intro w
  go_enter Try.func69, Try.ntmps69
  go_wp2_with fail
  refine (a79_any (5) _).mono ?_
  rintro e w1 ⟨rfl, hB1⟩
  obtain ⟨c0, c1, f0, f1, hF⟩ := fin hB1
  clear hB1
  go_wp2
  refine bodyPost_ret (results_tc (p := 3) (r := 2) (ty := 44) rfl _ _ w.heap.size 44 _ (0, 0) _ rfl (hF _ _).1 Try.underlying44 rfl (by kernel_rfl)) rfl ⟨rfl, (hF _ _).2⟩

set_option maxRecDepth 100000 in
set_option maxHeartbeats 1000000 in
theorem a69_6 : Ans 69 6 6 4 0 := by
  intro w
  go_enter Try.func69, Try.ntmps69
  go_wp2_with fail
  refine (a51_any (6) _).mono ?_
  rintro e w1 ⟨rfl, hB1⟩
  obtain ⟨c0, c1, f0, f1, hF⟩ := fin hB1
  clear hB1
  go_wp2
  refine bodyPost_ret (results_tc (p := 3) (r := 2) (ty := 44) rfl _ _ w.heap.size 44 _ (0, 0) _ rfl (hF _ _).1 Try.underlying44 rfl (by kernel_rfl)) rfl ⟨rfl, (hF _ _).2⟩

set_option maxRecDepth 100000 in
set_option maxHeartbeats 1000000 in
theorem a70_0 : Ans 70 0 0 3 1 := by
  intro w
  go_enter Try.func70, Try.ntmps70
  go_wp2_with fail
  refine (a89_0 _).mono ?_
  rintro e w1 ⟨rfl, hB1⟩
  obtain ⟨c0, c1, f0, f1, hF⟩ := fin hB1
  clear hB1
  go_wp2
  refine bodyPost_ret (results_tc (p := 3) (r := 2) (ty := 44) rfl _ _ w.heap.size 44 _ (0, 0) _ rfl (hF _ _).1 Try.underlying44 rfl (by kernel_rfl)) rfl ⟨rfl, (hF _ _).2⟩

set_option maxRecDepth 100000 in
set_option maxHeartbeats 1000000 in
theorem a70_1 : Ans 70 1 1 3 1 := by
  intro w
  go_enter Try.func70, Try.ntmps70
  go_wp2_with fail
  refine (a89_1 _).mono ?_
  rintro e w1 ⟨rfl, hB1⟩
  obtain ⟨c0, c1, f0, f1, hF⟩ := fin hB1
  clear hB1
  go_wp2
  refine bodyPost_ret (results_tc (p := 3) (r := 2) (ty := 44) rfl _ _ w.heap.size 44 _ (0, 0) _ rfl (hF _ _).1 Try.underlying44 rfl (by kernel_rfl)) rfl ⟨rfl, (hF _ _).2⟩

set_option maxRecDepth 100000 in
set_option maxHeartbeats 1000000 in
theorem a70_2 : Ans 70 2 2 3 1 := by
  intro w
  go_enter Try.func70, Try.ntmps70
  go_wp2_with fail
  refine (a89_2 _).mono ?_
  rintro e w1 ⟨rfl, hB1⟩
  obtain ⟨c0, c1, f0, f1, hF⟩ := fin hB1
  clear hB1
  go_wp2
  refine bodyPost_ret (results_tc (p := 3) (r := 2) (ty := 44) rfl _ _ w.heap.size 44 _ (0, 0) _ rfl (hF _ _).1 Try.underlying44 rfl (by kernel_rfl)) rfl ⟨rfl, (hF _ _).2⟩

set_option maxRecDepth 100000 in
set_option maxHeartbeats 1000000 in
theorem a70_3 : Ans 70 3 3 0 0 := by
  intro w
  go_enter Try.func70, Try.ntmps70
  go_wp2_with fail
  refine (a79_any (3) _).mono ?_
  rintro e w1 ⟨rfl, hB1⟩
  obtain ⟨c0, c1, f0, f1, hF⟩ := fin hB1
  clear hB1
  go_wp2
  refine bodyPost_ret (results_tc (p := 3) (r := 2) (ty := 44) rfl _ _ w.heap.size 44 _ (0, 0) _ rfl (hF _ _).1 Try.underlying44 rfl (by kernel_rfl)) rfl ⟨rfl, (hF _ _).2⟩

set_option maxRecDepth 100000 in
set_option maxHeartbeats 1000000 in
theorem a70_4 : Ans 70 4 4 0 0 := by
  intro w
  go_enter Try.func70, Try.ntmps70
  go_wp2_with fail
  refine (a79_any (4) _).mono ?_
  rintro e w1 ⟨rfl, hB1⟩
  obtain ⟨c0, c1, f0, f1, hF⟩ := fin hB1
  clear hB1
  go_wp2
  refine bodyPost_ret (results_tc (p := 3) (r := 2) (ty := 44) rfl _ _ w.heap.size 44 _ (0, 0) _ rfl (hF _ _).1 Try.underlying44 rfl (by kernel_rfl)) rfl ⟨rfl, (hF _ _).2⟩

set_option maxRecDepth 100000 in
set_option maxHeartbeats 1000000 in
theorem a70_5 : Ans 70 5 5 2 5 := by
  intro w
  go_enter Try.func70, Try.ntmps70
  go_wp2_with fail
  refine (a89_5 _).mono ?_
  rintro e w1 ⟨rfl, hB1⟩
  obtain ⟨c0, c1, f0, f1, hF⟩ := fin hB1
  clear hB1
  go_wp2
  refine bodyPost_ret (results_tc (p := 3) (r := 2) (ty := 44) rfl _ _ w.heap.size 44 _ (0, 0) _ rfl (hF _ _).1 Try.underlying44 rfl (by kernel_rfl)) rfl ⟨rfl, (hF _ _).2⟩

set_option maxRecDepth 100000 in
set_option maxHeartbeats 1000000 in
theorem a70_6 : Ans 70 6 6 3 5 := by
  intro w
  go_enter Try.func70, Try.ntmps70
  go_wp2_with fail
  refine (a89_6 _).mono ?_
  rintro e w1 ⟨rfl, hB1⟩
  obtain ⟨c0, c1, f0, f1, hF⟩ := fin hB1
  clear hB1
  go_wp2
  refine bodyPost_ret (results_tc (p := 3) (r := 2) (ty := 44) rfl _ _ w.heap.size 44 _ (0, 0) _ rfl (hF _ _).1 Try.underlying44 rfl (by kernel_rfl)) rfl ⟨rfl, (hF _ _).2⟩

set_option maxRecDepth 100000 in
set_option maxHeartbeats 1000000 in
theorem a65_0 : Ans 65 0 3 0 0 := by
  intro w
  go_enter Try.func65, Try.ntmps65
  go_wp2_with fail
  refine (a79_any (3) _).mono ?_
  rintro e w1 ⟨rfl, hB1⟩
  obtain ⟨c0, c1, f0, f1, hF⟩ := fin hB1
  clear hB1
  go_wp2
  refine bodyPost_ret (results_tc (p := 3) (r := 2) (ty := 44) rfl _ _ w.heap.size 44 _ (0, 0) _ rfl (hF _ _).1 Try.underlying44 rfl (by kernel_rfl)) rfl ⟨rfl, (hF _ _).2⟩

set_option maxRecDepth 100000 in
set_option maxHeartbeats 1000000 in
theorem a65_1 : Ans 65 1 5 0 0 := by
  intro w
  go_enter Try.func65, Try.ntmps65
  go_wp2_with fail
  refine (a79_any (5) _).mono ?_
  rintro e w1 ⟨rfl, hB1⟩
  obtain ⟨c0, c1, f0, f1, hF⟩ := fin hB1
  clear hB1
  go_wp2
  refine bodyPost_ret (results_tc (p := 3) (r := 2) (ty := 44) rfl _ _ w.heap.size 44 _ (0, 0) _ rfl (hF _ _).1 Try.underlying44 rfl (by kernel_rfl)) rfl ⟨rfl, (hF _ _).2⟩

set_option maxRecDepth 100000 in
set_option maxHeartbeats 1000000 in
theorem a65_2 : Ans 65 2 2 4 0 := by
  intro w
  go_enter Try.func65, Try.ntmps65
  go_wp2_with fail
  refine (a69_2 _).mono ?_
  rintro e w1 ⟨rfl, hB1⟩
  obtain ⟨c0, c1, f0, f1, hF⟩ := fin hB1
  clear hB1
  go_wp2
  refine bodyPost_ret (results_tc (p := 3) (r := 2) (ty := 44) rfl _ _ w.heap.size 44 _ (0, 0) _ rfl (hF _ _).1 Try.underlying44 rfl (by kernel_rfl)) rfl ⟨rfl, (hF _ _).2⟩

set_option maxRecDepth 100000 in
set_option maxHeartbeats 1000000 in
theorem a65_3 : Ans 65 3 3 0 0 := by
  intro w
  go_enter Try.func65, Try.ntmps65
  go_wp2_with fail
  refine (a69_3 _).mono ?_
  rintro e w1 ⟨rfl, hB1⟩
  obtain ⟨c0, c1, f0, f1, hF⟩ := fin hB1
  clear hB1
  go_wp2
  refine bodyPost_ret (results_tc (p := 3) (r := 2) (ty := 44) rfl _ _ w.heap.size 44 _ (0, 0) _ rfl (hF _ _).1 Try.underlying44 rfl (by kernel_rfl)) rfl ⟨rfl, (hF _ _).2⟩

set_option maxRecDepth 100000 in
set_option maxHeartbeats 1000000 in
theorem a65_4 : Ans 65 4 4 4 0 := by
  intro w
  go_enter Try.func65, Try.ntmps65
  go_wp2_with fail
  refine (a69_4 _).mono ?_
  rintro e w1 ⟨rfl, hB1⟩
  obtain ⟨c0, c1, f0, f1, hF⟩ := fin hB1
  clear hB1
  go_wp2
  refine bodyPost_ret (results_tc (p := 3) (r := 2) (ty := 44) rfl _ _ w.heap.size 44 _ (0, 0) _ rfl (hF _ _).1 Try.underlying44 rfl (by kernel_rfl)) rfl ⟨rfl, (hF _ _).2⟩

set_option maxRecDepth 100000 in
set_option maxHeartbeats 1000000 in
theorem a65_5 : Ans 65 5 5 0 0 := by
  intro w
  go_enter Try.func65, Try.ntmps65
  go_wp2_with fail
  refine (a69_5 _).mono ?_
  rintro e w1 ⟨rfl, hB1⟩
  obtain ⟨c0, c1, f0, f1, hF⟩ := fin hB1
  clear hB1
  go_wp2
  refine bodyPost_ret (results_tc (p := 3) (r := 2) (ty := 44) rfl _ _ w.heap.size 44 _ (0, 0) _ rfl (hF _ _).1 Try.underlying44 rfl (by kernel_rfl)) rfl ⟨rfl, (hF _ _).2⟩

set_option maxRecDepth 100000 in
set_option maxHeartbeats 1000000 in
theorem a65_6 : Ans 65 6 6 4 0 := by
  intro w
  go_enter Try.func65, Try.ntmps65
  go_wp2_with fail
  refine (a69_6 _).mono ?_
  rintro e w1 ⟨rfl, hB1⟩
  obtain ⟨c0, c1, f0, f1, hF⟩ := fin hB1
  clear hB1
  go_wp2
  refine bodyPost_ret (results_tc (p := 3) (r := 2) (ty := 44) rfl _ _ w.heap.size 44 _ (0, 0) _ rfl (hF _ _).1 Try.underlying44 rfl (by kernel_rfl)) rfl ⟨rfl, (hF _ _).2⟩

set_option maxRecDepth 100000 in
set_option maxHeartbeats 1000000 in
theorem a66_0 : Ans 66 0 3 0 0 := by
  intro w
  go_enter Try.func66, Try.ntmps66
  go_wp2_with fail
  refine (a79_any (3) _).mono ?_
  rintro e w1 ⟨rfl, hB1⟩
  obtain ⟨c0, c1, f0, f1, hF⟩ := fin hB1
  clear hB1
  go_wp2
  refine bodyPost_ret (results_tc (p := 3) (r := 2) (ty := 44) rfl _ _ w.heap.size 44 _ (0, 0) _ rfl (hF _ _).1 Try.underlying44 rfl (by kernel_rfl)) rfl ⟨rfl, (hF _ _).2⟩

set_option maxRecDepth 100000 in
set_option maxHeartbeats 1000000 in
theorem a66_1 : Ans 66 1 1 3 1 := by
  intro w
  go_enter Try.func66, Try.ntmps66
  go_wp2_with fail
  refine (a70_1 _).mono ?_
  rintro e w1 ⟨rfl, hB1⟩
  obtain ⟨c0, c1, f0, f1, hF⟩ := fin hB1
  clear hB1
  go_wp2
  refine bodyPost_ret (results_tc (p := 3) (r := 2) (ty := 44) rfl _ _ w.heap.size 44 _ (0, 0) _ rfl (hF _ _).1 Try.underlying44 rfl (by kernel_rfl)) rfl ⟨rfl, (hF _ _).2⟩

set_option maxRecDepth 100000 in
set_option maxHeartbeats 1000000 in
theorem a66_2 : Ans 66 2 4 0 0 := by
  intro w
  go_enter Try.func66, Try.ntmps66
  go_wp2_with fail
  refine (a79_any (4) _).mono ?_
  rintro e w1 ⟨rfl, hB1⟩
  obtain ⟨c0, c1, f0, f1, hF⟩ := fin hB1
  clear hB1
  go_wp2
  refine bodyPost_ret (results_tc (p := 3) (r := 2) (ty := 44) rfl _ _ w.heap.size 44 _ (0, 0) _ rfl (hF _ _).1 Try.underlying44 rfl (by kernel_rfl)) rfl ⟨rfl, (hF _ _).2⟩

set_option maxRecDepth 100000 in
set_option maxHeartbeats 1000000 in
theorem a66_3 : Ans 66 3 3 0 0 := by
  intro w
  go_enter Try.func66, Try.ntmps66
  go_wp2_with fail
  refine (a70_3 _).mono ?_
  rintro e w1 ⟨rfl, hB1⟩
  obtain ⟨c0, c1, f0, f1, hF⟩ := fin hB1
  clear hB1
  go_wp2
  refine bodyPost_ret (results_tc (p := 3) (r := 2) (ty := 44) rfl _ _ w.heap.size 44 _ (0, 0) _ rfl (hF _ _).1 Try.underlying44 rfl (by kernel_rfl)) rfl ⟨rfl, (hF _ _).2⟩

set_option maxRecDepth 100000 in
set_option maxHeartbeats 1000000 in
theorem a66_4 : Ans 66 4 4 0 0 := by
  intro w
  go_enter Try.func66, Try.ntmps66
  go_wp2_with fail
  refine (a70_4 _).mono ?_
  rintro e w1 ⟨rfl, hB1⟩
  obtain ⟨c0, c1, f0, f1, hF⟩ := fin hB1
  clear hB1
  go_wp2
  refine bodyPost_ret (results_tc (p := 3) (r := 2) (ty := 44) rfl _ _ w.heap.size 44 _ (0, 0) _ rfl (hF _ _).1 Try.underlying44 rfl (by kernel_rfl)) rfl ⟨rfl, (hF _ _).2⟩

set_option maxRecDepth 100000 in
set_option maxHeartbeats 1000000 in
theorem a66_5 : Ans 66 5 5 2 5 := by
  intro w
  go_enter Try.func66, Try.ntmps66
  go_wp2_with fail
  refine (a70_5 _).mono ?_
  rintro e w1 ⟨rfl, hB1⟩
  obtain ⟨c0, c1, f0, f1, hF⟩ := fin hB1
  clear hB1
  go_wp2
  refine bodyPost_ret (results_tc (p := 3) (r := 2) (ty := 44) rfl _ _ w.heap.size 44 _ (0, 0) _ rfl (hF _ _).1 Try.underlying44 rfl (by kernel_rfl)) rfl ⟨rfl, (hF _ _).2⟩

set_option maxRecDepth 100000 in
set_option maxHeartbeats 1000000 in
theorem a66_6 : Ans 66 6 6 3 5 := by
  intro w
  go_enter Try.func66, Try.ntmps66
  go_wp2_with fail
  refine (a70_6 _).mono ?_
  rintro e w1 ⟨rfl, hB1⟩
  obtain ⟨c0, c1, f0, f1, hF⟩ := fin hB1
  clear hB1
  go_wp2
  refine bodyPost_ret (results_tc (p := 3) (r := 2) (ty := 44) rfl _ _ w.heap.size 44 _ (0, 0) _ rfl (hF _ _).1 Try.underlying44 rfl (by kernel_rfl)) rfl ⟨rfl, (hF _ _).2⟩

set_option maxRecDepth 100000 in
set_option maxHeartbeats 1000000 in
theorem a67_0 : Ans 67 0 4 0 0 := by
  intro w
  go_enter Try.func67, Try.ntmps67
  go_wp2_with fail
  refine (a65_0 _).mono ?_
  rintro e w1 ⟨rfl, hB1⟩
  go_wp2_with fail
  refine (a87_end 3 0 rfl _).mono ?_
  rintro e w2 ⟨rfl, hB2⟩
  replace hB1 := hB1.trans (hB2.mono hB1.size)
  obtain ⟨c0, c1, f0, f1, hF⟩ := fin hB1
  clear hB1
  go_wp2
  refine bodyPost_ret (results_tc (p := 3) (r := 2) (ty := 44) rfl _ _ w.heap.size 44 _ (0, 0) _ rfl (hF _ _).1 Try.underlying44 rfl (by kernel_rfl)) rfl ⟨rfl, (hF _ _).2⟩

set_option maxRecDepth 100000 in
set_option maxHeartbeats 1000000 in
theorem a67_1 : Ans 67 1 6 0 0 := by
  intro w
  go_enter Try.func67, Try.ntmps67
  go_wp2_with fail
  refine (a65_1 _).mono ?_
  rintro e w1 ⟨rfl, hB1⟩
  go_wp2_with fail
  refine (a87_over 0 _).mono ?_
  rintro e w2 ⟨rfl, hB2⟩
  replace hB1 := hB1.trans (hB2.mono hB1.size)
  obtain ⟨c0, c1, f0, f1, hF⟩ := fin hB1
  clear hB1
  go_wp2
  refine bodyPost_ret (results_tc (p := 3) (r := 2) (ty := 44) rfl _ _ w.heap.size 44 _ (0, 0) _ rfl (hF _ _).1 Try.underlying44 rfl (by kernel_rfl)) rfl ⟨rfl, (hF _ _).2⟩

set_option maxRecDepth 100000 in
set_option maxHeartbeats 1000000 in
theorem a67_2 : Ans 67 2 2 4 0 := by
  intro w
  go_enter Try.func67, Try.ntmps67
  go_wp2_with fail
  refine (a65_2 _).mono ?_
  rintro e w1 ⟨rfl, hB1⟩
  go_wp2_with fail
  refine (a87_no 2 4 0 rfl _).mono ?_
  rintro e w2 ⟨rfl, hB2⟩
  replace hB1 := hB1.trans (hB2.mono hB1.size)
  obtain ⟨c0, c1, f0, f1, hF⟩ := fin hB1
  clear hB1
  go_wp2
  refine bodyPost_ret (results_tc (p := 3) (r := 2) (ty := 44) rfl _ _ w.heap.size 44 _ (0, 0) _ rfl (hF _ _).1 Try.underlying44 rfl (by kernel_rfl)) rfl ⟨rfl, (hF _ _).2⟩

set_option maxRecDepth 100000 in
set_option maxHeartbeats 1000000 in
theorem a67_3 : Ans 67 3 4 0 0 := by
  intro w
  go_enter Try.func67, Try.ntmps67
  go_wp2_with fail
  refine (a65_3 _).mono ?_
  rintro e w1 ⟨rfl, hB1⟩
  go_wp2_with fail
  refine (a87_end 3 0 rfl _).mono ?_
  rintro e w2 ⟨rfl, hB2⟩
  replace hB1 := hB1.trans (hB2.mono hB1.size)
  obtain ⟨c0, c1, f0, f1, hF⟩ := fin hB1
  clear hB1
  go_wp2
  refine bodyPost_ret (results_tc (p := 3) (r := 2) (ty := 44) rfl _ _ w.heap.size 44 _ (0, 0) _ rfl (hF _ _).1 Try.underlying44 rfl (by kernel_rfl)) rfl ⟨rfl, (hF _ _).2⟩

set_option maxRecDepth 100000 in
set_option maxHeartbeats 1000000 in
theorem a67_4 : Ans 67 4 4 4 0 := by
  intro w
  go_enter Try.func67, Try.ntmps67
  go_wp2_with fail
  refine (a65_4 _).mono ?_
  rintro e w1 ⟨rfl, hB1⟩
  go_wp2_with fail
  refine (a87_no 4 4 0 rfl _).mono ?_
  rintro e w2 ⟨rfl, hB2⟩
  replace hB1 := hB1.trans (hB2.mono hB1.size)
  obtain ⟨c0, c1, f0, f1, hF⟩ := fin hB1
  clear hB1
  go_wp2
  refine bodyPost_ret (results_tc (p := 3) (r := 2) (ty := 44) rfl _ _ w.heap.size 44 _ (0, 0) _ rfl (hF _ _).1 Try.underlying44 rfl (by kernel_rfl)) rfl ⟨rfl, (hF _ _).2⟩

set_option maxRecDepth 100000 in
set_option maxHeartbeats 1000000 in
theorem a67_5 : Ans 67 5 6 0 0 := by
  intro w
  go_enter Try.func67, Try.ntmps67
  go_wp2_with fail
  refine (a65_5 _).mono ?_
  rintro e w1 ⟨rfl, hB1⟩
  go_wp2_with fail
  refine (a87_over 0 _).mono ?_
  rintro e w2 ⟨rfl, hB2⟩
  replace hB1 := hB1.trans (hB2.mono hB1.size)
  obtain ⟨c0, c1, f0, f1, hF⟩ := fin hB1
  clear hB1
  go_wp2
  refine bodyPost_ret (results_tc (p := 3) (r := 2) (ty := 44) rfl _ _ w.heap.size 44 _ (0, 0) _ rfl (hF _ _).1 Try.underlying44 rfl (by kernel_rfl)) rfl ⟨rfl, (hF _ _).2⟩

set_option maxRecDepth 100000 in
set_option maxHeartbeats 1000000 in
theorem a67_6 : Ans 67 6 6 4 0 := by
  intro w
  go_enter Try.func67, Try.ntmps67
  go_wp2_with fail
  refine (a65_6 _).mono ?_
  rintro e w1 ⟨rfl, hB1⟩
  go_wp2_with fail
  refine (a87_no 6 4 0 rfl _).mono ?_
  rintro e w2 ⟨rfl, hB2⟩
  replace hB1 := hB1.trans (hB2.mono hB1.size)
  obtain ⟨c0, c1, f0, f1, hF⟩ := fin hB1
  clear hB1
  go_wp2
  refine bodyPost_ret (results_tc (p := 3) (r := 2) (ty := 44) rfl _ _ w.heap.size 44 _ (0, 0) _ rfl (hF _ _).1 Try.underlying44 rfl (by kernel_rfl)) rfl ⟨rfl, (hF _ _).2⟩

set_option maxRecDepth 100000 in
set_option maxHeartbeats 1000000 in
theorem a68_0 : Ans 68 0 5 0 0 := by
  intro w
  go_enter Try.func68, Try.ntmps68
  go_wp2_with fail
  refine (a66_0 _).mono ?_
  rintro e w1 ⟨rfl, hB1⟩
  go_wp2_with fail
  refine (a88_end 3 0 rfl _).mono ?_
  rintro e w2 ⟨rfl, hB2⟩
  replace hB1 := hB1.trans (hB2.mono hB1.size)
  obtain ⟨c0, c1, f0, f1, hF⟩ := fin hB1
  clear hB1
  go_wp2
  refine bodyPost_ret (results_tc (p := 3) (r := 2) (ty := 44) rfl _ _ w.heap.size 44 _ (0, 0) _ rfl (hF _ _).1 Try.underlying44 rfl (by kernel_rfl)) rfl ⟨rfl, (hF _ _).2⟩

set_option maxRecDepth 100000 in
set_option maxHeartbeats 1000000 in
theorem a68_1 : Ans 68 1 1 3 1 := by
  intro w
  go_enter Try.func68, Try.ntmps68
  go_wp2_with fail
  refine (a66_1 _).mono ?_
  rintro e w1 ⟨rfl, hB1⟩
  go_wp2_with fail
  refine (a88_no 1 3 1 rfl _).mono ?_
  rintro e w2 ⟨rfl, hB2⟩
  replace hB1 := hB1.trans (hB2.mono hB1.size)
  obtain ⟨c0, c1, f0, f1, hF⟩ := fin hB1
  clear hB1
  go_wp2
  refine bodyPost_ret (results_tc (p := 3) (r := 2) (ty := 44) rfl _ _ w.heap.size 44 _ (0, 0) _ rfl (hF _ _).1 Try.underlying44 rfl (by kernel_rfl)) rfl ⟨rfl, (hF _ _).2⟩

set_option maxRecDepth 100000 in
set_option maxHeartbeats 1000000 in
theorem a68_2 : Ans 68 2 6 0 0 := by
  intro w
  go_enter Try.func68, Try.ntmps68
  go_wp2_with fail
  refine (a66_2 _).mono ?_
  rintro e w1 ⟨rfl, hB1⟩
  go_wp2_with fail
  refine (a88_over 0 _).mono ?_
  rintro e w2 ⟨rfl, hB2⟩
  replace hB1 := hB1.trans (hB2.mono hB1.size)
  obtain ⟨c0, c1, f0, f1, hF⟩ := fin hB1
  clear hB1
  go_wp2
  refine bodyPost_ret (results_tc (p := 3) (r := 2) (ty := 44) rfl _ _ w.heap.size 44 _ (0, 0) _ rfl (hF _ _).1 Try.underlying44 rfl (by kernel_rfl)) rfl ⟨rfl, (hF _ _).2⟩

set_option maxRecDepth 100000 in
set_option maxHeartbeats 1000000 in
theorem a68_3 : Ans 68 3 5 0 0 := by
  intro w
  go_enter Try.func68, Try.ntmps68
  go_wp2_with fail
  refine (a66_3 _).mono ?_
  rintro e w1 ⟨rfl, hB1⟩
  go_wp2_with fail
  refine (a88_end 3 0 rfl _).mono ?_
  rintro e w2 ⟨rfl, hB2⟩
  replace hB1 := hB1.trans (hB2.mono hB1.size)
  obtain ⟨c0, c1, f0, f1, hF⟩ := fin hB1
  clear hB1
  go_wp2
  refine bodyPost_ret (results_tc (p := 3) (r := 2) (ty := 44) rfl _ _ w.heap.size 44 _ (0, 0) _ rfl (hF _ _).1 Try.underlying44 rfl (by kernel_rfl)) rfl ⟨rfl, (hF _ _).2⟩

set_option maxRecDepth 100000 in
set_option maxHeartbeats 1000000 in
theorem a68_4 : Ans 68 4 6 0 0 := by
  intro w
  go_enter Try.func68, Try.ntmps68
  go_wp2_with fail
  refine (a66_4 _).mono ?_
  rintro e w1 ⟨rfl, hB1⟩
  go_wp2_with fail
  refine (a88_over 0 _).mono ?_
  rintro e w2 ⟨rfl, hB2⟩
  replace hB1 := hB1.trans (hB2.mono hB1.size)
  obtain ⟨c0, c1, f0, f1, hF⟩ := fin hB1
  clear hB1
  go_wp2
  refine bodyPost_ret (results_tc (p := 3) (r := 2) (ty := 44) rfl _ _ w.heap.size 44 _ (0, 0) _ rfl (hF _ _).1 Try.underlying44 rfl (by kernel_rfl)) rfl ⟨rfl, (hF _ _).2⟩

set_option maxRecDepth 100000 in
set_option maxHeartbeats 1000000 in
theorem a68_5 : Ans 68 5 5 2 5 := by
  intro w
  go_enter Try.func68, Try.ntmps68
  go_wp2_with fail
  refine (a66_5 _).mono ?_
  rintro e w1 ⟨rfl, hB1⟩
  go_wp2_with fail
  refine (a88_no 5 2 5 rfl _).mono ?_
  rintro e w2 ⟨rfl, hB2⟩
  replace hB1 := hB1.trans (hB2.mono hB1.size)
  obtain ⟨c0, c1, f0, f1, hF⟩ := fin hB1
  clear hB1
  go_wp2
  refine bodyPost_ret (results_tc (p := 3) (r := 2) (ty := 44) rfl _ _ w.heap.size 44 _ (0, 0) _ rfl (hF _ _).1 Try.underlying44 rfl (by kernel_rfl)) rfl ⟨rfl, (hF _ _).2⟩

set_option maxRecDepth 100000 in
set_option maxHeartbeats 1000000 in
theorem a68_6 : Ans 68 6 6 3 5 := by
  intro w
  go_enter Try.func68, Try.ntmps68
  go_wp2_with fail
  refine (a66_6 _).mono ?_
  rintro e w1 ⟨rfl, hB1⟩
  go_wp2_with fail
  refine (a88_no 6 3 5 rfl _).mono ?_
  rintro e w2 ⟨rfl, hB2⟩
  replace hB1 := hB1.trans (hB2.mono hB1.size)
  obtain ⟨c0, c1, f0, f1, hF⟩ := fin hB1
  clear hB1
  go_wp2
  refine bodyPost_ret (results_tc (p := 3) (r := 2) (ty := 44) rfl _ _ w.heap.size 44 _ (0, 0) _ rfl (hF _ _).1 Try.underlying44 rfl (by kernel_rfl)) rfl ⟨rfl, (hF _ _).2⟩

set_option maxRecDepth 100000 in
set_option maxHeartbeats 1000000 in
theorem a71_0 : Ans 71 0 0 4 0 := by
  intro w
  go_enter Try.func71, Try.ntmps71
  go_wp2_with fail
  refine (a69_0 _).mono ?_
  rintro e w1 ⟨rfl, hB1⟩
  go_wp2_with fail
  refine (a87_no 0 4 0 rfl _).mono ?_
  rintro e w2 ⟨rfl, hB2⟩
  replace hB1 := hB1.trans (hB2.mono hB1.size)
  obtain ⟨c0, c1, f0, f1, hF⟩ := fin hB1
  clear hB1
  go_wp2
  refine bodyPost_ret (results_tc (p := 3) (r := 2) (ty := 44) rfl _ _ w.heap.size 44 _ (0, 0) _ rfl (hF _ _).1 Try.underlying44 rfl (by kernel_rfl)) rfl ⟨rfl, (hF _ _).2⟩

set_option maxRecDepth 100000 in
set_option maxHeartbeats 1000000 in
theorem a71_1 : Ans 71 1 1 4 0 := by
  intro w
  go_enter Try.func71, Try.ntmps71
  go_wp2_with fail
  refine (a69_1 _).mono ?_
  rintro e w1 ⟨rfl, hB1⟩
  go_wp2_with fail
  refine (a87_no 1 4 0 rfl _).mono ?_
  rintro e w2 ⟨rfl, hB2⟩
  replace hB1 := hB1.trans (hB2.mono hB1.size)
  obtain ⟨c0, c1, f0, f1, hF⟩ := fin hB1
  clear hB1
  go_wp2
  refine bodyPost_ret (results_tc (p := 3) (r := 2) (ty := 44) rfl _ _ w.heap.size 44 _ (0, 0) _ rfl (hF _ _).1 Try.underlying44 rfl (by kernel_rfl)) rfl ⟨rfl, (hF _ _).2⟩

set_option maxRecDepth 100000 in
set_option maxHeartbeats 1000000 in
theorem a71_2 : Ans 71 2 2 4 0 := by
  intro w
  go_enter Try.func71, Try.ntmps71
  go_wp2_with fail
  refine (a69_2 _).mono ?_
  rintro e w1 ⟨rfl, hB1⟩
  go_wp2_with fail
  refine (a87_no 2 4 0 rfl _).mono ?_
  rintro e w2 ⟨rfl, hB2⟩
  replace hB1 := hB1.trans (hB2.mono hB1.size)
  obtain ⟨c0, c1, f0, f1, hF⟩ := fin hB1
  clear hB1
  go_wp2
  refine bodyPost_ret (results_tc (p := 3) (r := 2) (ty := 44) rfl _ _ w.heap.size 44 _ (0, 0) _ rfl (hF _ _).1 Try.underlying44 rfl (by kernel_rfl)) rfl ⟨rfl, (hF _ _).2⟩

set_option maxRecDepth 100000 in
set_option maxHeartbeats 1000000 in
theorem a71_3 : Ans 71 3 4 0 0 := by
  intro w
  go_enter Try.func71, Try.ntmps71
  go_wp2_with fail
  refine (a69_3 _).mono ?_
  rintro e w1 ⟨rfl, hB1⟩
  go_wp2_with fail
  refine (a87_end 3 0 rfl _).mono ?_
  rintro e w2 ⟨rfl, hB2⟩
  replace hB1 := hB1.trans (hB2.mono hB1.size)
  obtain ⟨c0, c1, f0, f1, hF⟩ := fin hB1
  clear hB1
  go_wp2
  refine bodyPost_ret (results_tc (p := 3) (r := 2) (ty := 44) rfl _ _ w.heap.size 44 _ (0, 0) _ rfl (hF _ _).1 Try.underlying44 rfl (by kernel_rfl)) rfl ⟨rfl, (hF _ _).2⟩

set_option maxRecDepth 100000 in
set_option maxHeartbeats 1000000 in
theorem a71_4 : Ans 71 4 4 4 0 := by
  intro w
  go_enter Try.func71, Try.ntmps71
  go_wp2_with fail
  refine (a69_4 _).mono ?_
  rintro e w1 ⟨rfl, hB1⟩
  go_wp2_with fail
  refine (a87_no 4 4 0 rfl _).mono ?_
  rintro e w2 ⟨rfl, hB2⟩
  replace hB1 := hB1.trans (hB2.mono hB1.size)
  obtain ⟨c0, c1, f0, f1, hF⟩ := fin hB1
  clear hB1
  go_wp2
  refine bodyPost_ret (results_tc (p := 3) (r := 2) (ty := 44) rfl _ _ w.heap.size 44 _ (0, 0) _ rfl (hF _ _).1 Try.underlying44 rfl (by kernel_rfl)) rfl ⟨rfl, (hF _ _).2⟩

set_option maxRecDepth 100000 in
set_option maxHeartbeats 1000000 in
theorem a71_5 : Ans 71 5 6 0 0 := by
  intro w
  go_enter Try.func71, Try.ntmps71
  go_wp2_with fail
  refine (a69_5 _).mono ?_
  rintro e w1 ⟨rfl, hB1⟩
  go_wp2_with fail
  refine (a87_over 0 _).mono ?_
  rintro e w2 ⟨rfl, hB2⟩
  replace hB1 := hB1.trans (hB2.mono hB1.size)
  obtain ⟨c0, c1, f0, f1, hF⟩ := fin hB1
  clear hB1
  go_wp2
  refine bodyPost_ret (results_tc (p := 3) (r := 2) (ty := 44) rfl _ _ w.heap.size 44 _ (0, 0) _ rfl (hF _ _).1 Try.underlying44 rfl (by kernel_rfl)) rfl ⟨rfl, (hF _ _).2⟩

set_option maxRecDepth 100000 in
set_option maxHeartbeats 1000000 in
theorem a71_6 : Ans 71 6 6 4 0 := by
  intro w
  go_enter Try.func71, Try.ntmps71
  go_wp2_with fail
  refine (a69_6 _).mono ?_
  rintro e w1 ⟨rfl, hB1⟩
  go_wp2_with fail
  refine (a87_no 6 4 0 rfl _).mono ?_
  rintro e w2 ⟨rfl, hB2⟩
  replace hB1 := hB1.trans (hB2.mono hB1.size)
  obtain ⟨c0, c1, f0, f1, hF⟩ := fin hB1
  clear hB1
  go_wp2
  refine bodyPost_ret (results_tc (p := 3) (r := 2) (ty := 44) rfl _ _ w.heap.size 44 _ (0, 0) _ rfl (hF _ _).1 Try.underlying44 rfl (by kernel_rfl)) rfl ⟨rfl, (hF _ _).2⟩

set_option maxRecDepth 100000 in
set_option maxHeartbeats 1000000 in
theorem a72_0 : Ans 72 0 0 3 1 := by
  intro w
  go_enter Try.func72, Try.ntmps72
  go_wp2_with fail
  refine (a70_0 _).mono ?_
  rintro e w1 ⟨rfl, hB1⟩
  go_wp2_with fail
  refine (a88_no 0 3 1 rfl _).mono ?_
  rintro e w2 ⟨rfl, hB2⟩
  replace hB1 := hB1.trans (hB2.mono hB1.size)
  obtain ⟨c0, c1, f0, f1, hF⟩ := fin hB1
  clear hB1
  go_wp2
  refine bodyPost_ret (results_tc (p := 3) (r := 2) (ty := 44) rfl _ _ w.heap.size 44 _ (0, 0) _ rfl (hF _ _).1 Try.underlying44 rfl (by kernel_rfl)) rfl ⟨rfl, (hF _ _).2⟩

set_option maxRecDepth 100000 in
set_option maxHeartbeats 1000000 in
theorem a72_1 : Ans 72 1 1 3 1 := by
  intro w
  go_enter Try.func72, Try.ntmps72
  go_wp2_with fail
  refine (a70_1 _).mono ?_
  rintro e w1 ⟨rfl, hB1⟩
  go_wp2_with fail
  refine (a88_no 1 3 1 rfl _).mono ?_
  rintro e w2 ⟨rfl, hB2⟩
  replace hB1 := hB1.trans (hB2.mono hB1.size)
  obtain ⟨c0, c1, f0, f1, hF⟩ := fin hB1
  clear hB1
  go_wp2
  refine bodyPost_ret (results_tc (p := 3) (r := 2) (ty := 44) rfl _ _ w.heap.size 44 _ (0, 0) _ rfl (hF _ _).1 Try.underlying44 rfl (by kernel_rfl)) rfl ⟨rfl, (hF _ _).2⟩

set_option maxRecDepth 100000 in
set_option maxHeartbeats 1000000 in
theorem a72_2 : Ans 72 2 2 3 1 := by
  intro w
  go_enter Try.func72, Try.ntmps72
  go_wp2_with fail
  refine (a70_2 _).mono ?_
  rintro e w1 ⟨rfl, hB1⟩
  go_wp2_with fail
  refine (a88_no 2 3 1 rfl _).mono ?_
  rintro e w2 ⟨rfl, hB2⟩
  replace hB1 := hB1.trans (hB2.mono hB1.size)
  obtain ⟨c0, c1, f0, f1, hF⟩ := fin hB1
  clear hB1
  go_wp2
  refine bodyPost_ret (results_tc (p := 3) (r := 2) (ty := 44) rfl _ _ w.heap.size 44 _ (0, 0) _ rfl (hF _ _).1 Try.underlying44 rfl (by kernel_rfl)) rfl ⟨rfl, (hF _ _).2⟩

set_option maxRecDepth 100000 in
set_option maxHeartbeats 1000000 in
theorem a72_3 : Ans 72 3 5 0 0 := by
  intro w
  go_enter Try.func72, Try.ntmps72
  go_wp2_with fail
  refine (a70_3 _).mono ?_
  rintro e w1 ⟨rfl, hB1⟩
  go_wp2_with fail
  refine (a88_end 3 0 rfl _).mono ?_
  rintro e w2 ⟨rfl, hB2⟩
  replace hB1 := hB1.trans (hB2.mono hB1.size)
  obtain ⟨c0, c1, f0, f1, hF⟩ := fin hB1
  clear hB1
  go_wp2
  refine bodyPost_ret (results_tc (p := 3) (r := 2) (ty := 44) rfl _ _ w.heap.size 44 _ (0, 0) _ rfl (hF _ _).1 Try.underlying44 rfl (by kernel_rfl)) rfl ⟨rfl, (hF _ _).2⟩

set_option maxRecDepth 100000 in
set_option maxHeartbeats 1000000 in
theorem a72_4 : Ans 72 4 6 0 0 := by
  intro w
  go_enter Try.func72, Try.ntmps72
  go_wp2_with fail
  refine (a70_4 _).mono ?_
  rintro e w1 ⟨rfl, hB1⟩
  go_wp2_with fail
  refine (a88_over 0 _).mono ?_
  rintro e w2 ⟨rfl, hB2⟩
  replace hB1 := hB1.trans (hB2.mono hB1.size)
  obtain ⟨c0, c1, f0, f1, hF⟩ := fin hB1
  clear hB1
  go_wp2
  refine bodyPost_ret (results_tc (p := 3) (r := 2) (ty := 44) rfl _ _ w.heap.size 44 _ (0, 0) _ rfl (hF _ _).1 Try.underlying44 rfl (by kernel_rfl)) rfl ⟨rfl, (hF _ _).2⟩

set_option maxRecDepth 100000 in
set_option maxHeartbeats 1000000 in
theorem a72_5 : Ans 72 5 5 2 5 := by
  intro w
  go_enter Try.func72, Try.ntmps72
  go_wp2_with fail
  refine (a70_5 _).mono ?_
  rintro e w1 ⟨rfl, hB1⟩
  go_wp2_with fail
  refine (a88_no 5 2 5 rfl _).mono ?_
  rintro e w2 ⟨rfl, hB2⟩
  replace hB1 := hB1.trans (hB2.mono hB1.size)
  obtain ⟨c0, c1, f0, f1, hF⟩ := fin hB1
  clear hB1
  go_wp2
  refine bodyPost_ret (results_tc (p := 3) (r := 2) (ty := 44) rfl _ _ w.heap.size 44 _ (0, 0) _ rfl (hF _ _).1 Try.underlying44 rfl (by kernel_rfl)) rfl ⟨rfl, (hF _ _).2⟩

set_option maxRecDepth 100000 in
set_option maxHeartbeats 1000000 in
theorem a72_6 : Ans 72 6 6 3 5 := by
  intro w
  go_enter Try.func72, Try.ntmps72
  go_wp2_with fail
  refine (a70_6 _).mono ?_
  rintro e w1 ⟨rfl, hB1⟩
  go_wp2_with fail
  refine (a88_no 6 3 5 rfl _).mono ?_
  rintro e w2 ⟨rfl, hB2⟩
  replace hB1 := hB1.trans (hB2.mono hB1.size)
  obtain ⟨c0, c1, f0, f1, hF⟩ := fin hB1
  clear hB1
  go_wp2
  refine bodyPost_ret (results_tc (p := 3) (r := 2) (ty := 44) rfl _ _ w.heap.size 44 _ (0, 0) _ rfl (hF _ _).1 Try.underlying44 rfl (by kernel_rfl)) rfl ⟨rfl, (hF _ _).2⟩

set_option maxRecDepth 100000 in
set_option maxHeartbeats 1000000 in
theorem a73_0 : Ans 73 0 1 0 0 := by
  intro w
  go_enter Try.func73, Try.ntmps73
  go_wp2_with fail
  refine (a79_any (1) _).mono ?_
  rintro e w1 ⟨rfl, hB1⟩
  obtain ⟨c0, c1, f0, f1, hF⟩ := fin hB1
  clear hB1
  go_wp2
  refine bodyPost_ret (results_tc (p := 3) (r := 2) (ty := 44) rfl _ _ w.heap.size 44 _ (0, 0) _ rfl (hF _ _).1 Try.underlying44 rfl (by kernel_rfl)) rfl ⟨rfl, (hF _ _).2⟩

set_option maxRecDepth 100000 in
set_option maxHeartbeats 1000000 in
theorem a73_1 : Ans 73 1 1 4 0 := by
  intro w
  go_enter Try.func73, Try.ntmps73
  go_wp2_with fail
  refine (a51_any (1) _).mono ?_
  rintro e w1 ⟨rfl, hB1⟩
  obtain ⟨c0, c1, f0, f1, hF⟩ := fin hB1
  clear hB1
  go_wp2
  refine bodyPost_ret (results_tc (p := 3) (r := 2) (ty := 44) rfl _ _ w.heap.size 44 _ (0, 0) _ rfl (hF _ _).1 Try.underlying44 rfl (by kernel_rfl)) rfl ⟨rfl, (hF _ _).2⟩

set_option maxRecDepth 100000 in
set_option maxHeartbeats 1000000 in
theorem a73_2 : Ans 73 2 2 4 0 := by
  intro w
  go_enter Try.func73, Try.ntmps73
  go_wp2_with fail
  refine (a51_any (2) _).mono ?_
  rintro e w1 ⟨rfl, hB1⟩
  obtain ⟨c0, c1, f0, f1, hF⟩ := fin hB1
  clear hB1
  go_wp2
  refine bodyPost_ret (results_tc (p := 3) (r := 2) (ty := 44) rfl _ _ w.heap.size 44 _ (0, 0) _ rfl (hF _ _).1 Try.underlying44 rfl (by kernel_rfl)) rfl ⟨rfl, (hF _ _).2⟩

set_option maxRecDepth 100000 in
set_option maxHeartbeats 1000000 in
theorem a73_3 : Ans 73 3 3 4 0 := by
  intro w
  go_enter Try.func73, Try.ntmps73
  go_wp2_with fail
  refine (a51_any (3) _).mono ?_
  rintro e w1 ⟨rfl, hB1⟩
  obtain ⟨c0, c1, f0, f1, hF⟩ := fin hB1
  clear hB1
  go_wp2
  refine bodyPost_ret (results_tc (p := 3) (r := 2) (ty := 44) rfl _ _ w.heap.size 44 _ (0, 0) _ rfl (hF _ _).1 Try.underlying44 rfl (by kernel_rfl)) rfl ⟨rfl, (hF _ _).2⟩

set_option maxRecDepth 100000 in
set_option maxHeartbeats 1000000 in
theorem a73_4 : Ans 73 4 4 4 0 := by
  intro w
  go_enter Try.func73, Try.ntmps73
  go_wp2_with fail
  refine (a51_any (4) _).mono ?_
  rintro e w1 ⟨rfl, hB1⟩
  obtain ⟨c0, c1, f0, f1, hF⟩ := fin hB1
  clear hB1
  go_wp2
  refine bodyPost_ret (results_tc (p := 3) (r := 2) (ty := 44) rfl _ _ w.heap.size 44 _ (0, 0) _ rfl (hF _ _).1 Try.underlying44 rfl (by kernel_rfl)) rfl ⟨rfl, (hF _ _).2⟩

set_option maxRecDepth 100000 in
set_option maxHeartbeats 1000000 in
theorem a73_5 : Ans 73 5 5 4 0 := by
  intro w
  go_enter Try.func73, Try.ntmps73
  go_wp2_with fail
  refine (a51_any (5) _).mono ?_
  rintro e w1 ⟨rfl, hB1⟩
  obtain ⟨c0, c1, f0, f1, hF⟩ := fin hB1
  clear hB1
  go_wp2
  refine bodyPost_ret (results_tc (p := 3) (r := 2) (ty := 44) rfl _ _ w.heap.size 44 _ (0, 0) _ rfl (hF _ _).1 Try.underlying44 rfl (by kernel_rfl)) rfl ⟨rfl, (hF _ _).2⟩

set_option maxRecDepth 100000 in
set_option maxHeartbeats 1000000 in
theorem a73_6 : Ans 73 6 6 4 0 := by
  intro w
  go_enter Try.func73, Try.ntmps73
  go_wp2_with fail
  refine (a51_any (6) _).mono ?_
  rintro e w1 ⟨rfl, hB1⟩
  obtain ⟨c0, c1, f0, f1, hF⟩ := fin hB1
  clear hB1
  go_wp2
  refine bodyPost_ret (results_tc (p := 3) (r := 2) (ty := 44) rfl _ _ w.heap.size 44 _ (0, 0) _ rfl (hF _ _).1 Try.underlying44 rfl (by kernel_rfl)) rfl ⟨rfl, (hF _ _).2⟩

set_option maxRecDepth 100000 in
set_option maxHeartbeats 1000000 in
theorem a74_0 : Ans 74 0 2 0 0 := by
  intro w
  go_enter Try.func74, Try.ntmps74
  go_wp2_with fail
  refine (a79_any (2) _).mono ?_
  rintro e w1 ⟨rfl, hB1⟩
  obtain ⟨c0, c1, f0, f1, hF⟩ := fin hB1
  clear hB1
  go_wp2
  refine bodyPost_ret (results_tc (p := 3) (r := 2) (ty := 44) rfl _ _ w.heap.size 44 _ (0, 0) _ rfl (hF _ _).1 Try.underlying44 rfl (by kernel_rfl)) rfl ⟨rfl, (hF _ _).2⟩

set_option maxRecDepth 100000 in
set_option maxHeartbeats 1000000 in
theorem a74_1 : Ans 74 1 1 3 1 := by
  intro w
  go_enter Try.func74, Try.ntmps74
  go_wp2_with fail
  refine (a90_any (1) _).mono ?_
  rintro e w1 ⟨rfl, hB1⟩
  obtain ⟨c0, c1, f0, f1, hF⟩ := fin hB1
  clear hB1
  go_wp2
  refine bodyPost_ret (results_tc (p := 3) (r := 2) (ty := 44) rfl _ _ w.heap.size 44 _ (0, 0) _ rfl (hF _ _).1 Try.underlying44 rfl (by kernel_rfl)) rfl ⟨rfl, (hF _ _).2⟩

set_option maxRecDepth 100000 in
set_option maxHeartbeats 1000000 in
theorem a74_2 : Ans 74 2 2 3 1 := by
  intro w
  go_enter Try.func74, Try.ntmps74
  go_wp2_with fail
  refine (a90_any (2) _).mono ?_
  rintro e w1 ⟨rfl, hB1⟩
  obtain ⟨c0, c1, f0, f1, hF⟩ := fin hB1
  clear hB1
  go_wp2
  refine bodyPost_ret (results_tc (p := 3) (r := 2) (ty := 44) rfl _ _ w.heap.size 44 _ (0, 0) _ rfl (hF _ _).1 Try.underlying44 rfl (by kernel_rfl)) rfl ⟨rfl, (hF _ _).2⟩

set_option maxRecDepth 100000 in
set_option maxHeartbeats 1000000 in
theorem a74_3 : Ans 74 3 3 3 1 := by
  intro w
  go_enter Try.func74, Try.ntmps74
  go_wp2_with fail
  refine (a90_any (3) _).mono ?_
  rintro e w1 ⟨rfl, hB1⟩
  obtain ⟨c0, c1, f0, f1, hF⟩ := fin hB1
  clear hB1
  go_wp2
  refine bodyPost_ret (results_tc (p := 3) (r := 2) (ty := 44) rfl _ _ w.heap.size 44 _ (0, 0) _ rfl (hF _ _).1 Try.underlying44 rfl (by kernel_rfl)) rfl ⟨rfl, (hF _ _).2⟩

set_option maxRecDepth 100000 in
set_option maxHeartbeats 1000000 in
theorem a74_4 : Ans 74 4 4 3 1 := by
  intro w
  go_enter Try.func74, Try.ntmps74
  go_wp2_with fail
  refine (a90_any (4) _).mono ?_
  rintro e w1 ⟨rfl, hB1⟩
  obtain ⟨c0, c1, f0, f1, hF⟩ := fin hB1
  clear hB1
  go_wp2
  refine bodyPost_ret (results_tc (p := 3) (r := 2) (ty := 44) rfl _ _ w.heap.size 44 _ (0, 0) _ rfl (hF _ _).1 Try.underlying44 rfl (by kernel_rfl)) rfl ⟨rfl, (hF _ _).2⟩

set_option maxRecDepth 100000 in
set_option maxHeartbeats 1000000 in
theorem a74_5 : Ans 74 5 5 3 1 := by
  intro w
  go_enter Try.func74, Try.ntmps74
  go_wp2_with fail
  refine (a90_any (5) _).mono ?_
  rintro e w1 ⟨rfl, hB1⟩
  obtain ⟨c0, c1, f0, f1, hF⟩ := fin hB1
  clear hB1
  go_wp2
  refine bodyPost_ret (results_tc (p := 3) (r := 2) (ty := 44) rfl _ _ w.heap.size 44 _ (0, 0) _ rfl (hF _ _).1 Try.underlying44 rfl (by kernel_rfl)) rfl ⟨rfl, (hF _ _).2⟩

set_option maxRecDepth 100000 in
set_option maxHeartbeats 1000000 in
theorem a74_6 : Ans 74 6 6 3 1 := by
  intro w
  go_enter Try.func74, Try.ntmps74
  go_wp2_with fail
  refine (a90_any (6) _).mono ?_
  rintro e w1 ⟨rfl, hB1⟩
  obtain ⟨c0, c1, f0, f1, hF⟩ := fin hB1
  clear hB1
  go_wp2
  refine bodyPost_ret (results_tc (p := 3) (r := 2) (ty := 44) rfl _ _ w.heap.size 44 _ (0, 0) _ rfl (hF _ _).1 Try.underlying44 rfl (by kernel_rfl)) rfl ⟨rfl, (hF _ _).2⟩

set_option maxRecDepth 100000 in
set_option maxHeartbeats 1000000 in
theorem a75_0 : Ans 75 0 0 4 0 := by
  intro w
  go_enter Try.func75, Try.ntmps75
  go_wp2_with fail
  refine (a51_any (0) _).mono ?_
  rintro e w1 ⟨rfl, hB1⟩
  obtain ⟨c0, c1, f0, f1, hF⟩ := fin hB1
  clear hB1
  go_wp2
  refine bodyPost_ret (results_tc (p := 3) (r := 2) (ty := 44) rfl _ _ w.heap.size 44 _ (0, 0) _ rfl (hF _ _).1 Try.underlying44 rfl (by kernel_rfl)) rfl ⟨rfl, (hF _ _).2⟩

set_option maxRecDepth 100000 in
set_option maxHeartbeats 1000000 in
theorem a75_1 : Ans 75 1 6 0 0 := by
  intro w
  go_enter Try.func75, Try.ntmps75
  go_wp2_with fail
  refine (a79_any (6) _).mono ?_
  rintro e w1 ⟨rfl, hB1⟩
  obtain ⟨c0, c1, f0, f1, hF⟩ := fin hB1
  clear hB1
  go_wp2
  refine bodyPost_ret (results_tc (p := 3) (r := 2) (ty := 44) rfl _ _ w.heap.size 44 _ (0, 0) _ rfl (hF _ _).1 Try.underlying44 rfl (by kernel_rfl)) rfl ⟨rfl, (hF _ _).2⟩

set_option maxRecDepth 100000 in
set_option maxHeartbeats 1000000 in
theorem a75_2 : Ans 75 2 6 0 0 := by
  intro w
  go_enter Try.func75, Try.ntmps75
  go_wp2_with fail
  refine (a79_any (6) _).mono ?_
  rintro e w1 ⟨rfl, hB1⟩
  obtain ⟨c0, c1, f0, f1, hF⟩ := fin hB1
  clear hB1
  go_wp2
  refine bodyPost_ret (results_tc (p := 3) (r := 2) (ty := 44) rfl _ _ w.heap.size 44 _ (0, 0) _ rfl (hF _ _).1 Try.underlying44 rfl (by kernel_rfl)) rfl ⟨rfl, (hF _ _).2⟩

set_option maxRecDepth 100000 in
set_option maxHeartbeats 1000000 in
theorem a75_3 : Ans 75 3 6 0 0 := by
  intro w
  go_enter Try.func75, Try.ntmps75
  go_wp2_with fail
  refine (a79_any (6) _).mono ?_
  rintro e w1 ⟨rfl, hB1⟩
  obtain ⟨c0, c1, f0, f1, hF⟩ := fin hB1
  clear hB1
  go_wp2
  refine bodyPost_ret (results_tc (p := 3) (r := 2) (ty := 44) rfl _ _ w.heap.size 44 _ (0, 0) _ rfl (hF _ _).1 Try.underlying44 rfl (by kernel_rfl)) rfl ⟨rfl, (hF _ _).2⟩

set_option maxRecDepth 100000 in
set_option maxHeartbeats 1000000 in
theorem a75_4 : Ans 75 4 6 0 0 := by
  intro w
  go_enter Try.func75, Try.ntmps75
  go_wp2_with fail
  refine (a79_any (6) _).mono ?_
  rintro e w1 ⟨rfl, hB1⟩
  obtain ⟨c0, c1, f0, f1, hF⟩ := fin hB1
  clear hB1
  go_wp2
  refine bodyPost_ret (results_tc (p := 3) (r := 2) (ty := 44) rfl _ _ w.heap.size 44 _ (0, 0) _ rfl (hF _ _).1 Try.underlying44 rfl (by kernel_rfl)) rfl ⟨rfl, (hF _ _).2⟩

set_option maxRecDepth 100000 in
set_option maxHeartbeats 1000000 in
theorem a75_5 : Ans 75 5 6 0 0 := by
  intro w
  go_enter Try.func75, Try.ntmps75
  go_wp2_with fail
  refine (a79_any (6) _).mono ?_
  rintro e w1 ⟨rfl, hB1⟩
  obtain ⟨c0, c1, f0, f1, hF⟩ := fin hB1
  clear hB1
  go_wp2
  refine bodyPost_ret (results_tc (p := 3) (r := 2) (ty := 44) rfl _ _ w.heap.size 44 _ (0, 0) _ rfl (hF _ _).1 Try.underlying44 rfl (by kernel_rfl)) rfl ⟨rfl, (hF _ _).2⟩

set_option maxRecDepth 100000 in
set_option maxHeartbeats 1000000 in
theorem a75_6 : Ans 75 6 6 4 0 := by
  intro w
  go_enter Try.func75, Try.ntmps75
  go_wp2_with fail
  refine (a51_any (6) _).mono ?_
  rintro e w1 ⟨rfl, hB1⟩
  obtain ⟨c0, c1, f0, f1, hF⟩ := fin hB1
  clear hB1
  go_wp2
  refine bodyPost_ret (results_tc (p := 3) (r := 2) (ty := 44) rfl _ _ w.heap.size 44 _ (0, 0) _ rfl (hF _ _).1 Try.underlying44 rfl (by kernel_rfl)) rfl ⟨rfl, (hF _ _).2⟩

set_option maxRecDepth 100000 in
set_option maxHeartbeats 1000000 in
theorem a76_0 : Ans 76 0 0 3 1 := by
  intro w
  go_enter Try.func76, Try.ntmps76
  go_wp2_with fail
  refine (a90_any (0) _).mono ?_
  rintro e w1 ⟨rfl, hB1⟩
  obtain ⟨c0, c1, f0, f1, hF⟩ := fin hB1
  clear hB1
  go_wp2
  refine bodyPost_ret (results_tc (p := 3) (r := 2) (ty := 44) rfl _ _ w.heap.size 44 _ (0, 0) _ rfl (hF _ _).1 Try.underlying44 rfl (by kernel_rfl)) rfl ⟨rfl, (hF _ _).2⟩

set_option maxRecDepth 100000 in
set_option maxHeartbeats 1000000 in
theorem a76_1 : Ans 76 1 6 0 0 := by
  intro w
  go_enter Try.func76, Try.ntmps76
  go_wp2_with fail
  refine (a79_any (6) _).mono ?_
  rintro e w1 ⟨rfl, hB1⟩
  obtain ⟨c0, c1, f0, f1, hF⟩ := fin hB1
  clear hB1
  go_wp2
  refine bodyPost_ret (results_tc (p := 3) (r := 2) (ty := 44) rfl _ _ w.heap.size 44 _ (0, 0) _ rfl (hF _ _).1 Try.underlying44 rfl (by kernel_rfl)) rfl ⟨rfl, (hF _ _).2⟩

set_option maxRecDepth 100000 in
set_option maxHeartbeats 1000000 in
theorem a76_2 : Ans 76 2 6 0 0 := by
  intro w
  go_enter Try.func76, Try.ntmps76
  go_wp2_with fail
  refine (a79_any (6) _).mono ?_
  rintro e w1 ⟨rfl, hB1⟩
  obtain ⟨c0, c1, f0, f1, hF⟩ := fin hB1
  clear hB1
  go_wp2
  refine bodyPost_ret (results_tc (p := 3) (r := 2) (ty := 44) rfl _ _ w.heap.size 44 _ (0, 0) _ rfl (hF _ _).1 Try.underlying44 rfl (by kernel_rfl)) rfl ⟨rfl, (hF _ _).2⟩

set_option maxRecDepth 100000 in
set_option maxHeartbeats 1000000 in
theorem a76_3 : Ans 76 3 6 0 0 := by
  intro w
  go_enter Try.func76, Try.ntmps76
  go_wp2_with fail
  refine (a79_any (6) _).mono ?_
  rintro e w1 ⟨rfl, hB1⟩
  obtain ⟨c0, c1, f0, f1, hF⟩ := fin hB1
  clear hB1
  go_wp2
  refine bodyPost_ret (results_tc (p := 3) (r := 2) (ty := 44) rfl _ _ w.heap.size 44 _ (0, 0) _ rfl (hF _ _).1 Try.underlying44 rfl (by kernel_rfl)) rfl ⟨rfl, (hF _ _).2⟩

set_option maxRecDepth 100000 in
set_option maxHeartbeats 1000000 in
theorem a76_4 : Ans 76 4 6 0 0 := by
  intro w
  go_enter Try.func76, Try.ntmps76
  go_wp2_with fail
  refine (a79_any (6) _).mono ?_
  rintro e w1 ⟨rfl, hB1⟩
  obtain ⟨c0, c1, f0, f1, hF⟩ := fin hB1
  clear hB1
  go_wp2
  refine bodyPost_ret (results_tc (p := 3) (r := 2) (ty := 44) rfl _ _ w.heap.size 44 _ (0, 0) _ rfl (hF _ _).1 Try.underlying44 rfl (by kernel_rfl)) rfl ⟨rfl, (hF _ _).2⟩

set_option maxRecDepth 100000 in
set_option maxHeartbeats 1000000 in
theorem a76_5 : Ans 76 5 6 0 0 := by
  intro w
  go_enter Try.func76, Try.ntmps76
  go_wp2_with fail
  refine (a79_any (6) _).mono ?_
  rintro e w1 ⟨rfl, hB1⟩
  obtain ⟨c0, c1, f0, f1, hF⟩ := fin hB1
  clear hB1
  go_wp2
  refine bodyPost_ret (results_tc (p := 3) (r := 2) (ty := 44) rfl _ _ w.heap.size 44 _ (0, 0) _ rfl (hF _ _).1 Try.underlying44 rfl (by kernel_rfl)) rfl ⟨rfl, (hF _ _).2⟩

set_option maxRecDepth 100000 in
set_option maxHeartbeats 1000000 in
theorem a76_6 : Ans 76 6 6 1 0 := by
  intro w
  go_enter Try.func76, Try.ntmps76
  go_wp2_with fail
  refine (a91_any (6) _).mono ?_
  rintro e w1 ⟨rfl, hB1⟩
  obtain ⟨c0, c1, f0, f1, hF⟩ := fin hB1
  clear hB1
  go_wp2
  refine bodyPost_ret (results_tc (p := 3) (r := 2) (ty := 44) rfl _ _ w.heap.size 44 _ (0, 0) _ rfl (hF _ _).1 Try.underlying44 rfl (by kernel_rfl)) rfl ⟨rfl, (hF _ _).2⟩

set_option maxRecDepth 100000 in
set_option maxHeartbeats 1000000 in
theorem a77_0 : Ans 77 0 0 4 0 := by
  intro w
  go_enter Try.func77, Try.ntmps77
  go_wp2_with fail
  refine (a51_any (0) _).mono ?_
  rintro e w1 ⟨rfl, hB1⟩
  obtain ⟨c0, c1, f0, f1, hF⟩ := fin hB1
  clear hB1
  go_wp2
  refine bodyPost_ret (results_tc (p := 3) (r := 2) (ty := 44) rfl _ _ w.heap.size 44 _ (0, 0) _ rfl (hF _ _).1 Try.underlying44 rfl (by kernel_rfl)) rfl ⟨rfl, (hF _ _).2⟩

set_option maxRecDepth 100000 in
set_option maxHeartbeats 1000000 in
theorem a77_1 : Ans 77 1 1 4 0 := by
  intro w
  go_enter Try.func77, Try.ntmps77
  go_wp2_with fail
  refine (a51_any (1) _).mono ?_
  rintro e w1 ⟨rfl, hB1⟩
  obtain ⟨c0, c1, f0, f1, hF⟩ := fin hB1
  clear hB1
  go_wp2
  refine bodyPost_ret (results_tc (p := 3) (r := 2) (ty := 44) rfl _ _ w.heap.size 44 _ (0, 0) _ rfl (hF _ _).1 Try.underlying44 rfl (by kernel_rfl)) rfl ⟨rfl, (hF _ _).2⟩

set_option maxRecDepth 100000 in
set_option maxHeartbeats 1000000 in
theorem a77_2 : Ans 77 2 2 0 0 := by
  intro w
  go_enter Try.func77, Try.ntmps77
  go_wp2_with fail
  refine (a79_any (2) _).mono ?_
  rintro e w1 ⟨rfl, hB1⟩
  obtain ⟨c0, c1, f0, f1, hF⟩ := fin hB1
  clear hB1
  go_wp2
  refine bodyPost_ret (results_tc (p := 3) (r := 2) (ty := 44) rfl _ _ w.heap.size 44 _ (0, 0) _ rfl (hF _ _).1 Try.underlying44 rfl (by kernel_rfl)) rfl ⟨rfl, (hF _ _).2⟩

set_option maxRecDepth 100000 in
set_option maxHeartbeats 1000000 in
theorem a77_3 : Ans 77 3 3 0 0 := by
  intro w
  go_enter Try.func77, Try.ntmps77
  go_wp2_with fail
  refine (a79_any (3) _).mono ?_
  rintro e w1 ⟨rfl, hB1⟩
  obtain ⟨c0, c1, f0, f1, hF⟩ := fin hB1
  clear hB1
  go_wp2
  refine bodyPost_ret (results_tc (p := 3) (r := 2) (ty := 44) rfl _ _ w.heap.size 44 _ (0, 0) _ rfl (hF _ _).1 Try.underlying44 rfl (by kernel_rfl)) rfl ⟨rfl, (hF _ _).2⟩

set_option maxRecDepth 100000 in
set_option maxHeartbeats 1000000 in
theorem a77_4 : Ans 77 4 4 0 0 := by
  intro w
  go_enter Try.func77, Try.ntmps77
  go_wp2_with fail
  refine (a79_any (4) _).mono ?_
  rintro e w1 ⟨rfl, hB1⟩
  obtain ⟨c0, c1, f0, f1, hF⟩ := fin hB1
  clear hB1
  go_wp2
  refine bodyPost_ret (results_tc (p := 3) (r := 2) (ty := 44) rfl _ _ w.heap.size 44 _ (0, 0) _ rfl (hF _ _).1 Try.underlying44 rfl (by kernel_rfl)) rfl ⟨rfl, (hF _ _).2⟩

set_option maxRecDepth 100000 in
set_option maxHeartbeats 1000000 in
theorem a77_5 : Ans 77 5 5 0 0 := by
  intro w
  go_enter Try.func77, Try.ntmps77
  go_wp2_with fail
  refine (a79_any (5) _).mono ?_
  rintro e w1 ⟨rfl, hB1⟩
  obtain ⟨c0, c1, f0, f1, hF⟩ := fin hB1
  clear hB1
  go_wp2
  refine bodyPost_ret (results_tc (p := 3) (r := 2) (ty := 44) rfl _ _ w.heap.size 44 _ (0, 0) _ rfl (hF _ _).1 Try.underlying44 rfl (by kernel_rfl)) rfl ⟨rfl, (hF _ _).2⟩

set_option maxRecDepth 100000 in
set_option maxHeartbeats 1000000 in
theorem a77_6 : Ans 77 6 6 4 0 := by
  intro w
  go_enter Try.func77, Try.ntmps77
  go_wp2_with fail
  refine (a51_any (6) _).mono ?_
  rintro e w1 ⟨rfl, hB1⟩
  obtain ⟨c0, c1, f0, f1, hF⟩ := fin hB1
  clear hB1
  go_wp2
  refine bodyPost_ret (results_tc (p := 3) (r := 2) (ty := 44) rfl _ _ w.heap.size 44 _ (0, 0) _ rfl (hF _ _).1 Try.underlying44 rfl (by kernel_rfl)) rfl ⟨rfl, (hF _ _).2⟩

set_option maxRecDepth 100000 in
set_option maxHeartbeats 1000000 in
theorem a78_0 : Ans 78 0 0 3 1 := by
  intro w
  go_enter Try.func78, Try.ntmps78
  go_wp2_with fail
  refine (a90_any (0) _).mono ?_
  rintro e w1 ⟨rfl, hB1⟩
  obtain ⟨c0, c1, f0, f1, hF⟩ := fin hB1
  clear hB1
  go_wp2
  refine bodyPost_ret (results_tc (p := 3) (r := 2) (ty := 44) rfl _ _ w.heap.size 44 _ (0, 0) _ rfl (hF _ _).1 Try.underlying44 rfl (by kernel_rfl)) rfl ⟨rfl, (hF _ _).2⟩

set_option maxRecDepth 100000 in
set_option maxHeartbeats 1000000 in
theorem a78_1 : Ans 78 1 1 0 0 := by
  intro w
  go_enter Try.func78, Try.ntmps78
  go_wp2_with fail
  refine (a79_any (1) _).mono ?_
  rintro e w1 ⟨rfl, hB1⟩
  obtain ⟨c0, c1, f0, f1, hF⟩ := fin hB1
  clear hB1
  go_wp2
  refine bodyPost_ret (results_tc (p := 3) (r := 2) (ty := 44) rfl _ _ w.heap.size 44 _ (0, 0) _ rfl (hF _ _).1 Try.underlying44 rfl (by kernel_rfl)) rfl ⟨rfl, (hF _ _).2⟩

set_option maxRecDepth 100000 in
set_option maxHeartbeats 1000000 in
theorem a78_2 : Ans 78 2 2 3 1 := by
  intro w
  go_enter Try.func78, Try.ntmps78
  go_wp2_with fail
  refine (a90_any (2) _).mono ?_
  rintro e w1 ⟨rfl, hB1⟩
  obtain ⟨c0, c1, f0, f1, hF⟩ := fin hB1
  clear hB1
  go_wp2
  refine bodyPost_ret (results_tc (p := 3) (r := 2) (ty := 44) rfl _ _ w.heap.size 44 _ (0, 0) _ rfl (hF _ _).1 Try.underlying44 rfl (by kernel_rfl)) rfl ⟨rfl, (hF _ _).2⟩

set_option maxRecDepth 100000 in
set_option maxHeartbeats 1000000 in
theorem a78_3 : Ans 78 3 3 0 0 := by
  intro w
  go_enter Try.func78, Try.ntmps78
  go_wp2_with fail
  refine (a79_any (3) _).mono ?_
  rintro e w1 ⟨rfl, hB1⟩
  obtain ⟨c0, c1, f0, f1, hF⟩ := fin hB1
  clear hB1
  go_wp2
  refine bodyPost_ret (results_tc (p := 3) (r := 2) (ty := 44) rfl _ _ w.heap.size 44 _ (0, 0) _ rfl (hF _ _).1 Try.underlying44 rfl (by kernel_rfl)) rfl ⟨rfl, (hF _ _).2⟩

set_option maxRecDepth 100000 in
set_option maxHeartbeats 1000000 in
theorem a78_4 : Ans 78 4 4 0 0 := by
  intro w
  go_enter Try.func78, Try.ntmps78
  go_wp2_with fail
  refine (a79_any (4) _).mono ?_
  rintro e w1 ⟨rfl, hB1⟩
  obtain ⟨c0, c1, f0, f1, hF⟩ := fin hB1
  clear hB1
  go_wp2
  refine bodyPost_ret (results_tc (p := 3) (r := 2) (ty := 44) rfl _ _ w.heap.size 44 _ (0, 0) _ rfl (hF _ _).1 Try.underlying44 rfl (by kernel_rfl)) rfl ⟨rfl, (hF _ _).2⟩

set_option maxRecDepth 100000 in
set_option maxHeartbeats 1000000 in
theorem a78_5 : Ans 78 5 5 0 0 := by
  intro w
  go_enter Try.func78, Try.ntmps78
  go_wp2_with fail
  refine (a79_any (5) _).mono ?_
  rintro e w1 ⟨rfl, hB1⟩
  obtain ⟨c0, c1, f0, f1, hF⟩ := fin hB1
  clear hB1
  go_wp2
  refine bodyPost_ret (results_tc (p := 3) (r := 2) (ty := 44) rfl _ _ w.heap.size 44 _ (0, 0) _ rfl (hF _ _).1 Try.underlying44 rfl (by kernel_rfl)) rfl ⟨rfl, (hF _ _).2⟩

set_option maxRecDepth 100000 in
set_option maxHeartbeats 1000000 in
theorem a78_6 : Ans 78 6 6 1 0 := by
  intro w
  go_enter Try.func78, Try.ntmps78
  go_wp2_with fail
  refine (a91_any (6) _).mono ?_
  rintro e w1 ⟨rfl, hB1⟩
  obtain ⟨c0, c1, f0, f1, hF⟩ := fin hB1
  clear hB1
  go_wp2
  refine bodyPost_ret (results_tc (p := 3) (r := 2) (ty := 44) rfl _ _ w.heap.size 44 _ (0, 0) _ rfl (hF _ _).1 Try.underlying44 rfl (by kernel_rfl)) rfl ⟨rfl, (hF _ _).2⟩

set_option maxRecDepth 100000 in
set_option maxHeartbeats 1000000 in
theorem a80_0 : Ans 80 0 0 0 0 := by
  intro w
  go_enter Try.func80, Try.ntmps80
  go_wp2_with fail
  refine (a79_any (0) _).mono ?_
  rintro e w1 ⟨rfl, hB1⟩
  obtain ⟨c0, c1, f0, f1, hF⟩ := fin hB1
  clear hB1
  go_wp2
  refine bodyPost_ret (results_tc (p := 3) (r := 2) (ty := 44) rfl _ _ w.heap.size 44 _ (0, 0) _ rfl (hF _ _).1 Try.underlying44 rfl (by kernel_rfl)) rfl ⟨rfl, (hF _ _).2⟩

set_option maxRecDepth 100000 in
set_option maxHeartbeats 1000000 in
theorem a80_1 : Ans 80 1 1 0 0 := by
  intro w
  go_enter Try.func80, Try.ntmps80
  go_wp2_with fail
  refine (a79_any (1) _).mono ?_
  rintro e w1 ⟨rfl, hB1⟩
  obtain ⟨c0, c1, f0, f1, hF⟩ := fin hB1
  clear hB1
  go_wp2
  refine bodyPost_ret (results_tc (p := 3) (r := 2) (ty := 44) rfl _ _ w.heap.size 44 _ (0, 0) _ rfl (hF _ _).1 Try.underlying44 rfl (by kernel_rfl)) rfl ⟨rfl, (hF _ _).2⟩

set_option maxRecDepth 100000 in
set_option maxHeartbeats 1000000 in
theorem a80_2 : Ans 80 2 2 0 0 := by
  intro w
  go_enter Try.func80, Try.ntmps80
  go_wp2_with fail
  refine (a79_any (2) _).mono ?_
  rintro e w1 ⟨rfl, hB1⟩
  obtain ⟨c0, c1, f0, f1, hF⟩ := fin hB1
  clear hB1
  go_wp2
  refine bodyPost_ret (results_tc (p := 3) (r := 2) (ty := 44) rfl _ _ w.heap.size 44 _ (0, 0) _ rfl (hF _ _).1 Try.underlying44 rfl (by kernel_rfl)) rfl ⟨rfl, (hF _ _).2⟩

set_option maxRecDepth 100000 in
set_option maxHeartbeats 1000000 in
theorem a80_3 : Ans 80 3 3 0 0 := by
  intro w
  go_enter Try.func80, Try.ntmps80
  go_wp2_with fail
  refine (a79_any (3) _).mono ?_
  rintro e w1 ⟨rfl, hB1⟩
  obtain ⟨c0, c1, f0, f1, hF⟩ := fin hB1
  clear hB1
  go_wp2
  refine bodyPost_ret (results_tc (p := 3) (r := 2) (ty := 44) rfl _ _ w.heap.size 44 _ (0, 0) _ rfl (hF _ _).1 Try.underlying44 rfl (by kernel_rfl)) rfl ⟨rfl, (hF _ _).2⟩

set_option maxRecDepth 100000 in
set_option maxHeartbeats 1000000 in
theorem a80_4 : Ans 80 4 4 0 0 := by
  intro w
  go_enter Try.func80, Try.ntmps80
  go_wp2_with fail
  refine (a79_any (4) _).mono ?_
  rintro e w1 ⟨rfl, hB1⟩
  obtain ⟨c0, c1, f0, f1, hF⟩ := fin hB1
  clear hB1
  go_wp2
  refine bodyPost_ret (results_tc (p := 3) (r := 2) (ty := 44) rfl _ _ w.heap.size 44 _ (0, 0) _ rfl (hF _ _).1 Try.underlying44 rfl (by kernel_rfl)) rfl ⟨rfl, (hF _ _).2⟩

set_option maxRecDepth 100000 in
set_option maxHeartbeats 1000000 in
theorem a80_5 : Ans 80 5 5 0 0 := by
  intro w
  go_enter Try.func80, Try.ntmps80
  go_wp2_with fail
  refine (a79_any (5) _).mono ?_
  rintro e w1 ⟨rfl, hB1⟩
  obtain ⟨c0, c1, f0, f1, hF⟩ := fin hB1
  clear hB1
  go_wp2
  refine bodyPost_ret (results_tc (p := 3) (r := 2) (ty := 44) rfl _ _ w.heap.size 44 _ (0, 0) _ rfl (hF _ _).1 Try.underlying44 rfl (by kernel_rfl)) rfl ⟨rfl, (hF _ _).2⟩

set_option maxRecDepth 100000 in
set_option maxHeartbeats 1000000 in
theorem a80_6 : Ans 80 6 6 1 0 := by
  intro w
  go_enter Try.func80, Try.ntmps80
  go_wp2_with fail
  refine (a91_any (6) _).mono ?_
  rintro e w1 ⟨rfl, hB1⟩
  obtain ⟨c0, c1, f0, f1, hF⟩ := fin hB1
  clear hB1
  go_wp2
  refine bodyPost_ret (results_tc (p := 3) (r := 2) (ty := 44) rfl _ _ w.heap.size 44 _ (0, 0) _ rfl (hF _ _).1 Try.underlying44 rfl (by kernel_rfl)) rfl ⟨rfl, (hF _ _).2⟩

end Go.Proofs.Ytaaocgppniflcaa
