/- The small functions. -/
import Derived.Test.YtmflgoghlbmkeaaM
namespace Go.Proofs.Ytmflgoghlbmkeaa
open Go.RowKit
set_option linter.unusedVariables false
set_option linter.unusedSimpArgs false

/-- results: a slot's and a cell's -/
theorem results_tc {P : Program} {fn : Func} {p r : Tmp} {ty : TypeId} (h : fn.results = #[.tmp r, .cell p ty]) (tmps : Array Value) (w : World) (g : Nat) (t : TypeId) (cs : Array Value) (fr : Nat × Nat) (d : TypeDesc)
    (hp : tmps.getD p undef = .pointer (some ⟨g, 0, none⟩)) (hg : w.heap[g]? = some (.cells cs t fr)) (hu : P.underlying ty = some d) (hd : (match d with | .struct _ | .array _ _ => true | _ => false) = true) (hi : (P.info? ty).map (·.size) = some cs.size) :
    (results fn tmps).run P w = .ok (.tuple #[tmps.getD r undef, .agg cs]) w := by
  have hp' : tmps[p]?.getD undef = .pointer (some ⟨g, 0, none⟩) := by simpa using hp
  simp [results, h, hp', asAddr, run_loadVar_row w g t ty cs fr d hg hu hd hi]

/-- what a function of a state answers -/
def Ans (f : FuncId) (s s' k c : Int) : Prop := ∀ w, Calls Try.prog f #[.int .i64 s] w fun e w' => e = .returned (.tuple #[.int .i64 s', .agg #[.int .i64 k, .int .i64 c]]) ∧ Below w.heap.size w w'
/-- the same of one that is given a verdict too -/
def Ans2 (f : FuncId) (s k c s' : Int) : Prop := ∀ w, Calls Try.prog f #[.int .i64 s, .agg #[.int .i64 k, .int .i64 c]] w fun e w' => e = .returned (.tuple #[.int .i64 s', .agg #[.int .i64 k, .int .i64 c]]) ∧ Below w.heap.size w w'

/-- what is written into the block that was made first -/
theorem fin {w w1 : World} {a b : Value} {t : TypeId} (h : Below (w.alloc (.cells #[a, b] t)).heap.size (w.alloc (.cells #[a, b] t)) w1) :
    w1.cell? ⟨w.heap.size, 0, none⟩ = some a ∧ w1.cell? ⟨w.heap.size, 1, none⟩ = some b ∧ w1.frozen? ⟨w.heap.size, 0, none⟩ = false ∧ w1.frozen? ⟨w.heap.size, 1, none⟩ = false ∧
      ∀ x y, ((w1.setCell ⟨w.heap.size, 0, none⟩ x).setCell ⟨w.heap.size, 1, none⟩ y).heap[w.heap.size]? = some (.cells #[x, y] t) ∧ Below w.heap.size w ((w1.setCell ⟨w.heap.size, 0, none⟩ x).setCell ⟨w.heap.size, 1, none⟩ y) := by
  have hg : w1.heap[w.heap.size]? = some (.cells #[a, b] t) := (h.block w.heap.size (by simp)).trans (heap_alloc_new w _)
  refine ⟨cell_blk hg 0, cell_blk hg 1, frozen_blk hg 0, frozen_blk hg 1, fun x y => ⟨?_, ?_⟩⟩
  · exact setCell_block _ _ 1 y _ _ _ (setCell_block _ _ 0 x _ _ _ hg)
  · have k : Below w.heap.size w w1 := (bel1 w _).trans (h.mono (by simp))
    have s1 := k.size
    have k2 : Below w.heap.size w1 (w1.setCell ⟨w.heap.size, 0, none⟩ x) := ⟨rfl, rfl, rfl, by simp [World.setCell], fun i hi => setCell_other _ _ _ _ _ (by omega)⟩
    exact (k.trans k2).trans ⟨rfl, rfl, rfl, by simp [World.setCell], fun i hi => setCell_other _ _ _ _ _ (by omega)⟩

set_option maxRecDepth 100000 in
set_option maxHeartbeats 1000000 in
theorem a24_any (s : Int) : Ans 24 s s 4 0 := by
  intro w
  go_enter Try.func24, Try.ntmps24
  go_wp2
  refine bodyPost_ret (results_tc (p := 3) (r := 2) (ty := 43) rfl _ _ w.heap.size 43 _ (0, 0) _ rfl (heap_alloc_new _ _) Try.underlying43 rfl (by kernel_rfl)) rfl ⟨rfl, bel1 _ _⟩

set_option maxRecDepth 100000 in
set_option maxHeartbeats 1000000 in
theorem a39_any (s : Int) : Ans 39 s s 0 0 := by
  intro w
  go_enter Try.func39, Try.ntmps39
  go_wp2
  refine bodyPost_ret (results_tc (p := 3) (r := 2) (ty := 43) rfl _ _ w.heap.size 43 _ (0, 0) _ rfl (heap_alloc_new _ _) Try.underlying43 rfl (by kernel_rfl)) rfl ⟨rfl, bel1 _ _⟩

set_option maxRecDepth 100000 in
set_option maxHeartbeats 1000000 in
theorem a44_any (s : Int) : Ans 44 s s 3 1 := by
  intro w
  go_enter Try.func44, Try.ntmps44
  go_wp2
  refine bodyPost_ret (results_tc (p := 3) (r := 2) (ty := 43) rfl _ _ w.heap.size 43 _ (0, 0) _ rfl (heap_alloc_new _ _) Try.underlying43 rfl (by kernel_rfl)) rfl ⟨rfl, bel1 _ _⟩

set_option maxRecDepth 100000 in
set_option maxHeartbeats 1000000 in
theorem a45_any (s : Int) : Ans 45 s s 1 0 := by
  intro w
  go_enter Try.func45, Try.ntmps45
  go_wp2
  refine bodyPost_ret (results_tc (p := 3) (r := 2) (ty := 43) rfl _ _ w.heap.size 43 _ (0, 0) _ rfl (heap_alloc_new _ _) Try.underlying43 rfl (by kernel_rfl)) rfl ⟨rfl, bel1 _ _⟩

set_option maxRecDepth 100000 in
set_option maxHeartbeats 1000000 in
theorem a41_no (s k c : Int) (hk : (k == 0) = false) : Ans2 41 s k c s := by
  intro w
  go_enter Try.func41, Try.ntmps41
  go_wp2
  go_region
  go_wp2
  refine bodyPost_ret (results_tc (p := 5) (r := 4) (ty := 43) rfl _ _ (w.heap.size + 1) 43 _ (0, 0) _ rfl (fresh2 _ _ _) Try.underlying43 rfl (by kernel_rfl)) rfl ⟨rfl, (bel2 _ _ _).drew⟩

set_option maxRecDepth 100000 in
set_option maxHeartbeats 1000000 in
theorem a41_over (c : Int) : Ans2 41 5 0 c 6 := by
  intro w
  go_enter Try.func41, Try.ntmps41
  go_wp2
  go_region
  go_wp2
  refine bodyPost_ret (results_tc (p := 5) (r := 4) (ty := 43) rfl _ _ (w.heap.size + 1) 43 _ (0, 0) _ rfl (fresh2 _ _ _) Try.underlying43 rfl (by kernel_rfl)) rfl ⟨rfl, (bel2 _ _ _).drew⟩

set_option maxRecDepth 100000 in
set_option maxHeartbeats 1000000 in
theorem a41_end (s c : Int) (hs : (s == 5) = false) : Ans2 41 s 0 c 4 := by
  intro w
  go_enter Try.func41, Try.ntmps41
  go_wp2
  go_region
  go_wp2
  refine bodyPost_ret (results_tc (p := 5) (r := 4) (ty := 43) rfl _ _ (w.heap.size + 1) 43 _ (0, 0) _ rfl (fresh2 _ _ _) Try.underlying43 rfl (by kernel_rfl)) rfl ⟨rfl, (bel2 _ _ _).drew⟩

set_option maxRecDepth 100000 in
set_option maxHeartbeats 1000000 in
theorem a42_no (s k c : Int) (hk : (k == 0) = false) : Ans2 42 s k c s := by
  intro w
  go_enter Try.func42, Try.ntmps42
  go_wp2
  go_region
  go_wp2
  refine bodyPost_ret (results_tc (p := 5) (r := 4) (ty := 43) rfl _ _ (w.heap.size + 1) 43 _ (0, 0) _ rfl (fresh2 _ _ _) Try.underlying43 rfl (by kernel_rfl)) rfl ⟨rfl, (bel2 _ _ _).drew⟩

set_option maxRecDepth 100000 in
set_option maxHeartbeats 1000000 in
theorem a42_over (c : Int) : Ans2 42 4 0 c 6 := by
  intro w
  go_enter Try.func42, Try.ntmps42
  go_wp2
  go_region
  go_wp2
  refine bodyPost_ret (results_tc (p := 5) (r := 4) (ty := 43) rfl _ _ (w.heap.size + 1) 43 _ (0, 0) _ rfl (fresh2 _ _ _) Try.underlying43 rfl (by kernel_rfl)) rfl ⟨rfl, (bel2 _ _ _).drew⟩

set_option maxRecDepth 100000 in
set_option maxHeartbeats 1000000 in
theorem a42_end (s c : Int) (hs : (s == 4) = false) : Ans2 42 s 0 c 5 := by
  intro w
  go_enter Try.func42, Try.ntmps42
  go_wp2
  go_region
  go_wp2
  refine bodyPost_ret (results_tc (p := 5) (r := 4) (ty := 43) rfl _ _ (w.heap.size + 1) 43 _ (0, 0) _ rfl (fresh2 _ _ _) Try.underlying43 rfl (by kernel_rfl)) rfl ⟨rfl, (bel2 _ _ _).drew⟩

set_option maxRecDepth 100000 in
set_option maxHeartbeats 1000000 in
theorem a43_0 : Ans 43 0 0 3 1 := by
  intro w
  go_enter Try.func43, Try.ntmps43
  go_wp2_with fail
  refine (a44_any (0) _).mono ?_
  rintro e w1 ⟨rfl, hB1⟩
  obtain ⟨c0, c1, f0, f1, hF⟩ := fin hB1
  clear hB1
  go_wp2
  refine bodyPost_ret (results_tc (p := 3) (r := 2) (ty := 43) rfl _ _ w.heap.size 43 _ (0, 0) _ rfl (hF _ _).1 Try.underlying43 rfl (by kernel_rfl)) rfl ⟨rfl, (hF _ _).2⟩

set_option maxRecDepth 100000 in
set_option maxHeartbeats 1000000 in
theorem a43_1 : Ans 43 1 1 3 1 := by
  intro w
  go_enter Try.func43, Try.ntmps43
  go_wp2_with fail
  refine (a44_any (1) _).mono ?_
  rintro e w1 ⟨rfl, hB1⟩
  obtain ⟨c0, c1, f0, f1, hF⟩ := fin hB1
  clear hB1
  go_wp2
  refine bodyPost_ret (results_tc (p := 3) (r := 2) (ty := 43) rfl _ _ w.heap.size 43 _ (0, 0) _ rfl (hF _ _).1 Try.underlying43 rfl (by kernel_rfl)) rfl ⟨rfl, (hF _ _).2⟩

set_option maxRecDepth 100000 in
set_option maxHeartbeats 1000000 in
theorem a43_2 : Ans 43 2 2 3 1 := by
  intro w
  go_enter Try.func43, Try.ntmps43
  go_wp2_with fail
  refine (a44_any (2) _).mono ?_
  rintro e w1 ⟨rfl, hB1⟩
  obtain ⟨c0, c1, f0, f1, hF⟩ := fin hB1
  clear hB1
  go_wp2
  refine bodyPost_ret (results_tc (p := 3) (r := 2) (ty := 43) rfl _ _ w.heap.size 43 _ (0, 0) _ rfl (hF _ _).1 Try.underlying43 rfl (by kernel_rfl)) rfl ⟨rfl, (hF _ _).2⟩

set_option maxRecDepth 100000 in
set_option maxHeartbeats 1000000 in
theorem a43_3 : Ans 43 3 3 3 1 := by
  intro w
  go_enter Try.func43, Try.ntmps43
  go_wp2_with fail
  refine (a44_any (3) _).mono ?_
  rintro e w1 ⟨rfl, hB1⟩
  obtain ⟨c0, c1, f0, f1, hF⟩ := fin hB1
  clear hB1
  go_wp2
  refine bodyPost_ret (results_tc (p := 3) (r := 2) (ty := 43) rfl _ _ w.heap.size 43 _ (0, 0) _ rfl (hF _ _).1 Try.underlying43 rfl (by kernel_rfl)) rfl ⟨rfl, (hF _ _).2⟩

set_option maxRecDepth 100000 in
set_option maxHeartbeats 1000000 in
theorem a43_4 : Ans 43 4 4 3 1 := by
  intro w
  go_enter Try.func43, Try.ntmps43
  go_wp2_with fail
  refine (a44_any (4) _).mono ?_
  rintro e w1 ⟨rfl, hB1⟩
  obtain ⟨c0, c1, f0, f1, hF⟩ := fin hB1
  clear hB1
  go_wp2
  refine bodyPost_ret (results_tc (p := 3) (r := 2) (ty := 43) rfl _ _ w.heap.size 43 _ (0, 0) _ rfl (hF _ _).1 Try.underlying43 rfl (by kernel_rfl)) rfl ⟨rfl, (hF _ _).2⟩

set_option maxRecDepth 100000 in
set_option maxHeartbeats 1000000 in
theorem a43_5 : Ans 43 5 5 2 5 := by
  intro w
  go_enter Try.func43, Try.ntmps43
  go_wp2
  refine bodyPost_ret (results_tc (p := 3) (r := 2) (ty := 43) rfl _ _ w.heap.size 43 _ (0, 0) _ rfl (heap_alloc_new _ _) Try.underlying43 rfl (by kernel_rfl)) rfl ⟨rfl, bel1 _ _⟩

set_option maxRecDepth 100000 in
set_option maxHeartbeats 1000000 in
theorem a43_6 : Ans 43 6 6 3 5 := by
  intro w
  go_enter Try.func43, Try.ntmps43
  go_wp2
  refine bodyPost_ret (results_tc (p := 3) (r := 2) (ty := 43) rfl _ _ w.heap.size 43 _ (0, 0) _ rfl (heap_alloc_new _ _) Try.underlying43 rfl (by kernel_rfl)) rfl ⟨rfl, bel1 _ _⟩

set_option maxRecDepth 100000 in
set_option maxHeartbeats 1000000 in
theorem a29_0 : Ans 29 0 0 4 0 := by
  intro w
  go_enter Try.func29, Try.ntmps29
  go_wp2_with fail
  refine (a24_any (0) _).mono ?_
  rintro e w1 ⟨rfl, hB1⟩
  obtain ⟨c0, c1, f0, f1, hF⟩ := fin hB1
  clear hB1
  go_wp2
  refine bodyPost_ret (results_tc (p := 3) (r := 2) (ty := 43) rfl _ _ w.heap.size 43 _ (0, 0) _ rfl (hF _ _).1 Try.underlying43 rfl (by kernel_rfl)) rfl ⟨rfl, (hF _ _).2⟩

set_option maxRecDepth 100000 in
set_option maxHeartbeats 1000000 in
theorem a29_1 : Ans 29 1 1 4 0 := by
  intro w
  go_enter Try.func29, Try.ntmps29
  go_wp2_with fail
  refine (a24_any (1) _).mono ?_
  rintro e w1 ⟨rfl, hB1⟩
  obtain ⟨c0, c1, f0, f1, hF⟩ := fin hB1
  clear hB1
  go_wp2
  refine bodyPost_ret (results_tc (p := 3) (r := 2) (ty := 43) rfl _ _ w.heap.size 43 _ (0, 0) _ rfl (hF _ _).1 Try.underlying43 rfl (by kernel_rfl)) rfl ⟨rfl, (hF _ _).2⟩

set_option maxRecDepth 100000 in
set_option maxHeartbeats 1000000 in
theorem a29_2 : Ans 29 2 2 4 0 := by
  intro w
  go_enter Try.func29, Try.ntmps29
  go_wp2_with fail
  refine (a24_any (2) _).mono ?_
  rintro e w1 ⟨rfl, hB1⟩
  obtain ⟨c0, c1, f0, f1, hF⟩ := fin hB1
  clear hB1
  go_wp2
  refine bodyPost_ret (results_tc (p := 3) (r := 2) (ty := 43) rfl _ _ w.heap.size 43 _ (0, 0) _ rfl (hF _ _).1 Try.underlying43 rfl (by kernel_rfl)) rfl ⟨rfl, (hF _ _).2⟩

set_option maxRecDepth 100000 in
set_option maxHeartbeats 1000000 in
theorem a29_3 : Ans 29 3 3 0 0 := by
  intro w
  go_enter Try.func29, Try.ntmps29
  go_wp2_with fail
  refine (a39_any (3) _).mono ?_
  rintro e w1 ⟨rfl, hB1⟩
  obtain ⟨c0, c1, f0, f1, hF⟩ := fin hB1
  clear hB1
  go_wp2
  refine bodyPost_ret (results_tc (p := 3) (r := 2) (ty := 43) rfl _ _ w.heap.size 43 _ (0, 0) _ rfl (hF _ _).1 Try.underlying43 rfl (by kernel_rfl)) rfl ⟨rfl, (hF _ _).2⟩

set_option maxRecDepth 100000 in
set_option maxHeartbeats 1000000 in
theorem a29_4 : Ans 29 4 4 4 0 := by
  intro w
  go_enter Try.func29, Try.ntmps29
  go_wp2_with fail
  refine (a24_any (4) _).mono ?_
  rintro e w1 ⟨rfl, hB1⟩
  obtain ⟨c0, c1, f0, f1, hF⟩ := fin hB1
  clear hB1
  go_wp2
  refine bodyPost_ret (results_tc (p := 3) (r := 2) (ty := 43) rfl _ _ w.heap.size 43 _ (0, 0) _ rfl (hF _ _).1 Try.underlying43 rfl (by kernel_rfl)) rfl ⟨rfl, (hF _ _).2⟩

set_option maxRecDepth 100000 in
set_option maxHeartbeats 1000000 in
theorem a29_5 : Ans 29 5 5 0 0 := by
  intro w
  go_enter Try.func29, Try.ntmps29
  go_wp2_with fail
  refine (a39_any (5) _).mono ?_
  rintro e w1 ⟨rfl, hB1⟩
  obtain ⟨c0, c1, f0, f1, hF⟩ := fin hB1
  clear hB1
  go_wp2
  refine bodyPost_ret (results_tc (p := 3) (r := 2) (ty := 43) rfl _ _ w.heap.size 43 _ (0, 0) _ rfl (hF _ _).1 Try.underlying43 rfl (by kernel_rfl)) rfl ⟨rfl, (hF _ _).2⟩

set_option maxRecDepth 100000 in
set_option maxHeartbeats 1000000 in
theorem a29_6 : Ans 29 6 6 4 0 := by
  intro w
  go_enter Try.func29, Try.ntmps29
  go_wp2_with fail
  refine (a24_any (6) _).mono ?_
  rintro e w1 ⟨rfl, hB1⟩
  obtain ⟨c0, c1, f0, f1, hF⟩ := fin hB1
  clear hB1
  go_wp2
  refine bodyPost_ret (results_tc (p := 3) (r := 2) (ty := 43) rfl _ _ w.heap.size 43 _ (0, 0) _ rfl (hF _ _).1 Try.underlying43 rfl (by kernel_rfl)) rfl ⟨rfl, (hF _ _).2⟩

set_option maxRecDepth 100000 in
set_option maxHeartbeats 1000000 in
theorem a30_0 : Ans 30 0 0 3 1 := by
  intro w
  go_enter Try.func30, Try.ntmps30
  go_wp2_with fail
  refine (a43_0 _).mono ?_
  rintro e w1 ⟨rfl, hB1⟩
  obtain ⟨c0, c1, f0, f1, hF⟩ := fin hB1
  clear hB1
  go_wp2
  refine bodyPost_ret (results_tc (p := 3) (r := 2) (ty := 43) rfl _ _ w.heap.size 43 _ (0, 0) _ rfl (hF _ _).1 Try.underlying43 rfl (by kernel_rfl)) rfl ⟨rfl, (hF _ _).2⟩

set_option maxRecDepth 100000 in
set_option maxHeartbeats 1000000 in
theorem a30_1 : Ans 30 1 1 3 1 := by
  intro w
  go_enter Try.func30, Try.ntmps30
  go_wp2_with fail
  refine (a43_1 _).mono ?_
  rintro e w1 ⟨rfl, hB1⟩
  obtain ⟨c0, c1, f0, f1, hF⟩ := fin hB1
  clear hB1
  go_wp2
  refine bodyPost_ret (results_tc (p := 3) (r := 2) (ty := 43) rfl _ _ w.heap.size 43 _ (0, 0) _ rfl (hF _ _).1 Try.underlying43 rfl (by kernel_rfl)) rfl ⟨rfl, (hF _ _).2⟩

set_option maxRecDepth 100000 in
set_option maxHeartbeats 1000000 in
theorem a30_2 : Ans 30 2 2 3 1 := by
  intro w
  go_enter Try.func30, Try.ntmps30
  go_wp2_with fail
  refine (a43_2 _).mono ?_
  rintro e w1 ⟨rfl, hB1⟩
  obtain ⟨c0, c1, f0, f1, hF⟩ := fin hB1
  clear hB1
  go_wp2
  refine bodyPost_ret (results_tc (p := 3) (r := 2) (ty := 43) rfl _ _ w.heap.size 43 _ (0, 0) _ rfl (hF _ _).1 Try.underlying43 rfl (by kernel_rfl)) rfl ⟨rfl, (hF _ _).2⟩

set_option maxRecDepth 100000 in
set_option maxHeartbeats 1000000 in
theorem a30_3 : Ans 30 3 3 0 0 := by
  intro w
  go_enter Try.func30, Try.ntmps30
  go_wp2_with fail
  refine (a39_any (3) _).mono ?_
  rintro e w1 ⟨rfl, hB1⟩
  obtain ⟨c0, c1, f0, f1, hF⟩ := fin hB1
  clear hB1
  go_wp2
  refine bodyPost_ret (results_tc (p := 3) (r := 2) (ty := 43) rfl _ _ w.heap.size 43 _ (0, 0) _ rfl (hF _ _).1 Try.underlying43 rfl (by kernel_rfl)) rfl ⟨rfl, (hF _ _).2⟩

set_option maxRecDepth 100000 in
set_option maxHeartbeats 1000000 in
theorem a30_4 : Ans 30 4 4 0 0 := by
  intro w
  go_enter Try.func30, Try.ntmps30
  go_wp2_with fail
  refine (a39_any (4) _).mono ?_
  rintro e w1 ⟨rfl, hB1⟩
  obtain ⟨c0, c1, f0, f1, hF⟩ := fin hB1
  clear hB1
  go_wp2
  refine bodyPost_ret (results_tc (p := 3) (r := 2) (ty := 43) rfl _ _ w.heap.size 43 _ (0, 0) _ rfl (hF _ _).1 Try.underlying43 rfl (by kernel_rfl)) rfl ⟨rfl, (hF _ _).2⟩

set_option maxRecDepth 100000 in
set_option maxHeartbeats 1000000 in
theorem a30_5 : Ans 30 5 5 2 5 := by
  intro w
  go_enter Try.func30, Try.ntmps30
  go_wp2_with fail
  refine (a43_5 _).mono ?_
  rintro e w1 ⟨rfl, hB1⟩
  obtain ⟨c0, c1, f0, f1, hF⟩ := fin hB1
  clear hB1
  go_wp2
  refine bodyPost_ret (results_tc (p := 3) (r := 2) (ty := 43) rfl _ _ w.heap.size 43 _ (0, 0) _ rfl (hF _ _).1 Try.underlying43 rfl (by kernel_rfl)) rfl ⟨rfl, (hF _ _).2⟩

set_option maxRecDepth 100000 in
set_option maxHeartbeats 1000000 in
theorem a30_6 : Ans 30 6 6 3 5 := by
  intro w
  go_enter Try.func30, Try.ntmps30
  go_wp2_with fail
  refine (a43_6 _).mono ?_
  rintro e w1 ⟨rfl, hB1⟩
  obtain ⟨c0, c1, f0, f1, hF⟩ := fin hB1
  clear hB1
  go_wp2
  refine bodyPost_ret (results_tc (p := 3) (r := 2) (ty := 43) rfl _ _ w.heap.size 43 _ (0, 0) _ rfl (hF _ _).1 Try.underlying43 rfl (by kernel_rfl)) rfl ⟨rfl, (hF _ _).2⟩

set_option maxRecDepth 100000 in
set_option maxHeartbeats 1000000 in
theorem a25_0 : Ans 25 0 3 0 0 := by
  intro w
  go_enter Try.func25, Try.ntmps25
  go_wp2_with fail
  refine (a39_any (3) _).mono ?_
  rintro e w1 ⟨rfl, hB1⟩
  obtain ⟨c0, c1, f0, f1, hF⟩ := fin hB1
  clear hB1
  go_wp2
  refine bodyPost_ret (results_tc (p := 3) (r := 2) (ty := 43) rfl _ _ w.heap.size 43 _ (0, 0) _ rfl (hF _ _).1 Try.underlying43 rfl (by kernel_rfl)) rfl ⟨rfl, (hF _ _).2⟩

set_option maxRecDepth 100000 in
set_option maxHeartbeats 1000000 in
theorem a25_1 : Ans 25 1 5 0 0 := by
  intro w
  go_enter Try.func25, Try.ntmps25
  go_wp2_with fail
  refine (a39_any (5) _).mono ?_
  rintro e w1 ⟨rfl, hB1⟩
  obtain ⟨c0, c1, f0, f1, hF⟩ := fin hB1
  clear hB1
  go_wp2
  refine bodyPost_ret (results_tc (p := 3) (r := 2) (ty := 43) rfl _ _ w.heap.size 43 _ (0, 0) _ rfl (hF _ _).1 Try.underlying43 rfl (by kernel_rfl)) rfl ⟨rfl, (hF _ _).2⟩

set_option maxRecDepth 100000 in
set_option maxHeartbeats 1000000 in
theorem a25_2 : Ans 25 2 2 4 0 := by
  intro w
  go_enter Try.func25, Try.ntmps25
  go_wp2_with fail
  refine (a29_2 _).mono ?_
  rintro e w1 ⟨rfl, hB1⟩
  obtain ⟨c0, c1, f0, f1, hF⟩ := fin hB1
  clear hB1
  go_wp2
  refine bodyPost_ret (results_tc (p := 3) (r := 2) (ty := 43) rfl _ _ w.heap.size 43 _ (0, 0) _ rfl (hF _ _).1 Try.underlying43 rfl (by kernel_rfl)) rfl ⟨rfl, (hF _ _).2⟩

set_option maxRecDepth 100000 in
set_option maxHeartbeats 1000000 in
theorem a25_3 : Ans 25 3 3 0 0 := by
  intro w
  go_enter Try.func25, Try.ntmps25
  go_wp2_with fail
  refine (a29_3 _).mono ?_
  rintro e w1 ⟨rfl, hB1⟩
  obtain ⟨c0, c1, f0, f1, hF⟩ := fin hB1
  clear hB1
  go_wp2
  refine bodyPost_ret (results_tc (p := 3) (r := 2) (ty := 43) rfl _ _ w.heap.size 43 _ (0, 0) _ rfl (hF _ _).1 Try.underlying43 rfl (by kernel_rfl)) rfl ⟨rfl, (hF _ _).2⟩

set_option maxRecDepth 100000 in
set_option maxHeartbeats 1000000 in
theorem a25_4 : Ans 25 4 4 4 0 := by
  intro w
  go_enter Try.func25, Try.ntmps25
  go_wp2_with fail
  refine (a29_4 _).mono ?_
  rintro e w1 ⟨rfl, hB1⟩
  obtain ⟨c0, c1, f0, f1, hF⟩ := fin hB1
  clear hB1
  go_wp2
  refine bodyPost_ret (results_tc (p := 3) (r := 2) (ty := 43) rfl _ _ w.heap.size 43 _ (0, 0) _ rfl (hF _ _).1 Try.underlying43 rfl (by kernel_rfl)) rfl ⟨rfl, (hF _ _).2⟩

set_option maxRecDepth 100000 in
set_option maxHeartbeats 1000000 in
theorem a25_5 : Ans 25 5 5 0 0 := by
  intro w
  go_enter Try.func25, Try.ntmps25
  go_wp2_with fail
  refine (a29_5 _).mono ?_
  rintro e w1 ⟨rfl, hB1⟩
  obtain ⟨c0, c1, f0, f1, hF⟩ := fin hB1
  clear hB1
  go_wp2
  refine bodyPost_ret (results_tc (p := 3) (r := 2) (ty := 43) rfl _ _ w.heap.size 43 _ (0, 0) _ rfl (hF _ _).1 Try.underlying43 rfl (by kernel_rfl)) rfl ⟨rfl, (hF _ _).2⟩

set_option maxRecDepth 100000 in
set_option maxHeartbeats 1000000 in
theorem a25_6 : Ans 25 6 6 4 0 := by
  intro w
  go_enter Try.func25, Try.ntmps25
  go_wp2_with fail
  refine (a29_6 _).mono ?_
  rintro e w1 ⟨rfl, hB1⟩
  obtain ⟨c0, c1, f0, f1, hF⟩ := fin hB1
  clear hB1
  go_wp2
  refine bodyPost_ret (results_tc (p := 3) (r := 2) (ty := 43) rfl _ _ w.heap.size 43 _ (0, 0) _ rfl (hF _ _).1 Try.underlying43 rfl (by kernel_rfl)) rfl ⟨rfl, (hF _ _).2⟩

set_option maxRecDepth 100000 in
set_option maxHeartbeats 1000000 in
theorem a26_0 : Ans 26 0 3 0 0 := by
  intro w
  go_enter Try.func26, Try.ntmps26
  go_wp2_with fail
  refine (a39_any (3) _).mono ?_
  rintro e w1 ⟨rfl, hB1⟩
  obtain ⟨c0, c1, f0, f1, hF⟩ := fin hB1
  clear hB1
  go_wp2
  refine bodyPost_ret (results_tc (p := 3) (r := 2) (ty := 43) rfl _ _ w.heap.size 43 _ (0, 0) _ rfl (hF _ _).1 Try.underlying43 rfl (by kernel_rfl)) rfl ⟨rfl, (hF _ _).2⟩

set_option maxRecDepth 100000 in
set_option maxHeartbeats 1000000 in
theorem a26_1 : Ans 26 1 1 3 1 := by
  intro w
  go_enter Try.func26, Try.ntmps26
  go_wp2_with fail
  refine (a30_1 _).mono ?_
  rintro e w1 ⟨rfl, hB1⟩
  obtain ⟨c0, c1, f0, f1, hF⟩ := fin hB1
  clear hB1
  go_wp2
  refine bodyPost_ret (results_tc (p := 3) (r := 2) (ty := 43) rfl _ _ w.heap.size 43 _ (0, 0) _ rfl (hF _ _).1 Try.underlying43 rfl (by kernel_rfl)) rfl ⟨rfl, (hF _ _).2⟩

set_option maxRecDepth 100000 in
set_option maxHeartbeats 1000000 in
theorem a26_2 : Ans 26 2 4 0 0 := by
  intro w
  go_enter Try.func26, Try.ntmps26
  go_wp2_with fail
  refine (a39_any (4) _).mono ?_
  rintro e w1 ⟨rfl, hB1⟩
  obtain ⟨c0, c1, f0, f1, hF⟩ := fin hB1
  clear hB1
  go_wp2
  refine bodyPost_ret (results_tc (p := 3) (r := 2) (ty := 43) rfl _ _ w.heap.size 43 _ (0, 0) _ rfl (hF _ _).1 Try.underlying43 rfl (by kernel_rfl)) rfl ⟨rfl, (hF _ _).2⟩

set_option maxRecDepth 100000 in
set_option maxHeartbeats 1000000 in
theorem a26_3 : Ans 26 3 3 0 0 := by
  intro w
  go_enter Try.func26, Try.ntmps26
  go_wp2_with fail
  refine (a30_3 _).mono ?_
  rintro e w1 ⟨rfl, hB1⟩
  obtain ⟨c0, c1, f0, f1, hF⟩ := fin hB1
  clear hB1
  go_wp2
  refine bodyPost_ret (results_tc (p := 3) (r := 2) (ty := 43) rfl _ _ w.heap.size 43 _ (0, 0) _ rfl (hF _ _).1 Try.underlying43 rfl (by kernel_rfl)) rfl ⟨rfl, (hF _ _).2⟩

set_option maxRecDepth 100000 in
set_option maxHeartbeats 1000000 in
theorem a26_4 : Ans 26 4 4 0 0 := by
  intro w
  go_enter Try.func26, Try.ntmps26
  go_wp2_with fail
  refine (a30_4 _).mono ?_
  rintro e w1 ⟨rfl, hB1⟩
  obtain ⟨c0, c1, f0, f1, hF⟩ := fin hB1
  clear hB1
  go_wp2
  refine bodyPost_ret (results_tc (p := 3) (r := 2) (ty := 43) rfl _ _ w.heap.size 43 _ (0, 0) _ rfl (hF _ _).1 Try.underlying43 rfl (by kernel_rfl)) rfl ⟨rfl, (hF _ _).2⟩

set_option maxRecDepth 100000 in
set_option maxHeartbeats 1000000 in
theorem a26_5 : Ans 26 5 5 2 5 := by
  intro w
  go_enter Try.func26, Try.ntmps26
  go_wp2_with fail
  refine (a30_5 _).mono ?_
  rintro e w1 ⟨rfl, hB1⟩
  obtain ⟨c0, c1, f0, f1, hF⟩ := fin hB1
  clear hB1
  go_wp2
  refine bodyPost_ret (results_tc (p := 3) (r := 2) (ty := 43) rfl _ _ w.heap.size 43 _ (0, 0) _ rfl (hF _ _).1 Try.underlying43 rfl (by kernel_rfl)) rfl ⟨rfl, (hF _ _).2⟩

set_option maxRecDepth 100000 in
set_option maxHeartbeats 1000000 in
theorem a26_6 : Ans 26 6 6 3 5 := by
  intro w
  go_enter Try.func26, Try.ntmps26
  go_wp2_with fail
  refine (a30_6 _).mono ?_
  rintro e w1 ⟨rfl, hB1⟩
  obtain ⟨c0, c1, f0, f1, hF⟩ := fin hB1
  clear hB1
  go_wp2
  refine bodyPost_ret (results_tc (p := 3) (r := 2) (ty := 43) rfl _ _ w.heap.size 43 _ (0, 0) _ rfl (hF _ _).1 Try.underlying43 rfl (by kernel_rfl)) rfl ⟨rfl, (hF _ _).2⟩

set_option maxRecDepth 100000 in
set_option maxHeartbeats 1000000 in
theorem a27_0 : Ans 27 0 4 0 0 := by
  intro w
  go_enter Try.func27, Try.ntmps27
  go_wp2_with fail
  refine (a25_0 _).mono ?_
  rintro e w1 ⟨rfl, hB1⟩
  go_wp2_with fail
  refine (a41_end 3 0 rfl _).mono ?_
  rintro e w2 ⟨rfl, hB2⟩
  replace hB1 := hB1.trans (hB2.mono hB1.size)
  obtain ⟨c0, c1, f0, f1, hF⟩ := fin hB1
  clear hB1
  go_wp2
  refine bodyPost_ret (results_tc (p := 3) (r := 2) (ty := 43) rfl _ _ w.heap.size 43 _ (0, 0) _ rfl (hF _ _).1 Try.underlying43 rfl (by kernel_rfl)) rfl ⟨rfl, (hF _ _).2⟩

set_option maxRecDepth 100000 in
set_option maxHeartbeats 1000000 in
theorem a27_1 : Ans 27 1 6 0 0 := by
  intro w
  go_enter Try.func27, Try.ntmps27
  go_wp2_with fail
  refine (a25_1 _).mono ?_
  rintro e w1 ⟨rfl, hB1⟩
  go_wp2_with fail
  refine (a41_over 0 _).mono ?_
  rintro e w2 ⟨rfl, hB2⟩
  replace hB1 := hB1.trans (hB2.mono hB1.size)
  obtain ⟨c0, c1, f0, f1, hF⟩ := fin hB1
  clear hB1
  go_wp2
  refine bodyPost_ret (results_tc (p := 3) (r := 2) (ty := 43) rfl _ _ w.heap.size 43 _ (0, 0) _ rfl (hF _ _).1 Try.underlying43 rfl (by kernel_rfl)) rfl ⟨rfl, (hF _ _).2⟩

set_option maxRecDepth 100000 in
set_option maxHeartbeats 1000000 in
theorem a27_2 : Ans 27 2 2 4 0 := by
  intro w
  go_enter Try.func27, Try.ntmps27
  go_wp2_with fail
  refine (a25_2 _).mono ?_
  rintro e w1 ⟨rfl, hB1⟩
  go_wp2_with fail
  refine (a41_no 2 4 0 rfl _).mono ?_
  rintro e w2 ⟨rfl, hB2⟩
  replace hB1 := hB1.trans (hB2.mono hB1.size)
  obtain ⟨c0, c1, f0, f1, hF⟩ := fin hB1
  clear hB1
  go_wp2
  refine bodyPost_ret (results_tc (p := 3) (r := 2) (ty := 43) rfl _ _ w.heap.size 43 _ (0, 0) _ rfl (hF _ _).1 Try.underlying43 rfl (by kernel_rfl)) rfl ⟨rfl, (hF _ _).2⟩

set_option maxRecDepth 100000 in
set_option maxHeartbeats 1000000 in
theorem a27_3 : Ans 27 3 4 0 0 := by
  intro w
  go_enter Try.func27, Try.ntmps27
  go_wp2_with fail
  refine (a25_3 _).mono ?_
  rintro e w1 ⟨rfl, hB1⟩
  go_wp2_with fail
  refine (a41_end 3 0 rfl _).mono ?_
  rintro e w2 ⟨rfl, hB2⟩
  replace hB1 := hB1.trans (hB2.mono hB1.size)
  obtain ⟨c0, c1, f0, f1, hF⟩ := fin hB1
  clear hB1
  go_wp2
  refine bodyPost_ret (results_tc (p := 3) (r := 2) (ty := 43) rfl _ _ w.heap.size 43 _ (0, 0) _ rfl (hF _ _).1 Try.underlying43 rfl (by kernel_rfl)) rfl ⟨rfl, (hF _ _).2⟩

set_option maxRecDepth 100000 in
set_option maxHeartbeats 1000000 in
theorem a27_4 : Ans 27 4 4 4 0 := by
  intro w
  go_enter Try.func27, Try.ntmps27
  go_wp2_with fail
  refine (a25_4 _).mono ?_
  rintro e w1 ⟨rfl, hB1⟩
  go_wp2_with fail
  refine (a41_no 4 4 0 rfl _).mono ?_
  rintro e w2 ⟨rfl, hB2⟩
  replace hB1 := hB1.trans (hB2.mono hB1.size)
  obtain ⟨c0, c1, f0, f1, hF⟩ := fin hB1
  clear hB1
  go_wp2
  refine bodyPost_ret (results_tc (p := 3) (r := 2) (ty := 43) rfl _ _ w.heap.size 43 _ (0, 0) _ rfl (hF _ _).1 Try.underlying43 rfl (by kernel_rfl)) rfl ⟨rfl, (hF _ _).2⟩

set_option maxRecDepth 100000 in
set_option maxHeartbeats 1000000 in
theorem a27_5 : Ans 27 5 6 0 0 := by
  intro w
  go_enter Try.func27, Try.ntmps27
  go_wp2_with fail
  refine (a25_5 _).mono ?_
  rintro e w1 ⟨rfl, hB1⟩
  go_wp2_with fail
  refine (a41_over 0 _).mono ?_
  rintro e w2 ⟨rfl, hB2⟩
  replace hB1 := hB1.trans (hB2.mono hB1.size)
  obtain ⟨c0, c1, f0, f1, hF⟩ := fin hB1
  clear hB1
  go_wp2
  refine bodyPost_ret (results_tc (p := 3) (r := 2) (ty := 43) rfl _ _ w.heap.size 43 _ (0, 0) _ rfl (hF _ _).1 Try.underlying43 rfl (by kernel_rfl)) rfl ⟨rfl, (hF _ _).2⟩

set_option maxRecDepth 100000 in
set_option maxHeartbeats 1000000 in
theorem a27_6 : Ans 27 6 6 4 0 := by
  intro w
  go_enter Try.func27, Try.ntmps27
  go_wp2_with fail
  refine (a25_6 _).mono ?_
  rintro e w1 ⟨rfl, hB1⟩
  go_wp2_with fail
  refine (a41_no 6 4 0 rfl _).mono ?_
  rintro e w2 ⟨rfl, hB2⟩
  replace hB1 := hB1.trans (hB2.mono hB1.size)
  obtain ⟨c0, c1, f0, f1, hF⟩ := fin hB1
  clear hB1
  go_wp2
  refine bodyPost_ret (results_tc (p := 3) (r := 2) (ty := 43) rfl _ _ w.heap.size 43 _ (0, 0) _ rfl (hF _ _).1 Try.underlying43 rfl (by kernel_rfl)) rfl ⟨rfl, (hF _ _).2⟩

set_option maxRecDepth 100000 in
set_option maxHeartbeats 1000000 in
theorem a28_0 : Ans 28 0 5 0 0 := by
  intro w
  go_enter Try.func28, Try.ntmps28
  go_wp2_with fail
  refine (a26_0 _).mono ?_
  rintro e w1 ⟨rfl, hB1⟩
  go_wp2_with fail
  refine (a42_end 3 0 rfl _).mono ?_
  rintro e w2 ⟨rfl, hB2⟩
  replace hB1 := hB1.trans (hB2.mono hB1.size)
  obtain ⟨c0, c1, f0, f1, hF⟩ := fin hB1
  clear hB1
  go_wp2
  refine bodyPost_ret (results_tc (p := 3) (r := 2) (ty := 43) rfl _ _ w.heap.size 43 _ (0, 0) _ rfl (hF _ _).1 Try.underlying43 rfl (by kernel_rfl)) rfl ⟨rfl, (hF _ _).2⟩

set_option maxRecDepth 100000 in
set_option maxHeartbeats 1000000 in
theorem a28_1 : Ans 28 1 1 3 1 := by
  intro w
  go_enter Try.func28, Try.ntmps28
  go_wp2_with fail
  refine (a26_1 _).mono ?_
  rintro e w1 ⟨rfl, hB1⟩
  go_wp2_with fail
  refine (a42_no 1 3 1 rfl _).mono ?_
  rintro e w2 ⟨rfl, hB2⟩
  replace hB1 := hB1.trans (hB2.mono hB1.size)
  obtain ⟨c0, c1, f0, f1, hF⟩ := fin hB1
  clear hB1
  go_wp2
  refine bodyPost_ret (results_tc (p := 3) (r := 2) (ty := 43) rfl _ _ w.heap.size 43 _ (0, 0) _ rfl (hF _ _).1 Try.underlying43 rfl (by kernel_rfl)) rfl ⟨rfl, (hF _ _).2⟩

set_option maxRecDepth 100000 in
set_option maxHeartbeats 1000000 in
theorem a28_2 : Ans 28 2 6 0 0 := by
  intro w
  go_enter Try.func28, Try.ntmps28
  go_wp2_with fail
  refine (a26_2 _).mono ?_
  rintro e w1 ⟨rfl, hB1⟩
  go_wp2_with fail
  refine (a42_over 0 _).mono ?_
  rintro e w2 ⟨rfl, hB2⟩
  replace hB1 := hB1.trans (hB2.mono hB1.size)
  obtain ⟨c0, c1, f0, f1, hF⟩ := fin hB1
  clear hB1
  go_wp2
  refine bodyPost_ret (results_tc (p := 3) (r := 2) (ty := 43) rfl _ _ w.heap.size 43 _ (0, 0) _ rfl (hF _ _).1 Try.underlying43 rfl (by kernel_rfl)) rfl ⟨rfl, (hF _ _).2⟩

set_option maxRecDepth 100000 in
set_option maxHeartbeats 1000000 in
theorem a28_3 : Ans 28 3 5 0 0 := by
  intro w
  go_enter Try.func28, Try.ntmps28
  go_wp2_with fail
  refine (a26_3 _).mono ?_
  rintro e w1 ⟨rfl, hB1⟩
  go_wp2_with fail
  refine (a42_end 3 0 rfl _).mono ?_
  rintro e w2 ⟨rfl, hB2⟩
  replace hB1 := hB1.trans (hB2.mono hB1.size)
  obtain ⟨c0, c1, f0, f1, hF⟩ := fin hB1
  clear hB1
  go_wp2
  refine bodyPost_ret (results_tc (p := 3) (r := 2) (ty := 43) rfl _ _ w.heap.size 43 _ (0, 0) _ rfl (hF _ _).1 Try.underlying43 rfl (by kernel_rfl)) rfl ⟨rfl, (hF _ _).2⟩

set_option maxRecDepth 100000 in
set_option maxHeartbeats 1000000 in
theorem a28_4 : Ans 28 4 6 0 0 := by
  intro w
  go_enter Try.func28, Try.ntmps28
  go_wp2_with fail
  refine (a26_4 _).mono ?_
  rintro e w1 ⟨rfl, hB1⟩
  go_wp2_with fail
  refine (a42_over 0 _).mono ?_
  rintro e w2 ⟨rfl, hB2⟩
  replace hB1 := hB1.trans (hB2.mono hB1.size)
  obtain ⟨c0, c1, f0, f1, hF⟩ := fin hB1
  clear hB1
  go_wp2
  refine bodyPost_ret (results_tc (p := 3) (r := 2) (ty := 43) rfl _ _ w.heap.size 43 _ (0, 0) _ rfl (hF _ _).1 Try.underlying43 rfl (by kernel_rfl)) rfl ⟨rfl, (hF _ _).2⟩

set_option maxRecDepth 100000 in
set_option maxHeartbeats 1000000 in
theorem a28_5 : Ans 28 5 5 2 5 := by
  intro w
  go_enter Try.func28, Try.ntmps28
  go_wp2_with fail
  refine (a26_5 _).mono ?_
  rintro e w1 ⟨rfl, hB1⟩
  go_wp2_with fail
  refine (a42_no 5 2 5 rfl _).mono ?_
  rintro e w2 ⟨rfl, hB2⟩
  replace hB1 := hB1.trans (hB2.mono hB1.size)
  obtain ⟨c0, c1, f0, f1, hF⟩ := fin hB1
  clear hB1
  go_wp2
  refine bodyPost_ret (results_tc (p := 3) (r := 2) (ty := 43) rfl _ _ w.heap.size 43 _ (0, 0) _ rfl (hF _ _).1 Try.underlying43 rfl (by kernel_rfl)) rfl ⟨rfl, (hF _ _).2⟩

set_option maxRecDepth 100000 in
set_option maxHeartbeats 1000000 in
theorem a28_6 : Ans 28 6 6 3 5 := by
  intro w
  go_enter Try.func28, Try.ntmps28
  go_wp2_with fail
  refine (a26_6 _).mono ?_
  rintro e w1 ⟨rfl, hB1⟩
  go_wp2_with fail
  refine (a42_no 6 3 5 rfl _).mono ?_
  rintro e w2 ⟨rfl, hB2⟩
  replace hB1 := hB1.trans (hB2.mono hB1.size)
  obtain ⟨c0, c1, f0, f1, hF⟩ := fin hB1
  clear hB1
  go_wp2
  refine bodyPost_ret (results_tc (p := 3) (r := 2) (ty := 43) rfl _ _ w.heap.size 43 _ (0, 0) _ rfl (hF _ _).1 Try.underlying43 rfl (by kernel_rfl)) rfl ⟨rfl, (hF _ _).2⟩

set_option maxRecDepth 100000 in
set_option maxHeartbeats 1000000 in
theorem a31_0 : Ans 31 0 0 4 0 := by
  intro w
  go_enter Try.func31, Try.ntmps31
  go_wp2_with fail
  refine (a29_0 _).mono ?_
  rintro e w1 ⟨rfl, hB1⟩
  go_wp2_with fail
  refine (a41_no 0 4 0 rfl _).mono ?_
  rintro e w2 ⟨rfl, hB2⟩
  replace hB1 := hB1.trans (hB2.mono hB1.size)
  obtain ⟨c0, c1, f0, f1, hF⟩ := fin hB1
  clear hB1
  go_wp2
  refine bodyPost_ret (results_tc (p := 3) (r := 2) (ty := 43) rfl _ _ w.heap.size 43 _ (0, 0) _ rfl (hF _ _).1 Try.underlying43 rfl (by kernel_rfl)) rfl ⟨rfl, (hF _ _).2⟩

set_option maxRecDepth 100000 in
set_option maxHeartbeats 1000000 in
theorem a31_1 : Ans 31 1 1 4 0 := by
  intro w
  go_enter Try.func31, Try.ntmps31
  go_wp2_with fail
  refine (a29_1 _).mono ?_
  rintro e w1 ⟨rfl, hB1⟩
  go_wp2_with fail
  refine (a41_no 1 4 0 rfl _).mono ?_
  rintro e w2 ⟨rfl, hB2⟩
  replace hB1 := hB1.trans (hB2.mono hB1.size)
  obtain ⟨c0, c1, f0, f1, hF⟩ := fin hB1
  clear hB1
  go_wp2
  refine bodyPost_ret (results_tc (p := 3) (r := 2) (ty := 43) rfl _ _ w.heap.size 43 _ (0, 0) _ rfl (hF _ _).1 Try.underlying43 rfl (by kernel_rfl)) rfl ⟨rfl, (hF _ _).2⟩

set_option maxRecDepth 100000 in
set_option maxHeartbeats 1000000 in
theorem a31_2 : Ans 31 2 2 4 0 := by
  intro w
  go_enter Try.func31, Try.ntmps31
  go_wp2_with fail
  refine (a29_2 _).mono ?_
  rintro e w1 ⟨rfl, hB1⟩
  go_wp2_with fail
  refine (a41_no 2 4 0 rfl _).mono ?_
  rintro e w2 ⟨rfl, hB2⟩
  replace hB1 := hB1.trans (hB2.mono hB1.size)
  obtain ⟨c0, c1, f0, f1, hF⟩ := fin hB1
  clear hB1
  go_wp2
  refine bodyPost_ret (results_tc (p := 3) (r := 2) (ty := 43) rfl _ _ w.heap.size 43 _ (0, 0) _ rfl (hF _ _).1 Try.underlying43 rfl (by kernel_rfl)) rfl ⟨rfl, (hF _ _).2⟩

set_option maxRecDepth 100000 in
set_option maxHeartbeats 1000000 in
theorem a31_3 : Ans 31 3 4 0 0 := by
  intro w
  go_enter Try.func31, Try.ntmps31
  go_wp2_with fail
  refine (a29_3 _).mono ?_
  rintro e w1 ⟨rfl, hB1⟩
  go_wp2_with fail
  refine (a41_end 3 0 rfl _).mono ?_
  rintro e w2 ⟨rfl, hB2⟩
  replace hB1 := hB1.trans (hB2.mono hB1.size)
  obtain ⟨c0, c1, f0, f1, hF⟩ := fin hB1
  clear hB1
  go_wp2
  refine bodyPost_ret (results_tc (p := 3) (r := 2) (ty := 43) rfl _ _ w.heap.size 43 _ (0, 0) _ rfl (hF _ _).1 Try.underlying43 rfl (by kernel_rfl)) rfl ⟨rfl, (hF _ _).2⟩

set_option maxRecDepth 100000 in
set_option maxHeartbeats 1000000 in
theorem a31_4 : Ans 31 4 4 4 0 := by
  intro w
  go_enter Try.func31, Try.ntmps31
  go_wp2_with fail
  refine (a29_4 _).mono ?_
  rintro e w1 ⟨rfl, hB1⟩
  go_wp2_with fail
  refine (a41_no 4 4 0 rfl _).mono ?_
  rintro e w2 ⟨rfl, hB2⟩
  replace hB1 := hB1.trans (hB2.mono hB1.size)
  obtain ⟨c0, c1, f0, f1, hF⟩ := fin hB1
  clear hB1
  go_wp2
  refine bodyPost_ret (results_tc (p := 3) (r := 2) (ty := 43) rfl _ _ w.heap.size 43 _ (0, 0) _ rfl (hF _ _).1 Try.underlying43 rfl (by kernel_rfl)) rfl ⟨rfl, (hF _ _).2⟩

set_option maxRecDepth 100000 in
set_option maxHeartbeats 1000000 in
theorem a31_5 : Ans 31 5 6 0 0 := by
  intro w
  go_enter Try.func31, Try.ntmps31
  go_wp2_with fail
  refine (a29_5 _).mono ?_
  rintro e w1 ⟨rfl, hB1⟩
  go_wp2_with fail
  refine (a41_over 0 _).mono ?_
  rintro e w2 ⟨rfl, hB2⟩
  replace hB1 := hB1.trans (hB2.mono hB1.size)
  obtain ⟨c0, c1, f0, f1, hF⟩ := fin hB1
  clear hB1
  go_wp2
  refine bodyPost_ret (results_tc (p := 3) (r := 2) (ty := 43) rfl _ _ w.heap.size 43 _ (0, 0) _ rfl (hF _ _).1 Try.underlying43 rfl (by kernel_rfl)) rfl ⟨rfl, (hF _ _).2⟩

set_option maxRecDepth 100000 in
set_option maxHeartbeats 1000000 in
theorem a31_6 : Ans 31 6 6 4 0 := by
  intro w
  go_enter Try.func31, Try.ntmps31
  go_wp2_with fail
  refine (a29_6 _).mono ?_
  rintro e w1 ⟨rfl, hB1⟩
  go_wp2_with fail
  refine (a41_no 6 4 0 rfl _).mono ?_
  rintro e w2 ⟨rfl, hB2⟩
  replace hB1 := hB1.trans (hB2.mono hB1.size)
  obtain ⟨c0, c1, f0, f1, hF⟩ := fin hB1
  clear hB1
  go_wp2
  refine bodyPost_ret (results_tc (p := 3) (r := 2) (ty := 43) rfl _ _ w.heap.size 43 _ (0, 0) _ rfl (hF _ _).1 Try.underlying43 rfl (by kernel_rfl)) rfl ⟨rfl, (hF _ _).2⟩

set_option maxRecDepth 100000 in
set_option maxHeartbeats 1000000 in
theorem a32_0 : Ans 32 0 0 3 1 := by
  intro w
  go_enter Try.func32, Try.ntmps32
  go_wp2_with fail
  refine (a30_0 _).mono ?_
  rintro e w1 ⟨rfl, hB1⟩
  go_wp2_with fail
  refine (a42_no 0 3 1 rfl _).mono ?_
  rintro e w2 ⟨rfl, hB2⟩
  replace hB1 := hB1.trans (hB2.mono hB1.size)
  obtain ⟨c0, c1, f0, f1, hF⟩ := fin hB1
  clear hB1
  go_wp2
  refine bodyPost_ret (results_tc (p := 3) (r := 2) (ty := 43) rfl _ _ w.heap.size 43 _ (0, 0) _ rfl (hF _ _).1 Try.underlying43 rfl (by kernel_rfl)) rfl ⟨rfl, (hF _ _).2⟩

set_option maxRecDepth 100000 in
set_option maxHeartbeats 1000000 in
theorem a32_1 : Ans 32 1 1 3 1 := by
  intro w
  go_enter Try.func32, Try.ntmps32
  go_wp2_with fail
  refine (a30_1 _).mono ?_
  rintro e w1 ⟨rfl, hB1⟩
  go_wp2_with fail
  refine (a42_no 1 3 1 rfl _).mono ?_
  rintro e w2 ⟨rfl, hB2⟩
  replace hB1 := hB1.trans (hB2.mono hB1.size)
  obtain ⟨c0, c1, f0, f1, hF⟩ := fin hB1
  clear hB1
  go_wp2
  refine bodyPost_ret (results_tc (p := 3) (r := 2) (ty := 43) rfl _ _ w.heap.size 43 _ (0, 0) _ rfl (hF _ _).1 Try.underlying43 rfl (by kernel_rfl)) rfl ⟨rfl, (hF _ _).2⟩

set_option maxRecDepth 100000 in
set_option maxHeartbeats 1000000 in
theorem a32_2 : Ans 32 2 2 3 1 := by
  intro w
  go_enter Try.func32, Try.ntmps32
  go_wp2_with fail
  refine (a30_2 _).mono ?_
  rintro e w1 ⟨rfl, hB1⟩
  go_wp2_with fail
  refine (a42_no 2 3 1 rfl _).mono ?_
  rintro e w2 ⟨rfl, hB2⟩
  replace hB1 := hB1.trans (hB2.mono hB1.size)
  obtain ⟨c0, c1, f0, f1, hF⟩ := fin hB1
  clear hB1
  go_wp2
  refine bodyPost_ret (results_tc (p := 3) (r := 2) (ty := 43) rfl _ _ w.heap.size 43 _ (0, 0) _ rfl (hF _ _).1 Try.underlying43 rfl (by kernel_rfl)) rfl ⟨rfl, (hF _ _).2⟩

set_option maxRecDepth 100000 in
set_option maxHeartbeats 1000000 in
theorem a32_3 : Ans 32 3 5 0 0 := by
  intro w
  go_enter Try.func32, Try.ntmps32
  go_wp2_with fail
  refine (a30_3 _).mono ?_
  rintro e w1 ⟨rfl, hB1⟩
  go_wp2_with fail
  refine (a42_end 3 0 rfl _).mono ?_
  rintro e w2 ⟨rfl, hB2⟩
  replace hB1 := hB1.trans (hB2.mono hB1.size)
  obtain ⟨c0, c1, f0, f1, hF⟩ := fin hB1
  clear hB1
  go_wp2
  refine bodyPost_ret (results_tc (p := 3) (r := 2) (ty := 43) rfl _ _ w.heap.size 43 _ (0, 0) _ rfl (hF _ _).1 Try.underlying43 rfl (by kernel_rfl)) rfl ⟨rfl, (hF _ _).2⟩

set_option maxRecDepth 100000 in
set_option maxHeartbeats 1000000 in
theorem a32_4 : Ans 32 4 6 0 0 := by
  intro w
  go_enter Try.func32, Try.ntmps32
  go_wp2_with fail
  refine (a30_4 _).mono ?_
  rintro e w1 ⟨rfl, hB1⟩
  go_wp2_with fail
  refine (a42_over 0 _).mono ?_
  rintro e w2 ⟨rfl, hB2⟩
  replace hB1 := hB1.trans (hB2.mono hB1.size)
  obtain ⟨c0, c1, f0, f1, hF⟩ := fin hB1
  clear hB1
  go_wp2
  refine bodyPost_ret (results_tc (p := 3) (r := 2) (ty := 43) rfl _ _ w.heap.size 43 _ (0, 0) _ rfl (hF _ _).1 Try.underlying43 rfl (by kernel_rfl)) rfl ⟨rfl, (hF _ _).2⟩

set_option maxRecDepth 100000 in
set_option maxHeartbeats 1000000 in
theorem a32_5 : Ans 32 5 5 2 5 := by
  intro w
  go_enter Try.func32, Try.ntmps32
  go_wp2_with fail
  refine (a30_5 _).mono ?_
  rintro e w1 ⟨rfl, hB1⟩
  go_wp2_with fail
  refine (a42_no 5 2 5 rfl _).mono ?_
  rintro e w2 ⟨rfl, hB2⟩
  replace hB1 := hB1.trans (hB2.mono hB1.size)
  obtain ⟨c0, c1, f0, f1, hF⟩ := fin hB1
  clear hB1
  go_wp2
  refine bodyPost_ret (results_tc (p := 3) (r := 2) (ty := 43) rfl _ _ w.heap.size 43 _ (0, 0) _ rfl (hF _ _).1 Try.underlying43 rfl (by kernel_rfl)) rfl ⟨rfl, (hF _ _).2⟩

set_option maxRecDepth 100000 in
set_option maxHeartbeats 1000000 in
theorem a32_6 : Ans 32 6 6 3 5 := by
  intro w
  go_enter Try.func32, Try.ntmps32
  go_wp2_with fail
  refine (a30_6 _).mono ?_
  rintro e w1 ⟨rfl, hB1⟩
  go_wp2_with fail
  refine (a42_no 6 3 5 rfl _).mono ?_
  rintro e w2 ⟨rfl, hB2⟩
  replace hB1 := hB1.trans (hB2.mono hB1.size)
  obtain ⟨c0, c1, f0, f1, hF⟩ := fin hB1
  clear hB1
  go_wp2
  refine bodyPost_ret (results_tc (p := 3) (r := 2) (ty := 43) rfl _ _ w.heap.size 43 _ (0, 0) _ rfl (hF _ _).1 Try.underlying43 rfl (by kernel_rfl)) rfl ⟨rfl, (hF _ _).2⟩

set_option maxRecDepth 100000 in
set_option maxHeartbeats 1000000 in
theorem a33_0 : Ans 33 0 1 0 0 := by
  intro w
  go_enter Try.func33, Try.ntmps33
  go_wp2_with fail
  refine (a39_any (1) _).mono ?_
  rintro e w1 ⟨rfl, hB1⟩
  obtain ⟨c0, c1, f0, f1, hF⟩ := fin hB1
  clear hB1
  go_wp2
  refine bodyPost_ret (results_tc (p := 3) (r := 2) (ty := 43) rfl _ _ w.heap.size 43 _ (0, 0) _ rfl (hF _ _).1 Try.underlying43 rfl (by kernel_rfl)) rfl ⟨rfl, (hF _ _).2⟩

set_option maxRecDepth 100000 in
set_option maxHeartbeats 1000000 in
theorem a33_1 : Ans 33 1 1 4 0 := by
  intro w
  go_enter Try.func33, Try.ntmps33
  go_wp2_with fail
  refine (a24_any (1) _).mono ?_
  rintro e w1 ⟨rfl, hB1⟩
  obtain ⟨c0, c1, f0, f1, hF⟩ := fin hB1
  clear hB1
  go_wp2
  refine bodyPost_ret (results_tc (p := 3) (r := 2) (ty := 43) rfl _ _ w.heap.size 43 _ (0, 0) _ rfl (hF _ _).1 Try.underlying43 rfl (by kernel_rfl)) rfl ⟨rfl, (hF _ _).2⟩

set_option maxRecDepth 100000 in
set_option maxHeartbeats 1000000 in
theorem a33_2 : Ans 33 2 2 4 0 := by
  intro w
  go_enter Try.func33, Try.ntmps33
  go_wp2_with fail
  refine (a24_any (2) _).mono ?_
  rintro e w1 ⟨rfl, hB1⟩
  obtain ⟨c0, c1, f0, f1, hF⟩ := fin hB1
  clear hB1
  go_wp2
  refine bodyPost_ret (results_tc (p := 3) (r := 2) (ty := 43) rfl _ _ w.heap.size 43 _ (0, 0) _ rfl (hF _ _).1 Try.underlying43 rfl (by kernel_rfl)) rfl ⟨rfl, (hF _ _).2⟩

set_option maxRecDepth 100000 in
set_option maxHeartbeats 1000000 in
theorem a33_3 : Ans 33 3 3 4 0 := by
  intro w
  go_enter Try.func33, Try.ntmps33
  go_wp2_with fail
  refine (a24_any (3) _).mono ?_
  rintro e w1 ⟨rfl, hB1⟩
  obtain ⟨c0, c1, f0, f1, hF⟩ := fin hB1
  clear hB1
  go_wp2
  refine bodyPost_ret (results_tc (p := 3) (r := 2) (ty := 43) rfl _ _ w.heap.size 43 _ (0, 0) _ rfl (hF _ _).1 Try.underlying43 rfl (by kernel_rfl)) rfl ⟨rfl, (hF _ _).2⟩

set_option maxRecDepth 100000 in
set_option maxHeartbeats 1000000 in
theorem a33_4 : Ans 33 4 4 4 0 := by
  intro w
  go_enter Try.func33, Try.ntmps33
  go_wp2_with fail
  refine (a24_any (4) _).mono ?_
  rintro e w1 ⟨rfl, hB1⟩
  obtain ⟨c0, c1, f0, f1, hF⟩ := fin hB1
  clear hB1
  go_wp2
  refine bodyPost_ret (results_tc (p := 3) (r := 2) (ty := 43) rfl _ _ w.heap.size 43 _ (0, 0) _ rfl (hF _ _).1 Try.underlying43 rfl (by kernel_rfl)) rfl ⟨rfl, (hF _ _).2⟩

set_option maxRecDepth 100000 in
set_option maxHeartbeats 1000000 in
theorem a33_5 : Ans 33 5 5 4 0 := by
  intro w
  go_enter Try.func33, Try.ntmps33
  go_wp2_with fail
  refine (a24_any (5) _).mono ?_
  rintro e w1 ⟨rfl, hB1⟩
  obtain ⟨c0, c1, f0, f1, hF⟩ := fin hB1
  clear hB1
  go_wp2
  refine bodyPost_ret (results_tc (p := 3) (r := 2) (ty := 43) rfl _ _ w.heap.size 43 _ (0, 0) _ rfl (hF _ _).1 Try.underlying43 rfl (by kernel_rfl)) rfl ⟨rfl, (hF _ _).2⟩

set_option maxRecDepth 100000 in
set_option maxHeartbeats 1000000 in
theorem a33_6 : Ans 33 6 6 4 0 := by
  intro w
  go_enter Try.func33, Try.ntmps33
  go_wp2_with fail
  refine (a24_any (6) _).mono ?_
  rintro e w1 ⟨rfl, hB1⟩
  obtain ⟨c0, c1, f0, f1, hF⟩ := fin hB1
  clear hB1
  go_wp2
  refine bodyPost_ret (results_tc (p := 3) (r := 2) (ty := 43) rfl _ _ w.heap.size 43 _ (0, 0) _ rfl (hF _ _).1 Try.underlying43 rfl (by kernel_rfl)) rfl ⟨rfl, (hF _ _).2⟩

set_option maxRecDepth 100000 in
set_option maxHeartbeats 1000000 in
theorem a34_0 : Ans 34 0 2 0 0 := by
  intro w
  go_enter Try.func34, Try.ntmps34
  go_wp2_with fail
  refine (a39_any (2) _).mono ?_
  rintro e w1 ⟨rfl, hB1⟩
  obtain ⟨c0, c1, f0, f1, hF⟩ := fin hB1
  clear hB1
  go_wp2
  refine bodyPost_ret (results_tc (p := 3) (r := 2) (ty := 43) rfl _ _ w.heap.size 43 _ (0, 0) _ rfl (hF _ _).1 Try.underlying43 rfl (by kernel_rfl)) rfl ⟨rfl, (hF _ _).2⟩

set_option maxRecDepth 100000 in
set_option maxHeartbeats 1000000 in
theorem a34_1 : Ans 34 1 1 3 1 := by
  intro w
  go_enter Try.func34, Try.ntmps34
  go_wp2_with fail
  refine (a44_any (1) _).mono ?_
  rintro e w1 ⟨rfl, hB1⟩
  obtain ⟨c0, c1, f0, f1, hF⟩ := fin hB1
  clear hB1
  go_wp2
  refine bodyPost_ret (results_tc (p := 3) (r := 2) (ty := 43) rfl _ _ w.heap.size 43 _ (0, 0) _ rfl (hF _ _).1 Try.underlying43 rfl (by kernel_rfl)) rfl ⟨rfl, (hF _ _).2⟩

set_option maxRecDepth 100000 in
set_option maxHeartbeats 1000000 in
theorem a34_2 : Ans 34 2 2 3 1 := by
  intro w
  go_enter Try.func34, Try.ntmps34
  go_wp2_with fail
  refine (a44_any (2) _).mono ?_
  rintro e w1 ⟨rfl, hB1⟩
  obtain ⟨c0, c1, f0, f1, hF⟩ := fin hB1
  clear hB1
  go_wp2
  refine bodyPost_ret (results_tc (p := 3) (r := 2) (ty := 43) rfl _ _ w.heap.size 43 _ (0, 0) _ rfl (hF _ _).1 Try.underlying43 rfl (by kernel_rfl)) rfl ⟨rfl, (hF _ _).2⟩

set_option maxRecDepth 100000 in
set_option maxHeartbeats 1000000 in
theorem a34_3 : Ans 34 3 3 3 1 := by
  intro w
  go_enter Try.func34, Try.ntmps34
  go_wp2_with fail
  refine (a44_any (3) _).mono ?_
  rintro e w1 ⟨rfl, hB1⟩
  obtain ⟨c0, c1, f0, f1, hF⟩ := fin hB1
  clear hB1
  go_wp2
  refine bodyPost_ret (results_tc (p := 3) (r := 2) (ty := 43) rfl _ _ w.heap.size 43 _ (0, 0) _ rfl (hF _ _).1 Try.underlying43 rfl (by kernel_rfl)) rfl ⟨rfl, (hF _ _).2⟩

set_option maxRecDepth 100000 in
set_option maxHeartbeats 1000000 in
theorem a34_4 : Ans 34 4 4 3 1 := by
  intro w
  go_enter Try.func34, Try.ntmps34
  go_wp2_with fail
  refine (a44_any (4) _).mono ?_
  rintro e w1 ⟨rfl, hB1⟩
  obtain ⟨c0, c1, f0, f1, hF⟩ := fin hB1
  clear hB1
  go_wp2
  refine bodyPost_ret (results_tc (p := 3) (r := 2) (ty := 43) rfl _ _ w.heap.size 43 _ (0, 0) _ rfl (hF _ _).1 Try.underlying43 rfl (by kernel_rfl)) rfl ⟨rfl, (hF _ _).2⟩

set_option maxRecDepth 100000 in
set_option maxHeartbeats 1000000 in
theorem a34_5 : Ans 34 5 5 3 1 := by
  intro w
  go_enter Try.func34, Try.ntmps34
  go_wp2_with fail
  refine (a44_any (5) _).mono ?_
  rintro e w1 ⟨rfl, hB1⟩
  obtain ⟨c0, c1, f0, f1, hF⟩ := fin hB1
  clear hB1
  go_wp2
  refine bodyPost_ret (results_tc (p := 3) (r := 2) (ty := 43) rfl _ _ w.heap.size 43 _ (0, 0) _ rfl (hF _ _).1 Try.underlying43 rfl (by kernel_rfl)) rfl ⟨rfl, (hF _ _).2⟩

set_option maxRecDepth 100000 in
set_option maxHeartbeats 1000000 in
theorem a34_6 : Ans 34 6 6 3 1 := by
  intro w
  go_enter Try.func34, Try.ntmps34
  go_wp2_with fail
  refine (a44_any (6) _).mono ?_
  rintro e w1 ⟨rfl, hB1⟩
  obtain ⟨c0, c1, f0, f1, hF⟩ := fin hB1
  clear hB1
  go_wp2
  refine bodyPost_ret (results_tc (p := 3) (r := 2) (ty := 43) rfl _ _ w.heap.size 43 _ (0, 0) _ rfl (hF _ _).1 Try.underlying43 rfl (by kernel_rfl)) rfl ⟨rfl, (hF _ _).2⟩

set_option maxRecDepth 100000 in
set_option maxHeartbeats 1000000 in
theorem a35_0 : Ans 35 0 0 4 0 := by
  intro w
  go_enter Try.func35, Try.ntmps35
  go_wp2_with fail
  refine (a24_any (0) _).mono ?_
  rintro e w1 ⟨rfl, hB1⟩
  obtain ⟨c0, c1, f0, f1, hF⟩ := fin hB1
  clear hB1
  go_wp2
  refine bodyPost_ret (results_tc (p := 3) (r := 2) (ty := 43) rfl _ _ w.heap.size 43 _ (0, 0) _ rfl (hF _ _).1 Try.underlying43 rfl (by kernel_rfl)) rfl ⟨rfl, (hF _ _).2⟩

set_option maxRecDepth 100000 in
set_option maxHeartbeats 1000000 in
theorem a35_1 : Ans 35 1 6 0 0 := by
  intro w
  go_enter Try.func35, Try.ntmps35
  go_wp2_with fail
  refine (a39_any (6) _).mono ?_
  rintro e w1 ⟨rfl, hB1⟩
  obtain ⟨c0, c1, f0, f1, hF⟩ := fin hB1
  clear hB1
  go_wp2
  refine bodyPost_ret (results_tc (p := 3) (r := 2) (ty := 43) rfl _ _ w.heap.size 43 _ (0, 0) _ rfl (hF _ _).1 Try.underlying43 rfl (by kernel_rfl)) rfl ⟨rfl, (hF _ _).2⟩

set_option maxRecDepth 100000 in
set_option maxHeartbeats 1000000 in
theorem a35_2 : Ans 35 2 6 0 0 := by
  intro w
  go_enter Try.func35, Try.ntmps35
  go_wp2_with fail
  refine (a39_any (6) _).mono ?_
  rintro e w1 ⟨rfl, hB1⟩
  obtain ⟨c0, c1, f0, f1, hF⟩ := fin hB1
  clear hB1
  go_wp2
  refine bodyPost_ret (results_tc (p := 3) (r := 2) (ty := 43) rfl _ _ w.heap.size 43 _ (0, 0) _ rfl (hF _ _).1 Try.underlying43 rfl (by kernel_rfl)) rfl ⟨rfl, (hF _ _).2⟩

set_option maxRecDepth 100000 in
set_option maxHeartbeats 1000000 in
theorem a35_3 : Ans 35 3 6 0 0 := by
  intro w
  go_enter Try.func35, Try.ntmps35
  go_wp2_with fail
  refine (a39_any (6) _).mono ?_
  rintro e w1 ⟨rfl, hB1⟩
  obtain ⟨c0, c1, f0, f1, hF⟩ := fin hB1
  clear hB1
  go_wp2
  refine bodyPost_ret (results_tc (p := 3) (r := 2) (ty := 43) rfl _ _ w.heap.size 43 _ (0, 0) _ rfl (hF _ _).1 Try.underlying43 rfl (by kernel_rfl)) rfl ⟨rfl, (hF _ _).2⟩

set_option maxRecDepth 100000 in
set_option maxHeartbeats 1000000 in
theorem a35_4 : Ans 35 4 6 0 0 := by
  intro w
  go_enter Try.func35, Try.ntmps35
  go_wp2_with fail
  refine (a39_any (6) _).mono ?_
  rintro e w1 ⟨rfl, hB1⟩
  obtain ⟨c0, c1, f0, f1, hF⟩ := fin hB1
  clear hB1
  go_wp2
  refine bodyPost_ret (results_tc (p := 3) (r := 2) (ty := 43) rfl _ _ w.heap.size 43 _ (0, 0) _ rfl (hF _ _).1 Try.underlying43 rfl (by kernel_rfl)) rfl ⟨rfl, (hF _ _).2⟩

set_option maxRecDepth 100000 in
set_option maxHeartbeats 1000000 in
theorem a35_5 : Ans 35 5 6 0 0 := by
  intro w
  go_enter Try.func35, Try.ntmps35
  go_wp2_with fail
  refine (a39_any (6) _).mono ?_
  rintro e w1 ⟨rfl, hB1⟩
  obtain ⟨c0, c1, f0, f1, hF⟩ := fin hB1
  clear hB1
  go_wp2
  refine bodyPost_ret (results_tc (p := 3) (r := 2) (ty := 43) rfl _ _ w.heap.size 43 _ (0, 0) _ rfl (hF _ _).1 Try.underlying43 rfl (by kernel_rfl)) rfl ⟨rfl, (hF _ _).2⟩

set_option maxRecDepth 100000 in
set_option maxHeartbeats 1000000 in
theorem a35_6 : Ans 35 6 6 4 0 := by
  intro w
  go_enter Try.func35, Try.ntmps35
  go_wp2_with fail
  refine (a24_any (6) _).mono ?_
  rintro e w1 ⟨rfl, hB1⟩
  obtain ⟨c0, c1, f0, f1, hF⟩ := fin hB1
  clear hB1
  go_wp2
  refine bodyPost_ret (results_tc (p := 3) (r := 2) (ty := 43) rfl _ _ w.heap.size 43 _ (0, 0) _ rfl (hF _ _).1 Try.underlying43 rfl (by kernel_rfl)) rfl ⟨rfl, (hF _ _).2⟩

set_option maxRecDepth 100000 in
set_option maxHeartbeats 1000000 in
theorem a36_0 : Ans 36 0 0 3 1 := by
  intro w
  go_enter Try.func36, Try.ntmps36
  go_wp2_with fail
  refine (a44_any (0) _).mono ?_
  rintro e w1 ⟨rfl, hB1⟩
  obtain ⟨c0, c1, f0, f1, hF⟩ := fin hB1
  clear hB1
  go_wp2
  refine bodyPost_ret (results_tc (p := 3) (r := 2) (ty := 43) rfl _ _ w.heap.size 43 _ (0, 0) _ rfl (hF _ _).1 Try.underlying43 rfl (by kernel_rfl)) rfl ⟨rfl, (hF _ _).2⟩

set_option maxRecDepth 100000 in
set_option maxHeartbeats 1000000 in
theorem a36_1 : Ans 36 1 6 0 0 := by
  intro w
  go_enter Try.func36, Try.ntmps36
  go_wp2_with fail
  refine (a39_any (6) _).mono ?_
  rintro e w1 ⟨rfl, hB1⟩
  obtain ⟨c0, c1, f0, f1, hF⟩ := fin hB1
  clear hB1
  go_wp2
  refine bodyPost_ret (results_tc (p := 3) (r := 2) (ty := 43) rfl _ _ w.heap.size 43 _ (0, 0) _ rfl (hF _ _).1 Try.underlying43 rfl (by kernel_rfl)) rfl ⟨rfl, (hF _ _).2⟩

set_option maxRecDepth 100000 in
set_option maxHeartbeats 1000000 in
theorem a36_2 : Ans 36 2 6 0 0 := by
  intro w
  go_enter Try.func36, Try.ntmps36
  go_wp2_with fail
  refine (a39_any (6) _).mono ?_
  rintro e w1 ⟨rfl, hB1⟩
  obtain ⟨c0, c1, f0, f1, hF⟩ := fin hB1
  clear hB1
  go_wp2
  refine bodyPost_ret (results_tc (p := 3) (r := 2) (ty := 43) rfl _ _ w.heap.size 43 _ (0, 0) _ rfl (hF _ _).1 Try.underlying43 rfl (by kernel_rfl)) rfl ⟨rfl, (hF _ _).2⟩

set_option maxRecDepth 100000 in
set_option maxHeartbeats 1000000 in
theorem a36_3 : Ans 36 3 6 0 0 := by
  intro w
  go_enter Try.func36, Try.ntmps36
  go_wp2_with fail
  refine (a39_any (6) _).mono ?_
  rintro e w1 ⟨rfl, hB1⟩
  obtain ⟨c0, c1, f0, f1, hF⟩ := fin hB1
  clear hB1
  go_wp2
  refine bodyPost_ret (results_tc (p := 3) (r := 2) (ty := 43) rfl _ _ w.heap.size 43 _ (0, 0) _ rfl (hF _ _).1 Try.underlying43 rfl (by kernel_rfl)) rfl ⟨rfl, (hF _ _).2⟩

set_option maxRecDepth 100000 in
set_option maxHeartbeats 1000000 in
theorem a36_4 : Ans 36 4 6 0 0 := by
  intro w
  go_enter Try.func36, Try.ntmps36
  go_wp2_with fail
  refine (a39_any (6) _).mono ?_
  rintro e w1 ⟨rfl, hB1⟩
  obtain ⟨c0, c1, f0, f1, hF⟩ := fin hB1
  clear hB1
  go_wp2
  refine bodyPost_ret (results_tc (p := 3) (r := 2) (ty := 43) rfl _ _ w.heap.size 43 _ (0, 0) _ rfl (hF _ _).1 Try.underlying43 rfl (by kernel_rfl)) rfl ⟨rfl, (hF _ _).2⟩

set_option maxRecDepth 100000 in
set_option maxHeartbeats 1000000 in
theorem a36_5 : Ans 36 5 6 0 0 := by
  intro w
  go_enter Try.func36, Try.ntmps36
  go_wp2_with fail
  refine (a39_any (6) _).mono ?_
  rintro e w1 ⟨rfl, hB1⟩
  obtain ⟨c0, c1, f0, f1, hF⟩ := fin hB1
  clear hB1
  go_wp2
  refine bodyPost_ret (results_tc (p := 3) (r := 2) (ty := 43) rfl _ _ w.heap.size 43 _ (0, 0) _ rfl (hF _ _).1 Try.underlying43 rfl (by kernel_rfl)) rfl ⟨rfl, (hF _ _).2⟩

set_option maxRecDepth 100000 in
set_option maxHeartbeats 1000000 in
theorem a36_6 : Ans 36 6 6 1 0 := by
  intro w
  go_enter Try.func36, Try.ntmps36
  go_wp2_with fail
  refine (a45_any (6) _).mono ?_
  rintro e w1 ⟨rfl, hB1⟩
  obtain ⟨c0, c1, f0, f1, hF⟩ := fin hB1
  clear hB1
  go_wp2
  refine bodyPost_ret (results_tc (p := 3) (r := 2) (ty := 43) rfl _ _ w.heap.size 43 _ (0, 0) _ rfl (hF _ _).1 Try.underlying43 rfl (by kernel_rfl)) rfl ⟨rfl, (hF _ _).2⟩

set_option maxRecDepth 100000 in
set_option maxHeartbeats 1000000 in
theorem a37_0 : Ans 37 0 0 4 0 := by
  intro w
  go_enter Try.func37, Try.ntmps37
  go_wp2_with fail
  refine (a24_any (0) _).mono ?_
  rintro e w1 ⟨rfl, hB1⟩
  obtain ⟨c0, c1, f0, f1, hF⟩ := fin hB1
  clear hB1
  go_wp2
  refine bodyPost_ret (results_tc (p := 3) (r := 2) (ty := 43) rfl _ _ w.heap.size 43 _ (0, 0) _ rfl (hF _ _).1 Try.underlying43 rfl (by kernel_rfl)) rfl ⟨rfl, (hF _ _).2⟩

set_option maxRecDepth 100000 in
set_option maxHeartbeats 1000000 in
theorem a37_1 : Ans 37 1 1 4 0 := by
  intro w
  go_enter Try.func37, Try.ntmps37
  go_wp2_with fail
  refine (a24_any (1) _).mono ?_
  rintro e w1 ⟨rfl, hB1⟩
  obtain ⟨c0, c1, f0, f1, hF⟩ := fin hB1
  clear hB1
  go_wp2
  refine bodyPost_ret (results_tc (p := 3) (r := 2) (ty := 43) rfl _ _ w.heap.size 43 _ (0, 0) _ rfl (hF _ _).1 Try.underlying43 rfl (by kernel_rfl)) rfl ⟨rfl, (hF _ _).2⟩

set_option maxRecDepth 100000 in
set_option maxHeartbeats 1000000 in
theorem a37_2 : Ans 37 2 2 0 0 := by
  intro w
  go_enter Try.func37, Try.ntmps37
  go_wp2_with fail
  refine (a39_any (2) _).mono ?_
  rintro e w1 ⟨rfl, hB1⟩
  obtain ⟨c0, c1, f0, f1, hF⟩ := fin hB1
  clear hB1
  go_wp2
  refine bodyPost_ret (results_tc (p := 3) (r := 2) (ty := 43) rfl _ _ w.heap.size 43 _ (0, 0) _ rfl (hF _ _).1 Try.underlying43 rfl (by kernel_rfl)) rfl ⟨rfl, (hF _ _).2⟩

set_option maxRecDepth 100000 in
set_option maxHeartbeats 1000000 in
theorem a37_3 : Ans 37 3 3 0 0 := by
  intro w
  go_enter Try.func37, Try.ntmps37
  go_wp2_with fail
  refine (a39_any (3) _).mono ?_
  rintro e w1 ⟨rfl, hB1⟩
  obtain ⟨c0, c1, f0, f1, hF⟩ := fin hB1
  clear hB1
  go_wp2
  refine bodyPost_ret (results_tc (p := 3) (r := 2) (ty := 43) rfl _ _ w.heap.size 43 _ (0, 0) _ rfl (hF _ _).1 Try.underlying43 rfl (by kernel_rfl)) rfl ⟨rfl, (hF _ _).2⟩

set_option maxRecDepth 100000 in
set_option maxHeartbeats 1000000 in
theorem a37_4 : Ans 37 4 4 0 0 := by
  intro w
  go_enter Try.func37, Try.ntmps37
  go_wp2_with fail
  refine (a39_any (4) _).mono ?_
  rintro e w1 ⟨rfl, hB1⟩
  obtain ⟨c0, c1, f0, f1, hF⟩ := fin hB1
  clear hB1
  go_wp2
  refine bodyPost_ret (results_tc (p := 3) (r := 2) (ty := 43) rfl _ _ w.heap.size 43 _ (0, 0) _ rfl (hF _ _).1 Try.underlying43 rfl (by kernel_rfl)) rfl ⟨rfl, (hF _ _).2⟩

set_option maxRecDepth 100000 in
set_option maxHeartbeats 1000000 in
theorem a37_5 : Ans 37 5 5 0 0 := by
  intro w
  go_enter Try.func37, Try.ntmps37
  go_wp2_with fail
  refine (a39_any (5) _).mono ?_
  rintro e w1 ⟨rfl, hB1⟩
  obtain ⟨c0, c1, f0, f1, hF⟩ := fin hB1
  clear hB1
  go_wp2
  refine bodyPost_ret (results_tc (p := 3) (r := 2) (ty := 43) rfl _ _ w.heap.size 43 _ (0, 0) _ rfl (hF _ _).1 Try.underlying43 rfl (by kernel_rfl)) rfl ⟨rfl, (hF _ _).2⟩

set_option maxRecDepth 100000 in
set_option maxHeartbeats 1000000 in
theorem a37_6 : Ans 37 6 6 4 0 := by
  intro w
  go_enter Try.func37, Try.ntmps37
  go_wp2_with fail
  refine (a24_any (6) _).mono ?_
  rintro e w1 ⟨rfl, hB1⟩
  obtain ⟨c0, c1, f0, f1, hF⟩ := fin hB1
  clear hB1
  go_wp2
  refine bodyPost_ret (results_tc (p := 3) (r := 2) (ty := 43) rfl _ _ w.heap.size 43 _ (0, 0) _ rfl (hF _ _).1 Try.underlying43 rfl (by kernel_rfl)) rfl ⟨rfl, (hF _ _).2⟩

set_option maxRecDepth 100000 in
set_option maxHeartbeats 1000000 in
theorem a38_0 : Ans 38 0 0 3 1 := by
  intro w
  go_enter Try.func38, Try.ntmps38
  go_wp2_with fail
  refine (a44_any (0) _).mono ?_
  rintro e w1 ⟨rfl, hB1⟩
  obtain ⟨c0, c1, f0, f1, hF⟩ := fin hB1
  clear hB1
  go_wp2
  refine bodyPost_ret (results_tc (p := 3) (r := 2) (ty := 43) rfl _ _ w.heap.size 43 _ (0, 0) _ rfl (hF _ _).1 Try.underlying43 rfl (by kernel_rfl)) rfl ⟨rfl, (hF _ _).2⟩

set_option maxRecDepth 100000 in
set_option maxHeartbeats 1000000 in
theorem a38_1 : Ans 38 1 1 0 0 := by
  intro w
  go_enter Try.func38, Try.ntmps38
  go_wp2_with fail
  refine (a39_any (1) _).mono ?_
  rintro e w1 ⟨rfl, hB1⟩
  obtain ⟨c0, c1, f0, f1, hF⟩ := fin hB1
  clear hB1
  go_wp2
  refine bodyPost_ret (results_tc (p := 3) (r := 2) (ty := 43) rfl _ _ w.heap.size 43 _ (0, 0) _ rfl (hF _ _).1 Try.underlying43 rfl (by kernel_rfl)) rfl ⟨rfl, (hF _ _).2⟩

set_option maxRecDepth 100000 in
set_option maxHeartbeats 1000000 in
theorem a38_2 : Ans 38 2 2 3 1 := by
  intro w
  go_enter Try.func38, Try.ntmps38
  go_wp2_with fail
  refine (a44_any (2) _).mono ?_
  rintro e w1 ⟨rfl, hB1⟩
  obtain ⟨c0, c1, f0, f1, hF⟩ := fin hB1
  clear hB1
  go_wp2
  refine bodyPost_ret (results_tc (p := 3) (r := 2) (ty := 43) rfl _ _ w.heap.size 43 _ (0, 0) _ rfl (hF _ _).1 Try.underlying43 rfl (by kernel_rfl)) rfl ⟨rfl, (hF _ _).2⟩

set_option maxRecDepth 100000 in
set_option maxHeartbeats 1000000 in
theorem a38_3 : Ans 38 3 3 0 0 := by
  intro w
  go_enter Try.func38, Try.ntmps38
  go_wp2_with fail
  refine (a39_any (3) _).mono ?_
  rintro e w1 ⟨rfl, hB1⟩
  obtain ⟨c0, c1, f0, f1, hF⟩ := fin hB1
  clear hB1
  go_wp2
  refine bodyPost_ret (results_tc (p := 3) (r := 2) (ty := 43) rfl _ _ w.heap.size 43 _ (0, 0) _ rfl (hF _ _).1 Try.underlying43 rfl (by kernel_rfl)) rfl ⟨rfl, (hF _ _).2⟩

set_option maxRecDepth 100000 in
set_option maxHeartbeats 1000000 in
theorem a38_4 : Ans 38 4 4 0 0 := by
  intro w
  go_enter Try.func38, Try.ntmps38
  go_wp2_with fail
  refine (a39_any (4) _).mono ?_
  rintro e w1 ⟨rfl, hB1⟩
  obtain ⟨c0, c1, f0, f1, hF⟩ := fin hB1
  clear hB1
  go_wp2
  refine bodyPost_ret (results_tc (p := 3) (r := 2) (ty := 43) rfl _ _ w.heap.size 43 _ (0, 0) _ rfl (hF _ _).1 Try.underlying43 rfl (by kernel_rfl)) rfl ⟨rfl, (hF _ _).2⟩

set_option maxRecDepth 100000 in
set_option maxHeartbeats 1000000 in
theorem a38_5 : Ans 38 5 5 0 0 := by
  intro w
  go_enter Try.func38, Try.ntmps38
  go_wp2_with fail
  refine (a39_any (5) _).mono ?_
  rintro e w1 ⟨rfl, hB1⟩
  obtain ⟨c0, c1, f0, f1, hF⟩ := fin hB1
  clear hB1
  go_wp2
  refine bodyPost_ret (results_tc (p := 3) (r := 2) (ty := 43) rfl _ _ w.heap.size 43 _ (0, 0) _ rfl (hF _ _).1 Try.underlying43 rfl (by kernel_rfl)) rfl ⟨rfl, (hF _ _).2⟩

set_option maxRecDepth 100000 in
set_option maxHeartbeats 1000000 in
theorem a38_6 : Ans 38 6 6 1 0 := by
  intro w
  go_enter Try.func38, Try.ntmps38
  go_wp2_with fail
  refine (a45_any (6) _).mono ?_
  rintro e w1 ⟨rfl, hB1⟩
  obtain ⟨c0, c1, f0, f1, hF⟩ := fin hB1
  clear hB1
  go_wp2
  refine bodyPost_ret (results_tc (p := 3) (r := 2) (ty := 43) rfl _ _ w.heap.size 43 _ (0, 0) _ rfl (hF _ _).1 Try.underlying43 rfl (by kernel_rfl)) rfl ⟨rfl, (hF _ _).2⟩

set_option maxRecDepth 100000 in
set_option maxHeartbeats 1000000 in
theorem a40_0 : Ans 40 0 0 0 0 := by
  intro w
  go_enter Try.func40, Try.ntmps40
  go_wp2_with fail
  refine (a39_any (0) _).mono ?_
  rintro e w1 ⟨rfl, hB1⟩
  obtain ⟨c0, c1, f0, f1, hF⟩ := fin hB1
  clear hB1
  go_wp2
  refine bodyPost_ret (results_tc (p := 3) (r := 2) (ty := 43) rfl _ _ w.heap.size 43 _ (0, 0) _ rfl (hF _ _).1 Try.underlying43 rfl (by kernel_rfl)) rfl ⟨rfl, (hF _ _).2⟩

set_option maxRecDepth 100000 in
set_option maxHeartbeats 1000000 in
theorem a40_1 : Ans 40 1 1 0 0 := by
  intro w
  go_enter Try.func40, Try.ntmps40
  go_wp2_with fail
  refine (a39_any (1) _).mono ?_
  rintro e w1 ⟨rfl, hB1⟩
  obtain ⟨c0, c1, f0, f1, hF⟩ := fin hB1
  clear hB1
  go_wp2
  refine bodyPost_ret (results_tc (p := 3) (r := 2) (ty := 43) rfl _ _ w.heap.size 43 _ (0, 0) _ rfl (hF _ _).1 Try.underlying43 rfl (by kernel_rfl)) rfl ⟨rfl, (hF _ _).2⟩

set_option maxRecDepth 100000 in
set_option maxHeartbeats 1000000 in
theorem a40_2 : Ans 40 2 2 0 0 := by
  intro w
  go_enter Try.func40, Try.ntmps40
  go_wp2_with fail
  refine (a39_any (2) _).mono ?_
  rintro e w1 ⟨rfl, hB1⟩
  obtain ⟨c0, c1, f0, f1, hF⟩ := fin hB1
  clear hB1
  go_wp2
  refine bodyPost_ret (results_tc (p := 3) (r := 2) (ty := 43) rfl _ _ w.heap.size 43 _ (0, 0) _ rfl (hF _ _).1 Try.underlying43 rfl (by kernel_rfl)) rfl ⟨rfl, (hF _ _).2⟩

set_option maxRecDepth 100000 in
set_option maxHeartbeats 1000000 in
theorem a40_3 : Ans 40 3 3 0 0 := by
  intro w
  go_enter Try.func40, Try.ntmps40
  go_wp2_with fail
  refine (a39_any (3) _).mono ?_
  rintro e w1 ⟨rfl, hB1⟩
  obtain ⟨c0, c1, f0, f1, hF⟩ := fin hB1
  clear hB1
  go_wp2
  refine bodyPost_ret (results_tc (p := 3) (r := 2) (ty := 43) rfl _ _ w.heap.size 43 _ (0, 0) _ rfl (hF _ _).1 Try.underlying43 rfl (by kernel_rfl)) rfl ⟨rfl, (hF _ _).2⟩

set_option maxRecDepth 100000 in
set_option maxHeartbeats 1000000 in
theorem a40_4 : Ans 40 4 4 0 0 := by
  intro w
  go_enter Try.func40, Try.ntmps40
  go_wp2_with fail
  refine (a39_any (4) _).mono ?_
  rintro e w1 ⟨rfl, hB1⟩
  obtain ⟨c0, c1, f0, f1, hF⟩ := fin hB1
  clear hB1
  go_wp2
  refine bodyPost_ret (results_tc (p := 3) (r := 2) (ty := 43) rfl _ _ w.heap.size 43 _ (0, 0) _ rfl (hF _ _).1 Try.underlying43 rfl (by kernel_rfl)) rfl ⟨rfl, (hF _ _).2⟩

set_option maxRecDepth 100000 in
set_option maxHeartbeats 1000000 in
theorem a40_5 : Ans 40 5 5 0 0 := by
  intro w
  go_enter Try.func40, Try.ntmps40
  go_wp2_with fail
  refine (a39_any (5) _).mono ?_
  rintro e w1 ⟨rfl, hB1⟩
  obtain ⟨c0, c1, f0, f1, hF⟩ := fin hB1
  clear hB1
  go_wp2
  refine bodyPost_ret (results_tc (p := 3) (r := 2) (ty := 43) rfl _ _ w.heap.size 43 _ (0, 0) _ rfl (hF _ _).1 Try.underlying43 rfl (by kernel_rfl)) rfl ⟨rfl, (hF _ _).2⟩

set_option maxRecDepth 100000 in
set_option maxHeartbeats 1000000 in
theorem a40_6 : Ans 40 6 6 1 0 := by
  intro w
  go_enter Try.func40, Try.ntmps40
  go_wp2_with fail
  refine (a45_any (6) _).mono ?_
  rintro e w1 ⟨rfl, hB1⟩
  obtain ⟨c0, c1, f0, f1, hF⟩ := fin hB1
  clear hB1
  go_wp2
  refine bodyPost_ret (results_tc (p := 3) (r := 2) (ty := 43) rfl _ _ w.heap.size 43 _ (0, 0) _ rfl (hF _ _).1 Try.underlying43 rfl (by kernel_rfl)) rfl ⟨rfl, (hF _ _).2⟩

end Go.Proofs.Ytmflgoghlbmkeaa
