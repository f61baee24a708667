import Derived.Test.YtfmljlflnpmceaaGreatDoorVa
import Derived.Deep.RegionHeld3
/- Sets, params and lists of them, as numbers. -/
namespace Go.Proofs.YtfmljlflnpmceaaGreatDoor
open Go.RowKit
set_option linter.unusedVariables false
set_option linter.unusedSimpArgs false

/-- a set's six numbers -/
structure St where
  tab : Int
  psh : Int
  str : Int
  win : Int
  frm : Int
  lst : Int

def St.zero : St := ⟨0, 0, 0, 0, 0, 0⟩
def St.dfl : St := ⟨4096, 1, 2147483647, 65535, 16384, 2147483647⟩
def St.a (s : St) : Array Value := #[.int .i64 s.tab, .int .i64 s.psh, .int .i64 s.str, .int .i64 s.win, .int .i64 s.frm, .int .i64 s.lst]
def pv (q : Int × Int) : Value := .agg #[.int .i64 q.1, .int .i64 q.2]

/-- a param's code -/
def validS (q : Int × Int) (c : Bool) : Int :=
  if ¬ (0 ≤ q.1 ∧ q.1 ≤ 65535) ∨ ¬ (0 ≤ q.2 ∧ q.2 ≤ 4294967295) then 1
  else if q.1 = 2 ∧ (if c then 1 else 0) < q.2 then 1
  else if q.1 = 4 ∧ 2147483647 < q.2 then 3
  else if q.1 = 5 ∧ ¬ (16384 ≤ q.2 ∧ q.2 ≤ 16777215) then 1
  else 0

/-- a set with one param applied -/
def withS (s : St) (q : Int × Int) : St :=
  if q.1 = 1 then { s with tab := min q.2 2147483647 }
  else if q.1 = 2 then { s with psh := q.2 }
  else if q.1 = 3 then { s with str := min q.2 2147483647 }
  else if q.1 = 4 then { s with win := q.2 }
  else if q.1 = 5 then { s with frm := min q.2 65536 }
  else if q.1 = 6 then { s with lst := min q.2 2147483647 }
  else s

def applyS : St → List (Int × Int) → Bool → St × Int
  | s, [], _ => (s, 0)
  | s, q :: r, c => if validS q c = 0 then applyS (withS s q) r c else (St.zero, validS q c)

theorem applyS_append (s : St) (a b : List (Int × Int)) (c : Bool) : applyS s (a ++ b) c = if (applyS s a c).2 = 0 then applyS (applyS s a c).1 b c else applyS s a c := by
  induction a generalizing s with
  | nil => simp [applyS]
  | cons q r ih =>
    simp only [List.cons_append, applyS]
    by_cases h : validS q c = 0
    · simp only [if_pos h]; exact ih _
    · simp only [if_neg h]

def EP : El (Int × Int) := ⟨29, 42, 2, 16, fun q => [.int .i64 q.1, .int .i64 q.2]⟩
theorem okP : EP.Ok := ⟨Tryz.underlying29, by kernel_rfl, by decide, by decide, fun _ => rfl, fun a u hu => by
  simp only [EP, List.mem_cons, List.not_mem_nil, or_false] at hu
  rcases hu with rfl | rfl <;> rfl⟩
def ES : El St := ⟨99, 92, 6, 48, fun s => s.a.toList⟩
theorem okS : ES.Ok := ⟨Tryz.underlying99, by kernel_rfl, by decide, by decide, fun _ => rfl, fun a u hu => by
  simp only [ES, St.a, List.mem_cons, List.not_mem_nil, or_false] at hu
  rcases hu with rfl | rfl | rfl | rfl | rfl | rfl <;> rfl⟩

/-- the cells of the param with number k -/
theorem In.par {w : World} {v : Value} {l : List (Int × Int)} (h : In EP w v l) (k : Nat) (hk : k < l.length) : ∃ B off cap, v = .slice (some ⟨B, off, none⟩) l.length cap ∧ B < w.heap.size ∧ w.cell? ⟨B, off + k * 2, none⟩ = some (.int .i64 l[k].1) ∧ w.cell? ⟨B, off + k * 2 + 1, none⟩ = some (.int .i64 l[k].2) := by
  obtain ⟨B, off, cap, h1, h2, h3⟩ := h.get okP k hk
  exact ⟨B, off, cap, h1, h2, h3 0 _ rfl, h3 1 _ rfl⟩

/-- a block of six cells, set anew -/
def set6 (w : World) (g : Nat) (s : St) : World :=
  (((((w.setCell ⟨g, 0, none⟩ (.int .i64 s.tab)).setCell ⟨g, 1, none⟩ (.int .i64 s.psh)).setCell ⟨g, 2, none⟩ (.int .i64 s.str)).setCell ⟨g, 3, none⟩ (.int .i64 s.win)).setCell ⟨g, 4, none⟩ (.int .i64 s.frm)).setCell ⟨g, 5, none⟩ (.int .i64 s.lst)
theorem set6_blk {w : World} {g : Nat} {x : St} {t : TypeId} {fz : Nat × Nat} (s : St) (h : w.heap[g]? = some (.cells x.a t fz)) : (set6 w g s).heap[g]? = some (.cells s.a t fz) := by
  have h1 := setCell_block w g 0 (.int .i64 s.tab) _ t fz h
  have h2 := setCell_block _ g 1 (.int .i64 s.psh) _ t fz h1
  have h3 := setCell_block _ g 2 (.int .i64 s.str) _ t fz h2
  have h4 := setCell_block _ g 3 (.int .i64 s.win) _ t fz h3
  have h5 := setCell_block _ g 4 (.int .i64 s.frm) _ t fz h4
  have h6 := setCell_block _ g 5 (.int .i64 s.lst) _ t fz h5
  simp only [St.a, List.setIfInBounds_toArray, List.set_cons_zero, List.set_cons_succ] at h6
  exact h6
theorem Ks.set {A : Nat → Prop} {w u : World} (h : Ks A w u) (g off : Nat) (v : Value) (hg : A g) : Ks A w (u.setCell ⟨g, off, none⟩ v) :=
  h.trans (Ks.setCell A u g off v hg) (fun _ _ e => e) (fun _ _ e => e)
theorem set6_ks (w : World) (g : Nat) (s : St) : Ks (fun k => k = g) w (set6 w g s) :=
  ((((((Ks.refl (fun k => k = g) w).set g 0 _ rfl).set g 1 _ rfl).set g 2 _ rfl).set g 3 _ rfl).set g 4 _ rfl).set g 5 _ rfl
theorem set6_other (w : World) (g : Nat) (s : St) (k : Nat) (hk : k ≠ g) : (set6 w g s).heap[k]? = w.heap[k]? := by
  unfold set6
  rw [setCell_other _ _ _ _ _ hk, setCell_other _ _ _ _ _ hk, setCell_other _ _ _ _ _ hk, setCell_other _ _ _ _ _ hk, setCell_other _ _ _ _ _ hk, setCell_other _ _ _ _ _ hk]
theorem set6_size (w : World) (g : Nat) (s : St) : (set6 w g s).heap.size = w.heap.size := by simp [set6, World.setCell]

/-- a set's cells in memory -/
structure C6 (w : World) (g : Nat) (s : St) : Prop where
  c0 : w.cell? ⟨g, 0, none⟩ = some (.int .i64 s.tab)
  c1 : w.cell? ⟨g, 1, none⟩ = some (.int .i64 s.psh)
  c2 : w.cell? ⟨g, 2, none⟩ = some (.int .i64 s.str)
  c3 : w.cell? ⟨g, 3, none⟩ = some (.int .i64 s.win)
  c4 : w.cell? ⟨g, 4, none⟩ = some (.int .i64 s.frm)
  c5 : w.cell? ⟨g, 5, none⟩ = some (.int .i64 s.lst)
theorem c6 {w : World} {g : Nat} {s : St} {t : TypeId} {fz : Nat × Nat} (h : w.heap[g]? = some (.cells s.a t fz)) : C6 w g s :=
  ⟨cell_blk h 0, cell_blk h 1, cell_blk h 2, cell_blk h 3, cell_blk h 4, cell_blk h 5⟩
structure F6 (w : World) (g : Nat) : Prop where
  f0 : w.frozen? ⟨g, 0, none⟩ = false
  f1 : w.frozen? ⟨g, 1, none⟩ = false
  f2 : w.frozen? ⟨g, 2, none⟩ = false
  f3 : w.frozen? ⟨g, 3, none⟩ = false
  f4 : w.frozen? ⟨g, 4, none⟩ = false
  f5 : w.frozen? ⟨g, 5, none⟩ = false
theorem f6 {w : World} {g : Nat} {c : Array Value} {t : TypeId} (h : w.heap[g]? = some (.cells c t (0, 0))) : F6 w g :=
  ⟨frozen_blk h 0, frozen_blk h 1, frozen_blk h 2, frozen_blk h 3, frozen_blk h 4, frozen_blk h 5⟩

/-- results: a cell's and a slot's -/
theorem results_ctg {P : Program} {fn : Func} {p r : Tmp} {ty : TypeId} (h : fn.results = #[.cell p ty, .tmp r]) (tmps : Array Value) (w : World) (g : Nat) (t : TypeId) (cs : Array Value) (fr : Nat × Nat) (d : TypeDesc)
    (hp : tmps.getD p undef = .pointer (some ⟨g, 0, none⟩)) (hg : w.heap[g]? = some (.cells cs t fr)) (hu : P.underlying ty = some d) (hd : (match d with | .struct _ | .array _ _ => true | _ => false) = true) (hi : (P.info? ty).map (·.size) = some cs.size) :
    (results fn tmps).run P w = .ok (.tuple #[.agg cs, tmps.getD r undef]) w := by
  have hp' : tmps[p]?.getD undef = .pointer (some ⟨g, 0, none⟩) := by simpa using hp
  simp [results, h, hp', asAddr, run_loadVar_row w g t ty cs fr d hg hu hd hi]
end Go.Proofs.YtfmljlflnpmceaaGreatDoor
/- within, greatestPush, Valid, with, Default. -/
namespace Go.Proofs.YtfmljlflnpmceaaGreatDoor
open Go.RowKit
set_option linter.unusedVariables false
set_option linter.unusedSimpArgs false

def inB (n a b : Int) : Bool := decide (a ≤ n ∧ n ≤ b)
def pushS (c : Bool) : Int := if c then 1 else 0
/-- What start-up lays is there. -/
def Std (w : World) : Prop := ∃ t, w.heap[0]? = some (.cells St.dfl.a t (0, 0))

set_option maxRecDepth 100000 in
set_option maxHeartbeats 1000000 in
theorem within_any (n a b : Int) (w : World) :
    Calls Tryz.prog 112 #[.int .i64 n, .int .i64 a, .int .i64 b] w fun e w' => e = .returned (.bool (inB n a b)) ∧ w' = w := by
  unfold inB
  by_cases h1 : a ≤ n
  · by_cases h2 : n ≤ b
    · have e : decide (a ≤ n ∧ n ≤ b) = true := by simp [h1, h2]
      rw [e]
      go_enter Tryz.func112, Tryz.ntmps112
      go_wp2
      go_ret
      exact ⟨rfl, rfl⟩
    · have e : decide (a ≤ n ∧ n ≤ b) = false := by simp [h2]
      rw [e]
      go_enter Tryz.func112, Tryz.ntmps112
      go_wp2
      go_ret
      exact ⟨rfl, rfl⟩
  · have e : decide (a ≤ n ∧ n ≤ b) = false := by simp [h1]
    rw [e]
    go_enter Tryz.func112, Tryz.ntmps112
    go_wp2
    go_ret
    exact ⟨rfl, rfl⟩

theorem push_any (c : Bool) (w : World) :
    Calls Tryz.prog 113 #[.bool c] w fun e w' => e = .returned (.int .i64 (pushS c)) ∧ w' = w := by
  cases c
  all_goals
    go_enter Tryz.func113, Tryz.ntmps113
    go_wp2
    go_ret
    exact ⟨rfl, rfl⟩

set_option maxRecDepth 100000 in
set_option maxHeartbeats 1000000 in
theorem default_any (w : World) (t : TypeId) (h : w.heap[0]? = some (.cells St.dfl.a t (0, 0))) :
    Calls Tryz.prog 48 #[] w fun e w' => e = .returned (.agg St.dfl.a) ∧ w' = w.alloc (.cells St.dfl.a 92) := by
  have c := fun i => cell_blk h i
  have c0 := c 0; have c1 := c 1; have c2 := c 2; have c3 := c 3; have c4 := c 4; have c5 := c 5
  simp only [St.a, St.dfl, List.getElem?_toArray, List.getElem?_cons_succ, List.getElem?_cons_zero] at c0 c1 c2 c3 c4 c5
  clear c
  have hw : 0 < w.heap.size := heap_lt h
  have hw1 : 1 ≤ w.heap.size := heap_lt h
  go_enter Tryz.func48, Tryz.ntmps48
  go_wp2
  refine bodyPost_ret (results_cell_row (p := 0) (ty := 92) rfl _ _ w.heap.size 92 St.dfl.a (0, 0) _ rfl ?hr Tryz.underlying92 rfl (by kernel_rfl)) rfl ⟨rfl, ?_⟩
  case hr => exact heap_alloc_new _ _
  rfl

set_option maxRecDepth 100000 in
set_option maxHeartbeats 4000000 in
theorem with_any (s : St) (x y : Int) (w : World) :
    Calls Tryz.prog 80 #[.agg s.a, .agg #[.int .i64 x, .int .i64 y]] w fun e w' => e = .returned (.agg (withS s (x, y)).a) ∧ w' = ((w.alloc (.cells (withS s (x, y)).a 92)).alloc (.cells #[.int .i64 x, .int .i64 y] 42)).alloc (.cells (withS s (x, y)).a 92) := by
  obtain ⟨s1, s2, s3, s4, s5, s6⟩ := s
  unfold St.a withS
  simp only
  rcases (by omega : x = 1 ∨ x = 2 ∨ x = 3 ∨ x = 4 ∨ x = 5 ∨ x = 6 ∨ (x ≠ 1 ∧ x ≠ 2 ∧ x ≠ 3 ∧ x ≠ 4 ∧ x ≠ 5 ∧ x ≠ 6)) with rfl | rfl | rfl | rfl | rfl | rfl | ⟨h1, h2, h3, h4, h5, h6⟩
  · go_enter Tryz.func80, Tryz.ntmps80
    go_wp2
    refine bodyPost_ret (results_cell_row (p := 4) (ty := 92) rfl _ _ (w.heap.size + 2) 92 _ (0, 0) _ rfl ?hr Tryz.underlying92 rfl (by kernel_rfl)) rfl ⟨rfl, ?_⟩
    case hr => exact fresh3 _ _ _ _
    rfl
  · go_enter Tryz.func80, Tryz.ntmps80
    go_wp2
    refine bodyPost_ret (results_cell_row (p := 4) (ty := 92) rfl _ _ (w.heap.size + 2) 92 _ (0, 0) _ rfl ?hr Tryz.underlying92 rfl (by kernel_rfl)) rfl ⟨rfl, ?_⟩
    case hr => exact fresh3 _ _ _ _
    rfl
  · go_enter Tryz.func80, Tryz.ntmps80
    go_wp2
    refine bodyPost_ret (results_cell_row (p := 4) (ty := 92) rfl _ _ (w.heap.size + 2) 92 _ (0, 0) _ rfl ?hr Tryz.underlying92 rfl (by kernel_rfl)) rfl ⟨rfl, ?_⟩
    case hr => exact fresh3 _ _ _ _
    rfl
  · go_enter Tryz.func80, Tryz.ntmps80
    go_wp2
    refine bodyPost_ret (results_cell_row (p := 4) (ty := 92) rfl _ _ (w.heap.size + 2) 92 _ (0, 0) _ rfl ?hr Tryz.underlying92 rfl (by kernel_rfl)) rfl ⟨rfl, ?_⟩
    case hr => exact fresh3 _ _ _ _
    rfl
  · go_enter Tryz.func80, Tryz.ntmps80
    go_wp2
    refine bodyPost_ret (results_cell_row (p := 4) (ty := 92) rfl _ _ (w.heap.size + 2) 92 _ (0, 0) _ rfl ?hr Tryz.underlying92 rfl (by kernel_rfl)) rfl ⟨rfl, ?_⟩
    case hr => exact fresh3 _ _ _ _
    rfl
  · go_enter Tryz.func80, Tryz.ntmps80
    go_wp2
    refine bodyPost_ret (results_cell_row (p := 4) (ty := 92) rfl _ _ (w.heap.size + 2) 92 _ (0, 0) _ rfl ?hr Tryz.underlying92 rfl (by kernel_rfl)) rfl ⟨rfl, ?_⟩
    case hr => exact fresh3 _ _ _ _
    rfl
  · go_enter Tryz.func80, Tryz.ntmps80
    go_wp2
    refine bodyPost_ret (results_cell_row (p := 4) (ty := 92) rfl _ _ (w.heap.size + 2) 92 _ (0, 0) _ rfl ?hr Tryz.underlying92 rfl (by kernel_rfl)) rfl ⟨rfl, ?_⟩
    case hr => exact fresh3 _ _ _ _
    rfl
end Go.Proofs.YtfmljlflnpmceaaGreatDoor
/- Valid. -/
namespace Go.Proofs.YtfmljlflnpmceaaGreatDoor
open Go.RowKit
set_option linter.unusedVariables false
set_option linter.unusedSimpArgs false

set_option maxRecDepth 100000 in
set_option maxHeartbeats 1000000 in
theorem valid_a (x y : Int) (c : Bool) (w : World) (h1 : inB x 0 65535 = false) :
    Calls Tryz.prog 79 #[.agg #[.int .i64 x, .int .i64 y], .bool c] w fun e w' => e = .returned (.int .i64 1) ∧ Below w.heap.size w w' := by
  go_enter Tryz.func79, Tryz.ntmps79
  go_wp2_with (first | (go_at_call 112; refine (within_any _ _ _ _).mono ?_; rintro e w' ⟨rfl, rfl⟩) | (go_at_call 113; refine (push_any _ _).mono ?_; rintro e w' ⟨rfl, rfl⟩))
  go_ret
  exact ⟨rfl, by first | exact bel1 _ _ | exact (bel1 _ _).drew⟩

set_option maxRecDepth 100000 in
set_option maxHeartbeats 1000000 in
theorem valid_b (x y : Int) (c : Bool) (w : World) (h1 : inB x 0 65535 = true) (h2 : inB y 0 4294967295 = false) :
    Calls Tryz.prog 79 #[.agg #[.int .i64 x, .int .i64 y], .bool c] w fun e w' => e = .returned (.int .i64 1) ∧ Below w.heap.size w w' := by
  go_enter Tryz.func79, Tryz.ntmps79
  go_wp2_with (first | (go_at_call 112; refine (within_any _ _ _ _).mono ?_; rintro e w' ⟨rfl, rfl⟩) | (go_at_call 113; refine (push_any _ _).mono ?_; rintro e w' ⟨rfl, rfl⟩))
  go_ret
  exact ⟨rfl, by first | exact bel1 _ _ | exact (bel1 _ _).drew⟩

set_option maxRecDepth 100000 in
set_option maxHeartbeats 1000000 in
theorem valid_c (x y : Int) (c : Bool) (w : World) (h1 : inB x 0 65535 = true) (h2 : inB y 0 4294967295 = true) (h3 : x = 2) (h4 : pushS c < y) :
    Calls Tryz.prog 79 #[.agg #[.int .i64 x, .int .i64 y], .bool c] w fun e w' => e = .returned (.int .i64 1) ∧ Below w.heap.size w w' := by
  subst h3
  go_enter Tryz.func79, Tryz.ntmps79
  go_wp2_with (first | (go_at_call 112; refine (within_any _ _ _ _).mono ?_; rintro e w' ⟨rfl, rfl⟩) | (go_at_call 113; refine (push_any _ _).mono ?_; rintro e w' ⟨rfl, rfl⟩))
  go_region_law (first | (refine step_value 113 _ _ rfl ?_; go_simp; go_wp2_with (go_at_call 113; refine (push_any _ _).mono ?_; rintro e w' ⟨rfl, rfl⟩)))
  all_goals
    go_wp2_with (first | (go_at_call 112; refine (within_any _ _ _ _).mono ?_; rintro e w' ⟨rfl, rfl⟩) | (go_at_call 113; refine (push_any _ _).mono ?_; rintro e w' ⟨rfl, rfl⟩))
    go_ret
    exact ⟨rfl, by first | exact bel1 _ _ | exact (bel1 _ _).drew⟩

set_option maxRecDepth 100000 in
set_option maxHeartbeats 1000000 in
theorem valid_d (x y : Int) (c : Bool) (w : World) (h1 : inB x 0 65535 = true) (h2 : inB y 0 4294967295 = true) (h3 : x = 2) (h4 : ¬ pushS c < y) :
    Calls Tryz.prog 79 #[.agg #[.int .i64 x, .int .i64 y], .bool c] w fun e w' => e = .returned (.int .i64 0) ∧ Below w.heap.size w w' := by
  subst h3
  go_enter Tryz.func79, Tryz.ntmps79
  go_wp2_with (first | (go_at_call 112; refine (within_any _ _ _ _).mono ?_; rintro e w' ⟨rfl, rfl⟩) | (go_at_call 113; refine (push_any _ _).mono ?_; rintro e w' ⟨rfl, rfl⟩))
  go_region_law (first | (refine step_value 113 _ _ rfl ?_; go_simp; go_wp2_with (go_at_call 113; refine (push_any _ _).mono ?_; rintro e w' ⟨rfl, rfl⟩)))
  all_goals
    go_wp2_with (first | (go_at_call 112; refine (within_any _ _ _ _).mono ?_; rintro e w' ⟨rfl, rfl⟩) | (go_at_call 113; refine (push_any _ _).mono ?_; rintro e w' ⟨rfl, rfl⟩))
    go_ret
    exact ⟨rfl, by first | exact bel1 _ _ | exact (bel1 _ _).drew⟩

set_option maxRecDepth 100000 in
set_option maxHeartbeats 1000000 in
theorem valid_e (x y : Int) (c : Bool) (w : World) (h1 : inB x 0 65535 = true) (h2 : inB y 0 4294967295 = true) (h3 : x = 4) (h4 : 2147483647 < y) :
    Calls Tryz.prog 79 #[.agg #[.int .i64 x, .int .i64 y], .bool c] w fun e w' => e = .returned (.int .i64 3) ∧ Below w.heap.size w w' := by
  subst h3
  go_enter Tryz.func79, Tryz.ntmps79
  go_wp2_with (first | (go_at_call 112; refine (within_any _ _ _ _).mono ?_; rintro e w' ⟨rfl, rfl⟩) | (go_at_call 113; refine (push_any _ _).mono ?_; rintro e w' ⟨rfl, rfl⟩))
  go_region
  all_goals
    go_wp2_with (first | (go_at_call 112; refine (within_any _ _ _ _).mono ?_; rintro e w' ⟨rfl, rfl⟩) | (go_at_call 113; refine (push_any _ _).mono ?_; rintro e w' ⟨rfl, rfl⟩))
    go_ret
    exact ⟨rfl, by first | exact bel1 _ _ | exact (bel1 _ _).drew⟩

set_option maxRecDepth 100000 in
set_option maxHeartbeats 1000000 in
theorem valid_f (x y : Int) (c : Bool) (w : World) (h1 : inB x 0 65535 = true) (h2 : inB y 0 4294967295 = true) (h3 : x = 4) (h4 : ¬ 2147483647 < y) :
    Calls Tryz.prog 79 #[.agg #[.int .i64 x, .int .i64 y], .bool c] w fun e w' => e = .returned (.int .i64 0) ∧ Below w.heap.size w w' := by
  subst h3
  go_enter Tryz.func79, Tryz.ntmps79
  go_wp2_with (first | (go_at_call 112; refine (within_any _ _ _ _).mono ?_; rintro e w' ⟨rfl, rfl⟩) | (go_at_call 113; refine (push_any _ _).mono ?_; rintro e w' ⟨rfl, rfl⟩))
  go_region
  all_goals
    go_wp2_with (first | (go_at_call 112; refine (within_any _ _ _ _).mono ?_; rintro e w' ⟨rfl, rfl⟩) | (go_at_call 113; refine (push_any _ _).mono ?_; rintro e w' ⟨rfl, rfl⟩))
    go_ret
    exact ⟨rfl, by first | exact bel1 _ _ | exact (bel1 _ _).drew⟩

set_option maxRecDepth 100000 in
set_option maxHeartbeats 1000000 in
theorem valid_g (x y : Int) (c : Bool) (w : World) (h1 : inB x 0 65535 = true) (h2 : inB y 0 4294967295 = true) (h3 : x = 5) (h4 : inB y 16384 16777215 = false) :
    Calls Tryz.prog 79 #[.agg #[.int .i64 x, .int .i64 y], .bool c] w fun e w' => e = .returned (.int .i64 1) ∧ Below w.heap.size w w' := by
  subst h3
  go_enter Tryz.func79, Tryz.ntmps79
  go_wp2_with (first | (go_at_call 112; refine (within_any _ _ _ _).mono ?_; rintro e w' ⟨rfl, rfl⟩) | (go_at_call 113; refine (push_any _ _).mono ?_; rintro e w' ⟨rfl, rfl⟩))
  go_region
  all_goals
    go_wp2_with (first | (go_at_call 112; refine (within_any _ _ _ _).mono ?_; rintro e w' ⟨rfl, rfl⟩) | (go_at_call 113; refine (push_any _ _).mono ?_; rintro e w' ⟨rfl, rfl⟩))
    go_ret
    exact ⟨rfl, by first | exact bel1 _ _ | exact (bel1 _ _).drew⟩

set_option maxRecDepth 100000 in
set_option maxHeartbeats 1000000 in
theorem valid_h (x y : Int) (c : Bool) (w : World) (h1 : inB x 0 65535 = true) (h2 : inB y 0 4294967295 = true) (h3 : x = 5) (h4 : inB y 16384 16777215 = true) :
    Calls Tryz.prog 79 #[.agg #[.int .i64 x, .int .i64 y], .bool c] w fun e w' => e = .returned (.int .i64 0) ∧ Below w.heap.size w w' := by
  subst h3
  go_enter Tryz.func79, Tryz.ntmps79
  go_wp2_with (first | (go_at_call 112; refine (within_any _ _ _ _).mono ?_; rintro e w' ⟨rfl, rfl⟩) | (go_at_call 113; refine (push_any _ _).mono ?_; rintro e w' ⟨rfl, rfl⟩))
  go_region
  all_goals
    go_wp2_with (first | (go_at_call 112; refine (within_any _ _ _ _).mono ?_; rintro e w' ⟨rfl, rfl⟩) | (go_at_call 113; refine (push_any _ _).mono ?_; rintro e w' ⟨rfl, rfl⟩))
    go_ret
    exact ⟨rfl, by first | exact bel1 _ _ | exact (bel1 _ _).drew⟩

set_option maxRecDepth 100000 in
set_option maxHeartbeats 1000000 in
theorem valid_i (x y : Int) (c : Bool) (w : World) (h1 : inB x 0 65535 = true) (h2 : inB y 0 4294967295 = true) (h3 : x ≠ 2) (h4 : x ≠ 4) (h5 : x ≠ 5) :
    Calls Tryz.prog 79 #[.agg #[.int .i64 x, .int .i64 y], .bool c] w fun e w' => e = .returned (.int .i64 0) ∧ Below w.heap.size w w' := by
  have b3 : (x == 2) = false := by simpa using h3
  have b4 : (x == 4) = false := by simpa using h4
  have b5 : (x == 5) = false := by simpa using h5
  clear h3 h4 h5
  go_enter Tryz.func79, Tryz.ntmps79
  go_wp2_with (first | (go_at_call 112; refine (within_any _ _ _ _).mono ?_; rintro e w' ⟨rfl, rfl⟩) | (go_at_call 113; refine (push_any _ _).mono ?_; rintro e w' ⟨rfl, rfl⟩))
  go_region
  all_goals
    go_wp2_with (first | (go_at_call 112; refine (within_any _ _ _ _).mono ?_; rintro e w' ⟨rfl, rfl⟩) | (go_at_call 113; refine (push_any _ _).mono ?_; rintro e w' ⟨rfl, rfl⟩))
    go_ret
    exact ⟨rfl, by first | exact bel1 _ _ | exact (bel1 _ _).drew⟩

theorem valid_any (x y : Int) (c : Bool) (w : World) :
    Calls Tryz.prog 79 #[.agg #[.int .i64 x, .int .i64 y], .bool c] w fun e w' => e = .returned (.int .i64 (validS (x, y) c)) ∧ Below w.heap.size w w' := by
  have hp : pushS c = if c = true then 1 else 0 := rfl
  unfold validS
  simp only
  by_cases h1 : 0 ≤ x ∧ x ≤ 65535
  · by_cases h2 : 0 ≤ y ∧ y ≤ 4294967295
    · rw [if_neg (by simp [h1, h2])]
      have e1 : inB x 0 65535 = true := by simp [inB, h1]
      have e2 : inB y 0 4294967295 = true := by simp [inB, h2]
      by_cases h3 : x = 2
      · by_cases h4 : pushS c < y
        · rw [if_pos ⟨h3, by rw [← hp]; exact h4⟩]; exact valid_c x y c w e1 e2 h3 h4
        · rw [if_neg (fun h => h4 (by rw [hp]; exact h.2)), if_neg (fun h => by omega), if_neg (fun h => by omega)]; exact valid_d x y c w e1 e2 h3 h4
      · rw [if_neg (fun h => h3 h.1)]
        by_cases h4 : x = 4
        · by_cases h5 : 2147483647 < y
          · rw [if_pos ⟨h4, h5⟩]; exact valid_e x y c w e1 e2 h4 h5
          · rw [if_neg (fun h => h5 h.2), if_neg (fun h => by omega)]; exact valid_f x y c w e1 e2 h4 h5
        · rw [if_neg (fun h => h4 h.1)]
          by_cases h5 : x = 5
          · by_cases h6 : 16384 ≤ y ∧ y ≤ 16777215
            · rw [if_neg (fun h => h.2 h6)]; exact valid_h x y c w e1 e2 h5 (by simp [inB, h6])
            · rw [if_pos ⟨h5, h6⟩]; exact valid_g x y c w e1 e2 h5 (by simpa [inB] using h6)
          · rw [if_neg (fun h => h5 h.1)]; exact valid_i x y c w e1 e2 h3 h4 h5
    · rw [if_pos (.inr h2)]
      exact valid_b x y c w (by simp [inB, h1]) (by simpa [inB] using h2)
  · rw [if_pos (.inl h1)]
    exact valid_a x y c w (by simpa [inB] using h1)
end Go.Proofs.YtfmljlflnpmceaaGreatDoor
