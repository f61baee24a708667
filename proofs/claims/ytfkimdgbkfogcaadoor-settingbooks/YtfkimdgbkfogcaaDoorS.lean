/- Sets, params and lists of them, as numbers. -/
import Derived.Test.YtfkimdgbkfogcaaDoorM
namespace Go.Proofs.YtfkimdgbkfogcaaDoor
open Go.RowKit
set_option linter.unusedVariables false
set_option linter.unusedSimpArgs false

/-- a set's six numbers -/
structure St where
  tab : Int
  psh : Int
  str : Int
  win : Int
  frm : Int
  lst : Int

def St.zero : St := ⟨0, 0, 0, 0, 0, 0⟩
def St.dfl : St := ⟨4096, 1, 2147483647, 65535, 16384, 2147483647⟩
def St.a (s : St) : Array Value := #[.int .i64 s.tab, .int .i64 s.psh, .int .i64 s.str, .int .i64 s.win, .int .i64 s.frm, .int .i64 s.lst]
def pv (q : Int × Int) : Value := .agg #[.int .i64 q.1, .int .i64 q.2]

/-- a param's code -/
def validS (q : Int × Int) (c : Bool) : Int :=
  if ¬ (0 ≤ q.1 ∧ q.1 ≤ 65535) ∨ ¬ (0 ≤ q.2 ∧ q.2 ≤ 4294967295) then 1
  else if q.1 = 2 ∧ (if c then 1 else 0) < q.2 then 1
  else if q.1 = 4 ∧ 2147483647 < q.2 then 3
  else if q.1 = 5 ∧ ¬ (16384 ≤ q.2 ∧ q.2 ≤ 16777215) then 1
  else 0

def minS (a b : Int) : Int := if a < b then a else b
/-- a set with one param applied -/
def withS (s : St) (q : Int × Int) : St :=
  if q.1 = 1 then { s with tab := min q.2 2147483647 }
  else if q.1 = 2 then { s with psh := q.2 }
  else if q.1 = 3 then { s with str := min q.2 2147483647 }
  else if q.1 = 4 then { s with win := q.2 }
  else if q.1 = 5 then { s with frm := min q.2 65536 }
  else if q.1 = 6 then { s with lst := min q.2 2147483647 }
  else s

def applyS : St → List (Int × Int) → Bool → St × Int
  | s, [], _ => (s, 0)
  | s, q :: r, c => if validS q c = 0 then applyS (withS s q) r c else (St.zero, validS q c)

theorem applyS_append (s : St) (a b : List (Int × Int)) (c : Bool) : applyS s (a ++ b) c = if (applyS s a c).2 = 0 then applyS (applyS s a c).1 b c else applyS s a c := by
  induction a generalizing s with
  | nil => simp [applyS]
  | cons q r ih =>
    simp only [List.cons_append, applyS]
    by_cases h : validS q c = 0
    · simp only [if_pos h]; exact ih _
    · simp only [if_neg h]

def EP : El (Int × Int) := ⟨30, 46, 2, 16, fun q => [.int .i64 q.1, .int .i64 q.2]⟩
theorem okP : EP.Ok := ⟨Tryd.underlying30, by kernel_rfl, by decide, by decide, fun _ => rfl, fun a u hu => by
  simp only [EP, List.mem_cons, List.not_mem_nil, or_false] at hu
  rcases hu with rfl | rfl <;> rfl⟩
def EI : El Int := ⟨51, 2, 1, 8, fun q => [.int .i64 q]⟩
theorem okI : EI.Ok := ⟨Tryd.underlying51, by kernel_rfl, by decide, by decide, fun _ => rfl, fun a u hu => by
  simp only [EI, List.mem_cons, List.not_mem_nil, or_false] at hu
  rcases hu with rfl; rfl⟩
def ES : El St := ⟨59, 27, 6, 48, fun s => s.a.toList⟩
theorem okS : ES.Ok := ⟨Tryd.underlying59, by kernel_rfl, by decide, by decide, fun _ => rfl, fun a u hu => by
  simp only [ES, St.a, List.mem_cons, List.not_mem_nil, or_false] at hu
  rcases hu with rfl | rfl | rfl | rfl | rfl | rfl <;> rfl⟩

/-- the cells of the param with number k -/
theorem In.par {w : World} {v : Value} {l : List (Int × Int)} (h : In EP w v l) (k : Nat) (hk : k < l.length) : ∃ B off cap, v = .slice (some ⟨B, off, none⟩) l.length cap ∧ B < w.heap.size ∧ w.cell? ⟨B, off + k * 2, none⟩ = some (.int .i64 l[k].1) ∧ w.cell? ⟨B, off + k * 2 + 1, none⟩ = some (.int .i64 l[k].2) := by
  obtain ⟨B, off, cap, h1, h2, h3⟩ := h.get okP k hk
  exact ⟨B, off, cap, h1, h2, h3 0 _ rfl, h3 1 _ rfl⟩

/-- a block of six cells, set anew -/
def set6 (w : World) (g : Nat) (s : St) : World :=
  (((((w.setCell ⟨g, 0, none⟩ (.int .i64 s.tab)).setCell ⟨g, 1, none⟩ (.int .i64 s.psh)).setCell ⟨g, 2, none⟩ (.int .i64 s.str)).setCell ⟨g, 3, none⟩ (.int .i64 s.win)).setCell ⟨g, 4, none⟩ (.int .i64 s.frm)).setCell ⟨g, 5, none⟩ (.int .i64 s.lst)
theorem set6_blk {w : World} {g : Nat} {x : St} {t : TypeId} {fz : Nat × Nat} (s : St) (h : w.heap[g]? = some (.cells x.a t fz)) : (set6 w g s).heap[g]? = some (.cells s.a t fz) := by
  have h1 := setCell_block w g 0 (.int .i64 s.tab) _ t fz h
  have h2 := setCell_block _ g 1 (.int .i64 s.psh) _ t fz h1
  have h3 := setCell_block _ g 2 (.int .i64 s.str) _ t fz h2
  have h4 := setCell_block _ g 3 (.int .i64 s.win) _ t fz h3
  have h5 := setCell_block _ g 4 (.int .i64 s.frm) _ t fz h4
  have h6 := setCell_block _ g 5 (.int .i64 s.lst) _ t fz h5
  simp only [St.a, List.setIfInBounds_toArray, List.set_cons_zero, List.set_cons_succ] at h6
  exact h6
theorem Ks.set {A : Nat → Prop} {w u : World} (h : Ks A w u) (g off : Nat) (v : Value) (hg : A g) : Ks A w (u.setCell ⟨g, off, none⟩ v) :=
  h.trans (Ks.setCell A u g off v hg) (fun _ _ e => e) (fun _ _ e => e)
theorem set6_ks (w : World) (g : Nat) (s : St) : Ks (fun k => k = g) w (set6 w g s) :=
  ((((((Ks.refl (fun k => k = g) w).set g 0 _ rfl).set g 1 _ rfl).set g 2 _ rfl).set g 3 _ rfl).set g 4 _ rfl).set g 5 _ rfl
theorem set6_other (w : World) (g : Nat) (s : St) (k : Nat) (hk : k ≠ g) : (set6 w g s).heap[k]? = w.heap[k]? := by
  unfold set6
  rw [setCell_other _ _ _ _ _ hk, setCell_other _ _ _ _ _ hk, setCell_other _ _ _ _ _ hk, setCell_other _ _ _ _ _ hk, setCell_other _ _ _ _ _ hk, setCell_other _ _ _ _ _ hk]
theorem set6_size (w : World) (g : Nat) (s : St) : (set6 w g s).heap.size = w.heap.size := by simp [set6, World.setCell]

/-- a set's cells in memory -/
structure C6 (w : World) (g : Nat) (s : St) : Prop where
  c0 : w.cell? ⟨g, 0, none⟩ = some (.int .i64 s.tab)
  c1 : w.cell? ⟨g, 1, none⟩ = some (.int .i64 s.psh)
  c2 : w.cell? ⟨g, 2, none⟩ = some (.int .i64 s.str)
  c3 : w.cell? ⟨g, 3, none⟩ = some (.int .i64 s.win)
  c4 : w.cell? ⟨g, 4, none⟩ = some (.int .i64 s.frm)
  c5 : w.cell? ⟨g, 5, none⟩ = some (.int .i64 s.lst)
theorem c6 {w : World} {g : Nat} {s : St} {t : TypeId} {fz : Nat × Nat} (h : w.heap[g]? = some (.cells s.a t fz)) : C6 w g s :=
  ⟨cell_blk h 0, cell_blk h 1, cell_blk h 2, cell_blk h 3, cell_blk h 4, cell_blk h 5⟩
structure F6 (w : World) (g : Nat) : Prop where
  f0 : w.frozen? ⟨g, 0, none⟩ = false
  f1 : w.frozen? ⟨g, 1, none⟩ = false
  f2 : w.frozen? ⟨g, 2, none⟩ = false
  f3 : w.frozen? ⟨g, 3, none⟩ = false
  f4 : w.frozen? ⟨g, 4, none⟩ = false
  f5 : w.frozen? ⟨g, 5, none⟩ = false
theorem f6 {w : World} {g : Nat} {c : Array Value} {t : TypeId} (h : w.heap[g]? = some (.cells c t (0, 0))) : F6 w g :=
  ⟨frozen_blk h 0, frozen_blk h 1, frozen_blk h 2, frozen_blk h 3, frozen_blk h 4, frozen_blk h 5⟩

/-- results: a cell's and a slot's -/
theorem results_ct {P : Program} {fn : Func} {p r : Tmp} {ty : TypeId} (h : fn.results = #[.cell p ty, .tmp r]) (tmps : Array Value) (w : World) (g : Nat) (t : TypeId) (cs : Array Value) (fr : Nat × Nat) (d : TypeDesc)
    (hp : tmps.getD p undef = .pointer (some ⟨g, 0, none⟩)) (hg : w.heap[g]? = some (.cells cs t fr)) (hu : P.underlying ty = some d) (hd : (match d with | .struct _ | .array _ _ => true | _ => false) = true) (hi : (P.info? ty).map (·.size) = some cs.size) :
    (results fn tmps).run P w = .ok (.tuple #[.agg cs, tmps.getD r undef]) w := by
  have hp' : tmps[p]?.getD undef = .pointer (some ⟨g, 0, none⟩) := by simpa using hp
  simp [results, h, hp', asAddr, run_loadVar_row w g t ty cs fr d hg hu hd hi]
end Go.Proofs.YtfkimdgbkfogcaaDoor
