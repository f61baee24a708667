/- FeedPlays: its arguments opened. -/
import Derived.Test.YtmhbaaemihljjaaDoorE0
import Derived.Test.YtmhbaaemihljjaaDoorQ7
import Derived.OpenShut
import Derived.Deep.SlicePairs
namespace Go.Proofs.YtmhbaaemihljjaaDoor
open Go.ChangeShapes Go.WideShapes Go.ChangeAt Go.RowKit Go.Deep
set_option linter.unusedVariables false
set_option linter.unusedSimpArgs false

theorem cells65' : Tryd.prog.cellsOf 65 = 5 := by kernel_rfl
theorem cells57 : Tryd.prog.cellsOf 57 = 2 := by kernel_rfl
theorem cells58 : Tryd.prog.cellsOf 58 = 2 := by kernel_rfl
theorem cells3' : Tryd.prog.cellsOf 3 = 1 := by kernel_rfl
theorem cells4' : Tryd.prog.cellsOf 4 = 1 := by kernel_rfl
theorem cells2'' : Tryd.prog.cellsOf 2 = 1 := by kernel_rfl

theorem okWide_array {P : Program} {w : World} {r : Reach} {base : Nat} {t : TypeId} {v : Value} {n : Nat} {e : TypeId} (ht : P.underlying t = some (.array n e)) (h : Value.okWide P w r base t v) : ∃ cs, v = .agg cs ∧ cs.size = P.cellsOf t := by
  unfold Value.okWide at h
  rw [ht] at h
  obtain ⟨cs, h1, h2, _⟩ := h
  exact ⟨cs, h1, h2⟩

theorem open_two_bools {H : Type} {enc : TypeId × Value → H} {W : World} {v : Value} {d : DataW H} {p : List MemPlace} {b0 : Nat} (hval : Value.okWide Tryd.prog W .any b0 57 v) (h : DataW.Trod enc Tryd.prog W 0 (fun _ => true) true 57 v d p) :
    ∃ x y : Bool, v = .agg #[.bool x, .bool y] := by
  obtain ⟨cs, rfl, hcs⟩ := okWide_array Tryd.underlying57 hval
  rw [cells57] at hcs
  obtain ⟨fuel, hf0⟩ := h
  obtain ⟨xs, k', hk, hxy, _, hxl, hf⟩ := DataW.trod_array Tryd.underlying57 hf0
  have hlen : cs.toList.length = 2 := by simpa using hcs
  obtain ⟨l⟩ := cs
  match xs, hxl, l, hlen with
  | [y0, y1], _, [v0, v1], _ =>
    have g0 := hf 0 (by decide)
    have g1 := hf 1 (by decide)
    simp [cells4', Value.cells] at g0 g1
    obtain ⟨n0, e0, _⟩ := DataW.trod_bool Tryd.underlying4 g0
    obtain ⟨n1, e1, _⟩ := DataW.trod_bool Tryd.underlying4 g1
    simp only [List.cons.injEq, and_true] at e0 e1
    subst e0 e1
    exact ⟨_, _, rfl⟩

theorem open_two_ints {H : Type} {enc : TypeId × Value → H} {W : World} {v : Value} {d : DataW H} {p : List MemPlace} {b0 : Nat} (hval : Value.okWide Tryd.prog W .any b0 58 v) (h : DataW.Trod enc Tryd.prog W 0 (fun _ => true) true 58 v d p) :
    ∃ x y : Int, v = .agg #[.int .i64 x, .int .i64 y] := by
  obtain ⟨cs, rfl, hcs⟩ := okWide_array Tryd.underlying58 hval
  rw [cells58] at hcs
  obtain ⟨fuel, hf0⟩ := h
  obtain ⟨xs, k', hk, hxy, _, hxl, hf⟩ := DataW.trod_array Tryd.underlying58 hf0
  have hlen : cs.toList.length = 2 := by simpa using hcs
  obtain ⟨l⟩ := cs
  match xs, hxl, l, hlen with
  | [y0, y1], _, [v0, v1], _ =>
    have g0 := hf 0 (by decide)
    have g1 := hf 1 (by decide)
    simp [cells2'', Value.cells] at g0 g1
    obtain ⟨n0, e0, _⟩ := DataW.trod_int Tryd.underlying2 g0
    obtain ⟨n1, e1, _⟩ := DataW.trod_int Tryd.underlying2 g1
    simp only [List.cons.injEq, and_true] at e0 e1
    subst e0 e1
    exact ⟨_, _, rfl⟩

/-- What one step reads as. -/
def opD (H : Type) (o : OpT) : DataW H := .agg [.lit (.int .i64 o.kind), .lit (.bool o.two), .lit (.string o.s.data.toList), .lit (.int .i64 o.n), .lit (.int .i64 o.N)]
/-- One step's cells. -/
def OpAt (W : World) (a : Addr) (o : OpT) : Prop :=
  W.cell? a = some (.int .i64 o.kind) ∧ W.cell? (a.add 1) = some (.bool o.two) ∧ W.cell? (a.add 2) = some (.string o.s) ∧ W.cell? (a.add 3) = some (.int .i64 o.n) ∧ W.cell? (a.add 4) = some (.int .i64 o.N)

theorem spot_free {W : World} {a : Addr} {u : Value} (h : W.cell? a = some u) : a.spot = none := by
  unfold World.cell? at h
  split at h
  · split at h
    · cases h
    · rename_i h1
      simpa using h1
  · cases h
theorem spot_first {W : World} {a : Addr} {u : Value} (h : W.cell? (a.add (0 * 5)) = some u) : a.spot = none := by
  have := spot_free h
  simpa [Addr.add] using this

theorem open_op {H : Type} {enc : TypeId × Value → H} {W : World} {a : Addr} {cs : List Value} {n : Nat} {x : DataW H × List MemPlace} (h1 : W.cells? 0 a 5 = some cs)
    (h2 : DataW.trod enc Tryd.prog W 0 (fun _ => true) true n 65 cs = some x) : ∃ o : OpT, OpAt W a o ∧ x.1 = opD H o := by
  obtain ⟨_, hlen, hcell⟩ := World.cells?_some h1
  obtain ⟨xs, k', hk, hxy, _, hxl, hf⟩ := DataW.trod_struct Tryd.underlying65 h2
  match xs, hxl, cs, hlen with
  | [y0, y1, y2, y3, y4], _, [v0, v1, v2, v3, v4], _ =>
    have g0 := hf 0 _ rfl
    have g1 := hf 1 _ rfl
    have g2 := hf 2 _ rfl
    have g3 := hf 3 _ rfl
    have g4 := hf 4 _ rfl
    simp [cells3', cells4', cells9, cells2''] at g0 g1 g2 g3 g4
    obtain ⟨n0, e0, q0, _⟩ := DataW.trod_int Tryd.underlying3 g0
    obtain ⟨b1, e1, q1⟩ := DataW.trod_bool Tryd.underlying4 g1
    obtain ⟨s2, e2, q2, _⟩ := DataW.trod_string Tryd.underlying9 g2
    obtain ⟨n3, e3, q3, _⟩ := DataW.trod_int Tryd.underlying3 g3
    obtain ⟨n4, e4, q4, _⟩ := DataW.trod_int Tryd.underlying2 g4
    simp only [List.cons.injEq, and_true] at e0 e1 e2 e3 e4
    subst e0 e1 e2 e3 e4 q0 q1 q2 q3 q4
    have c0 := hcell 0 (by omega)
    have c1 := hcell 1 (by omega)
    have c2 := hcell 2 (by omega)
    have c3 := hcell 3 (by omega)
    have c4 := hcell 4 (by omega)
    refine ⟨⟨n0, b1, s2, n3, n4⟩, ⟨by simpa [Addr.add] using c0, by simpa using c1, by simpa using c2, by simpa using c3, by simpa using c4⟩, ?_⟩
    rw [hxy]
    rfl

theorem bulk_one {H : Type} (d : DataW H) : 1 ≤ Rows.uptoBulk d := by
  cases d with
  | lit l => cases l <;> simp [Rows.uptoBulk]
  | nil => simp [Rows.uptoBulk]
  | ptr d => simp [Rows.uptoBulk]
  | slice elems spare => simp [Rows.uptoBulk]
  | agg parts => simp [Rows.uptoBulk]
  | iface t d => simp [Rows.uptoBulk]
  | map entries => simp [Rows.uptoBulk]
  | held h => simp [Rows.uptoBulk]
theorem bulk_length {H : Type} (l : List (DataW H)) : l.length ≤ Rows.uptoBulkAll l := by
  induction l with
  | nil => simp [Rows.uptoBulkAll]
  | cons x r ih => have := bulk_one x; simp only [Rows.uptoBulkAll, List.length_cons]; omega
theorem bulk_mem {H : Type} {l : List (DataW H)} {d : DataW H} (h : d ∈ l) : Rows.uptoBulk d ≤ Rows.uptoBulkAll l := by
  induction l with
  | nil => cases h
  | cons x r ih =>
    simp only [Rows.uptoBulkAll]
    rcases List.mem_cons.1 h with rfl | h
    · omega
    · have := ih h; omega
theorem bulk_op {H : Type} (o : OpT) : o.s.size ≤ Rows.uptoBulk (opD H o) := by
  have hl : o.s.data.toList.length = o.s.size := by simp
  simp only [opD, Rows.uptoBulk, Rows.uptoBulkAll, hl]
  omega

theorem open_script {H : Type} {enc : TypeId × Value → H} {W : World} {sa : Option Addr} {sl sc : Nat} {d : DataW H} {p : List MemPlace} (h : DataW.Trod enc Tryd.prog W 0 (fun _ => true) true 59 (.slice sa sl sc) d p) (hb : Rows.uptoBulk d ≤ 1048576) :
    ∃ l : List OpT, sl = l.length ∧ Opers W sa l ∧ sl ≤ 1048576 ∧ ∀ o ∈ l, o.s.size ≤ 1048576 := by
  obtain ⟨fuel, hf⟩ := h
  rcases open_slice Tryd.underlying59 hf with ⟨hc, _⟩ | ⟨a, len, cap, m, k, D, Pl, hc, _, hl, hm, hmm, hx, hall⟩
  · simp [Value.cells] at hc
    obtain ⟨rfl, rfl, rfl⟩ := hc
    exact ⟨[], rfl, fun k hk => absurd hk (by simp), Nat.zero_le _, fun o ho => by cases ho⟩
  · simp [Value.cells] at hc
    obtain ⟨rfl, rfl, rfl⟩ := hc
    simp only [if_true] at hmm
    subst hmm
    simp only [Prod.mk.injEq] at hx
    obtain ⟨hd, hp⟩ := hx
    rw [hd] at hb
    have each : ∀ i, i < m → ∃ o : OpT, OpAt W (a.add (i * 5)) o ∧ D i = opD H o := fun i hi => by
      obtain ⟨cs', h1, h2⟩ := hall i hi
      rw [cells65'] at h1
      exact open_op h1 h2
    have : Inhabited OpT := ⟨⟨0, false, ⟨#[]⟩, 0, 0⟩⟩
    obtain ⟨f, hfo⟩ := choose_lt each
    simp only [Rows.uptoBulk] at hb
    refine ⟨(List.range sl).map f, by simp, fun k hk => ?_, ?_, fun o ho => ?_⟩
    · have hk' : k < sl := by simpa using hk
      have hc := (hfo k (by omega)).1
      have hs : a.spot = none := spot_first (hfo 0 (by omega)).1.1
      obtain ⟨g, off, sp⟩ := a
      cases hs
      simp only [OpAt, add_plain, Nat.add_assoc] at hc
      refine ⟨g, off, rfl, ?_⟩
      simp only [List.getElem_map, List.getElem_range, Nat.add_assoc]
      exact hc
    · have := bulk_length ((List.range sl).map D)
      simp at this
      omega
    · obtain ⟨i, hi, rfl⟩ := List.mem_map.1 ho
      have hi' : i < sl := List.mem_range.1 hi
      have h1 : D i ∈ (List.range sl).map D := List.mem_map.2 ⟨i, hi, rfl⟩
      have h2 := bulk_mem h1
      rw [(hfo i (by omega)).2] at h2
      have h3 := bulk_op (H := H) (f i)
      omega
end Go.Proofs.YtmhbaaemihljjaaDoor
