/- TableAll's script among the arguments, opened. -/
import Derived.Test.YtlfbnhdcgldopaaE1
import Derived.Test.YtlfbnhdcgldopaaO1
namespace Go.Proofs.Ytlfbnhdcgldopaa
open Go.ChangeShapes Go.WideShapes Go.ChangeAt Go.RowKit Go.Deep

theorem cells55 : Try.prog.cellsOf 55 = 5 := by kernel_rfl
theorem cells3 : Try.prog.cellsOf 3 = 1 := by kernel_rfl
theorem cells4 : Try.prog.cellsOf 4 = 1 := by kernel_rfl
theorem cells2' : Try.prog.cellsOf 2 = 1 := by kernel_rfl

/-- What one step reads as. -/
def opD (H : Type) (o : OpT) : DataW H := .agg [.lit (.int .i64 o.kind), .lit (.bool o.two), .lit (.string o.n.data.toList), .lit (.string o.x.data.toList), .lit (.int .i64 o.m)]

theorem weights_op {H : Type} (o : OpT) : o.n.size ∈ DataW.weights Try.prog 55 (opD H o) ∧ o.x.size ∈ DataW.weights Try.prog 55 (opD H o) := by
  unfold opD
  simp only [DataW.weights, Try.underlying55]
  simp [DataW.weightsEach, DataW.weights]

theorem spot_one {W : World} {a : Addr} {u : Value} (h : W.cell? (a.add (0 * 5)) = some u) : a.spot = none := by
  have := spot_none h
  simpa [Addr.add] using this

/-- One step's cells. -/
def OpAt (W : World) (a : Addr) (o : OpT) : Prop :=
  W.cell? a = some (.int .i64 o.kind) ∧ W.cell? (a.add 1) = some (.bool o.two) ∧ W.cell? (a.add 2) = some (.string o.n) ∧ W.cell? (a.add 3) = some (.string o.x) ∧ W.cell? (a.add 4) = some (.int .i64 o.m)

theorem open_op {H : Type} {enc : TypeId × Value → H} {W : World} {a : Addr} {cs : List Value} {n : Nat} {x : DataW H × List MemPlace} (h1 : W.cells? 0 a 5 = some cs)
    (h2 : DataW.trod enc Try.prog W 0 (fun _ => true) true n 55 cs = some x) : ∃ o : OpT, OpAt W a o ∧ x.1 = opD H o := by
  obtain ⟨_, hlen, hcell⟩ := World.cells?_some h1
  obtain ⟨xs, k', hk, hxy, _, hxl, hf⟩ := DataW.trod_struct Try.underlying55 h2
  match xs, hxl, cs, hlen with
  | [y0, y1, y2, y3, y4], _, [v0, v1, v2, v3, v4], _ =>
    have g0 := hf 0 _ rfl
    have g1 := hf 1 _ rfl
    have g2 := hf 2 _ rfl
    have g3 := hf 3 _ rfl
    have g4 := hf 4 _ rfl
    simp [cells3, cells4, cells9, cells2'] at g0 g1 g2 g3 g4
    obtain ⟨n0, e0, q0, _⟩ := DataW.trod_int Try.underlying3 g0
    obtain ⟨b1, e1, q1⟩ := DataW.trod_bool Try.underlying4 g1
    obtain ⟨s2, e2, q2, _⟩ := DataW.trod_string Try.underlying9 g2
    obtain ⟨s3, e3, q3, _⟩ := DataW.trod_string Try.underlying9 g3
    obtain ⟨n4, e4, q4, _⟩ := DataW.trod_int Try.underlying2 g4
    simp only [List.cons.injEq, and_true] at e0 e1 e2 e3 e4
    subst e0 e1 e2 e3 e4 q0 q1 q2 q3 q4
    have c0 := hcell 0 (by omega)
    have c1 := hcell 1 (by omega)
    have c2 := hcell 2 (by omega)
    have c3 := hcell 3 (by omega)
    have c4 := hcell 4 (by omega)
    refine ⟨⟨n0, b1, s2, s3, n4⟩, ⟨by simpa [Addr.add] using c0, by simpa using c1, by simpa using c2, by simpa using c3, by simpa using c4⟩, ?_⟩
    rw [hxy]
    rfl

theorem open_opers {H : Type} {enc : TypeId × Value → H} {W : World} {v : Value} {d : DataW H} {p : List MemPlace} (h : DataW.Trod enc Try.prog W 0 (fun _ => true) true 47 v d p) (hv : ∃ a len cap, v = .slice a len cap)
    (hsz : ∀ n ∈ d.weights Try.prog 47, n ≤ reachBytes) : ∃ l : List OpT, Opers W v l ∧ FineO l := by
  obtain ⟨a0, len0, cap0, rfl⟩ := hv
  obtain ⟨fuel, hf⟩ := h
  rcases open_slice Try.underlying47 hf with ⟨hc, _⟩ | ⟨a, len, cap, m, k, D, Pl, hc, _, hl, hm, hmm, hx, hall⟩
  · simp [Value.cells] at hc
    obtain ⟨rfl, rfl, rfl⟩ := hc
    exact ⟨[], ⟨by simp, none, 0, rfl, fun k hk => by simp at hk⟩, fun e he => by cases he⟩
  · simp [Value.cells] at hc
    obtain ⟨rfl, rfl, rfl⟩ := hc
    simp only [if_true] at hmm
    subst hmm
    simp only [Prod.mk.injEq] at hx
    obtain ⟨rfl, rfl⟩ := hx
    have each : ∀ i, i < m → ∃ o : OpT, OpAt W (a.add (i * 5)) o ∧ D i = opD H o := fun i hi => by
      obtain ⟨cs', h1, h2⟩ := hall i hi
      rw [cells55] at h1
      exact open_op h1 h2
    have : Inhabited OpT := ⟨⟨0, false, ⟨#[]⟩, ⟨#[]⟩, 0⟩⟩
    obtain ⟨f, hfo⟩ := choose_lt each
    unfold maxLen at hm
    refine ⟨(List.range len0).map f, ⟨by simp; omega, some a, m, by simp, fun k hk => ?_⟩, fun o ho => ?_⟩
    · have hk' : k < len0 := by simpa using hk
      have hc := (hfo k (by omega)).1
      have hs : a.spot = none := spot_one (hfo 0 (by omega)).1.1
      obtain ⟨g, off, sp⟩ := a
      cases hs
      simp only [OpAt, add_plain, Nat.add_assoc] at hc
      refine ⟨g, off, rfl, by simpa using hl, by omega, ?_⟩
      simp only [List.getElem_map, List.getElem_range, Nat.add_assoc]
      exact hc
    · obtain ⟨i, hi, rfl⟩ := List.mem_map.1 ho
      have hi' : i < len0 := List.mem_range.1 hi
      have hw : ∀ n, n ∈ DataW.weights Try.prog 55 (D i) → n ≤ reachBytes := fun n hn => hsz n (by
        simp only [DataW.weights, Try.underlying47, List.mem_cons, List.mem_append]
        exact .inr (.inl (weightsAll_mem (List.mem_map.2 ⟨i, hi, rfl⟩) hn)))
      rw [(hfo i (by omega)).2] at hw
      have e0 := hw _ (weights_op _).1
      have e1 := hw _ (weights_op _).2
      have := reachBytes_lt
      omega

end Go.Proofs.Ytlfbnhdcgldopaa
