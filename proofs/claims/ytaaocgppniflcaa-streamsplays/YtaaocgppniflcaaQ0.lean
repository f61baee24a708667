/- The script; two tables side by side. -/
import Derived.Test.YtaaocgppniflcaaK6
import Derived.Test.YtaaocgppniflcaaP1
namespace Go.Proofs.Ytaaocgppniflcaa
open Go.RowKit Go.Maps
set_option linter.unusedVariables false
set_option linter.unusedSimpArgs false

/-- a step of the script: which table, stream, got, kind -/
abbrev OP := Bool × Int × Bool × Int
def EO : El OP := ⟨22, 29, 4, 32, fun x => [.bool x.1, .int .i64 x.2.1, .bool x.2.2.1, .int .i64 x.2.2.2]⟩
theorem okO : EO.Ok := ⟨Try.underlying22, by kernel_rfl, by decide, by decide, fun _ => rfl, fun a u hu => by
  simp only [EO, List.mem_cons, List.not_mem_nil, or_false] at hu
  rcases hu with rfl | rfl | rfl | rfl <;> rfl⟩
theorem In.op {w : World} {v : Value} {l : List OP} (h : In EO w v l) (k : Nat) (hk : k < l.length) : ∃ B off cap, v = .slice (some ⟨B, off, none⟩) l.length cap ∧ B < w.heap.size ∧ w.cell? ⟨B, off + k * 4, none⟩ = some (.bool l[k].1) ∧ w.cell? ⟨B, off + k * 4 + 1, none⟩ = some (.int .i64 l[k].2.1) ∧
    w.cell? ⟨B, off + k * 4 + 2, none⟩ = some (.bool l[k].2.2.1) ∧ w.cell? ⟨B, off + k * 4 + 3, none⟩ = some (.int .i64 l[k].2.2.2) := by
  obtain ⟨B, off, cap, h1, h2, h3⟩ := h.get okO k hk
  exact ⟨B, off, cap, h1, h2, h3 0 _ rfl, h3 1 _ rfl, h3 2 _ rfl, h3 3 _ rfl⟩
/-- rows of int -/
def EK : El Int := ⟨50, 3, 1, 8, fun x => [.int .i64 x]⟩
theorem okK : EK.Ok := ⟨Try.underlying50, by kernel_rfl, by decide, by decide, fun _ => rfl, fun a u hu => by
  simp only [EK, List.mem_cons, List.not_mem_nil, or_false] at hu
  rcases hu with rfl <;> rfl⟩
theorem In.kind {w : World} {v : Value} {l : List Int} (h : In EK w v l) (k : Nat) (hk : k < l.length) : ∃ B off cap, v = .slice (some ⟨B, off, none⟩) l.length cap ∧ B < w.heap.size ∧ w.cell? ⟨B, off + k, none⟩ = some (.int .i64 l[k]) := by
  obtain ⟨B, off, cap, h1, h2, h3⟩ := h.get okK k hk
  have := h3 0 _ rfl
  simp only [EK, Nat.mul_one, Nat.add_zero] at this
  exact ⟨B, off, cap, h1, h2, this⟩

theorem new_at (c : Bool) (w : World) : Calls Try.prog 8 #[.bool c] w fun e w' => ∃ p b, e = .returned (.pointer (some ⟨p, 0, none⟩)) ∧ TI w' p b (Tb.new c) ∧ Below w.heap.size w w' ∧ w.heap.size ≤ p ∧ w.heap.size ≤ b :=
  (new_any c w).mono fun e w' h => ⟨_, _, h.1, h.2.1, h.2.2.1, Nat.le_succ _, Nat.le_refl _⟩

/-- two tables side by side, made since w -/
structure Tw (w W : World) (p0 b0 p1 b1 : Nat) (A B : Tb) : Prop where
  t0 : TI W p0 b0 A
  t1 : TI W p1 b1 B
  bel : Below w.heap.size w W
  n0 : w.heap.size ≤ p0
  m0 : w.heap.size ≤ b0
  n1 : w.heap.size ≤ p1
  m1 : w.heap.size ≤ b1
  np : p0 ≠ p1
  nb : b0 ≠ b1
theorem TI.apart {W : World} {p0 b0 p1 b1 : Nat} {A B : Tb} (h : TI W p0 b0 A) (k : TI W p1 b1 B) : p0 ≠ b1 := by
  intro e
  obtain ⟨es, clock, hb, _⟩ := k.mp
  rw [← e, h.blk] at hb
  cases hb
theorem Tw.sz {w W : World} {p0 b0 p1 b1 : Nat} {A B : Tb} (h : Tw w W p0 b0 p1 b1 A B) : w.heap.size ≤ W.heap.size := h.bel.size
theorem Tw.below {w W W' : World} {p0 b0 p1 b1 : Nat} {A B : Tb} (h : Tw w W p0 b0 p1 b1 A B) (hB : Below W.heap.size W W') : Tw w W' p0 b0 p1 b1 A B :=
  { h with t0 := h.t0.below hB, t1 := h.t1.below hB, bel := h.bel.trans (hB.mono h.sz) }
theorem Tw.do0 {w W W' : World} {p0 b0 p1 b1 : Nat} {A B A' : Tb} (h : Tw w W p0 b0 p1 b1 A B) (ht : TI W' p0 b0 A') (hk : K2s p0 b0 W W') : Tw w W' p0 b0 p1 b1 A' B :=
  { h with
    t0 := ht
    t1 := h.t1.stays (hk.block _ h.t1.lt (by have := h.np; have := h.t1.apart h.t0; omega)) (hk.block _ h.t1.mlt (by have := h.nb; have := h.t0.apart h.t1; omega))
    bel := h.bel.trans (hk.fresh h.sz h.n0 h.m0) }
theorem Tw.do1 {w W W' : World} {p0 b0 p1 b1 : Nat} {A B B' : Tb} (h : Tw w W p0 b0 p1 b1 A B) (ht : TI W' p1 b1 B') (hk : K2s p1 b1 W W') : Tw w W' p0 b0 p1 b1 A B' :=
  { h with
    t1 := ht
    t0 := h.t0.stays (hk.block _ h.t0.lt (by have := h.np; have := h.t0.apart h.t1; omega)) (hk.block _ h.t0.mlt (by have := h.nb; have := h.t1.apart h.t0; omega))
    bel := h.bel.trans (hk.fresh h.sz h.n1 h.m1) }
theorem Tw.start {w W W' : World} {p0 b0 p1 b1 : Nat} {A B : Tb} (hB : Below w.heap.size w W) (t0 : TI W p0 b0 A) (n0 : w.heap.size ≤ p0) (m0 : w.heap.size ≤ b0) (t1 : TI W' p1 b1 B) (hB1 : Below W.heap.size W W') (n1 : W.heap.size ≤ p1) (m1 : W.heap.size ≤ b1) : Tw w W' p0 b0 p1 b1 A B := by
  have h1 := t0.lt
  have h2 := t0.mlt
  have h3 := hB.size
  exact ⟨t0.below hB1, t1, hB.trans (hB1.mono h3), n0, m0, by omega, by omega, by omega, by omega⟩
end Go.Proofs.Ytaaocgppniflcaa
