/- The script; WindowSums. -/
import Derived.Test.YtoanmjnjpkbmiaaB2
namespace Go.Proofs.Ytoanmjnjpkbmiaa
open Go.RowKit
set_option linter.unusedVariables false
set_option linter.unusedSimpArgs false

/-- a step of the script: kind, window, number -/
abbrev OP := Int × Int × Int
def EO : El OP := ⟨22, 27, 3, 24, fun x => [.int .i64 x.1, .int .i64 x.2.1, .int .i64 x.2.2]⟩
theorem okO : EO.Ok := ⟨Try.underlying22, by kernel_rfl, by decide, by decide, fun _ => rfl, fun a u hu => by
  simp only [EO, List.mem_cons, List.not_mem_nil, or_false] at hu
  rcases hu with rfl | rfl | rfl <;> rfl⟩
theorem In.op {w : World} {v : Value} {l : List OP} (h : In EO w v l) (k : Nat) (hk : k < l.length) : ∃ B off cap, v = .slice (some ⟨B, off, none⟩) l.length cap ∧ B < w.heap.size ∧ w.cell? ⟨B, off + k * 3, none⟩ = some (.int .i64 l[k].1) ∧ w.cell? ⟨B, off + k * 3 + 1, none⟩ = some (.int .i64 l[k].2.1) ∧ w.cell? ⟨B, off + k * 3 + 2, none⟩ = some (.int .i64 l[k].2.2) := by
  obtain ⟨B, off, cap, h1, h2, h3⟩ := h.get okO k hk
  exact ⟨B, off, cap, h1, h2, h3 0 _ rfl, h3 1 _ rfl, h3 2 _ rfl⟩

/-- The window at b has x left, and what was there at w is as it was. -/
structure Sm (w : World) (b : Nat) (x : Int) (W : World) : Prop where
  bel : Below w.heap.size w W
  wd : Wd W b x
  inb : InB x
/-- And the step that is played lies in block g. -/
structure Sk (w : World) (b : Nat) (x : Int) (g : Nat) (o : Array Value) (W : World) : Prop extends Sm w b x W where
  op : W.heap[g]? = some (.cells o 27 (0, 0))
theorem Sk.ne {w : World} {b : Nat} {x : Int} {g : Nat} {o : Array Value} {W : World} (h : Sk w b x g o W) : g ≠ b := fun e => by
  have h1 := h.op
  have h2 := h.wd
  unfold Wd at h2
  rw [e, h2] at h1
  simp at h1
theorem Sk.call {w : World} {b : Nat} {x : Int} {g : Nat} {o : Array Value} {W W' : World} {y : Int} (h : Sk w b x g o W) (hb : w.heap.size ≤ b) (hw : Wd W' b y) (hy : InB y) (k : Ks (fun j => j = b) W W') : Sk w b y g o W' :=
  ⟨⟨alo hb k h.bel, hw, hy⟩, (k.block _ (heap_lt h.op) h.ne).trans h.op⟩
end Go.Proofs.Ytoanmjnjpkbmiaa
