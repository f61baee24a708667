/- CacheApart: two caches and rows of fields side by side. -/
import Derived.Test.YtfponcdhaefkdaaDoorF1
import Derived.Test.YtfponcdhaefkdaaDoorD4
namespace Go.Proofs.YtfponcdhaefkdaaDoor
open Go.RowKit
set_option linter.unusedVariables false
set_option linter.unusedSimpArgs false
def ownB (v : SV) (k : Nat) : Prop := (sv v).ownBlock = some k
structure Aw (w W : World) (gx : Nat) (cx : Ca) (yx : SV) (Lx : List En) (gy : Nat) (cy : Ca) (yy : SV) (Ly : List En) (X : List (Nat × Array Value × TypeId)) (F : List (SV × List Fd)) : Prop where
  x : Cx W gx cx yx Lx
  y : Cx W gy cy yy Ly
  xy : ∀ k, Cb gx yx Lx k → ¬ Cb gy yy Ly k
  bel : Below w.heap.size w W
  lx : ∀ k, Cb gx yx Lx k → w.heap.size ≤ k
  ly : ∀ k, Cb gy yy Ly k → w.heap.size ≤ k
  xs : ∀ p ∈ X, (p.2.2 ≠ 83 ∧ p.2.2 ≠ 87 ∧ p.2.2 ≠ 51) ∧ W.heap[p.1]? = some (.cells p.2.1 p.2.2 (0, 0))
  fs : ∀ p ∈ F, R EFd W (sv p.1) p.2 ∧ ∀ k, ownB p.1 k → w.heap.size ≤ k ∧ ¬ Cb gx yx Lx k ∧ ¬ Cb gy yy Ly k
  fa : F.Pairwise fun p q => ∀ k, ownB p.1 k → ¬ ownB q.1 k
theorem Aw.below {w W W' : World} {gx gy : Nat} {cx cy : Ca} {yx yy : SV} {Lx Ly : List En} {X : List (Nat × Array Value × TypeId)} {F : List (SV × List Fd)} (h : Aw w W gx cx yx Lx gy cy yy Ly X F) (hb : Below W.heap.size W W') : Aw w W' gx cx yx Lx gy cy yy Ly X F :=
  ⟨h.x.below hb, h.y.below hb, h.xy, h.bel.trans (hb.mono h.bel.size), h.lx, h.ly, fun p hp => ⟨(h.xs p hp).1, (hb.block _ (heap_lt (h.xs p hp).2)).trans (h.xs p hp).2⟩, fun p hp => ⟨(h.fs p hp).1.below hb, (h.fs p hp).2⟩, h.fa⟩
theorem Aw.turn {w W : World} {gx gy : Nat} {cx cy : Ca} {yx yy : SV} {Lx Ly : List En} {X : List (Nat × Array Value × TypeId)} {F : List (SV × List Fd)} (h : Aw w W gx cx yx Lx gy cy yy Ly X F) : Aw w W gy cy yy Ly gx cx yx Lx X F :=
  ⟨h.y, h.x, fun k hk hx => h.xy k hx hk, h.bel, h.ly, h.lx, h.xs, fun p hp => ⟨(h.fs p hp).1, fun k hk => ⟨((h.fs p hp).2 k hk).1, ((h.fs p hp).2 k hk).2.2, ((h.fs p hp).2 k hk).2.1⟩⟩, h.fa⟩
theorem Aw.opx {w W W' : World} {gx gy : Nat} {cx cy c' : Ca} {yx yy z : SV} {Lx Ly M : List En} {X : List (Nat × Array Value × TypeId)} {F : List (SV × List Fd)} (h : Aw w W gx cx yx Lx gy cy yy Ly X F) (hk : Ks (Ow gx yx) W W') (hx : Cx W' gx c' z M) (hl : ∀ k, Cb gx z M k → Cb gx yx Lx k ∨ W.heap.size ≤ k) : Aw w W' gx c' z M gy cy yy Ly X F := by
  have hno : ∀ k, k < W.heap.size → ¬ Cb gx yx Lx k → ¬ Cb gx z M k := fun k hkl hn hc => by
    rcases hl k hc with e | e
    · exact hn e
    · omega
  refine ⟨hx, h.y.keep fun k hk' hl' => hk.block k hl' fun ho => h.xy k (.inl ho) hk', fun k hk' hy => ?_, h.bel.trans (hk.below h.bel.size fun i hi ho => by have := h.lx i (.inl ho); omega), fun k hk' => ?_, h.ly, fun p hp => ⟨(h.xs p hp).1, (hk.block _ (heap_lt (h.xs p hp).2) (h.x.offb (h.xs p hp).2 (h.xs p hp).1.1 (h.xs p hp).1.2.1)).trans (h.xs p hp).2⟩, fun p hp => ⟨(h.fs p hp).1.stays fun k hk' hl' => hk.block k hl' fun ho => ((h.fs p hp).2 k hk').2.1 (.inl ho), fun k hk' => ⟨((h.fs p hp).2 k hk').1, hno k ((h.fs p hp).1.lt k hk') ((h.fs p hp).2 k hk').2.1, ((h.fs p hp).2 k hk').2.2⟩⟩, h.fa⟩
  · exact hno k (h.y.lt hy) (fun hc => h.xy k hc hy) hk'
  · rcases hl k hk' with e | e
    · exact h.lx k e
    · exact Nat.le_trans h.bel.size e
/-- a row of fields is written, or grows -/
theorem Aw.row {w W W' : World} {gx gy : Nat} {cx cy : Ca} {yx yy : SV} {Lx Ly : List En} {X : List (Nat × Array Value × TypeId)} {v : SV} {l : List Fd} {F : List (SV × List Fd)} (h : Aw w W gx cx yx Lx gy cy yy Ly X ((v, l) :: F)) (hk : Ks (ownB v) W W') : Aw w W' gx cx yx Lx gy cy yy Ly X F := by
  have hv := h.fs (v, l) (by simp)
  have hp := List.pairwise_cons.1 h.fa
  refine ⟨h.x.keep fun k hk' hl => hk.block k hl fun ho => (hv.2 k ho).2.1 hk', h.y.keep fun k hk' hl => hk.block k hl fun ho => (hv.2 k ho).2.2 hk', h.xy, h.bel.trans (hk.below h.bel.size fun i hi ho => by have := (hv.2 i ho).1; omega), h.lx, h.ly, fun p hp' => ⟨(h.xs p hp').1, (hk.block _ (heap_lt (h.xs p hp').2) fun ho => ?_).trans (h.xs p hp').2⟩, fun p hp' => ⟨(h.fs p (by simp [hp'])).1.stays fun k hk' hl => hk.block k hl fun ho => hp.1 p hp' k ho hk', (h.fs p (by simp [hp'])).2⟩, hp.2⟩
  obtain ⟨cc, hc⟩ := hv.1.ty _ ho
  have h2 := (h.xs p hp').2
  rw [hc] at h2
  injection h2 with h2
  injection h2 with _ h2
  exact (h.xs p hp').1.2.2 h2.symm
theorem Aw.put {w W : World} {gx gy : Nat} {cx cy : Ca} {yx yy : SV} {Lx Ly : List En} {X : List (Nat × Array Value × TypeId)} {F : List (SV × List Fd)} (h : Aw w W gx cx yx Lx gy cy yy Ly X F) (v : SV) (l : List Fd) (hR : R EFd W (sv v) l) (hv : ∀ k, ownB v k → w.heap.size ≤ k ∧ ¬ Cb gx yx Lx k ∧ ¬ Cb gy yy Ly k) (hF : ∀ p ∈ F, ∀ k, ownB v k → ¬ ownB p.1 k) : Aw w W gx cx yx Lx gy cy yy Ly X ((v, l) :: F) :=
  ⟨h.x, h.y, h.xy, h.bel, h.lx, h.ly, h.xs, fun p hp => by
    rcases List.mem_cons.1 hp with rfl | hp
    · exact ⟨hR, hv⟩
    · exact h.fs p hp, List.pairwise_cons.2 ⟨fun p hp k hk => hF p hp k hk, h.fa⟩⟩
/-- a row that is new -/
theorem Aw.fresh {w W W' : World} {gx gy : Nat} {cx cy : Ca} {yx yy : SV} {Lx Ly : List En} {X : List (Nat × Array Value × TypeId)} {F : List (SV × List Fd)} (h : Aw w W gx cx yx Lx gy cy yy Ly X F) (hb : Below W.heap.size W W') (v : SV) (l : List Fd) (hR : R EFd W' (sv v) l) (hv : ∀ k, ownB v k → W.heap.size ≤ k) : Aw w W' gx cx yx Lx gy cy yy Ly X ((v, l) :: F) :=
  (h.below hb).put v l hR (fun k hk => ⟨Nat.le_trans h.bel.size (hv k hk), fun hc => by have := h.x.lt hc; have := hv k hk; omega, fun hc => by have := h.y.lt hc; have := hv k hk; omega⟩) (fun p hp k hk hk' => by have := (h.fs p hp).1.lt k hk'; have := hv k hk; omega)
theorem Aw.swap {w W : World} {gx gy : Nat} {cx cy : Ca} {yx yy : SV} {Lx Ly : List En} {X : List (Nat × Array Value × TypeId)} {p q : SV × List Fd} {F : List (SV × List Fd)} (h : Aw w W gx cx yx Lx gy cy yy Ly X (p :: q :: F)) : Aw w W gx cx yx Lx gy cy yy Ly X (q :: p :: F) := by
  have h1 := List.pairwise_cons.1 h.fa
  have h2 := List.pairwise_cons.1 h1.2
  refine ⟨h.x, h.y, h.xy, h.bel, h.lx, h.ly, h.xs, fun r hr => h.fs r (by simp only [List.mem_cons] at hr ⊢; rcases hr with h | h | h <;> simp [h]), List.pairwise_cons.2 ⟨fun r hr k hk hk' => ?_, List.pairwise_cons.2 ⟨fun r hr => h1.1 r (by simp [hr]), h2.2⟩⟩⟩
  rcases List.mem_cons.1 hr with rfl | hr
  · exact h1.1 q (by simp) k hk' hk
  · exact h2.1 r hr k hk hk'
theorem Aw.box {w W : World} {gx gy : Nat} {cx cy : Ca} {yx yy : SV} {Lx Ly : List En} {X : List (Nat × Array Value × TypeId)} {F : List (SV × List Fd)} (h : Aw w W gx cx yx Lx gy cy yy Ly X F) (k : Nat) (cc : Array Value) (t : TypeId) (h1 : t ≠ 83 ∧ t ≠ 87 ∧ t ≠ 51) (h2 : W.heap[k]? = some (.cells cc t (0, 0))) : Aw w W gx cx yx Lx gy cy yy Ly ((k, cc, t) :: X) F :=
  ⟨h.x, h.y, h.xy, h.bel, h.lx, h.ly, fun p hp => by
    rcases List.mem_cons.1 hp with rfl | hp
    · exact ⟨h1, h2⟩
    · exact h.xs p hp, h.fs, h.fa⟩
end Go.Proofs.YtfponcdhaefkdaaDoor
