/- Two pairs side by side. -/
import Derived.Test.YtfponcdhaefkdaaDoorK7
import Derived.Test.YtfponcdhaefkdaaDoorVh
namespace Go.Proofs.YtfponcdhaefkdaaDoor
open Go.RowKit
set_option linter.unusedVariables false
set_option linter.unusedSimpArgs false
/-- a pair, or neither -/
def Pp (w0 W : World) (u v : Option Addr) (S : Nat → Prop) : Prop :=
  (u = none ∧ v = none) ∨ ∃ (g : Nat) (c : Ca) (y : SV) (L : List En) (b : Nat) (pd : Int) (z : SV) (B : List Kn), u = some ⟨g, 0, none⟩ ∧ v = some ⟨b, 0, none⟩ ∧ Pq w0 W g c y L b pd z B ∧ ∀ k, (Cb g y L k ∨ Rb b z B k) → S k
theorem Pp.below {w0 W W' : World} {u v : Option Addr} {S : Nat → Prop} (h : Pp w0 W u v S) (hb : Below W.heap.size W W') : Pp w0 W' u v S :=
  h.imp id fun ⟨g, c, y, L, b, pd, z, B, e1, e2, hp, hs⟩ => ⟨g, c, y, L, b, pd, z, B, e1, e2, hp.below hb, hs⟩
/-- two pairs, apart -/
structure Tw (w0 W : World) (u v u' v' : Option Addr) : Prop where
  bel : Below w0.heap.size w0 W
  two : ∃ S S' : Nat → Prop, (∀ k, S k → ¬ S' k) ∧ Pp w0 W u v S ∧ Pp w0 W u' v' S'
theorem Tw.below {w0 W W' : World} {u v u' v' : Option Addr} (h : Tw w0 W u v u' v') (hb : Below W.heap.size W W') : Tw w0 W' u v u' v' := by
  obtain ⟨S, S', ha, h1, h2⟩ := h.two
  exact ⟨h.bel.trans (hb.mono h.bel.size), S, S', ha, h1.below hb, h2.below hb⟩
theorem Tw.swap {w0 W : World} {u v u' v' : Option Addr} (h : Tw w0 W u v u' v') : Tw w0 W u' v' u v := by
  obtain ⟨S, S', ha, h1, h2⟩ := h.two
  exact ⟨h.bel, S', S, fun k hk hs => ha k hs hk, h2, h1⟩
/-- both pointers are nil, or neither -/
theorem Tw.nils {w0 W : World} {u v u' v' : Option Addr} (h : Tw w0 W u v u' v') : (u = none ∧ v = none) ∨ ∃ g b, u = some ⟨g, 0, none⟩ ∧ v = some ⟨b, 0, none⟩ := by
  obtain ⟨S, S', ha, h1, h2⟩ := h.two
  exact h1.imp id fun ⟨g, c, y, L, b, pd, z, B, e1, e2, _⟩ => ⟨g, b, e1, e2⟩
/-- a step on the first pair -/
theorem Tw.plays {w0 W : World} {g b : Nat} {u' v' : Option Addr} (h : Tw w0 W (some ⟨g, 0, none⟩) (some ⟨b, 0, none⟩) u' v') (o : Os) (ho : Oi w0 o) (zv : ∀ v ∈ vsL o.fr varyS, v.size ≤ 140737488351232) (mk : Fd) (mt : TypeId) (hM : w0.heap[0]? = some (.cells (fdv mk) mt (0, 0))) :
    Calls Tryd.prog 27 #[.pointer (some ⟨g, 0, none⟩), .pointer (some ⟨b, 0, none⟩), .agg (opv o)] W fun e W' => e = .returned (.bool true) ∧ Tw w0 W' (some ⟨g, 0, none⟩) (some ⟨b, 0, none⟩) u' v' ∧ ∀ (k : Nat) (cc : Array Value), W.heap[k]? = some (.cells cc 60 (0, 0)) → W'.heap[k]? = some (.cells cc 60 (0, 0)) := by
  obtain ⟨S, S', ha, h1, h2⟩ := h.two
  rcases h1 with ⟨e, _⟩ | ⟨g', c, y, L, b', pd, z, B, e1, e2, hp, hs⟩
  · cases e
  injection e1 with e1
  injection e1 with e1 _ _
  injection e2 with e2
  injection e2 with e2 _ _
  subst e1 e2
  refine (plays_any w0 W g c y L b pd z B hp h.bel o ho zv mk mt hM).mono ?_
  rintro e W' ⟨rfl, c', y', L', z', B', _, hq, hk, hc, hr⟩
  refine ⟨rfl, ⟨h.bel.trans (hk.below h.bel.size fun i hi e => ?_), fun k => S k ∨ W.heap.size ≤ k, fun k => S' k ∧ k < W.heap.size, fun k hs hs' => hs.elim (fun e => ha k e hs'.1) fun e => by have := hs'.2; omega, .inr ⟨g, c', y', L', b, pd, z', B', rfl, rfl, hq, fun k hk => hk.elim (fun e => (hc k e).imp (fun e => hs k (.inl e)) id) (fun e => (hr k e).imp (fun e => hs k (.inr e)) id)⟩, ?_⟩, fun k cc hb => (hk.block k (heap_lt hb) fun e => e.elim (hp.ph.cx.offb hb (by decide) (by decide)) (ty_ne hb hp.ph.rc.blk (by decide))).trans hb⟩
  · have := e.elim (fun e => hp.ph.lo i (.inl (.inl e))) (fun e => hp.ph.lo i (.inr (.inl e)))
    omega
  · refine h2.imp id ?_
    rintro ⟨g2, c2, y2, L2, b2, pd2, z2, B2, e1, e2, hp2, hs2⟩
    exact ⟨g2, c2, y2, L2, b2, pd2, z2, B2, e1, e2, hp2.keep fun k hk' hl => hk.block k hl fun e => ha k (e.elim (fun e => hs k (.inl (.inl e))) fun e => hs k (.inr (.inl e))) (hs2 k hk'), fun k hk' => ⟨hs2 k hk', hp2.ph.lt hk'⟩⟩
/-- what the two News give: a pair, or neither -/
theorem cfB_bounds {a b c d : Int} (h : cfB a b c d = true) : (0 ≤ a ∧ a ≤ 64) ∧ (0 ≤ b ∧ b ≤ 1152921504606846976) ∧ (0 ≤ c ∧ c ≤ 1152921504606846976) := by
  rw [cfB_iff] at h
  simp only [nbB, Bool.not_eq_true', Bool.or_eq_false_iff, decide_eq_false_iff_not] at h
  omega
/-- what a New gave: nothing, or a block -/
def NwC (W : World) (x : Bool) (ty : TypeId) (cs : Array Value) (u : Option Addr) (S : Nat → Prop) : Prop :=
  (x = false ∧ u = none) ∨ (x = true ∧ ∃ g, S g ∧ u = some ⟨g, 0, none⟩ ∧ W.heap[g]? = some (.cells cs ty (0, 0)))
theorem NwC.below {W W' : World} {x : Bool} {ty : TypeId} {cs : Array Value} {u : Option Addr} {S : Nat → Prop} (h : NwC W x ty cs u S) (hb : Below W.heap.size W W') : NwC W' x ty cs u S :=
  h.imp id fun ⟨e, g, h1, h2, h3⟩ => ⟨e, g, h1, h2, (hb.block _ (heap_lt h3)).trans h3⟩
theorem NwC.mono {W : World} {x : Bool} {ty : TypeId} {cs : Array Value} {u : Option Addr} {S S' : Nat → Prop} (h : NwC W x ty cs u S) (hs : ∀ k, k < W.heap.size → S k → S' k) : NwC W x ty cs u S' :=
  h.imp id fun ⟨e, g, h1, h2, h3⟩ => ⟨e, g, hs g (heap_lt h3) h1, h2, h3⟩
theorem NwC.nil {W : World} {x : Bool} {ty : TypeId} {cs : Array Value} {u : Option Addr} {S : Nat → Prop} (h : NwC W x ty cs u S) : u.isNone = !x := by
  rcases h with ⟨rfl, rfl⟩ | ⟨rfl, g, _, rfl, _⟩ <;> rfl
def errN (x : Bool) : Int := if x then 0 else 1
theorem new_two (a b c d : Int) (x : Bool) (hx : cfB a b c d = x) (w : World) : Calls Tryd.prog 8 #[.agg #[.int .i64 a, .int .i64 b, .int .i64 c, .int .i64 d]] w fun e w' => Below w.heap.size w w' ∧ ∃ u, e = .returned (.tuple #[.pointer u, .int .i64 (errN x)]) ∧ NwC w' x 83 #[.int .i64 a, .int .i64 b, .int .i64 c, .int .i64 0, .slice none 0 0] u (fun k => w.heap.size ≤ k) := by
  refine (new_any a b c d w).mono ?_
  rintro e w' ⟨hb, ⟨h1, rfl⟩ | ⟨h1, g, h2, rfl, h3⟩⟩
  · rw [hx] at h1
    subst h1
    exact ⟨hb, none, rfl, .inl ⟨rfl, rfl⟩⟩
  · rw [hx] at h1
    subst h1
    exact ⟨hb, _, rfl, .inr ⟨rfl, g, h2, rfl, h3⟩⟩
theorem rnew_two (a b c d : Int) (x : Bool) (hx : cfB a b c d = x) (w : World) : Calls Tryd.prog 24 #[.agg #[.int .i64 a, .int .i64 b, .int .i64 c, .int .i64 d]] w fun e w' => Below w.heap.size w w' ∧ ∃ u, e = .returned (.tuple #[.pointer u, .int .i64 (errN x)]) ∧ NwC w' x 100 #[.int .i64 a, .int .i64 b, .int .i64 c, .int .i64 d, .slice none 0 0, .int .i64 0] u (fun k => w.heap.size ≤ k) := by
  refine (rnew_any a b c d w).mono ?_
  rintro e w' ⟨hb, ⟨h1, rfl⟩ | ⟨h1, g, h2, rfl, h3⟩⟩
  · rw [hx] at h1
    subst h1
    exact ⟨hb, none, rfl, .inl ⟨rfl, rfl⟩⟩
  · rw [hx] at h1
    subst h1
    exact ⟨hb, _, rfl, .inr ⟨rfl, g, h2, rfl, h3⟩⟩
theorem Pp.new {w0 W : World} {a b c d : Int} {x : Bool} (hx : cfB a b c d = x) {u v : Option Addr} {S : Nat → Prop} (hS : ∀ k, S k → w0.heap.size ≤ k) (hu : NwC W x 83 #[.int .i64 a, .int .i64 b, .int .i64 c, .int .i64 0, .slice none 0 0] u S) (hv : NwC W x 100 #[.int .i64 a, .int .i64 b, .int .i64 c, .int .i64 d, .slice none 0 0, .int .i64 0] v S) : Pp w0 W u v S := by
  rcases hu with ⟨rfl, rfl⟩ | ⟨rfl, g, g1, rfl, g2⟩
  · rcases hv with ⟨_, rfl⟩ | ⟨h, _⟩
    · exact .inl ⟨rfl, rfl⟩
    · cases h
  · rcases hv with ⟨h, _⟩ | ⟨_, b', b1, rfl, b2⟩
    · cases h
    · obtain ⟨c1, c2, c3⟩ := cfB_bounds hx
      have hp : Pq w0 W g ⟨a, b, c, 0⟩ (none, 0, 0) [] b' d (none, 0, 0) [] := Pq.new g2 b2 c1 c2 c3 (hS _ g1) (hS _ b1)
      refine .inr ⟨g, _, _, _, b', _, _, _, rfl, rfl, hp, fun k hk => ?_⟩
      rcases hk with hk | hk
      · rcases hk with (rfl | hk) | ⟨x, hx, _⟩
        · exact g1
        · simp [sv, Value.ownBlock] at hk
        · simp at hx
      · rcases hk with rfl | hk | ⟨x, hx, _⟩
        · exact b1
        · simp [sv, Value.ownBlock] at hk
        · simp at hx
end Go.Proofs.YtfponcdhaefkdaaDoor
