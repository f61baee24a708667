/- CacheEnds: one cache with one entry. -/
import Derived.Test.YtfponcdhaefkdaaDoorD3
namespace Go.Proofs.YtfponcdhaefkdaaDoor
open Go.RowKit
set_option linter.unusedVariables false
set_option linter.unusedSimpArgs false
theorem claimHit {W : World} {g : Nat} {c : Ca} {y : SV} {e : En} {q : Rq} {Q : List Fd} {n : Int} {b : ByteArray} {fr : List Fd} {st ar : Int} (h : Cx W g c y [e]) (he : Ee e q Q n b fr st ar) (hb : q.b = ⟨#[]⟩) (zQ : Q.length ≤ 1099511627776) (hQg : ∀ V, Ks (fun k => k = g) W V → In EFd V (sv q.y) Q) (t : Int) (ht : t ≤ 9223372036854775807) (hx : ¬ c.lf < max c.ck t - ar) :
    Calls Tryd.prog 13 #[.pointer (some ⟨g, 0, none⟩), .agg (rqv q), .int .i64 t] W fun r w' => ∃ v z : SV, r = .returned (.tuple #[.agg (rsv n (sv v) b), .int .i64 st, .bool true]) ∧ R EFd w' (sv v) fr ∧ Cx w' g (hr c t) z [] ∧ (sv z).ownBlock = (sv y).ownBlock ∧ Ks (Ow g y) W w' := by
  refine (claim_any W g c y [e] h q Q zQ hQg t ht).mono ?_
  have hb : anB (hr c t) q Q e = true := by rw [he.self hb]; show (!decide (c.lf < max c.ck t - ar)) = true; rw [decide_eq_false hx]; rfl
  have hi : [e].findIdx? (anB (hr c t) q Q) = some 0 := by simp [hb]
  rw [hi]
  rintro r w' (⟨h1, _⟩ | ⟨i, hil, h1, rfl, z, h2, h3, h4, h5⟩)
  · cases h1
  · injection h1 with h1
    subst h1
    simp only [List.getElem_cons_zero] at h5 ⊢
    rw [he.rn, he.rb, he.st]
    have := h5.r
    rw [he.rf] at this
    exact ⟨e.ry, z, rfl, this, h2, h3, h4⟩
theorem claimMiss {W : World} {g : Nat} {c : Ca} {y : SV} {e : En} {q : Rq} {Q : List Fd} {n : Int} {b : ByteArray} {fr : List Fd} {st ar : Int} (h : Cx W g c y [e]) (he : Ee e q Q n b fr st ar) (hb : q.b = ⟨#[]⟩) (zQ : Q.length ≤ 1099511627776) (hQg : ∀ V, Ks (fun k => k = g) W V → In EFd V (sv q.y) Q) (t : Int) (ht : t ≤ 9223372036854775807) (hx : c.lf < max c.ck t - ar) :
    Calls Tryd.prog 13 #[.pointer (some ⟨g, 0, none⟩), .agg (rqv q), .int .i64 t] W fun r w' => r = .returned (.tuple #[.agg z3, .int .i64 0, .bool false]) ∧ Cx w' g (hr c t) y [e] ∧ Ks (Ow g y) W w' := by
  refine (claim_any W g c y [e] h q Q zQ hQg t ht).mono ?_
  have hb : anB (hr c t) q Q e = false := by rw [he.self hb]; show (!decide (c.lf < max c.ck t - ar)) = false; rw [decide_eq_true hx]; rfl
  have hi : [e].findIdx? (anB (hr c t) q Q) = none := by simp [hb]
  rw [hi]
  rintro r w' (⟨_, rfl, h2, h3⟩ | ⟨i, hil, h1, _⟩)
  · exact ⟨rfl, h2, h3⟩
  · cases h1
theorem holdsMiss {W : World} {g : Nat} {c : Ca} {y : SV} {e : En} {q : Rq} {Q : List Fd} {n : Int} {b : ByteArray} {fr : List Fd} {st ar : Int} (h : Cx W g c y [e]) (he : Ee e q Q n b fr st ar) (hb : q.b = ⟨#[]⟩) (zQ : Q.length ≤ 1099511627776) (hQg : ∀ V, Ks (fun k => k = g) W V → In EFd V (sv q.y) Q) (t : Int) (ht : t ≤ 9223372036854775807) (hx : c.lf < max c.ck t - ar) :
    Calls Tryd.prog 14 #[.pointer (some ⟨g, 0, none⟩), .agg (rqv q), .int .i64 t] W fun r w' => r = .returned (.bool false) ∧ Cx w' g (hr c t) y [e] ∧ Ks (Ow g y) W w' := by
  refine (holds_any W g c y [e] h q Q (hQg W (Ks.refl _ _)) zQ hQg t ht).mono ?_
  rintro r w' ⟨rfl, h1, h2⟩
  have hb : anB (hr c t) q Q e = false := by rw [he.self hb]; show (!decide (c.lf < max c.ck t - ar)) = false; rw [decide_eq_true hx]; rfl
  have hp : plI (hr c t) q Q [e] = -1 := plI_none (fun j hj => by
    have : j = 0 := by simpa using hj
    subst this
    exact hb)
  rw [hp]
  exact ⟨rfl, h1, h2.mono fun i _ hi => .inl hi⟩
theorem tickStay {W : World} {g : Nat} {c : Ca} {y : SV} {e : En} (h : Cx W g c y [e]) (t : Int) (ht : t ≤ 9223372036854775807) (hx : ¬ c.lf < max c.ck t - e.ar) :
    Calls Tryd.prog 10 #[.pointer (some ⟨g, 0, none⟩), .int .i64 t] W fun r w' => ∃ gs z : SV, r = .returned (sv gs) ∧ R EI w' (sv gs) [] ∧ Cx w' g (hr c t) z [e] ∧ (sv z).ownBlock = (sv y).ownBlock ∧ Ks (Ow g y) W w' := by
  refine (tick_any W g c y [e] h t ht).mono ?_
  rintro r w' ⟨gs, rfl, hT⟩
  have hb : exB (hr c t) e = false := decide_eq_false hx
  simp only [List.dropWhile_cons, List.takeWhile_cons, hb, Bool.false_eq_true, if_false, List.map_nil] at hT
  obtain ⟨z, h1, h2⟩ := hT.cx
  exact ⟨gs, z, rfl, hT.gone, h1, h2, hT.ks⟩
theorem tickGo {W : World} {g : Nat} {c : Ca} {y : SV} {e : En} (h : Cx W g c y [e]) (t : Int) (ht : t ≤ 9223372036854775807) (hx : c.lf < max c.ck t - e.ar) :
    Calls Tryd.prog 10 #[.pointer (some ⟨g, 0, none⟩), .int .i64 t] W fun r w' => ∃ gs z : SV, r = .returned (sv gs) ∧ R EI w' (sv gs) [e.st] ∧ Cx w' g (hr c t) z [] ∧ (sv z).ownBlock = (sv y).ownBlock ∧ Ks (Ow g y) W w' := by
  refine (tick_any W g c y [e] h t ht).mono ?_
  rintro r w' ⟨gs, rfl, hT⟩
  have hb : exB (hr c t) e = true := decide_eq_true hx
  simp only [List.dropWhile_cons, List.takeWhile_cons, hb, if_true, List.dropWhile_nil, List.takeWhile_nil, List.map_cons, List.map_nil] at hT
  obtain ⟨z, h1, h2⟩ := hT.cx
  exact ⟨gs, z, rfl, hT.gone, h1, h2, hT.ks⟩
theorem storeGo {W : World} {g : Nat} {c : Ca} {y : SV} {e : En} {q : Rq} {Q : List Fd} {n : Int} {ry : SV} {b : ByteArray} {fr : List Fd} (h : Cx W g c y [e]) (hQ : ∀ V, Ks (Ow g y) W V → In EFd V (sv q.y) Q) (hR : ∀ V, Ks (Ow g y) W V → In EFd V (sv ry) fr) (hz : Az q Q b fr) (hs : starB fr = false) (st t : Int) (ht : t ≤ 9223372036854775807) (hme : 1 ≤ c.me) (hmb : c.mb = 1152921504606846976) (hx : c.lf < max c.ck t - e.ar) :
    Calls Tryd.prog 11 #[.pointer (some ⟨g, 0, none⟩), .agg (rqv q), .agg (rsv n (sv ry) b), .int .i64 st, .int .i64 t] W fun r w' => ∃ gs : SV, r = .returned (.tuple #[.bool true, sv gs]) ∧ R EI w' (sv gs) [e.st] ∧ Ks (Ow g y) W w' := by
  refine (store_any W g c y [e] h q Q n ry b fr st t ht hQ hR hz.zq hz.zQ hz.zQf hz.zb hz.zR hz.zRf (by have := hz.zS; omega) hz.zN).mono ?_
  have e2 : decide ((hr c t).mb < ((b.size + szL fr : Nat) : Int)) = false := decide_eq_false (by show ¬ c.mb < _; have := hz.zS; omega)
  have e3 : decide ((hr c t).me = 0) = false := decide_eq_false (by show ¬ c.me = 0; omega)
  have e1 : noB (hr c t) b fr = false := by unfold noB; rw [e2, e3, hs]; rfl
  have hb : exB (hr c t) e = true := decide_eq_true hx
  intro r w' hS
  unfold stP at hS
  rw [e1] at hS
  simp only [List.dropWhile_cons, List.takeWhile_cons, hb, if_true, List.dropWhile_nil, List.takeWhile_nil, List.map_cons, List.map_nil] at hS
  rcases hS with ⟨h1, _⟩ | ⟨h1, gs, y1, y2, y3, z, rfl, hx, hz', hk, hgs, _, hn⟩
  · cases h1
  · exact ⟨gs, rfl, by simpa [evD] using hgs, hk⟩
/-- what stands beside the caches -/
structure Ew (w W : World) (q0 r0 ga : Nat) (q : Rq) (n : Int) (ry : SV) (b : ByteArray) (P : Array Value) (X : List (Nat × Array Value × TypeId)) (F : List (SV × List Fd)) (I : List (SV × List Int)) : Prop where
  bel : Below w.heap.size w W
  bq : RqB W q0 q
  br : W.heap[r0]? = some (.cells (rsv n (sv ry) b) 26 (0, 0))
  ba : W.heap[ga]? = some (.cells P 31 (0, 0))
  xs : ∀ p ∈ X, p.2.2 ≠ 83 ∧ p.2.2 ≠ 87 ∧ W.heap[p.1]? = some (.cells p.2.1 p.2.2 (0, 0))
  fs : ∀ p ∈ F, R EFd W (sv p.1) p.2
  is : ∀ p ∈ I, R EI W (sv p.1) p.2
theorem Ew.below {w W W' : World} {q0 r0 ga : Nat} {q : Rq} {n : Int} {ry : SV} {b : ByteArray} {P : Array Value} {X : List (Nat × Array Value × TypeId)} {F : List (SV × List Fd)} {I : List (SV × List Int)} (h : Ew w W q0 r0 ga q n ry b P X F I) (hb : Below W.heap.size W W') : Ew w W' q0 r0 ga q n ry b P X F I :=
  ⟨h.bel.trans (hb.mono h.bel.size), h.bq.below hb, (hb.block _ (heap_lt h.br)).trans h.br, (hb.block _ (heap_lt h.ba)).trans h.ba, fun p hp => ⟨(h.xs p hp).1, (h.xs p hp).2.1, (hb.block _ (heap_lt (h.xs p hp).2.2)).trans (h.xs p hp).2.2⟩, fun p hp => (h.fs p hp).below hb, fun p hp => (h.is p hp).below hb⟩
theorem Ew.ks {w W W' : World} {q0 r0 ga : Nat} {q : Rq} {n : Int} {ry : SV} {b : ByteArray} {P : Array Value} {X : List (Nat × Array Value × TypeId)} {F : List (SV × List Fd)} {I : List (SV × List Int)} (h : Ew w W q0 r0 ga q n ry b P X F I) {g : Nat} {c : Ca} {y : SV} {L : List En} (hx : Cx W g c y L) (hk : Ks (Ow g y) W W') (hb : Below w.heap.size w W') : Ew w W' q0 r0 ga q n ry b P X F I := by
  refine ⟨hb, (hk.block _ (heap_lt h.bq) (hx.offb h.bq (by decide) (by decide))).trans h.bq, (hk.block _ (heap_lt h.br) (hx.offb h.br (by decide) (by decide))).trans h.br, (hk.block _ (heap_lt h.ba) (hx.offb h.ba (by decide) (by decide))).trans h.ba, fun p hp => ⟨(h.xs p hp).1, (h.xs p hp).2.1, (hk.block _ (heap_lt (h.xs p hp).2.2) (hx.offb (h.xs p hp).2.2 (h.xs p hp).1 (h.xs p hp).2.1)).trans (h.xs p hp).2.2⟩, fun p hp => (h.fs p hp).stays fun k hk' hl => hk.block k hl ?_, fun p hp => (h.is p hp).stays fun k hk' hl => hk.block k hl ?_⟩
  · obtain ⟨cc, hc⟩ := (h.fs p hp).ty k hk'
    exact hx.offb hc (by decide) (by decide)
  · obtain ⟨cc, hc⟩ := (h.is p hp).ty k hk'
    exact hx.offb hc (by decide) (by decide)
theorem Ew.addx {w W : World} {q0 r0 ga : Nat} {q : Rq} {n : Int} {ry : SV} {b : ByteArray} {P : Array Value} {X : List (Nat × Array Value × TypeId)} {F : List (SV × List Fd)} {I : List (SV × List Int)} (h : Ew w W q0 r0 ga q n ry b P X F I) (k : Nat) (cc : Array Value) (t : TypeId) (h1 : t ≠ 83) (h2 : t ≠ 87) (h3 : W.heap[k]? = some (.cells cc t (0, 0))) : Ew w W q0 r0 ga q n ry b P ((k, cc, t) :: X) F I :=
  ⟨h.bel, h.bq, h.br, h.ba, fun p hp => by
    rcases List.mem_cons.1 hp with rfl | hp
    · exact ⟨h1, h2, h3⟩
    · exact h.xs p hp, h.fs, h.is⟩
theorem Ew.addf {w W : World} {q0 r0 ga : Nat} {q : Rq} {n : Int} {ry : SV} {b : ByteArray} {P : Array Value} {X : List (Nat × Array Value × TypeId)} {F : List (SV × List Fd)} {I : List (SV × List Int)} (h : Ew w W q0 r0 ga q n ry b P X F I) (v : SV) (l : List Fd) (h3 : R EFd W (sv v) l) : Ew w W q0 r0 ga q n ry b P X ((v, l) :: F) I :=
  ⟨h.bel, h.bq, h.br, h.ba, h.xs, fun p hp => by
    rcases List.mem_cons.1 hp with rfl | hp
    · exact h3
    · exact h.fs p hp, h.is⟩
theorem Ew.addi {w W : World} {q0 r0 ga : Nat} {q : Rq} {n : Int} {ry : SV} {b : ByteArray} {P : Array Value} {X : List (Nat × Array Value × TypeId)} {F : List (SV × List Fd)} {I : List (SV × List Int)} (h : Ew w W q0 r0 ga q n ry b P X F I) (v : SV) (l : List Int) (h3 : R EI W (sv v) l) : Ew w W q0 r0 ga q n ry b P X F ((v, l) :: I) :=
  ⟨h.bel, h.bq, h.br, h.ba, h.xs, h.fs, fun p hp => by
    rcases List.mem_cons.1 hp with rfl | hp
    · exact h3
    · exact h.is p hp⟩
/-- the array, as far as it is filled -/
def arr (G : Nat → Nat) (i : Nat) : Array Value := #[if 0 < i then .pointer (some ⟨G 0, 0, none⟩) else .pointer none, if 1 < i then .pointer (some ⟨G 1, 0, none⟩) else .pointer none, if 2 < i then .pointer (some ⟨G 2, 0, none⟩) else .pointer none, if 3 < i then .pointer (some ⟨G 3, 0, none⟩) else .pointer none]
theorem arr_get (G : Nat → Nat) (i : Nat) (h : i < 4) : (arr G i)[i]? = some (.pointer none) := by
  have : i = 0 ∨ i = 1 ∨ i = 2 ∨ i = 3 := by omega
  rcases this with rfl | rfl | rfl | rfl <;> rfl
theorem arr_set (G : Nat → Nat) (i : Nat) (h : i < 4) (g : Nat) : (arr G i).setIfInBounds i (.pointer (some ⟨g, 0, none⟩)) = arr (fun j => if j = i then g else G j) (i + 1) := by
  have : i = 0 ∨ i = 1 ∨ i = 2 ∨ i = 3 := by omega
  rcases this with rfl | rfl | rfl | rfl <;> rfl
/-- the loop: i caches are made -/
structure Lp (w W : World) (q0 r0 ga : Nat) (q : Rq) (n : Int) (ry : SV) (b : ByteArray) (c : Ca) (OK : List En → Prop) (i : Nat) (G : Nat → Nat) (Y : Nat → SV) (LL : Nat → List En) (lo : Nat → Nat) : Prop where
  ew : Ew w W q0 r0 ga q n ry b (arr G i) [] [] []
  cx : ∀ j, j < i → Cx W (G j) c (Y j) (LL j)
  ins : ∀ j, j < i → ∀ k, Cb (G j) (Y j) (LL j) k → lo j ≤ k ∧ k < lo (j + 1)
  ok : ∀ j, j < i → OK (LL j)
  mo : ∀ j, j < i → lo j ≤ lo (j + 1)
  lt : lo i ≤ W.heap.size
  l0 : w.heap.size ≤ lo 0
  ga : ga < lo 0
theorem Lp.next {w wr W : World} {q0 r0 ga : Nat} {q : Rq} {n : Int} {ry : SV} {b : ByteArray} {c : Ca} {OK : List En → Prop} {i : Nat} {G : Nat → Nat} {Y : Nat → SV} {LL : Nat → List En} {lo : Nat → Nat} (h : Lp w wr q0 r0 ga q n ry b c OK i G Y LL lo) (hi : i < 4) {g : Nat} {y : SV} {L : List En} (hn : Rn wr W g c y L) (hok : OK L) (hg : w.heap.size ≤ ga) :
    Lp w (W.setCell ⟨ga, i, none⟩ (.pointer (some ⟨g, 0, none⟩))) q0 r0 ga q n ry b c OK (i + 1) (fun j => if j = i then g else G j) (fun j => if j = i then y else Y j) (fun j => if j = i then L else LL j) (fun j => if j = i + 1 then W.heap.size else lo j) := by
  have hE := h.ew.below hn.bel
  have hlo : lo 0 ≤ lo i := by
    have : ∀ j, j ≤ i → lo 0 ≤ lo j := fun j => by
      induction j with
      | zero => intro _; exact Nat.le_refl _
      | succ j ih => intro hj; exact Nat.le_trans (ih (by omega)) (h.mo j (by omega))
    exact this i (Nat.le_refl _)
  have hne : ∀ k, lo 0 ≤ k → k ≠ ga := fun k hk e => by have := h.ga; omega
  have hlk : ∀ j, j < i → lo 0 ≤ lo j := fun j => by
    induction j with
    | zero => intro _; exact Nat.le_refl _
    | succ j ih => intro hj; exact Nat.le_trans (ih (by omega)) (h.mo j (by omega))
  have hset : ∀ k, k ≠ ga → (W.setCell ⟨ga, i, none⟩ (.pointer (some ⟨g, 0, none⟩))).heap[k]? = W.heap[k]? := fun k hk => setCell_other _ _ _ _ _ hk
  refine ⟨⟨hE.bel.setCell (p := ⟨ga, i, none⟩) hg _, ?_, ?_, ?_, fun p hp => by simp at hp, fun p hp => by simp at hp, fun p hp => by simp at hp⟩, fun j hj => ?_, fun j hj => ?_, fun j hj => ?_, fun j hj => ?_, ?_, ?_, ?_⟩
  · have hb := hE.bq
    unfold RqB at hb ⊢
    rw [hset q0 (fun e => by rw [e, hE.ba] at hb; injection hb with hb; injection hb with _ hb; cases hb)]
    exact hb
  · have hb := hE.br
    rw [hset r0 (fun e => by rw [e, hE.ba] at hb; injection hb with hb; injection hb with _ hb; cases hb)]
    exact hb
  · rw [setCell_block _ _ _ _ _ _ _ hE.ba, arr_set G i hi g]
  · by_cases e : j = i
    · subst e
      simp only [if_true]
      exact hn.cx.keep fun k hk _ => hset k (hne k (by have := hn.lo k hk; have := h.lt; omega))
    · simp only [e, if_false]
      have hj' : j < i := by omega
      exact ((h.cx j hj').below hn.bel).keep fun k hk _ => hset k (hne k (by have := h.ins j hj' k hk; have := hlk j hj'; omega))
  · by_cases e : j = i
    · subst e
      simp only [if_true, show ¬ j = j + 1 by omega, if_false]
      intro k hk
      exact ⟨by have := hn.lo k hk; have := h.lt; omega, hn.cx.lt hk⟩
    · simp only [e, if_false, show ¬ j = i + 1 by omega, show ¬ j + 1 = i + 1 by omega]
      exact h.ins j (by omega)
  · by_cases e : j = i
    · subst e; simp only [if_true]; exact hok
    · simp only [e, if_false]; exact h.ok j (by omega)
  · by_cases e : j = i
    · subst e
      simp only [show ¬ j = j + 1 by omega, if_false, if_true]
      have := h.lt; have := hn.bel.size; omega
    · simp only [show ¬ j = i + 1 by omega, show ¬ j + 1 = i + 1 by omega, if_false]
      exact h.mo j (by omega)
  · simp [World.setCell]
  · simp only [show ¬ (0 : Nat) = i + 1 by omega, if_false]; exact h.l0
  · simp only [show ¬ (0 : Nat) = i + 1 by omega, if_false]; exact h.ga
theorem Lp.four {w W : World} {q0 r0 ga : Nat} {q : Rq} {n : Int} {ry : SV} {b : ByteArray} {c : Ca} {OK : List En → Prop} {G : Nat → Nat} {Y : Nat → SV} {LL : Nat → List En} {lo : Nat → Nat} (h : Lp w W q0 r0 ga q n ry b c OK 4 G Y LL lo) :
    C4 w W (lo 0) (lo 1) (lo 2) (lo 3) (lo 4) (G 0) c (Y 0) (LL 0) (G 1) c (Y 1) (LL 1) (G 2) c (Y 2) (LL 2) (G 3) c (Y 3) (LL 3) :=
  ⟨h.cx 0 (by omega), h.cx 1 (by omega), h.cx 2 (by omega), h.cx 3 (by omega), h.ins 0 (by omega), h.ins 1 (by omega), h.ins 2 (by omega), h.ins 3 (by omega), h.ew.bel, h.l0, h.mo 0 (by omega), h.mo 1 (by omega), h.mo 2 (by omega), h.mo 3 (by omega)⟩
end Go.Proofs.YtfponcdhaefkdaaDoor
