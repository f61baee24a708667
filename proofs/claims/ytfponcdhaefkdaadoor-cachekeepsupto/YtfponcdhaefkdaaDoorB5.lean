/- Names. -/
import Derived.Test.YtfponcdhaefkdaaDoorB4
import Derived.RegionIn
namespace Go.Proofs.YtfponcdhaefkdaaDoor
open Go.RowKit Go.Shelf Go.Maps
set_option linter.unusedVariables false
set_option linter.unusedSimpArgs false
attribute [local go_sem] Oper.semAt_some

/-- Names on its way: the names so far, how often each piece stood, the values, the marks; what X names may be written by others. -/
structure Ns (w : World) (vs : List ByteArray) (vb : Option Addr) (vl vc : Nat) (ds : List Deferred) (ps : List ByteArray) (X : Nat → Prop) (W : World) : Prop where
  bel : Below w.heap.size w W
  bx : ∃ nb nl nc, W.heap[w.heap.size + 1]? = some (.cells #[.slice nb nl nc] 27 (0, 0)) ∧ R ES W (.slice nb nl nc) (nmL ps) ∧ ∀ k, (Value.slice nb nl nc).ownBlock = some k → w.heap.size + 4 ≤ k ∧ ¬ X k ∧ (Value.slice vb vl vc).ownBlock ≠ some k
  mp : Mc W (w.heap.size + 2) ps
  mb : W.heap[w.heap.size + 3]? = some (.cells #[.map (some (w.heap.size + 2))] 72 (0, 0))
  vr : R ES W (.slice vb vl vc) vs
  vo : ∀ k, (Value.slice vb vl vc).ownBlock = some k → w.heap.size + 4 ≤ k ∧ ¬ X k
  dl : Dl ds W
  dx : ∀ d ∈ ds, ∀ D, d.target = .collected D → ¬ X D ∧ w.heap.size + 4 ≤ D
  xx : ∀ k, X k → w.heap.size + 4 ≤ k
theorem Ns.abide {w : World} {vs : List ByteArray} {vb : Option Addr} {vl vc : Nat} {ds : List Deferred} {ps : List ByteArray} {X : Nat → Prop} {W W' : World} (h : Ns w vs vb vl vc ds ps X W) (hk : Ks X W W') : Ns w vs vb vl vc ds ps X W' := by
  have hn : ∀ k, k < w.heap.size + 4 → ¬ X k := fun k hk hx => by have := h.xx k hx; omega
  have kb : ∀ k, k < W.heap.size → k < w.heap.size + 4 → W'.heap[k]? = W.heap[k]? := fun k hk1 hk2 => hk.block k hk1 (hn k hk2)
  obtain ⟨nb, nl, nc, b1, b2, b3⟩ := h.bx
  refine ⟨h.bel.trans (hk.below h.bel.size fun i hi => hn i (by omega)), ⟨nb, nl, nc, (kb _ (heap_lt b1) (by omega)).trans b1, b2.stays fun k hk1 hk2 => hk.block k hk2 (b3 k hk1).2.1, b3⟩, h.mp.stays (kb _ h.mp.lt (by omega)), (kb _ (heap_lt h.mb) (by omega)).trans h.mb, h.vr.stays fun k hk1 hk2 => hk.block k hk2 (h.vo k hk1).2, h.vo, ?_, h.dx, h.xx⟩
  have := h.dl
  have hdx := h.dx
  clear h hn kb b1 b2 b3
  induction ds with
  | nil => trivial
  | cons d r ih =>
    obtain ⟨⟨D, g1, g2, g3⟩, g4⟩ := this
    exact ⟨⟨D, g1, (hk.block D (heap_lt g2) (hdx d (by simp) D (by rw [g1])).1).trans g2, g3⟩, ih g4 fun x hx => hdx x (by simp [hx])⟩
theorem Ns.below {w : World} {vs : List ByteArray} {vb : Option Addr} {vl vc : Nat} {ds : List Deferred} {ps : List ByteArray} {X : Nat → Prop} {W W' : World} (h : Ns w vs vb vl vc ds ps X W) (hb : Below W.heap.size W W') : Ns w vs vb vl vc ds ps X W' := h.abide (Ks.of_below hb)
/-- a piece counted -/
theorem Ns.count {w : World} {vs : List ByteArray} {vb : Option Addr} {vl vc : Nat} {ds : List Deferred} {ps : List ByteArray} {X : Nat → Prop} {W : World} (h : Ns w vs vb vl vc ds ps X W) (p : ByteArray) (hp : p.size ≤ maxLen) (hl : ps.length < 4611686018427387904) :
    ∃ W' u, (Instr.mapUpdate 72 (.map (some (w.heap.size + 2))) (.string p) (.int .i64 ((cnt ps p : Int) + 1))).run Tryd.prog W = .ok u W' ∧ W.heap.size ≤ W'.heap.size ∧ (∀ k, k < W.heap.size → k ≠ w.heap.size + 2 → W'.heap[k]? = W.heap[k]?) ∧ Mc W' (w.heap.size + 2) (ps ++ [p]) ∧ Ks (fun k => k = w.heap.size + 2) W W' := by
  obtain ⟨W', u, h1, h2, h3⟩ := h.mp.put p hp hl
  have hb : ∀ k, k < W.heap.size → k ≠ w.heap.size + 2 → W'.heap[k]? = W.heap[k]? := fun k hk hne => h3.block k hk (fun e => hne (by cases e; rfl))
  exact ⟨W', u, h1, h3.size, hb, h2, ⟨h3.os, h3.tape, h3.output, h3.size, fun k hk hne => hb k hk hne⟩⟩

/-- what stays of Ns while the map and the names are written -/
theorem Ns.other {w : World} {vs : List ByteArray} {vb : Option Addr} {vl vc : Nat} {ds : List Deferred} {ps qs : List ByteArray} {X : Nat → Prop} {W W' : World} {nb : Option Addr} {nl nc : Nat} (h : Ns w vs vb vl vc ds ps X W) (nb' : Option Addr) (nl' nc' : Nat)
    (hbx : W.heap[w.heap.size + 1]? = some (.cells #[.slice nb nl nc] 27 (0, 0))) (hno : ∀ k, (Value.slice nb nl nc).ownBlock = some k → w.heap.size + 4 ≤ k ∧ ¬ X k ∧ (Value.slice vb vl vc).ownBlock ≠ some k)
    (hnd : ∀ d ∈ ds, ∀ D, d.target = .collected D → (Value.slice nb nl nc).ownBlock ≠ some D)
    (hk : Ks (fun k => k = w.heap.size + 1 ∨ k = w.heap.size + 2 ∨ (Value.slice nb nl nc).ownBlock = some k) W W') (h1 : W'.heap[w.heap.size + 1]? = some (.cells #[.slice nb' nl' nc'] 27 (0, 0))) (h2 : R ES W' (.slice nb' nl' nc') (nmL qs))
    (h3 : ∀ k, (Value.slice nb' nl' nc').ownBlock = some k → w.heap.size + 4 ≤ k ∧ ¬ X k ∧ (Value.slice vb vl vc).ownBlock ≠ some k) (h4 : Mc W' (w.heap.size + 2) qs) : Ns w vs vb vl vc ds qs X W' := by
  have hsz := h.bel.size
  refine ⟨h.bel.trans (hk.below h.bel.size fun i hi => ?_), ⟨nb', nl', nc', h1, h2, h3⟩, h4, (hk.block _ (heap_lt h.mb) ?_).trans h.mb, h.vr.stays fun k hk1 hk2 => hk.block k hk2 ?_, h.vo, ?_, h.dx, h.xx⟩
  · rintro (e | e | e)
    · omega
    · omega
    · have := (hno i e).1; omega
  · rintro (e | e | e)
    · omega
    · omega
    · have := (hno _ e).1; omega
  · have := (h.vo k hk1).1
    rintro (e | e | e)
    · omega
    · omega
    · exact (hno k e).2.2 hk1
  · have hd := h.dl
    have hdx := h.dx
    clear h h1 h2 h3 h4
    induction ds with
    | nil => trivial
    | cons d r ih =>
      obtain ⟨⟨D, g1, g2, g3⟩, g4⟩ := hd
      refine ⟨⟨D, g1, (hk.block D (heap_lt g2) ?_).trans g2, g3⟩, ih (fun x hx => hnd x (by simp [hx])) g4 fun x hx => hdx x (by simp [hx])⟩
      have h5 := (hdx d (by simp) D (by rw [g1])).2
      rintro (e | e | e)
      · omega
      · omega
      · exact hnd d (by simp) D (by rw [g1]) e
theorem Ns.rowne {w : World} {vs : List ByteArray} {vb : Option Addr} {vl vc : Nat} {ds : List Deferred} {ps : List ByteArray} {X : Nat → Prop} {W : World} (h : Ns w vs vb vl vc ds ps X W) {nb : Option Addr} {nl nc : Nat} {l : List ByteArray} (hr : R ES W (.slice nb nl nc) l) : ∀ d ∈ ds, ∀ D, d.target = .collected D → (Value.slice nb nl nc).ownBlock ≠ some D := fun d hd D hD e => by
  obtain ⟨c, hc⟩ := hr.ty D e
  have := (h.dl.lt d hd D hD).2
  rw [hc] at this
  cases this
/-- a piece that is not told -/
theorem Ns.skip {w : World} {vs : List ByteArray} {vb : Option Addr} {vl vc : Nat} {ds : List Deferred} {ps : List ByteArray} {X : Nat → Prop} {W W' : World} (h : Ns w vs vb vl vc ds ps X W) (p : ByteArray) (hk : Ks (fun k => k = w.heap.size + 2) W W') (h4 : Mc W' (w.heap.size + 2) (ps ++ [p])) (hn : nmL (ps ++ [p]) = nmL ps) : Ns w vs vb vl vc ds (ps ++ [p]) X W' := by
  obtain ⟨nb, nl, nc, b1, b2, b3⟩ := h.bx
  refine h.other nb nl nc b1 b3 (h.rowne b2) (hk.mono fun i _ e => .inr (.inl e)) ((hk.block _ (heap_lt b1) (by omega)).trans b1) ?_ b3 h4
  rw [hn]
  exact b2.stays fun k hk1 hk2 => hk.block k hk2 (by have := (b3 k hk1).1; omega)
/-- a piece that is told -/
theorem Ns.tell {w : World} {vs : List ByteArray} {vb : Option Addr} {vl vc : Nat} {ds : List Deferred} {ps : List ByteArray} {X : Nat → Prop} {W W1 : World} (h : Ns w vs vb vl vc ds ps X W) (p : ByteArray) (hk : Ks (fun k => k = w.heap.size + 2) W W1) (h4 : Mc W1 (w.heap.size + 2) (ps ++ [p])) (hn : nmL (ps ++ [p]) = nmL ps ++ [p]) (hl : ps.length ≤ 4398046511104) (hX : ∀ k, X k → k < W.heap.size) (nb : Option Addr) (nl nc : Nat)
    (b1 : W.heap[w.heap.size + 1]? = some (.cells #[.slice nb nl nc] 27 (0, 0))) (b2 : R ES W (.slice nb nl nc) (nmL ps)) (b3 : ∀ k, (Value.slice nb nl nc).ownBlock = some k → w.heap.size + 4 ≤ k ∧ ¬ X k ∧ (Value.slice vb vl vc).ownBlock ≠ some k) :
    ∃ b' c' W2, (Builtin.append_ #[27, 27] 27 #[.slice nb nl nc, .slice (some ⟨W1.heap.size, 0, none⟩) 1 1]).run Tryd.prog (W1.alloc (.cells #[.string p] 9)) = .ok (.slice b' (nl + 1) c') W2 ∧ W2.cell? ⟨w.heap.size + 1, 0, none⟩ = some (.slice nb nl nc) ∧ W2.frozen? ⟨w.heap.size + 1, 0, none⟩ = false ∧ w.heap.size + 1 < W2.heap.size ∧
      Ns w vs vb vl vc ds (ps ++ [p]) X (W2.setCell ⟨w.heap.size + 1, 0, none⟩ (.slice b' (nl + 1) c')) ∧ (∀ k, k < W1.heap.size → k ≠ w.heap.size + 1 → (Value.slice nb nl nc).ownBlock ≠ some k → (W2.setCell ⟨w.heap.size + 1, 0, none⟩ (.slice b' (nl + 1) c')).heap[k]? = W1.heap[k]?) ∧ W1.heap.size ≤ (W2.setCell ⟨w.heap.size + 1, 0, none⟩ (.slice b' (nl + 1) c')).heap.size := by
  have hnl := nmL_len ps
  have r1 : R ES W1 (.slice nb nl nc) (nmL ps) := b2.stays fun k hk1 hk2 => hk.block k hk2 (by have := (b3 k hk1).1; omega)
  have ba := bel1 W1 (.cells #[.string p] 9)
  obtain ⟨e1, _, _⟩ := slice_len r1.isIn
  obtain ⟨b', c', W2, a1, a2, a3⟩ := app okS (W1.alloc (.cells #[.string p] 9)) _ _ (r1.below ba) _ [p] (in_one _ _ _ #[.string p] 9 (0, 0) (by rw [heap_al, if_pos rfl]) rfl) (by simp only [ES, List.length_singleton]; omega)
  rw [← e1] at a1 a2 a3
  simp only [List.length_singleton] at a1 a2 a3
  have hsz := h.bel.size
  have b1' : W1.heap[w.heap.size + 1]? = some (.cells #[.slice nb nl nc] 27 (0, 0)) := (hk.block _ (heap_lt b1) (by omega)).trans b1
  have nown : (Value.slice nb nl nc).ownBlock ≠ some (w.heap.size + 1) := fun e => by have := (b3 _ e).1; omega
  have k2 : ∀ k, k < W1.heap.size → (Value.slice nb nl nc).ownBlock ≠ some k → W2.heap[k]? = W1.heap[k]? := fun k h1 h2 => (a3.block k (by simp; omega) h2).trans (ba.block k h1)
  have b1'' : W2.heap[w.heap.size + 1]? = some (.cells #[.slice nb nl nc] 27 (0, 0)) := (k2 _ (heap_lt b1') nown).trans b1'
  have s12 : W1.heap.size ≤ W2.heap.size := Nat.le_trans ba.size a3.size
  have kset : ∀ k, k ≠ w.heap.size + 1 → (W2.setCell ⟨w.heap.size + 1, 0, none⟩ (.slice b' (nl + 1) c')).heap[k]? = W2.heap[k]? := fun k hk => setCell_other _ _ _ _ _ hk
  have hown' : ∀ k, (Value.slice b' (nl + 1) c').ownBlock = some k → (Value.slice nb nl nc).ownBlock = some k ∨ W1.heap.size ≤ k := fun k hk => (a3.own k hk).imp id fun e => by simp at e; omega
  refine ⟨b', c', W2, a1, cell_blk b1'' 0, frozen_blk b1'' 0, heap_lt b1'', ?_, fun k h1 h2 h3 => (kset k h2).trans (k2 k h1 h3), by simp [World.setCell]; exact s12⟩
  have hkk : Ks (fun k => k = w.heap.size + 1 ∨ k = w.heap.size + 2 ∨ (Value.slice nb nl nc).ownBlock = some k) W (W2.setCell ⟨w.heap.size + 1, 0, none⟩ (.slice b' (nl + 1) c')) := by
    refine ⟨?_, ?_, ?_, by simp [World.setCell]; exact Nat.le_trans hk.size s12, fun k h1 h2 => ?_⟩
    · exact (show W2.os = W.os from (a3.os.trans ba.os).trans hk.os)
    · exact (show W2.tape = W.tape from (a3.tape.trans ba.tape).trans hk.tape)
    · exact (show W2.output = W.output from (a3.output.trans ba.output).trans hk.output)
    · rw [kset k (fun e => h2 (.inl e)), k2 k (Nat.lt_of_lt_of_le h1 hk.size) (fun e => h2 (.inr (.inr e)))]
      exact hk.block k h1 (fun e => h2 (.inr (.inl e)))
  refine h.other b' (nl + 1) c' b1 b3 (h.rowne b2) hkk (setCell_block _ _ _ _ _ _ _ b1'') ?_ (fun k hk1 => ?_) ?_
  · rw [hn]
    refine R.stays a2 fun k hk1 hk2 => kset k fun e => ?_
    rcases hown' k hk1 with q | q
    · exact nown (by rw [q, e])
    · have := heap_lt b1'; omega
  · rcases hown' k hk1 with q | q
    · exact b3 k q
    · refine ⟨?_, fun hx => ?_, fun hv => ?_⟩
      · have := heap_lt h.mb; have := hk.size; omega
      · have := hX k hx; have := hk.size; omega
      · have := R.lt h.vr k hv; have := hk.size; omega
  · refine h4.stays ((kset _ (by omega)).trans (k2 _ h4.lt fun e => ?_))
    have := (b3 _ e).1
    omega
end Go.Proofs.YtfponcdhaefkdaaDoor
