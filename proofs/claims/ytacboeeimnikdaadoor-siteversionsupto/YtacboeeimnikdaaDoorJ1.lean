/- SiteVersions: what lies in memory. -/
import Derived.Test.YtacboeeimnikdaaDoorH5
import Derived.Test.YtacboeeimnikdaaDoorJ0
namespace Go.Proofs.YtacboeeimnikdaaDoor
open Go.RowKit Go.Maps
open Go.Shelf
set_option linter.unusedVariables false
set_option linter.unusedSimpArgs false

/-- a request that is asked -/
structure Aq where
  p : ByteArray
  y : SV
  fs : List Fd
def ERq : El Aq := ⟨53, 41, 6, 104, fun x => (rqv getS httpsS aTest x.p (sv x.y) e0S).toList⟩
theorem okRq : ERq.Ok := ⟨Tryd.underlying53, by kernel_rfl, by decide, by decide, fun _ => rfl, fun a u hu => by
  simp only [ERq, rqv, List.mem_cons, List.not_mem_nil, or_false] at hu
  rcases hu with rfl | rfl | rfl | rfl | rfl | rfl <;> rfl⟩
/-- a response that was told -/
structure Rp where
  n : Int
  y : SV
  b : ByteArray
  l : List Fd
def ERs : El Rp := ⟨56, 37, 3, 48, fun x => (rsv x.n (sv x.y) x.b).toList⟩
theorem okRs : ERs.Ok := ⟨Tryd.underlying56, by kernel_rfl, by decide, by decide, fun _ => rfl, fun a u hu => by
  simp only [ERs, rsv, List.mem_cons, List.not_mem_nil, or_false] at hu
  rcases hu with rfl | rfl | rfl <;> rfl⟩
abbrev Rr := SV × List Rp
def ERR : El Rr := ⟨55, 56, 1, 24, fun x => [sv x.1]⟩
theorem okRR : ERR.Ok := ⟨Tryd.underlying55, by kernel_rfl, by decide, by decide, fun _ => rfl, fun a u hu => by
  simp only [ERR, List.mem_cons, List.not_mem_nil, or_false] at hu
  rcases hu with rfl
  rfl⟩
theorem R.kt {α : Type} {E : El α} {w w' : World} {v : Value} {l : List α} (h : R E w v l) (hk : Kt w w') (h1 : E.e ≠ 79) (h2 : E.e ≠ 83) : R E w' v l := h.stays fun k hk' _ => by
  obtain ⟨c, hc⟩ := h.ty k hk'
  exact hk k c _ hc h1 h2
/-- rows of two kinds: an append to the one leaves the other -/
theorem R.apart {α β : Type} {E : El α} {G : El β} {w w' : World} {u v v' : Value} {l : List α} {m : List β} (h : R E w u l) (hv : R G w v m) (hG : Gr w w' v v') (ht : E.e ≠ G.e) : R E w' u l := h.stays fun k hk hl => hG.block k hl fun e => by
  obtain ⟨c1, hc1⟩ := h.ty k hk
  obtain ⟨c2, hc2⟩ := hv.ty k e
  rw [hc1] at hc2
  injection hc2 with hc2
  injection hc2 with _ hc2
  exact ht hc2
/-- the requests, made since w -/
structure Ak (w wr : World) (ya : SV) (A : List Aq) : Prop where
  bel : Below w.heap.size w wr
  row : R ERq wr (sv ya) A
  new : ∀ k, (sv ya).ownBlock = some k → w.heap.size ≤ k
  fs : ∀ x ∈ A, R EFd wr (sv x.y) x.fs ∧ x.p.size ≤ 4
theorem Ak.below {w wx wy : World} {ya : SV} {A : List Aq} (h : Ak w wx ya A) (hb : Below wx.heap.size wx wy) : Ak w wy ya A :=
  ⟨h.bel.trans (hb.mono h.bel.size), h.row.below hb, h.new, fun x hx => ⟨(h.fs x hx).1.below hb, (h.fs x hx).2⟩⟩
theorem Ak.start (w : World) : Ak w w (none, 0, 0) [] := ⟨Below.refl _ _, R.nil _ _, fun k hk => by simp [sv, Value.ownBlock] at hk, fun x hx => by simp at hx⟩
theorem Ak.app {w W : World} {ya : SV} {A : List Aq} (h : Ak w W ya A) (x : Aq) (v : Value) (hv : In ERq W v [x]) (hf : R EFd W (sv x.y) x.fs ∧ x.p.size ≤ 4) (hl : (A.length + 1) * 104 ≤ 140737488355328) :
    ∃ bs m c w2, (Builtin.append_ #[53, 53] 53 #[sv ya, v]).run Tryd.prog W = .ok (.slice bs m c) w2 ∧ Ak w w2 (bs, m, c) (A ++ [x]) := by
  obtain ⟨bs, c, w2, hrun, hR, hG⟩ := Go.Proofs.YtacboeeimnikdaaDoor.app okRq W (sv ya) A h.row v [x] hv (by simpa [ERq] using hl)
  refine ⟨bs, _, c, w2, hrun, ⟨h.bel.trans (hG.belowB h.bel.size h.new), hR, fun k hk => ?_, fun z hz => ?_⟩⟩
  · rcases hG.own k hk with h' | h'
    · exact h.new k h'
    · have := h.bel.size; omega
  · have hz' : R EFd W (sv z.y) z.fs ∧ z.p.size ≤ 4 := by
      rcases List.mem_append.1 hz with hz | hz
      · exact h.fs z hz
      · rw [List.mem_singleton.1 hz]; exact hf
    exact ⟨hz'.1.apart h.row hG (by simp [EFd, ERq]), hz'.2⟩
/-- what a version answers to a request -/
def RpIs (r : Rp) (F : Fm) (v : Int) (x : Aq) : Prop := r.n = anN (atE (F (aTest, x.p)) v) getS ∧ r.l = anL (atE (F (aTest, x.p)) v) getS x.fs ∧ r.b = anBd (atE (F (aTest, x.p)) v) getS x.fs
/-- the answers of one version, as far as they were asked -/
structure Is (w wr : World) (z : SV) (rs : List Rp) (F : Fm) (v : Int) (A : List Aq) : Prop where
  bel : Below w.heap.size w wr
  row : R ERs wr (sv z) rs
  new : ∀ k, (sv z).ownBlock = some k → w.heap.size ≤ k
  fs : ∀ r ∈ rs, R EFd wr (sv r.y) r.l
  is : ∀ i (h : i < rs.length) (h2 : i < A.length), RpIs rs[i] F v A[i]
theorem Is.below {w wx wy : World} {z : SV} {rs : List Rp} {F : Fm} {v : Int} {A : List Aq} (h : Is w wx z rs F v A) (hb : Below wx.heap.size wx wy) : Is w wy z rs F v A :=
  ⟨h.bel.trans (hb.mono h.bel.size), h.row.below hb, h.new, fun x hx => (h.fs x hx).below hb, h.is⟩
theorem Is.start (w : World) (F : Fm) (v : Int) (A : List Aq) : Is w w (none, 0, 0) [] F v A := ⟨Below.refl _ _, R.nil _ _, fun k hk => by simp [sv, Value.ownBlock] at hk, fun x hx => by simp at hx, fun i h => absurd h (by simp)⟩
theorem Is.app {w W : World} {z : SV} {rs : List Rp} {F : Fm} {v : Int} {A : List Aq} (h : Is w W z rs F v A) (x : Rp) (u : Value) (hv : In ERs W u [x]) (hf : R EFd W (sv x.y) x.l) (hi : ∀ h2 : rs.length < A.length, RpIs x F v A[rs.length]) (hl : (rs.length + 1) * 48 ≤ 140737488355328) :
    ∃ bs m c w2, (Builtin.append_ #[56, 56] 56 #[sv z, u]).run Tryd.prog W = .ok (.slice bs m c) w2 ∧ Is w w2 (bs, m, c) (rs ++ [x]) F v A := by
  obtain ⟨bs, c, w2, hrun, hR, hG⟩ := Go.Proofs.YtacboeeimnikdaaDoor.app okRs W (sv z) rs h.row u [x] hv (by simpa [ERs] using hl)
  refine ⟨bs, _, c, w2, hrun, ⟨h.bel.trans (hG.belowB h.bel.size h.new), hR, fun k hk => ?_, fun r hr => ?_, fun i h1 h2 => ?_⟩⟩
  · rcases hG.own k hk with h' | h'
    · exact h.new k h'
    · have := h.bel.size; omega
  · have hr' : R EFd W (sv r.y) r.l := by
      rcases List.mem_append.1 hr with hr | hr
      · exact h.fs r hr
      · rw [List.mem_singleton.1 hr]; exact hf
    exact hr'.apart h.row hG (by simp [EFd, ERs])
  · by_cases e : i < rs.length
    · rw [List.getElem_append_left e]; exact h.is i e h2
    · have : i = rs.length := by simp at h1; omega
      subst this
      rw [List.getElem_append_right (by omega)]
      simp
      exact hi h2
/-- all that lies in memory behind n puts -/
structure Vs (w wr : World) (lo g : Nat) (ps l : List PC) (n : Nat) (ya yt : SV) (A : List Aq) (T : List Rr) : Prop where
  bel : Below w.heap.size w wr
  sx : Sx wr lo g (l.length + n) ((n : Int) + 1) (FN (Fk l) ps n) (KN (l.map tgP) ps n)
  ask : R ERq wr (sv ya) A ∧ ∀ x ∈ A, R EFd wr (sv x.y) x.fs ∧ x.p.size ≤ 4
  told : R ERR wr (sv yt) T ∧ ∀ k, (sv yt).ownBlock = some k → w.heap.size ≤ k
  rows : ∀ t ∈ T, R ERs wr (sv t.1) t.2 ∧ ∀ r ∈ t.2, R EFd wr (sv r.y) r.l
  lo' : w.heap.size ≤ lo ∧ lo ≤ wr.heap.size
theorem Vs.keep {w wx wy : World} {lo g : Nat} {ps l : List PC} {n m : Nat} {ya yt : SV} {A : List Aq} {T : List Rr} (h : Vs w wx lo g ps l n ya yt A T) (hk : Kt wx wy) (hb : Below w.heap.size w wy) (hz : wx.heap.size ≤ wy.heap.size) (hs : Sx wy lo g (l.length + m) ((m : Int) + 1) (FN (Fk l) ps m) (KN (l.map tgP) ps m)) : Vs w wy lo g ps l m ya yt A T :=
  ⟨hb, hs, ⟨h.ask.1.kt hk (by simp [ERq]) (by simp [ERq]), fun x hx => ⟨(h.ask.2 x hx).1.kt hk (by simp [EFd]) (by simp [EFd]), (h.ask.2 x hx).2⟩⟩, ⟨h.told.1.kt hk (by simp [ERR]) (by simp [ERR]), h.told.2⟩,
    fun t ht => ⟨(h.rows t ht).1.kt hk (by simp [ERs]) (by simp [ERs]), fun r hr => ((h.rows t ht).2 r hr).kt hk (by simp [EFd]) (by simp [EFd])⟩, ⟨h.lo'.1, Nat.le_trans h.lo'.2 hz⟩⟩
theorem Vs.below {w wx wy : World} {lo g : Nat} {ps l : List PC} {n : Nat} {ya yt : SV} {A : List Aq} {T : List Rr} (h : Vs w wx lo g ps l n ya yt A T) (hb : Below wx.heap.size wx wy) : Vs w wy lo g ps l n ya yt A T :=
  h.keep (Kt.of hb) (h.bel.trans (hb.mono h.bel.size)) hb.size (h.sx.below hb)
/-- what was told, is told again -/
def TD (ps l : List PC) (A : List Aq) (T : List Rr) : Prop := ∀ m (h : m < T.length), T[m].2.length = A.length ∧ ∀ i (h1 : i < T[m].2.length) (h2 : i < A.length), RpIs T[m].2[i] (FN (Fk l) ps m) ((m : Int) + 1) A[i]
theorem Vs.app {w W : World} {lo g : Nat} {ps l : List PC} {n : Nat} {ya yt : SV} {A : List Aq} {T : List Rr} (h : Vs w W lo g ps l n ya yt A T) (z : SV) (rs : List Rp) (hz : R ERs W (sv z) rs ∧ ∀ r ∈ rs, R EFd W (sv r.y) r.l) (v : Value) (hv : In ERR W v [(z, rs)]) (hl : (T.length + 1) * 24 ≤ 140737488355328) :
    ∃ bs m c w2, (Builtin.append_ #[55, 55] 55 #[sv yt, v]).run Tryd.prog W = .ok (.slice bs m c) w2 ∧ Vs w w2 lo g ps l n ya (bs, m, c) A (T ++ [(z, rs)]) := by
  obtain ⟨bs, c, w2, hrun, hR, hG⟩ := Go.Proofs.YtacboeeimnikdaaDoor.app okRR W (sv yt) T h.told.1 v [(z, rs)] hv (by simpa [ERR] using hl)
  have hB2 := hG.belowB h.bel.size h.told.2
  have hkt : ∀ (k : Nat) (cc : Array Value) (tt : TypeId), W.heap[k]? = some (Obj.cells cc tt (0, 0)) → tt ≠ 56 → w2.heap[k]? = W.heap[k]? := fun k cc tt hk ht => hG.block k (heap_lt hk) fun e => by
    obtain ⟨c2, hc2⟩ := h.told.1.ty k e
    rw [hk] at hc2
    injection hc2 with hc2
    injection hc2 with _ hc2
    exact ht hc2
  have kS : ∀ {u : Value} {m : List Rp}, R ERs W u m → R ERs w2 u m := fun hu => hu.apart h.told.1 hG (by simp [ERs, ERR])
  have kF : ∀ {u : Value} {m : List Fd}, R EFd W u m → R EFd w2 u m := fun hu => hu.apart h.told.1 hG (by simp [EFd, ERR])
  refine ⟨bs, _, c, w2, hrun, ⟨h.bel.trans hB2, ?_, ⟨h.ask.1.apart h.told.1 hG (by simp [ERq, ERR]), fun x hx => ⟨kF (h.ask.2 x hx).1, (h.ask.2 x hx).2⟩⟩, ⟨hR, fun k hk => ?_⟩, fun t ht => ?_, ⟨h.lo'.1, Nat.le_trans h.lo'.2 hG.size⟩⟩⟩
  · obtain ⟨b, L, h1, h2, h3⟩ := h.sx.si
    obtain ⟨nn, D, k1, ⟨es, clock, k2, k2'⟩, k3⟩ := h1.own
    refine ⟨⟨b, L, ⟨(hkt _ _ _ h1.hg (by decide)).trans h1.hg, ⟨nn, D, k1, ⟨es, clock, (hG.block b (heap_lt k2) fun e => ?_).trans k2, k2'⟩, k3⟩, ⟨fun r hr => ⟨((h1.sr.rows r hr).1.apart h.told.1 hG (by simp [EEd, ERR])), (h1.sr.rows r hr).2⟩, h1.sr.apart, fun r hr e he => ⟨((h1.sr.ch r hr e he).1.apart h.told.1 hG (by simp [ECh, ERR])), (h1.sr.ch r hr e he).2⟩, h1.sr.z⟩, h1.lg⟩, h2, h3⟩, h.sx.ris, h.sx.ver, h.sx.siz, h.sx.len, h.sx.key, h.sx.bnd⟩
    obtain ⟨c2, hc2⟩ := h.told.1.ty b e
    rw [k2] at hc2
    cases hc2
  · rcases hG.own k hk with h' | h'
    · exact h.told.2 k h'
    · have := h.bel.size; omega
  · rcases List.mem_append.1 ht with ht | ht
    · exact ⟨kS (h.rows t ht).1, fun r hr => kF ((h.rows t ht).2 r hr)⟩
    · rw [List.mem_singleton.1 ht]
      exact ⟨kS hz.1, fun r hr => kF (hz.2 r hr)⟩
theorem TD.snoc {ps l : List PC} {A : List Aq} {T : List Rr} (h : TD ps l A T) (z : SV) (rs : List Rp) (hl : rs.length = A.length) (hi : ∀ i (h1 : i < rs.length) (h2 : i < A.length), RpIs rs[i] (FN (Fk l) ps T.length) ((T.length : Int) + 1) A[i]) : TD ps l A (T ++ [(z, rs)]) := by
  intro m hm
  by_cases e : m < T.length
  · rw [List.getElem_append_left e]; exact h m e
  · have : m = T.length := by simp at hm; omega
    subst this
    rw [List.getElem_append_right (by omega)]
    simp only [Nat.sub_self, List.getElem_singleton]
    exact ⟨hl, hi⟩
/-- Serve of a request that is asked -/
theorem Vs.serve {w wr : World} {lo g : Nat} {ps l : List PC} {n : Nat} {ya yt : SV} {A : List Aq} {T : List Rr} (h : Vs w wr lo g ps l n ya yt A T) (ht : Tab w) (x : Aq) (hf : R EFd wr (sv x.y) x.fs) (hp : x.p.size ≤ 4) (v : Int) (hv : 1 ≤ v ∧ v ≤ (n : Int) + 1) :
    Calls Tryd.prog 11 #[.pointer (some ⟨g, 0, none⟩), .int .i64 v, .agg (rqv getS httpsS aTest x.p (sv x.y) e0S)] wr fun e w' => Below wr.heap.size wr w' ∧ ∃ r : Rp, e = .returned (.tuple #[.agg (rsv r.n (sv r.y) r.b), .int .i64 0]) ∧ R EFd w' (sv r.y) r.l ∧ RpIs r (FN (Fk l) ps n) v x := by
  refine (h.sx.serve v getS httpsS aTest x.p x.y e0S x.fs hf.isIn (ht.below h.bel) ⟨(by decide : aTest.size ≤ 281474976710656), by show x.p.size ≤ _; omega⟩).mono ?_
  rintro e w' ⟨hB, he⟩
  refine ⟨hB, ?_⟩
  rcases he with ⟨q, _⟩ | ⟨_, u, rfl, y, rfl, hR, _⟩
  · simp [ivB] at q; omega
  · exact ⟨⟨_, y, _, _⟩, rfl, hR, rfl, rfl, rfl⟩
end Go.Proofs.YtacboeeimnikdaaDoor
