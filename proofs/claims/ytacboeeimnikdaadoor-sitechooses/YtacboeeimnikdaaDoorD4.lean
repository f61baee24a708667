/- site: a site in memory; a page laid. -/
import Derived.Test.YtacboeeimnikdaaDoorD3
namespace Go.Proofs.YtacboeeimnikdaaDoor
open Go.RowKit Go.Maps
open Go.ChangeMaps Go.MapKept Go.WideShapes
set_option linter.unusedVariables false
set_option linter.unusedSimpArgs false

/-- the rows of a site: its targets' editions, each in a block of its own; their choices -/
structure Sr (w : World) (lo : Nat) (L : List Te) : Prop where
  rows : ∀ r ∈ L, R EEd w (sv r.y) r.l ∧ ∀ k, (sv r.y).ownBlock = some k → lo ≤ k
  apart : ∀ r ∈ L, ∀ c ∈ L, r.t ≠ c.t → ∀ k, (sv r.y).ownBlock = some k → (sv c.y).ownBlock ≠ some k
  ch : ∀ r ∈ L, ∀ e ∈ r.l, R ECh w (sv e.y) e.l ∧ e.l ≠ [] ∧ ∀ k, (sv e.y).ownBlock = some k → lo ≤ k
  z : ∀ r ∈ L, tz r.t
theorem Sr.stays {w w' : World} {lo : Nat} {L : List Te} (h : Sr w lo L) (hk : ∀ k, k < w.heap.size → (∃ c t, w.heap[k]? = some (Obj.cells c t (0, 0))) → w'.heap[k]? = w.heap[k]?) : Sr w' lo L :=
  ⟨fun r hr => ⟨(h.rows r hr).1.stays fun k hk' hl => hk k hl (by obtain ⟨c, hc⟩ := (h.rows r hr).1.ty k hk'; exact ⟨c, _, hc⟩), (h.rows r hr).2⟩, h.apart, fun r hr e he => ⟨(h.ch r hr e he).1.stays fun k hk' hl => hk k hl (by obtain ⟨c, hc⟩ := (h.ch r hr e he).1.ty k hk'; exact ⟨c, _, hc⟩), (h.ch r hr e he).2⟩, h.z⟩
/-- a site in memory, its blocks from lo on -/
structure Si (w : World) (lo g b N : Nat) (nv : Int) (L : List Te) : Prop where
  hg : w.heap[g]? = some (.cells #[.int .i64 nv, .map (some b)] 79 (0, 0))
  own : ∃ n D, n ≤ N ∧ w.ownsMap Tryd.prog 87 hd b n D ∧ MS D L
  sr : Sr w lo L
  lg : lo ≤ g ∧ lo ≤ b
/-- between an entry's taking and its store -/
structure Mid (w : World) (lo g b N : Nat) (nv : Int) (L : List Te) (t : Tg) (st : Nat) (y0 : SV) (l0 : List Ed) : Prop where
  hg : w.heap[g]? = some (.cells #[.int .i64 nv, .map (some b)] 79 (0, 0))
  mid : ∃ n D es1 clock1, n ≤ N ∧ MS D L ∧ w.heap[b]? = some (.map es1 clock1) ∧ ∀ (w2 : World) (y : SV), w2.heap[b]? = some (.map es1 clock1) → ∃ w3, (Instr.entryStore 77 (.map (some b)) (goInt st) (sv y)).run Tryd.prog w2 = .ok () w3 ∧ w3.ownsMap Tryd.prog 87 hd b (n + 1) (D.put (klT t) (.held (sv y))) ∧ Ks (fun k => k = b) w2 w3
  sr : Sr w lo L
  lg : lo ≤ g ∧ lo ≤ b
  tz : tz t
  row : R EEd w (sv y0) l0 ∧ (∀ k, (sv y0).ownBlock = some k → lo ≤ k) ∧ (∀ r ∈ L, r.t ≠ t → ∀ k, (sv y0).ownBlock = some k → (sv r.y).ownBlock ≠ some k) ∧ ∀ e ∈ l0, R ECh w (sv e.y) e.l ∧ e.l ≠ [] ∧ ∀ k, (sv e.y).ownBlock = some k → lo ≤ k
/-- the editions of a target -/
def edL (L : List Te) (t : Tg) : List Ed := match fdT L t with | some r => r.l | none => []
def edY (L : List Te) (t : Tg) : SV := match fdT L t with | some r => r.y | none => (none, 0, 0)
theorem Si.entry {w : World} {lo g b N : Nat} {nv : Int} {L : List Te} (h : Si w lo g b N nv L) (hN : N < maxLen) (t : Tg) (ht : tz t) :
    ∃ (st : Nat) (w1 : World), (Instr.mapEntry 77 (.map (some b)) (.agg (tgv t))).run Tryd.prog w = .ok (.tuple #[sv (edY L t), goInt st]) w1 ∧ Mid w1 lo g b N nv L t st (edY L t) (edL L t) ∧ Ks (fun k => k = b) w w1 := by
  obtain ⟨n, D, hn, ho, hM⟩ := h.own
  obtain ⟨v0, st, es1, clock1, hrun, hv, hst⟩ := entry_ops ho (by omega) hM t ht
  obtain ⟨es, clock, hb, _⟩ := ho
  have hks : Ks (fun k => k = b) w (setBlock w b (.map es1 clock1)) := ⟨rfl, rfl, rfl, by simp [setBlock], fun k _ hk => heap_setBlock_other hb _ hk⟩
  have hsr : Sr (setBlock w b (.map es1 clock1)) lo L := h.sr.stays fun k hk hc => hks.block k hk fun e => by
    obtain ⟨c, t', hc⟩ := hc
    rw [e, hb] at hc
    cases hc
  have hgb : g ≠ b := fun e => by have := h.hg; rw [e, hb] at this; cases this
  refine ⟨st, _, ?_, ⟨(hks.block g (heap_lt h.hg) hgb).trans h.hg, ⟨n, D, es1, clock1, hn, hM, heap_setBlock_same hb _, hst⟩, hsr, h.lg, ht, ?_⟩, hks⟩
  · rw [hrun, hv]
    unfold edY
    cases fdT L t <;> rfl
  · unfold edY edL
    cases hf : fdT L t with
    | none => exact ⟨R.nil _ _, fun k hk => by simp [sv, Value.ownBlock] at hk, fun r _ _ k hk => by simp [sv, Value.ownBlock] at hk, fun e he => by simp at he⟩
    | some r =>
      have hm : r ∈ L := List.mem_of_find?_eq_some hf
      have hrt : r.t = t := by have := List.find?_some hf; simpa using this
      exact ⟨(hsr.rows r hm).1, (hsr.rows r hm).2, fun c hc hne k hk => h.sr.apart r hm c hc (by rw [hrt]; exact Ne.symm hne) k hk, fun e he => hsr.ch r hm e he⟩
theorem Mid.below {w w' : World} {lo g b N : Nat} {nv : Int} {L : List Te} {t : Tg} {st : Nat} {y0 : SV} {l0 : List Ed} (h : Mid w lo g b N nv L t st y0 l0) (hb : Below w.heap.size w w') : Mid w' lo g b N nv L t st y0 l0 := by
  obtain ⟨n, D, es1, clock1, h1, h2, h3, h4⟩ := h.mid
  exact ⟨(hb.block _ (heap_lt h.hg)).trans h.hg, ⟨n, D, es1, clock1, h1, h2, (hb.block _ (heap_lt h3)).trans h3, h4⟩, h.sr.stays fun k hk _ => hb.block k hk, h.lg, h.tz, h.row.1.below hb, h.row.2.1, h.row.2.2.1, fun e he => ⟨(h.row.2.2.2 e he).1.below hb, (h.row.2.2.2 e he).2⟩⟩
theorem mem_upd {L : List Te} {r x : Te} (h : x ∈ upd L r) : x = r ∨ (x ∈ L ∧ x.t ≠ r.t) := by
  unfold upd at h
  split at h
  · obtain ⟨a, ha, e⟩ := List.mem_map.1 h
    split at e
    · exact .inl e.symm
    · rename_i hne
      subst e
      exact .inr ⟨ha, hne⟩
  · rename_i hno
    rcases List.mem_append.1 h with h | h
    · refine .inr ⟨h, fun e => hno (List.any_eq_true.2 ⟨x, h, decide_eq_true e⟩)⟩
    · exact .inl (List.mem_singleton.1 h)
/-- the edition appended, the entry stored -/
theorem Mid.fin {w : World} {lo g b N : Nat} {nv : Int} {L : List Te} {t : Tg} {st : Nat} {y0 : SV} {l0 : List Ed} (h : Mid w lo g b N nv L t st y0 l0) (hlo : lo ≤ w.heap.size) (e : Ed) (x : Value) (hx : In EEd w x [e]) (he : R ECh w (sv e.y) e.l ∧ e.l ≠ [] ∧ ∀ k, (sv e.y).ownBlock = some k → lo ≤ k) (hz : (l0.length + 1) * 56 ≤ 140737488355328) :
    ∃ bs c w2 w3, (Builtin.append_ #[108, 108] 108 #[sv y0, x]).run Tryd.prog w = .ok (.slice bs (l0.length + 1) c) w2 ∧ (Instr.entryStore 77 (.map (some b)) (goInt st) (.slice bs (l0.length + 1) c)).run Tryd.prog w2 = .ok () w3 ∧ Si w3 lo g b (N + 1) nv (upd L ⟨t, (bs, l0.length + 1, c), l0 ++ [e]⟩) ∧ Below lo w w3 ∧ ∀ (k : Nat) (cc : Array Value) (tt : TypeId), w.heap[k]? = some (Obj.cells cc tt (0, 0)) → tt ≠ 83 → w2.heap[k]? = w.heap[k]? ∧ w3.heap[k]? = w.heap[k]? := by
  obtain ⟨n, D, es1, clock1, h1, h2, h3, h4⟩ := h.mid
  obtain ⟨bs, c, w2, hrun, hR, hG⟩ := app okEd w (sv y0) l0 h.row.1 x [e] hx (by simpa [EEd] using hz)
  simp only [List.length_singleton] at hrun hR hG
  have hyb : (sv y0).ownBlock ≠ some b := fun e' => by
    obtain ⟨cc, hc⟩ := h.row.1.ty b e'
    rw [h3] at hc
    cases hc
  have hyg : (sv y0).ownBlock ≠ some g := fun e' => by
    obtain ⟨cc, hc⟩ := h.row.1.ty g e'
    rw [h.hg] at hc
    injection hc with hc
    injection hc with _ hc
    simp [EEd] at hc
  obtain ⟨w3, hst, ho, hks⟩ := h4 w2 (bs, l0.length + 1, c) ((hG.block b (heap_lt h3) hyb).trans h3)
  have hb2 : w2.heap[b]? = some (.map es1 clock1) := (hG.block b (heap_lt h3) hyb).trans h3
  have hg2 : w2.heap[g]? = some (.cells #[.int .i64 nv, .map (some b)] 79 (0, 0)) := (hG.block g (heap_lt h.hg) hyg).trans h.hg
  have hgb : g ≠ b := fun e' => by rw [e', hb2] at hg2; cases hg2
  have keepC : ∀ {u : Value} {k : List Ch}, R ECh w u k → R ECh w3 u k := fun {u k} hu => by
    have hu2 : R ECh w2 u k := hu.stays fun i hi hl => hG.block i hl fun e' => by
      obtain ⟨c1, hc1⟩ := hu.ty i hi
      obtain ⟨c2, hc2⟩ := h.row.1.ty i e'
      rw [hc1] at hc2
      injection hc2 with hc2
      injection hc2 with _ hc2
      simp [EEd, ECh] at hc2
    exact hu2.stays fun i hi hl => hks.block i hl fun e' => by
      obtain ⟨c1, hc1⟩ := hu2.ty i hi
      rw [e', hb2] at hc1
      cases hc1
  have keepE : ∀ {u : Value} {k : List Ed}, R EEd w2 u k → R EEd w3 u k := fun {u k} hu => hu.stays fun i hi hl => hks.block i hl fun e' => by
    obtain ⟨c1, hc1⟩ := hu.ty i hi
    rw [e', hb2] at hc1
    cases hc1
  have hnew : ∀ k, (Value.slice bs (l0.length + 1) c).ownBlock = some k → lo ≤ k := fun k hk => by
    rcases hG.own k hk with h' | h'
    · exact h.row.2.1 k h'
    · omega
  refine ⟨bs, c, w2, w3, hrun, hst, ⟨(hks.block g (heap_lt hg2) hgb).trans hg2, ⟨n + 1, _, by omega, ho, h2.put ⟨t, (bs, l0.length + 1, c), l0 ++ [e]⟩ h.tz⟩, ⟨fun r hr => ?_, fun r hr q hq hne k hk => ?_, fun r hr a ha => ?_, fun r hr => ?_⟩, h.lg⟩, ?_, fun k cc tt hk htt => ?_⟩
  · rcases mem_upd hr with rfl | ⟨hr, hne⟩
    · exact ⟨keepE hR, hnew⟩
    · refine ⟨keepE ((h.sr.rows r hr).1.stays fun k hk hl => hG.block k hl fun e' => h.row.2.2.1 r hr hne k e' hk), (h.sr.rows r hr).2⟩
  · rcases mem_upd hr with rfl | ⟨hr, hne1⟩ <;> rcases mem_upd hq with rfl | ⟨hq, hne2⟩
    · exact absurd rfl hne
    · rcases hG.own k hk with h' | h'
      · exact h.row.2.2.1 q hq hne2 k h'
      · exact fun e' => by have := (h.sr.rows q hq).1.lt k e'; omega
    · intro e'
      rcases hG.own k e' with h' | h'
      · exact h.row.2.2.1 r hr hne1 k h' hk
      · have := (h.sr.rows r hr).1.lt k hk; omega
    · exact h.sr.apart r hr q hq hne k hk
  · rcases mem_upd hr with rfl | ⟨hr, hne⟩
    · rcases List.mem_append.1 ha with ha | ha
      · exact ⟨keepC (h.row.2.2.2 a ha).1, (h.row.2.2.2 a ha).2⟩
      · rw [List.mem_singleton.1 ha]
        exact ⟨keepC he.1, he.2⟩
    · exact ⟨keepC (h.sr.ch r hr a ha).1, (h.sr.ch r hr a ha).2⟩
  · rcases mem_upd hr with rfl | ⟨hr, hne⟩
    · exact h.tz
    · exact h.sr.z r hr
  · exact (hG.belowB hlo h.row.2.1).trans (hks.below (Nat.le_trans hlo hG.size) fun i hi e' => by have := h.lg.2; omega)
  · have a1 : w2.heap[k]? = w.heap[k]? := hG.block k (heap_lt hk) fun e' => by
      obtain ⟨c1, hc1⟩ := h.row.1.ty k e'
      rw [hk] at hc1
      injection hc1 with hc1
      injection hc1 with _ hc1
      exact htt hc1
    have hkb : k ≠ b := fun e' => by rw [e', h3] at hk; cases hk
    exact ⟨a1, (hks.block k (by have := heap_lt hk; have := hG.size; omega) hkb).trans a1⟩
theorem Si.below {w w' : World} {lo g b N : Nat} {nv : Int} {L : List Te} (h : Si w lo g b N nv L) (hb : Below w.heap.size w w') : Si w' lo g b N nv L := by
  obtain ⟨n, D, h1, ⟨es, clock, h2, h2'⟩, h3⟩ := h.own
  exact ⟨(hb.block _ (heap_lt h.hg)).trans h.hg, ⟨n, D, h1, ⟨es, clock, (hb.block _ (heap_lt h2)).trans h2, h2'⟩, h3⟩, h.sr.stays fun k hk _ => hb.block k hk, h.lg⟩
theorem Si.map {w : World} {lo g b N : Nat} {nv : Int} {L : List Te} (h : Si w lo g b N nv L) : ∃ es clock, w.heap[b]? = some (.map es clock) := by
  obtain ⟨n, D, h1, ⟨es, clock, h2, h2'⟩, h3⟩ := h.own
  exact ⟨es, clock, h2⟩
end Go.Proofs.YtacboeeimnikdaaDoor
