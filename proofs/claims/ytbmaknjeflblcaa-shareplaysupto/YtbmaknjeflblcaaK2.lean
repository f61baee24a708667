/- A share in memory. -/
import Derived.Test.YtbmaknjeflblcaaW
namespace Go.Proofs.Ytbmaknjeflblcaa
open Go.RowKit Go.Maps
set_option linter.unusedVariables false
set_option linter.unusedSimpArgs false

abbrev SV := Option Addr × Nat × Nat
def sv (s : SV) : Value := .slice s.1 s.2.1 s.2.2
/-- a queue in its map: the slice, its bytes, its end -/
structure Qe where
  y : SV
  l : List UInt8
  e : Bool
def qw (y : SV) (e : Bool) : Value := .agg #[sv y, .bool e]
def qv (x : Qe) : Value := qw x.y x.e
def qR (v : Value) : Option (DataW Value × List MemPlace) := match v with
  | .agg c => match c.toList with
    | [.slice _ _ _, .bool _] => some (.held v, [])
    | _ => none
  | _ => none
theorem qR_mk (y : SV) (e : Bool) : qR (qw y e) = some (.held (qw y e), []) := rfl
theorem qR_inv {v : Value} {z : DataW Value × List MemPlace} (h : qR v = some z) : ∃ c : SV × Bool, v = qw c.1 c.2 ∧ z = (.held v, []) := by
  unfold qR at h
  split at h
  · rename_i c
    split at h
    · rename_i b n k e hc
      simp only [Option.some.injEq] at h
      refine ⟨((b, n, k), e), ?_, h.symm⟩
      have : c = #[.slice b n k, .bool e] := by
        apply Array.ext'
        rw [hc]
      rw [this]
      rfl
    · cases h
  · cases h
def qg (x : Qe) : DataW Value := .held (qv x)
def ug (_ : Unit) : DataW Value := .agg []
def lg (x : Int) : DataW Value := .lit (.int .i64 x)
def abs (L : Mp Qe) : Mp (List UInt8 × Bool) := L.map fun p => (p.1, (p.2.l, p.2.e))
theorem zero67 (w : World) : (zeroValue 67).run Try.prog w = .ok (.agg #[.slice none 0 0, .bool false]) w := by kernel_rfl
theorem zero62 (w : World) : (zeroValue 62).run Try.prog w = .ok (.agg #[]) w := by kernel_rfl
theorem zero2 (w : World) : (zeroValue 2).run Try.prog w = .ok (.int .i64 0) w := by kernel_rfl

/-- its two maps; S: where all of it lies -/
structure Sm (w : World) (S : Nat → Prop) (p bq bo : Nat) (L : Mp Qe) (T : St) : Prop where
  blk : w.heap[p]? = some (.cells #[.map (some bq), .map (some bo)] 61 (0, 0))
  mq : w.ownsMap Try.prog 2 qR bq L.length (mD qg L)
  mo : w.ownsMap Try.prog 2 unitElem bo T.o.length (mD ug T.o)
  ne : bq ≠ bo
  tq : T.q = abs L
  ins : S p ∧ S bq ∧ S bo
  ok : T.Ok
/-- its rows -/
structure Rw (w : World) (S : Nat → Prop) (L : Mp Qe) : Prop where
  rows : ∀ q ∈ L, WRow w (sv q.2.y) q.2.l
  ins : ∀ q ∈ L, ∀ k, (sv q.2.y).ownBlock = some k → S k
  apart : ∀ q ∈ L, ∀ r ∈ L, q.1 ≠ r.1 → ∀ k, (sv q.2.y).ownBlock = some k → (sv r.2.y).ownBlock ≠ some k
structure Sv (w : World) (S : Nat → Prop) (p bq bo : Nat) (L : Mp Qe) (T : St) : Prop where
  sm : Sm w S p bq bo L T
  rw : Rw w S L
/-- a share in memory -/
def Sh (w : World) (S : Nat → Prop) (p : Nat) (T : St) : Prop := ∃ bq bo L, Sv w S p bq bo L T
/-- what may have been taken into it -/
def gr (S : Nat → Prop) (w w' : World) : Nat → Prop := fun k => S k ∨ (w.heap.size ≤ k ∧ k < w'.heap.size)

section
variable {w w' : World} {S S' : Nat → Prop} {p bq bo : Nat} {L L' : Mp Qe} {T : St}
theorem Rw.sub (h : Rw w S L) (hs : ∀ q ∈ L', q ∈ L) : Rw w S L' := ⟨fun q hq => h.rows q (hs q hq), fun q hq => h.ins q (hs q hq), fun q hq r hr => h.apart q (hs q hq) r (hs r hr)⟩
theorem Rw.mono (h : Rw w S L) (hs : ∀ k, S k → S' k) : Rw w S' L := ⟨h.rows, fun q hq k hk => hs _ (h.ins q hq k hk), h.apart⟩
theorem Rw.stays (h : Rw w S L) (hb : ∀ k, k < w.heap.size → S k → (∀ q ∈ L, (sv q.2.y).ownBlock = some k → w'.heap[k]? = w.heap[k]?)) : Rw w' S L :=
  ⟨fun q hq => (h.rows q hq).same fun k hk => hb k ((h.rows q hq).lt k hk) (h.ins q hq k hk) q hq hk, h.ins, h.apart⟩
theorem Sm.mono (h : Sm w S p bq bo L T) (hs : ∀ k, S k → S' k) : Sm w S' p bq bo L T := ⟨h.blk, h.mq, h.mo, h.ne, h.tq, ⟨hs _ h.ins.1, hs _ h.ins.2.1, hs _ h.ins.2.2⟩, h.ok⟩
theorem Sm.stays (h : Sm w S p bq bo L T) (hb : ∀ k, k < w.heap.size → (k = p ∨ k = bq ∨ k = bo) → w'.heap[k]? = w.heap[k]?) : Sm w' S p bq bo L T := by
  have hq := h.mq.lt
  have ho := h.mo.lt
  obtain ⟨es, clock, h1, h2⟩ := h.mq
  obtain ⟨es', clock', h1', h2'⟩ := h.mo
  exact ⟨(hb p (heap_lt h.blk) (.inl rfl)).trans h.blk, ⟨es, clock, (hb bq hq (.inr (.inl rfl))).trans h1, h2⟩, ⟨es', clock', (hb bo ho (.inr (.inr rfl))).trans h1', h2'⟩, h.ne, h.tq, h.ins, h.ok⟩
theorem Sv.mono (h : Sv w S p bq bo L T) (hs : ∀ k, S k → S' k) : Sv w S' p bq bo L T := ⟨h.sm.mono hs, h.rw.mono hs⟩
theorem Sv.stays (h : Sv w S p bq bo L T) (hb : ∀ k, k < w.heap.size → S k → w'.heap[k]? = w.heap[k]?) : Sv w' S p bq bo L T :=
  ⟨h.sm.stays fun k hk e => hb k hk (by rcases e with rfl | rfl | rfl; exact h.sm.ins.1; exact h.sm.ins.2.1; exact h.sm.ins.2.2), h.rw.stays fun k hk hS _ _ _ => hb k hk hS⟩
theorem Sh.mono (h : Sh w S p T) (hs : ∀ k, S k → S' k) : Sh w S' p T := by
  obtain ⟨bq, bo, L, h⟩ := h
  exact ⟨bq, bo, L, h.mono hs⟩
theorem Sh.stays (h : Sh w S p T) (hb : ∀ k, k < w.heap.size → S k → w'.heap[k]? = w.heap[k]?) : Sh w' S p T := by
  obtain ⟨bq, bo, L, h⟩ := h
  exact ⟨bq, bo, L, h.stays hb⟩
theorem Sh.below (h : Sh w S p T) (hb : Below w.heap.size w w') : Sh w' S p T := h.stays fun k hk _ => hb.block k hk
theorem Sh.lt (h : Sh w S p T) : p < w.heap.size := by
  obtain ⟨bq, bo, L, h⟩ := h
  exact heap_lt h.sm.blk
theorem Sh.ok (h : Sh w S p T) : T.Ok := by
  obtain ⟨bq, bo, L, h⟩ := h
  exact h.sm.ok
theorem Sm.lts (h : Sm w S p bq bo L T) : p < w.heap.size ∧ bq < w.heap.size ∧ bo < w.heap.size ∧ p ≠ bq ∧ p ≠ bo := by
  refine ⟨heap_lt h.blk, h.mq.lt, h.mo.lt, fun e => ?_, fun e => ?_⟩
  · obtain ⟨es, clock, h1, h2⟩ := h.mq
    rw [← e, h.blk] at h1
    cases h1
  · obtain ⟨es, clock, h1, h2⟩ := h.mo
    rw [← e, h.blk] at h1
    cases h1
theorem Sm.srt (h : Sm w S p bq bo L T) : Srt L := by
  have := h.ok.sq
  rw [h.tq] at this
  unfold Srt abs at this
  rw [List.pairwise_map] at this
  exact this
theorem Sm.look (h : Sm w S p bq bo L T) (id : Int) : look T.q id = (look L id).map fun x => (x.l, x.e) := by
  rw [h.tq]
  exact look_map (fun x : Qe => (x.l, x.e)) id L
theorem Sm.len (h : Sm w S p bq bo L T) : L.length ≤ 2147483647 := by
  have := h.ok.length.1
  rw [h.tq] at this
  simpa [abs] using this
/-- what is looked up -/
def lkY (L : Mp Qe) (id : Int) : SV := match look L id with | some x => x.y | none => (none, 0, 0)
theorem WRow.not_map {w : World} {v : Value} {l : List UInt8} (h : WRow w v l) {b : Nat} {es : Array MapEntry} {c : Nat} (hb : w.heap[b]? = some (.map es c)) : v.ownBlock ≠ some b := by
  rcases h with ⟨rfl, rfl⟩ | ⟨g, off, cap, cur, rfl, hg, _⟩
  · simp [Value.ownBlock]
  · intro e
    simp [Value.ownBlock] at e
    rw [e, hb] at hg
    cases hg
theorem WRow.not_cells {w : World} {v : Value} {l : List UInt8} (h : WRow w v l) {b : Nat} {c : Array Value} {t : TypeId} (hb : w.heap[b]? = some (.cells c t (0, 0))) (ht : t ≠ 5) : v.ownBlock ≠ some b := by
  rcases h with ⟨rfl, rfl⟩ | ⟨g, off, cap, cur, rfl, hg, _⟩
  · simp [Value.ownBlock]
  · intro e
    simp [Value.ownBlock] at e
    rw [e, hb] at hg
    injection hg with hg
    injection hg with _ hg
    exact ht hg
theorem Sv.row (h : Sv w S p bq bo L T) (id : Int) : WRow w (sv (lkY L id)) (T.b id) ∧ (∀ k, (sv (lkY L id)).ownBlock = some k → S k ∧ k < w.heap.size ∧ k ≠ p ∧ k ≠ bq ∧ k ≠ bo) ∧ ∀ q ∈ L, q.1 ≠ id → ∀ k, (sv (lkY L id)).ownBlock = some k → (sv q.2.y).ownBlock ≠ some k := by
  unfold lkY St.b
  rw [h.sm.look id]
  cases hl : Ytbmaknjeflblcaa.look L id with
  | none => exact ⟨WRow.nil w, fun k hk => by simp [sv, Value.ownBlock] at hk, fun q _ _ k hk => by simp [sv, Value.ownBlock] at hk⟩
  | some x =>
    have hm := look_mem hl
    have hr := h.rw.rows _ hm
    refine ⟨hr, fun k hk => ⟨h.rw.ins _ hm k hk, hr.lt k hk, ?_, ?_, ?_⟩, fun q hq hne k hk => h.rw.apart _ hm q hq (fun e => hne e.symm) k hk⟩
    · intro e; subst e; exact hr.not_cells h.sm.blk (by decide) hk
    · intro e; subst e
      obtain ⟨es, clock, h1, h2⟩ := h.sm.mq
      exact hr.not_map h1 hk
    · intro e; subst e
      obtain ⟨es, clock, h1, h2⟩ := h.sm.mo
      exact hr.not_map h1 hk
theorem own_len {α H : Type} {R : Value → Option (DataW H × List MemPlace)} {g : α → DataW H} {M : Mp α} {b n : Nat} (h : w.ownsMap Try.prog 2 R b n (mD g M)) : w.ownsMap Try.prog 2 R b M.length (mD g M) := by
  obtain ⟨es, clock, h1, h2, h3, h4⟩ := h
  refine ⟨es, clock, h1, h2, ?_, h4⟩
  have h5 := congrArg Maps.size h4
  rw [size_mD] at h5
  simp only [Maps.size, length_read] at h5
  omega
/-- what a look-up of a queue runs to -/
theorem Sm.find (h : Sm w S p bq bo L T) {id : Int} (hi : wf64 id) : (Instr.lookup 58 (.map (some bq)) (.int .i64 id) false).run Try.prog w = .ok (qw (lkY L id) (T.e id)) w := by
  obtain ⟨v, ps, hrun, hv⟩ := h.mq.lookup law2 Try.underlying58 (zero67 w) (qR_mk (none, 0, 0) false) (key_int hi)
  rw [at_mD] at hv
  obtain ⟨c, rfl, hz⟩ := qR_inv hv
  rw [hrun]
  unfold lkY St.e
  rw [h.look id]
  cases hl : Ytbmaknjeflblcaa.look L id with
  | none =>
    rw [hl] at hz
    have := congrArg Prod.fst hz
    simp only [DataW.held.injEq] at this
    rw [← this]
    rfl
  | some x =>
    rw [hl] at hz
    have := congrArg Prod.fst hz
    simp only [qg, DataW.held.injEq] at this
    rw [← this]
    rfl
theorem Sm.find2 (h : Sm w S p bq bo L T) {id : Int} (hi : wf64 id) : (Instr.lookup 58 (.map (some bq)) (.int .i64 id) true).run Try.prog w = .ok (.tuple #[qw (lkY L id) (T.e id), .bool (T.is id)]) w := by
  obtain ⟨v, ps, hrun, hv⟩ := h.mq.look_ok law2 Try.underlying58 (zero67 w) (qR_mk (none, 0, 0) false) (key_int hi)
  rw [at_mD] at hv
  obtain ⟨c, rfl, hz⟩ := qR_inv hv
  rw [hrun, has_mD]
  unfold lkY St.e St.is
  rw [h.look id]
  cases hl : Ytbmaknjeflblcaa.look L id with
  | none =>
    rw [hl] at hz
    have := congrArg Prod.fst hz
    simp only [DataW.held.injEq] at this
    rw [← this]
    rfl
  | some x =>
    rw [hl] at hz
    have := congrArg Prod.fst hz
    simp only [qg, DataW.held.injEq] at this
    rw [← this]
    rfl
theorem Sm.over (h : Sm w S p bq bo L T) {id : Int} (hi : wf64 id) : (Instr.lookup 59 (.map (some bo)) (.int .i64 id) true).run Try.prog w = .ok (.tuple #[.agg #[], .bool (T.ov id)]) w := by
  obtain ⟨v, ps, hrun, hv⟩ := h.mo.look_ok law2 Try.underlying59 (zero62 w) (unitElem_mk (H := Value)) (key_int hi)
  obtain ⟨rfl, _⟩ := unitElem_inv hv
  rw [hrun, has_mD]
  rfl
end
end Go.Proofs.Ytbmaknjeflblcaa
