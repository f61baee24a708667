/- A map from targets to lists, and a manifest in memory. -/
import Derived.Test.YtldnibkgdpeocaaA5
import Derived.Maps.Own
import Derived.Maps.OwnOps
import Derived.Maps.OwnSet
import Derived.DeepKeys5
import Derived.Deep.WholeRow
namespace Go.Proofs.Ytldnibkgdpeocaa
open Go.RowKit Go.Maps
open Go.Shelf
set_option linter.unusedVariables false
set_option linter.unusedSimpArgs false

theorem snocRec {α : Type} {P : List α → Prop} (nil : P []) (snoc : ∀ l a, P l → P (l ++ [a])) (l : List α) : P l := by
  rw [← List.reverse_reverse l]
  induction l.reverse with
  | nil => exact nil
  | cons a r ih => rw [List.reverse_cons]; exact snoc _ _ ih
def klT (t : Tg) : Lit := .string (keyBytes [.string t.1.data.toList, .string t.2.data.toList])
theorem laid18 : laidOutB Try.prog = true := by kernel_rfl
theorem KT : Keyed Try.prog 26 := Keyed.of_law (deep_law_gate laid18 (of_decide_eq_true (by kernel_rfl)) (of_decide_eq_true (by kernel_rfl)) (by kernel_rfl) (by kernel_rfl))
theorem keyLits_struct (P : Program) (d : Nat) (t : TypeId) (fs : Array Field) (cs : List Value) (h : P.underlying t = some (.struct fs)) : P.keyLits (d + 1) t cs = if cs.length = P.cellsOf t ∧ fs.all (·.name != "_") = true then (fs.toList.mapM fun f => P.keyLits d f.type ((cs.drop f.offset).take (P.cellsOf f.type))).map List.flatten else none := by
  simp only [Program.keyLits, h]
theorem keyLits_string (P : Program) (d : Nat) (t : TypeId) (s : ByteArray) (h : P.underlying t = some .string) (hs : s.size ≤ maxLen) : P.keyLits (d + 1) t [.string s] = some [.string s.data.toList] := by
  simp only [Program.keyLits, h, hs, if_true]
theorem key_of (t : Tg) (hz : tz t) : keyOf Try.prog 26 (.agg (tgv t)) = some (klT t) := by
  obtain ⟨a, p⟩ := t
  have h1 : a.size ≤ maxLen := by have := hz.1; simp only at this; unfold maxLen; omega
  have h2 : p.size ≤ maxLen := by have := hz.2; simp only at this; unfold maxLen; omega
  unfold keyOf
  rw [Try.underlying26]
  have hf : (Try.prog.keyType 26 && (Value.agg (tgv (a, p))).formed Try.prog 26) = true := by kernel_rfl
  have ht : Try.prog.types.size + 1 = 90 + 1 + 1 := by kernel_rfl
  have hc26 : Try.prog.cellsOf 26 = 2 := by kernel_rfl
  have hc9 : Try.prog.cellsOf 9 = 1 := by kernel_rfl
  simp only [hf, if_true]
  rw [ht]
  rw [keyLits_struct _ _ _ _ _ Try.underlying26]
  have hcl : (Value.agg (tgv (a, p))).cells.toList = [.string a, .string p] := by first | rfl | simp [tgv, Value.cells]
  rw [hcl, hc26, if_pos ⟨rfl, by kernel_rfl⟩]
  have k1 := keyLits_string Try.prog 90 9 a Try.underlying9 h1
  have k2 := keyLits_string Try.prog 90 9 p Try.underlying9 h2
  simp only [List.mapM_cons, List.mapM_nil, hc9, List.drop_zero, List.drop_succ_cons, List.take_succ_cons, List.take_zero]
  rw [k1, k2]
  rfl
theorem klT_inj {t u : Tg} (ht : tz t) (hu : tz u) (h : klT t = klT u) : t = u := by
  have := KT.inj (key_of t ht) (by rw [h]; exact key_of u hu)
  obtain ⟨a, p⟩ := t
  obtain ⟨b, q⟩ := u
  simp [tgv] at this
  rw [this.1, this.2]
theorem klT_key {t : Tg} (ht : tz t) : WideAt.IsKeyLit (klT t) := KT.key (key_of t ht)

/-- an element is told as it is -/
def hd (v : Value) : Option (DataW Value × List MemPlace) := some (.held v, [])
def mT (L : List Ru) : DataW Value := L.foldl (fun D r => D.put (klT r.t) (.held (sv r.y))) (.map [])
theorem mT_snoc (L : List Ru) (r : Ru) : mT (L ++ [r]) = (mT L).put (klT r.t) (.held (sv r.y)) := by simp [mT, List.foldl_append]
def RuZ (L : List Ru) : Prop := ∀ r ∈ L, tz r.t ∧ r.l.length ≤ 8 ∧ ∀ c ∈ r.l, tz c
theorem RuZ.tidy : ∀ {L : List Ru}, RuZ L → Tidy (mT L) := by
  intro L
  induction L using snocRec with
  | nil => intro _; exact tidy_empty
  | snoc L r ih =>
    intro h
    rw [mT_snoc]
    exact (ih fun x hx => h x (by simp [hx])).put (klT_key (h r (by simp)).1) _
theorem mT_has {L : List Ru} (h : RuZ L) {t : Tg} (ht : tz t) : has (mT L) (klT t) = true ↔ ∃ r ∈ L, r.t = t := by
  induction L using snocRec with
  | nil => simp [mT, has]
  | snoc L r ih =>
    rw [mT_snoc]
    have hL : RuZ L := fun x hx => h x (by simp [hx])
    have hr := h r (by simp)
    by_cases e : r.t = t
    · rw [e, has_put_same hL.tidy.isMap (klT_key ht)]
      exact ⟨fun _ => ⟨r, by simp, e⟩, fun _ => rfl⟩
    · rw [has_put_other (fun h' => e (klT_inj hr.1 ht h'.symm)), ih hL]
      constructor
      · rintro ⟨x, hx, h1⟩
        exact ⟨x, by simp [hx], h1⟩
      · rintro ⟨x, hx, h1⟩
        rcases List.mem_append.1 hx with hx | hx
        · exact ⟨x, hx, h1⟩
        · rw [List.mem_singleton.1 hx] at h1
          exact absurd h1 e
theorem mT_size {L : List Ru} (h : RuZ L) : size (mT L) ≤ L.length ∧ (size (mT L) = L.length ↔ (L.map Ru.t).Nodup) := by
  induction L using snocRec with
  | nil => simp [mT, size]
  | snoc L r ih =>
    have hL : RuZ L := fun x hx => h x (by simp [hx])
    have hr := h r (by simp)
    obtain ⟨i1, i2⟩ := ih hL
    rw [mT_snoc, size_put hL.tidy]
    have hnd : ((L ++ [r]).map Ru.t).Nodup ↔ (L.map Ru.t).Nodup ∧ ¬ ∃ x ∈ L, x.t = r.t := by
      rw [List.map_append, List.map_singleton, List.nodup_append]
      simp
    rw [hnd]
    cases e : has (mT L) (klT r.t)
    · have hno : ¬ ∃ x ∈ L, x.t = r.t := fun hx => by rw [(mT_has hL hr.1).2 hx] at e; cases e
      simp only [List.length_append, List.length_singleton, Bool.false_eq_true, if_false]
      refine ⟨by omega, ?_⟩
      rw [← i2]
      constructor
      · intro h1
        exact ⟨by omega, hno⟩
      · intro h1
        have := h1.1
        omega
    · have hyes := (mT_has hL hr.1).1 e
      simp only [List.length_append, List.length_singleton, if_true]
      refine ⟨by omega, ?_⟩
      constructor
      · intro h1
        omega
      · intro h1
        exact absurd hyes h1.2
/-- what a target names -/
def nmR (L : List Ru) (t : Tg) : List Tg := match L.find? (fun r => decide (r.t = t)) with | some r => r.l | none => []
/-- which slice a target names -/
theorem mT_at {L : List Ru} (h : RuZ L) (hn : (L.map Ru.t).Nodup) {t : Tg} (ht : tz t) (z : DataW Value) : (mT L).atKey (klT t) z = match L.find? (fun r => decide (r.t = t)) with | some r => .held (sv r.y) | none => z := by
  induction L using snocRec with
  | nil => simp [mT, DataW.atKey]
  | snoc L r ih =>
    have hL : RuZ L := fun x hx => h x (by simp [hx])
    have hr := h r (by simp)
    rw [List.map_append, List.map_singleton, List.nodup_append] at hn
    have hi := ih hL hn.1
    rw [mT_snoc, List.find?_append]
    by_cases e : r.t = t
    · rw [e, atKey_put_same hL.tidy.isMap (klT_key ht)]
      have : L.find? (fun r => decide (r.t = t)) = none := List.find?_eq_none.2 fun x hx => by
        have := hn.2.2 x.t (List.mem_map_of_mem hx) r.t (by simp)
        rw [e] at this
        simpa using this
      rw [this]
      simp [e]
    · rw [atKey_put_other (fun h' => e (klT_inj hr.1 ht h'.symm)), hi]
      cases L.find? (fun r => decide (r.t = t)) <;> simp [e]

/-- a manifest in memory, its blocks from lo on, below hi -/
structure Mf (w : World) (lo hi g b : Nat) (L : List Ru) : Prop where
  hg : w.heap[g]? = some (.cells #[.map (some b)] 55 (0, 0))
  own : ∃ n, n ≤ L.length ∧ w.ownsMap Try.prog 26 hd b n (mT L)
  rows : ∀ r ∈ L, R ET w (sv r.y) r.l ∧ ∀ k, (sv r.y).ownBlock = some k → lo ≤ k ∧ k < hi
  z : RuZ L
  lg : lo ≤ g ∧ g < hi
  lb : lo ≤ b ∧ b < hi
  lh : hi ≤ w.heap.size
theorem Mf.keep {w w' : World} {lo hi g b : Nat} {L : List Ru} (h : Mf w lo hi g b L) (hs : w.heap.size ≤ w'.heap.size) (hk : ∀ k, lo ≤ k → k < hi → w'.heap[k]? = w.heap[k]?) : Mf w' lo hi g b L := by
  obtain ⟨h1, ⟨n, h2, es, clock, h3, h3'⟩, h4, h5, h6, h7, h8⟩ := h
  exact ⟨(hk g h6.1 h6.2).trans h1, ⟨n, h2, es, clock, (hk b h7.1 h7.2).trans h3, h3'⟩, fun r hr => ⟨(h4 r hr).1.stays fun k hk' _ => hk k ((h4 r hr).2 k hk').1 ((h4 r hr).2 k hk').2, (h4 r hr).2⟩, h5, h6, h7, Nat.le_trans h8 hs⟩
theorem Mf.below {w w' : World} {lo hi g b : Nat} {L : List Ru} (h : Mf w lo hi g b L) (hb : Below w.heap.size w w') : Mf w' lo hi g b L :=
  h.keep hb.size fun k _ hk => hb.block k (Nat.lt_of_lt_of_le hk h.lh)
theorem Mf.wide {w : World} {lo hi hi' g b : Nat} {L : List Ru} (h : Mf w lo hi g b L) (h1 : hi ≤ hi') (h2 : hi' ≤ w.heap.size) : Mf w lo hi' g b L :=
  ⟨h.hg, h.own, fun r hr => ⟨(h.rows r hr).1, fun k hk => ⟨((h.rows r hr).2 k hk).1, Nat.lt_of_lt_of_le ((h.rows r hr).2 k hk).2 h1⟩⟩, h.z, ⟨h.lg.1, Nat.lt_of_lt_of_le h.lg.2 h1⟩, ⟨h.lb.1, Nat.lt_of_lt_of_le h.lb.2 h1⟩, h2⟩
theorem ownsMap_below {w w' : World} {b n : Nat} {D : DataW Value} (h : w.ownsMap Try.prog 26 hd b n D) (hb : Below w.heap.size w w') : w'.ownsMap Try.prog 26 hd b n D := by
  obtain ⟨es, clock, h1, h2⟩ := h
  exact ⟨es, clock, (hb.block _ (heap_lt h1)).trans h1, h2⟩
theorem zero27 : ∀ w, (zeroValue 27).run Try.prog w = .ok (.slice none 0 0) w := (zero_of_info (n := 1) (by kernel_rfl)).1
/-- which slice it is -/
def yR (L : List Ru) (t : Tg) : SV := match L.find? (fun r => decide (r.t = t)) with | some r => r.y | none => (none, 0, 0)
/-- what a target names is found -/
theorem Mf.look {w : World} {lo hi g b : Nat} {L : List Ru} (h : Mf w lo hi g b L) (hn : (L.map Ru.t).Nodup) (t : Tg) (ht : tz t) : (Instr.lookup 53 (.map (some b)) (.agg (tgv t)) false).run Try.prog w = .ok (sv (yR L t)) w ∧ In ET w (sv (yR L t)) (nmR L t) := by
  obtain ⟨h1, ⟨n, h2', h2⟩, h4, h5, _, _, _⟩ := h
  have hat := fun z => mT_at h5 hn ht z
  obtain ⟨v, ps, hrun, hv⟩ := h2.lookup KT (t := 53) (e := 27) Try.underlying53 (zero27 w) (zd := .held (.slice none 0 0)) (zp := []) rfl (key_of t ht)
  unfold nmR yR
  cases hf : L.find? (fun r => decide (r.t = t)) with
  | none =>
    rw [hf] at hat
    rw [hat] at hv
    simp [hd] at hv
    exact ⟨by rw [hrun, hv.1]; rfl, .inl ⟨rfl, rfl⟩⟩
  | some r =>
    rw [hf] at hat
    rw [hat] at hv
    simp [hd] at hv
    exact ⟨by rw [hrun, hv.1], (h4 r (List.mem_of_find?_eq_some hf)).1.isIn⟩
theorem nmR_tz {L : List Ru} (h : RuZ L) (t : Tg) : ∀ y ∈ nmR L t, tz y := by
  intro y hy
  unfold nmR at hy
  cases hf : L.find? (fun r => decide (r.t = t)) with
  | none => rw [hf] at hy; simp at hy
  | some r => rw [hf] at hy; exact (h r (List.mem_of_find?_eq_some hf)).2.2 y hy
theorem nmR_len {L : List Ru} (h : RuZ L) (t : Tg) : (nmR L t).length ≤ 8 := by
  unfold nmR
  cases hf : L.find? (fun r => decide (r.t = t)) with
  | none => simp
  | some r => exact (h r (List.mem_of_find?_eq_some hf)).2.1
/-- one rule more -/
theorem Mf.put {w : World} {lo hi g b : Nat} {L : List Ru} (h : Mf w lo hi g b L) (hl : L.length ≤ 64) (r : Ru) (hr : tz r.t ∧ r.l.length ≤ 8 ∧ ∀ c ∈ r.l, tz c) (hR : R ET w (sv r.y) r.l) (hy : ∀ k, (sv r.y).ownBlock = some k → lo ≤ k ∧ k < hi) (hne : ∀ k, (sv r.y).ownBlock = some k → k ≠ b ∧ k ≠ g) (hgb : g ≠ b) :
    ∃ w', (Instr.mapUpdate 53 (.map (some b)) (.agg (tgv r.t)) (sv r.y)).run Try.prog w = .ok () w' ∧ Mf w' lo hi g b (L ++ [r]) ∧ Ks (fun k => k = b) w w' := by
  obtain ⟨h1, ⟨n, h2', h2⟩, h4, h5, h6, h7, h8⟩ := h
  obtain ⟨w', hrun, ho, hg⟩ := h2.update KT (t := 53) (e := 27) Try.underlying53 (by unfold maxLen; omega) (key_of r.t hr.1) (val := sv r.y) (d := .held (sv r.y)) (ps := []) rfl
  have hks : Ks (fun k => k = b) w w' := ⟨hg.os, hg.tape, hg.output, hg.size, fun k hk hne => hg.block k hk (fun e => hne (Option.some.inj e))⟩
  have hrb : ∀ x ∈ L, ∀ k, (sv x.y).ownBlock = some k → k ≠ b := fun x hx k hk e => by
    obtain ⟨c, hc⟩ := (h4 x hx).1.ty k hk
    obtain ⟨es, clock, hb, _⟩ := h2
    rw [e, hb] at hc
    cases hc
  refine ⟨w', hrun, ⟨?_, ⟨n + 1, by simp; omega, by rw [mT_snoc]; exact ho⟩, fun x hx => ?_, fun x hx => ?_, h6, h7, Nat.le_trans h8 hg.size⟩, hks⟩
  · rw [hks.block g (heap_lt h1) hgb]
    exact h1
  · rcases List.mem_append.1 hx with hx | hx
    · exact ⟨(h4 x hx).1.stays fun k hk hl => hks.block k hl (hrb x hx k hk), (h4 x hx).2⟩
    · rw [List.mem_singleton.1 hx]
      exact ⟨hR.stays fun k hk hl => hks.block k hl (hne k hk).1, hy⟩
  · rcases List.mem_append.1 hx with hx | hx
    · exact h5 x hx
    · rw [List.mem_singleton.1 hx]
      exact hr
theorem Mf.len {w : World} {lo hi g b : Nat} {L : List Ru} (h : Mf w lo hi g b L) : (Builtin.len_ #[53] 3 #[.map (some b)]).run Try.prog w = .ok (.int .i64 (size (mT L))) w := by
  obtain ⟨h1, ⟨n, h2', h2⟩, _⟩ := h
  exact h2.len Try.underlying53 3
end Go.Proofs.Ytldnibkgdpeocaa
