/- Several texts in one. -/
import Derived.Test.YtcadlpmopplkeaaDoorC2
import Derived.Maps.Own
import Derived.Maps.OwnOps
import Derived.Maps.OwnSet
import Derived.DeepKeys5
import Derived.Deep.WholeRow
import Derived.WideKeyEntry
/- site: a map from targets; rows of editions. -/
namespace Go.Proofs.YtcadlpmopplkeaaDoor
open Go.RowKit Go.Maps
open Go.Shelf
set_option linter.unusedVariables false
set_option linter.unusedSimpArgs false

/-- a target: its authority and its path -/
abbrev Tg := ByteArray × ByteArray
def tgv (t : Tg) : Array Value := #[.string t.1, .string t.2]
/-- both texts are not too long -/
def tz (t : Tg) : Prop := t.1.size ≤ 281474976710656 ∧ t.2.size ≤ 281474976710656
def EEd : El Ed := ⟨108, 83, 4, 56, fun e => (edv e).toList⟩
theorem okEd : EEd.Ok := ⟨Tryd.underlying108, by kernel_rfl, by decide, by decide, fun _ => rfl, fun a u hu => by
  simp only [EEd, edv, List.mem_cons, List.not_mem_nil, or_false] at hu
  rcases hu with rfl | rfl | rfl | rfl <;> rfl⟩
theorem snocRec {α : Type} {P : List α → Prop} (nil : P []) (snoc : ∀ l a, P l → P (l ++ [a])) (l : List α) : P l := by
  rw [← List.reverse_reverse l]
  induction l.reverse with
  | nil => exact nil
  | cons a r ih => rw [List.reverse_cons]; exact snoc _ _ ih
def klT (t : Tg) : Lit := .string (keyBytes [.string t.1.data.toList, .string t.2.data.toList])
theorem laid17 : laidOutB Tryd.prog = true := by kernel_rfl
theorem KT : Keyed Tryd.prog 87 := Keyed.of_law (deep_law_gate laid17 (of_decide_eq_true (by kernel_rfl)) (of_decide_eq_true (by kernel_rfl)) (by kernel_rfl) (by kernel_rfl))
theorem keyLits_struct (P : Program) (d : Nat) (t : TypeId) (fs : Array Field) (cs : List Value) (h : P.underlying t = some (.struct fs)) : P.keyLits (d + 1) t cs = if cs.length = P.cellsOf t ∧ fs.all (·.name != "_") = true then (fs.toList.mapM fun f => P.keyLits d f.type ((cs.drop f.offset).take (P.cellsOf f.type))).map List.flatten else none := by
  simp only [Program.keyLits, h]
theorem keyLits_string (P : Program) (d : Nat) (t : TypeId) (s : ByteArray) (h : P.underlying t = some .string) (hs : s.size ≤ maxLen) : P.keyLits (d + 1) t [.string s] = some [.string s.data.toList] := by
  simp only [Program.keyLits, h, hs, if_true]
theorem key_of (t : Tg) (hz : tz t) : keyOf Tryd.prog 87 (.agg (tgv t)) = some (klT t) := by
  obtain ⟨a, p⟩ := t
  have h1 : a.size ≤ maxLen := by have := hz.1; simp only at this; unfold maxLen; omega
  have h2 : p.size ≤ maxLen := by have := hz.2; simp only at this; unfold maxLen; omega
  unfold keyOf
  rw [Tryd.underlying87]
  have hf : (Tryd.prog.keyType 87 && (Value.agg (tgv (a, p))).formed Tryd.prog 87) = true := by kernel_rfl
  have ht : Tryd.prog.types.size + 1 = 180 + 1 + 1 := by kernel_rfl
  have hc87 : Tryd.prog.cellsOf 87 = 2 := by kernel_rfl
  have hc9 : Tryd.prog.cellsOf 9 = 1 := by kernel_rfl
  simp only [hf, if_true]
  rw [ht]
  rw [keyLits_struct _ _ _ _ _ Tryd.underlying87]
  have hcl : (Value.agg (tgv (a, p))).cells.toList = [.string a, .string p] := by first | rfl | simp [tgv, Value.cells]
  rw [hcl, hc87, if_pos ⟨rfl, by kernel_rfl⟩]
  have k1 := keyLits_string Tryd.prog 180 9 a Tryd.underlying9 h1
  have k2 := keyLits_string Tryd.prog 180 9 p Tryd.underlying9 h2
  simp only [List.mapM_cons, List.mapM_nil, hc9, List.drop_zero, List.drop_succ_cons, List.take_succ_cons, List.take_zero]
  rw [k1, k2]
  rfl
theorem klT_inj {t u : Tg} (ht : tz t) (hu : tz u) (h : klT t = klT u) : t = u := by
  have := KT.inj (key_of t ht) (by rw [h]; exact key_of u hu)
  obtain ⟨a, p⟩ := t
  obtain ⟨b, q⟩ := u
  simp [tgv] at this
  rw [this.1, this.2]
theorem klT_key {t : Tg} (ht : tz t) : WideAt.IsKeyLit (klT t) := KT.key (key_of t ht)

/-- an element is told as it is -/
def hd (v : Value) : Option (DataW Value × List MemPlace) := some (.held v, [])
end Go.Proofs.YtcadlpmopplkeaaDoor

/- site: which row a target has. -/
namespace Go.Proofs.YtcadlpmopplkeaaDoor
open Go.RowKit Go.Maps
set_option linter.unusedVariables false
set_option linter.unusedSimpArgs false

/-- a target, its row's place, its editions -/
structure Te where
  t : Tg
  y : SV
  l : List Ed
/-- the target's row set anew, or laid -/
def upd (L : List Te) (r : Te) : List Te := if L.any (fun x => decide (x.t = r.t)) = true then L.map (fun x => if x.t = r.t then r else x) else L ++ [r]
def fdT (L : List Te) (t : Tg) : Option Te := L.find? (fun x => decide (x.t = t))
/-- the datum tells these rows -/
structure MS (D : DataW Value) (L : List Te) : Prop where
  tidy : Tidy D
  size : size D = L.length
  at' : ∀ t, tz t → ∀ z, D.atKey (klT t) z = match fdT L t with | some r => .held (sv r.y) | none => z
theorem MS.nil : MS (.map []) [] := ⟨tidy_empty, rfl, fun t _ z => rfl⟩
theorem fdT_map {L : List Te} {r : Te} (t : Tg) (h : r.t ≠ t) : fdT (L.map fun x => if x.t = r.t then r else x) t = fdT L t := by
  unfold fdT
  induction L with
  | nil => rfl
  | cons a L ih =>
    rw [List.map_cons]
    by_cases e : a.t = r.t
    · rw [if_pos e, List.find?_cons_of_neg (by simpa using h), List.find?_cons_of_neg (by rw [e]; simpa using h)]
      exact ih
    · rw [if_neg e]
      by_cases e2 : a.t = t
      · rw [List.find?_cons_of_pos (by simpa using e2), List.find?_cons_of_pos (by simpa using e2)]
      · rw [List.find?_cons_of_neg (by simpa using e2), List.find?_cons_of_neg (by simpa using e2)]
        exact ih
theorem fdT_same {L : List Te} {r : Te} (h : L.any (fun x => decide (x.t = r.t)) = true) : fdT (L.map fun x => if x.t = r.t then r else x) r.t = some r := by
  unfold fdT
  induction L with
  | nil => simp at h
  | cons a L ih =>
    rw [List.map_cons]
    by_cases e : a.t = r.t
    · rw [if_pos e, List.find?_cons_of_pos (by simp)]
    · rw [if_neg e, List.find?_cons_of_neg (by simpa using e)]
      exact ih (by simpa [e] using h)
theorem fdT_none {L : List Te} {t : Tg} : fdT L t = none ↔ L.any (fun x => decide (x.t = t)) = false := by
  unfold fdT
  rw [List.find?_eq_none, List.any_eq_false]
theorem upd_at (L : List Te) (r : Te) (t : Tg) : fdT (upd L r) t = if r.t = t then some r else fdT L t := by
  unfold upd
  by_cases h : L.any (fun x => decide (x.t = r.t)) = true
  · rw [if_pos h]
    by_cases e : r.t = t
    · subst e; rw [if_pos rfl]; exact fdT_same h
    · rw [if_neg e]; exact fdT_map t e
  · rw [if_neg h]
    have hn : fdT L r.t = none := fdT_none.2 (by simpa using h)
    unfold fdT at hn ⊢
    rw [List.find?_append]
    by_cases e : r.t = t
    · subst e
      rw [if_pos rfl, hn]
      simp
    · rw [if_neg e]
      cases L.find? (fun x => decide (x.t = t)) <;> simp [e]
theorem upd_len (L : List Te) (r : Te) : (upd L r).length = if L.any (fun x => decide (x.t = r.t)) = true then L.length else L.length + 1 := by
  unfold upd
  split <;> simp
theorem MS.has {D : DataW Value} {L : List Te} (h : MS D L) {t : Tg} (ht : tz t) : Maps.has D (klT t) = L.any (fun x => decide (x.t = t)) := by
  have ha := h.at' t ht
  cases hf : fdT L t with
  | none =>
    rw [hf] at ha
    rw [fdT_none.1 hf]
    exact has_false_of_atKey ha
  | some r =>
    rw [hf] at ha
    have : L.any (fun x => decide (x.t = t)) = true := by
      cases e : L.any (fun x => decide (x.t = t))
      · rw [fdT_none.2 e] at hf; cases hf
      · rfl
    rw [this]
    exact has_true_of_atKey ha
/-- one row set anew, or one more -/
theorem MS.put {D : DataW Value} {L : List Te} (h : MS D L) (r : Te) (hr : tz r.t) : MS (D.put (klT r.t) (.held (sv r.y))) (upd L r) := by
  refine ⟨h.tidy.put (klT_key hr) _, ?_, fun t ht z => ?_⟩
  · rw [size_put h.tidy, h.has hr, upd_len, h.size]
  · rw [upd_at]
    by_cases e : r.t = t
    · subst e
      rw [if_pos rfl, atKey_put_same h.tidy.isMap (klT_key hr)]
    · rw [if_neg e, atKey_put_other (fun h' => e (klT_inj hr ht h'.symm)), h.at' t ht]
end Go.Proofs.YtcadlpmopplkeaaDoor

/- site: an entry taken, and stored behind an append. -/
namespace Go.Proofs.YtcadlpmopplkeaaDoor
open Go.RowKit Go.Maps
open Go.ChangeMaps Go.MapKept Go.WideShapes
set_option linter.unusedVariables false
set_option linter.unusedSimpArgs false

theorem KL : WideMaps.KeyLaw Tryd.prog 87 := deep_law_gate laid17 (of_decide_eq_true (by kernel_rfl)) (of_decide_eq_true (by kernel_rfl)) (by kernel_rfl) (by kernel_rfl)
theorem zero108 : ∀ w, (zeroValue 108).run Tryd.prog w = .ok (.slice none 0 0) w := (zero_of_info (n := 1) (by kernel_rfl)).1
theorem key_one {l : List MapEntry} (h : l.Pairwise fun x y => x.key ≠ y.key) {a b : MapEntry} (ha : a ∈ l) (hb : b ∈ l) (e : a.key = b.key) : a = b := by
  induction l with
  | nil => cases ha
  | cons c l ih =>
    rw [List.pairwise_cons] at h
    rcases List.mem_cons.1 ha with rfl | ha' <;> rcases List.mem_cons.1 hb with rfl | hb'
    · rfl
    · exact absurd e (h.1 b hb')
    · exact absurd e.symm (h.1 a ha')
    · exact ih h.2 ha' hb'
/-- 'm[t] = append(m[t], ..)': what is taken, and what the store leaves -/
theorem entry_ops {w : World} {b n : Nat} {D : DataW Value} (h : w.ownsMap Tryd.prog 87 hd b n D) (hn : n < maxLen) {L : List Te} (hM : MS D L) (t : Tg) (ht : tz t) :
    ∃ (v0 : Value) (st : Nat) (es1 : Array MapEntry) (clock1 : Nat), (Instr.mapEntry 77 (.map (some b)) (.agg (tgv t))).run Tryd.prog w = .ok (.tuple #[v0, goInt st]) (setBlock w b (.map es1 clock1)) ∧
      (v0 = match fdT L t with | some r => sv r.y | none => .slice none 0 0) ∧
      ∀ (w2 : World) (y : SV), w2.heap[b]? = some (.map es1 clock1) → ∃ w3, (Instr.entryStore 77 (.map (some b)) (goInt st) (sv y)).run Tryd.prog w2 = .ok () w3 ∧ w3.ownsMap Tryd.prog 87 hd b (n + 1) (D.put (klT t) (.held (sv y))) ∧ Ks (fun k => k = b) w2 w3 := by
  have h0 := h
  obtain ⟨es, clock, hb, F, hs, hD⟩ := h
  obtain ⟨v0, st, es1, clock1, hrun, hv, hst⟩ := WideElems.entry_then_store (R := hd) KL (t := 77) (e := 108) Tryd.underlying77 zero108 hb F (key_of t ht)
  refine ⟨v0, st, es1, clock1, hrun, ?_, fun w2 y hw2 => ?_⟩
  · have hat := hM.at' t ht
    rw [hD] at hat
    rcases fit_look false KT (t := 77) (e := 108) Tryd.underlying77 (zero108 w) hb F (key_of t ht) with ⟨_, hno, ha⟩ | ⟨e1, y1, he1, hk1, _, hR1, ha, _⟩
    · have hnone : fdT L t = none := by
        cases hf : fdT L t with
        | none => rfl
        | some r =>
          rw [hf] at hat
          have h1 := ha (.lit (.bool true))
          have h2 := hat (.lit (.bool true))
          rw [h1] at h2
          cases h2
      rw [hnone]
      rcases hv with ⟨e0, he0, hk0, _⟩ | ⟨_, hz⟩
      · exact absurd hk0 (hno e0 he0)
      · exact hz
    · rcases hv with ⟨e0, he0, hk0, hv0⟩ | ⟨hno, _⟩
      · have he : e0 = e1 := key_one ((stamped_iff es clock).1 F.stamped).2.2 he0 he1 (hk0.trans hk1.symm)
        subst he
        simp only [hd, Option.some.injEq] at hR1
        rw [← hR1] at ha
        cases hf : fdT L t with
        | none =>
          rw [hf] at hat
          have h1 := ha (.lit (.bool true))
          rw [hat] at h1
          cases h1
        | some r =>
          rw [hf] at hat
          have h2 : (DataW.held (sv r.y) : DataW Value) = .held e0.val := (hat .nil).symm.trans (ha .nil)
          rw [hv0]
          exact (DataW.held.inj h2).symm
      · exact absurd hk1 (hno e1 he1)
  · obtain ⟨es', clock', hrun2, hup⟩ := hst w2 (sv y) hw2
    obtain ⟨w', hup', ho, _⟩ := h0.update KT (t := 77) (e := 108) Tryd.underlying77 hn (key_of t ht) (val := sv y) (d := .held (sv y)) (ps := []) rfl
    rw [hup] at hup'
    injection hup' with _ hw'
    subst hw'
    obtain ⟨es2, clock2, hb2, r2⟩ := ho
    rw [heap_setBlock_same hb] at hb2
    injection hb2 with hb2
    injection hb2 with h1 h2
    subst h1 h2
    refine ⟨_, hrun2, ⟨es', clock', heap_setBlock_same hw2 _, r2⟩, ⟨rfl, rfl, rfl, by simp [setBlock], fun k _ hk => heap_setBlock_other hw2 _ hk⟩⟩
end Go.Proofs.YtcadlpmopplkeaaDoor

/- site: a site in memory; a page laid. -/
namespace Go.Proofs.YtcadlpmopplkeaaDoor
open Go.RowKit Go.Maps
open Go.ChangeMaps Go.MapKept Go.WideShapes
set_option linter.unusedVariables false
set_option linter.unusedSimpArgs false

/-- the rows of a site: its targets' editions, each in a block of its own; their choices -/
structure Sr (w : World) (lo : Nat) (L : List Te) : Prop where
  rows : ∀ r ∈ L, R EEd w (sv r.y) r.l ∧ ∀ k, (sv r.y).ownBlock = some k → lo ≤ k
  apart : ∀ r ∈ L, ∀ c ∈ L, r.t ≠ c.t → ∀ k, (sv r.y).ownBlock = some k → (sv c.y).ownBlock ≠ some k
  ch : ∀ r ∈ L, ∀ e ∈ r.l, R ECh w (sv e.y) e.l ∧ e.l ≠ [] ∧ ∀ k, (sv e.y).ownBlock = some k → lo ≤ k
  z : ∀ r ∈ L, tz r.t
theorem Sr.stays {w w' : World} {lo : Nat} {L : List Te} (h : Sr w lo L) (hk : ∀ k, k < w.heap.size → (∃ c t, w.heap[k]? = some (Obj.cells c t (0, 0))) → w'.heap[k]? = w.heap[k]?) : Sr w' lo L :=
  ⟨fun r hr => ⟨(h.rows r hr).1.stays fun k hk' hl => hk k hl (by obtain ⟨c, hc⟩ := (h.rows r hr).1.ty k hk'; exact ⟨c, _, hc⟩), (h.rows r hr).2⟩, h.apart, fun r hr e he => ⟨(h.ch r hr e he).1.stays fun k hk' hl => hk k hl (by obtain ⟨c, hc⟩ := (h.ch r hr e he).1.ty k hk'; exact ⟨c, _, hc⟩), (h.ch r hr e he).2⟩, h.z⟩
/-- a site in memory, its blocks from lo on -/
structure Si (w : World) (lo g b N : Nat) (nv : Int) (L : List Te) : Prop where
  hg : w.heap[g]? = some (.cells #[.int .i64 nv, .map (some b)] 79 (0, 0))
  own : ∃ n D, n ≤ N ∧ w.ownsMap Tryd.prog 87 hd b n D ∧ MS D L
  sr : Sr w lo L
  lg : lo ≤ g ∧ lo ≤ b
/-- between an entry's taking and its store -/
structure Mid (w : World) (lo g b N : Nat) (nv : Int) (L : List Te) (t : Tg) (st : Nat) (y0 : SV) (l0 : List Ed) : Prop where
  hg : w.heap[g]? = some (.cells #[.int .i64 nv, .map (some b)] 79 (0, 0))
  mid : ∃ n D es1 clock1, n ≤ N ∧ MS D L ∧ w.heap[b]? = some (.map es1 clock1) ∧ ∀ (w2 : World) (y : SV), w2.heap[b]? = some (.map es1 clock1) → ∃ w3, (Instr.entryStore 77 (.map (some b)) (goInt st) (sv y)).run Tryd.prog w2 = .ok () w3 ∧ w3.ownsMap Tryd.prog 87 hd b (n + 1) (D.put (klT t) (.held (sv y))) ∧ Ks (fun k => k = b) w2 w3
  sr : Sr w lo L
  lg : lo ≤ g ∧ lo ≤ b
  tz : tz t
  row : R EEd w (sv y0) l0 ∧ (∀ k, (sv y0).ownBlock = some k → lo ≤ k) ∧ (∀ r ∈ L, r.t ≠ t → ∀ k, (sv y0).ownBlock = some k → (sv r.y).ownBlock ≠ some k) ∧ ∀ e ∈ l0, R ECh w (sv e.y) e.l ∧ e.l ≠ [] ∧ ∀ k, (sv e.y).ownBlock = some k → lo ≤ k
/-- the editions of a target -/
def edL (L : List Te) (t : Tg) : List Ed := match fdT L t with | some r => r.l | none => []
def edY (L : List Te) (t : Tg) : SV := match fdT L t with | some r => r.y | none => (none, 0, 0)
theorem Si.entry {w : World} {lo g b N : Nat} {nv : Int} {L : List Te} (h : Si w lo g b N nv L) (hN : N < maxLen) (t : Tg) (ht : tz t) :
    ∃ (st : Nat) (w1 : World), (Instr.mapEntry 77 (.map (some b)) (.agg (tgv t))).run Tryd.prog w = .ok (.tuple #[sv (edY L t), goInt st]) w1 ∧ Mid w1 lo g b N nv L t st (edY L t) (edL L t) ∧ Ks (fun k => k = b) w w1 := by
  obtain ⟨n, D, hn, ho, hM⟩ := h.own
  obtain ⟨v0, st, es1, clock1, hrun, hv, hst⟩ := entry_ops ho (by omega) hM t ht
  obtain ⟨es, clock, hb, _⟩ := ho
  have hks : Ks (fun k => k = b) w (setBlock w b (.map es1 clock1)) := ⟨rfl, rfl, rfl, by simp [setBlock], fun k _ hk => heap_setBlock_other hb _ hk⟩
  have hsr : Sr (setBlock w b (.map es1 clock1)) lo L := h.sr.stays fun k hk hc => hks.block k hk fun e => by
    obtain ⟨c, t', hc⟩ := hc
    rw [e, hb] at hc
    cases hc
  have hgb : g ≠ b := fun e => by have := h.hg; rw [e, hb] at this; cases this
  refine ⟨st, _, ?_, ⟨(hks.block g (heap_lt h.hg) hgb).trans h.hg, ⟨n, D, es1, clock1, hn, hM, heap_setBlock_same hb _, hst⟩, hsr, h.lg, ht, ?_⟩, hks⟩
  · rw [hrun, hv]
    unfold edY
    cases fdT L t <;> rfl
  · unfold edY edL
    cases hf : fdT L t with
    | none => exact ⟨R.nil _ _, fun k hk => by simp [sv, Value.ownBlock] at hk, fun r _ _ k hk => by simp [sv, Value.ownBlock] at hk, fun e he => by simp at he⟩
    | some r =>
      have hm : r ∈ L := List.mem_of_find?_eq_some hf
      have hrt : r.t = t := by have := List.find?_some hf; simpa using this
      exact ⟨(hsr.rows r hm).1, (hsr.rows r hm).2, fun c hc hne k hk => h.sr.apart r hm c hc (by rw [hrt]; exact Ne.symm hne) k hk, fun e he => hsr.ch r hm e he⟩
theorem Mid.below {w w' : World} {lo g b N : Nat} {nv : Int} {L : List Te} {t : Tg} {st : Nat} {y0 : SV} {l0 : List Ed} (h : Mid w lo g b N nv L t st y0 l0) (hb : Below w.heap.size w w') : Mid w' lo g b N nv L t st y0 l0 := by
  obtain ⟨n, D, es1, clock1, h1, h2, h3, h4⟩ := h.mid
  exact ⟨(hb.block _ (heap_lt h.hg)).trans h.hg, ⟨n, D, es1, clock1, h1, h2, (hb.block _ (heap_lt h3)).trans h3, h4⟩, h.sr.stays fun k hk _ => hb.block k hk, h.lg, h.tz, h.row.1.below hb, h.row.2.1, h.row.2.2.1, fun e he => ⟨(h.row.2.2.2 e he).1.below hb, (h.row.2.2.2 e he).2⟩⟩
theorem mem_upd {L : List Te} {r x : Te} (h : x ∈ upd L r) : x = r ∨ (x ∈ L ∧ x.t ≠ r.t) := by
  unfold upd at h
  split at h
  · obtain ⟨a, ha, e⟩ := List.mem_map.1 h
    split at e
    · exact .inl e.symm
    · rename_i hne
      subst e
      exact .inr ⟨ha, hne⟩
  · rename_i hno
    rcases List.mem_append.1 h with h | h
    · refine .inr ⟨h, fun e => hno (List.any_eq_true.2 ⟨x, h, decide_eq_true e⟩)⟩
    · exact .inl (List.mem_singleton.1 h)
/-- the edition appended, the entry stored -/
theorem Mid.fin {w : World} {lo g b N : Nat} {nv : Int} {L : List Te} {t : Tg} {st : Nat} {y0 : SV} {l0 : List Ed} (h : Mid w lo g b N nv L t st y0 l0) (hlo : lo ≤ w.heap.size) (e : Ed) (x : Value) (hx : In EEd w x [e]) (he : R ECh w (sv e.y) e.l ∧ e.l ≠ [] ∧ ∀ k, (sv e.y).ownBlock = some k → lo ≤ k) (hz : (l0.length + 1) * 56 ≤ 140737488355328) :
    ∃ bs c w2 w3, (Builtin.append_ #[108, 108] 108 #[sv y0, x]).run Tryd.prog w = .ok (.slice bs (l0.length + 1) c) w2 ∧ (Instr.entryStore 77 (.map (some b)) (goInt st) (.slice bs (l0.length + 1) c)).run Tryd.prog w2 = .ok () w3 ∧ Si w3 lo g b (N + 1) nv (upd L ⟨t, (bs, l0.length + 1, c), l0 ++ [e]⟩) ∧ Below lo w w3 ∧ ∀ (k : Nat) (cc : Array Value) (tt : TypeId), w.heap[k]? = some (Obj.cells cc tt (0, 0)) → tt ≠ 83 → w2.heap[k]? = w.heap[k]? ∧ w3.heap[k]? = w.heap[k]? := by
  obtain ⟨n, D, es1, clock1, h1, h2, h3, h4⟩ := h.mid
  obtain ⟨bs, c, w2, hrun, hR, hG⟩ := app okEd w (sv y0) l0 h.row.1 x [e] hx (by simpa [EEd] using hz)
  simp only [List.length_singleton] at hrun hR hG
  have hyb : (sv y0).ownBlock ≠ some b := fun e' => by
    obtain ⟨cc, hc⟩ := h.row.1.ty b e'
    rw [h3] at hc
    cases hc
  have hyg : (sv y0).ownBlock ≠ some g := fun e' => by
    obtain ⟨cc, hc⟩ := h.row.1.ty g e'
    rw [h.hg] at hc
    injection hc with hc
    injection hc with _ hc
    simp [EEd] at hc
  obtain ⟨w3, hst, ho, hks⟩ := h4 w2 (bs, l0.length + 1, c) ((hG.block b (heap_lt h3) hyb).trans h3)
  have hb2 : w2.heap[b]? = some (.map es1 clock1) := (hG.block b (heap_lt h3) hyb).trans h3
  have hg2 : w2.heap[g]? = some (.cells #[.int .i64 nv, .map (some b)] 79 (0, 0)) := (hG.block g (heap_lt h.hg) hyg).trans h.hg
  have hgb : g ≠ b := fun e' => by rw [e', hb2] at hg2; cases hg2
  have keepC : ∀ {u : Value} {k : List Ch}, R ECh w u k → R ECh w3 u k := fun {u k} hu => by
    have hu2 : R ECh w2 u k := hu.stays fun i hi hl => hG.block i hl fun e' => by
      obtain ⟨c1, hc1⟩ := hu.ty i hi
      obtain ⟨c2, hc2⟩ := h.row.1.ty i e'
      rw [hc1] at hc2
      injection hc2 with hc2
      injection hc2 with _ hc2
      simp [EEd, ECh] at hc2
    exact hu2.stays fun i hi hl => hks.block i hl fun e' => by
      obtain ⟨c1, hc1⟩ := hu2.ty i hi
      rw [e', hb2] at hc1
      cases hc1
  have keepE : ∀ {u : Value} {k : List Ed}, R EEd w2 u k → R EEd w3 u k := fun {u k} hu => hu.stays fun i hi hl => hks.block i hl fun e' => by
    obtain ⟨c1, hc1⟩ := hu.ty i hi
    rw [e', hb2] at hc1
    cases hc1
  have hnew : ∀ k, (Value.slice bs (l0.length + 1) c).ownBlock = some k → lo ≤ k := fun k hk => by
    rcases hG.own k hk with h' | h'
    · exact h.row.2.1 k h'
    · omega
  refine ⟨bs, c, w2, w3, hrun, hst, ⟨(hks.block g (heap_lt hg2) hgb).trans hg2, ⟨n + 1, _, by omega, ho, h2.put ⟨t, (bs, l0.length + 1, c), l0 ++ [e]⟩ h.tz⟩, ⟨fun r hr => ?_, fun r hr q hq hne k hk => ?_, fun r hr a ha => ?_, fun r hr => ?_⟩, h.lg⟩, ?_, fun k cc tt hk htt => ?_⟩
  · rcases mem_upd hr with rfl | ⟨hr, hne⟩
    · exact ⟨keepE hR, hnew⟩
    · refine ⟨keepE ((h.sr.rows r hr).1.stays fun k hk hl => hG.block k hl fun e' => h.row.2.2.1 r hr hne k e' hk), (h.sr.rows r hr).2⟩
  · rcases mem_upd hr with rfl | ⟨hr, hne1⟩ <;> rcases mem_upd hq with rfl | ⟨hq, hne2⟩
    · exact absurd rfl hne
    · rcases hG.own k hk with h' | h'
      · exact h.row.2.2.1 q hq hne2 k h'
      · exact fun e' => by have := (h.sr.rows q hq).1.lt k e'; omega
    · intro e'
      rcases hG.own k e' with h' | h'
      · exact h.row.2.2.1 r hr hne1 k h' hk
      · have := (h.sr.rows r hr).1.lt k hk; omega
    · exact h.sr.apart r hr q hq hne k hk
  · rcases mem_upd hr with rfl | ⟨hr, hne⟩
    · rcases List.mem_append.1 ha with ha | ha
      · exact ⟨keepC (h.row.2.2.2 a ha).1, (h.row.2.2.2 a ha).2⟩
      · rw [List.mem_singleton.1 ha]
        exact ⟨keepC he.1, he.2⟩
    · exact ⟨keepC (h.sr.ch r hr a ha).1, (h.sr.ch r hr a ha).2⟩
  · rcases mem_upd hr with rfl | ⟨hr, hne⟩
    · exact h.tz
    · exact h.sr.z r hr
  · exact (hG.belowB hlo h.row.2.1).trans (hks.below (Nat.le_trans hlo hG.size) fun i hi e' => by have := h.lg.2; omega)
  · have a1 : w2.heap[k]? = w.heap[k]? := hG.block k (heap_lt hk) fun e' => by
      obtain ⟨c1, hc1⟩ := h.row.1.ty k e'
      rw [hk] at hc1
      injection hc1 with hc1
      injection hc1 with _ hc1
      exact htt hc1
    have hkb : k ≠ b := fun e' => by rw [e', h3] at hk; cases hk
    exact ⟨a1, (hks.block k (by have := heap_lt hk; have := hG.size; omega) hkb).trans a1⟩
theorem Si.below {w w' : World} {lo g b N : Nat} {nv : Int} {L : List Te} (h : Si w lo g b N nv L) (hb : Below w.heap.size w w') : Si w' lo g b N nv L := by
  obtain ⟨n, D, h1, ⟨es, clock, h2, h2'⟩, h3⟩ := h.own
  exact ⟨(hb.block _ (heap_lt h.hg)).trans h.hg, ⟨n, D, h1, ⟨es, clock, (hb.block _ (heap_lt h2)).trans h2, h2'⟩, h3⟩, h.sr.stays fun k hk _ => hb.block k hk, h.lg⟩
theorem Si.map {w : World} {lo g b N : Nat} {nv : Int} {L : List Te} (h : Si w lo g b N nv L) : ∃ es clock, w.heap[b]? = some (.map es clock) := by
  obtain ⟨n, D, h1, ⟨es, clock, h2, h2'⟩, h3⟩ := h.own
  exact ⟨es, clock, h2⟩
end Go.Proofs.YtcadlpmopplkeaaDoor

