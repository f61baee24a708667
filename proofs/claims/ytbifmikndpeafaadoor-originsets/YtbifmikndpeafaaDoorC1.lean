/- A map from origins to places, and a set in memory. -/
import Derived.Test.YtbifmikndpeafaaDoorB6
import Derived.Maps.Own
import Derived.Maps.OwnOps
import Derived.Maps.OwnSet
import Derived.Maps.Range
import Derived.Maps.RangeWalk
import Derived.DeepKeys5
import Derived.Deep.WholeRow
namespace Go.Proofs.YtbifmikndpeafaaDoor
open Go.RowKit Go.Maps
set_option linter.unusedVariables false
set_option linter.unusedSimpArgs false

theorem snocRec {α : Type} {P : List α → Prop} (nil : P []) (snoc : ∀ l a, P l → P (l ++ [a])) (l : List α) : P l := by
  rw [← List.reverse_reverse l]
  induction l.reverse with
  | nil => exact nil
  | cons a r ih => rw [List.reverse_cons]; exact snoc _ _ ih
/-- an origin that can be -/
def ow (o : Og) : Prop := oz o ∧ -9223372036854775808 ≤ o.p ∧ o.p ≤ 9223372036854775807
theorem rt_ow {o : Og} (h : rtB o = true) : ow o := by
  obtain ⟨h1, h2, h3, h4⟩ := rtB_iff.1 h
  have := usP_size h1
  have := host_size h2
  exact ⟨⟨by omega, by omega⟩, by omega, by omega⟩
theorem og0_ow : ow og0 := ⟨⟨by decide, by decide⟩, by decide, by decide⟩
def klO (o : Og) : Lit := .string (keyBytes [.string o.s.data.toList, .string o.h.data.toList, .int .i64 o.p])
theorem laid15 : laidOutB Tryd.prog = true := by kernel_rfl
theorem KO : Keyed Tryd.prog 23 := Keyed.of_law (deep_law_gate laid15 (of_decide_eq_true (by kernel_rfl)) (of_decide_eq_true (by kernel_rfl)) (by kernel_rfl) (by kernel_rfl))
theorem keyLits_struct (P : Program) (d : Nat) (t : TypeId) (fs : Array Field) (cs : List Value) (h : P.underlying t = some (.struct fs)) : P.keyLits (d + 1) t cs = if cs.length = P.cellsOf t ∧ fs.all (·.name != "_") = true then (fs.toList.mapM fun f => P.keyLits d f.type ((cs.drop f.offset).take (P.cellsOf f.type))).map List.flatten else none := by
  simp only [Program.keyLits, h]
theorem keyLits_string (P : Program) (d : Nat) (t : TypeId) (s : ByteArray) (h : P.underlying t = some .string) (hs : s.size ≤ maxLen) : P.keyLits (d + 1) t [.string s] = some [.string s.data.toList] := by
  simp only [Program.keyLits, h, hs, if_true]
theorem keyLits_int (P : Program) (d : Nat) (t : TypeId) (n : Int) (h : P.underlying t = some (.int .i64)) (hs : (Lit.int .i64 n).wf = true) : P.keyLits (d + 1) t [.int .i64 n] = some [.int .i64 n] := by
  simp only [Program.keyLits, h, hs]
  simp
theorem key_of (o : Og) (hz : ow o) : keyOf Tryd.prog 23 (.agg (ogv o)) = some (klO o) := by
  obtain ⟨a, p, n⟩ := o
  obtain ⟨⟨z1, z2⟩, z3, z4⟩ := hz
  simp only at z1 z2 z3 z4
  have h1 : a.size ≤ maxLen := by unfold maxLen; omega
  have h2 : p.size ≤ maxLen := by unfold maxLen; omega
  have h3 : (Lit.int .i64 n).wf = true := by
    simp [Lit.wf]
    have e1 : IntKind.i64.min = -9223372036854775808 := by decide
    have e2 : IntKind.i64.max = 9223372036854775807 := by decide
    first | (rw [e1]; omega) | (rw [e1, e2]; omega) | omega
  unfold keyOf
  rw [Tryd.underlying23]
  have hf : (Tryd.prog.keyType 23 && (Value.agg (ogv ⟨a, p, n⟩)).formed Tryd.prog 23) = true := by kernel_rfl
  have ht : Tryd.prog.types.size + 1 = 119 + 1 + 1 := by kernel_rfl
  have hc23 : Tryd.prog.cellsOf 23 = 3 := by kernel_rfl
  have hc9 : Tryd.prog.cellsOf 9 = 1 := by kernel_rfl
  have hc3 : Tryd.prog.cellsOf 3 = 1 := by kernel_rfl
  simp only [hf, if_true]
  rw [ht]
  rw [keyLits_struct _ _ _ _ _ Tryd.underlying23]
  have hcl : (Value.agg (ogv ⟨a, p, n⟩)).cells.toList = [.string a, .string p, .int .i64 n] := by first | rfl | simp [ogv, Value.cells]
  rw [hcl, hc23, if_pos ⟨rfl, by kernel_rfl⟩]
  have k1 := keyLits_string Tryd.prog 119 9 a Tryd.underlying9 h1
  have k2 := keyLits_string Tryd.prog 119 9 p Tryd.underlying9 h2
  have k3 := keyLits_int Tryd.prog 119 3 n Tryd.underlying3 h3
  simp only [List.mapM_cons, List.mapM_nil, hc9, hc3, List.drop_zero, List.drop_succ_cons, List.take_succ_cons, List.take_zero]
  rw [k1, k2, k3]
  rfl
theorem klO_inj {t u : Og} (ht : ow t) (hu : ow u) (h : klO t = klO u) : t = u := by
  have := KO.inj (key_of t ht) (by rw [h]; exact key_of u hu)
  obtain ⟨a, p, n⟩ := t
  obtain ⟨b, q, m⟩ := u
  simp [ogv] at this
  rw [this.1, this.2.1, this.2.2]
theorem klO_key {t : Og} (ht : ow t) : WideAt.IsKeyLit (klO t) := KO.key (key_of t ht)
/-- an element is told as it is -/
def hd (v : Value) : Option (DataW Value × List MemPlace) := some (.held v, [])
/-- each origin's last place -/
def mFrom : Nat → List Og → DataW Value → DataW Value
  | _, [], D => D
  | k, o :: r, D => mFrom (k + 1) r (D.put (klO o) (.held (.int .i64 (k : Int))))
def mO (L : List Og) : DataW Value := mFrom 0 L (.map [])
theorem mFrom_app (L M : List Og) : ∀ (k : Nat) (D : DataW Value), mFrom k (L ++ M) D = mFrom (k + L.length) M (mFrom k L D) := by
  induction L with
  | nil => intro k D; simp [mFrom]
  | cons o r ih => intro k D; simp only [List.cons_append, mFrom, ih, List.length_cons]; congr 1; omega
theorem mO_snoc (L : List Og) (o : Og) : mO (L ++ [o]) = (mO L).put (klO o) (.held (.int .i64 (L.length : Int))) := by
  unfold mO
  rw [mFrom_app]
  simp [mFrom]
def OgZ (L : List Og) : Prop := ∀ o ∈ L, ow o
theorem OgZ.tidy : ∀ {L : List Og}, OgZ L → Tidy (mO L) := by
  intro L
  induction L using snocRec with
  | nil => intro _; exact tidy_empty
  | snoc L r ih =>
    intro h
    rw [mO_snoc]
    exact (ih fun x hx => h x (by simp [hx])).put (klO_key (h r (by simp))) _
theorem mO_key {L : List Og} (h : OgZ L) {kl : Lit} : has (mO L) kl = true → ∃ o ∈ L, kl = klO o := by
  induction L using snocRec with
  | nil => simp [mO, mFrom, has]
  | snoc L r ih =>
    rw [mO_snoc]
    intro hh
    by_cases e : kl = klO r
    · exact ⟨r, by simp, e⟩
    · rw [has_put_other e] at hh
      obtain ⟨o, h1, h2⟩ := ih (fun x hx => h x (by simp [hx])) hh
      exact ⟨o, by simp [h1], h2⟩
theorem mO_has {L : List Og} (h : OgZ L) {t : Og} (ht : ow t) : has (mO L) (klO t) = true ↔ t ∈ L := by
  induction L using snocRec with
  | nil => simp [mO, mFrom, has]
  | snoc L r ih =>
    rw [mO_snoc]
    have hL : OgZ L := fun x hx => h x (by simp [hx])
    have hr := h r (by simp)
    by_cases e : r = t
    · subst e
      rw [has_put_same hL.tidy.isMap (klO_key ht)]
      simp
    · rw [has_put_other (fun h' => e (klO_inj hr ht h'.symm)), ih hL]
      simp [Ne.symm e]
theorem mO_size {L : List Og} (h : OgZ L) : size (mO L) ≤ L.length ∧ (size (mO L) = L.length ↔ L.Nodup) := by
  induction L using snocRec with
  | nil => simp [mO, mFrom, size]
  | snoc L r ih =>
    have hL : OgZ L := fun x hx => h x (by simp [hx])
    have hr := h r (by simp)
    obtain ⟨i1, i2⟩ := ih hL
    rw [mO_snoc, size_put hL.tidy]
    have hnd : (L ++ [r]).Nodup ↔ L.Nodup ∧ ¬ r ∈ L := by
      rw [List.nodup_append]
      simp
      intro _
      exact ⟨fun h1 h2 => h1 r h2 rfl, fun h1 a ha e => h1 (e ▸ ha)⟩
    rw [hnd]
    cases e : has (mO L) (klO r)
    · have hno : ¬ r ∈ L := fun hx => by rw [(mO_has hL hr).2 hx] at e; cases e
      simp only [List.length_append, List.length_singleton, Bool.false_eq_true, if_false]
      refine ⟨by omega, ?_⟩
      rw [← i2]
      constructor
      · intro h1
        exact ⟨by omega, hno⟩
      · intro h1
        have := h1.1
        omega
    · have hyes := (mO_has hL hr).1 e
      simp only [List.length_append, List.length_singleton, if_true]
      refine ⟨by omega, ?_⟩
      constructor
      · intro h1
        omega
      · intro h1
        exact absurd hyes h1.2
theorem mO_at {L : List Og} (h : OgZ L) (hn : L.Nodup) (i : Nat) (hi : i < L.length) (z : DataW Value) : (mO L).atKey (klO L[i]) z = .held (.int .i64 (i : Int)) := by
  induction L using snocRec generalizing i with
  | nil => simp at hi
  | snoc L r ih =>
    have hL : OgZ L := fun x hx => h x (by simp [hx])
    have hr := h r (by simp)
    rw [List.nodup_append] at hn
    rw [mO_snoc]
    by_cases e : i < L.length
    · have he : (L ++ [r])[i] = L[i] := List.getElem_append_left e
      rw [he, atKey_put_other (fun h' => hn.2.2 _ (List.getElem_mem e) r (by simp) (klO_inj (hL _ (List.getElem_mem e)) hr h'))]
      exact ih hL hn.1 i e
    · have hi2 : i = L.length := by simp at hi; omega
      subst hi2
      have he : (L ++ [r])[L.length] = r := by simp
      rw [he, atKey_put_same hL.tidy.isMap (klO_key hr)]

/-- a set in memory, its blocks from lo on -/
structure Se (w : World) (lo p b : Nat) (L : List Og) : Prop where
  hp : w.heap[p]? = some (.cells #[.map (some b)] 62 (0, 0))
  own : ∃ n, n ≤ L.length ∧ w.ownsMap Tryd.prog 23 hd b n (mO L)
  rt : ∀ o ∈ L, rtB o = true
  nd : L.Nodup
  len : L.length ≤ 16
  lp : lo ≤ p
  lb : lo ≤ b
theorem Se.oz {w : World} {lo p b : Nat} {L : List Og} (h : Se w lo p b L) : OgZ L := fun o ho => rt_ow (h.rt o ho)
theorem ownsMap_keep {w w' : World} {b n : Nat} {D : DataW Value} (h : w.ownsMap Tryd.prog 23 hd b n D) (hb : w'.heap[b]? = w.heap[b]?) : w'.ownsMap Tryd.prog 23 hd b n D := by
  obtain ⟨es, clock, h1, h2⟩ := h
  exact ⟨es, clock, hb.trans h1, h2⟩
theorem Se.lt {w : World} {lo p b : Nat} {L : List Og} (h : Se w lo p b L) : p < w.heap.size ∧ b < w.heap.size := by
  obtain ⟨n, _, ho⟩ := h.own
  exact ⟨heap_lt h.hp, ho.lt⟩
theorem Se.keep {w w' : World} {lo p b : Nat} {L : List Og} (h : Se w lo p b L) (hk : ∀ k, lo ≤ k → k < w.heap.size → w'.heap[k]? = w.heap[k]?) : Se w' lo p b L := by
  have hl := h.lt
  obtain ⟨n, h1, h2⟩ := h.own
  exact ⟨(hk p h.lp hl.1).trans h.hp, ⟨n, h1, ownsMap_keep h2 (hk b h.lb hl.2)⟩, h.rt, h.nd, h.len, h.lp, h.lb⟩
theorem Se.below {w w' : World} {lo p b : Nat} {L : List Og} (h : Se w lo p b L) (hb : Below w.heap.size w w') : Se w' lo p b L := h.keep fun k _ hk => hb.block k hk
theorem zero3 : ∀ w, (zeroValue 3).run Tryd.prog w = .ok (.int .i64 0) w := (zero_of_info (n := 1) (by kernel_rfl)).1
theorem Se.look {w : World} {lo p b : Nat} {L : List Og} (h : Se w lo p b L) (o : Og) (ho : ow o) : ∃ v, (Instr.lookup 60 (.map (some b)) (.agg (ogv o)) true).run Tryd.prog w = .ok (.tuple #[v, .bool (has (mO L) (klO o))]) w := by
  obtain ⟨n, h1, h2⟩ := h.own
  obtain ⟨v, ps, hrun, hv⟩ := h2.look_ok KO (t := 60) (e := 3) Tryd.underlying60 (zero3 w) (zd := .held (.int .i64 0)) (zp := []) rfl (key_of o ho)
  exact ⟨v, hrun⟩
end Go.Proofs.YtbifmikndpeafaaDoor
