/- What is told, in memory: a row of frames and faults. -/
import Derived.Test.YtmhbaaemihljjaaDoorN1
namespace Go.Proofs.YtmhbaaemihljjaaDoor
open Go.RowKit
set_option linter.unusedVariables false
set_option linter.unusedSimpArgs false

theorem info71 : (Tryd.prog.info? 71).map (fun i => (i.zero, i.size, i.bytes)) = some (some (.agg #[.int .i64 0, .int .i64 0, .int .i64 0, .string ⟨#[]⟩, .int .i64 0, .int .i64 0, .bool false, .int .i64 0, .int .i64 0, .int .i64 0, .slice none 0 0, .int .i64 0, .int .i64 0]), 13, 128) := by kernel_rfl

/-- one that is told, as it lies there -/
structure Te where
  f : Fr
  pb : Option Addr
  pl : Nat
  pc : Nat
  c : Int
  x : Int

def tcell (t : Te) : List Value := [.int .i64 t.f.ty, .int .i64 t.f.fl, .int .i64 t.f.st, .string t.f.data, .int .i64 t.f.pad, .int .i64 t.f.dep, .bool t.f.excl, .int .i64 t.f.wt, .int .i64 t.f.code, .int .i64 t.f.last, .slice t.pb t.pl t.pc, .int .i64 t.c, .int .i64 t.x]
def tcells (l : List Te) : List Value := l.flatMap tcell
theorem tcells_append (a b : List Te) : tcells (a ++ b) = tcells a ++ tcells b := by simp [tcells]
theorem tcells_length (l : List Te) : (tcells l).length = l.length * 13 := by
  induction l with
  | nil => rfl
  | cons a l ih =>
    rw [show tcells (a :: l) = tcell a ++ tcells l from rfl, List.length_append, ih, List.length_cons]
    show 13 + _ = _
    omega
theorem tcells_get (l : List Te) (i j : Nat) (hi : i < l.length) (hj : j < 13) : (tcells l)[i * 13 + j]? = (tcell l[i])[j]? := by
  induction l generalizing i with
  | nil => simp at hi
  | cons a l ih =>
    rw [show tcells (a :: l) = tcell a ++ tcells l from rfl]
    have hl : (tcell a).length = 13 := rfl
    cases i with
    | zero =>
      rw [List.getElem?_append_left (by rw [hl]; omega), Nat.zero_mul, Nat.zero_add]
      rfl
    | succ i =>
      rw [List.getElem?_append_right (by rw [hl]; omega), hl, show (i + 1) * 13 + j - 13 = i * 13 + j by omega, ih i (by simpa using hi)]
      rfl

/-- The same is told. -/
def Says (W : World) (t : Te) (s : Tl) : Prop := t.f = s.1.1 ∧ t.c = s.2.1 ∧ t.x = s.2.2 ∧ PRow W (.slice t.pb t.pl t.pc) s.1.2
def SaysAll (W : World) : List Te → List Tl → Prop
  | [], [] => True
  | t :: l, s :: r => Says W t s ∧ SaysAll W l r
  | [], _ :: _ => False
  | _ :: _, [] => False
theorem SaysAll.nil {W : World} : SaysAll W [] [] := True.intro
theorem SaysAll.cons {W : World} {t : Te} {s : Tl} {l : List Te} {r : List Tl} (h : Says W t s) (k : SaysAll W l r) : SaysAll W (t :: l) (s :: r) := ⟨h, k⟩
theorem SaysAll.length {W : World} : ∀ {l : List Te} {r : List Tl}, SaysAll W l r → l.length = r.length
  | [], [], _ => rfl
  | _ :: _, _ :: _, h => congrArg (· + 1) (SaysAll.length h.2)
  | [], _ :: _, h => False.elim h
  | _ :: _, [], h => False.elim h
theorem SaysAll.kt {W W' : World} : ∀ {l : List Te} {r : List Tl}, SaysAll W l r → (∀ (b : Option Addr) (n c : Nat) (ps : List (Int × Int)), PRow W (.slice b n c) ps → PRow W' (.slice b n c) ps) → SaysAll W' l r
  | [], [], _, _ => SaysAll.nil
  | _ :: _, _ :: _, h, hk => SaysAll.cons ⟨h.1.1, h.1.2.1, h.1.2.2.1, hk _ _ _ _ h.1.2.2.2⟩ (SaysAll.kt h.2 hk)
  | [], _ :: _, h, _ => False.elim h
  | _ :: _, [], h, _ => False.elim h
theorem SaysAll.snoc {W : World} : ∀ {l : List Te} {r : List Tl}, SaysAll W l r → ∀ {t : Te} {s : Tl}, Says W t s → SaysAll W (l ++ [t]) (r ++ [s])
  | [], [], _, _, _, ht => SaysAll.cons ht SaysAll.nil
  | _ :: _, _ :: _, h, _, _, ht => SaysAll.cons h.1 (SaysAll.snoc h.2 ht)
  | [], _ :: _, h, _, _, _ => False.elim h
  | _ :: _, [], h, _, _, _ => False.elim h
theorem SaysAll.get {W : World} : ∀ {l : List Te} {r : List Tl}, SaysAll W l r → ∀ (i : Nat) (hi : i < l.length) (hj : i < r.length), Says W l[i] r[i]
  | [], [], _, _, hi, _ => absurd hi (by simp)
  | _ :: _, _ :: _, h, 0, _, _ => h.1
  | _ :: _, _ :: _, h, i + 1, hi, hj => SaysAll.get h.2 i (by simpa using hi) (by simpa using hj)
  | [], _ :: _, h, _, _, _ => False.elim h
  | _ :: _, [], h, _, _, _ => False.elim h

/-- The slice holds what is told. -/
def TRow (W : World) (v : Value) (ts : List Tl) : Prop := ∃ l : List Te, W.ownsRow 0 71 13 v ts.length (tcells l) ∧ SaysAll W l ts

theorem TRow.nil (W : World) : TRow W (.slice none 0 0) [] := ⟨[], World.ownsRow_nil W 0 71 13, .nil⟩
theorem TRow.slice {W : World} {v : Value} {ts : List Tl} (h : TRow W v ts) : ∃ base cap, v = .slice base ts.length cap := by
  obtain ⟨l, h, _⟩ := h
  rcases h.2 with ⟨rfl, hn⟩ | ⟨g, cap, cur, rfl, _⟩
  · exact ⟨none, 0, by rw [hn]⟩
  · exact ⟨_, cap, rfl⟩
theorem TRow.type {W : World} {v : Value} {ts : List Tl} (h : TRow W v ts) (k : Nat) (hk : v.ownBlock = some k) : ∃ cur, W.heap[k]? = some (.cells cur 71 (0, 0)) := by
  obtain ⟨l, h, _⟩ := h
  rcases h.2 with ⟨e, _⟩ | ⟨g, cap, cur, e, _, hg, _⟩
  · rw [e] at hk; simp [Value.ownBlock] at hk
  · rw [e] at hk
    simp [Value.ownBlock] at hk
    subst hk
    exact ⟨cur, hg⟩

/-- What is no feed, no row of bytes and not that row is as it was. -/
def Ku (o : Option Nat) (W W' : World) : Prop := ∀ (k : Nat) (cs : Array Value) (t : TypeId), W.heap[k]? = some (.cells cs t (0, 0)) → t ≠ 69 → t ≠ 5 → o ≠ some k → W'.heap[k]? = some (.cells cs t (0, 0))
theorem Ku.of_kt {o : Option Nat} {W W' : World} (h : Kt W W') : Ku o W W' := fun k cs t hk h1 h2 _ => h k cs t hk h1 h2
theorem Ku.box {o : Option Nat} {W W' : World} (h : Ku o W W') {a : Nat} {cs : Array Value} (hf : W.heap[a]? = some (.cells cs 30 (0, 0))) (hne : o ≠ some a) : W'.heap[a]? = some (.cells cs 30 (0, 0)) := h a _ 30 hf (by decide) (by decide) hne

theorem TRow.same {W W' : World} {v : Value} {ts : List Tl} (h : TRow W v ts) (h1 : ∀ k, v.ownBlock = some k → W'.heap[k]? = W.heap[k]?) (h2 : ∀ (b : Option Addr) (n c : Nat) (ps : List (Int × Int)), PRow W (.slice b n c) ps → PRow W' (.slice b n c) ps) : TRow W' v ts := by
  obtain ⟨l, ho, hs⟩ := h
  refine ⟨l, ⟨ho.1, ?_⟩, hs.kt h2⟩
  rcases ho.2 with hn | ⟨g, cap, cur, rfl, hb, hg, rest⟩
  · exact .inl hn
  · exact .inr ⟨g, cap, cur, rfl, hb, (h1 g rfl).trans hg, rest⟩
theorem TRow.kt {W W' : World} {v : Value} {ts : List Tl} (h : TRow W v ts) (hk : Kt W W') : TRow W' v ts :=
  h.same (fun k hk' => by obtain ⟨cur, hc⟩ := h.type k hk'; rw [hk k cur 71 hc (by decide) (by decide), hc]) (fun _ _ _ _ hp => hk.prow hp)
theorem TRow.ku {o : Option Nat} {W W' : World} {v : Value} {ts : List Tl} (h : TRow W v ts) (hk : Ku o W W') (hne : ∀ k, v.ownBlock = some k → o ≠ some k) (ho : ∀ k, o = some k → ∃ cur, W.heap[k]? = some (.cells cur 71 (0, 0))) : TRow W' v ts :=
  h.same (fun k hk' => by obtain ⟨cur, hc⟩ := h.type k hk'; rw [hk k cur 71 hc (by decide) (by decide) (hne k hk'), hc]) (fun _ _ _ _ hp => hp.below fun k hk' _ => by
    obtain ⟨cur, hc⟩ := hp.type k hk'
    rw [hk k cur 49 hc (by decide) (by decide) (fun e => by obtain ⟨cur', hc'⟩ := ho k e; rw [hc] at hc'; simp at hc'), hc])

/-- append of one that is told, which lies by itself in block B -/
theorem trow_append (w : World) (v : Value) (ts : List Tl) (hR : TRow w v ts) (B : Nat) (t : Te) (s : Tl) (hs : Says w t s) (hc : w.heap[B]? = some (.cells (tcell t).toArray 71 (0, 0))) (hB : v.ownBlock ≠ some B)
    (hlen : (ts.length + 1) * 128 ≤ 140737488355328) :
    ∃ base cap w', (Builtin.append_ #[43, 43] 43 #[v, .slice (some ⟨B, 0, none⟩) 1 1]).run Tryd.prog w = .ok (.slice base (ts.length + 1) cap) w' ∧ TRow w' (.slice base (ts.length + 1) cap) (ts ++ [s]) ∧ Gr w w' v (.slice base (ts.length + 1) cap) := by
  obtain ⟨i0, hi0, hz0, hz1, hz2⟩ := info_parts info71
  have hR0 := hR
  obtain ⟨l, ho0, hsl⟩ := hR
  have hll := hsl.length
  have hcell : ∀ j u, (tcell t)[j]? = some u → w.cell? ((⟨B, 0, none⟩ : Addr).add j) = some u := by
    intro j u hj
    rw [Addr.add_lit, cell_of_row _ _ _ _ _ _ hc, Nat.zero_add]
    simpa using hj
  have hone : ∀ u ∈ tcell t, u.oneCell' = true := by simp [tcell, Value.oneCell']
  obtain ⟨v', w', hrun, ho, hg, hnil⟩ := run_append_own (P := Tryd.prog) w 0 43 43 71 i0 _ 13 128 Tryd.underlying43 hi0 hz0 hz1 hz2 rfl (by omega) v ts.length (tcells l) ho0 ⟨B, 0, none⟩ 1 1 (tcell t) rfl hcell hone (by unfold maxLen; omega) (by omega) (Nat.zero_le _)
  have hown : ∀ k, v'.ownBlock = some k → v.ownBlock = some k ∨ w.heap.size ≤ k := by
    intro k hk
    rcases ho0.2 with ⟨rfl, h0⟩ | ⟨g, cap, cur, rfl, _, hgg, hnc, _, hcs, _⟩
    · have hr := run_append_nil (P := Tryd.prog) w 43 43 71 i0 _ Tryd.underlying43 hi0 hz0 ⟨B, 0, none⟩ 1 1 (tcell t) (by rw [hz1]; rfl) hcell (by omega) (by omega) (by rw [hz2]; omega)
      rw [hrun] at hr
      injection hr with hr _
      subst hr
      simp [Value.ownBlock] at hk
      exact .inr (by omega)
    · by_cases hroom : ts.length + 1 ≤ cap
      · have hr := run_append_room (P := Tryd.prog) w 43 43 71 i0 Tryd.underlying43 hi0 g ts.length cap cur hgg ⟨B, 0, none⟩ 1 1 (tcell t) (by rw [hz1]; rfl) hcell hone hroom (by rw [hcs, hz1]; show _ + 13 ≤ _; omega)
        rw [hrun] at hr
        injection hr with hr _
        subst hr
        exact .inl hk
      · have hr := run_append_grow (P := Tryd.prog) w 43 43 71 i0 _ Tryd.underlying43 hi0 hz0 ⟨g, 0, none⟩ ts.length cap (tcells l) (by rw [tcells_length, hz1, hll]) (World.ownsRow.cells ho0 (g := g) rfl) ⟨B, 0, none⟩ 1 1 (tcell t) (by rw [hz1]; rfl) hcell (by omega) (by omega) (growslice_fits (by omega) (by rw [hz2]; omega))
        rw [hrun] at hr
        injection hr with hr _
        subst hr
        simp [Value.ownBlock] at hk
        exact .inr (by omega)
  have hgr : Gr w w' v v' := ⟨hg.os, hg.tape, hg.output, hg.size, fun k hk hne => hg.block k hk (fun e => hne e.symm), hown⟩
  have hprow : ∀ (b : Option Addr) (n c : Nat) (ps : List (Int × Int)), PRow w (.slice b n c) ps → PRow w' (.slice b n c) ps := fun b n c ps hp => hp.below fun k hk hlt => hgr.block k hlt (fun e => by
    obtain ⟨cur, hc1⟩ := hp.type k hk
    obtain ⟨cur', hc2⟩ := hR0.type k e
    rw [hc1] at hc2
    simp at hc2)
  have hT : TRow w' v' (ts ++ [s]) := by
    refine ⟨l ++ [t], ?_, (hsl.kt hprow).snoc ⟨hs.1, hs.2.1, hs.2.2.1, hprow _ _ _ _ hs.2.2.2⟩⟩
    rw [tcells_append, List.length_append]
    have : tcells [t] = tcell t := by simp [tcells]
    rw [this]
    exact ho
  obtain ⟨base, cap, rfl⟩ := hT.slice
  rw [List.length_append] at hrun hT hgr
  exact ⟨base, cap, w', hrun, hT, hgr⟩
end Go.Proofs.YtmhbaaemihljjaaDoor
