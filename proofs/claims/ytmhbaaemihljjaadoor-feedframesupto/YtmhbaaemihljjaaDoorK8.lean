/- Several feeds side by side, and other things beside them. -/
import Derived.Test.YtmhbaaemihljjaaDoorK7
namespace Go.Proofs.YtmhbaaemihljjaaDoor
open Go.RowKit
set_option linter.unusedVariables false
set_option linter.unusedSimpArgs false

abbrev Fed := Nat × Value × St

def Apart (a b : Fed) : Prop := a.1 ≠ b.1 ∧ ∀ k, a.2.1.ownBlock = some k → b.2.1.ownBlock ≠ some k
theorem Apart.symm {a b : Fed} (h : Apart a b) : Apart b a := ⟨Ne.symm h.1, fun k hk e => h.2 k e hk⟩

/-- These feeds were made since w, they are apart, and nothing of w has turned. -/
structure All (w W : World) (fs : List Fed) : Prop where
  kin : Kinds w
  pos : 1 ≤ w.heap.size
  bel : Below w.heap.size w W
  fd : ∀ t ∈ fs, Fd W t.1 t.2.1 t.2.2
  new : ∀ t ∈ fs, w.heap.size ≤ t.1 ∧ ∀ k, t.2.1.ownBlock = some k → w.heap.size ≤ k
  apart : fs.Pairwise Apart

/-- What is no feed and no row of bytes is as it was. -/
def Kt (W W' : World) : Prop := ∀ (k : Nat) (cs : Array Value) (t : TypeId), W.heap[k]? = some (.cells cs t (0, 0)) → t ≠ 69 → t ≠ 5 → W'.heap[k]? = some (.cells cs t (0, 0))
theorem Kt.refl (W : World) : Kt W W := fun _ _ _ h _ _ => h
theorem Kt.trans {a b c : World} (h : Kt a b) (k : Kt b c) : Kt a c := fun i cs t hi h1 h2 => k i cs t (h i cs t hi h1 h2) h1 h2
theorem Kt.below {a b : World} (h : Below a.heap.size a b) : Kt a b := fun i cs t hi _ _ => (h.block i (Array.getElem?_eq_some_iff.1 hi).1).trans hi
theorem Kt.alloc (W : World) (o : Obj) : Kt W (W.alloc o) := Kt.below ((Below.refl _ W).alloc (Nat.le_refl _) o)
theorem Kt.fb {W W' : World} (h : Kt W W') {a : Nat} {f : Fr} {p : Value} (hf : FB W a f p) : FB W' a f p := h a _ 28 hf (by decide) (by decide)
theorem Kt.box {W W' : World} (h : Kt W W') {a : Nat} {cs : Array Value} (hf : W.heap[a]? = some (.cells cs 30 (0, 0))) : W'.heap[a]? = some (.cells cs 30 (0, 0)) := h a _ 30 hf (by decide) (by decide)
theorem Kt.prow {W W' : World} (h : Kt W W') {b : Option Addr} {n c : Nat} {ps : List (Int × Int)} (hp : PRow W (.slice b n c) ps) : PRow W' (.slice b n c) ps :=
  hp.below fun k hk _ => by
    obtain ⟨cur, hc⟩ := hp.type k hk
    rw [h k cur 49 hc (by decide) (by decide), hc]

theorem All.start {w : World} (hK : Kinds w) (hw : 1 ≤ w.heap.size) : All w w [] := ⟨hK, hw, Below.refl _ _, fun _ h => (List.not_mem_nil h).elim, fun _ h => (List.not_mem_nil h).elim, List.Pairwise.nil⟩
theorem All.kinds {w W : World} {fs : List Fed} (h : All w W fs) : Kinds W := h.kin.of_eq (h.bel.block 0 (by have := h.pos; omega))
theorem All.later {w W W' : World} {fs : List Fed} (h : All w W fs) (hb : Below W.heap.size W W') : All w W' fs :=
  ⟨h.kin, h.pos, h.bel.trans (hb.mono h.bel.size), fun t ht => (h.fd t ht).below hb, h.new, h.apart⟩
theorem All.alloc {w W : World} {fs : List Fed} (h : All w W fs) (o : Obj) : All w (W.alloc o) fs := h.later ((Below.refl _ W).alloc (Nat.le_refl _) o)
theorem All.drew {w W : World} {fs : List Fed} (h : All w W fs) : All w W.drew fs := h.later (Below.refl _ W).drew
theorem Fd.rowType {W : World} {g : Nat} {v : Value} {S : St} (h : Fd W g v S) (k : Nat) (hk : v.ownBlock = some k) : ∃ cur, W.heap[k]? = some (.cells cur 5 (0, 0)) := by
  rcases h.row with ⟨e, _⟩ | ⟨r, off, cap, cur, e, hr, _⟩
  · rw [e] at hk; simp [Value.ownBlock] at hk
  · rw [e] at hk
    simp [Value.ownBlock] at hk
    subst hk
    exact ⟨cur, hr⟩

/-- what is stored into a thing that is no feed and no row -/
theorem All.sets {w W : World} {fs : List Fed} (h : All w W fs) (a : Nat) (cs : Array Value) (t : TypeId) (ha : W.heap[a]? = some (.cells cs t (0, 0))) (h1 : t ≠ 69) (h2 : t ≠ 5) (hw : w.heap.size ≤ a) (l : List (Nat × Value)) : All w (sets W a l) fs := by
  refine ⟨h.kin, h.pos, h.bel.trans (sets_below a _ hw l W), fun s hs => (h.fd s hs).same (sets_other _ _ (fun e => ?_) _ _) (fun k hk => sets_other _ _ (fun e => ?_) _ _), h.new, h.apart⟩
  · have := (h.fd s hs).blk
    rw [e, ha] at this
    simp at this
    exact h1 this.2
  · obtain ⟨cur, hc⟩ := (h.fd s hs).rowType k hk
    rw [e, ha] at hc
    simp at hc
    exact h2 hc.2
theorem kt_sets {W : World} (a : Nat) (l : List (Nat × Value)) (k : Nat) (cs : Array Value) (t : TypeId) (hk : W.heap[k]? = some (.cells cs t (0, 0))) (hne : k ≠ a) : (sets W a l).heap[k]? = some (.cells cs t (0, 0)) := (sets_other _ _ hne _ _).trans hk

/-- one feed is changed, the others see nothing -/
theorem All.change {w W W' : World} {fs : List Fed} (h : All w W fs) (i : Nat) (g : Nat) (v v' : Value) (S S' : St) (hi : fs[i]? = some (g, v, S)) (hf : Fd W' g v' S') (hk : Ks (Own g v) W W') (hown : ∀ k, v'.ownBlock = some k → v.ownBlock = some k ∨ W.heap.size ≤ k) :
    All w W' (fs.set i (g, v', S')) ∧ Kt W W' := by
  obtain ⟨hlt, hget⟩ := List.getElem?_eq_some_iff.1 hi
  have hmem : (g, v, S) ∈ fs := hget ▸ List.getElem_mem hlt
  have hF := h.fd _ hmem
  obtain ⟨hn1, hn2⟩ := h.new _ hmem
  have hsz := h.bel.size
  have hkt : Kt W W' := fun k cs t hkk h1 h2 => (hk.block k (Array.getElem?_eq_some_iff.1 hkk).1 (fun e => by
    rcases e with e | e
    · subst e
      rw [hF.blk] at hkk
      simp at hkk
      exact h1 hkk.2.symm
    · obtain ⟨cur, hc⟩ := hF.rowType k e
      rw [hkk] at hc
      simp at hc
      exact h2 hc.2)).trans hkk
  have hother : ∀ t ∈ fs, Apart t (g, v, S) → Fd W' t.1 t.2.1 t.2.2 := fun t ht ha => by
    have hFt := h.fd t ht
    refine hFt.same (hk.block _ hFt.lt (fun e => ?_)) (fun k hkk => hk.block _ (hFt.row.lt k hkk) (fun e => ?_))
    · rcases e with e | e
      · exact ha.1 e
      · obtain ⟨cur, hc⟩ := hF.rowType _ e
        rw [hFt.blk] at hc
        simp at hc
    · rcases e with e | e
      · subst e
        obtain ⟨cur, hc⟩ := hFt.rowType _ hkk
        rw [hF.blk] at hc
        simp at hc
      · exact ha.2 k hkk e
  have hpw := h.apart
  have hap : ∀ j (hj : j < fs.length), j ≠ i → Apart fs[j] (g, v, S) := fun j hj hne => by
    rw [← hget]
    rcases Nat.lt_or_gt_of_ne hne with hlt' | hlt'
    · exact (List.pairwise_iff_getElem.1 hpw) j i hj hlt hlt'
    · exact ((List.pairwise_iff_getElem.1 hpw) i j hlt hj hlt').symm
  have hap' : ∀ j (hj : j < fs.length), j ≠ i → Apart fs[j] (g, v', S') := fun j hj hne => by
    refine ⟨(hap j hj hne).1, fun k hkk e => ?_⟩
    rcases hown k e with h1 | h1
    · exact (hap j hj hne).2 k hkk h1
    · have := (h.fd _ (List.getElem_mem hj)).row.lt k hkk
      omega
  refine ⟨⟨h.kin, h.pos, ?_, ?_, ?_, ?_⟩, hkt⟩
  · exact h.bel.trans (hk.below hsz (fun k hkk e => by
      rcases e with e | e
      · have : w.heap.size ≤ g := hn1
        omega
      · have := hn2 k e
        omega))
  · intro t ht
    obtain ⟨j, hj, rfl⟩ := List.getElem_of_mem ht
    rw [List.length_set] at hj
    rw [List.getElem_set]
    split
    · exact hf
    · next hne => exact hother _ (List.getElem_mem hj) (hap j hj (Ne.symm hne))
  · intro t ht
    obtain ⟨j, hj, rfl⟩ := List.getElem_of_mem ht
    rw [List.length_set] at hj
    rw [List.getElem_set]
    split
    · exact ⟨hn1, fun k hkk => (hown k hkk).elim (hn2 k) (fun h => Nat.le_trans hsz h)⟩
    · exact h.new _ (List.getElem_mem hj)
  · rw [List.pairwise_iff_getElem]
    intro a b ha hb hab
    rw [List.length_set] at ha hb
    rw [List.getElem_set, List.getElem_set]
    split
    · next e =>
      subst e
      rw [if_neg (by omega)]
      exact (hap' b hb (by omega)).symm
    · next e =>
      split
      · next e2 => subst e2; exact hap' a ha (by omega)
      · exact (List.pairwise_iff_getElem.1 hpw) a b ha hb hab

theorem push_all {w W : World} {fs : List Fed} (h : All w W fs) (i : Nat) {g : Nat} {v : Value} {S : St} (hi : fs[i]? = some (g, v, S)) (s : ByteArray) (hlen : S.wait.length + s.size ≤ 140737488355328) :
    Calls Tryd.prog 11 #[.pointer (some ⟨g, 0, none⟩), .string s] W fun e W' => e = .returned (.tuple #[]) ∧ ∃ v', All w W' (fs.set i (g, v', pushS S s)) ∧ Kt W W' := by
  have hmem : (g, v, S) ∈ fs := List.mem_of_getElem? hi
  refine (push_any W g v S (h.fd _ hmem) s hlen).mono ?_
  rintro e W' ⟨rfl, v', k1, k2, k3⟩
  obtain ⟨q1, q2⟩ := h.change i g v v' S _ hi k1 k2 k3
  exact ⟨rfl, v', q1, q2⟩

theorem next_all {w W : World} {fs : List Fed} (h : All w W fs) (i : Nat) {g : Nat} {v : Value} {S : St} (hi : fs[i]? = some (g, v, S)) (r : NxR) (hr : nextS S = r) :
    Calls Tryd.prog 12 #[.pointer (some ⟨g, 0, none⟩)] W fun e W' => ∃ pb pl pc v', e = .returned (.tuple #[.agg #[.int .i64 r.fp.1.ty, .int .i64 r.fp.1.fl, .int .i64 r.fp.1.st, .string r.fp.1.data, .int .i64 r.fp.1.pad, .int .i64 r.fp.1.dep, .bool r.fp.1.excl, .int .i64 r.fp.1.wt, .int .i64 r.fp.1.code, .int .i64 r.fp.1.last, .slice pb pl pc], .bool r.ok, .agg #[.int .i64 r.c, .int .i64 r.x]]) ∧ PRow W' (.slice pb pl pc) r.fp.2 ∧ (∀ k, (Value.slice pb pl pc).ownBlock = some k → W.heap.size ≤ k) ∧ All w W' (fs.set i (g, v', r.S)) ∧ Kt W W' := by
  have hmem : (g, v, S) ∈ fs := List.mem_of_getElem? hi
  have hn := (h.new _ hmem).1
  have hp := h.pos
  refine (next_any W g v S (h.fd _ hmem) (by omega) h.kinds).mono ?_
  rintro e W' hN
  rw [hr] at hN
  obtain ⟨pb, pl, pc, v', rfl, k1, k2, k3, k4, k5⟩ := hN
  have hks : Ks (Own g v) W W' := ⟨k4.os, k4.tape, k4.output, k4.size, fun k hk hne => k4.block k hk (fun e => hne (.inl e))⟩
  obtain ⟨q1, q2⟩ := h.change i g v v' S _ hi k3 hks (fun k hk => .inl (k5 k hk))
  exact ⟨pb, pl, pc, v', rfl, k1, k2, q1, q2⟩

theorem most_all {w W : World} {fs : List Fed} (h : All w W fs) (i : Nat) {g : Nat} {v : Value} {S : St} (hi : fs[i]? = some (g, v, S)) (n : Int) :
    Calls Tryd.prog 14 #[.pointer (some ⟨g, 0, none⟩), .int .i64 n] W fun e W' => e = .returned (.tuple #[]) ∧ All w W' (fs.set i (g, v, { S with most := n })) ∧ Kt W W' := by
  have hmem : (g, v, S) ∈ fs := List.mem_of_getElem? hi
  refine (setMost_any W g v S (h.fd _ hmem) n).mono ?_
  rintro e W' ⟨rfl, k1, k4⟩
  have hks : Ks (Own g v) W W' := ⟨k4.os, k4.tape, k4.output, k4.size, fun k hk hne => k4.block k hk (fun e => hne (.inl e))⟩
  obtain ⟨q1, q2⟩ := h.change i g v v S _ hi k1 hks (fun k hk => .inl hk)
  exact ⟨rfl, q1, q2⟩

theorem wait_all {w W : World} {fs : List Fed} (h : All w W fs) (i : Nat) {g : Nat} {v : Value} {S : St} (hi : fs[i]? = some (g, v, S)) :
    Calls Tryd.prog 13 #[.pointer (some ⟨g, 0, none⟩)] W fun e W' => e = .returned (.int .i64 (S.wait.length : Int)) ∧ W' = W :=
  waiting_any W g v S (h.fd _ (List.mem_of_getElem? hi))

theorem new_all {w W : World} {fs : List Fed} (h : All w W fs) (server : Bool) (most : Int) :
    Calls Tryd.prog 10 #[.bool server, .int .i64 most] W fun e W' => ∃ g, e = .returned (.pointer (some ⟨g, 0, none⟩)) ∧ All w W' (fs ++ [(g, .slice none 0 0, ⟨if server then prefaceB else ⟨#[]⟩, [], most, 0⟩)]) ∧ Kt W W' := by
  refine (new_any server most W).mono ?_
  rintro e W' ⟨rfl, k1, k2, k3⟩
  have h' := h.later k2
  refine ⟨_, rfl, ⟨h.kin, h.pos, h'.bel, fun t ht => ?_, fun t ht => ?_, ?_⟩, Kt.below k2⟩
  · rcases List.mem_append.1 ht with ht | ht
    · exact h'.fd t ht
    · obtain rfl := List.mem_singleton.1 ht
      exact k1
  · rcases List.mem_append.1 ht with ht | ht
    · exact h.new t ht
    · obtain rfl := List.mem_singleton.1 ht
      exact ⟨h.bel.size, fun k hk => by simp [Value.ownBlock] at hk⟩
  · rw [List.pairwise_append]
    refine ⟨h.apart, List.Pairwise.cons (fun _ h => (List.not_mem_nil h).elim) List.Pairwise.nil, fun a ha b hb => ?_⟩
    obtain rfl := List.mem_singleton.1 hb
    refine ⟨fun e => ?_, fun k hk e => by simp [Value.ownBlock] at e⟩
    have := (h.fd a ha).lt
    have e' : a.1 = W.heap.size := e
    omega
end Go.Proofs.YtmhbaaemihljjaaDoor
