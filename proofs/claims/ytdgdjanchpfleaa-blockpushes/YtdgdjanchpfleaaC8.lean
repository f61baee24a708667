/- BlockCuts: the pieces, and what a push of one does. -/
import Derived.Test.YtdgdjanchpfleaaC3
namespace Go.Proofs.Ytdgdjanchpfleaa
open Go.RowKit
set_option linter.unusedVariables false
set_option linter.unusedSimpArgs false

/-- the first pieces' bytes -/
def sumL (L : List ByteArray) (i : Nat) : List UInt8 := (L.take i).flatMap fun s => s.data.toList
theorem sumL_zero (L : List ByteArray) : sumL L 0 = [] := by simp [sumL]
theorem sumL_succ (L : List ByteArray) (i : Nat) (h : i < L.length) : sumL L (i + 1) = sumL L i ++ L[i].data.toList := by
  unfold sumL
  rw [List.take_succ_eq_append_getElem h, List.flatMap_append, List.flatMap_singleton]
theorem bt_app (l : List UInt8) (t : ByteArray) : bt l ++ t = bt (l ++ t.data.toList) := by
  apply ByteArray.ext
  simp [bt, ByteArray.data_append]
theorem len_data (s : ByteArray) : s.data.toList.length = s.size := by simp

/-- the head without its flag -/
def nfl (h : Fr) : Fr := { h with fl := bits .andNot .i64 h.fl 4 }
/-- where the joiner is ahead of the piece with number i, of n -/
def Ct (h : Fr) (L : List ByteArray) (i : Nat) (st : Js) : Prop :=
  (i = 0 ∧ st = .idle) ∨ (0 < i ∧ i < L.length ∧ ∃ hh qs, st = .busy hh qs (sumL L i) ∧ hh.st = h.st) ∨ (i = L.length ∧ st = .idle)
/-- what is told of a piece -/
def CPost (h : Fr) (L : List ByteArray) (i : Nat) (W : World) (s : Value) (b : Nat) (e : Ending) (w' : World) : Prop :=
  (131072 < (sumL L (i + 1)).length → PPost W s b (.broken 11) false Fr.zero [] ⟨#[]⟩ e w') ∧
  ((sumL L (i + 1)).length ≤ 131072 → i + 1 = L.length → ∃ hh qs, PPost W s b .idle true hh qs (bt (sumL L (i + 1))) e w') ∧
  ((sumL L (i + 1)).length ≤ 131072 → i + 1 < L.length → ∃ hh qs, hh.st = h.st ∧ PPost W s b (.busy hh qs (sumL L (i + 1))) false Fr.zero [] ⟨#[]⟩ e w')

theorem cut_first {h : Fr} (H : Hd h) {L : List ByteArray} (h0 : 0 < L.length) (hz : L[0].size ≤ 140737488355328) {ps : List (Int × Int)} (hlen : ps.length * 16 ≤ 140737488355328) (W : World) (b : Nat) (y : SV) (hj : Jn W b (.slice none 0 0) .idle) (hy : In EP W (sv y) ps) (fl : Int) (hf : (bits .and .i64 fl 4 == 0) = decide (1 < L.length)) :
    Calls Try.prog 12 #[.pointer (some ⟨b, 0, none⟩), .agg (fv { h with fl := fl, data := L[0] } (sv y))] W fun e w' => CPost h L 0 W (.slice none 0 0) b e w' := by
  have hs : sumL L (0 + 1) = L[0].data.toList := by rw [sumL_succ L 0 h0, sumL_zero, List.nil_append]
  have n9 : ¬ ({ h with fl := fl, data := L[0] } : Fr).ty = 9 := by
    show ¬ h.ty = 9
    rcases H.ty with e | e <;> omega
  have hh : dH ({ h with fl := fl, data := L[0] } : Fr).ty = true := by
    show dH h.ty = true
    exact dH_of H.ty
  by_cases hl : L[0].size ≤ 131072
  · refine (push_igo W b _ y ps hj hy hlen n9 hh hl _ hf).mono fun e w' hp => ?_
    unfold CPost
    rw [hs, len_data]
    refine ⟨fun h => absurd h (by omega), fun _ h1 => ?_, fun _ h1 => ?_⟩
    · rw [show decide (1 < L.length) = false by simp; omega] at hp
      simp only [Bool.false_eq_true, if_false, List.nil_append] at hp
      exact ⟨_, _, hp⟩
    · rw [show decide (1 < L.length) = true by simp; omega] at hp
      simp only [if_true, List.nil_append] at hp
      refine ⟨_, _, ?_, hp⟩
      rfl
  · refine (push_ilong W b _ y ps hj hy hlen n9 hh (by show 131072 < L[0].size; omega) hz).mono fun e w' hp => ?_
    unfold CPost
    rw [hs, len_data]
    exact ⟨fun _ => hp, fun h => absurd h (by omega), fun h => absurd h (by omega)⟩
theorem cut_next {h : Fr} {L : List ByteArray} {i : Nat} (hi : i < L.length) (hz : L[i].size ≤ 140737488355328) (hS : (sumL L i).length ≤ 131072) (W : World) (b : Nat) (s : Value) (hh : Fr) (qs : List (Int × Int)) (hj : Jn W b s (.busy hh qs (sumL L i))) (hst : hh.st = h.st) (fl : Int) (hf : (bits .and .i64 fl 4 == 0) = decide (i + 1 < L.length)) :
    Calls Try.prog 12 #[.pointer (some ⟨b, 0, none⟩), .agg (fv (cont h.st fl L[i]) (.slice none 0 0))] W fun e w' => CPost h L i W s b e w' := by
  have hs : sumL L (i + 1) = sumL L i ++ L[i].data.toList := sumL_succ L i hi
  have hg : ((cont h.st fl L[i]).ty == 9 && (cont h.st fl L[i]).st == hh.st) = true := by
    show ((9 : Int) == 9 && h.st == hh.st) = true
    simp [hst]
  by_cases hl : (sumL L i).length + L[i].size ≤ 131072
  · refine (push_bgo W b s hh qs (sumL L i) (cont h.st fl L[i]) (none, 0, 0) [] hj (.inl ⟨rfl, rfl⟩) (by simp) hg hl _ hf).mono fun e w' hp => ?_
    unfold CPost
    rw [hs, List.length_append, len_data]
    refine ⟨fun h => absurd h (by omega), fun _ h1 => ?_, fun _ h1 => ?_⟩
    · rw [show decide (i + 1 < L.length) = false by simp; omega] at hp
      simp only [Bool.false_eq_true, if_false] at hp
      exact ⟨_, _, hp⟩
    · rw [show decide (i + 1 < L.length) = true by simp; omega] at hp
      simp only [if_true] at hp
      exact ⟨_, _, hst, hp⟩
  · refine (push_blong W b s hh qs (sumL L i) (cont h.st fl L[i]) (none, 0, 0) [] hj (.inl ⟨rfl, rfl⟩) (by simp) hg (by show 131072 < _ + L[i].size; omega) hz).mono fun e w' hp => ?_
    unfold CPost
    rw [hs, List.length_append, len_data]
    exact ⟨fun _ => hp, fun h => absurd h (by omega), fun h => absurd h (by omega)⟩

/-- What holds between the rounds. -/
structure Cb (w wr : World) (g b : Nat) (h : Fr) (y1 : SV) (ps : List (Int × Int)) (v : Value) (L : List ByteArray) (s : Value) (st : Js) : Prop where
  bel : Below w.heap.size w wr
  fh : FB wr g h (sv y1)
  rh : R EP wr (sv y1) ps
  rs : R ES wr v L
  j : Jn wr b s st
  lb : w.heap.size ≤ b
  ls : ∀ k, s.ownBlock = some k → w.heap.size ≤ k
  lv : ∀ k, v.ownBlock = some k → w.heap.size ≤ k
theorem Cb.below {w wr w' : World} {g b : Nat} {h : Fr} {y1 : SV} {ps : List (Int × Int)} {v : Value} {L : List ByteArray} {s : Value} {st : Js} (B : Cb w wr g b h y1 ps v L s st) (hb : Below wr.heap.size wr w') : Cb w w' g b h y1 ps v L s st :=
  ⟨B.bel.trans (hb.mono B.bel.size), B.fh.below hb, B.rh.below hb, B.rs.below hb, B.j.below hb, B.lb, B.ls, B.lv⟩
theorem Cb.push {w wr w' : World} {g b : Nat} {h : Fr} {y1 : SV} {ps : List (Int × Int)} {v : Value} {L : List ByteArray} {s : Value} {st st' : Js} {z : SV} {qs : List (Int × Int)} (B : Cb w wr g b h y1 ps v L s st) (hp : PuR wr s w' b st' z qs) : ∃ s', Cb w w' g b h y1 ps v L s' st' := by
  obtain ⟨s', hj, ho⟩ := hp.ex
  refine ⟨s', B.bel.trans (hp.bel _ B.bel.size B.lb B.ls), hp.keep B.j B.fh (by decide) (by decide), B.rh.stays fun k hk _ => ?_, B.rs.stays fun k hk _ => ?_, hj, B.lb, fun k hk => ?_, B.lv⟩
  · obtain ⟨c, hc⟩ := B.rh.ty k hk
    rw [hp.keep B.j hc (by decide) (by decide), hc]
  · obtain ⟨c, hc⟩ := B.rs.ty k hk
    rw [hp.keep B.j hc (by decide) (by decide), hc]
  · rcases ho k hk with h1 | h1
    · exact B.ls k h1
    · exact Nat.le_trans B.bel.size h1
theorem R.cap {α : Type} {E : El α} {w : World} {b : Option Addr} {n c : Nat} {l : List α} (h : R E w (.slice b n c) l) : l.length ≤ c ∧ c ≤ 9223372036854775807 := by
  obtain ⟨_, c', e, q1, q2⟩ := h.slice
  injection e with _ _ e
  subst e
  exact ⟨q1, q2⟩
/-- the row grown -/
theorem Cb.grow {w wr w' : World} {g b : Nat} {h : Fr} {y1 : SV} {ps : List (Int × Int)} {v v' : Value} {L L' : List ByteArray} (B : Cb w wr g b h y1 ps v L (.slice none 0 0) .idle) (hG : Gr wr w' v v') (hR : R ES w' v' L') : Cb w w' g b h y1 ps v' L' (.slice none 0 0) .idle := by
  have kp : ∀ (k : Nat) (c : Array Value) (t : TypeId), wr.heap[k]? = some (.cells c t (0, 0)) → t ≠ 9 → w'.heap[k]? = wr.heap[k]? := fun k c t hk ht => hG.block k (heap_lt hk) fun e => own_ne B.rs hk ht k e rfl
  refine ⟨B.bel.trans (hG.belowB B.bel.size B.lv), (kp _ _ _ B.fh (by decide)).trans B.fh, B.rh.stays fun k hk _ => ?_, hR, ⟨(kp _ _ _ B.j.1 (by decide)).trans B.j.1, rfl⟩, B.lb, B.ls, fun k hk => ?_⟩
  · obtain ⟨c, hc⟩ := B.rh.ty k hk
    exact kp _ _ _ hc (by decide)
  · rcases hG.own k hk with e | e
    · exact B.lv k e
    · exact Nat.le_trans B.bel.size e
/-- a string of a row -/
theorem rs_get {w : World} {v : Value} {L : List ByteArray} (h : R ES w v L) (i : Nat) (hi : i < L.length) : ∃ g c, v = .slice (some ⟨g, 0, none⟩) L.length c ∧ g < w.heap.size ∧ w.cell? ⟨g, i, none⟩ = some (.string L[i]) := by
  obtain ⟨B, off, cap, e, hB, hc⟩ := h.isIn.get okS i hi
  rcases h.2 with ⟨rfl, hn⟩ | ⟨g, c, cur, rfl, _⟩
  · exact absurd hi (by omega)
  · injection e with e _ e3
    injection e with e
    injection e with e1 e2
    subst e1
    subst e2
    refine ⟨g, c, rfl, hB, ?_⟩
    have := hc 0 _ rfl
    simpa [ES] using this
end Go.Proofs.Ytdgdjanchpfleaa
