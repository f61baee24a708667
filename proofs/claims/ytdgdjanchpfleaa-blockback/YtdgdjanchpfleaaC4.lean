/- BlockBack: a frame pushed; what holds between the rounds. -/
import Derived.Test.YtdgdjanchpfleaaC3
namespace Go.Proofs.Ytdgdjanchpfleaa
open Go.RowKit
set_option linter.unusedVariables false
set_option linter.unusedSimpArgs false

/-- where the joiner is ahead of the frame with number i -/
def At (h : Fr) (ps : List (Int × Int)) (t : ByteArray) (a n i : Nat) (s : Value) (st : Js) : Prop :=
  (i = 0 ∧ st = .idle ∧ s = .slice none 0 0) ∨ (0 < i ∧ st = .busy (Hh h) ps (t.data.toList.take (a + (i - 1) * n)))

theorem push_i {h : Fr} (H : Hd h) {t : ByteArray} {a n k : Nat} {ps : List (Int × Int)} (hlen : ps.length * 16 ≤ 140737488355328) (hl : t.size ≤ 131072) (ha : a ≤ t.size) (hk : Needs a n t.size k) (i : Nat) (hi : i ≤ k) {P : Int} (hF : Fi h t a n k i (spF h t a n k i) P)
    (W : World) (b : Nat) (s : Value) (st : Js) (hj : Jn W b s st) (hat : At h ps t a n i s st) (y : SV) (hy : In EP W (sv y) ps) :
    Calls Try.prog 12 #[.pointer (some ⟨b, 0, none⟩), .agg (fv (spF h t a n k i) (sv (if i = 0 then y else (none, 0, 0))))] W fun e w' =>
      if i = k then PPost W s b .idle true (Hh h) ps t e w' else PPost W s b (.busy (Hh h) ps (t.data.toList.take (a + i * n))) false Fr.zero [] ⟨#[]⟩ e w' := by
  have hfl := fl_of H.f0 H.f1
  rcases hat with ⟨rfl, rfl, rfl⟩ | ⟨h0, rfl⟩
  · have hp := push_igo W b (spF h t a n k 0) y ps hj hy hlen (by
      show ¬ h.ty = 9
      rcases H.ty with e | e <;> omega) (by
      show dH h.ty = true
      exact dH_of H.ty) (hF.sz) _ hF.fl
    rw [if_pos rfl]
    refine hp.mono fun e w' hpost => ?_
    have hd : (spF h t a n k 0).data.data.toList = t.data.toList.take a := by
      show (t.extract 0 a).data.toList = _
      rw [extract_list, List.drop_zero]
    have hh : headOf (spF h t a n k 0) = Hh h := by
      by_cases hk0 : k = 0
      · simp only [headOf, spF, Hh, hk0, if_true, hfl.d1]
      · simp only [headOf, spF, Hh, hk0, if_true, if_false]
    rw [hd, hh, List.nil_append] at hpost
    by_cases hk0 : 0 = k
    · subst hk0
      simp only [beq_self_eq_true, Bool.not_true, Bool.false_eq_true, if_false] at hpost
      rw [if_pos rfl]
      have := hk.2
      rw [bt_take t a (by omega)] at hpost
      exact hpost
    · have e : (0 == k) = false := by simpa using hk0
      rw [e] at hpost
      simp only [Bool.not_false, if_true] at hpost
      rw [if_neg hk0, Nat.zero_mul, Nat.add_zero]
      exact hpost
  · have hi0 : ¬ i = 0 := by omega
    rw [if_neg hi0]
    have hX : spF h t a n k i = cont h.st (if i = k then 4 else 0) (t.extract (a + (i - 1) * n) (min (a + (i - 1) * n + n) t.size)) := by simp [spF, hi0]
    have hm : (i - 1) * n ≤ (k - 1) * n := Nat.mul_le_mul_right _ (by omega)
    have hlt : a + (i - 1) * n < t.size := by
      rcases hk.1 with e | e
      · omega
      · omega
    have hm3 : (i - 1) * n + n = i * n := by
      have := Nat.succ_mul (i - 1) n
      rw [show (i - 1).succ = i by omega] at this
      exact this.symm
    have hp := push_bgo W b s (Hh h) ps (t.data.toList.take (a + (i - 1) * n)) (spF h t a n k i) (none, 0, 0) [] hj (.inl ⟨rfl, rfl⟩) (by simp) (by
      rw [hX]
      show ((9 : Int) == 9 && h.st == h.st) = true
      simp) (by
      rw [hX]
      show (t.data.toList.take _).length + (t.extract _ _).size ≤ _
      rw [ByteArray.size_extract, List.length_take]
      have : t.data.toList.length = t.size := by simp
      omega) _ hF.fl
    refine hp.mono fun e w' hpost => ?_
    have hd : t.data.toList.take (a + (i - 1) * n) ++ (spF h t a n k i).data.data.toList = t.data.toList.take (min (a + (i - 1) * n + n) t.size) := by
      rw [hX]
      show t.data.toList.take (a + (i - 1) * n) ++ (t.extract _ _).data.toList = _
      rw [extract_list, take_more _ _ _ (by omega)]
    rw [hd] at hpost
    by_cases hik : i = k
    · subst hik
      simp only [beq_self_eq_true, Bool.not_true, Bool.false_eq_true, if_false] at hpost
      rw [if_pos rfl]
      have := hk.2
      rw [bt_take t _ (by omega)] at hpost
      exact hpost
    · have e : (i == k) = false := by simpa using hik
      rw [e] at hpost
      simp only [Bool.not_false, if_true] at hpost
      rw [if_neg hik]
      have hm2 : i * n ≤ (k - 1) * n := Nat.mul_le_mul_right _ (by omega)
      have e2 : min (a + (i - 1) * n + n) t.size = a + i * n := by
        rcases hk.1 with e | e
        · omega
        · omega
      rw [e2] at hpost
      exact hpost

/-- What holds between the rounds. -/
structure Bk (w wr : World) (g b : Nat) (h : Fr) (y1 : SV) (ps : List (Int × Int)) (v : Value) (L : List (Fr × SV)) (y : SV) (s : Value) (st : Js) : Prop where
  bel : Below w.heap.size w wr
  fh : FB wr g h (sv y1)
  rh : R EP wr (sv y1) ps
  rf : R EF wr v L
  rp : R EP wr (sv y) ps
  j : Jn wr b s st
  lb : w.heap.size ≤ b
  ls : ∀ k, s.ownBlock = some k → w.heap.size ≤ k
theorem Bk.below {w wr w' : World} {g b : Nat} {h : Fr} {y1 : SV} {ps : List (Int × Int)} {v : Value} {L : List (Fr × SV)} {y : SV} {s : Value} {st : Js} (B : Bk w wr g b h y1 ps v L y s st) (hb : Below wr.heap.size wr w') : Bk w w' g b h y1 ps v L y s st :=
  ⟨B.bel.trans (hb.mono B.bel.size), B.fh.below hb, B.rh.below hb, B.rf.below hb, B.rp.below hb, B.j.below hb, B.lb, B.ls⟩
/-- behind a push -/
theorem Bk.push {w wr w' : World} {g b : Nat} {h : Fr} {y1 : SV} {ps : List (Int × Int)} {v : Value} {L : List (Fr × SV)} {y : SV} {s : Value} {st st' : Js} {z : SV} {qs : List (Int × Int)} (B : Bk w wr g b h y1 ps v L y s st) (hp : PuR wr s w' b st' z qs) : ∃ s', Bk w w' g b h y1 ps v L y s' st' := by
  obtain ⟨s', hj, ho⟩ := hp.ex
  refine ⟨s', B.bel.trans (hp.bel _ B.bel.size B.lb B.ls), hp.keep B.j B.fh (by decide) (by decide), B.rh.stays fun k hk _ => ?_, B.rf.stays fun k hk _ => ?_, B.rp.stays fun k hk _ => ?_, hj, B.lb, fun k hk => ?_⟩
  · obtain ⟨c, hc⟩ := B.rh.ty k hk
    rw [hp.keep B.j hc (by decide) (by decide), hc]
  · obtain ⟨c, hc⟩ := B.rf.ty k hk
    rw [hp.keep B.j hc (by decide) (by decide), hc]
  · obtain ⟨c, hc⟩ := B.rp.ty k hk
    rw [hp.keep B.j hc (by decide) (by decide), hc]
  · rcases ho k hk with h1 | h1
    · exact B.ls k h1
    · exact Nat.le_trans B.bel.size h1
end Go.Proofs.Ytdgdjanchpfleaa
