/- The program's feed and the document's: what they keep is the same. -/
import Derived.Test.YtmhbaaemihljjaaDoorQ3
import Derived.Test.YtmhbaaemihljjaaDoorN1
namespace Go.Proofs.YtmhbaaemihljjaaDoor
open Go.RowKit
set_option linter.unusedVariables false
set_option linter.unusedSimpArgs false

def preOf (g : Bool) : ByteArray := if g then prefaceB else ⟨#[]⟩
structure Rel (S : St) (R : Rs) : Prop where
  code : S.code = R.code
  alive : R.code = 0 → S = ⟨preOf R.greets, R.b.data.toList, R.most, 0⟩
  dead : R.code ≠ 0 → S.wait = [] ∧ R.b = ⟨#[]⟩

theorem rel_new (g : Bool) (m : Int) : Rel ⟨if g then prefaceB else ⟨#[]⟩, [], m, 0⟩ ⟨g, m, ⟨#[]⟩, 0⟩ := ⟨rfl, fun _ => rfl, fun h => absurd rfl h⟩
theorem Rel.len {S : St} {R : Rs} (h : Rel S R) : S.wait.length = R.b.size := by
  by_cases hc : R.code = 0
  · rw [h.alive hc]; simp
  · rw [(h.dead hc).1, (h.dead hc).2]; rfl
theorem Rel.push {S : St} {R : Rs} (h : Rel S R) (s : ByteArray) : Rel (pushS S s) (rpushS R s) := by
  unfold pushS rpushS
  by_cases hc : R.code = 0
  · rw [if_pos hc, if_pos (h.code.trans hc), h.alive hc]
    exact ⟨hc.symm, fun _ => by simp, fun e => absurd hc e⟩
  · rw [if_neg hc, if_neg (by rw [h.code]; exact hc)]
    exact h
theorem Rel.most {S : St} {R : Rs} (h : Rel S R) (n : Int) : Rel { S with most := n } { R with most := n } :=
  ⟨h.code, fun hc => by rw [h.alive hc], fun hc => h.dead hc⟩
theorem Rel.ofDead {S : St} {R : Rs} (c : Int) (hc : c ≠ 0) : Rel (deadS c) (rdead R c) := ⟨rfl, fun h => absurd h hc, fun _ => ⟨rfl, rfl⟩⟩

structure Alike (r : NxR) (t : RxR) : Prop where
  fp : r.fp = t.fp
  ok : r.ok = t.ok
  c : r.c = t.c
  x : r.x = t.x
  rel : Rel r.S t.R

theorem drop_ext (b : ByteArray) (n : Nat) : (b.extract n b.size).data.toList = b.data.toList.drop n := by
  rw [ByteArray.data_extract, Array.toList_extract, List.extract_eq_take_drop, List.take_of_length_le (by simp)]

theorem rdN_rrd (R : Rs) (hc : R.code = 0) (hg : R.greets = false) : Alike (rdN ⟨⟨#[]⟩, R.b.data.toList, R.most, 0⟩) (rrd R) := by
  have hlist : (⟨R.b.data.toList.toArray⟩ : ByteArray) = R.b := by cases R.b; simp
  have hrd := rdL_cases R.b.data.toList R.most
  have he : rdL R.b.data.toList R.most = readS R.b R.most := by unfold rdL; rw [hlist]
  unfold rdN rfS okR rrd
  rw [← he]
  rcases hrd with ⟨hr, _⟩ | ⟨c, hcc, _, hr⟩ | ⟨c, x, hcc, hx, hl, hr⟩ | ⟨f, ps, hl, hr⟩
  · simp only [hr]
    refine ⟨rfl, rfl, rfl, rfl, ⟨hc.symm, fun _ => ?_, fun e => absurd hc e⟩⟩
    show _ = (⟨preOf R.greets, _, _, _⟩ : St)
    rw [hg]
    rfl
  · simp only [hr, if_true]
    rw [if_pos ⟨hcc, trivial⟩]
    unfold shutR
    rw [if_neg hcc]
    exact ⟨rfl, rfl, rfl, rfl, Rel.ofDead (S := ⟨⟨#[]⟩, [], 0, 0⟩) c hcc⟩
  · simp only [hr, if_neg hx]
    rw [if_neg (by rintro ⟨_, h⟩; exact hx h), if_pos hcc]
    unfold shutR
    rw [if_pos rfl]
    have e : ((9 + n3 R.b.data.toList : Nat) : Int).toNat = 9 + n3 R.b.data.toList := by omega
    simp only [e]
    refine ⟨rfl, by simp [hcc], rfl, rfl, ⟨hc.symm, fun _ => ?_, fun e => absurd hc e⟩⟩
    show _ = (⟨preOf R.greets, (R.b.extract _ _).data.toList, _, _⟩ : St)
    rw [hg, drop_ext]
    rfl
  · have hne : ¬ ((9 + n3 R.b.data.toList : Nat) : Int) = 0 := by omega
    simp only [hr, if_true]
    rw [if_neg (by rintro ⟨h, _⟩; exact h rfl), if_neg (by simp), if_neg hne]
    unfold shutR
    rw [if_pos rfl]
    have e : ((9 + n3 R.b.data.toList : Nat) : Int).toNat = 9 + n3 R.b.data.toList := by omega
    have e2 : (0 : Int) < ((9 + n3 R.b.data.toList : Nat) : Int) := by omega
    simp only [e]
    refine ⟨rfl, by simp; omega, rfl, rfl, ⟨hc.symm, fun _ => ?_, fun e => absurd hc e⟩⟩
    show _ = (⟨preOf R.greets, (R.b.extract _ _).data.toList, _, _⟩ : St)
    rw [hg, drop_ext]
    rfl

theorem Rel.next {S : St} {R : Rs} (h : Rel S R) : Alike (nextS S) (rnextS R) := by
  unfold rnextS
  by_cases hc : R.code = 0
  · rw [if_neg (by simpa using hc), h.alive hc]
    by_cases hg : R.greets = false
    · rw [if_pos hg]
      have e : preOf R.greets = ⟨#[]⟩ := by rw [hg]; rfl
      rw [e, nextS_pre0]
      exact rdN_rrd R hc hg
    · have hg' : R.greets = true := by simpa using hg
      have e : preOf R.greets = prefaceB := by rw [hg']; rfl
      rw [if_neg hg, e, nextS_alive]
      have hlen : R.b.data.toList.length = R.b.size := by simp
      have hn : nS ⟨prefaceB, R.b.data.toList, R.most, 0⟩ = min R.b.size 24 := by
        show min R.b.data.toList.length 24 = _
        rw [hlen]
      have hok : okS ⟨prefaceB, R.b.data.toList, R.most, 0⟩ = rgoodB R.b (min R.b.size 24) := by
        rw [okS_eq, hn]
        rfl
      rcases passS_cases ⟨prefaceB, R.b.data.toList, R.most, 0⟩ with ⟨h1, h2, h3⟩ | ⟨h1, h2, h3, h4⟩ | ⟨h1, h2, h3, h4⟩
      · rw [if_pos h1, h2, if_pos (hok ▸ h3)]
        unfold shutR
        rw [if_neg (show ¬ (1 : Int) = 0 by decide)]
        exact ⟨rfl, rfl, rfl, rfl, Rel.ofDead (S := ⟨⟨#[]⟩, [], 0, 0⟩) 1 (by decide)⟩
      · rw [hn] at h3
        have h3' : min R.b.size 24 < 24 := h3
        rw [if_pos h1, h2, if_neg (by rw [← hok, h4]; decide), if_pos (by omega)]
        unfold shutR
        rw [if_pos rfl]
        exact ⟨rfl, rfl, rfl, rfl, ⟨hc.symm, fun _ => by rw [e], fun e => absurd hc e⟩⟩
      · rw [hn] at h3
        have h3' : min R.b.size 24 = 24 := h3
        rw [if_neg (by rw [h1]; decide), h2, if_neg (by rw [← hok, h4]; decide), if_neg (by omega)]
        have hd := drop_ext R.b 24
        have := rdN_rrd { R with greets := false, b := R.b.extract 24 R.b.size } hc rfl
        have e2 : (R.b.extract 24 R.b.size).data.toList = R.b.data.toList.drop prefaceB.size := hd
        rw [e2] at this
        exact this
  · have hS : S.code ≠ 0 := by rw [h.code]; exact hc
    rw [if_pos hc]
    unfold nextS
    rw [if_pos hS]
    unfold shutR
    rw [if_neg hS]
    refine ⟨rfl, rfl, h.code, rfl, ⟨h.code, fun e => absurd e hc, fun _ => ⟨rfl, (h.dead hc).2⟩⟩⟩

theorem rrd_len (R : Rs) : (rrd R).R.b.size ≤ R.b.size := by
  unfold rrd
  split
  · exact Nat.zero_le _
  · split
    · show (R.b.extract _ _).size ≤ _
      rw [ByteArray.size_extract]; omega
    · split
      · exact Nat.le_refl _
      · show (R.b.extract _ _).size ≤ _
        rw [ByteArray.size_extract]; omega
theorem rnext_len (R : Rs) : (rnextS R).R.b.size ≤ R.b.size := by
  unfold rnextS
  split
  · exact Nat.le_refl _
  · split
    · exact rrd_len R
    · split
      · exact Nat.zero_le _
      · split
        · exact Nat.le_refl _
        · refine Nat.le_trans (rrd_len _) ?_
          show (R.b.extract _ _).size ≤ _
          rw [ByteArray.size_extract]; omega
end Go.Proofs.YtmhbaaemihljjaaDoor
