/- SiteVersions: a put. -/
import Derived.Test.YtacboeeimnikdaaDoorJ1
namespace Go.Proofs.YtacboeeimnikdaaDoor
open Go.RowKit Go.Maps
open Go.Shelf
set_option linter.unusedVariables false
set_option linter.unusedSimpArgs false

theorem Vs.put {w wr : World} {lo g : Nat} {ps l : List PC} {n : Nat} {ya yt : SV} {A : List Aq} {T : List Rr} (h : Vs w wr lo g ps l n ya yt A T) (hn : n < ps.length) (hnd : (l.map tgP).Nodup ∧ l.length ≤ 20) (hz : ps.length ≤ 1048576) (y : SV) (hI : R ECh wr (sv y) (rtL ps[n].1.n ps[n].2)) :
    Calls Tryd.prog 14 #[.pointer (some ⟨g, 0, none⟩), .agg (pgv ⟨aTest, rtP ps[n].1.p, 200, rtV (rtK ps[n].1.n), y⟩)] wr fun e w' => e = .returned (.int .i64 0) ∧ Kt wr w' ∧ wr.heap.size ≤ w'.heap.size ∧ Vs w w' lo g ps l (n + 1) ya yt A T := by
  have hpg := right_pg ps[n].1.p ps[n].1.n ps[n].2 y
  have hpz := pg_z hpg
  have hK := KN_len (l.map tgP) ps n hnd.1 (by simpa using hnd.2)
  refine (h.sx.put ⟨aTest, rtP ps[n].1.p, 200, rtV (rtK ps[n].1.n), y⟩ (rtL ps[n].1.n ps[n].2) h.lo'.2 (by have := hnd.2; omega) hI.isIn ⟨hpz.2.1, by have := hpz.2.2.1; omega⟩ (fun c hc => by have := hpz.2.2.2 c hc; omega)).mono ?_
  rintro e w' ⟨⟨hB, hKt⟩, he⟩
  rcases he with ⟨q, _⟩ | ⟨_, q, _⟩ | ⟨_, _, rfl, q2⟩
  · rw [hpg] at q; cases q
  · omega
  · refine ⟨rfl, hKt, hB.size, h.keep hKt (h.bel.trans (hB.mono h.lo'.1)) hB.size ?_⟩
    rw [FN_succ _ _ _ hn, KN_succ _ _ _ hn]
    have e1 : ((n : Int) + 1 + 1) = (n : Int) + 2 := by omega
    have e2 : (((n + 1 : Nat) : Int) + 1) = (n : Int) + 2 := by omega
    rw [e1] at q2
    rw [e2]
    exact q2
theorem Vs.has {w wr : World} {lo g : Nat} {ps l : List PC} {n : Nat} {ya yt : SV} {A : List Aq} {T : List Rr} (hn : n < ps.length) (h : Vs w wr lo g ps l (n + 1) ya yt A T) :
    Calls Tryd.prog 16 #[.pointer (some ⟨g, 0, none⟩), .int .i64 ((n : Int) + 1 + 1), .string aTest, .string (rtP ps[n].1.p)] wr fun e w' => e = .returned (.bool true) ∧ Below wr.heap.size wr w' := by
  have hz := rtP_size ps[n].1.p
  refine (h.sx.has ((n : Int) + 1 + 1) aTest (rtP ps[n].1.p) ⟨(by decide : aTest.size ≤ 281474976710656), by show (rtP ps[n].1.p).size ≤ _; omega⟩).mono ?_
  rintro e w' ⟨rfl, hb⟩
  have e1 : ((n : Int) + 1 + 1) = (n : Int) + 2 := by omega
  have hh := FN_has (Fk l) ps n hn
  unfold ptT at hh
  rw [e1, hh]
  refine ⟨?_, hb⟩
  simp [ivB]
  omega
/-- two answers of one version are alike -/
theorem RpIs.same {r s : Rp} {F G : Fm} {u v : Int} {x : Aq} (h : RpIs r F u x) (k : RpIs s G v x) (e : atE (F (aTest, x.p)) u = atE (G (aTest, x.p)) v) : r.n = s.n ∧ r.l = s.l ∧ r.b = s.b := by
  obtain ⟨h1, h2, h3⟩ := h
  obtain ⟨k1, k2, k3⟩ := k
  rw [e] at h1 h2 h3
  exact ⟨h1.trans k1.symm, h2.trans k2.symm, h3.trans k3.symm⟩
end Go.Proofs.YtacboeeimnikdaaDoor
