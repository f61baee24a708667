/- A table of the call's own; the statements' head. -/
import Derived.Test.YtlfbnhdcgldopaaA9
import Derived.Test.YtlfbnhdcgldopaaB1
import Derived.Test.YtlfbnhdcgldopaaB4
namespace Go.Proofs.Ytlfbnhdcgldopaa
open Go.RowKit

/-- The blocks of a table. -/
def foot (b : Nat) (v : Value) (j : Nat) : Prop := j = b ∨ some j = v.ownBlock

theorem Tab.foot_lt {w : World} {b mx : Nat} {es : List E} {v : Value} (h : Tab w b mx es v) : ∀ j, foot b v j → j < w.heap.size := by
  rintro j (rfl | hj)
  · exact h.lt
  · exact h.row_lt j hj.symm

/-- A table that was made since w. -/
def Mine (w : World) (b mx : Nat) (es : List E) (v : Value) (W : World) : Prop :=
  Tab W b mx es v ∧ (∀ j, foot b v j → w.heap.size ≤ j) ∧ Below w.heap.size w W

theorem Mine.below {w : World} {b mx : Nat} {es : List E} {v : Value} {W W' : World} (h : Mine w b mx es v W) (hb : Below W.heap.size W W') : Mine w b mx es v W' :=
  ⟨h.1.below hb, h.2.1, h.2.2.trans (hb.mono h.2.2.size)⟩

theorem changed_foot {w w' : World} {b mx : Nat} {es : List E} {v : Value} (h : Changed w w' b mx es v) : ∃ v', Tab w' b mx es v' ∧ Kept (foot b v) w w' ∧ ∀ j, foot b v' j → foot b v j ∨ w.heap.size ≤ j := by
  obtain ⟨v', h1, h2, h3⟩ := h
  refine ⟨v', h1, h2, ?_⟩
  rintro j (rfl | hj)
  · exact .inl (.inl rfl)
  · rcases h3 j hj.symm with h | h
    · exact .inl (.inr h.symm)
    · exact .inr h

theorem Mine.changed {w : World} {b mx mx' : Nat} {es es' : List E} {v : Value} {W W' : World} (h : Mine w b mx es v W) (hc : Changed W W' b mx' es' v) : ∃ v', Mine w b mx' es' v' W' := by
  obtain ⟨v', h1, h2, h3⟩ := changed_foot hc
  refine ⟨v', h1, fun j hj => ?_, h.2.2.trans (h2.below h.2.2.size fun k hk hf => ?_)⟩
  · rcases h3 j hj with h4 | h4
    · exact h.2.1 j h4
    · exact Nat.le_trans h.2.2.size h4
  · exact absurd (h.2.1 k hf) (by omega)

/-- What is done to one table is not seen in another. -/
theorem Mine.other {w : World} {b mx : Nat} {es : List E} {v : Value} {W W' : World} {c mx' mx'' : Nat} {es' es'' : List E} {u : Value} (h : Mine w b mx es v W) (hc : Mine w c mx' es' u W) (hd : ∀ j, foot b v j → ¬ foot c u j) (hch : Changed W W' c mx'' es'' u) :
    ∃ u', Mine w c mx'' es'' u' W' ∧ Mine w b mx es v W' ∧ ∀ j, foot b v j → ¬ foot c u' j := by
  obtain ⟨u', h1, h2, h3⟩ := changed_foot hch
  have hbl := h2.below hc.2.2.size fun k hk hf => absurd (hc.2.1 k hf) (by omega)
  refine ⟨u', ⟨h1, fun j hj => ?_, hc.2.2.trans hbl⟩, ⟨h.1.stays h2 (fun hf => hd b (.inl rfl) hf) (fun k hk hf => hd k (.inr hk.symm) hf), h.2.1, h.2.2.trans hbl⟩, fun j hj hu => ?_⟩
  · rcases h3 j hj with h4 | h4
    · exact hc.2.1 j h4
    · exact Nat.le_trans hc.2.2.size h4
  · rcases h3 j hu with h4 | h4
    · exact hd j hj h4
    · have := h.1.foot_lt j hj
      omega

theorem new_mine (w W : World) (mx : Nat) (h : mx ≤ 65536) (hB : Below w.heap.size w W) :
    Calls Try.prog 9 #[.int .i64 (mx : Int)] W fun e W' => e = .returned (.tuple #[.pointer (some ⟨W.heap.size, 0, none⟩), .int .i64 0]) ∧ Mine w W.heap.size mx [] (.slice none 0 0) W' ∧ Below W.heap.size W W' := by
  refine (new_good mx W h).mono ?_
  rintro e W' ⟨rfl, ht, hb⟩
  refine ⟨rfl, ⟨ht, ?_, hB.trans (hb.mono hB.size)⟩, hb⟩
  rintro j (rfl | hj)
  · exact hB.size
  · simp [Value.ownBlock] at hj

theorem add_mine {w : World} {b mx : Nat} {es : List E} {v : Value} {W : World} (h : Mine w b mx es v W) (n x : ByteArray) (hsz : n.size + x.size + 32 ≤ 4611686018427387904) :
    Calls Try.prog 10 #[.pointer (some ⟨b, 0, none⟩), .string n, .string x] W fun e W' => e = .returned (.tuple #[]) ∧ ∃ v', Mine w b mx (keep mx ((n, x) :: es)) v' W' := by
  refine (add_any W b mx es v h.1 n x hsz).mono ?_
  rintro e W' ⟨rfl, hc⟩
  exact ⟨rfl, h.changed hc⟩

theorem resize_mine {w : World} {b mx : Nat} {es : List E} {v : Value} {W : World} (h : Mine w b mx es v W) (m : Nat) (hm : m ≤ 65536) :
    Calls Try.prog 17 #[.pointer (some ⟨b, 0, none⟩), .int .i64 (m : Int)] W fun e W' => e = .returned (.int .i64 0) ∧ ∃ v', Mine w b m (keep m es) v' W' := by
  refine (resize_good W b mx es v h.1 m hm).mono ?_
  rintro e W' ⟨rfl, hc⟩
  exact ⟨rfl, h.changed hc⟩

theorem copy_mine {w : World} {b mx : Nat} {es : List E} {v : Value} {W : World} (h : Mine w b mx es v W) :
    Calls Try.prog 20 #[.pointer (some ⟨b, 0, none⟩)] W fun r W' => ∃ c v', r = .returned (.pointer (some ⟨c, 0, none⟩)) ∧ Mine w c mx es v' W' ∧ (∀ j, foot c v' j → W.heap.size ≤ j) ∧ Below W.heap.size W W' := by
  refine (copy_any W b mx es v h.1).mono ?_
  rintro e W' ⟨c, v', rfl, hc, ht, hk, hb⟩
  have hf : ∀ j, foot c v' j → W.heap.size ≤ j := by
    rintro j (rfl | hj)
    · exact hc
    · exact hk j hj.symm
  exact ⟨c, v', rfl, ⟨ht, fun j hj => Nat.le_trans h.2.2.size (hf j hj), h.2.2.trans (hb.mono h.2.2.size)⟩, hf, hb⟩

def ea : E := (⟨#[97]⟩, ⟨#[98]⟩)
def ec : E := (⟨#[99, 99]⟩, ⟨#[100]⟩)

set_option maxRecDepth 100000 in
set_option maxHeartbeats 2000000 in
theorem head_any (w : World) :
    Calls Try.prog 8 #[] w fun e w' => e = .returned (.bool true) ∧ Below w.heap.size w w' := by
  go_enter Try.func8, Try.ntmps8
  go_wp2_with fail
  refine (new_mine w w 100 (by omega) (Below.refl _ _)).mono ?_
  rintro e w1 ⟨rfl, h1, _⟩
  generalize w.heap.size = b at h1
  go_wp2_with fail
  refine (add_mine h1 ⟨#[97]⟩ ⟨#[98]⟩ (by decide)).mono ?_
  rintro e w2 ⟨rfl, v2, h2⟩
  replace h2 : Mine w b 100 [ea] v2 w2 := h2
  clear h1
  go_wp2_with fail
  refine (add_mine h2 ⟨#[99, 99]⟩ ⟨#[100]⟩ (by decide)).mono ?_
  rintro e w3 ⟨rfl, v3, h3⟩
  replace h3 : Mine w b 100 [ec, ea] v3 w3 := h3
  clear h2
  go_wp2_with fail
  refine (at_good w3 b 100 [ec, ea] v3 h3.1 63 ea (by omega) (by kernel_rfl) (by decide) (by decide)).mono ?_
  rw [show ea.1 = (⟨#[97]⟩ : ByteArray) from rfl, show ea.2 = (⟨#[98]⟩ : ByteArray) from rfl]
  rintro e w4 ⟨rfl, hb4⟩
  replace h3 := h3.below hb4
  clear hb4
  go_wp2_with fail
  refine (find_any w4 b 100 [ec, ea] v3 h3.1 ⟨#[97]⟩ ⟨#[98]⟩).mono ?_
  have hfs : findS (fixedL ++ [ec, ea]) (61 + [ec, ea].length) ⟨#[97]⟩ ⟨#[98]⟩ = (63, true) := by kernel_rfl
  rw [hfs]
  clear hfs
  rintro e w5 ⟨rfl, hb5⟩
  replace h3 := h3.below hb5
  clear hb5
  go_wp2_with fail
  refine (copy_mine h3).mono ?_
  rintro e w6 ⟨c, u, rfl, hc, hcf, hb6⟩
  have hd : ∀ j, foot c u j → ¬ foot b v3 j := fun j hj hk => by have := hcf j hj; have := h3.1.foot_lt j hk; omega
  replace h3 := h3.below hb6
  clear hb6 hcf
  replace hd : Hid (∀ j, foot c u j → ¬ foot b v3 j) := hd
  go_wp2_with fail
  refine (tsize_any w6 b 100 [ec, ea] v3 h3.1).mono ?_
  rw [show total [ec, ea] = 69 from rfl]
  rintro e w7 ⟨rfl, rfl⟩
  go_wp2_with fail
  refine (len_any _ b 100 [ec, ea] v3 h3.1).mono ?_
  rw [show [ec, ea].length = 2 from rfl]
  rintro e w7 ⟨rfl, rfl⟩
  go_wp2_with fail
  refine (max_any _ b 100 [ec, ea] v3 h3.1).mono ?_
  rintro e w7 ⟨rfl, rfl⟩
  go_wp2_with fail
  refine (len_any _ c 100 [ec, ea] u hc.1).mono ?_
  rw [show [ec, ea].length = 2 from rfl]
  rintro e w7 ⟨rfl, rfl⟩
  go_wp2_with fail
  refine (resize_good w7 b 100 [ec, ea] v3 h3.1 68 (by omega)).mono ?_
  rintro e w8 ⟨rfl, hch⟩
  obtain ⟨v8, h8, hc8, _⟩ := hc.other h3 hd.out hch
  replace h8 : Mine w b 68 [ec] v8 w8 := h8
  clear hch h3 hc hd
  go_wp2_with fail
  refine (len_any _ b 68 [ec] v8 h8.1).mono ?_
  rw [show [ec].length = 1 from rfl]
  rintro e w9 ⟨rfl, rfl⟩
  go_wp2_with fail
  refine (len_any _ c 100 [ec, ea] u hc8.1).mono ?_
  rw [show [ec, ea].length = 2 from rfl]
  rintro e w9 ⟨rfl, rfl⟩
  go_wp2_with fail
  go_ret
  exact ⟨rfl, h8.2.2⟩

end Go.Proofs.Ytlfbnhdcgldopaa
