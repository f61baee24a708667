/- holds: these are the table's moving entries. -/
import Derived.Test.YtlfbnhdcgldopaaC2
namespace Go.Proofs.Ytlfbnhdcgldopaa
open Go.RowKit

theorem total_reverse (l : List E) : total l.reverse = total l := by
  induction l with
  | nil => rfl
  | cons e r ih => rw [List.reverse_cons, total_append, ih]; simp [total]; omega

theorem esz_le_total (l : List E) (k : Nat) (h : k < l.length) : esz l[k] ≤ total l := by
  have h1 : total (l.take (k + 1)) + total (l.drop (k + 1)) = total l := by rw [← total_append, List.take_append_drop]
  rw [take_snoc l k h, total_append] at h1
  simp only [total] at h1
  omega

set_option maxRecDepth 100000 in
set_option maxHeartbeats 1000000 in
theorem holds_true (w : World) (b mx : Nat) (l : List E) (v lv : Value) (hT : Tab w b mx l.reverse v) (hE : Ents w lv l) :
    Calls Try.prog 16 #[.pointer (some ⟨b, 0, none⟩), lv] w fun e w' => e = .returned (.bool true) ∧ Below w.heap.size w w' := by
  obtain ⟨base, cap, rfl, _⟩ := hE.slice
  have hlen := hT.len
  rw [List.length_reverse] at hlen
  have htot := hT.2.1
  rw [total_reverse] at htot
  have hfl : fixedL.length = 61 := rfl
  have HT : Hid (∀ W, Below w.heap.size w W → Tab W b mx l.reverse v) := fun W hW => hT.below hW
  have HE : Hid (∀ W, Below w.heap.size w W → Ents W (.slice base l.length cap) l) := fun W hW => hE.below hW
  clear hT hE
  go_enter Try.func16, Try.ntmps16
  go_wp2
  go_loopw [5, 6] (fun y x wr => ∃ k : Nat, k ≤ l.length ∧ x = .int .i64 (k : Int) ∧ y = .int .i64 (total (l.take k) : Int) ∧ Below w.heap.size w wr) (fun _ x _ => l.length - (intOf x).toNat)
  case atStart => exact ⟨0, by omega, rfl, by simp [total], Below.refl _ _⟩
  case round =>
    obtain ⟨k, hk, rfl, rfl, hB⟩ := hrel
    by_cases hlt : k < l.length
    · obtain ⟨x, y, g, off, hx, hbase, hc1, hc2, HC⟩ : ∃ (x y : ByteArray) (g off : Nat), l[k] = (x, y) ∧ base = some ⟨g, off, none⟩ ∧ l.length ≤ cap ∧ cap ≤ 9223372036854775807 ∧
          Hid (∀ W, Below w.heap.size w W → W.cell? ⟨g, off + k * 2, none⟩ = some (.string x) ∧ W.cell? ⟨g, off + k * 2 + 1, none⟩ = some (.string y)) := by
        obtain ⟨g, off, cap', h1, hc1, hc2, _, _⟩ := (HE.out w (Below.refl _ _)).at k hlt
        cases h1
        refine ⟨_, _, g, off, rfl, rfl, hc1, hc2, fun W hW => ?_⟩
        obtain ⟨g', off', cap'', h1', _, _, hd1, hd2⟩ := (HE.out W hW).at k hlt
        cases h1'
        exact ⟨hd1, hd2⟩
      subst hbase
      have hidx : (61 : Int) + (l.length : Int) - (k : Int) = ((61 + l.length - k : Nat) : Int) := by omega
      obtain ⟨i, hi⟩ : ∃ i, 61 + l.length - k = i := ⟨_, rfl⟩
      rw [hi] at hidx
      have hget : (fixedL ++ l.reverse)[i - 1]? = some (x, y) := by
        rw [List.getElem?_append_right (by omega), hfl, List.getElem?_reverse (by omega), ← hx, ← List.getElem?_eq_getElem hlt]
        congr 1
        omega
      have hsx := esz_le_total l k hlt
      rw [hx] at hsx
      obtain ⟨s, hs⟩ : ∃ s, s = esz (x, y) := ⟨_, rfl⟩
      have hs2 : s = x.size + y.size + 32 := hs
      rw [← hs] at hsx
      have hat : Hid (Calls Try.prog 13 #[.pointer (some ⟨b, 0, none⟩), .int .i64 (i : Int)] wr fun r w' => r = .returned (.tuple #[.string x, .string y, .int .i64 0]) ∧ w'.cell? ⟨g, off + k * 2, none⟩ = some (.string x) ∧ w'.cell? ⟨g, off + k * 2 + 1, none⟩ = some (.string y) ∧ Below w.heap.size w w') := by
        refine (at_good wr b mx l.reverse v (HT.out wr hB) i (x, y) (by omega) hget (by show x.size ≤ _; omega) (by show y.size ≤ _; omega)).mono ?_
        rintro r w' ⟨rfl, hb⟩
        have hB' := hB.trans (hb.mono hB.size)
        exact ⟨rfl, (HC.out w' hB').1, (HC.out w' hB').2, hB'⟩
      have hsz := fun W hB hp hq => size_at (w := w) x y (by omega) ⟨g, off + k * 2, none⟩ ⟨g, off + k * 2 + 1, none⟩ W hB hp hq
      rw [← hs] at hsz
      replace hsz : Hid _ := hsz
      have hadd : total (l.take (k + 1)) = total (l.take k) + s := by rw [take_snoc l k hlt, total_append, hx, hs]; simp [total]
      have hle : total (l.take (k + 1)) ≤ total l := by
        have : total (l.take (k + 1)) + total (l.drop (k + 1)) = total l := by rw [← total_append, List.take_append_drop]
        omega
      obtain ⟨T, hT⟩ : ∃ T, total (l.take k) = T := ⟨_, rfl⟩
      obtain ⟨T', hT'⟩ : ∃ T', total (l.take (k + 1)) = T' := ⟨_, rfl⟩
      rw [hT] at hadd ⊢
      rw [hT'] at hadd hle
      have hfin : Hid (∀ W, Below w.heap.size w W → ∃ k' : Nat, k' ≤ l.length ∧ Value.int .i64 ((k : Int) + 1) = .int .i64 (k' : Int) ∧ Value.int .i64 (T' : Int) = .int .i64 (total (l.take k') : Int) ∧ Below w.heap.size w W) := fun W hW =>
        ⟨k + 1, by omega, by simp, by rw [hT'], hW⟩
      have hsum : (T : Int) + (s : Int) = (T' : Int) := by omega
      have hT2 : (T' : Int) ≤ 65536 := by omega
      clear hget hx hs hs2 hT hT' hadd HE HC hi
      go_wp2_with (first | (go_at_call 13; refine hat.out.mono ?_; rintro e w2 ⟨rfl, hd1, hd2, hB⟩) | (go_at_call 33; refine (hsz.out _ hB hd1 hd2).mono ?_; clear hB hd1 hd2; rintro e w2 ⟨rfl, hd1, hd2, hB⟩))
      exact ⟨hfin.out _ hB, by simp [intOf]; omega⟩
    · obtain rfl : k = l.length := by omega
      have hbad : Hid (Calls Try.prog 13 #[.pointer (some ⟨b, 0, none⟩), .int .i64 (62 + (l.length : Int))] wr fun r w' => r = .returned (.tuple #[.string ⟨#[]⟩, .string ⟨#[]⟩, .int .i64 5]) ∧ w' = wr) :=
        at_bad wr b mx l.reverse v (HT.out wr hB) _ (.inr (by rw [List.length_reverse]; omega))
      have hln : Hid (Calls Try.prog 12 #[.pointer (some ⟨b, 0, none⟩)] wr fun e w' => e = .returned (.int .i64 (l.length : Int)) ∧ w' = wr) := by
        have := len_any wr b mx l.reverse v (HT.out wr hB)
        rw [List.length_reverse] at this
        exact this
      have htz : Hid (Calls Try.prog 19 #[.pointer (some ⟨b, 0, none⟩)] wr fun e w' => e = .returned (.int .i64 (total l : Int)) ∧ w' = wr) := by
        have := tsize_any wr b mx l.reverse v (HT.out wr hB)
        rw [total_reverse] at this
        exact this
      rw [List.take_length]
      clear HE HT
      go_wp2_with (first | (go_at_call 13; refine hbad.out.mono ?_; rintro e w2 ⟨rfl, rfl⟩) | (go_at_call 12; refine hln.out.mono ?_; rintro e w2 ⟨rfl, rfl⟩) | (go_at_call 19; refine htz.out.mono ?_; rintro e w2 ⟨rfl, rfl⟩))
      go_ret
      exact ⟨rfl, hB⟩

end Go.Proofs.Ytlfbnhdcgldopaa
