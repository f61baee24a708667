/- WriteRequest; the document's WriteRequest. -/
import Derived.Test.YtcgfgjhhmbfmdaaDoorC5
import Derived.Test.YtcgfgjhhmbfmdaaDoorC6
namespace Go.Proofs.YtcgfgjhhmbfmdaaDoor
open Go.RowKit Go.Maps
set_option linter.unusedVariables false
set_option linter.unusedSimpArgs false

/-- a row that was built whole -/
theorem R.whole {α : Type} {E : El α} (ok : E.Ok) {w : World} {g : Nat} {c : Array Value} (l : List α) (hl : l.length ≤ 64) (h : w.heap[g]? = some (.cells c E.e (0, 0))) (hc : c.toList = E.cs l) : R E w (.slice (some ⟨g, 0, none⟩) l.length l.length) l := by
  have hs : c.size = l.length * E.sz := by rw [← Array.length_toList, hc, ok.length]
  refine ⟨by rw [ok.length], .inr ⟨g, l.length, c, rfl, Nat.zero_le _, h, Nat.le_refl _, by unfold maxLen; omega, hs, ?_⟩⟩
  rw [← hs, ← hc, List.take_of_length_le (by simp)]
def wqL (m s a p : ByteArray) (l : List Fd) : List Fd := [⟨reqNames[0], m, false⟩, ⟨reqNames[1], s, false⟩, ⟨reqNames[2], a, false⟩, ⟨reqNames[3], p, false⟩] ++ l
def WqPost (m s a p : ByteArray) (l : List Fd) (w : World) (e : Ending) (w' : World) : Prop :=
  ∃ y : SV, e = .returned (.tuple #[sv y, .int .i64 (rqE (wqL m s a p l))]) ∧ Below w.heap.size w w' ∧ (rqE (wqL m s a p l) = 0 → R EFd w' (sv y) (wqL m s a p l) ∧ ∀ k, (sv y).ownBlock = some k → w.heap.size ≤ k) ∧ (rqE (wqL m s a p l) ≠ 0 → y = (none, 0, 0))
theorem wqL_sz {m s a p : ByteArray} {l : List Fd} (hm : m.size ≤ 140737488355328) (hs : s.size ≤ 140737488355328) (ha : a.size ≤ 140737488355328) (hp : p.size ≤ 140737488355328) (hz : SzOk l) (hlen : (4 + l.length) * 40 ≤ 140737488355328) : SzOk (wqL m s a p l) := by
  refine ⟨fun f hf => ?_, by simp only [wqL, List.length_append, List.length_cons, List.length_nil]; omega⟩
  unfold wqL at hf
  rcases List.mem_append.1 hf with hf | hf
  · simp only [List.mem_cons, List.not_mem_nil, or_false] at hf
    rcases hf with rfl | rfl | rfl | rfl
    · exact ⟨show reqNames[0].size ≤ 140737488355328 by decide, hm⟩
    · exact ⟨show reqNames[1].size ≤ 140737488355328 by decide, hs⟩
    · exact ⟨show reqNames[2].size ≤ 140737488355328 by decide, ha⟩
    · exact ⟨show reqNames[3].size ≤ 140737488355328 by decide, hp⟩
  · exact hz.1 f hf
def fourC (m s a p : ByteArray) : Array Value := #[.string ⟨#[58, 109, 101, 116, 104, 111, 100]⟩, .string m, .bool false, .string ⟨#[58, 115, 99, 104, 101, 109, 101]⟩, .string s, .bool false, .string ⟨#[58, 97, 117, 116, 104, 111, 114, 105, 116, 121]⟩, .string a, .bool false, .string ⟨#[58, 112, 97, 116, 104]⟩, .string p, .bool false]
/-- both write alike -/
theorem write_row (m s a p b : ByteArray) (f : SV) (l : List Fd) (w : World) (hI : In EFd w (sv f) l) (hlen : (4 + l.length) * 40 ≤ 140737488355328) :
    ∃ base cap w3, (Builtin.append_ #[24, 24] 24 #[.slice (some ⟨w.heap.size + 1, 0, none⟩) 4 4, sv f]).run Tryd.prog ((w.alloc (.cells (rqv m s a p (sv f) b) 26)).alloc (.cells (fourC m s a p) 34)) = .ok (.slice base (4 + l.length) cap) w3 ∧ R EFd w3 (.slice base (4 + l.length) cap) (wqL m s a p l) ∧ Below w.heap.size w w3 ∧ ∀ k, (Value.slice base (4 + l.length) cap).ownBlock = some k → w.heap.size ≤ k := by
  have b2 := bel2 w (.cells (rqv m s a p (sv f) b) 26) (.cells (fourC m s a p) 34)
  have hrow : R EFd ((w.alloc (.cells (rqv m s a p (sv f) b) 26)).alloc (.cells (fourC m s a p) 34)) (.slice (some ⟨w.heap.size + 1, 0, none⟩) 4 4) [⟨reqNames[0], m, false⟩, ⟨reqNames[1], s, false⟩, ⟨reqNames[2], a, false⟩, ⟨reqNames[3], p, false⟩] := R.whole okFd _ (by simp) (fresh2 _ _ _) rfl
  obtain ⟨base, cap, w3, g1, g2, g3⟩ := app okFd _ _ _ hrow _ _ (hI.below b2) (by simpa [EFd] using hlen)
  refine ⟨base, cap, w3, g1, g2, b2.trans (g3.belowB b2.size fun k hk => ?_), fun k hk => ?_⟩
  · simp [Value.ownBlock] at hk
    omega
  · rcases g3.own k hk with e | e
    · simp [Value.ownBlock] at e
      omega
    · exact Nat.le_trans b2.size e

set_option maxHeartbeats 8000000 in
set_option maxRecDepth 100000 in
theorem writeRequest_any (m s a p b : ByteArray) (f : SV) (l : List Fd) (w : World) (hI : In EFd w (sv f) l) (hm : m.size ≤ 140737488355328) (hs : s.size ≤ 140737488355328) (ha : a.size ≤ 140737488355328) (hp : p.size ≤ 140737488355328) (hz : SzOk l) (hlen : (4 + l.length) * 40 ≤ 140737488355328) :
    Calls Tryd.prog 16 #[.agg (rqv m s a p (sv f) b)] w fun e w' => WqPost m s a p l w e w' := by
  obtain ⟨base, cap, w3, g1, g2, g3, g4⟩ := write_row m s a p b f l w hI hlen
  have hsz := wqL_sz hm hs ha hp hz hlen
  have hC : Hid (Calls Tryd.prog 14 #[.slice base (4 + l.length) cap] w3 fun e w' => RqPost (wqL m s a p l) w3 e w') := readRequest_any (base, 4 + l.length, cap) _ w3 g2.isIn fun f hf => (hsz.1 f hf).1
  replace g1 : Hid _ := g1
  have HG : Hid (R EFd w3 (.slice base (4 + l.length) cap) (wqL m s a p l) ∧ Below w.heap.size w w3 ∧ ∀ k, (Value.slice base (4 + l.length) cap).ownBlock = some k → w.heap.size ≤ k) := ⟨g2, g3, g4⟩
  obtain ⟨fb, fl, fc⟩ := f
  simp only [sv, rqv, fourC] at g1 ⊢
  clear hI hm hs ha hp hz hlen hsz g2 g3 g4
  go_enter Tryd.func16, Tryd.ntmps16
  go_wp2_with (at_builtin; refine Lib.wpList_append_run _ rfl _ _ _ _ rfl _ _ rfl rfl _ _ g1.out ?_)
  go_at_call 14
  refine hC.out.mono ?_
  rintro e w4 ⟨m4, s4, a4, p4, ⟨yb, yl, yc⟩, rfl, b4, _, _⟩
  have HW : Hid (∀ o, Below w.heap.size w (w4.alloc o) ∧ R EFd (w4.alloc o) (.slice base (4 + l.length) cap) (wqL m s a p l)) := fun o => by
    obtain ⟨h1, h2, h3⟩ := HG.out
    exact ⟨(h2.trans (b4.mono h2.size)).trans ((bel1 w4 o).mono (Nat.le_trans h2.size b4.size)), (R.below h1 b4).below (bel1 w4 o)⟩
  have HO : Hid (∀ k, (Value.slice base (4 + l.length) cap).ownBlock = some k → w.heap.size ≤ k) := HG.out.2.2
  obtain ⟨E, hE⟩ : ∃ E, rqE (wqL m s a p l) = E := ⟨_, rfl⟩
  rw [hE]
  have HE : Hid (rqE (wqL m s a p l) = E) := hE
  clear hE b4 HG hC g1
  simp only [sv, rqv]
  by_cases h0 : E = 0
  · subst h0
    go_wp2_with fail
    go_ret2
    exact ⟨(base, 4 + l.length, cap), by rw [HE.out]; rfl, (HW.out _).1, fun _ => ⟨(HW.out _).2, HO.out⟩, fun h => absurd HE.out h⟩
  · have h0' : (E != 0) = true := by simp [h0]
    have H0 : Hid (E ≠ 0) := h0
    clear h0
    go_wp2_with fail
    go_ret2
    exact ⟨(none, 0, 0), by rw [HE.out]; rfl, (HW.out _).1, fun h => absurd (HE.out.symm.trans h) H0.out, fun _ => rfl⟩
set_option maxHeartbeats 8000000 in
set_option maxRecDepth 100000 in
theorem rwriteRequest_any (m s a p b : ByteArray) (f : SV) (l : List Fd) (w : World) (hI : In EFd w (sv f) l) (hm : m.size ≤ 140737488355328) (hs : s.size ≤ 140737488355328) (ha : a.size ≤ 140737488355328) (hp : p.size ≤ 140737488355328) (hz : SzOk l) (hlen : (4 + l.length) * 40 ≤ 140737488355328) :
    Calls Tryd.prog 35 #[.agg (rqv m s a p (sv f) b)] w fun e w' => WqPost m s a p l w e w' := by
  obtain ⟨base, cap, w3, g1, g2, g3, g4⟩ := write_row m s a p b f l w hI hlen
  have hsz := wqL_sz hm hs ha hp hz hlen
  have hC : Hid (Calls Tryd.prog 27 #[.slice base (4 + l.length) cap] w3 fun e w' => RqPost (wqL m s a p l) w3 e w') := rreadRequest_any (base, 4 + l.length, cap) _ w3 g2.isIn hsz
  replace g1 : Hid _ := g1
  have HG : Hid (R EFd w3 (.slice base (4 + l.length) cap) (wqL m s a p l) ∧ Below w.heap.size w w3 ∧ ∀ k, (Value.slice base (4 + l.length) cap).ownBlock = some k → w.heap.size ≤ k) := ⟨g2, g3, g4⟩
  obtain ⟨fb, fl, fc⟩ := f
  simp only [sv, rqv, fourC] at g1 ⊢
  clear hI hm hs ha hp hz hlen hsz g2 g3 g4
  go_enter Tryd.func35, Tryd.ntmps35
  go_wp2_with (at_builtin; refine Lib.wpList_append_run _ rfl _ _ _ _ rfl _ _ rfl rfl _ _ g1.out ?_)
  go_at_call 27
  refine hC.out.mono ?_
  rintro e w4 ⟨m4, s4, a4, p4, ⟨yb, yl, yc⟩, rfl, b4, _, _⟩
  have HW : Hid (∀ o, Below w.heap.size w (w4.alloc o) ∧ R EFd (w4.alloc o) (.slice base (4 + l.length) cap) (wqL m s a p l)) := fun o => by
    obtain ⟨h1, h2, h3⟩ := HG.out
    exact ⟨(h2.trans (b4.mono h2.size)).trans ((bel1 w4 o).mono (Nat.le_trans h2.size b4.size)), (R.below h1 b4).below (bel1 w4 o)⟩
  have HO : Hid (∀ k, (Value.slice base (4 + l.length) cap).ownBlock = some k → w.heap.size ≤ k) := HG.out.2.2
  obtain ⟨E, hE⟩ : ∃ E, rqE (wqL m s a p l) = E := ⟨_, rfl⟩
  rw [hE]
  have HE : Hid (rqE (wqL m s a p l) = E) := hE
  clear hE b4 HG hC g1
  simp only [sv, rqv]
  by_cases h0 : E = 0
  · subst h0
    go_wp2_with fail
    go_ret2
    exact ⟨(base, 4 + l.length, cap), by rw [HE.out]; rfl, (HW.out _).1, fun _ => ⟨(HW.out _).2, HO.out⟩, fun h => absurd HE.out h⟩
  · have h0' : (E != 0) = true := by simp [h0]
    have H0 : Hid (E ≠ 0) := h0
    clear h0
    go_wp2_with fail
    go_ret2
    exact ⟨(none, 0, 0), by rw [HE.out]; rfl, (HW.out _).1, fun h => absurd (HE.out.symm.trans h) H0.out, fun _ => rfl⟩
end Go.Proofs.YtcgfgjhhmbfmdaaDoor
