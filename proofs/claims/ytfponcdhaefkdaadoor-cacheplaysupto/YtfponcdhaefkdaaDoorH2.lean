/- The document's Fields, Tick. -/
import Derived.Test.YtfponcdhaefkdaaDoorH1
namespace Go.Proofs.YtfponcdhaefkdaaDoor
open Go.RowKit
set_option linter.unusedVariables false
set_option linter.unusedSimpArgs false
set_option maxHeartbeats 1000000 in
theorem rfields_any (y : SV) (l : List Fd) (w : World) (hI : In EFd w (sv y) l) (hl : l.length ≤ 1099511627776) :
    Calls Tryd.prog 86 #[sv y] w fun e w' => ∃ z : SV, e = .returned (sv z) ∧ R EFd w' (sv z) l ∧ (∀ k, (sv z).ownBlock = some k → w.heap.size ≤ k) ∧ Below w.heap.size w w' := by
  obtain ⟨v1, v3, W4, hrun, hRr, hG⟩ := app okFd w (.slice none 0 0) [] (R.nil EFd w) (sv y) l hI (by simp only [EFd, List.length_nil]; omega)
  have el : ([] : List Fd).length + l.length = l.length := by simp
  rw [el] at hrun hRr hG
  have HE : Hid (R EFd W4 (.slice v1 l.length v3) l ∧ (∀ k, (Value.slice v1 l.length v3).ownBlock = some k → w.heap.size ≤ k) ∧ Below w.heap.size w W4) := ⟨by simpa using hRr, hG.new, hG.fresh⟩
  obtain ⟨N, hN⟩ : ∃ N, l.length = N := ⟨_, rfl⟩
  rw [hN] at hrun HE
  obtain ⟨y1, y2, y3⟩ := y
  simp only [sv] at hrun ⊢
  replace hrun : Hid _ := hrun
  clear hI hRr hG el hN hl
  go_enter Tryd.func86, Tryd.ntmps86
  go_wp2_with (at_builtin; refine Lib.wpList_append_run _ rfl _ _ _ _ rfl _ _ rfl rfl _ _ hrun.out ?_)
  go_ret
  first | exact ⟨(v1, N, v3), rfl, HE.out⟩ | exact ⟨v1, N, v3, rfl, HE.out⟩
/-- Tick under way -/
structure Tr (W wr : World) (b : Nat) (me mb lf pd : Int) (z : SV) (B : List Kn) (now : Int) (gs : SV) (D : List Int) (sy : SV) (S : List Kn) : Prop where
  rc : Rc wr b me mb lf pd z B now
  gn : R EI wr (sv gs) D
  sr : R EV wr (sv sy) S
  ng : ∀ k, (sv gs).ownBlock = some k → W.heap.size ≤ k
  ns : ∀ k, (sv sy).ownBlock = some k → W.heap.size ≤ k
  ks : Ks (fun k => k = b) W wr
  lt : ∀ k, Rb b z B k → k < W.heap.size
variable {W wr V : World} {b : Nat} {me mb lf pd : Int} {z : SV} {B : List Kn} {now : Int} {gs : SV} {D : List Int} {sy : SV} {S : List Kn}
theorem Tr.below (h : Tr W wr b me mb lf pd z B now gs D sy S) (hb : Below wr.heap.size wr V) : Tr W V b me mb lf pd z B now gs D sy S := ⟨h.rc.below hb, h.gn.below hb, h.sr.below hb, h.ng, h.ns, h.ks.bel hb, h.lt⟩
theorem Tr.gone {g1 : Option Addr} {g2 g3 : Nat} (h : Tr W wr b me mb lf pd z B now (g1, g2, g3) D sy S) (n : Int) (hl : D.length ≤ 1000) : ∃ b2 c2 w2, (Builtin.append_ #[38, 38] 38 #[.slice g1 g2 g3, .slice (some ⟨wr.heap.size, 0, none⟩) 1 1]).run Tryd.prog (wr.alloc (.cells #[.int .i64 n] 2)) = .ok (.slice b2 (g2 + 1) c2) w2 ∧ Tr W w2 b me mb lf pd z B now (b2, g2 + 1, c2) (D ++ [n]) sy S := by
  have h2 := h.below (bel1 wr (.cells #[.int .i64 n] 2))
  obtain ⟨b2, c2, w2, e1, e2, e3⟩ := app okI (wr.alloc (.cells #[.int .i64 n] 2)) (.slice g1 g2 g3) D h2.gn (.slice (some ⟨wr.heap.size, 0, none⟩) 1 1) [n] (in_one (E := EI) _ _ n #[.int .i64 n] 2 (0, 0) (by rw [heap_al, if_pos rfl]) rfl) (by simp only [EI, List.length_singleton]; omega)
  have hg : g2 = D.length := by
    obtain ⟨_, _, e, _, _⟩ := h.gn.slice
    simp only [sv] at e
    injection e
  have el : D.length + [n].length = g2 + 1 := by rw [hg]; rfl
  rw [el] at e1 e2 e3
  have hoff : ∀ k, (Value.slice g1 g2 g3).ownBlock = some k → W.heap.size ≤ k := h.ng
  refine ⟨b2, c2, w2, e1, ⟨h2.rc.keep fun k hk hl => e3.block k hl fun e => ?_, e2, h2.sr.stays fun k hk hl => e3.block k hl fun e => ?_, fun k hk => ?_, h.ns, h2.ks.trans (Ks.of_gr e3) (fun i _ hi => hi) (fun i hi he => ?_), h.lt⟩⟩
  · have := hoff k e
    have := h.lt k hk
    omega
  · obtain ⟨c1, hc1⟩ := h2.gn.ty k e
    obtain ⟨c2', hc2⟩ := h2.sr.ty k hk
    exact ty_ne hc1 hc2 (show (2 : TypeId) ≠ 119 by decide) rfl
  · rcases e3.own k hk with e | e
    · exact hoff k e
    · exact Nat.le_trans h2.ks.size e
  · have := hoff i he
    omega
theorem Tr.stay {s1 : Option Addr} {s2 s3 : Nat} (h : Tr W wr b me mb lf pd z B now gs D (s1, s2, s3) S) (x : Kn) (hl : S.length ≤ 1000) : ∃ b2 c2 w2, (Builtin.append_ #[98, 98] 98 #[.slice s1 s2 s3, .slice (some ⟨wr.heap.size, 0, none⟩) 1 1]).run Tryd.prog (wr.alloc (.cells (kev x) 119)) = .ok (.slice b2 (s2 + 1) c2) w2 ∧ Tr W w2 b me mb lf pd z B now gs D (b2, s2 + 1, c2) (S ++ [x]) := by
  have h2 := h.below (bel1 wr (.cells (kev x) 119))
  obtain ⟨b2, c2, w2, e1, e2, e3⟩ := app okV (wr.alloc (.cells (kev x) 119)) (.slice s1 s2 s3) S h2.sr (.slice (some ⟨wr.heap.size, 0, none⟩) 1 1) [x] (in_one (E := EV) _ _ x (kev x) 119 (0, 0) (by rw [heap_al, if_pos rfl]) rfl) (by simp only [EV, List.length_singleton]; omega)
  have hg : s2 = S.length := by
    obtain ⟨_, _, e, _, _⟩ := h.sr.slice
    simp only [sv] at e
    injection e
  have el : S.length + [x].length = s2 + 1 := by rw [hg]; rfl
  rw [el] at e1 e2 e3
  have hoff : ∀ k, (Value.slice s1 s2 s3).ownBlock = some k → W.heap.size ≤ k := h.ns
  refine ⟨b2, c2, w2, e1, ⟨h2.rc.keep fun k hk hl => e3.block k hl fun e => ?_, h2.gn.stays fun k hk hl => e3.block k hl fun e => ?_, e2, h.ng, fun k hk => ?_, h2.ks.trans (Ks.of_gr e3) (fun i _ hi => hi) (fun i hi he => ?_), h.lt⟩⟩
  · have := hoff k e
    have := h.lt k hk
    omega
  · obtain ⟨c1, hc1⟩ := h2.sr.ty k e
    obtain ⟨c2', hc2⟩ := h2.gn.ty k hk
    exact ty_ne hc1 hc2 (show (119 : TypeId) ≠ 2 by decide) rfl
  · rcases e3.own k hk with e | e
    · exact hoff k e
    · exact Nat.le_trans h2.ks.size e
  · have := hoff i he
    omega
end Go.Proofs.YtfponcdhaefkdaaDoor
