/- The reader: fail, next. The reader: text, endLine, isLineOver, number, skip, name. The reader: skip, name. -/
import Derived.Test.YtghppkfopglgaaaGreatDoorKah
namespace Go.Proofs.YtghppkfopglgaaaGreatDoor
open Go.RowKit
set_option linter.unusedVariables false
set_option linter.unusedSimpArgs false
/-- these words can be read behind the slice, in that block -/
def InB (bw : Nat) (W : World) (sl : Value) (l : List Wd) : Prop :=
  (∃ base cap, sl = .slice base 0 cap ∧ l = [] ∧ cap ≤ 9223372036854775807) ∨ ∃ off cap, sl = .slice (some ⟨bw, off, none⟩) l.length cap ∧ l ≠ [] ∧ l.length ≤ cap ∧ cap ≤ 9223372036854775807 ∧ ∀ j u, (EW.cs l)[j]? = some u → W.cell? ⟨bw, off + j, none⟩ = some u
/-- the reader -/
structure RdS (gr bw : Nat) (r : Rd) (W : World) : Prop where
  ne : gr ≠ bw
  g8 : 8 ≤ gr
  env : Env W
  sm : ∀ x ∈ r.l, x.t.size ≤ 1048576
  lb : bw < W.heap.size
  st : ∃ sl, W.heap[gr]? = some (.cells #[sl, .bool r.bad] 111 (0, 0)) ∧ InB bw W sl r.l
/-- only the reader's block changed -/
abbrev Kr (gr : Nat) (W W' : World) : Prop := Ks (fun k => k = gr) W W'
theorem Kr.env {gr : Nat} {W W' : World} (h : Env W) (g8 : 8 ≤ gr) (hk : Kr gr W W') : Env W' := h.of hk.size fun k hk' => hk.block k (by have := h.sz; omega) (by omega)
theorem InB.keep {bw gr : Nat} {W W' : World} {sl : Value} {l : List Wd} (h : InB bw W sl l) (ne : gr ≠ bw) (hk : Kr gr W W') : InB bw W' sl l := by
  rcases h with h | ⟨off, cap, h1, h2, h3, h4, h5⟩
  · exact .inl h
  · refine .inr ⟨off, cap, h1, h2, h3, h4, fun j u hu => ?_⟩
    have hc := h5 j u hu
    by_cases hb : bw < W.heap.size
    · rw [← hc]
      unfold World.cell?
      simp only
      rw [hk.block bw hb (fun e => ne e.symm)]
    · simp [World.cell?, Array.getElem?_eq_none (Nat.le_of_not_lt hb)] at hc
theorem RdS.keep {gr bw : Nat} {r : Rd} {W W' : World} (h : RdS gr bw r W) (hk : Kr gr W W') (sl : Value) {r' : Rd} (hs : ∀ x ∈ r'.l, x ∈ r.l) (hi : InB bw W sl r'.l) (hg : W'.heap[gr]? = some (.cells #[sl, .bool r'.bad] 111 (0, 0))) : RdS gr bw r' W' :=
  ⟨h.ne, h.g8, Kr.env h.env h.g8 hk, fun x hx => h.sm x (hs x hx), Nat.lt_of_lt_of_le h.lb hk.size, sl, hg, hi.keep h.ne hk⟩
theorem RdS.lt {gr bw : Nat} {r : Rd} {W : World} (h : RdS gr bw r W) : gr < W.heap.size := by
  obtain ⟨sl, h1, _⟩ := h.st
  exact heap_lt h1
/-- another block changed -/
theorem RdS.off {gr bw g0 : Nat} {r : Rd} {W W' : World} (h : RdS gr bw r W) (n1 : gr ≠ g0) (n2 : bw ≠ g0) (g8 : 8 ≤ g0) (hk : Ks (fun k => k = g0) W W') : RdS gr bw r W' := by
  obtain ⟨sl, h1, h2⟩ := h.st
  refine ⟨h.ne, h.g8, Kr.env h.env g8 hk, h.sm, Nat.lt_of_lt_of_le h.lb hk.size, sl, (hk.block _ (heap_lt h1) n1).trans h1, h2.keep (gr := g0) (fun e => n2 e.symm) hk⟩
theorem RdS.below {gr bw : Nat} {r : Rd} {W W' : World} (h : RdS gr bw r W) (hb : Below W.heap.size W W') : RdS gr bw r W' := by
  obtain ⟨sl, h1, h2⟩ := h.st
  exact h.keep (Ks.of_below hb) sl (fun _ h => h) h2 ((hb.block _ (heap_lt h1)).trans h1)
theorem InB.tail {bw : Nat} {W : World} {off cap : Nat} {w : Wd} {l : List Wd} (h : ∀ j u, (EW.cs (w :: l))[j]? = some u → W.cell? ⟨bw, off + j, none⟩ = some u) (h3 : l.length + 1 ≤ cap) (h4 : cap ≤ 9223372036854775807) (hl : l ≠ []) :
    InB bw W (.slice (some ⟨bw, off + 2, none⟩) l.length (cap - 1)) l := by
  refine .inr ⟨off + 2, cap - 1, rfl, hl, by omega, by omega, fun j u hu => ?_⟩
  have : (EW.cs (w :: l))[j + 2]? = some u := by
    simp only [El.cs, List.flatMap_cons, EW, wdv, List.cons_append, List.nil_append, List.getElem?_cons_succ] at hu ⊢
    exact hu
  have := h _ _ this
  rw [show off + 2 + j = off + (j + 2) by omega]
  exact this
set_option maxRecDepth 100000 in
set_option maxHeartbeats 8000000 in
theorem fail_any (gr bw : Nat) (r : Rd) (w : World) (h : RdS gr bw r w) : Calls Tryz.prog 83 #[.pointer (some ⟨gr, 0, none⟩)] w fun e w' => e = .returned (.tuple #[]) ∧ RdS gr bw Rd.no w' ∧ Kr gr w w' := by
  obtain ⟨sl, h1, h2⟩ := h.st
  have H := hid h
  have H1 := hid h1
  have c0 := cell_blk h1 0
  have f0 := frozen_blk h1 0
  have c1 := cell_blk h1 1
  have f1 := frozen_blk h1 1
  have l0 := heap_lt h1
  simp only [List.getElem?_toArray, List.getElem?_cons_zero, List.getElem?_cons_succ] at c0 c1
  clear h h1 h2
  go_enter Tryz.func83, Tryz.ntmps83
  go_wp2_with fail
  go_end0
  have hk0 := Ks.setCell (fun k => k = gr) w gr 0 (.slice none 0 0) rfl
  have hk1 := Ks.setCell (fun k => k = gr) (w.setCell ⟨gr, 0, none⟩ (.slice none 0 0)) gr 1 (.bool true) rfl
  have hk := hk0.trans hk1 (fun _ _ h => h) (fun _ _ h => h)
  refine ⟨rfl, H.out.keep hk (.slice none 0 0) (fun x hx => absurd hx (by simp [Rd.no])) (.inl ⟨none, 0, rfl, rfl, by omega⟩) ?_, hk⟩
  rw [setCell_block _ _ _ _ _ _ _ (setCell_block _ _ _ _ _ _ _ H1.out)]
  rfl
set_option maxRecDepth 100000 in
set_option maxHeartbeats 8000000 in
theorem next_any (gr bw : Nat) (r : Rd) (k : Nat) (w : World) (h : RdS gr bw r w) : Calls Tryz.prog 58 #[.pointer (some ⟨gr, 0, none⟩), .int .i64 (k : Int)] w fun e w' => e = .returned (.string (r.nx k).1) ∧ RdS gr bw (r.nx k).2 w' ∧ Kr gr w w' := by
  obtain ⟨sl, h1, h2⟩ := h.st
  have H := hid h
  have H1 := hid h1
  have c0 := cell_blk h1 0
  have f0 := frozen_blk h1 0
  have l0 := heap_lt h1
  simp only [List.getElem?_toArray, List.getElem?_cons_zero, List.getElem?_cons_succ] at c0
  obtain ⟨l, bad⟩ := r
  have HF := hid (fail_any gr bw ⟨l, bad⟩ w h)
  cases l with
  | nil =>
    rcases h2 with ⟨base, cap, rfl, -, hcap⟩ | ⟨off, cap, _, h, _⟩
    · clear h h1
      go_enter Tryz.func58, Tryz.ntmps58
      go_wp2_with fail
      go_at_call 83
      refine HF.out.mono ?_
      rintro e V ⟨rfl, hS, hK⟩
      go_wp2_with fail
      go_ret
      exact ⟨rfl, hS, hK⟩
    · exact absurd rfl h
  | cons x l =>
    rcases h2 with ⟨base, cap, _, h, _⟩ | ⟨off, cap, rfl, _, h3, h4, h5⟩
    · cases h
    · have a0 : w.cell? ⟨bw, off, none⟩ = some (.int .i64 (x.k : Int)) := h5 0 (.int .i64 (x.k : Int)) rfl
      have a1 : w.cell? ⟨bw, off + 1, none⟩ = some (.string x.t) := h5 1 (.string x.t) rfl
      have HI := hid (InB.tail (bw := bw) (W := w) (w := x) (l := l) h5 h3 h4)
      clear h h1 h5
      by_cases hk : x.k = k
      · subst hk
        clear HF
        have hn : Rd.nx ⟨x :: l, bad⟩ x.k = (x.t, ⟨l, bad⟩) := by show (if x.k = x.k then _ else _) = _; rw [if_pos rfl]
        rw [hn]
        by_cases hc : cap = 1
        · subst hc
          have hl : l = [] := List.eq_nil_of_length_eq_zero (by rw [List.length_cons] at h3; omega)
          subst hl
          go_enter Tryz.func58, Tryz.ntmps58
          go_wp2_with fail
          go_ret
          have hk := Ks.setCell (fun k => k = gr) w gr 0 (.slice (some ⟨bw, off, none⟩) 0 0) rfl
          refine ⟨rfl, H.out.keep hk (.slice (some ⟨bw, off, none⟩) 0 0) (fun x hx => absurd hx (by simp)) (.inl ⟨some ⟨bw, off, none⟩, 0, rfl, rfl, by omega⟩) ?_, hk⟩
          rw [setCell_block _ _ _ _ _ _ _ H1.out]
          rfl
        · have hc2 : ¬ cap - 1 = 0 := by rw [List.length_cons] at h3; omega
          go_enter Tryz.func58, Tryz.ntmps58
          go_wp2_with fail
          go_ret
          have hk := Ks.setCell (fun k => k = gr) w gr 0 (.slice (some ⟨bw, off + 2, none⟩) l.length (cap - 1)) rfl
          refine ⟨rfl, H.out.keep hk (.slice (some ⟨bw, off + 2, none⟩) l.length (cap - 1)) (fun x hx => by simp [hx]) ?_ ?_, hk⟩
          · by_cases hl : l = []
            · subst hl; exact .inl ⟨_, _, rfl, rfl, by omega⟩
            · exact HI.out hl
          · rw [setCell_block _ _ _ _ _ _ _ H1.out]
            rfl
      · have he : Rd.nx ⟨x :: l, bad⟩ k = (noS, Rd.no) := by show (if x.k = k then _ else _) = _; rw [if_neg hk]
        rw [he]
        have hk3 : ¬ (x.k : Int) = (k : Int) := by omega
        clear he hk
        generalize (x.k : Int) = xi at a0 hk3
        generalize (k : Int) = ki at hk3 ⊢
        have hk4 : (xi == ki) = false := by simpa using hk3
        have hk5 : (xi != ki) = true := by simpa using hk3
        go_enter Tryz.func58, Tryz.ntmps58
        go_wp2_with fail
        go_at_call 83
        refine HF.out.mono ?_
        rintro e V ⟨rfl, hS, hK⟩
        go_wp2_with fail
        go_ret
        exact ⟨rfl, hS, hK⟩
end Go.Proofs.YtghppkfopglgaaaGreatDoor
namespace Go.Proofs.YtghppkfopglgaaaGreatDoor
open Go.RowKit
set_option linter.unusedVariables false
set_option linter.unusedSimpArgs false
theorem nx_small (r : Rd) (k : Nat) (h : ∀ x ∈ r.l, x.t.size ≤ 1048576) : (r.nx k).1.size ≤ 1048576 := by
  obtain ⟨l, bad⟩ := r
  cases l with
  | nil => show noS.size ≤ _; decide
  | cons x l =>
    show (if x.k = k then (x.t, (⟨l, bad⟩ : Rd)) else (noS, Rd.no)).1.size ≤ _
    split
    · exact h x (by simp)
    · show noS.size ≤ _; decide
theorem Kr.tr {gr : Nat} {a b c : World} (h : Kr gr a b) (k : Kr gr b c) : Kr gr a c := h.trans k (fun _ _ h => h) (fun _ _ h => h)
set_option maxRecDepth 100000 in
theorem text_any (gr bw : Nat) (r : Rd) (w : World) (h : RdS gr bw r w) : Calls Tryz.prog 88 #[.pointer (some ⟨gr, 0, none⟩)] w fun e w' => e = .returned (.string (r.nx 1).1) ∧ RdS gr bw (r.nx 1).2 w' ∧ Kr gr w w' := by
  have HN := hid (next_any gr bw r 1 w h)
  clear h
  go_enter Tryz.func88, Tryz.ntmps88
  go_wp2_with fail
  go_at_call 58
  refine HN.out.mono ?_
  rintro e V ⟨rfl, hS, hK⟩
  go_wp2_with fail
  go_ret
  exact ⟨rfl, hS, hK⟩
set_option maxRecDepth 100000 in
theorem endLine_any (gr bw : Nat) (r : Rd) (w : World) (h : RdS gr bw r w) : Calls Tryz.prog 60 #[.pointer (some ⟨gr, 0, none⟩)] w fun e w' => e = .returned (.tuple #[]) ∧ RdS gr bw r.el w' ∧ Kr gr w w' := by
  have HN := hid (next_any gr bw r 2 w h)
  clear h
  go_enter Tryz.func60, Tryz.ntmps60
  go_wp2_with fail
  go_at_call 58
  refine HN.out.mono ?_
  rintro e V ⟨rfl, hS, hK⟩
  go_wp2_with fail
  go_end0
  exact ⟨rfl, hS, hK⟩
set_option maxRecDepth 100000 in
theorem number_r (gr bw : Nat) (r : Rd) (w : World) (h : RdS gr bw r w) : Calls Tryz.prog 62 #[.pointer (some ⟨gr, 0, none⟩)] w fun e w' => e = .returned (.int .i64 r.nu.1) ∧ RdS gr bw r.nu.2 w' ∧ Kr gr w w' := by
  have HN := hid (next_any gr bw r 0 w h)
  have hsm := nx_small r 0 h.sm
  have HM := hid (fun V (hV : RdS gr bw (r.nx 0).2 V) => number_any (r.nx 0).1 (by omega) V hV.env)
  have HF := hid (fun V (hV : RdS gr bw (r.nx 0).2 V) => fail_any gr bw _ V hV)
  have HU : Hid (r.nu = (numV (r.nx 0).1.data.toList, if numB (r.nx 0).1.data.toList then (r.nx 0).2 else Rd.no)) := hid rfl
  clear h hsm
  go_enter Tryz.func62, Tryz.ntmps62
  go_wp2_with fail
  go_at_call 58
  refine HN.out.mono ?_
  rintro e V ⟨rfl, hS, hK⟩
  have HS := hid hS
  have HK := hid hK
  clear hS hK HN
  go_wp2_with fail
  go_at_call 89
  refine (HM.out _ HS.out).mono ?_
  rintro e V2 ⟨rfl, hb⟩
  have HB := hid hb
  clear hb HM
  cases hn : numB (r.nx 0).1.data.toList with
  | true =>
    rw [hn] at HU
    clear hn
    go_wp2_with fail
    go_ret
    rw [HU.out]
    exact ⟨rfl, HS.out.below HB.out, Kr.tr HK.out (Ks.of_below HB.out)⟩
  | false =>
    rw [hn] at HU
    clear hn
    go_wp2_with fail
    go_at_call 83
    refine (HF.out _ (HS.out.below HB.out)).mono ?_
    rintro e V3 ⟨rfl, hS, hK⟩
    go_wp2_with fail
    go_ret
    rw [HU.out]
    exact ⟨rfl, hS, Kr.tr (Kr.tr HK.out (Ks.of_below HB.out)) hK⟩
set_option maxRecDepth 100000 in
set_option maxHeartbeats 8000000 in
theorem over_any (gr bw : Nat) (r : Rd) (w : World) (h : RdS gr bw r w) : Calls Tryz.prog 107 #[.pointer (some ⟨gr, 0, none⟩)] w fun e w' => e = .returned (.bool r.ov) ∧ w' = w := by
  obtain ⟨sl, h1, h2⟩ := h.st
  have c0 := cell_blk h1 0
  have f0 := frozen_blk h1 0
  have l0 := heap_lt h1
  simp only [List.getElem?_toArray, List.getElem?_cons_zero, List.getElem?_cons_succ] at c0
  obtain ⟨l, bad⟩ := r
  cases l with
  | nil =>
    rcases h2 with ⟨base, cap, rfl, -, hcap⟩ | ⟨off, cap, _, h, _⟩
    · clear h h1
      have hv : Rd.ov ⟨[], bad⟩ = true := rfl
      rw [hv]
      clear hv
      go_enter Tryz.func107, Tryz.ntmps107
      go_wp2_with fail
      go_ret
      exact ⟨rfl, rfl⟩
    · exact absurd rfl h
  | cons x l =>
    rcases h2 with ⟨base, cap, _, h, _⟩ | ⟨off, cap, rfl, _, h3, h4, h5⟩
    · cases h
    · have a0 : w.cell? ⟨bw, off, none⟩ = some (.int .i64 (x.k : Int)) := h5 0 (.int .i64 (x.k : Int)) rfl
      clear h h1 h5
      have hv : Rd.ov ⟨x :: l, bad⟩ = decide (x.k = 2) := rfl
      rw [hv]
      clear hv
      by_cases hk : x.k = 2
      · rw [hk] at a0 ⊢
        clear hk
        go_enter Tryz.func107, Tryz.ntmps107
        go_wp2_with fail
        go_ret
        exact ⟨rfl, rfl⟩
      · have hk3 : ¬ (x.k : Int) = 2 := by omega
        rw [decide_eq_false hk]
        clear hk
        generalize (x.k : Int) = xi at a0 hk3
        have hk4 : (xi == 2) = false := by simpa using hk3
        go_enter Tryz.func107, Tryz.ntmps107
        go_wp2_with fail
        go_ret
        exact ⟨rfl, rfl⟩
end Go.Proofs.YtghppkfopglgaaaGreatDoor
namespace Go.Proofs.YtghppkfopglgaaaGreatDoor
open Go.RowKit
set_option linter.unusedVariables false
set_option linter.unusedSimpArgs false
set_option maxRecDepth 100000 in
set_option maxHeartbeats 8000000 in
theorem skip_any (gr bw : Nat) (r : Rd) (s : ByteArray) (w : World) (h : RdS gr bw r w) : Calls Tryz.prog 63 #[.pointer (some ⟨gr, 0, none⟩), .string s] w fun e w' => e = .returned (.bool (r.sk s).1) ∧ RdS gr bw (r.sk s).2 w' ∧ Kr gr w w' := by
  obtain ⟨sl, h1, h2⟩ := h.st
  have H := hid h
  have H1 := hid h1
  have c0 := cell_blk h1 0
  have f0 := frozen_blk h1 0
  have l0 := heap_lt h1
  simp only [List.getElem?_toArray, List.getElem?_cons_zero, List.getElem?_cons_succ] at c0
  obtain ⟨l, bad⟩ := r
  cases l with
  | nil =>
    rcases h2 with ⟨base, cap, rfl, -, hcap⟩ | ⟨off, cap, _, h, _⟩
    · clear h h1
      have hn : Rd.sk ⟨[], bad⟩ s = (false, ⟨[], bad⟩) := rfl
      rw [hn]
      clear hn
      go_enter Tryz.func63, Tryz.ntmps63
      go_wp2_with fail
      go_ret
      exact ⟨rfl, H.out, Ks.refl _ _⟩
    · exact absurd rfl h
  | cons x l =>
    rcases h2 with ⟨base, cap, _, h, _⟩ | ⟨off, cap, rfl, _, h3, h4, h5⟩
    · cases h
    · have a0 : w.cell? ⟨bw, off, none⟩ = some (.int .i64 (x.k : Int)) := h5 0 (.int .i64 (x.k : Int)) rfl
      have a1 : w.cell? ⟨bw, off + 1, none⟩ = some (.string x.t) := h5 1 (.string x.t) rfl
      have HI := hid (InB.tail (bw := bw) (W := w) (w := x) (l := l) h5 h3 h4)
      clear h h1 h5
      by_cases hk : x.k = 0 ∧ x.t = s
      · obtain ⟨hk0, hk1⟩ := hk
        have hn : Rd.sk ⟨x :: l, bad⟩ s = (true, ⟨l, bad⟩) := by show (if x.k = 0 ∧ x.t = s then _ else _) = _; rw [if_pos ⟨hk0, hk1⟩]
        rw [hn]
        clear hn
        rw [hk0] at a0
        rw [hk1] at a1
        clear hk0 hk1
        by_cases hc : cap = 1
        · subst hc
          have hl : l = [] := List.eq_nil_of_length_eq_zero (by rw [List.length_cons] at h3; omega)
          subst hl
          go_enter Tryz.func63, Tryz.ntmps63
          go_wp2_with fail
          go_ret
          have hk := Ks.setCell (fun k => k = gr) w gr 0 (.slice (some ⟨bw, off, none⟩) 0 0) rfl
          refine ⟨rfl, H.out.keep hk (.slice (some ⟨bw, off, none⟩) 0 0) (fun x hx => absurd hx (by simp)) (.inl ⟨some ⟨bw, off, none⟩, 0, rfl, rfl, by omega⟩) ?_, hk⟩
          rw [setCell_block _ _ _ _ _ _ _ H1.out]
          rfl
        · have hc2 : ¬ cap - 1 = 0 := by rw [List.length_cons] at h3; omega
          go_enter Tryz.func63, Tryz.ntmps63
          go_wp2_with fail
          go_ret
          have hk := Ks.setCell (fun k => k = gr) w gr 0 (.slice (some ⟨bw, off + 2, none⟩) l.length (cap - 1)) rfl
          refine ⟨rfl, H.out.keep hk (.slice (some ⟨bw, off + 2, none⟩) l.length (cap - 1)) (fun x hx => by simp [hx]) ?_ ?_, hk⟩
          · by_cases hl : l = []
            · subst hl; exact .inl ⟨_, _, rfl, rfl, by omega⟩
            · exact HI.out hl
          · rw [setCell_block _ _ _ _ _ _ _ H1.out]
            rfl
      · have hn : Rd.sk ⟨x :: l, bad⟩ s = (false, ⟨x :: l, bad⟩) := by show (if x.k = 0 ∧ x.t = s then _ else _) = _; rw [if_neg hk]
        rw [hn]
        clear hn
        by_cases hk0 : x.k = 0
        · have hk1 : x.t ≠ s := fun e => hk ⟨hk0, e⟩
          have hb := str_ne hk1
          rw [hk0] at a0
          clear hk hk0 hk1
          go_enter Tryz.func63, Tryz.ntmps63
          go_wp2_with fail
          go_ret
          exact ⟨rfl, H.out, Ks.refl _ _⟩
        · have hk3 : ¬ (x.k : Int) = 0 := by omega
          clear hk hk0
          generalize (x.k : Int) = xi at a0 hk3
          have hk4 : (xi == 0) = false := by simpa using hk3
          go_enter Tryz.func63, Tryz.ntmps63
          go_wp2_with fail
          go_ret
          exact ⟨rfl, H.out, Ks.refl _ _⟩
set_option maxRecDepth 100000 in
theorem name_any (gr bw : Nat) (r : Rd) (s : ByteArray) (w : World) (h : RdS gr bw r w) : Calls Tryz.prog 64 #[.pointer (some ⟨gr, 0, none⟩), .string s] w fun e w' => e = .returned (.tuple #[]) ∧ RdS gr bw (r.nm s) w' ∧ Kr gr w w' := by
  have HN := hid (skip_any gr bw r s w h)
  have HF := hid (fun V (hV : RdS gr bw (r.sk s).2 V) => fail_any gr bw _ V hV)
  have HU : Hid (r.nm s = if (r.sk s).1 then (r.sk s).2 else Rd.no) := hid rfl
  clear h
  go_enter Tryz.func64, Tryz.ntmps64
  go_wp2_with fail
  go_at_call 63
  refine HN.out.mono ?_
  rintro e V ⟨rfl, hS, hK⟩
  have HS := hid hS
  have HK := hid hK
  clear hS hK HN
  cases hn : (r.sk s).1 with
  | true =>
    rw [hn] at HU
    clear hn
    go_wp2_with fail
    go_end0
    rw [HU.out]
    exact ⟨rfl, HS.out, HK.out⟩
  | false =>
    rw [hn] at HU
    clear hn
    go_wp2_with fail
    go_at_call 83
    refine (HF.out _ HS.out).mono ?_
    rintro e V3 ⟨rfl, hS, hK⟩
    go_wp2_with fail
    go_end0
    rw [HU.out]
    exact ⟨rfl, hS, Kr.tr HK.out hK⟩
end Go.Proofs.YtghppkfopglgaaaGreatDoor
