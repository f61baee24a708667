/- FieldWrites, walked. -/
import Derived.Test.YtcgfgjhhmbfmdaaDoorF3
import Derived.Test.YtcgfgjhhmbfmdaaDoorD1
import Derived.Deep.RegionHeld3
namespace Go.Proofs.YtcgfgjhhmbfmdaaDoor
open Go.RowKit Go.Maps
set_option linter.unusedVariables false
set_option linter.unusedSimpArgs false

theorem wf_i64 {n : Int} (h : (Lit.int .i64 n).wf = true) : -9223372036854775808 ≤ n ∧ n ≤ 9223372036854775807 := by
  simp [Lit.wf] at h
  have h1 : IntKind.i64.min = -9223372036854775808 := by decide
  rw [h1] at h
  exact h
/-- what a writer tells, in short -/
def WrIn (E : Int) (l : List Fd) (y : SV) (W : World) : Prop := (E = 0 → In EFd W (sv y) l) ∧ (E ≠ 0 → y = (none, 0, 0))
theorem WrIn.below {E : Int} {l : List Fd} {y : SV} {W W' : World} (h : WrIn E l y W) (hb : Below W.heap.size W W') : WrIn E l y W' := ⟨fun e => (h.1 e).below hb, h.2⟩
theorem WrIn.pair {E : Int} {l : List Fd} {y z : SV} {W : World} (h1 : WrIn E l y W) (h2 : WrIn E l z W) : ∃ fs, In EFd W (sv y) fs ∧ In EFd W (sv z) fs := by
  by_cases h0 : E = 0
  · exact ⟨_, h1.1 h0, h2.1 h0⟩
  · obtain rfl := h1.2 h0
    obtain rfl := h2.2 h0
    exact ⟨[], .inl ⟨rfl, rfl⟩, .inl ⟨rfl, rfl⟩⟩
theorem WqPost.short {m s a p : ByteArray} {l : List Fd} {w w' : World} {e : Ending} (h : WqPost m s a p l w e w') : ∃ y : SV, e = .returned (.tuple #[sv y, .int .i64 (rqE (wqL m s a p l))]) ∧ Below w.heap.size w w' ∧ WrIn (rqE (wqL m s a p l)) (wqL m s a p l) y w' := by
  obtain ⟨y, h1, h2, h3, h4⟩ := h
  exact ⟨y, h1, h2, fun h => (h3 h).1.isIn, h4⟩
theorem WsPost.short {n : Int} {l : List Fd} {w w' : World} {e : Ending} (h : WsPost n l w e w') : ∃ y : SV, e = .returned (.tuple #[sv y, .int .i64 (rsE (wrL n l))]) ∧ Below w.heap.size w w' ∧ WrIn (rsE (wrL n l)) (wrL n l) y w' := by
  obtain ⟨y, h1, h2, h3, h4⟩ := h
  exact ⟨y, h1, h2, fun h => (h3 h).1.isIn, h4⟩

set_option maxHeartbeats 20000000 in
set_option maxRecDepth 100000 in
theorem fieldWrites_any (m s a p b : ByteArray) (y : SV) (l : List Fd) (n : Int) (h0 : -9223372036854775808 ≤ n) (h1 : n ≤ 9223372036854775807) (w : World) (ht : Tab w) (hI : In EFd w (sv y) l) (hz : SzOk l) (hlen : (4 + l.length) * 40 ≤ 140737488355328)
    (hm : m.size ≤ 140737488355328) (hs : s.size ≤ 140737488355328) (ha : a.size ≤ 140737488355328) (hp : p.size ≤ 140737488355328) :
    Calls Tryd.prog 8 #[.agg (rqv m s a p (sv y) b), .int .i64 n] w fun e w' => e = .returned (.bool true) ∧ Below w.heap.size w w' := by
  obtain ⟨wA, hwA⟩ : ∃ wA, w.alloc (.cells (rqv m s a p (sv y) b) 26) = wA := ⟨_, rfl⟩
  have bA : Below w.heap.size w wA := by rw [← hwA]; exact bel1 w _
  have blkA : wA.heap[w.heap.size]? = some (.cells (rqv m s a p (sv y) b) 26) := by rw [← hwA, heap_al, if_pos rfl]
  have hlA := heap_lt blkA
  have h9 : Hid (Calls Tryd.prog 9 #[] wA fun e w' => e = .returned (.bool true) ∧ Below wA.heap.size wA w') := head_any wA (ht.below bA)
  have h26 : Hid (∀ W, Below wA.heap.size wA W → Calls Tryd.prog 26 #[sv y] W fun e w' => FdPost (l ++ [mark1, mark2]) W e w') := fun W hb => roomy_any y l W ((hI.below bA).below hb) (by omega)
  have h16 : Hid (∀ t W, In EFd W (sv t) l → Calls Tryd.prog 16 #[.agg (rqv m s a p (sv t) b)] W fun e w' => WqPost m s a p l W e w') := fun t W hi => writeRequest_any m s a p b t l W hi hm hs ha hp hz hlen
  have h35 : Hid (∀ W, Below wA.heap.size wA W → Calls Tryd.prog 35 #[.agg (rqv m s a p (sv y) b)] W fun e w' => WqPost m s a p l W e w') := fun W hb => rwriteRequest_any m s a p b y l W ((hI.below bA).below hb) hm hs ha hp hz hlen
  have h20 : Hid (∀ t W, Below wA.heap.size wA W → In EFd W (sv t) l → Calls Tryd.prog 20 #[.agg (rsv n (sv t) b)] W fun e w' => WsPost n l W e w') := fun t W hb hi => writeResponse_any n h0 h1 t b l W ((ht.below bA).below hb) hi (fun f hf => (hz.1 f hf).1) (by omega)
  have h36 : Hid (∀ W, Below wA.heap.size wA W → Calls Tryd.prog 36 #[.agg (rsv n (sv y) ⟨#[]⟩)] W fun e w' => WsPost n l W e w') := fun W hb => rwriteResponse_any n h0 h1 y ⟨#[]⟩ l W ((hI.below bA).below hb) hz (by omega)
  have hcl : Hid (∀ W, Below wA.heap.size wA W → (W.cell? ⟨w.heap.size, 0, none⟩ = some (.string m) ∧ W.cell? ⟨w.heap.size, 1, none⟩ = some (.string s) ∧ W.cell? ⟨w.heap.size, 2, none⟩ = some (.string a) ∧ W.cell? ⟨w.heap.size, 3, none⟩ = some (.string p) ∧ W.cell? ⟨w.heap.size, 4, none⟩ = some (sv y) ∧ W.cell? ⟨w.heap.size, 5, none⟩ = some (.string b)) ∧ w.heap.size < W.heap.size) := fun W hb => by
    have q : W.heap[w.heap.size]? = some (.cells (rqv m s a p (sv y) b) 26) := (hb.block _ hlA).trans blkA
    exact ⟨⟨cell_blk q 0, cell_blk q 1, cell_blk q 2, cell_blk q 3, cell_blk q 4, cell_blk q 5⟩, heap_lt q⟩
  have BA : Hid (Below w.heap.size w wA) := bA
  obtain ⟨yb, yl, yc⟩ := y
  obtain ⟨ey, hcap1, hcap2⟩ := slice_len hI
  subst ey
  simp only [sv, rqv, rsv] at h26 h16 h35 h20 h36 hcl hwA ⊢
  clear hI hz ht bA blkA hm hs ha hp
  go_enter Tryd.func8, Tryd.ntmps8
  go_wp2_with fail
  go_at_call 9
  refine h9.out.mono ?_
  rintro e w1 ⟨rfl, b1⟩
  replace b1 : Hid (Below wA.heap.size wA w1) := b1
  obtain ⟨⟨z0, z1, z2, z3, z4, z5⟩, hl1⟩ := hcl.out _ b1.out
  clear h9 hwA
  go_wp2_with fail
  go_at_call 26
  refine (h26.out _ b1.out).mono ?_
  rintro e w2 ⟨u, rfl, b2, r2, o2⟩
  have D2 : Hid (Below wA.heap.size wA w2) := b1.out.trans (b2.mono b1.out.size)
  obtain ⟨g, cap, rfl, c1, c2, hF⟩ := room_front r2
  replace hF : Hid (∀ W, Below w2.heap.size w2 W → In EFd W (.slice (some ⟨g, 0, none⟩) l.length cap) l) := hF
  replace r2 : Hid (R EFd w2 (.slice (some ⟨g, 0, none⟩) (l.length + 2) cap) (l ++ [mark1, mark2])) := r2
  have q1 : (l.length : Int) ≤ (cap : Int) := by omega
  clear b2 o2 z0 z1 z2 z3 z4 z5 hl1 b1
  obtain ⟨⟨z0, z1, z2, z3, z4, z5⟩, hl2⟩ := hcl.out _ D2.out
  simp only [sv]
  have k2 : Hid (∀ o, Below w2.heap.size w2 (w2.alloc o)) := fun o => bel1 w2 o
  go_wp2_with fail
  go_at_call 16
  refine (h16.out (some ⟨g, 0, none⟩, l.length, cap) _ (hF.out _ (k2.out _))).mono ?_
  intro e3 w3 P3
  obtain ⟨⟨ub, ul, uc⟩, rfl, b3, P3⟩ := P3.short
  replace b3 : Hid (Below w2.heap.size w2 w3) := (k2.out _).trans (b3.mono (k2.out _).size)
  have D3 : Hid (Below wA.heap.size wA w3) := D2.out.trans (b3.out.mono D2.out.size)
  replace P3 : Hid (WrIn (rqE (wqL m s a p l)) (wqL m s a p l) (ub, ul, uc) w3) := P3
  clear z0 z1 z2 z3 z4 z5 hl2 h16
  obtain ⟨⟨z0, z1, z2, z3, z4, z5⟩, hl3⟩ := hcl.out _ D3.out
  obtain ⟨E, hE⟩ : ∃ E, rqE (wqL m s a p l) = E := ⟨_, rfl⟩
  rw [hE] at P3 ⊢
  have HE : Hid (rqE (wqL m s a p l) = E) := hE
  clear hE
  simp only [sv]
  go_wp2_with fail
  go_at_call 35
  refine (h35.out _ D3.out).mono ?_
  intro e4 w4 P4
  obtain ⟨⟨tb, tl, tc⟩, rfl, b4, P4⟩ := P4.short
  rw [HE.out] at P4 ⊢
  obtain ⟨fs, hi1, hi2⟩ := (P3.out.below b4).pair P4
  have h34 : Hid (Calls Tryd.prog 34 #[.slice ub ul uc, .slice tb tl tc] w4 fun e w' => e = .returned (.bool true) ∧ Below w4.heap.size w4 w') := rsame_eq (ub, ul, uc) (tb, tl, tc) fs w4 hi1 hi2
  have D4 : Hid (Below w2.heap.size w2 w4) := b3.out.trans (b4.mono b3.out.size)
  clear z0 z1 z2 z3 z4 z5 hl3 h35 hi1 hi2 P4 P3 HE b4
  simp only [sv]
  go_wp2_with fail
  go_at_call 34
  refine h34.out.mono ?_
  rintro e w5 ⟨rfl, b5⟩
  have D5 : Hid (Below w2.heap.size w2 w5) := D4.out.trans (b5.mono D4.out.size)
  have A5 : Hid (Below wA.heap.size wA w5) := D2.out.trans (D5.out.mono D2.out.size)
  clear b5 h34 D4 D3 b3
  obtain ⟨⟨z0, z1, z2, z3, z4, z5⟩, hl5⟩ := hcl.out _ A5.out
  clear z0 z1 z2 z3 z4
  have h20' : Hid (∀ W, Below w5.heap.size w5 W → Calls Tryd.prog 20 #[.agg #[.int .i64 n, .slice (some ⟨g, 0, none⟩) l.length cap, .string b]] W fun e w' => ∃ ub ul uc, e = .returned (.tuple #[.slice ub ul uc, .int .i64 (rsE (wrL n l))]) ∧ w'.cell? ⟨w.heap.size, 5, none⟩ = some (.string b) ∧ Hid (Below w5.heap.size w5 w' ∧ WrIn (rsE (wrL n l)) (wrL n l) (ub, ul, uc) w')) := fun W hb => by
    refine (h20.out (some ⟨g, 0, none⟩, l.length, cap) W (A5.out.trans (hb.mono A5.out.size)) (hF.out _ (D5.out.trans (hb.mono D5.out.size)))).mono ?_
    intro e w' P
    obtain ⟨⟨ub, ul, uc⟩, rfl, b', P'⟩ := P.short
    have hb' := hb.trans (b'.mono hb.size)
    obtain ⟨⟨_, _, _, _, _, z5⟩, _⟩ := hcl.out _ (A5.out.trans (hb'.mono A5.out.size))
    exact ⟨ub, ul, uc, rfl, z5, hb', P'⟩
  obtain ⟨E', hE'⟩ : ∃ E, rsE (wrL n l) = E := ⟨_, rfl⟩
  rw [hE'] at h20'
  have HE' : Hid (rsE (wrL n l) = E') := hE'
  clear hE' h20
  go_wp2_with fail
  go_region_held3 (fun W => W.cell? ⟨w.heap.size, 5, none⟩ = some (.string b)) (first | assumption) (first | (go_at_call 20; refine (h20'.out _ (by (repeat (first | exact Below.refl _ _ | refine Below.drew ?_ | refine below_drewN ?_ _)))).mono ?_; rintro e w6 ⟨ub6, ul6, uc6, rfl, hcell, P6⟩))
  have D6 : Hid (Below w2.heap.size w2 w6) := D5.out.trans (P6.out.1.mono D5.out.size)
  have A6 : Hid (Below wA.heap.size wA w6) := D2.out.trans (D6.out.mono D2.out.size)
  replace P6 : Hid (WrIn E' (wrL n l) (ub6, ul6, uc6) w6) := P6.out.2
  clear hcell z5 hl5 h20' D5 A5
  obtain ⟨⟨z0, z1, z2, z3, z4, z5⟩, hl6⟩ := hcl.out _ A6.out
  clear z0 z1 z2 z3 z5
  go_wp2_with fail
  go_at_call 36
  refine (h36.out _ A6.out).mono ?_
  intro e7 w7 P7
  obtain ⟨⟨tb, tl, tc⟩, rfl, b7, P7⟩ := P7.short
  rw [HE'.out] at P7 ⊢
  obtain ⟨fs, hi1, hi2⟩ := (P6.out.below b7).pair P7
  have h34 : Hid (Calls Tryd.prog 34 #[.slice ub6 ul6 uc6, .slice tb tl tc] w7 fun e w' => e = .returned (.bool true) ∧ Below w7.heap.size w7 w') := rsame_eq (ub6, ul6, uc6) (tb, tl, tc) fs w7 hi1 hi2
  have D7 : Hid (Below w2.heap.size w2 w7) := D6.out.trans (b7.mono D6.out.size)
  clear z4 hl6 h36 hi1 hi2 P7 P6 HE' b7 D6 A6
  simp only [sv]
  go_wp2_with fail
  go_at_call 34
  refine h34.out.mono ?_
  rintro e w8 ⟨rfl, b8⟩
  have D8 : Hid (Below w2.heap.size w2 w8) := D7.out.trans (b8.mono D7.out.size)
  have A8 : Hid (Below wA.heap.size wA w8) := D2.out.trans (D8.out.mono D2.out.size)
  clear b8 h34 D7
  obtain ⟨⟨z0, z1, z2, z3, z4, z5⟩, hl8⟩ := hcl.out _ A8.out
  clear z0 z1 z2 z3 z5
  go_wp2_with fail
  go_at_call 26
  refine (h26.out _ A8.out).mono ?_
  rintro e wd ⟨⟨fb, fl, fc⟩, rfl, bd, rd, od⟩
  have Dd : Hid (Below w2.heap.size w2 wd) := D8.out.trans (bd.mono D8.out.size)
  have h34 : Hid (Calls Tryd.prog 34 #[.slice (some ⟨g, 0, none⟩) (l.length + 2) cap, .slice fb fl fc] wd fun e w' => e = .returned (.bool true) ∧ Below wd.heap.size wd w') := rsame_eq (some ⟨g, 0, none⟩, l.length + 2, cap) (fb, fl, fc) _ wd (R.isIn (R.below r2.out Dd.out)) rd.isIn
  clear bd rd od
  simp only [sv]
  go_wp2_with fail
  go_at_call 34
  refine h34.out.mono ?_
  rintro e we ⟨rfl, be⟩
  have De : Hid (Below w.heap.size w we) := by
    have h1 := Dd.out.trans (be.mono Dd.out.size)
    have h2 := D2.out.trans (h1.mono D2.out.size)
    exact BA.out.trans (h2.mono BA.out.size)
  clear be
  go_wp2_with fail
  go_ret
  exact ⟨rfl, De.out⟩
end Go.Proofs.YtcgfgjhhmbfmdaaDoor
