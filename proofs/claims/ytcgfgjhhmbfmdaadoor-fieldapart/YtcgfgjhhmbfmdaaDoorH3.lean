/- with, refused. -/
import Derived.Test.YtcgfgjhhmbfmdaaDoorG2
namespace Go.Proofs.YtcgfgjhhmbfmdaaDoor
open Go.RowKit Go.Maps
set_option linter.unusedVariables false
set_option linter.unusedSimpArgs false

set_option maxHeartbeats 4000000 in
set_option maxRecDepth 100000 in
theorem refused_any (s : SV) (l : List Fd) (E : Int) (w : World) (hI : In EFd w (sv s) l) (hz : SzOk l) (hE : rqE l = E) (h0 : E ≠ 0) (hr : rsE l ≠ 0) :
    Calls Tryd.prog 22 #[sv s, .int .i64 E] w fun e w' => e = .returned (.bool true) ∧ Below w.heap.size w w' := by
  have h15 : Hid (∀ W, Below w.heap.size w W → Calls Tryd.prog 15 #[sv s] W fun e w' => FdPost l W e w') := fun W hb => copied_any s l W (hI.below hb) (by have := hz.2; omega)
  have h14 : Hid (∀ z W, In EFd W (sv z) l → Calls Tryd.prog 14 #[sv z] W fun e w' => RqPost l W e w') := fun z W hi => readRequest_any z l W hi fun f hf => (hz.1 f hf).1
  have h18 : Hid (∀ z W, In EFd W (sv z) l → Calls Tryd.prog 18 #[sv z] W fun e w' => RsPost l W e w') := fun z W hi => readResponse_any z l W hi fun f hf => (hz.1 f hf).1
  have HE : Hid (rqE l = E ∧ E ≠ 0) := ⟨hE, h0⟩
  obtain ⟨Z, hZ⟩ : ∃ Z, rsE l = Z := ⟨_, rfl⟩
  have HZ : Hid (rsE l = Z) := hZ
  have hZ0 : (Z != 0) = true := by rw [← hZ]; simp [hr]
  obtain ⟨sb, sl, sc⟩ := s
  simp only [sv] at h15 h14 h18 ⊢
  clear hI hz hE h0 hr hZ
  go_enter Tryd.func22, Tryd.ntmps22
  go_wp2_with fail
  go_at_call 15
  refine (h15.out _ (Below.refl _ _)).mono ?_
  rintro e w2 ⟨⟨cb, cl, cc⟩, rfl, b2, r2, o2⟩
  have B2 : Hid (Below w.heap.size w w2) := b2
  replace r2 : Hid (In EFd w2 (.slice cb cl cc) l) := R.isIn r2
  clear b2 o2
  simp only [sv]
  go_wp2_with fail
  go_at_call 14
  refine (h14.out (cb, cl, cc) _ r2.out).mono ?_
  rintro e w3 ⟨m, s, a, p, ⟨zb, zl, zc⟩, rfl, b3, g3, n3⟩
  obtain ⟨rfl, rfl, rfl, rfl, hy⟩ := n3 (by rw [HE.out.1]; exact HE.out.2)
  simp only [Prod.mk.injEq] at hy
  obtain ⟨rfl, rfl, rfl⟩ := hy
  rw [HE.out.1]
  have B3 : Hid (Below w.heap.size w w3) := B2.out.trans (b3.mono B2.out.size)
  have k3 : Hid (Below w3.heap.size w3 (w3.alloc (.cells #[.string ⟨#[]⟩, .string ⟨#[]⟩, .string ⟨#[]⟩, .string ⟨#[]⟩, .slice none 0 0, .string ⟨#[]⟩] 26))) := bel1 w3 _
  have k3' : Hid ((w3.alloc (.cells #[.string ⟨#[]⟩, .string ⟨#[]⟩, .string ⟨#[]⟩, .string ⟨#[]⟩, .slice none 0 0, .string ⟨#[]⟩] 26)).heap[w3.heap.size]? = some (.cells #[.string ⟨#[]⟩, .string ⟨#[]⟩, .string ⟨#[]⟩, .string ⟨#[]⟩, .slice none 0 0, .string ⟨#[]⟩] 26)) := by show _ = _; rw [heap_al, if_pos rfl]
  have B3a : Hid (Below w.heap.size w (w3.alloc (.cells #[.string ⟨#[]⟩, .string ⟨#[]⟩, .string ⟨#[]⟩, .string ⟨#[]⟩, .slice none 0 0, .string ⟨#[]⟩] 26))) := B3.out.trans (k3.out.mono B3.out.size)
  clear b3 g3 n3 r2
  simp only [sv, rqv]
  go_wp2_with fail
  go_at_call 15
  refine (h15.out _ B3a.out).mono ?_
  rintro e w4 ⟨⟨db, dl, dc⟩, rfl, b4, r4, o4⟩
  have B4 : Hid (Below w.heap.size w w4) := B3a.out.trans (b4.mono B3a.out.size)
  have P4 : Hid (w4.heap[w3.heap.size]? = some (.cells #[.string ⟨#[]⟩, .string ⟨#[]⟩, .string ⟨#[]⟩, .string ⟨#[]⟩, .slice none 0 0, .string ⟨#[]⟩] 26)) := (b4.block _ (heap_lt k3'.out)).trans k3'.out
  replace r4 : Hid (In EFd w4 (.slice db dl dc) l) := R.isIn r4
  clear b4 o4 k3 k3' B3a B3 B2
  simp only [sv]
  go_wp2_with fail
  go_at_call 18
  refine (h18.out (db, dl, dc) _ r4.out).mono ?_
  rintro e w5 ⟨n5, ⟨xb, xl, xc⟩, rfl, b5, g5, n5'⟩
  rw [HZ.out]
  have B5 : Hid (Below w.heap.size w w5) := B4.out.trans (b5.mono B4.out.size)
  have P5 : w5.heap[w3.heap.size]? = some (.cells #[.string ⟨#[]⟩, .string ⟨#[]⟩, .string ⟨#[]⟩, .string ⟨#[]⟩, .slice none 0 0, .string ⟨#[]⟩] 26) := (b5.block _ (heap_lt P4.out)).trans P4.out
  have hl := heap_lt P5
  obtain ⟨x0, x4⟩ : w5.cell? ⟨w3.heap.size, 0, none⟩ = some (.string ⟨#[]⟩) ∧ w5.cell? ⟨w3.heap.size, 4, none⟩ = some (.slice none 0 0) := ⟨cell_blk P5 0, cell_blk P5 4⟩
  have B5a : Hid (∀ o, Below w.heap.size w (w5.alloc o)) := fun o => B5.out.trans ((bel1 w5 o).mono B5.out.size)
  clear b5 g5 n5' P5 P4 r4
  simp only [sv, rsv]
  go_wp2_with fail
  go_ret
  exact ⟨by first | rfl | simp, B5a.out _⟩

/-- the list with a field ahead of its field i -/
def withL (l : List Fd) (i : Nat) (f : Fd) : List Fd := l.take i ++ [f] ++ l.drop i
theorem with_rows (B off c : Nat) (l : List Fd) (i : Nat) (f : Fd) (W : World) (hI : In EFd W (.slice (some ⟨B, off, none⟩) l.length c) l) (hi : i ≤ l.length) (hlen : (l.length + 1) * 40 ≤ 140737488355328) (U : Option Addr) (hU : In EFd W (.slice U (l.length - i) (c - i)) (l.drop i)) :
    ∃ b1 c1 w1 b2 c2 w2 b3 c3 w3, (Builtin.append_ #[24, 24] 24 #[.slice none 0 0, .slice (some ⟨B, off, none⟩) i c]).run Tryd.prog W = .ok (.slice b1 i c1) w1 ∧ (Builtin.append_ #[24, 24] 24 #[.slice b1 i c1, .slice (some ⟨w1.heap.size, 0, none⟩) 1 1]).run Tryd.prog (w1.alloc (.cells #[.string f.n, .string f.v, .bool f.nv] 34)) = .ok (.slice b2 (i + 1) c2) w2 ∧ (Builtin.append_ #[24, 24] 24 #[.slice b2 (i + 1) c2, .slice U (l.length - i) (c - i)]).run Tryd.prog w2 = .ok (.slice b3 (l.length + 1) c3) w3 ∧ R EFd w3 (.slice b3 (l.length + 1) c3) (withL l i f) ∧ Below W.heap.size W w1 ∧ Below W.heap.size W w3 ∧ ∀ k, (Value.slice b3 (l.length + 1) c3).ownBlock = some k → W.heap.size ≤ k := by
  have htk := In.take hI i hi
  have l2 : (l.take i).length = i := by rw [List.length_take]; omega
  obtain ⟨b1, c1, w1, g1, g2, g3⟩ := app okFd W (.slice none 0 0) [] (R.nil _ _) _ _ htk (by simp only [EFd, List.length_nil]; omega)
  simp only [List.length_nil, Nat.zero_add, List.nil_append] at g1 g2 g3
  rw [l2] at g1 g2 g3
  have hin : In EFd (w1.alloc (.cells #[.string f.n, .string f.v, .bool f.nv] 34)) (.slice (some ⟨w1.heap.size, 0, none⟩) 1 1) [f] := in_one _ _ _ #[.string f.n, .string f.v, .bool f.nv] 34 (0, 0) (by rw [heap_al, if_pos rfl]) rfl
  have ba := bel1 w1 (.cells #[.string f.n, .string f.v, .bool f.nv] 34)
  have bWa := g3.fresh.trans (ba.mono g3.size)
  obtain ⟨b2, c2, w2, q1, q2, q3⟩ := app okFd _ _ _ (g2.below ba) _ _ hin (by simp only [EFd, List.length_singleton]; omega)
  rw [l2] at q1 q2 q3
  simp only [List.length_singleton] at q1 q2 q3
  have bW2 := bWa.trans (q3.belowB bWa.size g3.new)
  have o2 : ∀ k, (Value.slice b2 (i + 1) c2).ownBlock = some k → W.heap.size ≤ k := fun k hk => by
    rcases q3.own k hk with e | e
    · exact g3.new k e
    · exact Nat.le_trans bWa.size e
  have ld : (l.drop i).length = l.length - i := List.length_drop
  obtain ⟨b3, c3, w3, p1, p2, p3⟩ := app okFd _ _ _ q2 _ _ (hU.below bW2) (by simp only [EFd, List.length_append, List.length_singleton]; omega)
  have le : (l.take i ++ [f]).length + (l.drop i).length = l.length + 1 := by rw [List.length_append, l2, ld, List.length_singleton]; omega
  rw [le] at p1 p2 p3
  refine ⟨b1, c1, w1, b2, c2, w2, b3, c3, w3, g1, q1, p1, p2, g3.fresh, bW2.trans (p3.belowB bW2.size o2), fun k hk => ?_⟩
  rcases p3.own k hk with e | e
  · exact o2 k e
  · exact Nat.le_trans bW2.size e
set_option maxHeartbeats 8000000 in
set_option maxRecDepth 100000 in
theorem with_any (B off c : Nat) (l : List Fd) (i : Nat) (f : Fd) (w : World) (hI : In EFd w (.slice (some ⟨B, off, none⟩) l.length c) l) (hi : i ≤ l.length) (hlen : (l.length + 1) * 40 ≤ 140737488355328) :
    Calls Tryd.prog 23 #[.slice (some ⟨B, off, none⟩) l.length c, .int .i64 (i : Int), .agg (fdv f)] w fun e w' => FdPost (withL l i f) w e w' := by
  obtain ⟨_, hcap1, hcap2⟩ := slice_len hI
  have bB := bel1 w (.cells (fdv f) 34)
  have hIB := hI.below bB
  have blk : (w.alloc (.cells (fdv f) 34)).heap[w.heap.size]? = some (.cells (fdv f) 34 (0, 0)) := by rw [heap_al, if_pos rfl]
  have hlt1 : w.heap.size < (w.alloc (.cells (fdv f) 34)).heap.size := heap_lt blk
  obtain ⟨hd1, hd2⟩ := In.drop okFd hIB i hi
  have a1 : (i : Int) ≤ (l.length : Int) := by omega
  have a2 : (i : Int) ≤ (c : Int) := by omega
  have a3 : (l.length : Int) ≤ (c : Int) := by omega
  have mk : ∀ U, In EFd (w.alloc (.cells (fdv f) 34)) (.slice U (l.length - i) (c - i)) (l.drop i) → Hid (∃ b1 c1 w1 b2 c2 w2 b3 c3 w3, Hid ((Builtin.append_ #[24, 24] 24 #[.slice none 0 0, .slice (some ⟨B, off, none⟩) i c]).run Tryd.prog (w.alloc (.cells (fdv f) 34)) = .ok (.slice b1 i c1) w1) ∧ Hid ((Builtin.append_ #[24, 24] 24 #[.slice b1 i c1, .slice (some ⟨w1.heap.size, 0, none⟩) 1 1]).run Tryd.prog (w1.alloc (.cells #[.string f.n, .string f.v, .bool f.nv] 34)) = .ok (.slice b2 (i + 1) c2) w2) ∧ Hid ((Builtin.append_ #[24, 24] 24 #[.slice b2 (i + 1) c2, .slice U (l.length - i) (c - i)]).run Tryd.prog w2 = .ok (.slice b3 (l.length + 1) c3) w3) ∧ Hid (FdPost (withL l i f) w (.returned (.slice b3 (l.length + 1) c3)) w3) ∧ (w1.cell? ⟨w.heap.size, 0, none⟩ = some (.string f.n) ∧ w1.cell? ⟨w.heap.size, 1, none⟩ = some (.string f.v) ∧ w1.cell? ⟨w.heap.size, 2, none⟩ = some (.bool f.nv) ∧ w.heap.size < w1.heap.size)) := fun U hU => by
    obtain ⟨b1, c1, w1, b2, c2, w2, b3, c3, w3, g1, g2, g3, g4, g5, g6, g7⟩ := with_rows B off c l i f _ hIB hi hlen U hU
    have q := (g5.block _ hlt1).trans blk
    exact ⟨b1, c1, w1, b2, c2, w2, b3, c3, w3, g1, g2, g3, ⟨(b3, l.length + 1, c3), rfl, bB.trans (g6.mono bB.size), g4, fun k hk => Nat.le_trans bB.size (g7 k hk)⟩, cell_blk q 0, cell_blk q 1, cell_blk q 2, heap_lt q⟩
  clear hI bB hIB blk hlt1
  unfold fdv at mk hd1 hd2 ⊢
  by_cases hc : c = i
  · have key := mk _ (hd2 hc)
    have hli : l.length - i = 0 := by omega
    subst hc
    rw [hli, Nat.sub_self] at key
    obtain ⟨b1, c1, w1, b2, c2, w2, b3, c3, w3, g1, g2, g3, HF, x0, x1, x2, x3⟩ := key.out
    clear key mk hd1 hd2 hli
    go_enter Tryd.func23, Tryd.ntmps23
    go_wp2_with (at_builtin; first | refine Lib.wpList_append_run _ rfl _ _ _ _ rfl _ _ rfl rfl _ _ g1.out ?_ | refine Lib.wpList_append_run _ rfl _ _ _ _ rfl _ _ rfl rfl _ _ g2.out ?_ | refine Lib.wpList_append_run _ rfl _ _ _ _ rfl _ _ rfl rfl _ _ g3.out ?_)
    go_ret
    exact HF.out
  · have key := mk _ (hd1 hc)
    have hc' : ¬ (c : Int) = (i : Int) := by omega
    simp only [EFd] at key
    obtain ⟨b1, c1, w1, b2, c2, w2, b3, c3, w3, g1, g2, g3, HF, x0, x1, x2, x3⟩ := key.out
    clear key mk hd1 hd2
    go_enter Tryd.func23, Tryd.ntmps23
    go_wp2_with (at_builtin; first | refine Lib.wpList_append_run _ rfl _ _ _ _ rfl _ _ rfl rfl _ _ g1.out ?_ | refine Lib.wpList_append_run _ rfl _ _ _ _ rfl _ _ rfl rfl _ _ g2.out ?_ | refine Lib.wpList_append_run _ rfl _ _ _ _ rfl _ _ rfl rfl _ _ g3.out ?_)
    go_ret
    exact HF.out
end Go.Proofs.YtcgfgjhhmbfmdaaDoor
