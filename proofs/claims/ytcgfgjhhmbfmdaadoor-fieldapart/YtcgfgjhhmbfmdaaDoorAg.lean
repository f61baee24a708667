/- head. -/
import Derived.Test.YtcgfgjhhmbfmdaaDoorAf
namespace Go.Proofs.YtcgfgjhhmbfmdaaDoor
open Go.RowKit Go.Maps
set_option linter.unusedVariables false
set_option linter.unusedSimpArgs false

theorem in_block {α : Type} {E : El α} {w : World} {g : Nat} {c : Array Value} {t : TypeId} {l : List α} (h : w.heap[g]? = some (.cells c t (0, 0))) (hc : c.toList = E.cs l) (hl : l.length ≤ 64) : In E w (.slice (some ⟨g, 0, none⟩) l.length l.length) l := by
  refine .inr ⟨_, l.length, rfl, Nat.le_refl _, by omega, fun j u hu => ?_⟩
  rw [Addr.add_lit, cell_blk h, Nat.zero_add, ← Array.getElem?_toList, hc]
  exact hu

def acceptF : Fd := ⟨⟨#[97, 99, 99, 101, 112, 116]⟩, ⟨#[120]⟩, true⟩
def rightL : List Fd := [⟨⟨#[58, 112, 97, 116, 104]⟩, ⟨#[47]⟩, false⟩, ⟨⟨#[58, 109, 101, 116, 104, 111, 100]⟩, ⟨#[71, 69, 84]⟩, false⟩, ⟨⟨#[58, 115, 99, 104, 101, 109, 101]⟩, ⟨#[104, 116, 116, 112, 115]⟩, false⟩, ⟨⟨#[58, 97, 117, 116, 104, 111, 114, 105, 116, 121]⟩, ⟨#[97, 46, 116, 101, 115, 116]⟩, false⟩, acceptF]
def okL : List Fd := [⟨statusName, ⟨#[50, 48, 48]⟩, false⟩]
theorem right_e : rqE rightL = 0 := by decide +kernel
theorem right_v : vals rightL 4 reqNames = some [⟨#[71, 69, 84]⟩, ⟨#[104, 116, 116, 112, 115]⟩, ⟨#[97, 46, 116, 101, 115, 116]⟩, ⟨#[47]⟩] := by rfl
theorem nil_e : rqE [] = 131 := by decide +kernel
theorem ok_e : rsE okL = 0 := by decide +kernel
theorem ok_v : vals okL 1 resNames = some [⟨#[50, 48, 48]⟩] := by rfl
theorem w404_e : rsE (wrL 404 []) = 0 := by decide +kernel
theorem itoa404 : itoaS 404 = ⟨#[52, 48, 52]⟩ := by decide +kernel
theorem nm_te : nmB ⟨#[116, 101]⟩ = true := by decide +kernel
theorem nm_Te : nmB ⟨#[84, 101]⟩ = false := by decide +kernel
theorem val_sp : valB ⟨#[32]⟩ = false := by decide +kernel
theorem sz404 : szL (wrL 404 []) = 42 := by decide +kernel

set_option maxHeartbeats 1000000 in
theorem right_any (w : World) : Calls Tryd.prog 37 #[] w fun e w' => e = .returned (.slice (some ⟨w.heap.size, 0, none⟩) 5 5) ∧ In EFd w' (.slice (some ⟨w.heap.size, 0, none⟩) 5 5) rightL ∧ Below w.heap.size w w' := by
  have h : Hid (In EFd (w.alloc (.cells #[.string ⟨#[58, 112, 97, 116, 104]⟩, .string ⟨#[47]⟩, .bool false, .string ⟨#[58, 109, 101, 116, 104, 111, 100]⟩, .string ⟨#[71, 69, 84]⟩, .bool false, .string ⟨#[58, 115, 99, 104, 101, 109, 101]⟩, .string ⟨#[104, 116, 116, 112, 115]⟩, .bool false, .string ⟨#[58, 97, 117, 116, 104, 111, 114, 105, 116, 121]⟩, .string ⟨#[97, 46, 116, 101, 115, 116]⟩, .bool false, .string ⟨#[97, 99, 99, 101, 112, 116]⟩, .string ⟨#[120]⟩, .bool true] 34)) (.slice (some ⟨w.heap.size, 0, none⟩) 5 5) rightL ∧ Below w.heap.size w (w.alloc (.cells #[.string ⟨#[58, 112, 97, 116, 104]⟩, .string ⟨#[47]⟩, .bool false, .string ⟨#[58, 109, 101, 116, 104, 111, 100]⟩, .string ⟨#[71, 69, 84]⟩, .bool false, .string ⟨#[58, 115, 99, 104, 101, 109, 101]⟩, .string ⟨#[104, 116, 116, 112, 115]⟩, .bool false, .string ⟨#[58, 97, 117, 116, 104, 111, 114, 105, 116, 121]⟩, .string ⟨#[97, 46, 116, 101, 115, 116]⟩, .bool false, .string ⟨#[97, 99, 99, 101, 112, 116]⟩, .string ⟨#[120]⟩, .bool true] 34))) := ⟨in_block (l := rightL) (by rw [heap_al, if_pos rfl]; rfl) rfl (by decide), bel1 w _⟩
  go_enter Tryd.func37, Tryd.ntmps37
  go_wp2
  go_ret
  exact ⟨rfl, h.out⟩

theorem R.one3 {w : World} {y : SV} {x : Fd} (h : R EFd w (sv y) [x]) : ∃ g c, sv y = .slice (some ⟨g, 0, none⟩) 1 c ∧ 1 ≤ c ∧ c ≤ 9223372036854775807 ∧ g < w.heap.size ∧ w.cell? ⟨g, 0, none⟩ = some (.string x.n) ∧ w.cell? ⟨g, 1, none⟩ = some (.string x.v) ∧ w.cell? ⟨g, 2, none⟩ = some (.bool x.nv) := by
  obtain ⟨g, c, e1, e2, e3, e4, e5, d, -⟩ := h.setc okFd 0 0 (by simp) (by decide)
  exact ⟨g, c, e1, e2, e3, e4, d 0 _ rfl, d 1 _ rfl, d 2 _ rfl⟩

set_option maxHeartbeats 20000000 in
set_option maxRecDepth 100000 in
theorem head_any (w : World) (ht : Tab w) : Calls Tryd.prog 9 #[] w fun e w' => e = .returned (.bool true) ∧ Below w.heap.size w w' := by
  have hz1 : ∀ f ∈ rightL, f.n.size ≤ 140737488355328 := by decide +kernel
  have hz2 : ∀ f ∈ okL, f.n.size ≤ 140737488355328 := by decide +kernel
  have hA : Hid (∀ W (s : SV), In EFd W (sv s) rightL → Calls Tryd.prog 14 #[sv s] W fun e w' => ∃ yb yl yc, e = .returned (.tuple #[.agg #[.string ⟨#[71, 69, 84]⟩, .string ⟨#[104, 116, 116, 112, 115]⟩, .string ⟨#[97, 46, 116, 101, 115, 116]⟩, .string ⟨#[47]⟩, .slice yb yl yc, .string ⟨#[]⟩], .int .i64 0]) ∧ Hid (R EFd w' (.slice yb yl yc) [acceptF] ∧ Below W.heap.size W w')) := fun W s hs => by
    refine (readRequest_any s rightL W hs hz1).mono ?_
    rintro e w' ⟨m, s', a, p, ⟨yb, yl, yc⟩, rfl, hb, h1, -⟩
    obtain ⟨e1, -, e3, -⟩ := h1 right_e
    rw [right_v] at e1
    injection e1 with e1
    injection e1 with e1 e2
    injection e2 with e2 e4
    injection e4 with e4 e5
    injection e5 with e5 _
    subst e1 e2 e4 e5
    exact ⟨yb, yl, yc, by rw [right_e]; rfl, e3, hb⟩
  have hB : Hid (∀ W (s : SV), In EFd W (sv s) okL → Calls Tryd.prog 18 #[sv s] W fun e w' => ∃ yb yl yc, e = .returned (.tuple #[.agg #[.int .i64 200, .slice yb yl yc, .string ⟨#[]⟩], .int .i64 0]) ∧ Below W.heap.size W w') := fun W s hs => by
    refine (readResponse_any s okL W hs hz2).mono ?_
    rintro e w' ⟨n, ⟨yb, yl, yc⟩, rfl, hb, h1, -⟩
    obtain ⟨⟨s', e1, -, e2⟩, -⟩ := h1 ok_e
    rw [ok_v] at e1
    injection e1 with e1
    injection e1 with e1 _
    subst e1
    have e3 : n = 200 := by rw [e2]; rfl
    subst e3
    exact ⟨yb, yl, yc, by rw [ok_e]; rfl, hb⟩
  have hW : Hid (∀ W, Below w.heap.size w W → Calls Tryd.prog 20 #[.agg #[.int .i64 404, .slice none 0 0, .string ⟨#[]⟩]] W fun e w' => ∃ g c, e = .returned (.tuple #[.slice (some ⟨g, 0, none⟩) 1 c, .int .i64 0]) ∧ 1 ≤ c ∧ c ≤ 9223372036854775807 ∧ Hid (R EFd w' (.slice (some ⟨g, 0, none⟩) 1 c) (wrL 404 []) ∧ Below W.heap.size W w')) := fun W hb => by
    refine (writeResponse_any 404 (by decide) (by decide) (none, 0, 0) ⟨#[]⟩ [] W (ht.below hb) (.inl ⟨rfl, rfl⟩) (fun f hf => by cases hf) (by decide)).mono ?_
    rintro e w' ⟨y, rfl, hb', h1, -⟩
    obtain ⟨e1, -⟩ := h1 w404_e
    obtain ⟨g, c, ey, e2, e3, -⟩ := e1.one3
    rw [ey] at e1
    exact ⟨g, c, by rw [ey, w404_e], e2, e3, e1, hb'⟩
  have hZ : Hid (∀ W, Calls Tryd.prog 14 #[.slice none 0 0] W fun e w' => ∃ m s a p yb yl yc, e = .returned (.tuple #[.agg #[.string m, .string s, .string a, .string p, .slice yb yl yc, .string ⟨#[]⟩], .int .i64 131]) ∧ Below W.heap.size W w') := fun W => by
    refine (readRequest_any (none, 0, 0) [] W (.inl ⟨rfl, rfl⟩) (fun f hf => by cases hf)).mono ?_
    rintro e w' ⟨m, s', a, p, ⟨yb, yl, yc⟩, rfl, hb, -, -⟩
    exact ⟨m, s', a, p, yb, yl, yc, by rw [nil_e]; rfl, hb⟩
  have hN1 : Hid (∀ W, Calls Tryd.prog 10 #[.string ⟨#[116, 101]⟩] W fun e w' => e = .returned (.bool true) ∧ Below W.heap.size W w') := fun W => by have := name_any ⟨#[116, 101]⟩ W; rw [nm_te] at this; exact this
  have hN2 : Hid (∀ W, Calls Tryd.prog 10 #[.string ⟨#[84, 101]⟩] W fun e w' => e = .returned (.bool false) ∧ Below W.heap.size W w') := fun W => by have := name_any ⟨#[84, 101]⟩ W; rw [nm_Te] at this; exact this
  have hV : Hid (∀ W, Calls Tryd.prog 12 #[.string ⟨#[32]⟩] W fun e w' => e = .returned (.bool false) ∧ Below W.heap.size W w') := fun W => by have := value_any ⟨#[32]⟩ W; rw [val_sp] at this; exact this
  have hS : Hid (∀ W g c, In EFd W (.slice (some ⟨g, 0, none⟩) 1 c) (wrL 404 []) → Calls Tryd.prog 31 #[.slice (some ⟨g, 0, none⟩) 1 c] W fun e w' => e = .returned (.int .i64 42) ∧ Below W.heap.size W w') := fun W g c hi => by
    have := size_small (some ⟨g, 0, none⟩, 1, c) (wrL 404 []) W hi (by decide) (by decide +kernel)
    rw [sz404] at this
    exact this
  clear hz1 hz2 ht
  go_enter Tryd.func9, Tryd.ntmps9
  go_wp2_with fail
  go_at_call 37
  refine (right_any w).mono ?_
  rintro e w1 ⟨rfl, i1, b1⟩
  replace b1 : Hid (Below w.heap.size w w1) := b1
  replace i1 : Hid (In EFd w1 (.slice (some ⟨w.heap.size, 0, none⟩) 5 5) rightL) := i1
  go_wp2_with fail
  go_at_call 14
  refine (hA.out w1 (some ⟨w.heap.size, 0, none⟩, 5, 5) i1.out).mono ?_
  rintro e w2 ⟨yb, yl, yc, rfl, r2⟩
  have b2 : Hid (Below w.heap.size w w2) := b1.out.trans (r2.out.2.mono b1.out.size)
  obtain ⟨g2, c2, e2, k1, k2, -⟩ := R.one3 (y := (yb, yl, yc)) r2.out.1
  simp only [sv] at e2
  injection e2 with e2 e3 e4
  subst e2 e3 e4
  replace r2 : Hid (R EFd w2 (.slice (some ⟨g2, 0, none⟩) 1 yc) [acceptF]) := r2.out.1
  clear hA i1 b1
  have b3 := bel2 w2 (.cells #[.string ⟨#[71, 69, 84]⟩, .string ⟨#[104, 116, 116, 112, 115]⟩, .string ⟨#[97, 46, 116, 101, 115, 116]⟩, .string ⟨#[47]⟩, .slice (some ⟨g2, 0, none⟩) 1 yc, .string ⟨#[]⟩] 26) (.cells #[.string ⟨#[58, 115, 116, 97, 116, 117, 115]⟩, .string ⟨#[50, 48, 48]⟩, .bool false] 34)
  have i3 : Hid (In EFd ((w2.alloc (.cells #[.string ⟨#[71, 69, 84]⟩, .string ⟨#[104, 116, 116, 112, 115]⟩, .string ⟨#[97, 46, 116, 101, 115, 116]⟩, .string ⟨#[47]⟩, .slice (some ⟨g2, 0, none⟩) 1 yc, .string ⟨#[]⟩] 26)).alloc (.cells #[.string ⟨#[58, 115, 116, 97, 116, 117, 115]⟩, .string ⟨#[50, 48, 48]⟩, .bool false] 34)) (.slice (some ⟨w2.heap.size + 1, 0, none⟩) 1 1) okL) := in_block (l := okL) (fresh2 _ _ _) rfl (by decide)
  have q3 : Hid (((w2.alloc (.cells #[.string ⟨#[71, 69, 84]⟩, .string ⟨#[104, 116, 116, 112, 115]⟩, .string ⟨#[97, 46, 116, 101, 115, 116]⟩, .string ⟨#[47]⟩, .slice (some ⟨g2, 0, none⟩) 1 yc, .string ⟨#[]⟩] 26)).alloc (.cells #[.string ⟨#[58, 115, 116, 97, 116, 117, 115]⟩, .string ⟨#[50, 48, 48]⟩, .bool false] 34)).heap[w2.heap.size]? = some (.cells #[.string ⟨#[71, 69, 84]⟩, .string ⟨#[104, 116, 116, 112, 115]⟩, .string ⟨#[97, 46, 116, 101, 115, 116]⟩, .string ⟨#[47]⟩, .slice (some ⟨g2, 0, none⟩) 1 yc, .string ⟨#[]⟩] 26 (0, 0)) ∧ Below w2.heap.size w2 ((w2.alloc (.cells #[.string ⟨#[71, 69, 84]⟩, .string ⟨#[104, 116, 116, 112, 115]⟩, .string ⟨#[97, 46, 116, 101, 115, 116]⟩, .string ⟨#[47]⟩, .slice (some ⟨g2, 0, none⟩) 1 yc, .string ⟨#[]⟩] 26)).alloc (.cells #[.string ⟨#[58, 115, 116, 97, 116, 117, 115]⟩, .string ⟨#[50, 48, 48]⟩, .bool false] 34))) := ⟨by rw [heap_al, if_neg (by rw [size_al]; omega), heap_al, if_pos rfl], b3⟩
  clear b3
  go_wp2_with fail
  go_at_call 18
  refine (hB.out _ (some ⟨w2.heap.size + 1, 0, none⟩, 1, 1) i3.out).mono ?_
  rintro e w4 ⟨zb, zl, zc, rfl, b4⟩
  have b24 : Hid (Below w2.heap.size w2 w4) := q3.out.2.trans (b4.mono q3.out.2.size)
  have q4 : Hid (w4.heap[w2.heap.size]? = some (.cells #[.string ⟨#[71, 69, 84]⟩, .string ⟨#[104, 116, 116, 112, 115]⟩, .string ⟨#[97, 46, 116, 101, 115, 116]⟩, .string ⟨#[47]⟩, .slice (some ⟨g2, 0, none⟩) 1 yc, .string ⟨#[]⟩] 26 (0, 0))) := (b4.block _ (heap_lt q3.out.1)).trans q3.out.1
  clear b4 q3 i3 hB
  have b5 : Hid (Below w2.heap.size w2 (w4.alloc (.cells #[.int .i64 200, .slice zb zl zc, .string ⟨#[]⟩] 37))) := b24.out.trans ((bel1 w4 _).mono b24.out.size)
  have q5 : Hid ((w4.alloc (.cells #[.int .i64 200, .slice zb zl zc, .string ⟨#[]⟩] 37)).heap[w4.heap.size]? = some (.cells #[.int .i64 200, .slice zb zl zc, .string ⟨#[]⟩] 37 (0, 0)) ∧ (w4.alloc (.cells #[.int .i64 200, .slice zb zl zc, .string ⟨#[]⟩] 37)).heap[w2.heap.size]? = some (.cells #[.string ⟨#[71, 69, 84]⟩, .string ⟨#[104, 116, 116, 112, 115]⟩, .string ⟨#[97, 46, 116, 101, 115, 116]⟩, .string ⟨#[47]⟩, .slice (some ⟨g2, 0, none⟩) 1 yc, .string ⟨#[]⟩] 26 (0, 0))) := ⟨by rw [heap_al, if_pos rfl], ((bel1 w4 _).block _ (heap_lt q4.out)).trans q4.out⟩
  clear b24 q4
  go_wp2_with fail
  go_at_call 20
  refine (hW.out _ (b2.out.trans (b5.out.mono b2.out.size))).mono ?_
  rintro e w6 ⟨g6, c6, rfl, k3, k4, r6⟩
  have b6 : Hid (Below w2.heap.size w2 w6) := b5.out.trans (r6.out.2.mono b5.out.size)
  have q6 : Hid (w6.heap[w4.heap.size]? = some (.cells #[.int .i64 200, .slice zb zl zc, .string ⟨#[]⟩] 37 (0, 0)) ∧ w6.heap[w2.heap.size]? = some (.cells #[.string ⟨#[71, 69, 84]⟩, .string ⟨#[104, 116, 116, 112, 115]⟩, .string ⟨#[97, 46, 116, 101, 115, 116]⟩, .string ⟨#[47]⟩, .slice (some ⟨g2, 0, none⟩) 1 yc, .string ⟨#[]⟩] 26 (0, 0))) := ⟨(r6.out.2.block _ (heap_lt q5.out.1)).trans q5.out.1, (r6.out.2.block _ (heap_lt q5.out.2)).trans q5.out.2⟩
  have R6 : Hid (R EFd w6 (.slice (some ⟨g6, 0, none⟩) 1 c6) (wrL 404 [])) := r6.out.1
  obtain ⟨g6', c6', e6, -, -, lg6, f0, f1, f2⟩ := R.one3 (y := (some ⟨g6, 0, none⟩, 1, c6)) R6.out
  simp only [sv] at e6
  injection e6 with e6 e7 e8
  injection e6 with e6
  injection e6 with e6
  subst e6
  clear e7 e8
  simp only [itoa404, statusName] at f0 f1 f2
  obtain ⟨z0, z1, z2, z3, z4, z5⟩ : w6.cell? ⟨w2.heap.size, 0, none⟩ = some (.string ⟨#[71, 69, 84]⟩) ∧ w6.cell? ⟨w2.heap.size, 1, none⟩ = some (.string ⟨#[104, 116, 116, 112, 115]⟩) ∧ w6.cell? ⟨w2.heap.size, 2, none⟩ = some (.string ⟨#[97, 46, 116, 101, 115, 116]⟩) ∧ w6.cell? ⟨w2.heap.size, 3, none⟩ = some (.string ⟨#[47]⟩) ∧ w6.cell? ⟨w2.heap.size, 4, none⟩ = some (.slice (some ⟨g2, 0, none⟩) 1 yc) ∧ w6.cell? ⟨w2.heap.size, 5, none⟩ = some (.string ⟨#[]⟩) := ⟨cell_blk q6.out.2 0, cell_blk q6.out.2 1, cell_blk q6.out.2 2, cell_blk q6.out.2 3, cell_blk q6.out.2 4, cell_blk q6.out.2 5⟩
  have y0 : w6.cell? ⟨w4.heap.size, 0, none⟩ = some (.int .i64 200) := cell_blk q6.out.1 0
  clear r6 b5 q5 hW
  go_wp2_with fail
  go_at_call 14
  refine (hZ.out _).mono ?_
  rintro e w7 ⟨m7, s7, a7, p7, ub, ul, uc, rfl, b7⟩
  have b27 : Hid (Below w2.heap.size w2 (w7.alloc (.cells #[.string m7, .string s7, .string a7, .string p7, .slice ub ul uc, .string ⟨#[]⟩] 26))) := (b6.out.trans (b7.mono b6.out.size)).trans ((bel1 w7 _).mono (Nat.le_trans b6.out.size b7.size))
  have b67 : Hid (Below w6.heap.size w6 (w7.alloc (.cells #[.string m7, .string s7, .string a7, .string p7, .slice ub ul uc, .string ⟨#[]⟩] 26))) := b7.trans ((bel1 w7 _).mono b7.size)
  have q7 : Hid (w7.heap[w2.heap.size]? = some (.cells #[.string ⟨#[71, 69, 84]⟩, .string ⟨#[104, 116, 116, 112, 115]⟩, .string ⟨#[97, 46, 116, 101, 115, 116]⟩, .string ⟨#[47]⟩, .slice (some ⟨g2, 0, none⟩) 1 yc, .string ⟨#[]⟩] 26 (0, 0)) ∧ R EFd w7 (.slice (some ⟨g2, 0, none⟩) 1 yc) [acceptF]) := ⟨(b7.block _ (heap_lt q6.out.2)).trans q6.out.2, R.below r2.out (b6.out.trans (b7.mono b6.out.size))⟩
  clear z0 z1 z2 z3 z4 z5 y0 f0 f1 f2 b7 hZ
  have z4 : w7.cell? ⟨w2.heap.size, 4, none⟩ = some (.slice (some ⟨g2, 0, none⟩) 1 yc) := cell_blk q7.out.1 4
  have l7 : w2.heap.size < w7.heap.size := heap_lt q7.out.1
  obtain ⟨g7', c7', e6, -, -, lg7, f0, f1, f2⟩ := R.one3 (y := (some ⟨g2, 0, none⟩, 1, yc)) q7.out.2
  simp only [sv] at e6
  injection e6 with e6 e7 e8
  injection e6 with e6
  injection e6 with e6
  subst e6
  clear e7 e8
  simp only [acceptF] at f2
  clear f0 f1
  go_wp2_with fail
  go_at_call 10
  refine (hN1.out _).mono ?_
  rintro e w8 ⟨rfl, b8⟩
  have c8 : Hid (Below w2.heap.size w2 w8 ∧ Below w6.heap.size w6 w8) := ⟨b27.out.trans (b8.mono b27.out.size), b67.out.trans (b8.mono b67.out.size)⟩
  clear b8 b27 b67 f2 z4
  go_wp2_with fail
  go_at_call 10
  refine (hN2.out _).mono ?_
  rintro e w9 ⟨rfl, b9⟩
  have c9 : Hid (Below w2.heap.size w2 w9 ∧ Below w6.heap.size w6 w9) := ⟨c8.out.1.trans (b9.mono c8.out.1.size), c8.out.2.trans (b9.mono c8.out.2.size)⟩
  clear b9 c8
  go_wp2_with fail
  go_at_call 12
  refine (hV.out _).mono ?_
  rintro e wA ⟨rfl, bA⟩
  have cA : Hid (Below w2.heap.size w2 wA ∧ Below w6.heap.size w6 wA) := ⟨c9.out.1.trans (bA.mono c9.out.1.size), c9.out.2.trans (bA.mono c9.out.2.size)⟩
  clear bA c9
  go_wp2_with fail
  go_at_call 31
  refine (hS.out wA g6 c6 (R.isIn (R.below R6.out cA.out.2))).mono ?_
  rintro e wB ⟨rfl, bB⟩
  have cB : Hid (Below w.heap.size w wB) := (b2.out.trans (cA.out.1.mono b2.out.size)).trans (bB.mono (Nat.le_trans b2.out.size cA.out.1.size))
  clear bB cA
  go_wp2_with fail
  go_ret
  exact ⟨rfl, cB.out⟩
end Go.Proofs.YtcgfgjhhmbfmdaaDoor
