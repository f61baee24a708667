/- FieldApart, walked. -/
import Derived.Test.YtcgfgjhhmbfmdaaDoorJ3
import Derived.Test.YtcgfgjhhmbfmdaaDoorAg
import Derived.Test.YtcgfgjhhmbfmdaaDoorF4
import Derived.Deep.Cut
import Derived.Deep.CutRange
namespace Go.Proofs.YtcgfgjhhmbfmdaaDoor
open Go.RowKit Go.Maps
set_option linter.unusedVariables false
set_option linter.unusedSimpArgs false

def pathS : ByteArray := ⟨#[58, 112, 97, 116, 104]⟩
structure Fa (L T : List Fd) : Prop where
  rt : Rt L
  len : L.length = T.length + 4
  few : T.length ≤ 50
  sz : SzOk L
  szT : SzOk T
  tl : L.drop 4 = T
  rq : rqE L = 0
  wq : rqE (wqL getS httpS atestS slashX T) = 0
  rs : rsE (stF :: T) = 0
  ws : rsE (wrL 200 T) = 0
  vp : vsL L pathS = [slashX]
theorem fa_made (l : List Fd) (k : Nat) (hk : k ≤ 3) : Fa (madeL l k) ((madeL l k).drop 4) := by
  have hRt : Rt (madeL l k) := rt_made l hk
  have hlen := made_len l hk
  have hSz : SzOk (madeL l k) := made_sz l hk
  have hrq : rqE (madeL l k) = 0 := hRt.rq (by omega)
  have hT : ((madeL l k).drop 4).length = min 50 l.length := by rw [List.length_drop, hlen]; omega
  have hwT : ((madeL l k).drop 4).any wrongB = false := by
    have := hRt.ok
    rw [List.any_eq_false] at this ⊢
    exact fun f hf => this f (List.mem_of_mem_drop hf)
  exact ⟨hRt, by rw [hT, hlen]; omega, by rw [hT]; omega, hSz, ⟨fun f hf => hSz.1 f (List.mem_of_mem_drop hf), by rw [hT]; omega⟩, rfl, hrq, rq_back hrq hRt.vs, rs_st (by rw [hT]; omega) hwT hRt.tail, wr_st (by rw [hT]; omega) hwT hRt.tail, vs_path l hk⟩
theorem st_sz {T : List Fd} (h : SzOk T) (hl : T.length ≤ 50) : ∀ f ∈ stF :: T, f.n.size ≤ 140737488355328 := by
  intro f hf
  rcases List.mem_cons.1 hf with rfl | hf
  · decide
  · exact (h.1 f hf).1
theorem box6 {W : World} {b : Nat} {q0 q1 q2 q3 q4 q5 : Value} {t : TypeId} (h : W.heap[b]? = some (.cells #[q0, q1, q2, q3, q4, q5] t (0, 0))) : W.cell? ⟨b, 0, none⟩ = some q0 ∧ W.cell? ⟨b, 1, none⟩ = some q1 ∧ W.cell? ⟨b, 2, none⟩ = some q2 ∧ W.cell? ⟨b, 3, none⟩ = some q3 ∧ W.cell? ⟨b, 4, none⟩ = some q4 ∧ W.cell? ⟨b, 5, none⟩ = some q5 ∧ b < W.heap.size := ⟨cell_blk h 0, cell_blk h 1, cell_blk h 2, cell_blk h 3, cell_blk h 4, cell_blk h 5, heap_lt h⟩
theorem box3 {W : World} {b : Nat} {q0 q1 q2 : Value} {t : TypeId} (h : W.heap[b]? = some (.cells #[q0, q1, q2] t (0, 0))) : W.cell? ⟨b, 0, none⟩ = some q0 ∧ W.cell? ⟨b, 1, none⟩ = some q1 ∧ W.cell? ⟨b, 2, none⟩ = some q2 ∧ b < W.heap.size := ⟨cell_blk h 0, cell_blk h 1, cell_blk h 2, heap_lt h⟩
theorem blk_below {W W' : World} {b : Nat} {o : Obj} (h : W.heap[b]? = some o) (hb : Below W.heap.size W W') : W'.heap[b]? = some o := (hb.block b (heap_lt h)).trans h

set_option maxHeartbeats 40000000 in
set_option maxRecDepth 100000 in
theorem fieldApart_any (t : SV) (l : List Fd) (turn : Int) (ht0 : -9223372036854775808 ≤ turn) (ht1 : turn ≤ 9223372036854775807) (w : World) (ht : Tab w) (hI : In EFd w (sv t) l) (hz : SzOk l) :
    Calls Tryd.prog 6 #[sv t, .int .i64 turn] w fun e w' => e = .returned (.bool true) ∧ Below w.heap.size w w' := by
  obtain ⟨L, hL⟩ : ∃ L, madeL l (turnK turn) = L := ⟨_, rfl⟩
  obtain ⟨T, hT⟩ : ∃ T, L.drop 4 = T := ⟨_, rfl⟩
  have FA : Hid (Fa L T) := by have := fa_made l (turnK turn) (turnK_lt turn); rw [hL, hT] at this; exact this
  have h9 : Hid (Calls Tryd.prog 9 #[] w fun e w' => e = .returned (.bool true) ∧ Below w.heap.size w w') := head_any w ht
  have h21 : Hid (∀ W, Below w.heap.size w W → Calls Tryd.prog 21 #[sv t, .int .i64 turn] W fun e w' => FdPost L W e w') := fun W hb => by rw [← hL]; exact made_list t l turn ht0 ht1 W (hI.below hb) hz
  have HT : Hid (Tab w) := ht
  obtain ⟨tb, tl, tc⟩ := t
  simp only [sv] at h21 ⊢
  clear hI hz ht hL hT
  go_enter Tryd.func6, Tryd.ntmps6
  go_wp2_with fail
  go_at_call 9
  refine h9.out.mono ?_
  rintro e w1 ⟨rfl, b1⟩
  replace b1 : Hid (Below w.heap.size w w1) := b1
  clear h9
  go_wp2_with fail
  go_at_call 21
  refine (h21.out _ b1.out).mono ?_
  rintro e w2 ⟨y, rfl, b2, r2, o2⟩
  have BW : Hid (Below w.heap.size w w2) := b1.out.trans (b2.mono b1.out.size)
  obtain ⟨gL, cL, ey, _⟩ := R.setc okFd r2 0 0 (by have := FA.out.len; omega) (by decide)
  obtain ⟨yb, n, yc⟩ := y
  simp only [sv] at ey
  have hr2 : In EFd w2 (.slice yb n yc) L := R.isIn r2
  obtain ⟨hn, hc1, hc2⟩ := slice_len hr2
  clear hr2
  injection ey with ey1 ey2 ey3
  subst ey1 ey3
  clear ey2
  have MK : Hid (Mk w.heap.size [(some ⟨gL, 0, none⟩, n, yc)] [L] w2) := (Mk.none (Nat.le_refl _)).snoc BW.out r2 fun k hk => Nat.le_trans b1.out.size (o2 k hk)
  have HN : Hid (n = L.length) := hn
  have hn4 : 4 ≤ n := by have := FA.out.len; omega
  have hn54 : n ≤ 54 := by have := FA.out.len; have := FA.out.few; omega
  have hnc : n ≤ yc := by omega
  clear b1 b2 r2 o2 h21 hn hc1
  simp only [sv]
  go_wp2_with fail
  go_at_call 15
  refine (copied_any (some ⟨gL, 0, none⟩, n, yc) L _ (show In EFd w2 (sv (some ⟨gL, 0, none⟩, n, yc)) L from (MK.out.row 0 (by simp) (by simp)).isIn) (by have := FA.out.sz.2; omega)).mono ?_
  rintro e w3 ⟨⟨kb, kl, kz⟩, rfl, bc, rc, oc⟩
  replace MK : Hid (Mk w.heap.size [(some ⟨gL, 0, none⟩, n, yc), (kb, kl, kz)] [L, L] w3) := MK.out.snoc bc rc oc
  replace BW : Hid (Below w.heap.size w w3) := BW.out.trans (bc.mono BW.out.size)
  clear bc rc oc
  simp only [sv]
  go_wp2_with fail
  go_at_call 14
  refine (readRequest_any (some ⟨gL, 0, none⟩, n, yc) L _ (show In EFd w3 (sv (some ⟨gL, 0, none⟩, n, yc)) L from (MK.out.row 0 (by simp) (by simp)).isIn) (fun f hf => (FA.out.sz.1 f hf).1)).mono ?_
  rintro e w4 ⟨m4, s4, a4, p4, ⟨rb, rl, rz⟩, rfl, bc, gc, nc⟩
  obtain ⟨hv4, _, rc, oc⟩ := gc FA.out.rq
  rw [FA.out.rt.vs] at hv4
  simp only [Option.some.injEq, List.cons.injEq, and_true] at hv4
  obtain ⟨rfl, rfl, rfl, rfl⟩ := hv4
  rw [FA.out.rq]
  rw [FA.out.tl] at rc
  replace MK : Hid (Mk w.heap.size [(some ⟨gL, 0, none⟩, n, yc), (kb, kl, kz), (rb, rl, rz)] [L, L, T] w4) := MK.out.snoc bc rc oc
  replace BW : Hid (Below w.heap.size w w4) := BW.out.trans (bc.mono BW.out.size)
  clear bc rc oc gc nc
  unfold getS httpS atestS slashX
  have bbx := bel1 w4 (.cells #[.string ⟨#[71, 69, 84]⟩, .string ⟨#[104, 116, 116, 112]⟩, .string ⟨#[97, 46, 116, 101, 115, 116]⟩, .string ⟨#[47, 120]⟩, .slice rb rl rz, .string ⟨#[]⟩] 26)
  have hbx : (w4.alloc (.cells #[.string ⟨#[71, 69, 84]⟩, .string ⟨#[104, 116, 116, 112]⟩, .string ⟨#[97, 46, 116, 101, 115, 116]⟩, .string ⟨#[47, 120]⟩, .slice rb rl rz, .string ⟨#[]⟩] 26)).heap[w4.heap.size]? = some (.cells #[.string ⟨#[71, 69, 84]⟩, .string ⟨#[104, 116, 116, 112]⟩, .string ⟨#[97, 46, 116, 101, 115, 116]⟩, .string ⟨#[47, 120]⟩, .slice rb rl rz, .string ⟨#[]⟩] 26) := by rw [heap_al, if_pos rfl]
  replace MK : Hid (Mk w.heap.size [(some ⟨gL, 0, none⟩, n, yc), (kb, kl, kz), (rb, rl, rz)] [L, L, T] (w4.alloc (.cells #[.string ⟨#[71, 69, 84]⟩, .string ⟨#[104, 116, 116, 112]⟩, .string ⟨#[97, 46, 116, 101, 115, 116]⟩, .string ⟨#[47, 120]⟩, .slice rb rl rz, .string ⟨#[]⟩] 26))) := MK.out.below bbx
  replace BW : Hid (Below w.heap.size w (w4.alloc (.cells #[.string ⟨#[71, 69, 84]⟩, .string ⟨#[104, 116, 116, 112]⟩, .string ⟨#[97, 46, 116, 101, 115, 116]⟩, .string ⟨#[47, 120]⟩, .slice rb rl rz, .string ⟨#[]⟩] 26))) := BW.out.trans (bbx.mono BW.out.size)
  have P7 : Hid ((w4.alloc (.cells #[.string ⟨#[71, 69, 84]⟩, .string ⟨#[104, 116, 116, 112]⟩, .string ⟨#[97, 46, 116, 101, 115, 116]⟩, .string ⟨#[47, 120]⟩, .slice rb rl rz, .string ⟨#[]⟩] 26)).heap[w4.heap.size]? = some (.cells #[.string ⟨#[71, 69, 84]⟩, .string ⟨#[104, 116, 116, 112]⟩, .string ⟨#[97, 46, 116, 101, 115, 116]⟩, .string ⟨#[47, 120]⟩, .slice rb rl rz, .string ⟨#[]⟩] 26)) := hbx
  clear bbx hbx
  simp only [sv, rqv, rsv]
  go_wp2_with fail
  obtain ⟨v4, hv4⟩ : ∃ x, w4.alloc (.cells #[.string ⟨#[71, 69, 84]⟩, .string ⟨#[104, 116, 116, 112]⟩, .string ⟨#[97, 46, 116, 101, 115, 116]⟩, .string ⟨#[47, 120]⟩, .slice rb rl rz, .string ⟨#[]⟩] 26) = x := ⟨_, rfl⟩
  rw [hv4] at MK BW P7   ⊢
  clear hv4
  go_at_call 14
  refine (readRequest_any (some ⟨gL, 0, none⟩, n, yc) L _ (show In EFd v4 (sv (some ⟨gL, 0, none⟩, n, yc)) L from (MK.out.row 0 (by simp) (by simp)).isIn) (fun f hf => (FA.out.sz.1 f hf).1)).mono ?_
  rintro e w5 ⟨m4, s4, a4, p4, ⟨qb, ql, qz⟩, rfl, bc, gc, nc⟩
  obtain ⟨hv4, _, rc, oc⟩ := gc FA.out.rq
  rw [FA.out.rt.vs] at hv4
  simp only [Option.some.injEq, List.cons.injEq, and_true] at hv4
  obtain ⟨rfl, rfl, rfl, rfl⟩ := hv4
  rw [FA.out.rq]
  rw [FA.out.tl] at rc
  replace MK : Hid (Mk w.heap.size [(some ⟨gL, 0, none⟩, n, yc), (kb, kl, kz), (rb, rl, rz), (qb, ql, qz)] [L, L, T, T] w5) := MK.out.snoc bc rc oc
  replace BW : Hid (Below w.heap.size w w5) := BW.out.trans (bc.mono BW.out.size)
  replace P7 : Hid (w5.heap[w4.heap.size]? = some (.cells #[.string ⟨#[71, 69, 84]⟩, .string ⟨#[104, 116, 116, 112]⟩, .string ⟨#[97, 46, 116, 101, 115, 116]⟩, .string ⟨#[47, 120]⟩, .slice rb rl rz, .string ⟨#[]⟩] 26)) := blk_below P7.out bc
  clear bc rc oc gc nc
  unfold getS httpS atestS slashX
  have bbx := bel1 w5 (.cells #[.string ⟨#[71, 69, 84]⟩, .string ⟨#[104, 116, 116, 112]⟩, .string ⟨#[97, 46, 116, 101, 115, 116]⟩, .string ⟨#[47, 120]⟩, .slice qb ql qz, .string ⟨#[]⟩] 26)
  have hbx : (w5.alloc (.cells #[.string ⟨#[71, 69, 84]⟩, .string ⟨#[104, 116, 116, 112]⟩, .string ⟨#[97, 46, 116, 101, 115, 116]⟩, .string ⟨#[47, 120]⟩, .slice qb ql qz, .string ⟨#[]⟩] 26)).heap[w5.heap.size]? = some (.cells #[.string ⟨#[71, 69, 84]⟩, .string ⟨#[104, 116, 116, 112]⟩, .string ⟨#[97, 46, 116, 101, 115, 116]⟩, .string ⟨#[47, 120]⟩, .slice qb ql qz, .string ⟨#[]⟩] 26) := by rw [heap_al, if_pos rfl]
  replace MK : Hid (Mk w.heap.size [(some ⟨gL, 0, none⟩, n, yc), (kb, kl, kz), (rb, rl, rz), (qb, ql, qz)] [L, L, T, T] (w5.alloc (.cells #[.string ⟨#[71, 69, 84]⟩, .string ⟨#[104, 116, 116, 112]⟩, .string ⟨#[97, 46, 116, 101, 115, 116]⟩, .string ⟨#[47, 120]⟩, .slice qb ql qz, .string ⟨#[]⟩] 26))) := MK.out.below bbx
  replace BW : Hid (Below w.heap.size w (w5.alloc (.cells #[.string ⟨#[71, 69, 84]⟩, .string ⟨#[104, 116, 116, 112]⟩, .string ⟨#[97, 46, 116, 101, 115, 116]⟩, .string ⟨#[47, 120]⟩, .slice qb ql qz, .string ⟨#[]⟩] 26))) := BW.out.trans (bbx.mono BW.out.size)
  replace P7 : Hid ((w5.alloc (.cells #[.string ⟨#[71, 69, 84]⟩, .string ⟨#[104, 116, 116, 112]⟩, .string ⟨#[97, 46, 116, 101, 115, 116]⟩, .string ⟨#[47, 120]⟩, .slice qb ql qz, .string ⟨#[]⟩] 26)).heap[w4.heap.size]? = some (.cells #[.string ⟨#[71, 69, 84]⟩, .string ⟨#[104, 116, 116, 112]⟩, .string ⟨#[97, 46, 116, 101, 115, 116]⟩, .string ⟨#[47, 120]⟩, .slice rb rl rz, .string ⟨#[]⟩] 26)) := blk_below P7.out bbx
  have P9 : Hid ((w5.alloc (.cells #[.string ⟨#[71, 69, 84]⟩, .string ⟨#[104, 116, 116, 112]⟩, .string ⟨#[97, 46, 116, 101, 115, 116]⟩, .string ⟨#[47, 120]⟩, .slice qb ql qz, .string ⟨#[]⟩] 26)).heap[w5.heap.size]? = some (.cells #[.string ⟨#[71, 69, 84]⟩, .string ⟨#[104, 116, 116, 112]⟩, .string ⟨#[97, 46, 116, 101, 115, 116]⟩, .string ⟨#[47, 120]⟩, .slice qb ql qz, .string ⟨#[]⟩] 26)) := hbx
  clear bbx hbx
  obtain ⟨z0, z1, z2, z3, z4, z5, z6⟩ := box6 P7.out
  simp only [sv, rqv, rsv]
  go_wp2_with fail
  obtain ⟨v5, hv5⟩ : ∃ x, w5.alloc (.cells #[.string ⟨#[71, 69, 84]⟩, .string ⟨#[104, 116, 116, 112]⟩, .string ⟨#[97, 46, 116, 101, 115, 116]⟩, .string ⟨#[47, 120]⟩, .slice qb ql qz, .string ⟨#[]⟩] 26) = x := ⟨_, rfl⟩
  rw [hv5] at MK BW P9 P7 z0 z1 z2 z3 z4 z5 z6 ⊢
  clear hv5
  go_at_call 16
  refine (writeRequest_any ⟨#[71, 69, 84]⟩ ⟨#[104, 116, 116, 112]⟩ ⟨#[97, 46, 116, 101, 115, 116]⟩ ⟨#[47, 120]⟩ ⟨#[]⟩ (rb, rl, rz) T _ (show In EFd v5 (sv (rb, rl, rz)) T from (MK.out.row 2 (by simp) (by simp)).isIn) (by decide) (by decide) (by decide) (by decide) FA.out.szT (by have := FA.out.few; omega)).mono ?_
  rintro e w6 ⟨⟨ab, al, az⟩, rfl, bc, gc, nc⟩
  obtain ⟨rc', oc⟩ := gc FA.out.wq
  rw [show rqE (wqL ⟨#[71, 69, 84]⟩ ⟨#[104, 116, 116, 112]⟩ ⟨#[97, 46, 116, 101, 115, 116]⟩ ⟨#[47, 120]⟩ T) = 0 from FA.out.wq]
  replace MK : Hid (Mk w.heap.size [(some ⟨gL, 0, none⟩, n, yc), (kb, kl, kz), (rb, rl, rz), (qb, ql, qz), (ab, al, az)] [L, L, T, T, wqL ⟨#[71, 69, 84]⟩ ⟨#[104, 116, 116, 112]⟩ ⟨#[97, 46, 116, 101, 115, 116]⟩ ⟨#[47, 120]⟩ T] w6) := MK.out.snoc bc rc' oc
  replace BW : Hid (Below w.heap.size w w6) := BW.out.trans (bc.mono BW.out.size)
  replace P7 : Hid (w6.heap[w4.heap.size]? = some (.cells #[.string ⟨#[71, 69, 84]⟩, .string ⟨#[104, 116, 116, 112]⟩, .string ⟨#[97, 46, 116, 101, 115, 116]⟩, .string ⟨#[47, 120]⟩, .slice rb rl rz, .string ⟨#[]⟩] 26)) := blk_below P7.out bc
  replace P9 : Hid (w6.heap[w5.heap.size]? = some (.cells #[.string ⟨#[71, 69, 84]⟩, .string ⟨#[104, 116, 116, 112]⟩, .string ⟨#[97, 46, 116, 101, 115, 116]⟩, .string ⟨#[47, 120]⟩, .slice qb ql qz, .string ⟨#[]⟩] 26)) := blk_below P9.out bc
  clear bc rc' oc gc nc z0 z1 z2 z3 z4 z5 z6
  simp only [sv]
  obtain ⟨z0, z1, z2, z3, z4, z5, z6⟩ := box6 P7.out
  go_wp2_with fail
  go_at_call 16
  refine (writeRequest_any ⟨#[71, 69, 84]⟩ ⟨#[104, 116, 116, 112]⟩ ⟨#[97, 46, 116, 101, 115, 116]⟩ ⟨#[47, 120]⟩ ⟨#[]⟩ (rb, rl, rz) T _ (show In EFd w6 (sv (rb, rl, rz)) T from (MK.out.row 2 (by simp) (by simp)).isIn) (by decide) (by decide) (by decide) (by decide) FA.out.szT (by have := FA.out.few; omega)).mono ?_
  rintro e w7 ⟨⟨bb, bl, bz⟩, rfl, bc, gc, nc⟩
  obtain ⟨rc', oc⟩ := gc FA.out.wq
  rw [show rqE (wqL ⟨#[71, 69, 84]⟩ ⟨#[104, 116, 116, 112]⟩ ⟨#[97, 46, 116, 101, 115, 116]⟩ ⟨#[47, 120]⟩ T) = 0 from FA.out.wq]
  replace MK : Hid (Mk w.heap.size [(some ⟨gL, 0, none⟩, n, yc), (kb, kl, kz), (rb, rl, rz), (qb, ql, qz), (ab, al, az), (bb, bl, bz)] [L, L, T, T, wqL ⟨#[71, 69, 84]⟩ ⟨#[104, 116, 116, 112]⟩ ⟨#[97, 46, 116, 101, 115, 116]⟩ ⟨#[47, 120]⟩ T, wqL ⟨#[71, 69, 84]⟩ ⟨#[104, 116, 116, 112]⟩ ⟨#[97, 46, 116, 101, 115, 116]⟩ ⟨#[47, 120]⟩ T] w7) := MK.out.snoc bc rc' oc
  replace BW : Hid (Below w.heap.size w w7) := BW.out.trans (bc.mono BW.out.size)
  replace P7 : Hid (w7.heap[w4.heap.size]? = some (.cells #[.string ⟨#[71, 69, 84]⟩, .string ⟨#[104, 116, 116, 112]⟩, .string ⟨#[97, 46, 116, 101, 115, 116]⟩, .string ⟨#[47, 120]⟩, .slice rb rl rz, .string ⟨#[]⟩] 26)) := blk_below P7.out bc
  replace P9 : Hid (w7.heap[w5.heap.size]? = some (.cells #[.string ⟨#[71, 69, 84]⟩, .string ⟨#[104, 116, 116, 112]⟩, .string ⟨#[97, 46, 116, 101, 115, 116]⟩, .string ⟨#[47, 120]⟩, .slice qb ql qz, .string ⟨#[]⟩] 26)) := blk_below P9.out bc
  clear bc rc' oc gc nc z0 z1 z2 z3 z4 z5 z6
  simp only [sv]
  have a4 : (4 : Int) ≤ (n : Int) := by omega
  have a5 : (n : Int) ≤ (yc : Int) := by omega
  have a6 : (4 : Int) ≤ (yc : Int) := by omega
  have hU : Hid ((yc ≠ 4 → In EFd w7 (.slice (some ⟨gL, 12, none⟩) (n - 4) (yc - 4)) T) ∧ (yc = 4 → In EFd w7 (.slice (some ⟨gL, 0, none⟩) (n - 4) (yc - 4)) T)) := by
    have hi := In.drop okFd (show In EFd w7 (sv (some ⟨gL, 0, none⟩, n, yc)) L from (MK.out.row 0 (by simp) (by simp)).isIn) 4 (by have := FA.out.len; omega)
    rw [FA.out.tl, ← HN.out] at hi
    exact hi
  have h23 : Hid (∀ B off, In EFd w7 (.slice (some ⟨B, off, none⟩) (n - 4) (yc - 4)) T → Calls Tryd.prog 23 #[.slice (some ⟨B, off, none⟩) (n - 4) (yc - 4), .int .i64 0, .agg #[.string ⟨#[58, 115, 116, 97, 116, 117, 115]⟩, .string ⟨#[50, 48, 48]⟩, .bool false]] w7 fun e w' => FdPost (stF :: T) w7 e w') := fun B off hi => by
    have hl : n - 4 = T.length := by have := FA.out.len; have := HN.out; omega
    rw [hl] at hi ⊢
    exact with_any B off (yc - 4) T 0 stF w7 hi (Nat.zero_le _) (by have := FA.out.few; omega)
  go_upto_region 9 with fail
  go_cut [15] from 36 (fun x wx => ∃ eb el ez, x = .slice eb el ez ∧ Hid (FdPost (stF :: T) w7 (.returned (.slice eb el ez)) wx))
  case first =>
    by_cases hc : yc = 4
    · have hin : Hid (In EFd w7 (.slice (some ⟨gL, 0, none⟩) (n - 4) (yc - 4)) T) := hU.out.2 hc
      clear hU
      subst hc
      obtain rfl : n = 4 := by omega
      go_wp2_with fail
      go_at_call 23
      refine (h23.out gL 0 hin.out).mono ?_
      rintro e w' ⟨⟨eb, el, ez⟩, rfl, hp⟩
      simp only [sv]
      go_wp2_with fail
      go_meet
      exact ⟨eb, el, ez, rfl, (eb, el, ez), rfl, hp⟩
    · have hin : Hid (In EFd w7 (.slice (some ⟨gL, 12, none⟩) (n - 4) (yc - 4)) T) := hU.out.1 hc
      clear hU
      have hc' : ¬ (yc : Int) = 4 := by omega
      go_wp2_with fail
      go_at_call 23
      refine (h23.out gL 12 hin.out).mono ?_
      rintro e w' ⟨⟨eb, el, ez⟩, rfl, hp⟩
      simp only [sv]
      go_wp2_with fail
      go_meet
      exact ⟨eb, el, ez, rfl, (eb, el, ez), rfl, hp⟩

  obtain ⟨eb, el, ez, rfl, hp⟩ := hcut
  obtain ⟨w8, hw8⟩ : ∃ x, wc = x := ⟨_, rfl⟩
  rw [hw8] at hp ⊢
  clear hw8
  obtain ⟨⟨eb', el', ez'⟩, he, bc, rc', oc⟩ := hp.out
  injection he with he
  simp only [sv] at he
  injection he with he1 he2 he3
  subst he1 he2 he3
  clear hp hU h23
  replace MK : Hid (Mk w.heap.size [(some ⟨gL, 0, none⟩, n, yc), (kb, kl, kz), (rb, rl, rz), (qb, ql, qz), (ab, al, az), (bb, bl, bz), (eb, el, ez)] [L, L, T, T, wqL ⟨#[71, 69, 84]⟩ ⟨#[104, 116, 116, 112]⟩ ⟨#[97, 46, 116, 101, 115, 116]⟩ ⟨#[47, 120]⟩ T, wqL ⟨#[71, 69, 84]⟩ ⟨#[104, 116, 116, 112]⟩ ⟨#[97, 46, 116, 101, 115, 116]⟩ ⟨#[47, 120]⟩ T, (stF :: T)] w8) := MK.out.snoc bc rc' oc
  replace BW : Hid (Below w.heap.size w w8) := BW.out.trans (bc.mono BW.out.size)
  replace P7 : Hid (w8.heap[w4.heap.size]? = some (.cells #[.string ⟨#[71, 69, 84]⟩, .string ⟨#[104, 116, 116, 112]⟩, .string ⟨#[97, 46, 116, 101, 115, 116]⟩, .string ⟨#[47, 120]⟩, .slice rb rl rz, .string ⟨#[]⟩] 26)) := blk_below P7.out bc
  replace P9 : Hid (w8.heap[w5.heap.size]? = some (.cells #[.string ⟨#[71, 69, 84]⟩, .string ⟨#[104, 116, 116, 112]⟩, .string ⟨#[97, 46, 116, 101, 115, 116]⟩, .string ⟨#[47, 120]⟩, .slice qb ql qz, .string ⟨#[]⟩] 26)) := blk_below P9.out bc
  clear bc rc' oc a4 a5 a6
  go_wp2_with fail
  go_at_call 18
  refine (readResponse_any (eb, el, ez) (stF :: T) _ (show In EFd w8 (sv (eb, el, ez)) (stF :: T) from (MK.out.row 6 (by simp) (by simp)).isIn) (st_sz FA.out.szT FA.out.few)).mono ?_
  rintro e w9 ⟨nn, ⟨sb, sl, sz⟩, rfl, bc, gc, nc⟩
  obtain ⟨⟨sx, hv4, _, hnn⟩, rc', oc⟩ := gc FA.out.rs
  rw [vals_st] at hv4
  simp only [Option.some.injEq, List.cons.injEq, and_true] at hv4
  rw [← hv4, st_ok.2.2] at hnn
  subst hnn
  rw [FA.out.rs]
  replace rc' : R EFd w9 (sv (sb, sl, sz)) T := rc'
  replace MK : Hid (Mk w.heap.size [(some ⟨gL, 0, none⟩, n, yc), (kb, kl, kz), (rb, rl, rz), (qb, ql, qz), (ab, al, az), (bb, bl, bz), (eb, el, ez), (sb, sl, sz)] [L, L, T, T, wqL ⟨#[71, 69, 84]⟩ ⟨#[104, 116, 116, 112]⟩ ⟨#[97, 46, 116, 101, 115, 116]⟩ ⟨#[47, 120]⟩ T, wqL ⟨#[71, 69, 84]⟩ ⟨#[104, 116, 116, 112]⟩ ⟨#[97, 46, 116, 101, 115, 116]⟩ ⟨#[47, 120]⟩ T, (stF :: T), T] w9) := MK.out.snoc bc rc' oc
  replace BW : Hid (Below w.heap.size w w9) := BW.out.trans (bc.mono BW.out.size)
  replace P7 : Hid (w9.heap[w4.heap.size]? = some (.cells #[.string ⟨#[71, 69, 84]⟩, .string ⟨#[104, 116, 116, 112]⟩, .string ⟨#[97, 46, 116, 101, 115, 116]⟩, .string ⟨#[47, 120]⟩, .slice rb rl rz, .string ⟨#[]⟩] 26)) := blk_below P7.out bc
  replace P9 : Hid (w9.heap[w5.heap.size]? = some (.cells #[.string ⟨#[71, 69, 84]⟩, .string ⟨#[104, 116, 116, 112]⟩, .string ⟨#[97, 46, 116, 101, 115, 116]⟩, .string ⟨#[47, 120]⟩, .slice qb ql qz, .string ⟨#[]⟩] 26)) := blk_below P9.out bc
  clear bc rc' oc gc nc hv4
  have bbx := bel1 w9 (.cells #[.int .i64 200, .slice sb sl sz, .string ⟨#[]⟩] 37)
  have hbx : (w9.alloc (.cells #[.int .i64 200, .slice sb sl sz, .string ⟨#[]⟩] 37)).heap[w9.heap.size]? = some (.cells #[.int .i64 200, .slice sb sl sz, .string ⟨#[]⟩] 37) := by rw [heap_al, if_pos rfl]
  replace MK : Hid (Mk w.heap.size [(some ⟨gL, 0, none⟩, n, yc), (kb, kl, kz), (rb, rl, rz), (qb, ql, qz), (ab, al, az), (bb, bl, bz), (eb, el, ez), (sb, sl, sz)] [L, L, T, T, wqL ⟨#[71, 69, 84]⟩ ⟨#[104, 116, 116, 112]⟩ ⟨#[97, 46, 116, 101, 115, 116]⟩ ⟨#[47, 120]⟩ T, wqL ⟨#[71, 69, 84]⟩ ⟨#[104, 116, 116, 112]⟩ ⟨#[97, 46, 116, 101, 115, 116]⟩ ⟨#[47, 120]⟩ T, (stF :: T), T] (w9.alloc (.cells #[.int .i64 200, .slice sb sl sz, .string ⟨#[]⟩] 37))) := MK.out.below bbx
  replace BW : Hid (Below w.heap.size w (w9.alloc (.cells #[.int .i64 200, .slice sb sl sz, .string ⟨#[]⟩] 37))) := BW.out.trans (bbx.mono BW.out.size)
  replace P7 : Hid ((w9.alloc (.cells #[.int .i64 200, .slice sb sl sz, .string ⟨#[]⟩] 37)).heap[w4.heap.size]? = some (.cells #[.string ⟨#[71, 69, 84]⟩, .string ⟨#[104, 116, 116, 112]⟩, .string ⟨#[97, 46, 116, 101, 115, 116]⟩, .string ⟨#[47, 120]⟩, .slice rb rl rz, .string ⟨#[]⟩] 26)) := blk_below P7.out bbx
  replace P9 : Hid ((w9.alloc (.cells #[.int .i64 200, .slice sb sl sz, .string ⟨#[]⟩] 37)).heap[w5.heap.size]? = some (.cells #[.string ⟨#[71, 69, 84]⟩, .string ⟨#[104, 116, 116, 112]⟩, .string ⟨#[97, 46, 116, 101, 115, 116]⟩, .string ⟨#[47, 120]⟩, .slice qb ql qz, .string ⟨#[]⟩] 26)) := blk_below P9.out bbx
  have P16 : Hid ((w9.alloc (.cells #[.int .i64 200, .slice sb sl sz, .string ⟨#[]⟩] 37)).heap[w9.heap.size]? = some (.cells #[.int .i64 200, .slice sb sl sz, .string ⟨#[]⟩] 37)) := hbx
  clear bbx hbx
  simp only [sv, rqv, rsv]
  go_wp2_with fail
  obtain ⟨v9, hv9⟩ : ∃ x, w9.alloc (.cells #[.int .i64 200, .slice sb sl sz, .string ⟨#[]⟩] 37) = x := ⟨_, rfl⟩
  rw [hv9] at MK BW P16 P7 P9  ⊢
  clear hv9
  go_at_call 18
  refine (readResponse_any (eb, el, ez) (stF :: T) _ (show In EFd v9 (sv (eb, el, ez)) (stF :: T) from (MK.out.row 6 (by simp) (by simp)).isIn) (st_sz FA.out.szT FA.out.few)).mono ?_
  rintro e w10 ⟨nn, ⟨tb, tl, tz⟩, rfl, bc, gc, nc⟩
  obtain ⟨⟨sx, hv4, _, hnn⟩, rc', oc⟩ := gc FA.out.rs
  rw [vals_st] at hv4
  simp only [Option.some.injEq, List.cons.injEq, and_true] at hv4
  rw [← hv4, st_ok.2.2] at hnn
  subst hnn
  rw [FA.out.rs]
  replace rc' : R EFd w10 (sv (tb, tl, tz)) T := rc'
  replace MK : Hid (Mk w.heap.size [(some ⟨gL, 0, none⟩, n, yc), (kb, kl, kz), (rb, rl, rz), (qb, ql, qz), (ab, al, az), (bb, bl, bz), (eb, el, ez), (sb, sl, sz), (tb, tl, tz)] [L, L, T, T, wqL ⟨#[71, 69, 84]⟩ ⟨#[104, 116, 116, 112]⟩ ⟨#[97, 46, 116, 101, 115, 116]⟩ ⟨#[47, 120]⟩ T, wqL ⟨#[71, 69, 84]⟩ ⟨#[104, 116, 116, 112]⟩ ⟨#[97, 46, 116, 101, 115, 116]⟩ ⟨#[47, 120]⟩ T, (stF :: T), T, T] w10) := MK.out.snoc bc rc' oc
  replace BW : Hid (Below w.heap.size w w10) := BW.out.trans (bc.mono BW.out.size)
  replace P7 : Hid (w10.heap[w4.heap.size]? = some (.cells #[.string ⟨#[71, 69, 84]⟩, .string ⟨#[104, 116, 116, 112]⟩, .string ⟨#[97, 46, 116, 101, 115, 116]⟩, .string ⟨#[47, 120]⟩, .slice rb rl rz, .string ⟨#[]⟩] 26)) := blk_below P7.out bc
  replace P9 : Hid (w10.heap[w5.heap.size]? = some (.cells #[.string ⟨#[71, 69, 84]⟩, .string ⟨#[104, 116, 116, 112]⟩, .string ⟨#[97, 46, 116, 101, 115, 116]⟩, .string ⟨#[47, 120]⟩, .slice qb ql qz, .string ⟨#[]⟩] 26)) := blk_below P9.out bc
  replace P16 : Hid (w10.heap[w9.heap.size]? = some (.cells #[.int .i64 200, .slice sb sl sz, .string ⟨#[]⟩] 37)) := blk_below P16.out bc
  clear bc rc' oc gc nc hv4
  have bbx := bel1 w10 (.cells #[.int .i64 200, .slice tb tl tz, .string ⟨#[]⟩] 37)
  have hbx : (w10.alloc (.cells #[.int .i64 200, .slice tb tl tz, .string ⟨#[]⟩] 37)).heap[w10.heap.size]? = some (.cells #[.int .i64 200, .slice tb tl tz, .string ⟨#[]⟩] 37) := by rw [heap_al, if_pos rfl]
  replace MK : Hid (Mk w.heap.size [(some ⟨gL, 0, none⟩, n, yc), (kb, kl, kz), (rb, rl, rz), (qb, ql, qz), (ab, al, az), (bb, bl, bz), (eb, el, ez), (sb, sl, sz), (tb, tl, tz)] [L, L, T, T, wqL ⟨#[71, 69, 84]⟩ ⟨#[104, 116, 116, 112]⟩ ⟨#[97, 46, 116, 101, 115, 116]⟩ ⟨#[47, 120]⟩ T, wqL ⟨#[71, 69, 84]⟩ ⟨#[104, 116, 116, 112]⟩ ⟨#[97, 46, 116, 101, 115, 116]⟩ ⟨#[47, 120]⟩ T, (stF :: T), T, T] (w10.alloc (.cells #[.int .i64 200, .slice tb tl tz, .string ⟨#[]⟩] 37))) := MK.out.below bbx
  replace BW : Hid (Below w.heap.size w (w10.alloc (.cells #[.int .i64 200, .slice tb tl tz, .string ⟨#[]⟩] 37))) := BW.out.trans (bbx.mono BW.out.size)
  replace P7 : Hid ((w10.alloc (.cells #[.int .i64 200, .slice tb tl tz, .string ⟨#[]⟩] 37)).heap[w4.heap.size]? = some (.cells #[.string ⟨#[71, 69, 84]⟩, .string ⟨#[104, 116, 116, 112]⟩, .string ⟨#[97, 46, 116, 101, 115, 116]⟩, .string ⟨#[47, 120]⟩, .slice rb rl rz, .string ⟨#[]⟩] 26)) := blk_below P7.out bbx
  replace P9 : Hid ((w10.alloc (.cells #[.int .i64 200, .slice tb tl tz, .string ⟨#[]⟩] 37)).heap[w5.heap.size]? = some (.cells #[.string ⟨#[71, 69, 84]⟩, .string ⟨#[104, 116, 116, 112]⟩, .string ⟨#[97, 46, 116, 101, 115, 116]⟩, .string ⟨#[47, 120]⟩, .slice qb ql qz, .string ⟨#[]⟩] 26)) := blk_below P9.out bbx
  replace P16 : Hid ((w10.alloc (.cells #[.int .i64 200, .slice tb tl tz, .string ⟨#[]⟩] 37)).heap[w9.heap.size]? = some (.cells #[.int .i64 200, .slice sb sl sz, .string ⟨#[]⟩] 37)) := blk_below P16.out bbx
  have P18 : Hid ((w10.alloc (.cells #[.int .i64 200, .slice tb tl tz, .string ⟨#[]⟩] 37)).heap[w10.heap.size]? = some (.cells #[.int .i64 200, .slice tb tl tz, .string ⟨#[]⟩] 37)) := hbx
  clear bbx hbx
  obtain ⟨z0, z1, z2, z3⟩ := box3 P16.out
  simp only [sv, rqv, rsv]
  go_wp2_with fail
  obtain ⟨v10, hv10⟩ : ∃ x, w10.alloc (.cells #[.int .i64 200, .slice tb tl tz, .string ⟨#[]⟩] 37) = x := ⟨_, rfl⟩
  rw [hv10] at MK BW P18 P7 P9 P16 z0 z1 z2 z3 ⊢
  clear hv10
  go_at_call 20
  refine (writeResponse_any 200 (by decide) (by decide) (sb, sl, sz) ⟨#[]⟩ T _ (HT.out.below BW.out) (show In EFd v10 (sv (sb, sl, sz)) T from (MK.out.row 7 (by simp) (by simp)).isIn) (fun f hf => (FA.out.szT.1 f hf).1) (by have := FA.out.few; omega)).mono ?_
  rintro e w11 ⟨⟨cb, cl, cz⟩, rfl, bc, gc, nc⟩
  obtain ⟨rc', oc⟩ := gc FA.out.ws
  rw [FA.out.ws]
  replace MK : Hid (Mk w.heap.size [(some ⟨gL, 0, none⟩, n, yc), (kb, kl, kz), (rb, rl, rz), (qb, ql, qz), (ab, al, az), (bb, bl, bz), (eb, el, ez), (sb, sl, sz), (tb, tl, tz), (cb, cl, cz)] [L, L, T, T, wqL ⟨#[71, 69, 84]⟩ ⟨#[104, 116, 116, 112]⟩ ⟨#[97, 46, 116, 101, 115, 116]⟩ ⟨#[47, 120]⟩ T, wqL ⟨#[71, 69, 84]⟩ ⟨#[104, 116, 116, 112]⟩ ⟨#[97, 46, 116, 101, 115, 116]⟩ ⟨#[47, 120]⟩ T, (stF :: T), T, T, wrL 200 T] w11) := MK.out.snoc bc rc' oc
  replace BW : Hid (Below w.heap.size w w11) := BW.out.trans (bc.mono BW.out.size)
  replace P7 : Hid (w11.heap[w4.heap.size]? = some (.cells #[.string ⟨#[71, 69, 84]⟩, .string ⟨#[104, 116, 116, 112]⟩, .string ⟨#[97, 46, 116, 101, 115, 116]⟩, .string ⟨#[47, 120]⟩, .slice rb rl rz, .string ⟨#[]⟩] 26)) := blk_below P7.out bc
  replace P9 : Hid (w11.heap[w5.heap.size]? = some (.cells #[.string ⟨#[71, 69, 84]⟩, .string ⟨#[104, 116, 116, 112]⟩, .string ⟨#[97, 46, 116, 101, 115, 116]⟩, .string ⟨#[47, 120]⟩, .slice qb ql qz, .string ⟨#[]⟩] 26)) := blk_below P9.out bc
  replace P16 : Hid (w11.heap[w9.heap.size]? = some (.cells #[.int .i64 200, .slice sb sl sz, .string ⟨#[]⟩] 37)) := blk_below P16.out bc
  replace P18 : Hid (w11.heap[w10.heap.size]? = some (.cells #[.int .i64 200, .slice tb tl tz, .string ⟨#[]⟩] 37)) := blk_below P18.out bc
  clear bc rc' oc gc nc z0 z1 z2 z3
  simp only [sv]
  obtain ⟨z0, z1, z2, z3⟩ := box3 P16.out
  go_wp2_with fail
  go_at_call 20
  refine (writeResponse_any 200 (by decide) (by decide) (sb, sl, sz) ⟨#[]⟩ T _ (HT.out.below BW.out) (show In EFd w11 (sv (sb, sl, sz)) T from (MK.out.row 7 (by simp) (by simp)).isIn) (fun f hf => (FA.out.szT.1 f hf).1) (by have := FA.out.few; omega)).mono ?_
  rintro e w12 ⟨⟨db, dl, dz⟩, rfl, bc, gc, nc⟩
  obtain ⟨rc', oc⟩ := gc FA.out.ws
  rw [FA.out.ws]
  replace MK : Hid (Mk w.heap.size [(some ⟨gL, 0, none⟩, n, yc), (kb, kl, kz), (rb, rl, rz), (qb, ql, qz), (ab, al, az), (bb, bl, bz), (eb, el, ez), (sb, sl, sz), (tb, tl, tz), (cb, cl, cz), (db, dl, dz)] [L, L, T, T, wqL ⟨#[71, 69, 84]⟩ ⟨#[104, 116, 116, 112]⟩ ⟨#[97, 46, 116, 101, 115, 116]⟩ ⟨#[47, 120]⟩ T, wqL ⟨#[71, 69, 84]⟩ ⟨#[104, 116, 116, 112]⟩ ⟨#[97, 46, 116, 101, 115, 116]⟩ ⟨#[47, 120]⟩ T, (stF :: T), T, T, wrL 200 T, wrL 200 T] w12) := MK.out.snoc bc rc' oc
  replace BW : Hid (Below w.heap.size w w12) := BW.out.trans (bc.mono BW.out.size)
  replace P7 : Hid (w12.heap[w4.heap.size]? = some (.cells #[.string ⟨#[71, 69, 84]⟩, .string ⟨#[104, 116, 116, 112]⟩, .string ⟨#[97, 46, 116, 101, 115, 116]⟩, .string ⟨#[47, 120]⟩, .slice rb rl rz, .string ⟨#[]⟩] 26)) := blk_below P7.out bc
  replace P9 : Hid (w12.heap[w5.heap.size]? = some (.cells #[.string ⟨#[71, 69, 84]⟩, .string ⟨#[104, 116, 116, 112]⟩, .string ⟨#[97, 46, 116, 101, 115, 116]⟩, .string ⟨#[47, 120]⟩, .slice qb ql qz, .string ⟨#[]⟩] 26)) := blk_below P9.out bc
  replace P16 : Hid (w12.heap[w9.heap.size]? = some (.cells #[.int .i64 200, .slice sb sl sz, .string ⟨#[]⟩] 37)) := blk_below P16.out bc
  replace P18 : Hid (w12.heap[w10.heap.size]? = some (.cells #[.int .i64 200, .slice tb tl tz, .string ⟨#[]⟩] 37)) := blk_below P18.out bc
  clear bc rc' oc gc nc z0 z1 z2 z3
  simp only [sv]
  obtain ⟨z0, z1, z2, z3, z4, z5, z6⟩ := box6 P7.out
  go_wp2_with fail
  go_at_call 15
  refine (copied_any (rb, rl, rz) T _ (show In EFd w12 (sv (rb, rl, rz)) T from (MK.out.row 2 (by simp) (by simp)).isIn) (by have := FA.out.few; omega)).mono ?_
  rintro e w13 ⟨⟨ob, ol, oz⟩, rfl, bc, rc', oo⟩
  replace MK : Hid (Mk w.heap.size [(some ⟨gL, 0, none⟩, n, yc), (kb, kl, kz), (rb, rl, rz), (qb, ql, qz), (ab, al, az), (bb, bl, bz), (eb, el, ez), (sb, sl, sz), (tb, tl, tz), (cb, cl, cz), (db, dl, dz), (ob, ol, oz)] [L, L, T, T, wqL ⟨#[71, 69, 84]⟩ ⟨#[104, 116, 116, 112]⟩ ⟨#[97, 46, 116, 101, 115, 116]⟩ ⟨#[47, 120]⟩ T, wqL ⟨#[71, 69, 84]⟩ ⟨#[104, 116, 116, 112]⟩ ⟨#[97, 46, 116, 101, 115, 116]⟩ ⟨#[47, 120]⟩ T, (stF :: T), T, T, wrL 200 T, wrL 200 T, T] w13) := MK.out.snoc bc rc' oo
  replace BW : Hid (Below w.heap.size w w13) := BW.out.trans (bc.mono BW.out.size)
  replace P7 : Hid (w13.heap[w4.heap.size]? = some (.cells #[.string ⟨#[71, 69, 84]⟩, .string ⟨#[104, 116, 116, 112]⟩, .string ⟨#[97, 46, 116, 101, 115, 116]⟩, .string ⟨#[47, 120]⟩, .slice rb rl rz, .string ⟨#[]⟩] 26)) := blk_below P7.out bc
  replace P9 : Hid (w13.heap[w5.heap.size]? = some (.cells #[.string ⟨#[71, 69, 84]⟩, .string ⟨#[104, 116, 116, 112]⟩, .string ⟨#[97, 46, 116, 101, 115, 116]⟩, .string ⟨#[47, 120]⟩, .slice qb ql qz, .string ⟨#[]⟩] 26)) := blk_below P9.out bc
  replace P16 : Hid (w13.heap[w9.heap.size]? = some (.cells #[.int .i64 200, .slice sb sl sz, .string ⟨#[]⟩] 37)) := blk_below P16.out bc
  replace P18 : Hid (w13.heap[w10.heap.size]? = some (.cells #[.int .i64 200, .slice tb tl tz, .string ⟨#[]⟩] 37)) := blk_below P18.out bc
  clear bc rc' oo z0 z1 z2 z3 z4 z5 z6
  simp only [sv]
  obtain ⟨_, _, _, _, x7, _, x7l⟩ := box6 P7.out
  obtain ⟨_, _, _, _, x9, _, x9l⟩ := box6 P9.out
  obtain ⟨_, x16, _, x16l⟩ := box3 P16.out
  obtain ⟨_, x18, _, x18l⟩ := box3 P18.out
  have hal : n = al := by
    have h1 := (slice_len (show In EFd w13 (.slice ab al az) (wqL ⟨#[71, 69, 84]⟩ ⟨#[104, 116, 116, 112]⟩ ⟨#[97, 46, 116, 101, 115, 116]⟩ ⟨#[47, 120]⟩ T) from (MK.out.row 4 (by simp) (by simp)).isIn)).1
    have h2 := wq_len ⟨#[71, 69, 84]⟩ ⟨#[104, 116, 116, 112]⟩ ⟨#[97, 46, 116, 101, 115, 116]⟩ ⟨#[47, 120]⟩ T
    have := FA.out.len; have := HN.out; omega
  have hdl : el = dl := by
    have h1 := (slice_len (show In EFd w13 (.slice eb el ez) (stF :: T) from (MK.out.row 6 (by simp) (by simp)).isIn)).1
    have h2 := (slice_len (show In EFd w13 (.slice db dl dz) (wrL 200 T) from (MK.out.row 10 (by simp) (by simp)).isIn)).1
    rw [h1, h2]; rfl
  subst hal hdl
  go_upto_region 16 with fail
  have bbx := bel1 w13 (.cells #[.slice (some ⟨gL, 0, none⟩) n yc, .slice rb rl rz, .slice qb ql qz, .slice ab n az, .slice bb bl bz, .slice eb el ez, .slice sb sl sz, .slice tb tl tz, .slice cb cl cz, .slice db el dz] 24)
  have G : Hid ((w13.alloc (.cells #[.slice (some ⟨gL, 0, none⟩) n yc, .slice rb rl rz, .slice qb ql qz, .slice ab n az, .slice bb bl bz, .slice eb el ez, .slice sb sl sz, .slice tb tl tz, .slice cb cl cz, .slice db el dz] 24)).heap[w13.heap.size]? = some (.cells #[.slice (some ⟨gL, 0, none⟩) n yc, .slice rb rl rz, .slice qb ql qz, .slice ab n az, .slice bb bl bz, .slice eb el ez, .slice sb sl sz, .slice tb tl tz, .slice cb cl cz, .slice db el dz] 24)) := by show _ = _; rw [heap_al, if_pos rfl]
  have M14 : Hid (Mk w.heap.size [(some ⟨gL, 0, none⟩, n, yc), (kb, kl, kz), (rb, rl, rz), (qb, ql, qz), (ab, n, az), (bb, bl, bz), (eb, el, ez), (sb, sl, sz), (tb, tl, tz), (cb, cl, cz), (db, el, dz), (ob, ol, oz)] [L, L, T, T, wqL ⟨#[71, 69, 84]⟩ ⟨#[104, 116, 116, 112]⟩ ⟨#[97, 46, 116, 101, 115, 116]⟩ ⟨#[47, 120]⟩ T, wqL ⟨#[71, 69, 84]⟩ ⟨#[104, 116, 116, 112]⟩ ⟨#[97, 46, 116, 101, 115, 116]⟩ ⟨#[47, 120]⟩ T, stF :: T, T, T, wrL 200 T, wrL 200 T, T] (w13.alloc (.cells #[.slice (some ⟨gL, 0, none⟩) n yc, .slice rb rl rz, .slice qb ql qz, .slice ab n az, .slice bb bl bz, .slice eb el ez, .slice sb sl sz, .slice tb tl tz, .slice cb cl cz, .slice db el dz] 24))) := MK.out.below bbx
  have B14 : Hid (Below w13.heap.size w13 (w13.alloc (.cells #[.slice (some ⟨gL, 0, none⟩) n yc, .slice rb rl rz, .slice qb ql qz, .slice ab n az, .slice bb bl bz, .slice eb el ez, .slice sb sl sz, .slice tb tl tz, .slice cb cl cz, .slice db el dz] 24))) := bbx
  have gLt : Hid (w13.heap.size < (w13.alloc (.cells #[.slice (some ⟨gL, 0, none⟩) n yc, .slice rb rl rz, .slice qb ql qz, .slice ab n az, .slice bb bl bz, .slice eb el ez, .slice sb sl sz, .slice tb tl tz, .slice cb cl cz, .slice db el dz] 24)).heap.size) := heap_lt G.out
  have x9' := cell_blk (blk_below P9.out bbx) 4
  have x18' := cell_blk (blk_below P18.out bbx) 1
  simp only [List.getElem?_toArray, List.getElem?_cons_succ, List.getElem?_cons_zero] at x9' x18'
  clear bbx x7 x7l x9 x9l x16 x16l x18 x18l P7 P16
  obtain ⟨v14, hv14⟩ : ∃ x, w13.alloc (.cells #[.slice (some ⟨gL, 0, none⟩) n yc, .slice rb rl rz, .slice qb ql qz, .slice ab n az, .slice bb bl bz, .slice eb el ez, .slice sb sl sz, .slice tb tl tz, .slice cb cl cz, .slice db el dz] 24) = x := ⟨_, rfl⟩
  rw [hv14] at G M14 B14 x9' x18' gLt ⊢
  clear hv14
  have D0 : Hid (Below v14.heap.size v14 v14) := Below.refl _ _
  have q9l : w5.heap.size < v14.heap.size := Nat.lt_trans (heap_lt P9.out) gLt.out
  have q18l : w10.heap.size < v14.heap.size := Nat.lt_trans (heap_lt P18.out) gLt.out
  have X18 : Hid (v14.cell? ⟨w10.heap.size, 1, none⟩ = some (.slice tb tl tz)) := x18'
  clear x18' P9 P18
  go_wp2_with fail
  go_at_call 17
  refine (same_eq (qb, ql, qz) (ob, ol, oz) T _ (In.below (show In EFd v14 (.slice qb ql qz) T from (M14.out.row 3 (by simp) (by simp)).isIn) D0.out) (In.below (show In EFd v14 (.slice ob ol oz) T from (M14.out.row 11 (by simp) (by simp)).isIn) D0.out)).mono ?_
  rintro e w15 ⟨rfl, bc⟩
  have D1 : Hid (Below v14.heap.size v14 w15) := bc
  clear bc x9' D0
  have x18 : w15.cell? ⟨w10.heap.size, 1, none⟩ = some (.slice tb tl tz) := (D1.out.cell q18l).trans X18.out
  have q18 : w10.heap.size < w15.heap.size := Nat.lt_of_lt_of_le q18l D1.out.size
  go_wp2_with fail
  go_at_call 17
  refine (same_eq (tb, tl, tz) (ob, ol, oz) T _ (In.below (show In EFd v14 (.slice tb tl tz) T from (M14.out.row 8 (by simp) (by simp)).isIn) D1.out) (In.below (show In EFd v14 (.slice ob ol oz) T from (M14.out.row 11 (by simp) (by simp)).isIn) D1.out)).mono ?_
  rintro e w16 ⟨rfl, bc⟩
  have D2 : Hid (Below v14.heap.size v14 w16) := D1.out.trans (bc.mono D1.out.size)
  clear bc x18 q18 X18 D1
  go_wp2_with fail
  go_at_call 25
  refine (values_any (kb, kl, kz) L _ _ (In.below (show In EFd v14 (.slice kb kl kz) L from (M14.out.row 1 (by simp) (by simp)).isIn) D2.out) FA.out.sz.2).mono ?_
  rintro e w17 ⟨⟨vb, vl, vz⟩, rfl, bc, rv, ov⟩
  rw [show vsL L ⟨#[58, 112, 97, 116, 104]⟩ = [slashX] from FA.out.vp] at rv
  have D3 : Hid (Below v14.heap.size v14 w17) := D2.out.trans (bc.mono D2.out.size)
  replace ov : Hid (∀ k, (sv (vb, vl, vz)).ownBlock = some k → w16.heap.size ≤ k) := ov
  replace rv : Hid (R ES w17 (sv (vb, vl, vz)) [slashX]) := rv
  clear bc
  simp only [sv]
  go_wp2_with fail
  go_at_call 25
  refine (values_any (kb, kl, kz) L _ _ (In.below (show In EFd v14 (.slice kb kl kz) L from (M14.out.row 1 (by simp) (by simp)).isIn) D3.out) FA.out.sz.2).mono ?_
  rintro e w18 ⟨⟨ub, ul, uz⟩, rfl, bc, ru, ou⟩
  rw [show vsL L ⟨#[58, 112, 97, 116, 104]⟩ = [slashX] from FA.out.vp] at ru
  have D4 : Hid (Below v14.heap.size v14 w18) := D3.out.trans (bc.mono D3.out.size)
  obtain ⟨gv, vz', ev, _, hvz, hgv, hov, _, hfv, hset⟩ := R.setc okS (rv.out.below bc) 0 0 (by simp) (by decide)
  simp only [sv] at ev
  injection ev with e1 e2 e3
  subst e1 e2 e3
  obtain ⟨gu, uz', eu, _, huz, hgu, hou, _⟩ := R.setc okS ru 0 0 (by simp) (by decide)
  simp only [sv] at eu
  injection eu with e1 e2 e3
  subst e1 e2 e3
  have hgv16 : w16.heap.size ≤ gv := ov.out gv rfl
  have hgv17 : gv < w17.heap.size := rv.out.lt gv rfl
  have hgu17 : w17.heap.size ≤ gu := ou gu rfl
  have hs1 := hset (.string ⟨#[111, 110, 101]⟩) ⟨#[111, 110, 101]⟩ rfl
  simp only [ES, Nat.zero_mul, Nat.zero_add, List.set_cons_zero, sv, List.length_singleton] at hs1 hfv
  obtain ⟨wa, hwa⟩ : ∃ x, (w18.setCell ⟨gv, 0, none⟩ (.string ⟨#[111, 110, 101]⟩)) = x := ⟨_, rfl⟩
  have bwa : Below v14.heap.size w18 wa := by rw [← hwa]; exact (Below.refl _ _).setCell (p := ⟨gv, 0, none⟩) (Nat.le_trans D2.out.size hgv16) _
  have hwa18 : wa.heap.size = w18.heap.size := by rw [← hwa]; simp [World.setCell]
  have ru' : R ES wa (.slice (some ⟨gu, 0, none⟩) 1 uz) [slashX] := by
    rw [← hwa]
    exact R.stays ru fun k hk _ => setCell_other _ _ _ _ _ (fun e => by simp [sv, Value.ownBlock] at hk; omega)
  rw [hwa] at hs1
  have ba := bel1 wa (.cells #[.string ⟨#[116, 119, 111]⟩] 9)
  obtain ⟨vb2, vz2, wb, g1, g2, g3⟩ := app okS (wa.alloc (.cells #[.string ⟨#[116, 119, 111]⟩] 9)) _ _ (R.below hs1 ba) (.slice (some ⟨wa.heap.size, 0, none⟩) 1 1) [⟨#[116, 119, 111]⟩] (in_one _ _ _ #[.string ⟨#[116, 119, 111]⟩] 9 (0, 0) (by rw [heap_al, if_pos rfl]) rfl) (by simp [ES])
  simp only [List.length_singleton, Nat.reduceAdd] at g1 g2 g3
  have hgu_lt : gu < wa.heap.size := by rw [hwa18]; exact hgu
  have ru2 : R ES wb (.slice (some ⟨gu, 0, none⟩) 1 uz) [slashX] := (ru'.below ba).stays fun k hk hlt => g3.block k hlt (by simp [Value.ownBlock] at hk ⊢; omega)
  have bwb : Below v14.heap.size (wa.alloc (.cells #[.string ⟨#[116, 119, 111]⟩] 9)) wb := g3.belowB (by simp; have := D4.out.size; omega) (fun k hk => by simp [Value.ownBlock] at hk; have := D2.out.size; omega)
  have bc2 := bel1 wb (.cells #[.string ⟨#[116, 104, 114, 101, 101]⟩] 9)
  obtain ⟨ub2, uz2, wd, k1, k2, k3⟩ := app okS (wb.alloc (.cells #[.string ⟨#[116, 104, 114, 101, 101]⟩] 9)) _ _ (R.below ru2 bc2) (.slice (some ⟨wb.heap.size, 0, none⟩) 1 1) [⟨#[116, 104, 114, 101, 101]⟩] (in_one _ _ _ #[.string ⟨#[116, 104, 114, 101, 101]⟩] 9 (0, 0) (by rw [heap_al, if_pos rfl]) rfl) (by simp [ES])
  simp only [List.length_singleton, Nat.reduceAdd] at k1 k2 k3
  have hsz1 : wa.heap.size < (wa.alloc (.cells #[.string ⟨#[116, 119, 111]⟩] 9)).heap.size := by simp
  have hsz2 : wb.heap.size < (wb.alloc (.cells #[.string ⟨#[116, 104, 114, 101, 101]⟩] 9)).heap.size := by simp
  have hv2 : ∀ k, (Value.slice vb2 2 vz2).ownBlock = some k → k = gv ∨ wa.heap.size < k := fun k hk => by
    rcases g3.own k hk with e | e
    · simp [Value.ownBlock] at e; exact .inl e.symm
    · exact .inr (by omega)
  have hu2 : ∀ k, (Value.slice ub2 2 uz2).ownBlock = some k → k = gu ∨ wb.heap.size < k := fun k hk => by
    rcases k3.own k hk with e | e
    · simp [Value.ownBlock] at e; exact .inl e.symm
    · exact .inr (by omega)
  have vv : R ES wd (.slice vb2 2 vz2) [⟨#[111, 110, 101]⟩, ⟨#[116, 119, 111]⟩] := ((R.below g2 bc2).stays fun k hk hlt => k3.block k hlt (by
    have hkl := R.lt g2 k hk
    rcases hv2 k hk with e | e
    · simp [Value.ownBlock]; omega
    · simp [Value.ownBlock]; omega))
  have bwd : Below v14.heap.size (wb.alloc (.cells #[.string ⟨#[116, 104, 114, 101, 101]⟩] 9)) wd := k3.belowB (Nat.le_trans (Nat.le_trans D4.out.size (by have := bwb.size; have := ba.size; omega)) bc2.size) (fun k hk => by simp [Value.ownBlock] at hk; have := D3.out.size; omega)
  have D5 : Hid (Below v14.heap.size v14 wd) := by
    have hba := ba.mono (show v14.heap.size ≤ wa.heap.size by rw [hwa18]; exact D4.out.size)
    have s1 : Below v14.heap.size v14 wb := ((D4.out.trans bwa).trans hba).trans bwb
    exact (s1.trans (bc2.mono s1.size)).trans bwd
  have VV : Hid (R ES wd (.slice vb2 2 vz2) [⟨#[111, 110, 101]⟩, ⟨#[116, 119, 111]⟩]) := vv
  have UU : Hid (R ES wd (.slice ub2 2 uz2) [⟨#[47, 120]⟩, ⟨#[116, 104, 114, 101, 101]⟩]) := k2
  have HV : Hid (∀ k, (sv (vb2, 2, vz2)).ownBlock = some k → w13.heap.size < k ∧ k < wd.heap.size) := fun k hk => by
    have h1 := R.lt vv k hk
    have := D2.out.size; have := D4.out.size; have := gLt.out
    rcases hv2 k hk with e | e <;> exact ⟨by omega, h1⟩
  have HU : Hid (∀ k, (sv (ub2, 2, uz2)).ownBlock = some k → w13.heap.size < k ∧ k < wd.heap.size) := fun k hk => by
    have h1 := R.lt k2 k hk
    have := D3.out.size; have := D4.out.size; have := gLt.out; have := bwb.size; have := ba.size
    rcases hu2 k hk with e | e <;> exact ⟨by omega, h1⟩
  have G5 : Hid (wd.heap[w13.heap.size]? = some (.cells #[.slice (some ⟨gL, 0, none⟩) n yc, .slice rb rl rz, .slice qb ql qz, .slice ab n az, .slice bb bl bz, .slice eb el ez, .slice sb sl sz, .slice tb tl tz, .slice cb cl cz, .slice db el dz] 24)) := blk_below G.out D5.out
  have c0 : w18.cell? ⟨gv, 0, none⟩ = some (.string ⟨#[47, 120]⟩) := by
    have h := rv.out.below bc
    obtain ⟨B', off, cap, e, _, d⟩ := h.isIn.get okS 0 (by simp)
    simp only [sv] at e
    injection e with e1 e2 e3
    injection e1 with e1
    injection e1 with e1 e4
    subst e1 e4
    exact d 0 _ rfl
  have f0 := hfv 0
  have hwaH : Hid (w18.setCell ⟨gv, 0, none⟩ (.string ⟨#[111, 110, 101]⟩) = wa) := hwa
  rw [hwa18] at g1
  replace g1 : Hid _ := g1
  replace k1 : Hid _ := k1
  clear hset bc ru ou hs1 hwa bwa hwa18 ru' ba g2 g3 ru2 bwb bc2 k2 k3 hsz1 hsz2 hv2 hu2 vv bwd hfv rv ov hou hov hgu hgu_lt hgu17 hgv17 hgv16 huz hvz D2 D3 D4 G
  have B13 : Hid (Below w13.heap.size w13 v14) := B14
  clear B14
  rw [← hwaH.out] at g1
  simp only [sv]
  go_upto_region 24 with (at_builtin; refine Lib.wpList_append_run _ rfl _ _ _ _ rfl _ _ rfl rfl _ _ g1.out ?_)
  go_wp2_with (at_builtin; refine Lib.wpList_append_run _ rfl _ _ _ _ rfl _ _ rfl rfl _ _ k1.out ?_)
  have b13 : Hid (Below w13.heap.size w13 wd) := (show Below w13.heap.size w13 v14 from by have := M14.out.sp.le; exact B13.out).trans (D5.out.mono (Nat.le_of_lt gLt.out))
  obtain ⟨O, LS, Ok1, Ok2, Ok3, Ok4⟩ : ∃ O : Nat → Prop, Hid (Ls w.heap.size O wd w13.heap.size [(some ⟨gL, 0, none⟩, n, yc), (rb, rl, rz), (qb, ql, qz), (ab, n, az), (bb, bl, bz), (eb, el, ez), (sb, sl, sz), (tb, tl, tz), (cb, cl, cz), (db, el, dz)] ([L, T, T, wqL ⟨#[71, 69, 84]⟩ ⟨#[104, 116, 116, 112]⟩ ⟨#[97, 46, 116, 101, 115, 116]⟩ ⟨#[47, 120]⟩ T, wqL ⟨#[71, 69, 84]⟩ ⟨#[104, 116, 116, 112]⟩ ⟨#[97, 46, 116, 101, 115, 116]⟩ ⟨#[47, 120]⟩ T, stF :: T, T, T, wrL 200 T, wrL 200 T]) (none, 0, 0) ([]) wd) ∧ (∀ k, (sv (kb, kl, kz)).ownBlock = some k → O k) ∧ (∀ k, (sv (ob, ol, oz)).ownBlock = some k → O k) ∧ (∀ k, (sv (vb2, 2, vz2)).ownBlock = some k → O k) ∧ (∀ k, (sv (ub2, 2, uz2)).ownBlock = some k → O k) :=
    ⟨_, Ls.make MK.out w13.heap.size (Nat.le_refl _) G5.out b13.out HV.out HU.out, fun k hk => .inl hk, fun k hk => .inr (.inl hk), fun k hk => .inr (.inr (.inl hk)), fun k hk => .inr (.inr (.inr hk))⟩
  have OK : Hid ((∀ k, (sv (kb, kl, kz)).ownBlock = some k → O k) ∧ (∀ k, (sv (ob, ol, oz)).ownBlock = some k → O k) ∧ (∀ k, (sv (vb2, 2, vz2)).ownBlock = some k → O k) ∧ (∀ k, (sv (ub2, 2, uz2)).ownBlock = some k → O k)) := ⟨Ok1, Ok2, Ok3, Ok4⟩
  have KE : Hid (R EFd wd (sv (kb, kl, kz)) L) := (show R EFd w13 (sv (kb, kl, kz)) L from MK.out.row 1 (by simp) (by simp)).below b13.out
  have OW : Hid (R EFd wd (sv (ob, ol, oz)) T) := (show R EFd w13 (sv (ob, ol, oz)) T from MK.out.row 11 (by simp) (by simp)).below b13.out
  have B0 : Hid (Below w.heap.size w wd) := BW.out.trans (b13.out.mono BW.out.size)
  have hlens : Hid (∀ l ∈ [L, T, T, wqL ⟨#[71, 69, 84]⟩ ⟨#[104, 116, 116, 112]⟩ ⟨#[97, 46, 116, 101, 115, 116]⟩ ⟨#[47, 120]⟩ T, wqL ⟨#[71, 69, 84]⟩ ⟨#[104, 116, 116, 112]⟩ ⟨#[97, 46, 116, 101, 115, 116]⟩ ⟨#[47, 120]⟩ T, stF :: T, T, T, wrL 200 T, wrL 200 T], l.length ≤ 60) := by
    have h1 := FA.out.len; have h2 := FA.out.few
    intro l hl
    have h3 := wq_len ⟨#[71, 69, 84]⟩ ⟨#[104, 116, 116, 112]⟩ ⟨#[97, 46, 116, 101, 115, 116]⟩ ⟨#[47, 120]⟩ T
    simp only [List.mem_cons, List.not_mem_nil, or_false] at hl
    rcases hl with rfl | rfl | rfl | rfl | rfl | rfl | rfl | rfl | rfl | rfl <;> first | omega | (simp [wrL]; omega)
  obtain ⟨vs, hvs⟩ : ∃ x, [(some ⟨gL, 0, none⟩, n, yc), (rb, rl, rz), (qb, ql, qz), (ab, n, az), (bb, bl, bz), (eb, el, ez), (sb, sl, sz), (tb, tl, tz), (cb, cl, cz), (db, el, dz)] = x := ⟨_, rfl⟩
  obtain ⟨ls, hls⟩ : ∃ x, [L, T, T, wqL ⟨#[71, 69, 84]⟩ ⟨#[104, 116, 116, 112]⟩ ⟨#[97, 46, 116, 101, 115, 116]⟩ ⟨#[47, 120]⟩ T, wqL ⟨#[71, 69, 84]⟩ ⟨#[104, 116, 116, 112]⟩ ⟨#[97, 46, 116, 101, 115, 116]⟩ ⟨#[47, 120]⟩ T, stF :: T, T, T, wrL 200 T, wrL 200 T] = x := ⟨_, rfl⟩
  rw [hvs, hls] at LS
  rw [hls] at hlens
  have hll : Hid (ls.length = 10) := LS.out.ll
  clear hvs hls Ok1 Ok2 Ok3 Ok4 HV HU G5 M14 MK BW b13 D5 gLt B13 hwaH g1 k1
  go_loopw [28, 29, 30] (fun zv iv _ wr => ∃ (i : Nat) (zb : Option Addr) (zl zc : Nat), iv = .int .i64 (i : Int) ∧ i ≤ 10 ∧ zv = .slice zb zl zc ∧ Hid (Ls w.heap.size O wd w13.heap.size vs (mkM ls i) (zb, zl, zc) (nsL ls i) wr)) (fun _ iv _ _ => 10 - (intOf iv).toNat)
  case atStart => exact ⟨0, none, 0, 0, rfl, by omega, rfl, LS.out⟩
  case round =>
    obtain ⟨i, zb, zl, zc, rfl, hi, rfl, hs⟩ := hrel
    clear LS
    by_cases hlt : i < 10
    · have hlt' : (i : Int) < 10 := by omega
      obtain ⟨p1, p2, c0, f0, gl, q1, q2, q3⟩ := hs.out.at i hlt
      have p3 : i < ls.length := by rw [hll.out]; exact hlt
      rw [mkM_hi ls i i p2 p3 (Nat.le_refl _)] at q1 q2
      obtain ⟨xb, xl, xc, hX⟩ : ∃ xb xl xc, vs[i] = (xb, xl, xc) := ⟨_, _, _, rfl⟩
      rw [hX] at c0 q1 q2 q3
      simp only [sv] at c0 q1 q2 q3
      have hx60 : xl ≤ 60 := by rw [q1]; exact hlens.out _ (List.getElem_mem p3)
      have hL := hs.out.lens
      rw [nsL_len ls i (by rw [hll.out]; exact hi)] at hL
      simp only at hL
      obtain ⟨b', c', W', g1, g2⟩ := (hs.out.below (bel1 wr (.cells #[.int .i64 (xl : Int)] 3))).size (by rw [nsL_len ls i (by rw [hll.out]; exact hi)]; omega) (xl : Int) wr.heap.size (in_one _ _ _ #[.int .i64 (xl : Int)] 3 (0, 0) (by rw [heap_al, if_pos rfl]) rfl)
      rw [nsL_len ls i (by rw [hll.out]; exact hi)] at g1 g2
      have LS : Hid (Ls w.heap.size O wd w13.heap.size vs ((mkM ls i).set i (mkA ls[i] i 0)) (b', i + 1, c') (nsL ls (i + 1)) W') := by
        rw [nsL_succ ls i p3, mkM_self ls i p3, ← q1]
        exact g2
      have HX : Hid (vs[i] = (xb, xl, xc) ∧ xl = ls[i].length) := ⟨hX, q1⟩
      simp only [sv] at g1
      replace g1 : Hid _ := g1
      clear g2 hs hX q1 q2 hL f0
      go_wp2_with (at_builtin; refine Lib.wpList_append_run _ rfl _ _ _ _ rfl _ _ rfl rfl _ _ g1.out ?_)
      clear c0 g1 gl
      go_loopw [30] (fun kv wr => ∃ k : Nat, kv = .int .i64 (k : Int) ∧ k ≤ xl ∧ Hid (Ls w.heap.size O wd w13.heap.size vs ((mkM ls i).set i (mkA ls[i] i k)) (b', i + 1, c') (nsL ls (i + 1)) wr)) (fun kv _ => xl - (intOf kv).toNat)
      case atStart => exact ⟨0, rfl, by omega, LS.out⟩
      case round =>
        obtain ⟨k, rfl, hk, hs⟩ := hrel
        clear LS
        obtain ⟨_, p2, c0, f0, gl, q1, q2, q3⟩ := hs.out.at i hlt
        rw [HX.out.1] at c0 q1 q2 q3
        simp only [sv] at c0 q1 q2 q3
        by_cases hkx : k < xl
        · have hkx' : (k : Int) < (xl : Int) := by omega
          obtain ⟨r, c, e, rl', rg, rB, rf, d0, d1, d2, ro⟩ := hs.out.fd i p1 p2 k (by rw [← q1]; exact hkx)
          rw [HX.out.1] at e
          simp only [Prod.mk.injEq] at e
          obtain ⟨rfl, hxx, rfl⟩ := e
          clear hxx
          have hcel : ∀ W, Below wr.heap.size wr W → (fun W => W.cell? ⟨w13.heap.size, i, none⟩ = some (.slice (some ⟨r, 0, none⟩) xl xc)) W := fun W hb => by
            obtain ⟨_, _, h, _⟩ := (hs.out.below hb).at i hlt
            rw [HX.out.1] at h
            exact h
          have HC : Hid (∀ W, Below wr.heap.size wr W → (fun W => W.cell? ⟨w13.heap.size, i, none⟩ = some (.slice (some ⟨r, 0, none⟩) xl xc)) W) := hcel
          have rg2 : w13.heap.size ≠ r := Ne.symm rg
          have Q1H : Hid (xl = ((mkM ls i).set i (mkA ls[i] i k))[i].length) := q1
          clear rf ro rB d0 d1 d2 f0 rl' hcel q1 q2
          go_upto_region 33 with fail
          clear c0 gl
          have hIW : Below wr.heap.size wr (wr.drew) := (Below.refl _ _).drew
          refine wp_region_held_drew (S := (fun W => W.cell? ⟨w13.heap.size, i, none⟩ = some (.slice (some ⟨r, 0, none⟩) xl xc))) (by kernel_rfl) (HC.out _ hIW) (fun hHeld => ?_)
          generalize hWg : World.drew _ = W at hIW hHeld ⊢
          clear hWg
          have hsW := hs.out.below hIW
          have hbA := bel1 W (.cells #[.int .u8 (97 + (i : Int))] 5)
          obtain ⟨r', c'', e', rlW, _, _, rfW, d0, d1, d2, roW⟩ := hsW.fd i p1 p2 k (by rw [← Q1H.out]; exact hkx)
          rw [HX.out.1] at e'
          simp only [Prod.mk.injEq, Option.some.injEq, Addr.mk.injEq, and_true] at e'
          obtain ⟨rfl, hy1, hy2⟩ := e'
          clear hy1 hy2
          have hnx : Hid (Ls w.heap.size O wd w13.heap.size vs ((mkM ls i).set i (mkA ls[i] i (k + 1))) (b', i + 1, c') (nsL ls (i + 1)) ((setFd W r k (markF i)).alloc (.cells #[.int .u8 (97 + (i : Int))] 5))) := by
            have h := hsW.mark i p1 p2 k (by rw [← Q1H.out]; exact hkx) r roW (markF i)
            simp only [List.getElem_set_self, List.set_set] at h
            rw [mkA_set (by rw [← HX.out.2]; exact hkx)] at h
            exact h.below (bel1 _ _)
          have hcA := HC.out _ (hIW.trans (hbA.mono hIW.size))
          have hcS : Hid (((setFd W r k (markF i)).alloc (.cells #[.int .u8 (97 + (i : Int))] 5)).cell? ⟨w13.heap.size, i, none⟩ = some (.slice (some ⟨r, 0, none⟩) xl xc)) := by
            show _ = _
            obtain ⟨_, _, h, _⟩ := hnx.out.at i hlt
            rw [HX.out.1] at h
            exact h
          have hcv := one_conv (W.alloc (.cells #[.int .u8 (97 + (i : Int))] 5)) W.heap.size i hlt (by rw [heap_al, if_pos rfl])
          have hw8 := wrap_byte hlt
          have hw64 := wrap_64b hlt
          have f1 := rfW (k * 3); have f2 := rfW (k * 3 + 1); have f3 := rfW (k * 3 + 2)
          replace hcA : Hid ((W.alloc (.cells #[.int .u8 (97 + (i : Int))] 5)).cell? ⟨w13.heap.size, i, none⟩ = some (.slice (some ⟨r, 0, none⟩) xl xc)) := hcA
          obtain ⟨y0, d0'⟩ : ∃ u, W.cell? ⟨r, k * 3, none⟩ = some u := ⟨_, d0⟩
          obtain ⟨y1, d1'⟩ : ∃ u, W.cell? ⟨r, k * 3 + 1, none⟩ = some u := ⟨_, d1⟩
          obtain ⟨y2, d2'⟩ : ∃ u, W.cell? ⟨r, k * 3 + 2, none⟩ = some u := ⟨_, d2⟩
          clear d0 d1 d2
          clear hsW hbA rfW roW Q1H hs
          refine wpAnyH_take (i := 0) (oi := { dst := some 178, op := Op.move (Operand.tmp 25), type := 47, pos := "outright.go:204", after := #[], guard := none }) (v := ?vv1) rfl (by kernel_rfl) (by kernel_rfl) (by kernel_rfl) (fun _ _ _ h => h) (Or.inl ⟨by rfl, ?hy1⟩) (by assumption) ?_
          case hy1 => (intro w hSw; (try dsimp only at hSw); go_simp; all_goals with_reducible rfl)
          try simp only [Act.put, List.setIfInBounds_toArray, List.set_cons_zero, List.set_cons_succ]
          refine wpAnyH_take (i := 1) (oi := { dst := some 179, op := Op.move (Operand.tmp 29), type := 3, pos := "outright.go:204", after := #[], guard := none }) (v := ?vv2) rfl (by kernel_rfl) (by kernel_rfl) (by kernel_rfl) (fun _ _ _ h => h) (Or.inl ⟨by rfl, ?hy2⟩) (by assumption) ?_
          case hy2 => (intro w hSw; (try dsimp only at hSw); go_simp; all_goals with_reducible rfl)
          try simp only [Act.put, List.setIfInBounds_toArray, List.set_cons_zero, List.set_cons_succ]
          refine wpAnyH_take (i := 2) (oi := { dst := some 180, op := Op.indexAddr 47 (Operand.tmp 178) (Operand.tmp 179), type := 0, pos := "outright.go:204", after := #[{ on := 0, ground := Ground.data }, { on := 1, ground := Ground.data }], guard := none }) (v := ?vv3) rfl (by kernel_rfl) (by kernel_rfl) (by kernel_rfl) (fun _ _ _ h => h) (Or.inl ⟨by rfl, ?hy3⟩) (by assumption) ?_
          case hy3 => (intro w hSw; (try dsimp only at hSw); go_simp; all_goals with_reducible rfl)
          try simp only [Act.put, List.setIfInBounds_toArray, List.set_cons_zero, List.set_cons_succ]
          refine wpAnyH_take (i := 3) (oi := { dst := some 181, op := Op.load 24 (Operand.tmp 180), type := 24, pos := "outright.go:204", after := #[{ on := 2, ground := Ground.data }], guard := none }) (v := ?vv4) rfl (by kernel_rfl) (by kernel_rfl) (by kernel_rfl) (fun _ _ _ h => h) (Or.inl ⟨by rfl, ?hy4⟩) (by assumption) ?_
          case hy4 => (intro w hSw; (try dsimp only at hSw); go_simp; all_goals with_reducible rfl)
          try simp only [Act.put, List.setIfInBounds_toArray, List.set_cons_zero, List.set_cons_succ]
          refine wpAnyH_take (i := 4) (oi := { dst := some 182, op := Op.move (Operand.tmp 30), type := 3, pos := "outright.go:204", after := #[], guard := none }) (v := ?vv5) rfl (by kernel_rfl) (by kernel_rfl) (by kernel_rfl) (fun _ _ _ h => h) (Or.inl ⟨by rfl, ?hy5⟩) (by assumption) ?_
          case hy5 => (intro w hSw; (try dsimp only at hSw); go_simp; all_goals with_reducible rfl)
          try simp only [Act.put, List.setIfInBounds_toArray, List.set_cons_zero, List.set_cons_succ]
          refine wpAnyH_take (i := 5) (oi := { dst := some 183, op := Op.move (Operand.tmp 29), type := 3, pos := "outright.go:204", after := #[], guard := none }) (v := ?vv6) rfl (by kernel_rfl) (by kernel_rfl) (by kernel_rfl) (fun _ _ _ h => h) (Or.inl ⟨by rfl, ?hy6⟩) (by assumption) ?_
          case hy6 => (intro w hSw; (try dsimp only at hSw); go_simp; all_goals with_reducible rfl)
          try simp only [Act.put, List.setIfInBounds_toArray, List.set_cons_zero, List.set_cons_succ]
          refine wpAnyH_take (i := 6) (oi := { dst := some 184, op := Op.binOp BinOp.add 3 (Operand.const (Value.int IntKind.i64 97)) (Operand.tmp 183) 3, type := 3, pos := "outright.go:204", after := #[{ on := 5, ground := Ground.data }], guard := none }) (v := ?vv7) rfl (by kernel_rfl) (by kernel_rfl) (by kernel_rfl) (fun _ _ _ h => h) (Or.inl ⟨by rfl, ?hy7⟩) (by assumption) ?_
          case hy7 => (intro w hSw; (try dsimp only at hSw); go_simp; all_goals with_reducible rfl)
          try simp only [Act.put, List.setIfInBounds_toArray, List.set_cons_zero, List.set_cons_succ]
          refine wpAnyH_take (i := 7) (oi := { dst := some 185, op := Op.convert 3 5 (Operand.tmp 184), type := 5, pos := "outright.go:204", after := #[{ on := 6, ground := Ground.data }], guard := none }) (v := ?vv8) rfl (by kernel_rfl) (by kernel_rfl) (by kernel_rfl) (fun _ _ _ h => h) (Or.inl ⟨by rfl, ?hy8⟩) (by assumption) ?_
          case hy8 => (intro w hSw; (try dsimp only at hSw); go_simp; all_goals with_reducible rfl)
          try simp only [Act.put, List.setIfInBounds_toArray, List.set_cons_zero, List.set_cons_succ]
          refine wpAnyH_ready (rs := [8]) (by kernel_rfl) (by simp) ?_
          refine AllReadyH.cons (o := { dst := some 186, op := Op.buildSlice 51 1 #[(0, Operand.tmp 185)], type := 51, pos := "outright.go:204", after := #[{ on := 7, ground := Ground.data }], guard := none }) rfl (fun K hK => ?_) AllReadyH.nil
          go_simp
          go_wp2_with fail
          refine hK.out _ _ (hcA.out) (fun hHeld => ?_)
          clear hK K
          try simp only [Act.put, List.setIfInBounds_toArray, List.set_cons_zero, List.set_cons_succ]
          refine wpAnyH_ready (rs := [9]) (by kernel_rfl) (by simp) ?_
          refine AllReadyH.cons (o := { dst := some 187, op := Op.convert 51 9 (Operand.tmp 186), type := 9, pos := "outright.go:204", after := #[{ on := 8, ground := Ground.data }], guard := none }) rfl (fun K hK => ?_) AllReadyH.nil
          go_simp
          go_wp2_with fail
          refine hK.out _ _ (hcA.out) (fun hHeld => ?_)
          clear hK K
          try simp only [Act.put, List.setIfInBounds_toArray, List.set_cons_zero, List.set_cons_succ]
          refine wpAnyH_take (i := 10) (oi := { dst := some 188, op := Op.build 34 #[(0, Operand.const (Value.string { data := #[109, 97, 114, 107] })), (1, Operand.tmp 187)], type := 34, pos := "outright.go:204", after := #[{ on := 9, ground := Ground.data }], guard := none }) (v := ?vv9) rfl (by kernel_rfl) (by kernel_rfl) (by kernel_rfl) (fun _ _ _ h => h) (Or.inl ⟨by rfl, ?hy9⟩) (by assumption) ?_
          case hy9 => (intro w hSw; (try dsimp only at hSw); go_simp; all_goals with_reducible rfl)
          try simp only [Act.put, List.setIfInBounds_toArray, List.set_cons_zero, List.set_cons_succ]
          refine wpAnyH_take (i := 11) (oi := { dst := some 189, op := Op.indexAddr 24 (Operand.tmp 181) (Operand.tmp 182), type := 0, pos := "outright.go:204", after := #[{ on := 3, ground := Ground.data }, { on := 4, ground := Ground.data }, { on := 0, ground := Ground.phase }, { on := 1, ground := Ground.phase }, { on := 2, ground := Ground.phase }, { on := 3, ground := Ground.phase }, { on := 4, ground := Ground.phase }, { on := 5, ground := Ground.phase }, { on := 6, ground := Ground.phase }, { on := 7, ground := Ground.phase }, { on := 8, ground := Ground.phase }, { on := 9, ground := Ground.phase }, { on := 10, ground := Ground.phase }], guard := none }) (v := ?vv10) rfl (by kernel_rfl) (by kernel_rfl) (by kernel_rfl) (fun _ _ _ h => h) (Or.inl ⟨by rfl, ?hy10⟩) (by assumption) ?_
          case hy10 => (intro w hSw; (try dsimp only at hSw); go_simp; all_goals with_reducible rfl)
          try simp only [Act.put, List.setIfInBounds_toArray, List.set_cons_zero, List.set_cons_succ]
          refine wpAnyH_ready (rs := [12]) (by kernel_rfl) (by simp) ?_
          refine AllReadyH.cons (o := { dst := none, op := Op.store 34 (Operand.tmp 189) (Operand.tmp 188), type := 0, pos := "outright.go:204", after := #[{ on := 11, ground := Ground.data }, { on := 10, ground := Ground.data }, { on := 0, ground := Ground.phase }, { on := 1, ground := Ground.phase }, { on := 2, ground := Ground.phase }, { on := 3, ground := Ground.phase }, { on := 4, ground := Ground.phase }, { on := 5, ground := Ground.phase }, { on := 6, ground := Ground.phase }, { on := 7, ground := Ground.phase }, { on := 8, ground := Ground.phase }, { on := 9, ground := Ground.phase }, { on := 10, ground := Ground.phase }], guard := none }) rfl (fun K hK => ?_) AllReadyH.nil
          go_simp
          go_wp2_with fail
          refine hK.out _ _ (hcS.out) (fun hHeld => ?_)
          clear hK K
          try simp only [Act.put, List.setIfInBounds_toArray, List.set_cons_zero, List.set_cons_succ]
          refine wpAnyH_done (by kernel_rfl) ?_ _
          go_wp2_with fail
          go_roundw
          case rel => exact ⟨k + 1, by simp, by omega, hnx.out⟩
          case measure => simp [intOf]; omega
        · obtain rfl : k = xl := by omega
          have hkx' : ¬ (k : Int) < (k : Int) := by omega
          have hnx : Hid (Ls w.heap.size O wd w13.heap.size vs (mkM ls (i + 1)) (b', i + 1, c') (nsL ls (i + 1)) wr) := by
            have h := hs.out
            rw [HX.out.2, mkM_step ls i p3] at h
            exact h
          clear hs q1 q2 q3
          go_wp2_with fail
          go_roundw
          case rel => exact ⟨i + 1, b', i + 1, c', by simp, by omega, rfl, hnx.out⟩
          case measure => simp [intOf]; omega
    · obtain rfl : i = 10 := by omega
      have hlt' : ¬ (10 : Int) < 10 := by omega
      go_wp2_with fail
      have LS3 : Hid (Ls w.heap.size O wd w13.heap.size vs (mkP ls 0) (zb, zl, zc) (nsL ls 10) wr) := by
        have h := hs.out
        rw [show mkM ls 10 = mkP ls 0 by rw [mkP, hll.out]] at h
        exact h
      have hzl : zl = 10 ∧ 10 ≤ zc ∧ zc ≤ 9223372036854775807 := by
        have h := hs.out.lens
        rw [nsL_len ls 10 (by rw [hll.out]; exact Nat.le_refl _)] at h
        exact h
      obtain ⟨hz1, hz2, hz3⟩ := hzl
      subst hz1
      clear hs
      go_loopw [31] (fun iv wr => ∃ (i : Nat) (vs1 : List SV), iv = .int .i64 (i : Int) ∧ i ≤ 10 ∧ Hid (Ls w.heap.size O wd w13.heap.size vs1 (mkP ls i) (zb, 10, zc) (nsL ls 10) wr)) (fun iv _ => 10 - (intOf iv).toNat)
      case atStart => exact ⟨0, vs, rfl, by omega, LS3.out⟩
      case round =>
        obtain ⟨i, vs1, rfl, hi, hs⟩ := hrel
        clear LS3
        by_cases hlt : i < 10
        · have hlt' : (i : Int) < 10 := by omega
          obtain ⟨p1, p2, c0, f0, gl, q1, q2, q3⟩ := hs.out.at i hlt
          have p3 : i < ls.length := by rw [hll.out]; exact hlt
          obtain ⟨xb, xl, xc, hX⟩ : ∃ xb xl xc, vs1[i] = (xb, xl, xc) := ⟨_, _, _, rfl⟩
          rw [hX] at c0 q1 q2 q3
          simp only [sv] at c0 q1 q2 q3
          have hx60 : xl ≤ 60 := by
            rw [q1, mkP_hi ls i i p2 p3 (Nat.le_refl _), List.length_replicate]
            exact hlens.out _ (List.getElem_mem p3)
          have HX : Hid (vs1[i] = (xb, xl, xc)) := hX
          clear hX q2 f0
          go_upto_region 37 with fail
          have hIW : Below wr.heap.size wr (wr.drew) := (Below.refl _ _).drew
          refine wp_region_held_drew (S := (fun _ => True)) (by kernel_rfl) trivial (fun hHeld => ?_)
          generalize hWg : World.drew _ = W at hIW hHeld ⊢
          clear hWg
          have hbA := bel1 W (.cells #[.int .u8 (97 + (i : Int))] 5)
          have hbB := bel1 (W.alloc (.cells #[.int .u8 (97 + (i : Int))] 5)) (.cells #[.string ⟨#[98, 101, 104, 105, 110, 100]⟩, .string (oneS i), .bool false] 34)
          have hsB := ((hs.out.below hIW).below hbA).below hbB
          obtain ⟨nb, nc, W', a1, a2, a3, a4, a5⟩ := hsB.app i p1 p2 (by rw [← q1]; omega) (behF i) (W.alloc (.cells #[.int .u8 (97 + (i : Int))] 5)).heap.size (in_one _ _ _ #[.string ⟨#[98, 101, 104, 105, 110, 100]⟩, .string (oneS i), .bool false] 34 (0, 0) (by rw [heap_al, if_pos rfl]) rfl)
          rw [mkP_step ls i p3 p2] at a5
          rw [HX.out, ← q1] at a1
          rw [HX.out] at a2
          rw [← q1] at a5
          simp only [sv] at a1 a2
          rw [size_al] at a1
          replace a1 : Hid _ := a1
          have hnx : Hid (Ls w.heap.size O wd w13.heap.size (vs1.set i (nb, xl + 1, nc)) (mkP ls (i + 1)) (zb, 10, zc) (nsL ls 10) (W'.setCell ⟨w13.heap.size, i, none⟩ (.slice nb (xl + 1) nc))) := a5
          have cW : W.cell? ⟨w13.heap.size, i, none⟩ = some (.slice xb xl xc) := (hIW.cell gl).trans c0
          have gW : w13.heap.size < W.heap.size := Nat.lt_of_lt_of_le gl hIW.size
          have hcv := one_conv (W.alloc (.cells #[.int .u8 (97 + (i : Int))] 5)) W.heap.size i hlt (by rw [heap_al, if_pos rfl])
          have hw8 := wrap_byte hlt
          have hw64 := wrap_64b hlt
          clear hsB hbA hbB q1 hs a5 c0 gl hIW
          refine wpAnyH_take (i := 0) (oi := { dst := some 196, op := Op.move (Operand.tmp 25), type := 47, pos := "outright.go:208", after := #[], guard := none }) (v := ?vv11) rfl (by kernel_rfl) (by kernel_rfl) (by kernel_rfl) (fun _ _ _ h => h) (Or.inl ⟨by rfl, ?hy11⟩) (by assumption) ?_
          case hy11 => (intro w hSw; (try dsimp only at hSw); go_simp; all_goals with_reducible rfl)
          try simp only [Act.put, List.setIfInBounds_toArray, List.set_cons_zero, List.set_cons_succ]
          refine wpAnyH_take (i := 1) (oi := { dst := some 197, op := Op.move (Operand.tmp 31), type := 3, pos := "outright.go:208", after := #[], guard := none }) (v := ?vv12) rfl (by kernel_rfl) (by kernel_rfl) (by kernel_rfl) (fun _ _ _ h => h) (Or.inl ⟨by rfl, ?hy12⟩) (by assumption) ?_
          case hy12 => (intro w hSw; (try dsimp only at hSw); go_simp; all_goals with_reducible rfl)
          try simp only [Act.put, List.setIfInBounds_toArray, List.set_cons_zero, List.set_cons_succ]
          refine wpAnyH_take (i := 2) (oi := { dst := some 198, op := Op.move (Operand.tmp 25), type := 47, pos := "outright.go:208", after := #[], guard := none }) (v := ?vv13) rfl (by kernel_rfl) (by kernel_rfl) (by kernel_rfl) (fun _ _ _ h => h) (Or.inl ⟨by rfl, ?hy13⟩) (by assumption) ?_
          case hy13 => (intro w hSw; (try dsimp only at hSw); go_simp; all_goals with_reducible rfl)
          try simp only [Act.put, List.setIfInBounds_toArray, List.set_cons_zero, List.set_cons_succ]
          refine wpAnyH_take (i := 3) (oi := { dst := some 199, op := Op.move (Operand.tmp 31), type := 3, pos := "outright.go:208", after := #[], guard := none }) (v := ?vv14) rfl (by kernel_rfl) (by kernel_rfl) (by kernel_rfl) (fun _ _ _ h => h) (Or.inl ⟨by rfl, ?hy14⟩) (by assumption) ?_
          case hy14 => (intro w hSw; (try dsimp only at hSw); go_simp; all_goals with_reducible rfl)
          try simp only [Act.put, List.setIfInBounds_toArray, List.set_cons_zero, List.set_cons_succ]
          refine wpAnyH_take (i := 4) (oi := { dst := some 200, op := Op.indexAddr 47 (Operand.tmp 198) (Operand.tmp 199), type := 0, pos := "outright.go:208", after := #[{ on := 2, ground := Ground.data }, { on := 3, ground := Ground.data }], guard := none }) (v := ?vv15) rfl (by kernel_rfl) (by kernel_rfl) (by kernel_rfl) (fun _ _ _ h => h) (Or.inl ⟨by rfl, ?hy15⟩) (by assumption) ?_
          case hy15 => (intro w hSw; (try dsimp only at hSw); go_simp; all_goals with_reducible rfl)
          try simp only [Act.put, List.setIfInBounds_toArray, List.set_cons_zero, List.set_cons_succ]
          refine wpAnyH_take (i := 6) (oi := { dst := some 202, op := Op.move (Operand.tmp 31), type := 3, pos := "outright.go:208", after := #[], guard := none }) (v := ?vv16) rfl (by kernel_rfl) (by kernel_rfl) (by kernel_rfl) (fun _ _ _ h => h) (Or.inl ⟨by rfl, ?hy16⟩) (by assumption) ?_
          case hy16 => (intro w hSw; (try dsimp only at hSw); go_simp; all_goals with_reducible rfl)
          try simp only [Act.put, List.setIfInBounds_toArray, List.set_cons_zero, List.set_cons_succ]
          refine wpAnyH_take (i := 7) (oi := { dst := some 203, op := Op.binOp BinOp.add 3 (Operand.const (Value.int IntKind.i64 97)) (Operand.tmp 202) 3, type := 3, pos := "outright.go:208", after := #[{ on := 6, ground := Ground.data }], guard := none }) (v := ?vv17) rfl (by kernel_rfl) (by kernel_rfl) (by kernel_rfl) (fun _ _ _ h => h) (Or.inl ⟨by rfl, ?hy17⟩) (by assumption) ?_
          case hy17 => (intro w hSw; (try dsimp only at hSw); go_simp; all_goals with_reducible rfl)
          try simp only [Act.put, List.setIfInBounds_toArray, List.set_cons_zero, List.set_cons_succ]
          refine wpAnyH_take (i := 8) (oi := { dst := some 204, op := Op.convert 3 5 (Operand.tmp 203), type := 5, pos := "outright.go:208", after := #[{ on := 7, ground := Ground.data }], guard := none }) (v := ?vv18) rfl (by kernel_rfl) (by kernel_rfl) (by kernel_rfl) (fun _ _ _ h => h) (Or.inl ⟨by rfl, ?hy18⟩) (by assumption) ?_
          case hy18 => (intro w hSw; (try dsimp only at hSw); go_simp; all_goals with_reducible rfl)
          try simp only [Act.put, List.setIfInBounds_toArray, List.set_cons_zero, List.set_cons_succ]
          refine wpAnyH_ready (rs := [5, 9]) (by kernel_rfl) (by simp) ?_
          refine AllReadyH.cons (o := { dst := some 201, op := Op.load 24 (Operand.tmp 200), type := 24, pos := "outright.go:208", after := #[{ on := 4, ground := Ground.data }], guard := none }) rfl (fun K hK => ?_) ?_
          · go_simp
            go_wp2_with fail
            refine hK.out _ _ trivial (fun hHeld => ?_)
            clear hK K
            try simp only [Act.put, List.setIfInBounds_toArray, List.set_cons_zero, List.set_cons_succ]
            refine wpAnyH_ready (rs := [9]) (by kernel_rfl) (by simp) ?_
            refine AllReadyH.cons (o := { dst := some 205, op := Op.buildSlice 51 1 #[(0, Operand.tmp 204)], type := 51, pos := "outright.go:208", after := #[{ on := 8, ground := Ground.data }], guard := none }) rfl (fun K hK => ?_) AllReadyH.nil
            go_simp
            go_wp2_with fail
            refine hK.out _ _ trivial (fun hHeld => ?_)
            clear hK K
            try simp only [Act.put, List.setIfInBounds_toArray, List.set_cons_zero, List.set_cons_succ]
            refine wpAnyH_ready (rs := [10]) (by kernel_rfl) (by simp) ?_
            refine AllReadyH.cons (o := { dst := some 206, op := Op.convert 51 9 (Operand.tmp 205), type := 9, pos := "outright.go:208", after := #[{ on := 9, ground := Ground.data }], guard := none }) rfl (fun K hK => ?_) AllReadyH.nil
            go_simp
            go_wp2_with fail
            refine hK.out _ _ trivial (fun hHeld => ?_)
            clear hK K
            try simp only [Act.put, List.setIfInBounds_toArray, List.set_cons_zero, List.set_cons_succ]
            refine wpAnyH_take (i := 11) (oi := { dst := some 207, op := Op.build 34 #[(0, Operand.const (Value.string { data := #[98, 101, 104, 105, 110, 100] })), (1, Operand.tmp 206)], type := 34, pos := "outright.go:208", after := #[{ on := 10, ground := Ground.data }], guard := none }) (v := ?vv19) rfl (by kernel_rfl) (by kernel_rfl) (by kernel_rfl) (fun _ _ _ h => h) (Or.inl ⟨by rfl, ?hy19⟩) (by assumption) ?_
            case hy19 => (intro w hSw; (try dsimp only at hSw); go_simp; all_goals with_reducible rfl)
            try simp only [Act.put, List.setIfInBounds_toArray, List.set_cons_zero, List.set_cons_succ]
            refine wpAnyH_ready (rs := [12]) (by kernel_rfl) (by simp) ?_
            refine AllReadyH.cons (o := { dst := some 208, op := Op.buildSlice 24 1 #[(0, Operand.tmp 207)], type := 24, pos := "outright.go:208", after := #[{ on := 11, ground := Ground.data }], guard := none }) rfl (fun K hK => ?_) AllReadyH.nil
            go_simp
            go_wp2_with fail
            refine hK.out _ _ trivial (fun hHeld => ?_)
            clear hK K
            try simp only [Act.put, List.setIfInBounds_toArray, List.set_cons_zero, List.set_cons_succ]
            refine wpAnyH_ready (rs := [13]) (by kernel_rfl) (by simp) ?_
            refine AllReadyH.cons (o := { dst := some 209, op := Op.call { callee := Callee.builtin Builtin.append, args := #[Operand.tmp 201, Operand.tmp 208], argTypes := #[24, 24] }, type := 24, pos := "outright.go:208", after := #[{ on := 5, ground := Ground.data }, { on := 12, ground := Ground.data }], guard := none }) rfl (fun K hK => ?_) AllReadyH.nil
            refine step_append_run rfl (.tmp 201) (.tmp 208) 24 24 rfl a1.out (by first | rfl | simp [Act.eval, Act.put]) (by first | rfl | simp [Act.eval, Act.put]) ?_
            refine hK.out _ _ trivial (fun hHeld => ?_)
            clear hK K
            try simp only [Act.put, List.setIfInBounds_toArray, List.set_cons_zero, List.set_cons_succ]
            refine wpAnyH_take (i := 14) (oi := { dst := some 210, op := Op.indexAddr 47 (Operand.tmp 196) (Operand.tmp 197), type := 0, pos := "outright.go:208", after := #[{ on := 0, ground := Ground.data }, { on := 1, ground := Ground.data }, { on := 0, ground := Ground.phase }, { on := 1, ground := Ground.phase }, { on := 2, ground := Ground.phase }, { on := 3, ground := Ground.phase }, { on := 4, ground := Ground.phase }, { on := 5, ground := Ground.phase }, { on := 6, ground := Ground.phase }, { on := 7, ground := Ground.phase }, { on := 8, ground := Ground.phase }, { on := 9, ground := Ground.phase }, { on := 10, ground := Ground.phase }, { on := 11, ground := Ground.phase }, { on := 12, ground := Ground.phase }, { on := 13, ground := Ground.phase }], guard := none }) (v := ?vv20) rfl (by kernel_rfl) (by kernel_rfl) (by kernel_rfl) (fun _ _ _ h => h) (Or.inl ⟨by rfl, ?hy20⟩) (by assumption) ?_
            case hy20 => (intro w hSw; (try dsimp only at hSw); go_simp; all_goals with_reducible rfl)
            try simp only [Act.put, List.setIfInBounds_toArray, List.set_cons_zero, List.set_cons_succ]
            refine wpAnyH_ready (rs := [15]) (by kernel_rfl) (by simp) ?_
            refine AllReadyH.cons (o := { dst := none, op := Op.store 24 (Operand.tmp 210) (Operand.tmp 209), type := 0, pos := "outright.go:208", after := #[{ on := 14, ground := Ground.data }, { on := 13, ground := Ground.data }, { on := 13, ground := Ground.chain }, { on := 0, ground := Ground.phase }, { on := 1, ground := Ground.phase }, { on := 2, ground := Ground.phase }, { on := 3, ground := Ground.phase }, { on := 4, ground := Ground.phase }, { on := 5, ground := Ground.phase }, { on := 6, ground := Ground.phase }, { on := 7, ground := Ground.phase }, { on := 8, ground := Ground.phase }, { on := 9, ground := Ground.phase }, { on := 10, ground := Ground.phase }, { on := 11, ground := Ground.phase }, { on := 12, ground := Ground.phase }, { on := 13, ground := Ground.phase }], guard := none }) rfl (fun K hK => ?_) AllReadyH.nil
            go_simp
            go_wp2_with fail
            refine hK.out _ _ trivial (fun hHeld => ?_)
            clear hK K
            try simp only [Act.put, List.setIfInBounds_toArray, List.set_cons_zero, List.set_cons_succ]
            refine wpAnyH_done (by kernel_rfl) ?_ _
            go_wp2_with fail
            go_roundw
            case rel => exact ⟨i + 1, _, by simp, by omega, hnx.out⟩
            case measure => simp [intOf]; omega
          refine AllReadyH.cons (o := { dst := some 205, op := Op.buildSlice 51 1 #[(0, Operand.tmp 204)], type := 51, pos := "outright.go:208", after := #[{ on := 8, ground := Ground.data }], guard := none }) rfl (fun K hK => ?_) AllReadyH.nil
          go_simp
          go_wp2_with fail
          refine hK.out _ _ trivial (fun hHeld => ?_)
          clear hK K
          try simp only [Act.put, List.setIfInBounds_toArray, List.set_cons_zero, List.set_cons_succ]
          refine wpAnyH_ready (rs := [5, 10]) (by kernel_rfl) (by simp) ?_
          refine AllReadyH.cons (o := { dst := some 201, op := Op.load 24 (Operand.tmp 200), type := 24, pos := "outright.go:208", after := #[{ on := 4, ground := Ground.data }], guard := none }) rfl (fun K hK => ?_) ?_
          · go_simp
            go_wp2_with fail
            refine hK.out _ _ trivial (fun hHeld => ?_)
            clear hK K
            try simp only [Act.put, List.setIfInBounds_toArray, List.set_cons_zero, List.set_cons_succ]
            refine wpAnyH_ready (rs := [10]) (by kernel_rfl) (by simp) ?_
            refine AllReadyH.cons (o := { dst := some 206, op := Op.convert 51 9 (Operand.tmp 205), type := 9, pos := "outright.go:208", after := #[{ on := 9, ground := Ground.data }], guard := none }) rfl (fun K hK => ?_) AllReadyH.nil
            go_simp
            go_wp2_with fail
            refine hK.out _ _ trivial (fun hHeld => ?_)
            clear hK K
            try simp only [Act.put, List.setIfInBounds_toArray, List.set_cons_zero, List.set_cons_succ]
            refine wpAnyH_take (i := 11) (oi := { dst := some 207, op := Op.build 34 #[(0, Operand.const (Value.string { data := #[98, 101, 104, 105, 110, 100] })), (1, Operand.tmp 206)], type := 34, pos := "outright.go:208", after := #[{ on := 10, ground := Ground.data }], guard := none }) (v := ?vv21) rfl (by kernel_rfl) (by kernel_rfl) (by kernel_rfl) (fun _ _ _ h => h) (Or.inl ⟨by rfl, ?hy21⟩) (by assumption) ?_
            case hy21 => (intro w hSw; (try dsimp only at hSw); go_simp; all_goals with_reducible rfl)
            try simp only [Act.put, List.setIfInBounds_toArray, List.set_cons_zero, List.set_cons_succ]
            refine wpAnyH_ready (rs := [12]) (by kernel_rfl) (by simp) ?_
            refine AllReadyH.cons (o := { dst := some 208, op := Op.buildSlice 24 1 #[(0, Operand.tmp 207)], type := 24, pos := "outright.go:208", after := #[{ on := 11, ground := Ground.data }], guard := none }) rfl (fun K hK => ?_) AllReadyH.nil
            go_simp
            go_wp2_with fail
            refine hK.out _ _ trivial (fun hHeld => ?_)
            clear hK K
            try simp only [Act.put, List.setIfInBounds_toArray, List.set_cons_zero, List.set_cons_succ]
            refine wpAnyH_ready (rs := [13]) (by kernel_rfl) (by simp) ?_
            refine AllReadyH.cons (o := { dst := some 209, op := Op.call { callee := Callee.builtin Builtin.append, args := #[Operand.tmp 201, Operand.tmp 208], argTypes := #[24, 24] }, type := 24, pos := "outright.go:208", after := #[{ on := 5, ground := Ground.data }, { on := 12, ground := Ground.data }], guard := none }) rfl (fun K hK => ?_) AllReadyH.nil
            refine step_append_run rfl (.tmp 201) (.tmp 208) 24 24 rfl a1.out (by first | rfl | simp [Act.eval, Act.put]) (by first | rfl | simp [Act.eval, Act.put]) ?_
            refine hK.out _ _ trivial (fun hHeld => ?_)
            clear hK K
            try simp only [Act.put, List.setIfInBounds_toArray, List.set_cons_zero, List.set_cons_succ]
            refine wpAnyH_take (i := 14) (oi := { dst := some 210, op := Op.indexAddr 47 (Operand.tmp 196) (Operand.tmp 197), type := 0, pos := "outright.go:208", after := #[{ on := 0, ground := Ground.data }, { on := 1, ground := Ground.data }, { on := 0, ground := Ground.phase }, { on := 1, ground := Ground.phase }, { on := 2, ground := Ground.phase }, { on := 3, ground := Ground.phase }, { on := 4, ground := Ground.phase }, { on := 5, ground := Ground.phase }, { on := 6, ground := Ground.phase }, { on := 7, ground := Ground.phase }, { on := 8, ground := Ground.phase }, { on := 9, ground := Ground.phase }, { on := 10, ground := Ground.phase }, { on := 11, ground := Ground.phase }, { on := 12, ground := Ground.phase }, { on := 13, ground := Ground.phase }], guard := none }) (v := ?vv22) rfl (by kernel_rfl) (by kernel_rfl) (by kernel_rfl) (fun _ _ _ h => h) (Or.inl ⟨by rfl, ?hy22⟩) (by assumption) ?_
            case hy22 => (intro w hSw; (try dsimp only at hSw); go_simp; all_goals with_reducible rfl)
            try simp only [Act.put, List.setIfInBounds_toArray, List.set_cons_zero, List.set_cons_succ]
            refine wpAnyH_ready (rs := [15]) (by kernel_rfl) (by simp) ?_
            refine AllReadyH.cons (o := { dst := none, op := Op.store 24 (Operand.tmp 210) (Operand.tmp 209), type := 0, pos := "outright.go:208", after := #[{ on := 14, ground := Ground.data }, { on := 13, ground := Ground.data }, { on := 13, ground := Ground.chain }, { on := 0, ground := Ground.phase }, { on := 1, ground := Ground.phase }, { on := 2, ground := Ground.phase }, { on := 3, ground := Ground.phase }, { on := 4, ground := Ground.phase }, { on := 5, ground := Ground.phase }, { on := 6, ground := Ground.phase }, { on := 7, ground := Ground.phase }, { on := 8, ground := Ground.phase }, { on := 9, ground := Ground.phase }, { on := 10, ground := Ground.phase }, { on := 11, ground := Ground.phase }, { on := 12, ground := Ground.phase }, { on := 13, ground := Ground.phase }], guard := none }) rfl (fun K hK => ?_) AllReadyH.nil
            go_simp
            go_wp2_with fail
            refine hK.out _ _ trivial (fun hHeld => ?_)
            clear hK K
            try simp only [Act.put, List.setIfInBounds_toArray, List.set_cons_zero, List.set_cons_succ]
            refine wpAnyH_done (by kernel_rfl) ?_ _
            go_wp2_with fail
            go_roundw
            case rel => exact ⟨i + 1, _, by simp, by omega, hnx.out⟩
            case measure => simp [intOf]; omega
          refine AllReadyH.cons (o := { dst := some 206, op := Op.convert 51 9 (Operand.tmp 205), type := 9, pos := "outright.go:208", after := #[{ on := 9, ground := Ground.data }], guard := none }) rfl (fun K hK => ?_) AllReadyH.nil
          go_simp
          go_wp2_with fail
          refine hK.out _ _ trivial (fun hHeld => ?_)
          clear hK K
          try simp only [Act.put, List.setIfInBounds_toArray, List.set_cons_zero, List.set_cons_succ]
          refine wpAnyH_take (i := 11) (oi := { dst := some 207, op := Op.build 34 #[(0, Operand.const (Value.string { data := #[98, 101, 104, 105, 110, 100] })), (1, Operand.tmp 206)], type := 34, pos := "outright.go:208", after := #[{ on := 10, ground := Ground.data }], guard := none }) (v := ?vv23) rfl (by kernel_rfl) (by kernel_rfl) (by kernel_rfl) (fun _ _ _ h => h) (Or.inl ⟨by rfl, ?hy23⟩) (by assumption) ?_
          case hy23 => (intro w hSw; (try dsimp only at hSw); go_simp; all_goals with_reducible rfl)
          try simp only [Act.put, List.setIfInBounds_toArray, List.set_cons_zero, List.set_cons_succ]
          refine wpAnyH_ready (rs := [5, 12]) (by kernel_rfl) (by simp) ?_
          refine AllReadyH.cons (o := { dst := some 201, op := Op.load 24 (Operand.tmp 200), type := 24, pos := "outright.go:208", after := #[{ on := 4, ground := Ground.data }], guard := none }) rfl (fun K hK => ?_) ?_
          · go_simp
            go_wp2_with fail
            refine hK.out _ _ trivial (fun hHeld => ?_)
            clear hK K
            try simp only [Act.put, List.setIfInBounds_toArray, List.set_cons_zero, List.set_cons_succ]
            refine wpAnyH_ready (rs := [12]) (by kernel_rfl) (by simp) ?_
            refine AllReadyH.cons (o := { dst := some 208, op := Op.buildSlice 24 1 #[(0, Operand.tmp 207)], type := 24, pos := "outright.go:208", after := #[{ on := 11, ground := Ground.data }], guard := none }) rfl (fun K hK => ?_) AllReadyH.nil
            go_simp
            go_wp2_with fail
            refine hK.out _ _ trivial (fun hHeld => ?_)
            clear hK K
            try simp only [Act.put, List.setIfInBounds_toArray, List.set_cons_zero, List.set_cons_succ]
            refine wpAnyH_ready (rs := [13]) (by kernel_rfl) (by simp) ?_
            refine AllReadyH.cons (o := { dst := some 209, op := Op.call { callee := Callee.builtin Builtin.append, args := #[Operand.tmp 201, Operand.tmp 208], argTypes := #[24, 24] }, type := 24, pos := "outright.go:208", after := #[{ on := 5, ground := Ground.data }, { on := 12, ground := Ground.data }], guard := none }) rfl (fun K hK => ?_) AllReadyH.nil
            refine step_append_run rfl (.tmp 201) (.tmp 208) 24 24 rfl a1.out (by first | rfl | simp [Act.eval, Act.put]) (by first | rfl | simp [Act.eval, Act.put]) ?_
            refine hK.out _ _ trivial (fun hHeld => ?_)
            clear hK K
            try simp only [Act.put, List.setIfInBounds_toArray, List.set_cons_zero, List.set_cons_succ]
            refine wpAnyH_take (i := 14) (oi := { dst := some 210, op := Op.indexAddr 47 (Operand.tmp 196) (Operand.tmp 197), type := 0, pos := "outright.go:208", after := #[{ on := 0, ground := Ground.data }, { on := 1, ground := Ground.data }, { on := 0, ground := Ground.phase }, { on := 1, ground := Ground.phase }, { on := 2, ground := Ground.phase }, { on := 3, ground := Ground.phase }, { on := 4, ground := Ground.phase }, { on := 5, ground := Ground.phase }, { on := 6, ground := Ground.phase }, { on := 7, ground := Ground.phase }, { on := 8, ground := Ground.phase }, { on := 9, ground := Ground.phase }, { on := 10, ground := Ground.phase }, { on := 11, ground := Ground.phase }, { on := 12, ground := Ground.phase }, { on := 13, ground := Ground.phase }], guard := none }) (v := ?vv24) rfl (by kernel_rfl) (by kernel_rfl) (by kernel_rfl) (fun _ _ _ h => h) (Or.inl ⟨by rfl, ?hy24⟩) (by assumption) ?_
            case hy24 => (intro w hSw; (try dsimp only at hSw); go_simp; all_goals with_reducible rfl)
            try simp only [Act.put, List.setIfInBounds_toArray, List.set_cons_zero, List.set_cons_succ]
            refine wpAnyH_ready (rs := [15]) (by kernel_rfl) (by simp) ?_
            refine AllReadyH.cons (o := { dst := none, op := Op.store 24 (Operand.tmp 210) (Operand.tmp 209), type := 0, pos := "outright.go:208", after := #[{ on := 14, ground := Ground.data }, { on := 13, ground := Ground.data }, { on := 13, ground := Ground.chain }, { on := 0, ground := Ground.phase }, { on := 1, ground := Ground.phase }, { on := 2, ground := Ground.phase }, { on := 3, ground := Ground.phase }, { on := 4, ground := Ground.phase }, { on := 5, ground := Ground.phase }, { on := 6, ground := Ground.phase }, { on := 7, ground := Ground.phase }, { on := 8, ground := Ground.phase }, { on := 9, ground := Ground.phase }, { on := 10, ground := Ground.phase }, { on := 11, ground := Ground.phase }, { on := 12, ground := Ground.phase }, { on := 13, ground := Ground.phase }], guard := none }) rfl (fun K hK => ?_) AllReadyH.nil
            go_simp
            go_wp2_with fail
            refine hK.out _ _ trivial (fun hHeld => ?_)
            clear hK K
            try simp only [Act.put, List.setIfInBounds_toArray, List.set_cons_zero, List.set_cons_succ]
            refine wpAnyH_done (by kernel_rfl) ?_ _
            go_wp2_with fail
            go_roundw
            case rel => exact ⟨i + 1, _, by simp, by omega, hnx.out⟩
            case measure => simp [intOf]; omega
          refine AllReadyH.cons (o := { dst := some 208, op := Op.buildSlice 24 1 #[(0, Operand.tmp 207)], type := 24, pos := "outright.go:208", after := #[{ on := 11, ground := Ground.data }], guard := none }) rfl (fun K hK => ?_) AllReadyH.nil
          go_simp
          go_wp2_with fail
          refine hK.out _ _ trivial (fun hHeld => ?_)
          clear hK K
          try simp only [Act.put, List.setIfInBounds_toArray, List.set_cons_zero, List.set_cons_succ]
          refine wpAnyH_ready (rs := [5]) (by kernel_rfl) (by simp) ?_
          refine AllReadyH.cons (o := { dst := some 201, op := Op.load 24 (Operand.tmp 200), type := 24, pos := "outright.go:208", after := #[{ on := 4, ground := Ground.data }], guard := none }) rfl (fun K hK => ?_) AllReadyH.nil
          go_simp
          go_wp2_with fail
          refine hK.out _ _ trivial (fun hHeld => ?_)
          clear hK K
          try simp only [Act.put, List.setIfInBounds_toArray, List.set_cons_zero, List.set_cons_succ]
          refine wpAnyH_ready (rs := [13]) (by kernel_rfl) (by simp) ?_
          refine AllReadyH.cons (o := { dst := some 209, op := Op.call { callee := Callee.builtin Builtin.append, args := #[Operand.tmp 201, Operand.tmp 208], argTypes := #[24, 24] }, type := 24, pos := "outright.go:208", after := #[{ on := 5, ground := Ground.data }, { on := 12, ground := Ground.data }], guard := none }) rfl (fun K hK => ?_) AllReadyH.nil
          refine step_append_run rfl (.tmp 201) (.tmp 208) 24 24 rfl a1.out (by first | rfl | simp [Act.eval, Act.put]) (by first | rfl | simp [Act.eval, Act.put]) ?_
          refine hK.out _ _ trivial (fun hHeld => ?_)
          clear hK K
          try simp only [Act.put, List.setIfInBounds_toArray, List.set_cons_zero, List.set_cons_succ]
          refine wpAnyH_take (i := 14) (oi := { dst := some 210, op := Op.indexAddr 47 (Operand.tmp 196) (Operand.tmp 197), type := 0, pos := "outright.go:208", after := #[{ on := 0, ground := Ground.data }, { on := 1, ground := Ground.data }, { on := 0, ground := Ground.phase }, { on := 1, ground := Ground.phase }, { on := 2, ground := Ground.phase }, { on := 3, ground := Ground.phase }, { on := 4, ground := Ground.phase }, { on := 5, ground := Ground.phase }, { on := 6, ground := Ground.phase }, { on := 7, ground := Ground.phase }, { on := 8, ground := Ground.phase }, { on := 9, ground := Ground.phase }, { on := 10, ground := Ground.phase }, { on := 11, ground := Ground.phase }, { on := 12, ground := Ground.phase }, { on := 13, ground := Ground.phase }], guard := none }) (v := ?vv25) rfl (by kernel_rfl) (by kernel_rfl) (by kernel_rfl) (fun _ _ _ h => h) (Or.inl ⟨by rfl, ?hy25⟩) (by assumption) ?_
          case hy25 => (intro w hSw; (try dsimp only at hSw); go_simp; all_goals with_reducible rfl)
          try simp only [Act.put, List.setIfInBounds_toArray, List.set_cons_zero, List.set_cons_succ]
          refine wpAnyH_ready (rs := [15]) (by kernel_rfl) (by simp) ?_
          refine AllReadyH.cons (o := { dst := none, op := Op.store 24 (Operand.tmp 210) (Operand.tmp 209), type := 0, pos := "outright.go:208", after := #[{ on := 14, ground := Ground.data }, { on := 13, ground := Ground.data }, { on := 13, ground := Ground.chain }, { on := 0, ground := Ground.phase }, { on := 1, ground := Ground.phase }, { on := 2, ground := Ground.phase }, { on := 3, ground := Ground.phase }, { on := 4, ground := Ground.phase }, { on := 5, ground := Ground.phase }, { on := 6, ground := Ground.phase }, { on := 7, ground := Ground.phase }, { on := 8, ground := Ground.phase }, { on := 9, ground := Ground.phase }, { on := 10, ground := Ground.phase }, { on := 11, ground := Ground.phase }, { on := 12, ground := Ground.phase }, { on := 13, ground := Ground.phase }], guard := none }) rfl (fun K hK => ?_) AllReadyH.nil
          go_simp
          go_wp2_with fail
          refine hK.out _ _ trivial (fun hHeld => ?_)
          clear hK K
          try simp only [Act.put, List.setIfInBounds_toArray, List.set_cons_zero, List.set_cons_succ]
          refine wpAnyH_done (by kernel_rfl) ?_ _
          go_wp2_with fail
          go_roundw
          case rel => exact ⟨i + 1, _, by simp, by omega, hnx.out⟩
          case measure => simp [intOf]; omega
        · obtain rfl : i = 10 := by omega
          have hlt' : ¬ (10 : Int) < 10 := by omega
          go_wp2_with fail
          have LS4 : Hid (Ls w.heap.size O wd w13.heap.size vs1 (mkP ls 10) (zb, 10, zc) (nsL ls 10) wr) := hs.out
          clear hs
          go_loopw [32, 33] (fun iv _ wr => ∃ (i : Nat), iv = .int .i64 (i : Int) ∧ i ≤ 10 ∧ Hid (Ls w.heap.size O wd w13.heap.size vs1 (mkP ls 10) (zb, 10, zc) (nsL ls 10) wr)) (fun iv _ _ => 10 - (intOf iv).toNat)
          case atStart => exact ⟨0, rfl, by omega, LS4.out⟩
          case round =>
            obtain ⟨i, rfl, hi, hs⟩ := hrel
            clear LS4
            by_cases hlt : i < 10
            · have hlt' : (i : Int) < 10 := by omega
              have p3 : i < ls.length := by rw [hll.out]; exact hlt
              obtain ⟨m, hm⟩ : ∃ m, ls[i].length = m := ⟨_, rfl⟩
              have hm60 : m ≤ 60 := by rw [← hm]; exact hlens.out _ (List.getElem_mem p3)
              have HP : Hid (∀ (h : i < (mkP ls 10).length), (mkP ls 10)[i] = List.replicate m (markF i) ++ [behF i]) := fun h => by rw [mkP_lo ls 10 i h p3 hlt, hm]
              have hzz : Hid (∃ z, zb = some ⟨z, 0, none⟩ ∧ ∀ W, Below wr.heap.size wr W → z < W.heap.size ∧ W.cell? ⟨z, i, none⟩ = some (.int .i64 (m : Int))) := by
                have hj : i < (nsL ls 10).length := by rw [nsL_len ls 10 (by rw [hll.out]; exact Nat.le_refl _)]; exact hlt
                obtain ⟨z, e, _, _⟩ := hs.out.get i hj
                refine ⟨z, e, fun W hb => ?_⟩
                obtain ⟨z', e', h1, h2⟩ := (hs.out.below hb).get i hj
                rw [e] at e'
                simp only [Option.some.injEq, Addr.mk.injEq, and_true] at e'
                subst e'
                refine ⟨h1, ?_⟩
                rw [h2]
                have hg := nsL_get ls i p3 (by rw [nsL_len ls ls.length (Nat.le_refl _)]; exact p3)
                rw [hm] at hg
                simp only [hll.out] at hg
                rw [hg]
              obtain ⟨z, hz, HZ⟩ := hzz.out
              replace HZ : Hid (∀ W, Below wr.heap.size wr W → z < W.heap.size ∧ W.cell? ⟨z, i, none⟩ = some (.int .i64 (m : Int))) := HZ
              have HZE : Hid (zb = some ⟨z, 0, none⟩) := hz
              obtain ⟨zr, zcell⟩ := HZ.out wr (Below.refl _ _)
              clear hzz hm
              subst hz
              have LS5 : Hid (Ls w.heap.size O wd w13.heap.size vs1 (mkP ls 10) (some ⟨z, 0, none⟩, 10, zc) (nsL ls 10) wr) := hs.out
              clear hs HZE
              go_wp2_with fail
              go_loopw [33] (fun kv wr' => ∃ k : Nat, kv = .int .i64 (k : Int) ∧ k ≤ m ∧ Hid (Ls w.heap.size O wd w13.heap.size vs1 (mkP ls 10) (some ⟨z, 0, none⟩, 10, zc) (nsL ls 10) wr') ∧ Hid (z < wr'.heap.size ∧ wr'.cell? ⟨z, i, none⟩ = some (.int .i64 (m : Int)))) (fun kv _ => m - (intOf kv).toNat)
              case atStart => exact ⟨0, rfl, by omega, LS5.out, zr, zcell⟩
              case round =>
                obtain ⟨k, rfl, hk, hs, hzk⟩ := hrel
                clear LS5 zr zcell HZ
                obtain ⟨zr, zcell⟩ := hzk.out
                obtain ⟨p1, p2, c0, f0, gl, q1, q2, q3⟩ := hs.out.at i hlt
                rw [HP.out p2] at q1 q2
                simp only [List.length_append, List.length_replicate, List.length_singleton] at q1 q2
                by_cases hkm : k < m
                · have hkm' : (k : Int) < (m : Int) := by omega
                  have hk2 : k < ((mkP ls 10)[i]).length := by rw [HP.out p2]; simp; omega
                  have hel : ((mkP ls 10)[i])[k] = markF i := by simp only [HP.out p2]; rw [List.getElem_append_left (by simp; exact hkm), List.getElem_replicate]
                  obtain ⟨r, c, e, rl', rg, rB, rf, d0, d1, d2, ro⟩ := hs.out.fd i p1 p2 k hk2
                  obtain ⟨xl, hxl⟩ : ∃ x, m + 1 = x := ⟨_, rfl⟩
                  have HE : Hid (vs1[i] = (some ⟨r, 0, none⟩, xl, c)) := by
                    show _ = _
                    rw [e, HP.out p2, ← hxl]
                    simp
                  have hkx : k < xl := by omega
                  have hkx' : (k : Int) < (xl : Int) := by omega
                  have hxc : xl ≤ c := by rw [HE.out] at q1 q2; simp only at q1 q2; omega
                  have HC : Hid (∀ W, Below wr.heap.size wr W → (fun W => W.cell? ⟨w13.heap.size, i, none⟩ = some (.slice (some ⟨r, 0, none⟩) xl c) ∧ W.cell? ⟨r, k * 3, none⟩ = some (.string ⟨#[109, 97, 114, 107]⟩) ∧ W.cell? ⟨r, k * 3 + 1, none⟩ = some (.string (oneS i)) ∧ W.cell? ⟨r, k * 3 + 2, none⟩ = some (.bool false)) W) := fun W hb => by
                    obtain ⟨_, _, h, _⟩ := (hs.out.below hb).at i hlt
                    rw [HE.out] at h
                    obtain ⟨r', c', e', _, _, _, _, d0', d1', d2', _⟩ := (hs.out.below hb).fd i p1 p2 k hk2
                    rw [HE.out] at e'
                    simp only [Prod.mk.injEq, Option.some.injEq, Addr.mk.injEq, and_true] at e'
                    obtain ⟨rfl, _, _⟩ := e'
                    rw [hel] at d0' d1' d2'
                    exact ⟨h, d0', d1', d2'⟩
                  have HZ2 : Hid (∀ W, Below wr.heap.size wr W → z < W.heap.size ∧ W.cell? ⟨z, i, none⟩ = some (.int .i64 (m : Int))) := fun W hb => ⟨Nat.lt_of_lt_of_le zr hb.size, (hb.cell zr).trans zcell⟩
                  clear hel rf ro rB d0 d1 d2 e hxl q1 q2 q3 f0 rg hzk
                  go_upto_region 44 with fail
                  have hIW : Below wr.heap.size wr (wr.drew) := (Below.refl _ _).drew
                  refine wp_region_held_drew (S := (fun W => W.cell? ⟨w13.heap.size, i, none⟩ = some (.slice (some ⟨r, 0, none⟩) xl c) ∧ W.cell? ⟨r, k * 3, none⟩ = some (.string ⟨#[109, 97, 114, 107]⟩) ∧ W.cell? ⟨r, k * 3 + 1, none⟩ = some (.string (oneS i)) ∧ W.cell? ⟨r, k * 3 + 2, none⟩ = some (.bool false))) (by kernel_rfl) (HC.out _ hIW) (fun hHeld => ?_)
                  generalize hWg : World.drew _ = W at hIW hHeld ⊢
                  clear hWg
                  have hbA := bel1 W (.cells #[.int .u8 (97 + (i : Int))] 5)
                  have hcv := one_conv (W.alloc (.cells #[.int .u8 (97 + (i : Int))] 5)) W.heap.size i hlt (by rw [heap_al, if_pos rfl])
                  have hw8 := wrap_byte hlt
                  have hw64 := wrap_64b hlt
                  have hIA : Hid (Below wr.heap.size wr (W.alloc (.cells #[.int .u8 (97 + (i : Int))] 5))) := hIW.trans (hbA.mono hIW.size)
                  have HN : Hid (Ls w.heap.size O wd w13.heap.size vs1 (mkP ls 10) (some ⟨z, 0, none⟩, 10, zc) (nsL ls 10) (W.alloc (.cells #[.int .u8 (97 + (i : Int))] 5))) := hs.out.below hIA.out
                  have hcA : Hid ((fun W => W.cell? ⟨w13.heap.size, i, none⟩ = some (.slice (some ⟨r, 0, none⟩) xl c) ∧ W.cell? ⟨r, k * 3, none⟩ = some (.string ⟨#[109, 97, 114, 107]⟩) ∧ W.cell? ⟨r, k * 3 + 1, none⟩ = some (.string (oneS i)) ∧ W.cell? ⟨r, k * 3 + 2, none⟩ = some (.bool false)) (W.alloc (.cells #[.int .u8 (97 + (i : Int))] 5))) := HC.out _ hIA.out
                  clear hs hbA
                  refine wpAnyH_take (i := 0) (oi := { dst := some 225, op := Op.move (Operand.tmp 25), type := 47, pos := "outright.go:212", after := #[], guard := none }) (v := ?vv26) rfl (by kernel_rfl) (by kernel_rfl) (by kernel_rfl) (fun _ _ _ h => h) (Or.inl ⟨by rfl, ?hy26⟩) (by assumption) ?_
                  case hy26 => (intro w hSw; (try dsimp only at hSw); go_simp; all_goals with_reducible rfl)
                  try simp only [Act.put, List.setIfInBounds_toArray, List.set_cons_zero, List.set_cons_succ]
                  refine wpAnyH_take (i := 1) (oi := { dst := some 226, op := Op.move (Operand.tmp 32), type := 3, pos := "outright.go:212", after := #[], guard := none }) (v := ?vv27) rfl (by kernel_rfl) (by kernel_rfl) (by kernel_rfl) (fun _ _ _ h => h) (Or.inl ⟨by rfl, ?hy27⟩) (by assumption) ?_
                  case hy27 => (intro w hSw; (try dsimp only at hSw); go_simp; all_goals with_reducible rfl)
                  try simp only [Act.put, List.setIfInBounds_toArray, List.set_cons_zero, List.set_cons_succ]
                  refine wpAnyH_take (i := 2) (oi := { dst := some 227, op := Op.indexAddr 47 (Operand.tmp 225) (Operand.tmp 226), type := 0, pos := "outright.go:212", after := #[{ on := 0, ground := Ground.data }, { on := 1, ground := Ground.data }], guard := none }) (v := ?vv28) rfl (by kernel_rfl) (by kernel_rfl) (by kernel_rfl) (fun _ _ _ h => h) (Or.inl ⟨by rfl, ?hy28⟩) (by assumption) ?_
                  case hy28 => (intro w hSw; (try dsimp only at hSw); go_simp; all_goals with_reducible rfl)
                  try simp only [Act.put, List.setIfInBounds_toArray, List.set_cons_zero, List.set_cons_succ]
                  refine wpAnyH_take (i := 3) (oi := { dst := some 228, op := Op.load 24 (Operand.tmp 227), type := 24, pos := "outright.go:212", after := #[{ on := 2, ground := Ground.data }], guard := none }) (v := ?vv29) rfl (by kernel_rfl) (by kernel_rfl) (by kernel_rfl) (fun _ _ _ h => h) (Or.inl ⟨by rfl, ?hy29⟩) (by assumption) ?_
                  case hy29 => (intro w hSw; (try dsimp only at hSw); go_simp; all_goals with_reducible rfl)
                  try simp only [Act.put, List.setIfInBounds_toArray, List.set_cons_zero, List.set_cons_succ]
                  refine wpAnyH_take (i := 4) (oi := { dst := some 229, op := Op.move (Operand.tmp 33), type := 3, pos := "outright.go:212", after := #[], guard := none }) (v := ?vv30) rfl (by kernel_rfl) (by kernel_rfl) (by kernel_rfl) (fun _ _ _ h => h) (Or.inl ⟨by rfl, ?hy30⟩) (by assumption) ?_
                  case hy30 => (intro w hSw; (try dsimp only at hSw); go_simp; all_goals with_reducible rfl)
                  try simp only [Act.put, List.setIfInBounds_toArray, List.set_cons_zero, List.set_cons_succ]
                  refine wpAnyH_take (i := 5) (oi := { dst := some 230, op := Op.indexAddr 24 (Operand.tmp 228) (Operand.tmp 229), type := 0, pos := "outright.go:212", after := #[{ on := 3, ground := Ground.data }, { on := 4, ground := Ground.data }], guard := none }) (v := ?vv31) rfl (by kernel_rfl) (by kernel_rfl) (by kernel_rfl) (fun _ _ _ h => h) (Or.inl ⟨by rfl, ?hy31⟩) (by assumption) ?_
                  case hy31 => (intro w hSw; (try dsimp only at hSw); go_simp; all_goals with_reducible rfl)
                  try simp only [Act.put, List.setIfInBounds_toArray, List.set_cons_zero, List.set_cons_succ]
                  refine wpAnyH_take (i := 6) (oi := { dst := some 231, op := Op.load 34 (Operand.tmp 230), type := 34, pos := "outright.go:212", after := #[{ on := 5, ground := Ground.data }], guard := none }) (v := ?vv32) rfl (by kernel_rfl) (by kernel_rfl) (by kernel_rfl) (fun _ _ _ h => h) (Or.inl ⟨by rfl, ?hy32⟩) (by assumption) ?_
                  case hy32 => (intro w hSw; (try dsimp only at hSw); go_simp; all_goals with_reducible rfl)
                  try simp only [Act.put, List.setIfInBounds_toArray, List.set_cons_zero, List.set_cons_succ]
                  refine wpAnyH_take (i := 7) (oi := { dst := some 232, op := Op.move (Operand.tmp 32), type := 3, pos := "outright.go:212", after := #[], guard := none }) (v := ?vv33) rfl (by kernel_rfl) (by kernel_rfl) (by kernel_rfl) (fun _ _ _ h => h) (Or.inl ⟨by rfl, ?hy33⟩) (by assumption) ?_
                  case hy33 => (intro w hSw; (try dsimp only at hSw); go_simp; all_goals with_reducible rfl)
                  try simp only [Act.put, List.setIfInBounds_toArray, List.set_cons_zero, List.set_cons_succ]
                  refine wpAnyH_take (i := 8) (oi := { dst := some 233, op := Op.binOp BinOp.add 3 (Operand.const (Value.int IntKind.i64 97)) (Operand.tmp 232) 3, type := 3, pos := "outright.go:212", after := #[{ on := 7, ground := Ground.data }], guard := none }) (v := ?vv34) rfl (by kernel_rfl) (by kernel_rfl) (by kernel_rfl) (fun _ _ _ h => h) (Or.inl ⟨by rfl, ?hy34⟩) (by assumption) ?_
                  case hy34 => (intro w hSw; (try dsimp only at hSw); go_simp; all_goals with_reducible rfl)
                  try simp only [Act.put, List.setIfInBounds_toArray, List.set_cons_zero, List.set_cons_succ]
                  refine wpAnyH_take (i := 9) (oi := { dst := some 234, op := Op.convert 3 5 (Operand.tmp 233), type := 5, pos := "outright.go:212", after := #[{ on := 8, ground := Ground.data }], guard := none }) (v := ?vv35) rfl (by kernel_rfl) (by kernel_rfl) (by kernel_rfl) (fun _ _ _ h => h) (Or.inl ⟨by rfl, ?hy35⟩) (by assumption) ?_
                  case hy35 => (intro w hSw; (try dsimp only at hSw); go_simp; all_goals with_reducible rfl)
                  try simp only [Act.put, List.setIfInBounds_toArray, List.set_cons_zero, List.set_cons_succ]
                  refine wpAnyH_ready (rs := [10]) (by kernel_rfl) (by simp) ?_
                  refine AllReadyH.cons (o := { dst := some 235, op := Op.buildSlice 51 1 #[(0, Operand.tmp 234)], type := 51, pos := "outright.go:212", after := #[{ on := 9, ground := Ground.data }], guard := none }) rfl (fun K hK => ?_) AllReadyH.nil
                  go_simp
                  go_wp2_with fail
                  refine hK.out _ _ (hcA.out) (fun hHeld => ?_)
                  clear hK K
                  try simp only [Act.put, List.setIfInBounds_toArray, List.set_cons_zero, List.set_cons_succ]
                  refine wpAnyH_ready (rs := [11]) (by kernel_rfl) (by simp) ?_
                  refine AllReadyH.cons (o := { dst := some 236, op := Op.convert 51 9 (Operand.tmp 235), type := 9, pos := "outright.go:212", after := #[{ on := 10, ground := Ground.data }], guard := none }) rfl (fun K hK => ?_) AllReadyH.nil
                  go_simp
                  go_wp2_with fail
                  refine hK.out _ _ (hcA.out) (fun hHeld => ?_)
                  clear hK K
                  try simp only [Act.put, List.setIfInBounds_toArray, List.set_cons_zero, List.set_cons_succ]
                  refine wpAnyH_take (i := 12) (oi := { dst := some 237, op := Op.build 34 #[(0, Operand.const (Value.string { data := #[109, 97, 114, 107] })), (1, Operand.tmp 236)], type := 34, pos := "outright.go:212", after := #[{ on := 11, ground := Ground.data }], guard := none }) (v := ?vv36) rfl (by kernel_rfl) (by kernel_rfl) (by kernel_rfl) (fun _ _ _ h => h) (Or.inl ⟨by rfl, ?hy36⟩) (by assumption) ?_
                  case hy36 => (intro w hSw; (try dsimp only at hSw); go_simp; all_goals with_reducible rfl)
                  try simp only [Act.put, List.setIfInBounds_toArray, List.set_cons_zero, List.set_cons_succ]
                  refine wpAnyH_take (i := 13) (oi := { dst := some 238, op := Op.binOp BinOp.neq 34 (Operand.tmp 231) (Operand.tmp 237) 34, type := 4, pos := "outright.go:212", after := #[{ on := 6, ground := Ground.data }, { on := 12, ground := Ground.data }], guard := none }) (v := ?vv37) rfl (by kernel_rfl) (by kernel_rfl) (by kernel_rfl) (fun _ _ _ h => h) (Or.inl ⟨by rfl, ?hy37⟩) (by assumption) ?_
                  case hy37 => (intro w hSw; (try dsimp only at hSw); go_simp; all_goals with_reducible rfl)
                  try simp only [Act.put, List.setIfInBounds_toArray, List.set_cons_zero, List.set_cons_succ]
                  refine wpAnyH_done (by kernel_rfl) ?_ _
                  go_wp2_with fail
                  go_roundw
                  case rel => exact ⟨k + 1, by simp, by omega, HN.out, HZ2.out _ hIA.out⟩
                  case measure => simp [intOf]; omega
                · obtain rfl : k = m := by omega
                  have hkm' : ¬ (k : Int) < (k : Int) := by omega
                  have hk2 : k < ((mkP ls 10)[i]).length := by rw [HP.out p2]; simp
                  have hel : ((mkP ls 10)[i])[k] = behF i := by simp only [HP.out p2]; rw [List.getElem_append_right (by simp)]; simp
                  obtain ⟨r, c, e, rl', rg, rB, rf, d0, d1, d2, ro⟩ := hs.out.fd i p1 p2 k hk2
                  have HE : Hid (vs1[i] = (some ⟨r, 0, none⟩, k + 1, c)) := by
                    show _ = _
                    rw [e, HP.out p2]
                    simp
                  have hkx' : (k : Int) < (k : Int) + 1 := by omega
                  have hxc : k + 1 ≤ c := by rw [HE.out] at q1 q2; simp only at q1 q2; omega
                  have HC : Hid (∀ W, Below wr.heap.size wr W → (fun W => W.cell? ⟨w13.heap.size, i, none⟩ = some (.slice (some ⟨r, 0, none⟩) (k + 1) c) ∧ W.cell? ⟨z, i, none⟩ = some (.int .i64 (k : Int)) ∧ W.cell? ⟨r, k * 3 + 1, none⟩ = some (.string (oneS i))) W) := fun W hb => by
                    obtain ⟨_, _, h, _⟩ := (hs.out.below hb).at i hlt
                    rw [HE.out] at h
                    obtain ⟨r', c', e', _, _, _, _, d0', d1', d2', _⟩ := (hs.out.below hb).fd i p1 p2 k hk2
                    rw [HE.out] at e'
                    simp only [Prod.mk.injEq, Option.some.injEq, Addr.mk.injEq, and_true] at e'
                    obtain ⟨rfl, _, _⟩ := e'
                    rw [hel] at d1'
                    exact ⟨h, (hb.cell zr).trans zcell, d1'⟩
                  clear hel rf ro rB d0 d1 d2 e q1 q2 q3 f0 rg
                  go_upto_region 46 with fail
                  have hIW : Below wr.heap.size wr (wr.drew) := (Below.refl _ _).drew
                  refine wp_region_held_drew (S := (fun W => W.cell? ⟨w13.heap.size, i, none⟩ = some (.slice (some ⟨r, 0, none⟩) (k + 1) c) ∧ W.cell? ⟨z, i, none⟩ = some (.int .i64 (k : Int)) ∧ W.cell? ⟨r, k * 3 + 1, none⟩ = some (.string (oneS i)))) (by kernel_rfl) (HC.out _ hIW) (fun hHeld => ?_)
                  generalize hWg : World.drew _ = W at hIW hHeld ⊢
                  clear hWg
                  have hbA := bel1 W (.cells #[.int .u8 (97 + (i : Int))] 5)
                  have hcv := one_conv (W.alloc (.cells #[.int .u8 (97 + (i : Int))] 5)) W.heap.size i hlt (by rw [heap_al, if_pos rfl])
                  have hw8 := wrap_byte hlt
                  have hw64 := wrap_64b hlt
                  have hIA : Hid (Below wr.heap.size wr (W.alloc (.cells #[.int .u8 (97 + (i : Int))] 5))) := hIW.trans (hbA.mono hIW.size)
                  have HN : Hid (Ls w.heap.size O wd w13.heap.size vs1 (mkP ls 10) (some ⟨z, 0, none⟩, 10, zc) (nsL ls 10) (W.alloc (.cells #[.int .u8 (97 + (i : Int))] 5))) := hs.out.below hIA.out
                  have hcA : Hid ((fun W => W.cell? ⟨w13.heap.size, i, none⟩ = some (.slice (some ⟨r, 0, none⟩) (k + 1) c) ∧ W.cell? ⟨z, i, none⟩ = some (.int .i64 (k : Int)) ∧ W.cell? ⟨r, k * 3 + 1, none⟩ = some (.string (oneS i))) (W.alloc (.cells #[.int .u8 (97 + (i : Int))] 5))) := HC.out _ hIA.out
                  clear hs hbA
                  refine wpAnyH_take (i := 0) (oi := { dst := some 239, op := Op.move (Operand.tmp 25), type := 47, pos := "outright.go:216", after := #[], guard := none }) (v := ?vv38) rfl (by kernel_rfl) (by kernel_rfl) (by kernel_rfl) (fun _ _ _ h => h) (Or.inl ⟨by rfl, ?hy38⟩) (by assumption) ?_
                  case hy38 => (intro w hSw; (try dsimp only at hSw); go_simp; all_goals with_reducible rfl)
                  try simp only [Act.put, List.setIfInBounds_toArray, List.set_cons_zero, List.set_cons_succ]
                  refine wpAnyH_take (i := 1) (oi := { dst := some 240, op := Op.move (Operand.tmp 32), type := 3, pos := "outright.go:216", after := #[], guard := none }) (v := ?vv39) rfl (by kernel_rfl) (by kernel_rfl) (by kernel_rfl) (fun _ _ _ h => h) (Or.inl ⟨by rfl, ?hy39⟩) (by assumption) ?_
                  case hy39 => (intro w hSw; (try dsimp only at hSw); go_simp; all_goals with_reducible rfl)
                  try simp only [Act.put, List.setIfInBounds_toArray, List.set_cons_zero, List.set_cons_succ]
                  refine wpAnyH_take (i := 2) (oi := { dst := some 241, op := Op.indexAddr 47 (Operand.tmp 239) (Operand.tmp 240), type := 0, pos := "outright.go:216", after := #[{ on := 0, ground := Ground.data }, { on := 1, ground := Ground.data }], guard := none }) (v := ?vv40) rfl (by kernel_rfl) (by kernel_rfl) (by kernel_rfl) (fun _ _ _ h => h) (Or.inl ⟨by rfl, ?hy40⟩) (by assumption) ?_
                  case hy40 => (intro w hSw; (try dsimp only at hSw); go_simp; all_goals with_reducible rfl)
                  try simp only [Act.put, List.setIfInBounds_toArray, List.set_cons_zero, List.set_cons_succ]
                  refine wpAnyH_take (i := 3) (oi := { dst := some 242, op := Op.load 24 (Operand.tmp 241), type := 24, pos := "outright.go:216", after := #[{ on := 2, ground := Ground.data }], guard := none }) (v := ?vv41) rfl (by kernel_rfl) (by kernel_rfl) (by kernel_rfl) (fun _ _ _ h => h) (Or.inl ⟨by rfl, ?hy41⟩) (by assumption) ?_
                  case hy41 => (intro w hSw; (try dsimp only at hSw); go_simp; all_goals with_reducible rfl)
                  try simp only [Act.put, List.setIfInBounds_toArray, List.set_cons_zero, List.set_cons_succ]
                  refine wpAnyH_take (i := 4) (oi := { dst := some 243, op := Op.move (Operand.tmp 28), type := 50, pos := "outright.go:216", after := #[], guard := none }) (v := ?vv42) rfl (by kernel_rfl) (by kernel_rfl) (by kernel_rfl) (fun _ _ _ h => h) (Or.inl ⟨by rfl, ?hy42⟩) (by assumption) ?_
                  case hy42 => (intro w hSw; (try dsimp only at hSw); go_simp; all_goals with_reducible rfl)
                  try simp only [Act.put, List.setIfInBounds_toArray, List.set_cons_zero, List.set_cons_succ]
                  refine wpAnyH_take (i := 5) (oi := { dst := some 244, op := Op.move (Operand.tmp 32), type := 3, pos := "outright.go:216", after := #[], guard := none }) (v := ?vv43) rfl (by kernel_rfl) (by kernel_rfl) (by kernel_rfl) (fun _ _ _ h => h) (Or.inl ⟨by rfl, ?hy43⟩) (by assumption) ?_
                  case hy43 => (intro w hSw; (try dsimp only at hSw); go_simp; all_goals with_reducible rfl)
                  try simp only [Act.put, List.setIfInBounds_toArray, List.set_cons_zero, List.set_cons_succ]
                  refine wpAnyH_take (i := 6) (oi := { dst := some 245, op := Op.indexAddr 50 (Operand.tmp 243) (Operand.tmp 244), type := 0, pos := "outright.go:216", after := #[{ on := 4, ground := Ground.data }, { on := 5, ground := Ground.data }], guard := none }) (v := ?vv44) rfl (by kernel_rfl) (by kernel_rfl) (by kernel_rfl) (fun _ _ _ h => h) (Or.inl ⟨by rfl, ?hy44⟩) (by assumption) ?_
                  case hy44 => (intro w hSw; (try dsimp only at hSw); go_simp; all_goals with_reducible rfl)
                  try simp only [Act.put, List.setIfInBounds_toArray, List.set_cons_zero, List.set_cons_succ]
                  refine wpAnyH_take (i := 7) (oi := { dst := some 246, op := Op.load 3 (Operand.tmp 245), type := 3, pos := "outright.go:216", after := #[{ on := 6, ground := Ground.data }], guard := none }) (v := ?vv45) rfl (by kernel_rfl) (by kernel_rfl) (by kernel_rfl) (fun _ _ _ h => h) (Or.inl ⟨by rfl, ?hy45⟩) (by assumption) ?_
                  case hy45 => (intro w hSw; (try dsimp only at hSw); go_simp; all_goals with_reducible rfl)
                  try simp only [Act.put, List.setIfInBounds_toArray, List.set_cons_zero, List.set_cons_succ]
                  refine wpAnyH_take (i := 8) (oi := { dst := some 247, op := Op.indexAddr 24 (Operand.tmp 242) (Operand.tmp 246), type := 0, pos := "outright.go:216", after := #[{ on := 3, ground := Ground.data }, { on := 7, ground := Ground.data }], guard := none }) (v := ?vv46) rfl (by kernel_rfl) (by kernel_rfl) (by kernel_rfl) (fun _ _ _ h => h) (Or.inl ⟨by rfl, ?hy46⟩) (by assumption) ?_
                  case hy46 => (intro w hSw; (try dsimp only at hSw); go_simp; all_goals with_reducible rfl)
                  try simp only [Act.put, List.setIfInBounds_toArray, List.set_cons_zero, List.set_cons_succ]
                  refine wpAnyH_take (i := 9) (oi := { dst := some 248, op := Op.fieldAddr 34 (Operand.tmp 247) 1, type := 0, pos := "outright.go:216", after := #[{ on := 8, ground := Ground.data }], guard := none }) (v := ?vv47) rfl (by kernel_rfl) (by kernel_rfl) (by kernel_rfl) (fun _ _ _ h => h) (Or.inl ⟨by rfl, ?hy47⟩) (by assumption) ?_
                  case hy47 => (intro w hSw; (try dsimp only at hSw); go_simp; all_goals with_reducible rfl)
                  try simp only [Act.put, List.setIfInBounds_toArray, List.set_cons_zero, List.set_cons_succ]
                  refine wpAnyH_take (i := 10) (oi := { dst := some 249, op := Op.load 9 (Operand.tmp 248), type := 9, pos := "outright.go:216", after := #[{ on := 9, ground := Ground.data }], guard := none }) (v := ?vv48) rfl (by kernel_rfl) (by kernel_rfl) (by kernel_rfl) (fun _ _ _ h => h) (Or.inl ⟨by rfl, ?hy48⟩) (by assumption) ?_
                  case hy48 => (intro w hSw; (try dsimp only at hSw); go_simp; all_goals with_reducible rfl)
                  try simp only [Act.put, List.setIfInBounds_toArray, List.set_cons_zero, List.set_cons_succ]
                  refine wpAnyH_take (i := 11) (oi := { dst := some 250, op := Op.move (Operand.tmp 32), type := 3, pos := "outright.go:216", after := #[], guard := none }) (v := ?vv49) rfl (by kernel_rfl) (by kernel_rfl) (by kernel_rfl) (fun _ _ _ h => h) (Or.inl ⟨by rfl, ?hy49⟩) (by assumption) ?_
                  case hy49 => (intro w hSw; (try dsimp only at hSw); go_simp; all_goals with_reducible rfl)
                  try simp only [Act.put, List.setIfInBounds_toArray, List.set_cons_zero, List.set_cons_succ]
                  refine wpAnyH_take (i := 12) (oi := { dst := some 251, op := Op.binOp BinOp.add 3 (Operand.const (Value.int IntKind.i64 97)) (Operand.tmp 250) 3, type := 3, pos := "outright.go:216", after := #[{ on := 11, ground := Ground.data }], guard := none }) (v := ?vv50) rfl (by kernel_rfl) (by kernel_rfl) (by kernel_rfl) (fun _ _ _ h => h) (Or.inl ⟨by rfl, ?hy50⟩) (by assumption) ?_
                  case hy50 => (intro w hSw; (try dsimp only at hSw); go_simp; all_goals with_reducible rfl)
                  try simp only [Act.put, List.setIfInBounds_toArray, List.set_cons_zero, List.set_cons_succ]
                  refine wpAnyH_take (i := 13) (oi := { dst := some 252, op := Op.convert 3 5 (Operand.tmp 251), type := 5, pos := "outright.go:216", after := #[{ on := 12, ground := Ground.data }], guard := none }) (v := ?vv51) rfl (by kernel_rfl) (by kernel_rfl) (by kernel_rfl) (fun _ _ _ h => h) (Or.inl ⟨by rfl, ?hy51⟩) (by assumption) ?_
                  case hy51 => (intro w hSw; (try dsimp only at hSw); go_simp; all_goals with_reducible rfl)
                  try simp only [Act.put, List.setIfInBounds_toArray, List.set_cons_zero, List.set_cons_succ]
                  refine wpAnyH_ready (rs := [14]) (by kernel_rfl) (by simp) ?_
                  refine AllReadyH.cons (o := { dst := some 253, op := Op.buildSlice 51 1 #[(0, Operand.tmp 252)], type := 51, pos := "outright.go:216", after := #[{ on := 13, ground := Ground.data }], guard := none }) rfl (fun K hK => ?_) AllReadyH.nil
                  go_simp
                  go_wp2_with fail
                  refine hK.out _ _ (hcA.out) (fun hHeld => ?_)
                  clear hK K
                  try simp only [Act.put, List.setIfInBounds_toArray, List.set_cons_zero, List.set_cons_succ]
                  refine wpAnyH_ready (rs := [15]) (by kernel_rfl) (by simp) ?_
                  refine AllReadyH.cons (o := { dst := some 254, op := Op.convert 51 9 (Operand.tmp 253), type := 9, pos := "outright.go:216", after := #[{ on := 14, ground := Ground.data }], guard := none }) rfl (fun K hK => ?_) AllReadyH.nil
                  go_simp
                  go_wp2_with fail
                  refine hK.out _ _ (hcA.out) (fun hHeld => ?_)
                  clear hK K
                  try simp only [Act.put, List.setIfInBounds_toArray, List.set_cons_zero, List.set_cons_succ]
                  refine wpAnyH_take (i := 16) (oi := { dst := some 255, op := Op.binOp BinOp.neq 9 (Operand.tmp 249) (Operand.tmp 254) 9, type := 4, pos := "outright.go:216", after := #[{ on := 10, ground := Ground.data }, { on := 15, ground := Ground.data }], guard := none }) (v := ?vv52) rfl (by kernel_rfl) (by kernel_rfl) (by kernel_rfl) (fun _ _ _ h => h) (Or.inl ⟨by rfl, ?hy52⟩) (by assumption) ?_
                  case hy52 => (intro w hSw; (try dsimp only at hSw); go_simp; all_goals with_reducible rfl)
                  try simp only [Act.put, List.setIfInBounds_toArray, List.set_cons_zero, List.set_cons_succ]
                  refine wpAnyH_done (by kernel_rfl) ?_ _
                  go_wp2_with fail
                  go_roundw
                  case rel => exact ⟨i + 1, by simp, by omega, HN.out⟩
                  case measure => simp [intOf]; omega
            · obtain rfl : i = 10 := by omega
              have hlt' : ¬ (10 : Int) < 10 := by omega
              have KEr : Hid (In EFd wr (.slice kb kl kz) L) := R.isIn (R.stays KE.out fun k hk _ => hs.out.old k (OK.out.1 k hk))
              have OWr : Hid (R EFd wr (.slice ob ol oz) T) := R.stays OW.out fun k hk _ => hs.out.old k (OK.out.2.1 k hk)
              have VVr : Hid (R ES wr (.slice vb2 2 vz2) [⟨#[111, 110, 101]⟩, ⟨#[116, 119, 111]⟩]) := R.stays VV.out fun k hk _ => hs.out.old k (OK.out.2.2.1 k hk)
              have UUr : Hid (R ES wr (.slice ub2 2 uz2) [⟨#[47, 120]⟩, ⟨#[116, 104, 114, 101, 101]⟩]) := R.stays UU.out fun k hk _ => hs.out.old k (OK.out.2.2.2 k hk)
              have BR : Hid (Below w.heap.size w wr) := B0.out.trans hs.out.bel
              clear hs KE OW VV UU OK B0
              go_wp2_with fail
              go_at_call 14
              refine (readRequest_any (kb, kl, kz) L _ KEr.out (fun f hf => (FA.out.sz.1 f hf).1)).mono ?_
              rintro e w20 ⟨m4, s4, a4, p4, ⟨fb, fl, fz⟩, rfl, bc, gc, nc⟩
              obtain ⟨hv4, _, rc', oc⟩ := gc FA.out.rq
              rw [FA.out.rt.vs] at hv4
              simp only [Option.some.injEq, List.cons.injEq, and_true] at hv4
              obtain ⟨rfl, rfl, rfl, rfl⟩ := hv4
              rw [FA.out.rq]
              rw [FA.out.tl] at rc'
              unfold getS httpS atestS slashX
              have bx := bel1 w20 (.cells #[.string ⟨#[71, 69, 84]⟩, .string ⟨#[104, 116, 116, 112]⟩, .string ⟨#[97, 46, 116, 101, 115, 116]⟩, .string ⟨#[47, 120]⟩, .slice fb fl fz, .string ⟨#[]⟩] 26)
              have hbx : (w20.alloc (.cells #[.string ⟨#[71, 69, 84]⟩, .string ⟨#[104, 116, 116, 112]⟩, .string ⟨#[97, 46, 116, 101, 115, 116]⟩, .string ⟨#[47, 120]⟩, .slice fb fl fz, .string ⟨#[]⟩] 26)).heap[w20.heap.size]? = some (.cells #[.string ⟨#[71, 69, 84]⟩, .string ⟨#[104, 116, 116, 112]⟩, .string ⟨#[97, 46, 116, 101, 115, 116]⟩, .string ⟨#[47, 120]⟩, .slice fb fl fz, .string ⟨#[]⟩] 26) := by rw [heap_al, if_pos rfl]
              have bt2 := bc.trans (bx.mono bc.size)
              have FI : Hid (In EFd (w20.alloc (.cells #[.string ⟨#[71, 69, 84]⟩, .string ⟨#[104, 116, 116, 112]⟩, .string ⟨#[97, 46, 116, 101, 115, 116]⟩, .string ⟨#[47, 120]⟩, .slice fb fl fz, .string ⟨#[]⟩] 26)) (.slice fb fl fz) T) := (R.isIn rc').below bx
              have OI : Hid (In EFd (w20.alloc (.cells #[.string ⟨#[71, 69, 84]⟩, .string ⟨#[104, 116, 116, 112]⟩, .string ⟨#[97, 46, 116, 101, 115, 116]⟩, .string ⟨#[47, 120]⟩, .slice fb fl fz, .string ⟨#[]⟩] 26)) (.slice ob ol oz) T) := (R.isIn OWr.out).below bt2
              have VI : Hid (R ES (w20.alloc (.cells #[.string ⟨#[71, 69, 84]⟩, .string ⟨#[104, 116, 116, 112]⟩, .string ⟨#[97, 46, 116, 101, 115, 116]⟩, .string ⟨#[47, 120]⟩, .slice fb fl fz, .string ⟨#[]⟩] 26)) (.slice vb2 2 vz2) [⟨#[111, 110, 101]⟩, ⟨#[116, 119, 111]⟩]) := R.below VVr.out bt2
              have UI : Hid (R ES (w20.alloc (.cells #[.string ⟨#[71, 69, 84]⟩, .string ⟨#[104, 116, 116, 112]⟩, .string ⟨#[97, 46, 116, 101, 115, 116]⟩, .string ⟨#[47, 120]⟩, .slice fb fl fz, .string ⟨#[]⟩] 26)) (.slice ub2 2 uz2) [⟨#[47, 120]⟩, ⟨#[116, 104, 114, 101, 101]⟩]) := R.below UUr.out bt2
              have BR2 : Hid (Below w.heap.size w (w20.alloc (.cells #[.string ⟨#[71, 69, 84]⟩, .string ⟨#[104, 116, 116, 112]⟩, .string ⟨#[97, 46, 116, 101, 115, 116]⟩, .string ⟨#[47, 120]⟩, .slice fb fl fz, .string ⟨#[]⟩] 26))) := BR.out.trans (bt2.mono BR.out.size)
              have HX : Hid ((w20.alloc (.cells #[.string ⟨#[71, 69, 84]⟩, .string ⟨#[104, 116, 116, 112]⟩, .string ⟨#[97, 46, 116, 101, 115, 116]⟩, .string ⟨#[47, 120]⟩, .slice fb fl fz, .string ⟨#[]⟩] 26)).heap[w20.heap.size]? = some (.cells #[.string ⟨#[71, 69, 84]⟩, .string ⟨#[104, 116, 116, 112]⟩, .string ⟨#[97, 46, 116, 101, 115, 116]⟩, .string ⟨#[47, 120]⟩, .slice fb fl fz, .string ⟨#[]⟩] 26)) := hbx
              clear bx hbx bt2 bc gc nc rc' oc KEr OWr VVr UUr BR
              simp only [sv, rqv]
              go_upto_region 49 with fail
              obtain ⟨v20, hv20⟩ : ∃ x, w20.alloc (.cells #[.string ⟨#[71, 69, 84]⟩, .string ⟨#[104, 116, 116, 112]⟩, .string ⟨#[97, 46, 116, 101, 115, 116]⟩, .string ⟨#[47, 120]⟩, .slice fb fl fz, .string ⟨#[]⟩] 26) = x := ⟨_, rfl⟩
              rw [hv20] at FI OI VI UI BR2 HX ⊢
              clear hv20
              have x4 := cell_blk HX.out 4
              simp only [List.getElem?_toArray, List.getElem?_cons_succ, List.getElem?_cons_zero] at x4
              have xl4 := heap_lt HX.out
              go_wp2_with fail
              go_at_call 17
              refine (same_eq (fb, fl, fz) (ob, ol, oz) T _ FI.out OI.out).mono ?_
              rintro e w21 ⟨rfl, bc⟩
              obtain ⟨gv, hv1, hv2, hv3, hv4, hv5, hv6⟩ := two_cells (R.below VI.out bc)
              obtain ⟨gu, hu1, hu2, hu3, hu4, hu5, hu6⟩ := two_cells (R.below UI.out bc)
              subst hv1 hu1
              have BR3 : Hid (Below w.heap.size w w21) := BR2.out.trans (bc.mono BR2.out.size)
              clear bc VI UI FI OI HX x4 xl4 BR2
              go_wp2_with fail
              go_ret
              exact ⟨by first | rfl | simp, BR3.out⟩
end Go.Proofs.YtcgfgjhhmbfmdaaDoor
