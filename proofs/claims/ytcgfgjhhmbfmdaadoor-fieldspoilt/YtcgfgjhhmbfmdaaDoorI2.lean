/- FieldSpoilt, walked. -/
import Derived.Test.YtcgfgjhhmbfmdaaDoorI1
import Derived.Test.YtcgfgjhhmbfmdaaDoorH4
import Derived.Test.YtcgfgjhhmbfmdaaDoorAg
import Derived.Laws.BitsLemmas
import Derived.Laws.Bits64
import Derived.Deep.Cut
import Derived.Deep.CutRange
namespace Go.Proofs.YtcgfgjhhmbfmdaaDoor
open Go.RowKit Go.Maps
set_option linter.unusedVariables false
set_option linter.unusedSimpArgs false

theorem wraps_i64_63 (n : Int) (h₀ : 0 ≤ n) (h₁ : n < 2 ^ 63) : IntKind.i64.wrap n = n := by rw [IntKind.wrap_i64]; omega

theorem and_any (n : Int) (p : Nat) (hp : p ≤ 62) : bits .and .i64 n ((2 ^ p - 1 : Nat) : Int) = n % ((2 ^ p : Nat) : Int) := by
  have hpp : 2 ^ p < 2 ^ 63 := Nat.pow_lt_pow_right (by decide) (by omega)
  have hpos : 0 < 2 ^ p := Nat.two_pow_pos p
  have hd : 2 ^ p ∣ 2 ^ 64 := Nat.pow_dvd_pow 2 (by omega)
  have hb : (BitVec.ofInt 64 ((2 ^ p - 1 : Nat) : Int)).toNat = 2 ^ p - 1 := by
    rw [BitVec.ofInt_natCast, BitVec.toNat_ofNat]; exact Nat.mod_eq_of_lt (by omega)
  have ha : (BitVec.ofInt 64 n).toNat = (n % ((2 ^ 64 : Nat) : Int)).toNat := BitVec.toNat_ofInt n
  have key : (n % ((2 ^ 64 : Nat) : Int)).toNat % 2 ^ p = (n % ((2 ^ p : Nat) : Int)).toNat := by
    have h1 : 0 ≤ n % ((2 ^ 64 : Nat) : Int) := Int.emod_nonneg _ (by decide)
    have h2 : 0 ≤ n % ((2 ^ p : Nat) : Int) := Int.emod_nonneg _ (by omega)
    apply Int.ofNat.inj
    show (((n % ((2 ^ 64 : Nat) : Int)).toNat % 2 ^ p : Nat) : Int) = (((n % ((2 ^ p : Nat) : Int)).toNat : Nat) : Int)
    rw [Int.natCast_emod, Int.toNat_of_nonneg h1, Int.toNat_of_nonneg h2]
    exact Int.emod_emod_of_dvd n (Int.natCast_dvd_natCast.2 hd)
  have h2 : 0 ≤ n % ((2 ^ p : Nat) : Int) := Int.emod_nonneg _ (by omega)
  have h3 : n % ((2 ^ p : Nat) : Int) < ((2 ^ p : Nat) : Int) := Int.emod_lt_of_pos _ (by omega)
  show IntKind.i64.wrap (((BitVec.ofInt 64 n) &&& (BitVec.ofInt 64 ((2 ^ p - 1 : Nat) : Int))).toNat : Int) = _
  rw [BitVec.toNat_and, ha, hb, Nat.and_two_pow_sub_one_eq_mod, key, Int.toNat_of_nonneg h2]
  exact wraps_i64_63 _ h2 (by omega)


def barL : List Fd := [⟨⟨#[99, 111, 110, 110, 101, 99, 116, 105, 111, 110]⟩, ⟨#[99, 108, 111, 115, 101]⟩, false⟩, ⟨⟨#[107, 101, 101, 112, 45, 97, 108, 105, 118, 101]⟩, ⟨#[]⟩, false⟩, ⟨⟨#[112, 114, 111, 120, 121, 45, 99, 111, 110, 110, 101, 99, 116, 105, 111, 110]⟩, ⟨#[]⟩, false⟩, ⟨⟨#[116, 114, 97, 110, 115, 102, 101, 114, 45, 101, 110, 99, 111, 100, 105, 110, 103]⟩, ⟨#[99, 104, 117, 110, 107, 101, 100]⟩, false⟩, ⟨⟨#[117, 112, 103, 114, 97, 100, 101]⟩, ⟨#[104, 50, 99]⟩, false⟩, ⟨⟨#[116, 101]⟩, ⟨#[103, 122, 105, 112]⟩, false⟩, ⟨⟨#[116, 101]⟩, ⟨#[]⟩, false⟩, ⟨⟨#[58, 120]⟩, ⟨#[121]⟩, false⟩, ⟨⟨#[58, 115, 116, 97, 116, 117, 115]⟩, ⟨#[50, 48, 48]⟩, false⟩]
def badL : List Fd := [⟨⟨#[88, 120]⟩, ⟨#[]⟩, false⟩, ⟨⟨#[]⟩, ⟨#[]⟩, false⟩, ⟨⟨#[58]⟩, ⟨#[]⟩, false⟩, ⟨⟨#[97, 32, 98]⟩, ⟨#[]⟩, false⟩, ⟨⟨#[120]⟩, ⟨#[32, 118]⟩, false⟩, ⟨⟨#[120]⟩, ⟨#[118, 9]⟩, false⟩, ⟨⟨#[120]⟩, ⟨#[118, 0, 119]⟩, false⟩, ⟨⟨#[120, 195]⟩, ⟨#[]⟩, false⟩, ⟨⟨#[58, 77, 101, 116, 104, 111, 100]⟩, ⟨#[71, 69, 84]⟩, false⟩]
theorem bar_ok : ∀ f ∈ barL, wrongB f = false ∧ nofB f = true := by
  have h : barL.all (fun f => !wrongB f && nofB f) = true := by decide +kernel
  intro f hf
  have := List.all_eq_true.1 h f hf
  simp only [Bool.and_eq_true, Bool.not_eq_true'] at this
  exact this
theorem bad_ok : ∀ f ∈ badL, wrongB f = true := by
  have h : badL.all wrongB = true := by decide +kernel
  exact fun f hf => List.all_eq_true.1 h f hf
theorem bar_sz : ∀ f ∈ barL ++ badL, f.n.size ≤ 64 ∧ f.v.size ≤ 64 := by
  have h : (barL ++ badL).all (fun f => decide (f.n.size ≤ 64 ∧ f.v.size ≤ 64)) = true := by decide +kernel
  exact fun f hf => of_decide_eq_true (List.all_eq_true.1 h f hf)
theorem with_sz {L : List Fd} {b : Nat} {f : Fd} (hb : b ≤ L.length) (h : SzOk L) (hl : L.length ≤ 63) (hf : f.n.size ≤ 140737488355328 ∧ f.v.size ≤ 140737488355328) : SzOk (withL L b f) := by
  refine ⟨fun g hg => ?_, by rw [with_len hb]; omega⟩
  rw [with_split] at hg
  rcases List.mem_append.1 hg with hg | hg
  · exact h.1 g (List.mem_of_mem_take hg)
  · rcases List.mem_cons.1 hg with rfl | hg
    · exact hf
    · exact h.1 g (List.mem_of_mem_drop hg)
def lenOf : Value → Nat
  | .slice _ n _ => n
  | _ => 0
def xF : Fd := ⟨⟨#[120]⟩, ⟨#[]⟩, false⟩
def aF : Fd := ⟨⟨#[65]⟩, ⟨#[]⟩, false⟩
def teF : Fd := ⟨⟨#[116, 101]⟩, ⟨#[116, 114, 97, 105, 108, 101, 114, 115]⟩, false⟩
theorem xF_ok : wrongB xF = false ∧ nofB xF = false := by decide +kernel
theorem teF_ok : wrongB teF = false ∧ nofB teF = false := by decide +kernel
/-- of a list in memory: with, and refused -/
structure Sp (L : List Fd) (n : Nat) : Prop where
  rt : Rt L
  len : L.length ≤ 54
  sz : SzOk L
  n : n = L.length

set_option maxHeartbeats 40000000 in
set_option maxRecDepth 100000 in
theorem fieldSpoilt_any (t : SV) (l : List Fd) (turn which at' : Int) (ht0 : -9223372036854775808 ≤ turn) (ht1 : turn ≤ 9223372036854775807) (w : World) (ht : Tab w) (hI : In EFd w (sv t) l) (hz : SzOk l) :
    Calls Tryd.prog 5 #[sv t, .int .i64 turn, .int .i64 which, .int .i64 at'] w fun e w' => e = .returned (.bool true) ∧ Below w.heap.size w w' := by
  obtain ⟨L, hL⟩ : ∃ L, madeL l (turnK turn) = L := ⟨_, rfl⟩
  have hRt : Rt L := by rw [← hL]; exact rt_made l (turnK_lt turn)
  have hL54 : L.length ≤ 54 := by rw [← hL, made_len l (turnK_lt turn)]; omega
  have hSz : SzOk L := by rw [← hL]; exact made_sz l (turnK_lt turn)
  have hrq : rqE L = 0 := hRt.rq (by omega)
  have h9 : Hid (Calls Tryd.prog 9 #[] w fun e w' => e = .returned (.bool true) ∧ Below w.heap.size w w') := head_any w ht
  have h21 : Hid (∀ W, Below w.heap.size w W → Calls Tryd.prog 21 #[sv t, .int .i64 turn] W fun e w' => FdPost L W e w') := fun W hb => by rw [← hL]; exact made_list t l turn ht0 ht1 W (hI.below hb) hz
  have HQ : Hid (rqE L = 0) := hrq
  obtain ⟨k, hk⟩ : ∃ k : Nat, bits .and .i64 which 3 = (k : Int) ∧ k ≤ 3 := by
    have := and_any which 2 (by decide)
    refine ⟨(which % 4).toNat, ?_, by omega⟩
    rw [show ((2 ^ 2 - 1 : Nat) : Int) = 3 by decide, show ((2 ^ 2 : Nat) : Int) = 4 by decide] at this
    rw [this]
    omega
  obtain ⟨A, hA⟩ : ∃ A : Nat, bits .and .i64 at' 65535 = (A : Int) ∧ A ≤ 65535 := by
    have := and_any at' 16 (by decide)
    refine ⟨(at' % 65536).toNat, ?_, by omega⟩
    rw [show ((2 ^ 16 - 1 : Nat) : Int) = 65535 by decide, show ((2 ^ 16 : Nat) : Int) = 65536 by decide] at this
    rw [this]
    omega
  obtain ⟨hk1, hk3⟩ := hk
  obtain ⟨hA1, hA2⟩ := hA
  obtain ⟨tb, tl, tc⟩ := t
  simp only [sv] at h21 ⊢
  clear hI hz ht hL hrq
  go_enter Tryd.func5, Tryd.ntmps5
  go_wp2_with fail
  go_at_call 9
  refine h9.out.mono ?_
  rintro e w1 ⟨rfl, b1⟩
  replace b1 : Hid (Below w.heap.size w w1) := b1
  clear h9
  go_wp2_with fail
  go_at_call 21
  refine (h21.out _ b1.out).mono ?_
  rintro e w2 ⟨y, rfl, b2, r2, o2⟩
  have BW : Hid (Below w.heap.size w w2) := b1.out.trans (b2.mono b1.out.size)
  have hlen4 := hRt.len
  obtain ⟨gL, cL, ey, q1, q2, q3, q4⟩ := R.setc okFd r2 0 0 (by omega) (by decide)
  obtain ⟨yb, n, yc⟩ := y
  simp only [sv] at ey r2
  have hn : n = L.length := (slice_len r2.isIn).1
  injection ey with ey1 ey2 ey3
  subst ey1 ey3
  clear ey2
  have IL : Hid (∀ W, Below w2.heap.size w2 W → In EFd W (.slice (some ⟨gL, 0, none⟩) n yc) L) := fun W hb => (r2.below hb).isIn
  have SP : Hid (Sp L n) := ⟨hRt, hL54, hSz, hn⟩
  have hn4 : 4 ≤ n := by omega
  have hn54 : n ≤ 54 := by omega
  have hnc : n ≤ yc := by omega
  have h15 : Hid (∀ W, Below w2.heap.size w2 W → Calls Tryd.prog 15 #[.slice (some ⟨gL, 0, none⟩) n yc] W fun e w' => FdPost L W e w') := fun W hb => copied_any (some ⟨gL, 0, none⟩, n, yc) L W (IL.out W hb) (by omega)
  have h14 : Hid (∀ z W, In EFd W (sv z) L → Calls Tryd.prog 14 #[sv z] W fun e w' => RqPost L W e w') := fun z W hi => readRequest_any z L W hi fun f hf => (SP.out.sz.1 f hf).1
  clear q4
  clear b1 b2 r2 o2 q1 q3 hn hRt hL54 hSz hlen4 h21
  simp only [sv]
  go_wp2_with fail
  go_at_call 15
  refine (h15.out _ (Below.refl _ _)).mono ?_
  rintro e w3 ⟨⟨cb, cl, cc⟩, rfl, b3, r3, o3⟩
  have D3 : Hid (Below w2.heap.size w2 w3) := b3
  replace r3 : Hid (In EFd w3 (.slice cb cl cc) L) := R.isIn r3
  clear b3 o3
  simp only [sv]
  go_wp2_with fail
  go_at_call 14
  refine (h14.out (cb, cl, cc) _ r3.out).mono ?_
  rintro e w4 ⟨m4, s4, a4, p4, ⟨zb, zl, zc⟩, rfl, b4, g4, n4⟩
  obtain ⟨hv4, _, r4, _⟩ := g4 HQ.out
  rw [SP.out.rt.vs] at hv4
  simp only [Option.some.injEq, List.cons.injEq, and_true] at hv4
  obtain ⟨rfl, rfl, rfl, rfl⟩ := hv4
  rw [HQ.out]
  have D4 : Hid (Below w2.heap.size w2 w4) := D3.out.trans (b4.mono D3.out.size)
  have R4 : Hid (In EFd w4 (.slice zb zl zc) (L.drop 4)) := r4.isIn
  have BLK : Hid ((w4.alloc (.cells #[.string ⟨#[71, 69, 84]⟩, .string ⟨#[104, 116, 116, 112]⟩, .string ⟨#[97, 46, 116, 101, 115, 116]⟩, .string ⟨#[47, 120]⟩, .slice zb zl zc, .string ⟨#[]⟩] 26)).heap[w4.heap.size]? = some (.cells #[.string ⟨#[71, 69, 84]⟩, .string ⟨#[104, 116, 116, 112]⟩, .string ⟨#[97, 46, 116, 101, 115, 116]⟩, .string ⟨#[47, 120]⟩, .slice zb zl zc, .string ⟨#[]⟩] 26)) := by show _ = _; rw [heap_al, if_pos rfl]
  have D4a : Hid (Below w2.heap.size w2 (w4.alloc (.cells #[.string ⟨#[71, 69, 84]⟩, .string ⟨#[104, 116, 116, 112]⟩, .string ⟨#[97, 46, 116, 101, 115, 116]⟩, .string ⟨#[47, 120]⟩, .slice zb zl zc, .string ⟨#[]⟩] 26))) := D4.out.trans ((bel1 w4 _).mono D4.out.size)
  have K4 : Hid (Below w4.heap.size w4 (w4.alloc (.cells #[.string ⟨#[71, 69, 84]⟩, .string ⟨#[104, 116, 116, 112]⟩, .string ⟨#[97, 46, 116, 101, 115, 116]⟩, .string ⟨#[47, 120]⟩, .slice zb zl zc, .string ⟨#[]⟩] 26))) := bel1 w4 _
  clear b4 g4 n4 r4 r3 D3
  unfold getS httpS atestS slashX
  simp only [sv, rqv]
  have a4 : (4 : Int) ≤ (n : Int) := by omega
  have a5 : (n : Int) ≤ (yc : Int) := by omega
  have a6 : (4 : Int) ≤ (yc : Int) := by omega
  go_upto_region 5 with fail
  obtain ⟨w5, hw5⟩ : ∃ w5, w4.alloc (.cells #[.string ⟨#[71, 69, 84]⟩, .string ⟨#[104, 116, 116, 112]⟩, .string ⟨#[97, 46, 116, 101, 115, 116]⟩, .string ⟨#[47, 120]⟩, .slice zb zl zc, .string ⟨#[]⟩] 26) = w5 := ⟨_, rfl⟩
  rw [hw5] at BLK D4a K4 ⊢
  clear hw5
  have hcel : Hid (∀ W, Below w5.heap.size w5 W → (fun W => W.cell? ⟨w4.heap.size, 0, none⟩ = some (.string ⟨#[71, 69, 84]⟩) ∧ W.cell? ⟨w4.heap.size, 1, none⟩ = some (.string ⟨#[104, 116, 116, 112]⟩) ∧ W.cell? ⟨w4.heap.size, 2, none⟩ = some (.string ⟨#[97, 46, 116, 101, 115, 116]⟩) ∧ W.cell? ⟨w4.heap.size, 3, none⟩ = some (.string ⟨#[47, 120]⟩) ∧ W.cell? ⟨w4.heap.size, 4, none⟩ = some (.slice zb zl zc)) W) := fun W hb => by
    have q := (hb.block _ (heap_lt BLK.out)).trans BLK.out
    exact ⟨cell_blk q 0, cell_blk q 1, cell_blk q 2, cell_blk q 3, cell_blk q 4⟩
  go_cut [64] from 24 (fun x wx => x = .bool false ∧ Hid (Below w5.heap.size w5 wx))
  case first =>
    have hU : In EFd w5 (.slice (if yc = 4 then some ⟨gL, 0, none⟩ else some ⟨gL, 12, none⟩) (n - 4) (yc - 4)) (L.drop 4) := by
      have hi := IL.out _ D4a.out
      rw [SP.out.n] at hi ⊢
      obtain ⟨d1, d2⟩ := In.drop okFd hi 4 (by have := SP.out.rt.len; omega)
      by_cases hc : yc = 4
      · rw [if_pos hc]; exact d2 hc
      · rw [if_neg hc]; exact d1 hc
    have h17 : Hid (∀ W, Below w5.heap.size w5 W → Calls Tryd.prog 17 #[.slice zb zl zc, .slice (if yc = 4 then some ⟨gL, 0, none⟩ else some ⟨gL, 12, none⟩) (n - 4) (yc - 4)] W fun e w' => e = .returned (.bool true) ∧ Below w5.heap.size w5 w') := fun W hb => by
      refine (same_eq (zb, zl, zc) (_, _, _) (L.drop 4) W ((R4.out.below K4.out).below hb) (hU.below hb)).mono ?_
      rintro e w' ⟨rfl, h⟩
      exact ⟨rfl, hb.trans (h.mono hb.size)⟩
    clear hU
    as_aux_lemma =>
      have hIW : Below w5.heap.size w5 (w5.drew) := (Below.refl _ _).drew
      refine wp_region_held_drew (S := (fun W => W.cell? ⟨w4.heap.size, 0, none⟩ = some (.string ⟨#[71, 69, 84]⟩) ∧ W.cell? ⟨w4.heap.size, 1, none⟩ = some (.string ⟨#[104, 116, 116, 112]⟩) ∧ W.cell? ⟨w4.heap.size, 2, none⟩ = some (.string ⟨#[97, 46, 116, 101, 115, 116]⟩) ∧ W.cell? ⟨w4.heap.size, 3, none⟩ = some (.string ⟨#[47, 120]⟩) ∧ W.cell? ⟨w4.heap.size, 4, none⟩ = some (.slice zb zl zc))) (by kernel_rfl) (hcel.out _ hIW) (fun hHeld => ?_)
      generalize hWg : World.drew _ = W at hIW hHeld ⊢
      clear hWg
      refine wpAnyH_take (i := 0) (oi := { dst := some 35, op := Op.move (Operand.tmp 11), type := 27, pos := "outright.go:138", after := #[], guard := none }) (v := ?vv1) rfl (by kernel_rfl) (by kernel_rfl) (by kernel_rfl) (fun _ _ _ h => h) (Or.inl ⟨by rfl, ?hy1⟩) (by assumption) ?_
      case hy1 => (intro w hSw; (try dsimp only at hSw); go_simp; all_goals with_reducible rfl)
      try simp only [Act.put, List.setIfInBounds_toArray, List.set_cons_zero, List.set_cons_succ]
      refine wpAnyH_take (i := 1) (oi := { dst := some 36, op := Op.binOp BinOp.neq 27 (Operand.tmp 35) (Operand.const (Value.int IntKind.i64 0)) 27, type := 4, pos := "outright.go:138", after := #[{ on := 0, ground := Ground.data }], guard := none }) (v := ?vv2) rfl (by kernel_rfl) (by kernel_rfl) (by kernel_rfl) (fun _ _ _ h => h) (Or.inl ⟨by rfl, ?hy2⟩) (by assumption) ?_
      case hy2 => (intro w hSw; (try dsimp only at hSw); go_simp; all_goals with_reducible rfl)
      try simp only [Act.put, List.setIfInBounds_toArray, List.set_cons_zero, List.set_cons_succ]
      refine wpAnyH_take (i := 2) (oi := { dst := some 37, op := Op.move (Operand.tmp 36), type := 4, pos := "outright.go:138", after := #[{ on := 1, ground := Ground.data }], guard := none }) (v := ?vv3) rfl (by kernel_rfl) (by kernel_rfl) (by kernel_rfl) (fun _ _ _ h => h) (Or.inl ⟨by rfl, ?hy3⟩) (by assumption) ?_
      case hy3 => (intro w hSw; (try dsimp only at hSw); go_simp; all_goals with_reducible rfl)
      try simp only [Act.put, List.setIfInBounds_toArray, List.set_cons_zero, List.set_cons_succ]
      refine wpAnyH_take (i := 3) (oi := { dst := some 38, op := Op.fieldAddr 26 (Operand.tmp 10) 0, type := 0, pos := "outright.go:138", after := #[{ on := 2, ground := Ground.guard }], guard := some (2, false) }) (v := ?vv4) rfl (by kernel_rfl) (by kernel_rfl) (by kernel_rfl) (fun _ _ _ h => h) (Or.inl ⟨by rfl, ?hy4⟩) (by assumption) ?_
      case hy4 => (intro w hSw; (try dsimp only at hSw); go_simp; all_goals with_reducible rfl)
      try simp only [Act.put, List.setIfInBounds_toArray, List.set_cons_zero, List.set_cons_succ]
      refine wpAnyH_take (i := 4) (oi := { dst := some 39, op := Op.load 9 (Operand.tmp 38), type := 9, pos := "outright.go:138", after := #[{ on := 3, ground := Ground.data }, { on := 2, ground := Ground.guard }], guard := some (2, false) }) (v := ?vv5) rfl (by kernel_rfl) (by kernel_rfl) (by kernel_rfl) (fun _ _ _ h => h) (Or.inl ⟨by rfl, ?hy5⟩) (by assumption) ?_
      case hy5 => (intro w hSw; (try dsimp only at hSw); go_simp; all_goals with_reducible rfl)
      try simp only [Act.put, List.setIfInBounds_toArray, List.set_cons_zero, List.set_cons_succ]
      refine wpAnyH_take (i := 5) (oi := { dst := some 40, op := Op.binOp BinOp.neq 9 (Operand.tmp 39) (Operand.const (Value.string { data := #[71, 69, 84] })) 9, type := 4, pos := "outright.go:138", after := #[{ on := 4, ground := Ground.data }, { on := 2, ground := Ground.guard }], guard := some (2, false) }) (v := ?vv6) rfl (by kernel_rfl) (by kernel_rfl) (by kernel_rfl) (fun _ _ _ h => h) (Or.inl ⟨by rfl, ?hy6⟩) (by assumption) ?_
      case hy6 => (intro w hSw; (try dsimp only at hSw); go_simp; all_goals with_reducible rfl)
      try simp only [Act.put, List.setIfInBounds_toArray, List.set_cons_zero, List.set_cons_succ]
      refine wpAnyH_take (i := 6) (oi := { dst := some 41, op := Op.pick (Operand.tmp 37) (Operand.const (Value.bool true)) (Operand.tmp 40), type := 4, pos := "outright.go:138", after := #[{ on := 2, ground := Ground.data }, { on := 5, ground := Ground.data }], guard := none }) (v := ?vv7) rfl (by kernel_rfl) (by kernel_rfl) (by kernel_rfl) (fun _ _ _ h => h) (Or.inl ⟨by rfl, ?hy7⟩) (by assumption) ?_
      case hy7 => (intro w hSw; (try dsimp only at hSw); go_simp; all_goals with_reducible rfl)
      try simp only [Act.put, List.setIfInBounds_toArray, List.set_cons_zero, List.set_cons_succ]
      refine wpAnyH_take (i := 7) (oi := { dst := some 42, op := Op.move (Operand.tmp 41), type := 4, pos := "outright.go:138", after := #[{ on := 6, ground := Ground.data }, { on := 2, ground := Ground.chain }], guard := none }) (v := ?vv8) rfl (by kernel_rfl) (by kernel_rfl) (by kernel_rfl) (fun _ _ _ h => h) (Or.inl ⟨by rfl, ?hy8⟩) (by assumption) ?_
      case hy8 => (intro w hSw; (try dsimp only at hSw); go_simp; all_goals with_reducible rfl)
      try simp only [Act.put, List.setIfInBounds_toArray, List.set_cons_zero, List.set_cons_succ]
      refine wpAnyH_take (i := 8) (oi := { dst := some 43, op := Op.fieldAddr 26 (Operand.tmp 10) 1, type := 0, pos := "outright.go:138", after := #[{ on := 7, ground := Ground.guard }], guard := some (7, false) }) (v := ?vv9) rfl (by kernel_rfl) (by kernel_rfl) (by kernel_rfl) (fun _ _ _ h => h) (Or.inl ⟨by rfl, ?hy9⟩) (by assumption) ?_
      case hy9 => (intro w hSw; (try dsimp only at hSw); go_simp; all_goals with_reducible rfl)
      try simp only [Act.put, List.setIfInBounds_toArray, List.set_cons_zero, List.set_cons_succ]
      refine wpAnyH_take (i := 9) (oi := { dst := some 44, op := Op.load 9 (Operand.tmp 43), type := 9, pos := "outright.go:138", after := #[{ on := 8, ground := Ground.data }, { on := 7, ground := Ground.guard }], guard := some (7, false) }) (v := ?vv10) rfl (by kernel_rfl) (by kernel_rfl) (by kernel_rfl) (fun _ _ _ h => h) (Or.inl ⟨by rfl, ?hy10⟩) (by assumption) ?_
      case hy10 => (intro w hSw; (try dsimp only at hSw); go_simp; all_goals with_reducible rfl)
      try simp only [Act.put, List.setIfInBounds_toArray, List.set_cons_zero, List.set_cons_succ]
      refine wpAnyH_take (i := 10) (oi := { dst := some 45, op := Op.binOp BinOp.neq 9 (Operand.tmp 44) (Operand.const (Value.string { data := #[104, 116, 116, 112] })) 9, type := 4, pos := "outright.go:138", after := #[{ on := 9, ground := Ground.data }, { on := 7, ground := Ground.guard }], guard := some (7, false) }) (v := ?vv11) rfl (by kernel_rfl) (by kernel_rfl) (by kernel_rfl) (fun _ _ _ h => h) (Or.inl ⟨by rfl, ?hy11⟩) (by assumption) ?_
      case hy11 => (intro w hSw; (try dsimp only at hSw); go_simp; all_goals with_reducible rfl)
      try simp only [Act.put, List.setIfInBounds_toArray, List.set_cons_zero, List.set_cons_succ]
      refine wpAnyH_take (i := 11) (oi := { dst := some 46, op := Op.pick (Operand.tmp 42) (Operand.const (Value.bool true)) (Operand.tmp 45), type := 4, pos := "outright.go:138", after := #[{ on := 7, ground := Ground.data }, { on := 10, ground := Ground.data }], guard := none }) (v := ?vv12) rfl (by kernel_rfl) (by kernel_rfl) (by kernel_rfl) (fun _ _ _ h => h) (Or.inl ⟨by rfl, ?hy12⟩) (by assumption) ?_
      case hy12 => (intro w hSw; (try dsimp only at hSw); go_simp; all_goals with_reducible rfl)
      try simp only [Act.put, List.setIfInBounds_toArray, List.set_cons_zero, List.set_cons_succ]
      refine wpAnyH_take (i := 12) (oi := { dst := some 47, op := Op.move (Operand.tmp 46), type := 4, pos := "outright.go:138", after := #[{ on := 11, ground := Ground.data }, { on := 7, ground := Ground.chain }], guard := none }) (v := ?vv13) rfl (by kernel_rfl) (by kernel_rfl) (by kernel_rfl) (fun _ _ _ h => h) (Or.inl ⟨by rfl, ?hy13⟩) (by assumption) ?_
      case hy13 => (intro w hSw; (try dsimp only at hSw); go_simp; all_goals with_reducible rfl)
      try simp only [Act.put, List.setIfInBounds_toArray, List.set_cons_zero, List.set_cons_succ]
      refine wpAnyH_take (i := 13) (oi := { dst := some 48, op := Op.fieldAddr 26 (Operand.tmp 10) 2, type := 0, pos := "outright.go:138", after := #[{ on := 12, ground := Ground.guard }], guard := some (12, false) }) (v := ?vv14) rfl (by kernel_rfl) (by kernel_rfl) (by kernel_rfl) (fun _ _ _ h => h) (Or.inl ⟨by rfl, ?hy14⟩) (by assumption) ?_
      case hy14 => (intro w hSw; (try dsimp only at hSw); go_simp; all_goals with_reducible rfl)
      try simp only [Act.put, List.setIfInBounds_toArray, List.set_cons_zero, List.set_cons_succ]
      refine wpAnyH_take (i := 14) (oi := { dst := some 49, op := Op.load 9 (Operand.tmp 48), type := 9, pos := "outright.go:138", after := #[{ on := 13, ground := Ground.data }, { on := 12, ground := Ground.guard }], guard := some (12, false) }) (v := ?vv15) rfl (by kernel_rfl) (by kernel_rfl) (by kernel_rfl) (fun _ _ _ h => h) (Or.inl ⟨by rfl, ?hy15⟩) (by assumption) ?_
      case hy15 => (intro w hSw; (try dsimp only at hSw); go_simp; all_goals with_reducible rfl)
      try simp only [Act.put, List.setIfInBounds_toArray, List.set_cons_zero, List.set_cons_succ]
      refine wpAnyH_take (i := 15) (oi := { dst := some 50, op := Op.binOp BinOp.neq 9 (Operand.tmp 49) (Operand.const (Value.string { data := #[97, 46, 116, 101, 115, 116] })) 9, type := 4, pos := "outright.go:138", after := #[{ on := 14, ground := Ground.data }, { on := 12, ground := Ground.guard }], guard := some (12, false) }) (v := ?vv16) rfl (by kernel_rfl) (by kernel_rfl) (by kernel_rfl) (fun _ _ _ h => h) (Or.inl ⟨by rfl, ?hy16⟩) (by assumption) ?_
      case hy16 => (intro w hSw; (try dsimp only at hSw); go_simp; all_goals with_reducible rfl)
      try simp only [Act.put, List.setIfInBounds_toArray, List.set_cons_zero, List.set_cons_succ]
      refine wpAnyH_take (i := 16) (oi := { dst := some 51, op := Op.pick (Operand.tmp 47) (Operand.const (Value.bool true)) (Operand.tmp 50), type := 4, pos := "outright.go:138", after := #[{ on := 12, ground := Ground.data }, { on := 15, ground := Ground.data }], guard := none }) (v := ?vv17) rfl (by kernel_rfl) (by kernel_rfl) (by kernel_rfl) (fun _ _ _ h => h) (Or.inl ⟨by rfl, ?hy17⟩) (by assumption) ?_
      case hy17 => (intro w hSw; (try dsimp only at hSw); go_simp; all_goals with_reducible rfl)
      try simp only [Act.put, List.setIfInBounds_toArray, List.set_cons_zero, List.set_cons_succ]
      refine wpAnyH_take (i := 17) (oi := { dst := some 52, op := Op.move (Operand.tmp 51), type := 4, pos := "outright.go:138", after := #[{ on := 16, ground := Ground.data }, { on := 12, ground := Ground.chain }], guard := none }) (v := ?vv18) rfl (by kernel_rfl) (by kernel_rfl) (by kernel_rfl) (fun _ _ _ h => h) (Or.inl ⟨by rfl, ?hy18⟩) (by assumption) ?_
      case hy18 => (intro w hSw; (try dsimp only at hSw); go_simp; all_goals with_reducible rfl)
      try simp only [Act.put, List.setIfInBounds_toArray, List.set_cons_zero, List.set_cons_succ]
      refine wpAnyH_take (i := 18) (oi := { dst := some 53, op := Op.fieldAddr 26 (Operand.tmp 10) 3, type := 0, pos := "outright.go:138", after := #[{ on := 17, ground := Ground.guard }], guard := some (17, false) }) (v := ?vv19) rfl (by kernel_rfl) (by kernel_rfl) (by kernel_rfl) (fun _ _ _ h => h) (Or.inl ⟨by rfl, ?hy19⟩) (by assumption) ?_
      case hy19 => (intro w hSw; (try dsimp only at hSw); go_simp; all_goals with_reducible rfl)
      try simp only [Act.put, List.setIfInBounds_toArray, List.set_cons_zero, List.set_cons_succ]
      refine wpAnyH_take (i := 19) (oi := { dst := some 54, op := Op.load 9 (Operand.tmp 53), type := 9, pos := "outright.go:138", after := #[{ on := 18, ground := Ground.data }, { on := 17, ground := Ground.guard }], guard := some (17, false) }) (v := ?vv20) rfl (by kernel_rfl) (by kernel_rfl) (by kernel_rfl) (fun _ _ _ h => h) (Or.inl ⟨by rfl, ?hy20⟩) (by assumption) ?_
      case hy20 => (intro w hSw; (try dsimp only at hSw); go_simp; all_goals with_reducible rfl)
      try simp only [Act.put, List.setIfInBounds_toArray, List.set_cons_zero, List.set_cons_succ]
      refine wpAnyH_take (i := 20) (oi := { dst := some 55, op := Op.binOp BinOp.neq 9 (Operand.tmp 54) (Operand.const (Value.string { data := #[47, 120] })) 9, type := 4, pos := "outright.go:138", after := #[{ on := 19, ground := Ground.data }, { on := 17, ground := Ground.guard }], guard := some (17, false) }) (v := ?vv21) rfl (by kernel_rfl) (by kernel_rfl) (by kernel_rfl) (fun _ _ _ h => h) (Or.inl ⟨by rfl, ?hy21⟩) (by assumption) ?_
      case hy21 => (intro w hSw; (try dsimp only at hSw); go_simp; all_goals with_reducible rfl)
      try simp only [Act.put, List.setIfInBounds_toArray, List.set_cons_zero, List.set_cons_succ]
      refine wpAnyH_take (i := 21) (oi := { dst := some 56, op := Op.pick (Operand.tmp 52) (Operand.const (Value.bool true)) (Operand.tmp 55), type := 4, pos := "outright.go:138", after := #[{ on := 17, ground := Ground.data }, { on := 20, ground := Ground.data }], guard := none }) (v := ?vv22) rfl (by kernel_rfl) (by kernel_rfl) (by kernel_rfl) (fun _ _ _ h => h) (Or.inl ⟨by rfl, ?hy22⟩) (by assumption) ?_
      case hy22 => (intro w hSw; (try dsimp only at hSw); go_simp; all_goals with_reducible rfl)
      try simp only [Act.put, List.setIfInBounds_toArray, List.set_cons_zero, List.set_cons_succ]
      refine wpAnyH_take (i := 22) (oi := { dst := some 57, op := Op.move (Operand.tmp 56), type := 4, pos := "outright.go:138", after := #[{ on := 21, ground := Ground.data }, { on := 17, ground := Ground.chain }], guard := none }) (v := ?vv23) rfl (by kernel_rfl) (by kernel_rfl) (by kernel_rfl) (fun _ _ _ h => h) (Or.inl ⟨by rfl, ?hy23⟩) (by assumption) ?_
      case hy23 => (intro w hSw; (try dsimp only at hSw); go_simp; all_goals with_reducible rfl)
      try simp only [Act.put, List.setIfInBounds_toArray, List.set_cons_zero, List.set_cons_succ]
      refine wpAnyH_take (i := 23) (oi := { dst := some 58, op := Op.fieldAddr 26 (Operand.tmp 10) 4, type := 0, pos := "outright.go:138", after := #[{ on := 22, ground := Ground.guard }], guard := some (22, false) }) (v := ?vv24) rfl (by kernel_rfl) (by kernel_rfl) (by kernel_rfl) (fun _ _ _ h => h) (Or.inl ⟨by rfl, ?hy24⟩) (by assumption) ?_
      case hy24 => (intro w hSw; (try dsimp only at hSw); go_simp; all_goals with_reducible rfl)
      try simp only [Act.put, List.setIfInBounds_toArray, List.set_cons_zero, List.set_cons_succ]
      refine wpAnyH_take (i := 24) (oi := { dst := some 59, op := Op.load 24 (Operand.tmp 58), type := 24, pos := "outright.go:138", after := #[{ on := 23, ground := Ground.data }, { on := 22, ground := Ground.guard }], guard := some (22, false) }) (v := ?vv25) rfl (by kernel_rfl) (by kernel_rfl) (by kernel_rfl) (fun _ _ _ h => h) (Or.inl ⟨by rfl, ?hy25⟩) (by assumption) ?_
      case hy25 => (intro w hSw; (try dsimp only at hSw); go_simp; all_goals with_reducible rfl)
      try simp only [Act.put, List.setIfInBounds_toArray, List.set_cons_zero, List.set_cons_succ]
      refine wpAnyH_take (i := 25) (oi := { dst := some 60, op := Op.move (Operand.tmp 9), type := 24, pos := "outright.go:138", after := #[{ on := 22, ground := Ground.guard }], guard := some (22, false) }) (v := ?vv26) rfl (by kernel_rfl) (by kernel_rfl) (by kernel_rfl) (fun _ _ _ h => h) (Or.inl ⟨by rfl, ?hy26⟩) (by assumption) ?_
      case hy26 => (intro w hSw; (try dsimp only at hSw); go_simp; all_goals with_reducible rfl)
      try simp only [Act.put, List.setIfInBounds_toArray, List.set_cons_zero, List.set_cons_succ]
      refine wpAnyH_take (i := 26) (oi := { dst := some 61, op := Op.slice 24 (Operand.tmp 60) (some (Operand.const (Value.int IntKind.i64 4))) none none, type := 24, pos := "outright.go:138", after := #[{ on := 25, ground := Ground.data }, { on := 22, ground := Ground.guard }], guard := some (22, false) }) (v := ?vv27) rfl (by kernel_rfl) (by kernel_rfl) (by kernel_rfl) (fun _ _ _ h => h) (Or.inl ⟨by rfl, ?hy27⟩) (by assumption) ?_
      case hy27 => (intro w hSw; (try dsimp only at hSw); go_simp; all_goals with_reducible rfl)
      try simp only [Act.put, List.setIfInBounds_toArray, List.set_cons_zero, List.set_cons_succ]
      refine wpAnyH_ready (rs := [27]) (by kernel_rfl) (by simp) ?_
      refine AllReadyH.cons (o := { dst := some 62, op := Op.call { callee := Callee.value (Operand.func 17), args := #[Operand.tmp 59, Operand.tmp 61], argTypes := #[24, 24] }, type := 4, pos := "outright.go:138", after := #[{ on := 24, ground := Ground.data }, { on := 26, ground := Ground.data }, { on := 22, ground := Ground.chain }, { on := 22, ground := Ground.guard }], guard := some (22, false) }) rfl (fun K hK => ?_) AllReadyH.nil
      go_simp
      refine (h17.out W hIW).mono ?_
      rintro e' Wx ⟨rfl, hIX⟩
      generalize (if yc = 4 then some (⟨gL, 0, none⟩ : Addr) else some ⟨gL, 12, none⟩) = U1
      go_wp2_with fail
      refine hK.out _ _ (hcel.out _ hIX) (fun hHeld => ?_)
      clear hK K hIW
      rename World => Wzz
      try simp only [Act.put, List.setIfInBounds_toArray, List.set_cons_zero, List.set_cons_succ]
      refine wpAnyH_take (i := 28) (oi := { dst := some 63, op := Op.unOp UnOp.not 4 (Operand.tmp 62), type := 4, pos := "outright.go:138", after := #[{ on := 27, ground := Ground.data }, { on := 22, ground := Ground.guard }], guard := some (22, false) }) (v := ?vv28) rfl (by kernel_rfl) (by kernel_rfl) (by kernel_rfl) (fun _ _ _ h => h) (Or.inl ⟨by rfl, ?hy28⟩) (by assumption) ?_
      case hy28 => (intro w hSw; (try dsimp only at hSw); go_simp; all_goals with_reducible rfl)
      try simp only [Act.put, List.setIfInBounds_toArray, List.set_cons_zero, List.set_cons_succ]
      refine wpAnyH_take (i := 29) (oi := { dst := some 64, op := Op.pick (Operand.tmp 57) (Operand.const (Value.bool true)) (Operand.tmp 63), type := 4, pos := "outright.go:138", after := #[{ on := 22, ground := Ground.data }, { on := 28, ground := Ground.data }], guard := none }) (v := ?vv29) rfl (by kernel_rfl) (by kernel_rfl) (by kernel_rfl) (fun _ _ _ h => h) (Or.inl ⟨by rfl, ?hy29⟩) (by assumption) ?_
      case hy29 => (intro w hSw; (try dsimp only at hSw); go_simp; all_goals with_reducible rfl)
      try simp only [Act.put, List.setIfInBounds_toArray, List.set_cons_zero, List.set_cons_succ]
      refine wpAnyH_done (by kernel_rfl) ?_ _
      go_wp2_with fail
      go_meet
      exact ⟨by first | rfl | simp, hIX⟩
  case rest =>
    obtain ⟨hx, D6⟩ := hcut
    subst hx
    have D6' : Hid (Below w2.heap.size w2 wc) := D4a.out.trans (D6.out.mono D4a.out.size)
    clear D6 hcel D4 D4a K4 BLK R4
    obtain ⟨M, hM⟩ : ∃ M : Nat, n = M + 4 := ⟨n - 4, by omega⟩
    have hM' : (n : Int) - 4 = (M : Int) := by omega
    obtain ⟨w6, hw6⟩ : ∃ x, wc = x := ⟨_, rfl⟩
    have D6 : Hid (Below w2.heap.size w2 w6) := by rw [← hw6]; exact D6'.out
    have HM : Hid (n = M + 4) := hM
    clear hM D6'
    go_upto_if 71 with fail
    go_cut [14] from 24 (fun x wx => ∃ b : Nat, x = .int .i64 (b : Int) ∧ 4 ≤ b ∧ b ≤ n ∧ wx = w6)
    case first =>
      by_cases hM0 : 0 < M
      · have h0 : (0 : Int) < (M : Int) := by omega
        obtain ⟨r, hr⟩ : ∃ r, A % (M + 1) = r := ⟨_, rfl⟩
        have hrM : r ≤ M := by have := Nat.mod_lt A (show M + 1 > 0 by omega); omega
        have htm : (A : Int).tmod ((M : Int) + 1) = (r : Int) := by
          rw [Int.tmod_eq_emod_of_nonneg (by omega), ← hr, Int.natCast_emod]
          rfl
        have hz : ¬ (M : Int) + 1 = 0 := by omega
        have hM54 : M ≤ 50 := by have := HM.out; omega
        clear hr
        go_wp2_with fail
        go_meet
        exact ⟨4 + r, by first | rfl | (push_cast; rfl) | simp, by omega, by have := HM.out; omega, rfl⟩
      · have h0 : ¬ (0 : Int) < (M : Int) := by omega
        go_wp2_with fail
        go_meet
        exact ⟨4, rfl, by omega, by omega, rfl⟩
    case rest =>
      obtain ⟨b, rfl, hb4, hbn, hwx⟩ := hcut
      clear hw6
      have D7 : Hid (Below w2.heap.size w2 wc) := by rw [hwx]; exact D6.out
      clear hwx D6
      have hkn : k < L.length := by rw [← SP.out.n]; omega
      obtain ⟨xk, hxk⟩ : ∃ x, L[k] = x := ⟨_, rfl⟩
      have HX : Hid (xk ∈ L ∧ wrongB xk = false ∧ nofB xk = true) := by
        rw [← hxk]
        exact ⟨List.getElem_mem hkn, wrong_at SP.out.rt.ok k hkn, nof_pseudo (SP.out.rt.four k hkn (by omega))⟩
      have hck : Hid (∀ W, Below w2.heap.size w2 W → W.cell? ⟨gL, k * 3, none⟩ = some (.string xk.n) ∧ W.cell? ⟨gL, k * 3 + 1, none⟩ = some (.string xk.v) ∧ W.cell? ⟨gL, k * 3 + 2, none⟩ = some (.bool xk.nv)) := fun W hb => by
        obtain ⟨Bk, off, cap, e, hc⟩ := (IL.out W hb).fd k hkn
        injection e with e1 e2 e3
        simp only [Option.some.injEq, Addr.mk.injEq, and_true] at e1
        obtain ⟨rfl, rfl⟩ := e1
        have := hc W (Below.refl _ _)
        rw [hxk] at this
        simpa using this
      have h23 : Hid (∀ (i : Nat), i ≤ n → ∀ (f : Fd), (f.n.size ≤ 140737488355328 ∧ f.v.size ≤ 140737488355328) → ∀ W, Below w2.heap.size w2 W → Calls Tryd.prog 23 #[.slice (some ⟨gL, 0, none⟩) n yc, .int .i64 (i : Int), .agg #[.string f.n, .string f.v, .bool f.nv]] W fun e w' => FdPost (withL L i f) W e w') := fun i hi f hf W hb => by
        have h := IL.out W hb
        rw [SP.out.n] at h hi ⊢
        exact with_any gL 0 yc L i f W h hi (by have := SP.out.len; omega)
      have h22 : Hid (∀ (i : Nat), i ≤ n → ∀ (f : Fd), (f.n.size ≤ 140737488355328 ∧ f.v.size ≤ 140737488355328) → ∀ (E : Int), E ≠ 0 → rqE (withL L i f) = E → rsE (withL L i f) ≠ 0 → ∀ (z : SV) W, In EFd W (sv z) (withL L i f) → Calls Tryd.prog 22 #[sv z, .int .i64 E] W fun e w' => e = .returned (.bool true) ∧ Below W.heap.size W w') := fun i hi f hf E h0 h1 h2 z W hin => refused_any z _ E W hin (with_sz (by rw [← SP.out.n]; exact hi) SP.out.sz (by have := SP.out.len; omega) hf) h1 h0 h2
      obtain ⟨c0, c1, c2⟩ := hck.out _ D7.out
      have a7 : (k : Int) < (n : Int) := by omega
      have hI10 : Hid (In EFd (wc.alloc (.cells #[.string ⟨#[99, 111, 110, 110, 101, 99, 116, 105, 111, 110]⟩, .string ⟨#[99, 108, 111, 115, 101]⟩, .bool false, .string ⟨#[107, 101, 101, 112, 45, 97, 108, 105, 118, 101]⟩, .string ⟨#[]⟩, .bool false, .string ⟨#[112, 114, 111, 120, 121, 45, 99, 111, 110, 110, 101, 99, 116, 105, 111, 110]⟩, .string ⟨#[]⟩, .bool false, .string ⟨#[116, 114, 97, 110, 115, 102, 101, 114, 45, 101, 110, 99, 111, 100, 105, 110, 103]⟩, .string ⟨#[99, 104, 117, 110, 107, 101, 100]⟩, .bool false, .string ⟨#[117, 112, 103, 114, 97, 100, 101]⟩, .string ⟨#[104, 50, 99]⟩, .bool false, .string ⟨#[116, 101]⟩, .string ⟨#[103, 122, 105, 112]⟩, .bool false, .string ⟨#[116, 101]⟩, .string ⟨#[]⟩, .bool false, .string ⟨#[58, 120]⟩, .string ⟨#[121]⟩, .bool false, .string ⟨#[58, 115, 116, 97, 116, 117, 115]⟩, .string ⟨#[50, 48, 48]⟩, .bool false, .string xk.n, .string xk.v, .bool xk.nv] 34)) (.slice (some ⟨wc.heap.size, 0, none⟩) 10 10) (barL ++ [xk])) := R.isIn (R.whole okFd (barL ++ [xk]) (by simp [barL]) (by rw [heap_al, if_pos rfl]; rfl) rfl)
      have DB : Hid (Below w2.heap.size w2 (wc.alloc (.cells #[.string ⟨#[99, 111, 110, 110, 101, 99, 116, 105, 111, 110]⟩, .string ⟨#[99, 108, 111, 115, 101]⟩, .bool false, .string ⟨#[107, 101, 101, 112, 45, 97, 108, 105, 118, 101]⟩, .string ⟨#[]⟩, .bool false, .string ⟨#[112, 114, 111, 120, 121, 45, 99, 111, 110, 110, 101, 99, 116, 105, 111, 110]⟩, .string ⟨#[]⟩, .bool false, .string ⟨#[116, 114, 97, 110, 115, 102, 101, 114, 45, 101, 110, 99, 111, 100, 105, 110, 103]⟩, .string ⟨#[99, 104, 117, 110, 107, 101, 100]⟩, .bool false, .string ⟨#[117, 112, 103, 114, 97, 100, 101]⟩, .string ⟨#[104, 50, 99]⟩, .bool false, .string ⟨#[116, 101]⟩, .string ⟨#[103, 122, 105, 112]⟩, .bool false, .string ⟨#[116, 101]⟩, .string ⟨#[]⟩, .bool false, .string ⟨#[58, 120]⟩, .string ⟨#[121]⟩, .bool false, .string ⟨#[58, 115, 116, 97, 116, 117, 115]⟩, .string ⟨#[50, 48, 48]⟩, .bool false, .string xk.n, .string xk.v, .bool xk.nv] 34))) := D7.out.trans ((bel1 wc _).mono D7.out.size)
      have hbar : Hid (∀ f ∈ barL ++ [xk], wrongB f = false ∧ nofB f = true ∧ f.n.size ≤ 140737488355328 ∧ f.v.size ≤ 140737488355328) := fun f hf => by
        rcases List.mem_append.1 hf with hf | hf
        · have h1 := bar_ok f hf
          have h2 := bar_sz f (List.mem_append_left _ hf)
          exact ⟨h1.1, h1.2, by omega, by omega⟩
        · simp only [List.mem_cons, List.not_mem_nil, or_false] at hf
          subst hf
          exact ⟨HX.out.2.1, HX.out.2.2, SP.out.sz.1 _ HX.out.1⟩
      clear hxk hkn
      go_wp2_with fail
      go_loopw [16] (fun iv wr => ∃ i : Nat, iv = .int .i64 (i : Int) ∧ i ≤ 10 ∧ Hid (Below (wc.alloc (.cells #[.string ⟨#[99, 111, 110, 110, 101, 99, 116, 105, 111, 110]⟩, .string ⟨#[99, 108, 111, 115, 101]⟩, .bool false, .string ⟨#[107, 101, 101, 112, 45, 97, 108, 105, 118, 101]⟩, .string ⟨#[]⟩, .bool false, .string ⟨#[112, 114, 111, 120, 121, 45, 99, 111, 110, 110, 101, 99, 116, 105, 111, 110]⟩, .string ⟨#[]⟩, .bool false, .string ⟨#[116, 114, 97, 110, 115, 102, 101, 114, 45, 101, 110, 99, 111, 100, 105, 110, 103]⟩, .string ⟨#[99, 104, 117, 110, 107, 101, 100]⟩, .bool false, .string ⟨#[117, 112, 103, 114, 97, 100, 101]⟩, .string ⟨#[104, 50, 99]⟩, .bool false, .string ⟨#[116, 101]⟩, .string ⟨#[103, 122, 105, 112]⟩, .bool false, .string ⟨#[116, 101]⟩, .string ⟨#[]⟩, .bool false, .string ⟨#[58, 120]⟩, .string ⟨#[121]⟩, .bool false, .string ⟨#[58, 115, 116, 97, 116, 117, 115]⟩, .string ⟨#[50, 48, 48]⟩, .bool false, .string xk.n, .string xk.v, .bool xk.nv] 34)).heap.size (wc.alloc (.cells #[.string ⟨#[99, 111, 110, 110, 101, 99, 116, 105, 111, 110]⟩, .string ⟨#[99, 108, 111, 115, 101]⟩, .bool false, .string ⟨#[107, 101, 101, 112, 45, 97, 108, 105, 118, 101]⟩, .string ⟨#[]⟩, .bool false, .string ⟨#[112, 114, 111, 120, 121, 45, 99, 111, 110, 110, 101, 99, 116, 105, 111, 110]⟩, .string ⟨#[]⟩, .bool false, .string ⟨#[116, 114, 97, 110, 115, 102, 101, 114, 45, 101, 110, 99, 111, 100, 105, 110, 103]⟩, .string ⟨#[99, 104, 117, 110, 107, 101, 100]⟩, .bool false, .string ⟨#[117, 112, 103, 114, 97, 100, 101]⟩, .string ⟨#[104, 50, 99]⟩, .bool false, .string ⟨#[116, 101]⟩, .string ⟨#[103, 122, 105, 112]⟩, .bool false, .string ⟨#[116, 101]⟩, .string ⟨#[]⟩, .bool false, .string ⟨#[58, 120]⟩, .string ⟨#[121]⟩, .bool false, .string ⟨#[58, 115, 116, 97, 116, 117, 115]⟩, .string ⟨#[50, 48, 48]⟩, .bool false, .string xk.n, .string xk.v, .bool xk.nv] 34)) wr)) (fun iv _ => 10 - (intOf iv).toNat)
      case atStart => exact ⟨0, rfl, by omega, Below.refl _ _⟩
      case round =>
        obtain ⟨i, rfl, hi, hbr⟩ := hrel
        by_cases hi10 : i < 10
        · have hilt : i < (barL ++ [xk]).length := by simpa [barL] using hi10
          obtain ⟨Bk, off, cap, e, hc⟩ := hI10.out.fd i hilt
          injection e with e1 e2 e3
          simp only [Option.some.injEq, Addr.mk.injEq, and_true] at e1
          obtain ⟨rfl, rfl⟩ := e1
          clear e2 e3
          obtain ⟨d0, d1, d2⟩ := hc wr hbr.out
          simp only [Nat.zero_add] at d0 d1 d2
          have hfx := hbar.out _ (List.getElem_mem hilt)
          obtain ⟨x, hx⟩ : ∃ x, (barL ++ [xk])[i] = x := ⟨_, rfl⟩
          rw [hx] at d0 d1 d2 hfx
          have HFX : Hid (wrongB x = false ∧ nofB x = true ∧ x.n.size ≤ 140737488355328 ∧ x.v.size ≤ 140737488355328) := hfx
          have Dr : Hid (Below w2.heap.size w2 wr) := DB.out.trans (hbr.out.mono DB.out.size)
          have hi' : (i : Int) < 10 := by omega
          clear hc hx hfx
          go_wp2_with fail
          go_at_call 23
          refine (h23.out b hbn x HFX.out.2.2 _ Dr.out).mono ?_
          rintro e wX ⟨⟨ub, ul, uc⟩, rfl, bX, rX, oX⟩
          have bX2 : Hid (Below (wc.alloc (.cells #[.string ⟨#[99, 111, 110, 110, 101, 99, 116, 105, 111, 110]⟩, .string ⟨#[99, 108, 111, 115, 101]⟩, .bool false, .string ⟨#[107, 101, 101, 112, 45, 97, 108, 105, 118, 101]⟩, .string ⟨#[]⟩, .bool false, .string ⟨#[112, 114, 111, 120, 121, 45, 99, 111, 110, 110, 101, 99, 116, 105, 111, 110]⟩, .string ⟨#[]⟩, .bool false, .string ⟨#[116, 114, 97, 110, 115, 102, 101, 114, 45, 101, 110, 99, 111, 100, 105, 110, 103]⟩, .string ⟨#[99, 104, 117, 110, 107, 101, 100]⟩, .bool false, .string ⟨#[117, 112, 103, 114, 97, 100, 101]⟩, .string ⟨#[104, 50, 99]⟩, .bool false, .string ⟨#[116, 101]⟩, .string ⟨#[103, 122, 105, 112]⟩, .bool false, .string ⟨#[116, 101]⟩, .string ⟨#[]⟩, .bool false, .string ⟨#[58, 120]⟩, .string ⟨#[121]⟩, .bool false, .string ⟨#[58, 115, 116, 97, 116, 117, 115]⟩, .string ⟨#[50, 48, 48]⟩, .bool false, .string xk.n, .string xk.v, .bool xk.nv] 34)).heap.size (wc.alloc (.cells #[.string ⟨#[99, 111, 110, 110, 101, 99, 116, 105, 111, 110]⟩, .string ⟨#[99, 108, 111, 115, 101]⟩, .bool false, .string ⟨#[107, 101, 101, 112, 45, 97, 108, 105, 118, 101]⟩, .string ⟨#[]⟩, .bool false, .string ⟨#[112, 114, 111, 120, 121, 45, 99, 111, 110, 110, 101, 99, 116, 105, 111, 110]⟩, .string ⟨#[]⟩, .bool false, .string ⟨#[116, 114, 97, 110, 115, 102, 101, 114, 45, 101, 110, 99, 111, 100, 105, 110, 103]⟩, .string ⟨#[99, 104, 117, 110, 107, 101, 100]⟩, .bool false, .string ⟨#[117, 112, 103, 114, 97, 100, 101]⟩, .string ⟨#[104, 50, 99]⟩, .bool false, .string ⟨#[116, 101]⟩, .string ⟨#[103, 122, 105, 112]⟩, .bool false, .string ⟨#[116, 101]⟩, .string ⟨#[]⟩, .bool false, .string ⟨#[58, 120]⟩, .string ⟨#[121]⟩, .bool false, .string ⟨#[58, 115, 116, 97, 116, 117, 115]⟩, .string ⟨#[50, 48, 48]⟩, .bool false, .string xk.n, .string xk.v, .bool xk.nv] 34)) wX) := hbr.out.trans (bX.mono hbr.out.size)
          have hR : Hid (Calls Tryd.prog 22 #[.slice ub ul uc, .int .i64 131] wX fun e w' => e = .returned (.bool true) ∧ Below wX.heap.size wX w') := by
            have hs := sp_barred SP.out.rt (by have := SP.out.len; omega) hb4 (by rw [← SP.out.n]; exact hbn) HFX.out.1 HFX.out.2.1
            exact h22.out b hbn x HFX.out.2.2 131 (by decide) hs.1 hs.2 (ub, ul, uc) wX rX.isIn
          clear bX rX oX d0 d1 d2
          simp only [sv]
          go_wp2_with fail
          go_at_call 22
          refine hR.out.mono ?_
          rintro e wY ⟨rfl, bY⟩
          have bY2 : Hid (Below (wc.alloc (.cells #[.string ⟨#[99, 111, 110, 110, 101, 99, 116, 105, 111, 110]⟩, .string ⟨#[99, 108, 111, 115, 101]⟩, .bool false, .string ⟨#[107, 101, 101, 112, 45, 97, 108, 105, 118, 101]⟩, .string ⟨#[]⟩, .bool false, .string ⟨#[112, 114, 111, 120, 121, 45, 99, 111, 110, 110, 101, 99, 116, 105, 111, 110]⟩, .string ⟨#[]⟩, .bool false, .string ⟨#[116, 114, 97, 110, 115, 102, 101, 114, 45, 101, 110, 99, 111, 100, 105, 110, 103]⟩, .string ⟨#[99, 104, 117, 110, 107, 101, 100]⟩, .bool false, .string ⟨#[117, 112, 103, 114, 97, 100, 101]⟩, .string ⟨#[104, 50, 99]⟩, .bool false, .string ⟨#[116, 101]⟩, .string ⟨#[103, 122, 105, 112]⟩, .bool false, .string ⟨#[116, 101]⟩, .string ⟨#[]⟩, .bool false, .string ⟨#[58, 120]⟩, .string ⟨#[121]⟩, .bool false, .string ⟨#[58, 115, 116, 97, 116, 117, 115]⟩, .string ⟨#[50, 48, 48]⟩, .bool false, .string xk.n, .string xk.v, .bool xk.nv] 34)).heap.size (wc.alloc (.cells #[.string ⟨#[99, 111, 110, 110, 101, 99, 116, 105, 111, 110]⟩, .string ⟨#[99, 108, 111, 115, 101]⟩, .bool false, .string ⟨#[107, 101, 101, 112, 45, 97, 108, 105, 118, 101]⟩, .string ⟨#[]⟩, .bool false, .string ⟨#[112, 114, 111, 120, 121, 45, 99, 111, 110, 110, 101, 99, 116, 105, 111, 110]⟩, .string ⟨#[]⟩, .bool false, .string ⟨#[116, 114, 97, 110, 115, 102, 101, 114, 45, 101, 110, 99, 111, 100, 105, 110, 103]⟩, .string ⟨#[99, 104, 117, 110, 107, 101, 100]⟩, .bool false, .string ⟨#[117, 112, 103, 114, 97, 100, 101]⟩, .string ⟨#[104, 50, 99]⟩, .bool false, .string ⟨#[116, 101]⟩, .string ⟨#[103, 122, 105, 112]⟩, .bool false, .string ⟨#[116, 101]⟩, .string ⟨#[]⟩, .bool false, .string ⟨#[58, 120]⟩, .string ⟨#[121]⟩, .bool false, .string ⟨#[58, 115, 116, 97, 116, 117, 115]⟩, .string ⟨#[50, 48, 48]⟩, .bool false, .string xk.n, .string xk.v, .bool xk.nv] 34)) wY) := bX2.out.trans (bY.mono bX2.out.size)
          clear bY hR bX2
          go_wp2_with fail
          go_roundw
          case rel => exact ⟨i + 1, by simp, by omega, bY2.out⟩
          case measure => simp [intOf]; omega
        · obtain rfl : i = 10 := by omega
          have hi' : ¬ (10 : Int) < 10 := by omega
          have D8 : Hid (Below w2.heap.size w2 wr) := DB.out.trans (hbr.out.mono DB.out.size)
          clear hbr DB hI10 hbar c0 c1 c2 D7
          obtain ⟨w8, hw8⟩ : ∃ x, x = wr := ⟨_, rfl⟩
          subst hw8
          have hI9 : Hid (In EFd (w8.alloc (.cells #[.string ⟨#[88, 120]⟩, .string ⟨#[]⟩, .bool false, .string ⟨#[]⟩, .string ⟨#[]⟩, .bool false, .string ⟨#[58]⟩, .string ⟨#[]⟩, .bool false, .string ⟨#[97, 32, 98]⟩, .string ⟨#[]⟩, .bool false, .string ⟨#[120]⟩, .string ⟨#[32, 118]⟩, .bool false, .string ⟨#[120]⟩, .string ⟨#[118, 9]⟩, .bool false, .string ⟨#[120]⟩, .string ⟨#[118, 0, 119]⟩, .bool false, .string ⟨#[120, 195]⟩, .string ⟨#[]⟩, .bool false, .string ⟨#[58, 77, 101, 116, 104, 111, 100]⟩, .string ⟨#[71, 69, 84]⟩, .bool false] 34)) (.slice (some ⟨w8.heap.size, 0, none⟩) 9 9) badL) := R.isIn (R.whole okFd badL (by decide) (by rw [heap_al, if_pos rfl]; rfl) rfl)
          have DD : Hid (Below w2.heap.size w2 (w8.alloc (.cells #[.string ⟨#[88, 120]⟩, .string ⟨#[]⟩, .bool false, .string ⟨#[]⟩, .string ⟨#[]⟩, .bool false, .string ⟨#[58]⟩, .string ⟨#[]⟩, .bool false, .string ⟨#[97, 32, 98]⟩, .string ⟨#[]⟩, .bool false, .string ⟨#[120]⟩, .string ⟨#[32, 118]⟩, .bool false, .string ⟨#[120]⟩, .string ⟨#[118, 9]⟩, .bool false, .string ⟨#[120]⟩, .string ⟨#[118, 0, 119]⟩, .bool false, .string ⟨#[120, 195]⟩, .string ⟨#[]⟩, .bool false, .string ⟨#[58, 77, 101, 116, 104, 111, 100]⟩, .string ⟨#[71, 69, 84]⟩, .bool false] 34))) := D8.out.trans ((bel1 w8 _).mono D8.out.size)
          have hbad : Hid (∀ f ∈ badL, wrongB f = true ∧ f.n.size ≤ 140737488355328 ∧ f.v.size ≤ 140737488355328) := fun f hf => by
            have h2 := bar_sz f (List.mem_append_right _ hf)
            exact ⟨bad_ok f hf, by omega, by omega⟩
          go_wp2_with fail
          go_loopw [18] (fun iv wq => ∃ i : Nat, iv = .int .i64 (i : Int) ∧ i ≤ 9 ∧ Hid (Below (w8.alloc (.cells #[.string ⟨#[88, 120]⟩, .string ⟨#[]⟩, .bool false, .string ⟨#[]⟩, .string ⟨#[]⟩, .bool false, .string ⟨#[58]⟩, .string ⟨#[]⟩, .bool false, .string ⟨#[97, 32, 98]⟩, .string ⟨#[]⟩, .bool false, .string ⟨#[120]⟩, .string ⟨#[32, 118]⟩, .bool false, .string ⟨#[120]⟩, .string ⟨#[118, 9]⟩, .bool false, .string ⟨#[120]⟩, .string ⟨#[118, 0, 119]⟩, .bool false, .string ⟨#[120, 195]⟩, .string ⟨#[]⟩, .bool false, .string ⟨#[58, 77, 101, 116, 104, 111, 100]⟩, .string ⟨#[71, 69, 84]⟩, .bool false] 34)).heap.size (w8.alloc (.cells #[.string ⟨#[88, 120]⟩, .string ⟨#[]⟩, .bool false, .string ⟨#[]⟩, .string ⟨#[]⟩, .bool false, .string ⟨#[58]⟩, .string ⟨#[]⟩, .bool false, .string ⟨#[97, 32, 98]⟩, .string ⟨#[]⟩, .bool false, .string ⟨#[120]⟩, .string ⟨#[32, 118]⟩, .bool false, .string ⟨#[120]⟩, .string ⟨#[118, 9]⟩, .bool false, .string ⟨#[120]⟩, .string ⟨#[118, 0, 119]⟩, .bool false, .string ⟨#[120, 195]⟩, .string ⟨#[]⟩, .bool false, .string ⟨#[58, 77, 101, 116, 104, 111, 100]⟩, .string ⟨#[71, 69, 84]⟩, .bool false] 34)) wq)) (fun iv _ => 9 - (intOf iv).toNat)
          case atStart => exact ⟨0, rfl, by omega, Below.refl _ _⟩
          case round =>
            obtain ⟨i, rfl, hi, hbr⟩ := hrel
            by_cases hi9 : i < 9
            · have hilt : i < badL.length := by simpa [badL] using hi9
              obtain ⟨Bk, off, cap, e, hc⟩ := hI9.out.fd i hilt
              injection e with e1 e2 e3
              simp only [Option.some.injEq, Addr.mk.injEq, and_true] at e1
              obtain ⟨rfl, rfl⟩ := e1
              clear e2 e3
              obtain ⟨d0, d1, d2⟩ := hc wr hbr.out
              simp only [Nat.zero_add] at d0 d1 d2
              have hfx := hbad.out _ (List.getElem_mem hilt)
              obtain ⟨x, hx⟩ : ∃ x, badL[i] = x := ⟨_, rfl⟩
              rw [hx] at d0 d1 d2 hfx
              have HFX : Hid (wrongB x = true ∧ x.n.size ≤ 140737488355328 ∧ x.v.size ≤ 140737488355328) := hfx
              have Dr : Hid (Below w2.heap.size w2 wr) := DD.out.trans (hbr.out.mono DD.out.size)
              have hi' : (i : Int) < 9 := by omega
              clear hc hx hfx
              go_wp2_with fail
              go_at_call 23
              refine (h23.out b hbn x HFX.out.2 _ Dr.out).mono ?_
              rintro e wX ⟨⟨ub, ul, uc⟩, rfl, bX, rX, oX⟩
              have bX2 : Hid (Below (w8.alloc (.cells #[.string ⟨#[88, 120]⟩, .string ⟨#[]⟩, .bool false, .string ⟨#[]⟩, .string ⟨#[]⟩, .bool false, .string ⟨#[58]⟩, .string ⟨#[]⟩, .bool false, .string ⟨#[97, 32, 98]⟩, .string ⟨#[]⟩, .bool false, .string ⟨#[120]⟩, .string ⟨#[32, 118]⟩, .bool false, .string ⟨#[120]⟩, .string ⟨#[118, 9]⟩, .bool false, .string ⟨#[120]⟩, .string ⟨#[118, 0, 119]⟩, .bool false, .string ⟨#[120, 195]⟩, .string ⟨#[]⟩, .bool false, .string ⟨#[58, 77, 101, 116, 104, 111, 100]⟩, .string ⟨#[71, 69, 84]⟩, .bool false] 34)).heap.size (w8.alloc (.cells #[.string ⟨#[88, 120]⟩, .string ⟨#[]⟩, .bool false, .string ⟨#[]⟩, .string ⟨#[]⟩, .bool false, .string ⟨#[58]⟩, .string ⟨#[]⟩, .bool false, .string ⟨#[97, 32, 98]⟩, .string ⟨#[]⟩, .bool false, .string ⟨#[120]⟩, .string ⟨#[32, 118]⟩, .bool false, .string ⟨#[120]⟩, .string ⟨#[118, 9]⟩, .bool false, .string ⟨#[120]⟩, .string ⟨#[118, 0, 119]⟩, .bool false, .string ⟨#[120, 195]⟩, .string ⟨#[]⟩, .bool false, .string ⟨#[58, 77, 101, 116, 104, 111, 100]⟩, .string ⟨#[71, 69, 84]⟩, .bool false] 34)) wX) := hbr.out.trans (bX.mono hbr.out.size)
              have hR : Hid (Calls Tryd.prog 22 #[.slice ub ul uc, .int .i64 130] wX fun e w' => e = .returned (.bool true) ∧ Below wX.heap.size wX w') := by
                have hs := sp_bad (L := L) (by have := SP.out.len; omega) (by rw [← SP.out.n]; exact hbn) HFX.out.1
                exact h22.out b hbn x HFX.out.2 130 (by decide) hs.1 hs.2 (ub, ul, uc) wX rX.isIn
              clear bX rX oX d0 d1 d2
              simp only [sv]
              go_wp2_with fail
              go_at_call 22
              refine hR.out.mono ?_
              rintro e wY ⟨rfl, bY⟩
              have bY2 : Hid (Below (w8.alloc (.cells #[.string ⟨#[88, 120]⟩, .string ⟨#[]⟩, .bool false, .string ⟨#[]⟩, .string ⟨#[]⟩, .bool false, .string ⟨#[58]⟩, .string ⟨#[]⟩, .bool false, .string ⟨#[97, 32, 98]⟩, .string ⟨#[]⟩, .bool false, .string ⟨#[120]⟩, .string ⟨#[32, 118]⟩, .bool false, .string ⟨#[120]⟩, .string ⟨#[118, 9]⟩, .bool false, .string ⟨#[120]⟩, .string ⟨#[118, 0, 119]⟩, .bool false, .string ⟨#[120, 195]⟩, .string ⟨#[]⟩, .bool false, .string ⟨#[58, 77, 101, 116, 104, 111, 100]⟩, .string ⟨#[71, 69, 84]⟩, .bool false] 34)).heap.size (w8.alloc (.cells #[.string ⟨#[88, 120]⟩, .string ⟨#[]⟩, .bool false, .string ⟨#[]⟩, .string ⟨#[]⟩, .bool false, .string ⟨#[58]⟩, .string ⟨#[]⟩, .bool false, .string ⟨#[97, 32, 98]⟩, .string ⟨#[]⟩, .bool false, .string ⟨#[120]⟩, .string ⟨#[32, 118]⟩, .bool false, .string ⟨#[120]⟩, .string ⟨#[118, 9]⟩, .bool false, .string ⟨#[120]⟩, .string ⟨#[118, 0, 119]⟩, .bool false, .string ⟨#[120, 195]⟩, .string ⟨#[]⟩, .bool false, .string ⟨#[58, 77, 101, 116, 104, 111, 100]⟩, .string ⟨#[71, 69, 84]⟩, .bool false] 34)) wY) := bX2.out.trans (bY.mono bX2.out.size)
              clear bY hR bX2
              go_wp2_with fail
              go_roundw
              case rel => exact ⟨i + 1, by simp, by omega, bY2.out⟩
              case measure => simp [intOf]; omega
            · obtain rfl : i = 9 := by omega
              have hi' : ¬ (9 : Int) < 9 := by omega
              have D9 : Hid (Below w2.heap.size w2 wr) := DD.out.trans (hbr.out.mono DD.out.size)
              clear hbr DD hI9 hbad D8
              obtain ⟨w9, hw9⟩ : ∃ x, x = wr := ⟨_, rfl⟩
              subst hw9
              have h24 : Hid (Calls Tryd.prog 24 #[.slice (some ⟨gL, 0, none⟩) n yc, .int .i64 (k : Int)] w9 fun e w' => FdPost (L.take k ++ L.drop (k + 1)) w9 e w') := without_any gL 0 yc n L k w9 (IL.out _ D9.out) hk3 SP.out.rt.len (by have := SP.out.len; omega)
              go_wp2_with fail
              go_at_call 24
              refine h24.out.mono ?_
              rintro e wX ⟨⟨ub, ul, uc⟩, rfl, bX, rX, oX⟩
              have DX : Hid (Below w2.heap.size w2 wX) := D9.out.trans (bX.mono D9.out.size)
              have hR : Hid (Calls Tryd.prog 22 #[.slice ub ul uc, .int .i64 131] wX fun e w' => e = .returned (.bool true) ∧ Below wX.heap.size wX w') := by
                have hs := sp_without SP.out.rt (by have := SP.out.len; omega) hk3
                refine refused_any (ub, ul, uc) _ 131 wX rX.isIn ⟨fun f hf => ?_, ?_⟩ hs.1 (by decide) hs.2
                · rcases List.mem_append.1 hf with hf | hf
                  · exact SP.out.sz.1 f (List.mem_of_mem_take hf)
                  · exact SP.out.sz.1 f (List.mem_of_mem_drop hf)
                · have := SP.out.len
                  rw [List.length_append, List.length_take, List.length_drop]
                  omega
              clear bX rX oX h24 D9
              simp only [sv]
              go_wp2_with fail
              go_at_call 22
              refine hR.out.mono ?_
              rintro e wY ⟨rfl, bY⟩
              have DY : Hid (Below w2.heap.size w2 wY) := DX.out.trans (bY.mono DX.out.size)
              clear bY hR DX
              obtain ⟨c0, c1, c2⟩ := hck.out _ DY.out
              have HXs : Hid (xk.n.size ≤ 140737488355328 ∧ xk.v.size ≤ 140737488355328) := SP.out.sz.1 _ HX.out.1
              go_wp2_with fail
              go_at_call 23
              refine (h23.out 0 (by omega) xk HXs.out _ DY.out).mono ?_
              rintro e wP ⟨⟨ub, ul, uc⟩, rfl, bX, rX, oX⟩
              have DX : Hid (Below w2.heap.size w2 wP) := DY.out.trans (bX.mono DY.out.size)
              have hR : Hid (Calls Tryd.prog 22 #[.slice ub ul uc, .int .i64 131] wP fun e w' => e = .returned (.bool true) ∧ Below wP.heap.size wP w') := by
                have hs := sp_ahead SP.out.rt (by have := SP.out.len; omega) (b := 0) (by decide) HX.out.2.1
                exact h22.out 0 (by omega) xk HXs.out 131 (by decide) hs.1 hs.2 (ub, ul, uc) wP rX.isIn
              clear bX rX oX c0 c1 c2 DY
              simp only [sv]
              go_wp2_with fail
              go_at_call 22
              refine hR.out.mono ?_
              rintro e wQ ⟨rfl, bY⟩
              have DQ : Hid (Below w2.heap.size w2 wQ) := DX.out.trans (bY.mono DX.out.size)
              clear bY hR DX
              go_wp2_with fail
              go_at_call 23
              refine (h23.out k (by omega) ⟨⟨#[120]⟩, ⟨#[]⟩, false⟩ ⟨by decide, by decide⟩ _ DQ.out).mono ?_
              rintro e wP2 ⟨⟨ub, ul, uc⟩, rfl, bX, rX, oX⟩
              have DX : Hid (Below w2.heap.size w2 wP2) := DQ.out.trans (bX.mono DQ.out.size)
              have hR : Hid (Calls Tryd.prog 22 #[.slice ub ul uc, .int .i64 131] wP2 fun e w' => e = .returned (.bool true) ∧ Below wP2.heap.size wP2 w') := by
                have hs := sp_ahead SP.out.rt (by have := SP.out.len; omega) (b := k) hk3 (f := ⟨⟨#[120]⟩, ⟨#[]⟩, false⟩) (by decide +kernel)
                exact h22.out k (by omega) ⟨⟨#[120]⟩, ⟨#[]⟩, false⟩ ⟨by decide, by decide⟩ 131 (by decide) hs.1 hs.2 (ub, ul, uc) wP2 rX.isIn
              clear bX rX oX DQ
              simp only [sv]
              go_wp2_with fail
              go_at_call 22
              refine hR.out.mono ?_
              rintro e wR ⟨rfl, bY⟩
              have DR : Hid (Below w2.heap.size w2 wR) := DX.out.trans (bY.mono DX.out.size)
              clear bY hR DX
              go_wp2_with fail
              go_at_call 15
              refine (h15.out _ DR.out).mono ?_
              rintro e wS ⟨⟨fb, fl, fc⟩, rfl, bX, rX, oX⟩
              have DS : Hid (Below w2.heap.size w2 wS) := DR.out.trans (bX.mono DR.out.size)
              have RS : Hid (R EFd wS (.slice fb fl fc) L ∧ ∀ i, (Value.slice fb fl fc).ownBlock = some i → w2.heap.size ≤ i) := ⟨rX, fun i hi => Nat.le_trans DR.out.size (oX i hi)⟩
              clear bX rX oX DR
              simp only [sv]
              go_wp2_with fail
              have hXS : Hid (SzOk L) := SP.out.sz
              go_loopw [19] (fun vv wq => ∃ (j : Nat) (b' : Option Addr) (n' c' : Nat), vv = .slice b' n' c' ∧ n' = n + j ∧ n' ≤ 64 ∧ Hid (R EFd wq (.slice b' n' c') (L ++ List.replicate j xF) ∧ (∀ i, (Value.slice b' n' c').ownBlock = some i → w2.heap.size ≤ i) ∧ Below w2.heap.size w2 wq)) (fun vv _ => 64 - lenOf vv)
              case atStart => exact ⟨0, fb, fl, fc, rfl, (slice_len (R.isIn RS.out.1)).1.trans (SP.out.n.symm.trans (Nat.add_zero n).symm), (by have h := (slice_len (R.isIn RS.out.1)).1; have := SP.out.len; omega), by simpa using RS.out.1, RS.out.2, DS.out⟩
              case round =>
                obtain ⟨j, fb, fl, fc, rfl, hfl, hfl64, hv⟩ := hrel
                replace hfl : Hid (fl = n + j) := hfl
                clear RS DS
                by_cases hlt : fl < 64
                · have hlt' : (fl : Int) < 64 := by omega
                  obtain ⟨r1, r2, r3⟩ := hv.out
                  have hin : In EFd (wr.alloc (.cells #[.string ⟨#[120]⟩, .string ⟨#[]⟩, .bool false] 34)) (.slice (some ⟨wr.heap.size, 0, none⟩) 1 1) [xF] := in_one _ _ _ #[.string ⟨#[120]⟩, .string ⟨#[]⟩, .bool false] 34 (0, 0) (by rw [heap_al, if_pos rfl]) rfl
                  obtain ⟨en, _, _⟩ := slice_len r1.isIn
                  have hWa := r3.trans ((bel1 wr (.cells #[.string ⟨#[120]⟩, .string ⟨#[]⟩, .bool false] 34)).mono r3.size)
                  obtain ⟨b', c', w7, g1, g2, g3⟩ := app okFd _ _ _ (r1.below (bel1 wr _)) _ _ hin (by rw [← en]; simp only [EFd, List.length_singleton]; omega)
                  rw [← en] at g1 g2 g3
                  simp only [List.length_singleton] at g1 g2 g3
                  have HNX : Hid (R EFd w7 (.slice b' (fl + 1) c') (L ++ List.replicate (j + 1) xF) ∧ (∀ i, (Value.slice b' (fl + 1) c').ownBlock = some i → w2.heap.size ≤ i) ∧ Below w2.heap.size w2 w7) := by
                    refine ⟨?_, fun i hi => ?_, hWa.trans (g3.belowB hWa.size r2)⟩
                    · rw [List.replicate_succ', ← List.append_assoc]
                      exact g2
                    · rcases g3.own i hi with e | e
                      · exact r2 i e
                      · exact Nat.le_trans hWa.size e
                  replace g1 : Hid _ := g1
                  clear g2 g3 r1 r2 r3 hin hWa hv en
                  go_wp2_with (at_builtin; refine Lib.wpList_append_run _ rfl _ _ _ _ rfl _ _ rfl rfl _ _ g1.out ?_)
                  go_roundw
                  case rel => exact ⟨j + 1, b', fl + 1, c', rfl, by have := hfl.out; omega, by omega, HNX.out⟩
                  case measure => simp only [lenOf]; omega
                · obtain rfl : fl = 64 := by omega
                  have hlt' : ¬ (64 : Int) < 64 := by omega
                  obtain ⟨w9b, hw9b⟩ : ∃ x, x = wr := ⟨_, rfl⟩
                  subst hw9b
                  obtain ⟨F, hF⟩ : ∃ F, L ++ List.replicate j xF = F := ⟨_, rfl⟩
                  have hFr : Rt F := by rw [← hF]; exact SP.out.rt.app (.inr trivial) fun f hf => by rw [List.eq_of_mem_replicate hf]; exact xF_ok
                  have hFl : F.length = 64 := by rw [← hF, List.length_append, List.length_replicate, ← SP.out.n]; have := hfl.out; omega
                  have hFs : SzOk F := by
                    refine ⟨fun f hf => ?_, by rw [hFl]; omega⟩
                    rw [← hF] at hf
                    rcases List.mem_append.1 hf with hf | hf
                    · exact hXS.out.1 f hf
                    · rw [List.eq_of_mem_replicate hf]; exact ⟨by decide, by decide⟩
                  have hFq : rqE F = 0 := hFr.rq (by omega)
                  have HFQ : Hid (rqE F = 0 ∧ F.length = 64) := ⟨hFq, hFl⟩
                  have HFS : Hid (SzOk F) := hFs
                  rw [hF] at hv
                  have h15F : Hid (Calls Tryd.prog 15 #[.slice fb 64 fc] w9b fun e w' => FdPost F w9b e w') := copied_any (fb, 64, fc) F w9b (R.isIn hv.out.1) (by rw [hFl]; omega)
                  have h14F : Hid (∀ z W, In EFd W (sv z) F → Calls Tryd.prog 14 #[sv z] W fun e w' => RqPost F W e w') := fun z W hi => readRequest_any z F W hi fun f hf => (hFs.1 f hf).1
                  have hTe : Hid (rqE (withL L b teF) = 0) := sp_te SP.out.rt (by have := SP.out.len; omega) hb4 (by rw [← SP.out.n]; exact hbn) teF_ok.1 teF_ok.2
                  have hTs : SzOk (withL L b teF) := with_sz (by rw [← SP.out.n]; exact hbn) SP.out.sz (by have := SP.out.len; omega) ⟨by decide, by decide⟩
                  have h14T : Hid (∀ z W, In EFd W (sv z) (withL L b teF) → Calls Tryd.prog 14 #[sv z] W fun e w' => RqPost (withL L b teF) W e w') := fun z W hi => readRequest_any z _ W hi fun f hf => (hTs.1 f hf).1
                  clear hF hFr hFl hFs hFq hTs
                  go_wp2_with fail
                  go_at_call 15
                  refine h15F.out.mono ?_
                  rintro e wa ⟨⟨cb, cl, cc⟩, rfl, ba, ra, oa⟩
                  have Ra : Hid (In EFd wa (.slice cb cl cc) F) := R.isIn ra
                  have Va : Hid (R EFd wa (.slice fb 64 fc) F ∧ (∀ i, (Value.slice fb 64 fc).ownBlock = some i → w2.heap.size ≤ i) ∧ Below w2.heap.size w2 wa) := ⟨hv.out.1.below ba, hv.out.2.1, hv.out.2.2.trans (ba.mono hv.out.2.2.size)⟩
                  clear ba ra oa hv h15F
                  simp only [sv]
                  go_wp2_with fail
                  go_at_call 14
                  refine (h14F.out (cb, cl, cc) _ Ra.out).mono ?_
                  rintro e wb ⟨um, us, ua, up, ⟨ub, ul, uc⟩, rfl, bb, gb, nb⟩
                  clear gb nb
                  rw [HFQ.out.1]
                  have Vb : Hid (R EFd (wb.alloc (.cells #[.string um, .string us, .string ua, .string up, .slice ub ul uc, .string ⟨#[]⟩] 26)) (.slice fb 64 fc) F ∧ (∀ i, (Value.slice fb 64 fc).ownBlock = some i → w2.heap.size ≤ i) ∧ Below w2.heap.size w2 (wb.alloc (.cells #[.string um, .string us, .string ua, .string up, .slice ub ul uc, .string ⟨#[]⟩] 26))) := by
                    obtain ⟨v1, v2, v3⟩ := Va.out
                    have b1 := bb.trans ((bel1 wb (.cells #[.string um, .string us, .string ua, .string up, .slice ub ul uc, .string ⟨#[]⟩] 26)).mono bb.size)
                    exact ⟨v1.below b1, v2, v3.trans (b1.mono v3.size)⟩
                  clear bb Va Ra h14F
                  simp only [sv, rqv]
                  go_wp2_with fail
                  go_at_call 23
                  refine (h23.out b hbn teF ⟨by decide, by decide⟩ _ Vb.out.2.2).mono ?_
                  rintro e wd ⟨⟨db, dl, dc⟩, rfl, bd, rd, od⟩
                  have Rd : Hid (In EFd wd (.slice db dl dc) (withL L b teF)) := R.isIn rd
                  have Vd : Hid (R EFd wd (.slice fb 64 fc) F ∧ (∀ i, (Value.slice fb 64 fc).ownBlock = some i → w2.heap.size ≤ i) ∧ Below w2.heap.size w2 wd) := by
                    obtain ⟨v1, v2, v3⟩ := Vb.out
                    exact ⟨v1.below bd, v2, v3.trans (bd.mono v3.size)⟩
                  clear bd rd od Vb
                  simp only [sv]
                  go_wp2_with fail
                  go_at_call 14
                  refine (h14T.out (db, dl, dc) _ Rd.out).mono ?_
                  rintro e we ⟨vm, vs, va, vp, ⟨vb, vl, vc⟩, rfl, be, ge, ne⟩
                  obtain ⟨_, _, re, _⟩ := ge hTe.out
                  have hvl : vl = M + 1 := by
                    have h : vl = _ := (slice_len re.isIn).1
                    rw [List.length_drop, with_len (by rw [← SP.out.n]; exact hbn), ← SP.out.n, HM.out] at h
                    omega
                  rw [hTe.out]
                  have Ve : R EFd we (.slice fb 64 fc) F ∧ (∀ i, (Value.slice fb 64 fc).ownBlock = some i → w2.heap.size ≤ i) ∧ Below w2.heap.size w2 we := by
                    obtain ⟨v1, v2, v3⟩ := Vd.out
                    exact ⟨v1.below be, v2, v3.trans (be.mono v3.size)⟩
                  have FIN : Hid (∃ b' c' w7, Hid ((Builtin.append_ #[24, 24] 24 #[.slice fb 64 fc, .slice (some ⟨we.heap.size + 1, 0, none⟩) 1 1]).run Tryd.prog ((we.alloc (.cells #[.string vm, .string vs, .string va, .string vp, .slice vb vl vc, .string ⟨#[]⟩] 26)).alloc (.cells #[.string ⟨#[65]⟩, .string ⟨#[]⟩, .bool false] 34)) = .ok (.slice b' 65 c') w7) ∧ Hid (Calls Tryd.prog 22 #[.slice b' 65 c', .int .i64 3] w7 fun e w' => e = .returned (.bool true) ∧ Below w.heap.size w w')) := by
                    obtain ⟨v1, v2, v3⟩ := Ve
                    have b2 := bel2 we (.cells #[.string vm, .string vs, .string va, .string vp, .slice vb vl vc, .string ⟨#[]⟩] 26) (.cells #[.string ⟨#[65]⟩, .string ⟨#[]⟩, .bool false] 34)
                    have hin : In EFd ((we.alloc (.cells #[.string vm, .string vs, .string va, .string vp, .slice vb vl vc, .string ⟨#[]⟩] 26)).alloc (.cells #[.string ⟨#[65]⟩, .string ⟨#[]⟩, .bool false] 34)) (.slice (some ⟨we.heap.size + 1, 0, none⟩) 1 1) [aF] := in_one _ _ _ #[.string ⟨#[65]⟩, .string ⟨#[]⟩, .bool false] 34 (0, 0) (fresh2 _ _ _) rfl
                    obtain ⟨b', c', w7, g1, g2, g3⟩ := app okFd _ _ _ (v1.below b2) _ _ hin (by rw [HFQ.out.2]; simp only [EFd, List.length_singleton]; omega)
                    rw [HFQ.out.2] at g1 g2 g3
                    have hW := v3.trans (b2.mono v3.size)
                    have h7 := hW.trans (g3.belowB hW.size v2)
                    have hl65 : (F ++ [aF]).length = 65 := by rw [List.length_append, HFQ.out.2]; rfl
                    refine ⟨b', c', w7, g1, ?_⟩
                    have hq := rq_3 (X := F ++ [aF]) (by omega)
                    refine (refused_any (b', 65, c') (F ++ [aF]) 3 w7 g2.isIn ⟨fun f hf => ?_, by omega⟩ hq.1 (by decide) (by rw [hq.2]; decide)).mono ?_
                    · rcases List.mem_append.1 hf with hf | hf
                      · exact HFS.out.1 f hf
                      · simp only [List.mem_cons, List.not_mem_nil, or_false] at hf
                        subst hf
                        exact ⟨by decide, by decide⟩
                    · rintro e w' ⟨rfl, h⟩
                      have h8 := BW.out.trans (h7.mono BW.out.size)
                      exact ⟨rfl, h8.trans (h.mono h8.size)⟩
                  obtain ⟨b', c', w7, g1, hR⟩ := FIN.out
                  subst hvl
                  clear FIN Ve Vd be ge ne re Rd h14T
                  simp only [sv, rqv]
                  go_wp2_with fail
                  refine Lib.wp_append_run _ (.tmp 193) (.tmp 195) 24 24 rfl _ _ (by rfl) (by rfl) _ _ g1.out ?_
                  go_wp2_with fail
                  go_at_call 22
                  refine hR.out.mono ?_
                  rintro e wz ⟨rfl, bz⟩
                  replace bz : Hid (Below w.heap.size w wz) := bz
                  go_wp2_with fail
                  go_ret
                  exact ⟨by first | rfl | simp, bz.out⟩




end Go.Proofs.YtcgfgjhhmbfmdaaDoor
