/- FeedBroken: the walk. -/
import Derived.Test.YtmhbaaemihljjaaDoorL4
namespace Go.Proofs.YtmhbaaemihljjaaDoor
open Go.RowKit
set_option linter.unusedVariables false
set_option linter.unusedSimpArgs false

theorem conv_four (a b c d : UInt8) (W : World) : (convert 34 9 (.slice (some ⟨W.heap.size, 0, none⟩) 4 4)).run Tryd.prog (W.alloc (.cells #[.int .u8 (a.toNat : Int), .int .u8 (b.toNat : Int), .int .u8 (c.toNat : Int), .int .u8 (d.toNat : Int)] 5)) = .ok (.string ⟨#[a, b, c, d]⟩) (W.alloc (.cells #[.int .u8 (a.toNat : Int), .int .u8 (b.toNat : Int), .int .u8 (c.toNat : Int), .int .u8 (d.toNat : Int)] 5)) :=
  run_convert_bytes_back (P := Tryd.prog) (W.alloc (.cells #[.int .u8 (a.toNat : Int), .int .u8 (b.toNat : Int), .int .u8 (c.toNat : Int), .int .u8 (d.toNat : Int)] 5)) 34 9 5 ⟨W.heap.size, 0, none⟩ 4 [a, b, c, d] Tryd.underlying34 Tryd.underlying5 Tryd.underlying9 (fun j hj => by
    have ha : (⟨W.heap.size, 0, none⟩ : Addr).add j = ⟨W.heap.size, j, none⟩ := by unfold Addr.add; split <;> simp_all
    rw [ha, cell_of_row _ _ _ _ _ _ (heap_alloc_new W _)]
    have hj' : j < 4 := hj
    match j, hj' with
    | 0, _ => rfl
    | 1, _ => rfl
    | 2, _ => rfl
    | 3, _ => rfl)

theorem conv_four2 (a b c d : UInt8) (W : World) (o : Obj) : (convert 34 9 (.slice (some ⟨W.heap.size + 1, 0, none⟩) 4 4)).run Tryd.prog ((W.alloc o).alloc (.cells #[.int .u8 (a.toNat : Int), .int .u8 (b.toNat : Int), .int .u8 (c.toNat : Int), .int .u8 (d.toNat : Int)] 5)) = .ok (.string ⟨#[a, b, c, d]⟩) ((W.alloc o).alloc (.cells #[.int .u8 (a.toNat : Int), .int .u8 (b.toNat : Int), .int .u8 (c.toNat : Int), .int .u8 (d.toNat : Int)] 5)) := by
  have := conv_four a b c d (W.alloc o)
  rwa [size_al] at this

/-- a frame's box is written anew -/
theorem fbox_set {w W : World} {fs : List Fed} (h : All w W fs) (a : Nat) (f0 : Fr) (p0 : Value) (f : Fr) (p : Value) (hb : FB W a f0 p0) (hw : w.heap.size ≤ a) :
    All w (sets W a (fsets f p)) fs ∧ FB (sets W a (fsets f p)) a f p := by
  refine ⟨h.sets a _ 28 hb (by decide) (by decide) hw _, ?_⟩
  unfold FB
  rw [sets_block _ _ _ _ _ _ hb]
  simp only [fsets, fv, List.foldl_cons, List.foldl_nil, List.setIfInBounds_toArray, List.set_cons_zero, List.set_cons_succ]

theorem both_set {w W : World} {fs : List Fed} (h : All w W fs) (a : Nat) (f0 : Fr) (p0 : Value) (c0 x0 : Int) (hb : FB W a f0 p0) (hc : W.heap[a + 1]? = some (.cells #[.int .i64 c0, .int .i64 x0] 30 (0, 0))) (hw : w.heap.size ≤ a) (f : Fr) (p : Value) (c x : Int) :
    All w (((sets W a (fsets f p)).setCell ⟨a + 1, 0, none⟩ (.int .i64 c)).setCell ⟨a + 1, 1, none⟩ (.int .i64 x)) fs ∧ FB (((sets W a (fsets f p)).setCell ⟨a + 1, 0, none⟩ (.int .i64 c)).setCell ⟨a + 1, 1, none⟩ (.int .i64 x)) a f p ∧
    (((sets W a (fsets f p)).setCell ⟨a + 1, 0, none⟩ (.int .i64 c)).setCell ⟨a + 1, 1, none⟩ (.int .i64 x)).heap[a + 1]? = some (.cells #[.int .i64 c, .int .i64 x] 30 (0, 0)) := by
  obtain ⟨h1, h2⟩ := fbox_set h a f0 p0 f p hb hw
  have h3 := kt_sets a (fsets f p) (a + 1) _ _ hc (by omega)
  obtain ⟨h4, h5⟩ := box_set h1 (a + 1) c0 x0 c x h3 (by omega)
  exact ⟨h4, kt_sets (a + 1) [(0, .int .i64 c), (1, .int .i64 x)] a _ _ h2 (by omega), h5⟩
theorem one_set {w W : World} {fs : List Fed} (h : All w W fs) (a : Nat) (f0 : Fr) (p0 : Value) (c0 x0 : Int) (hb : FB W a f0 p0) (hc : W.heap[a + 1]? = some (.cells #[.int .i64 c0, .int .i64 x0] 30 (0, 0))) (hw : w.heap.size ≤ a) (c x : Int) :
    All w ((W.setCell ⟨a + 1, 0, none⟩ (.int .i64 c)).setCell ⟨a + 1, 1, none⟩ (.int .i64 x)) fs ∧ FB ((W.setCell ⟨a + 1, 0, none⟩ (.int .i64 c)).setCell ⟨a + 1, 1, none⟩ (.int .i64 x)) a f0 p0 ∧
    ((W.setCell ⟨a + 1, 0, none⟩ (.int .i64 c)).setCell ⟨a + 1, 1, none⟩ (.int .i64 x)).heap[a + 1]? = some (.cells #[.int .i64 c, .int .i64 x] 30 (0, 0)) := by
  obtain ⟨h4, h5⟩ := box_set h (a + 1) c0 x0 c x hc (by omega)
  exact ⟨h4, kt_sets (a + 1) [(0, .int .i64 c), (1, .int .i64 x)] a _ _ hb (by omega), h5⟩

set_option maxRecDepth 100000 in
set_option maxHeartbeats 8000000 in
theorem feedBroken_walk (id : Nat) (a0 a1 a2 a3 y0 y1 y2 y3 : UInt8) (hid : numL [a0, a1, a2, a3] = id) (hid1 : 1 ≤ id) (hid2 : id ≤ 2147483647) (cb : Option Addr) (n cc : Nat) (chunks : List ByteArray) (hn : n = chunks.length) (limit four stream : Int) (w : World) (hK : Kinds w) (hw : 1 ≤ w.heap.size)
    (hcells : ∀ W, Below w.heap.size w W → ∀ (i : Nat) (hi : i < chunks.length), ∃ a, cb = some a ∧ W.cell? (a.add i) = some (.string chunks[i])) (hsz : ∀ s ∈ chunks, s.size ≤ 140737488351232) (hnb : n ≤ 140737488351232)
    (I : Nat) (hI : bits .and .u32 stream 2147483647 = (I : Int)) (hI31 : I < 2147483648) (hI0 : (I = 0 ∧ id = 1) ∨ (I ≠ 0 ∧ id = I)) (e0 : (id : Int) / 16777216 = (a0.toNat : Int)) (e1 : (id : Int) / 65536 % 256 = (a1.toNat : Int)) (e2 : (id : Int) / 256 % 256 = (a2.toNat : Int)) (e3 : (id : Int) % 256 = (a3.toNat : Int))
    (hf0 : 0 ≤ four) (hf1 : four < 4294967296) (k0 : four / 16777216 = (y0.toNat : Int)) (k1 : four / 65536 % 256 = (y1.toNat : Int)) (k2 : four / 256 % 256 = (y2.toNat : Int)) (k3 : four % 256 = (y3.toNat : Int)) :
    Calls Tryd.prog 4 #[.slice cb n cc, .int .i64 limit, .int .u32 four, .int .u32 stream] w fun e w' => e = .returned (.bool true) ∧ Below w.heap.size w w' := by
  have hhead := head_any w hK hw
  have HA : Hid _ := All.start hK hw
  go_enter Tryd.func4, Tryd.ntmps4
  go_wp2_with (first | (go_at_call 9; refine hhead.mono ?_; rintro e W ⟨rfl, hB⟩))
  have h0 := HA.out.later hB
  refine (new_all h0 false 16384).mono ?_
  clear hB
  rintro e W ⟨g1, rfl, h3, -⟩
  replace h3 : Hid (All w W [(g1, .slice none 0 0, ⟨⟨#[]⟩, [], 16384, 0⟩)]) := h3
  clear h0
  go_wp2_with fail
  refine (new_all h3.out false 16384).mono ?_
  rintro e W ⟨g2, rfl, h4, -⟩
  replace h4 : Hid (All w W [(g1, .slice none 0 0, ⟨⟨#[]⟩, [], 16384, 0⟩), (g2, .slice none 0 0, ⟨⟨#[]⟩, [], 16384, 0⟩)]) := h4
  clear h3
  go_wp2_with fail
  refine (push_all h4.out 0 (g := g1) (v := .slice none 0 0) (S := ⟨⟨#[]⟩, [], 16384, 0⟩) rfl _ (by decide)).mono ?_
  rintro e W ⟨rfl, v1, h5, -⟩
  replace h5 : Hid (All w W [(g1, v1, ⟨⟨#[]⟩, pingL ++ longL, 16384, 0⟩), (g2, .slice none 0 0, ⟨⟨#[]⟩, [], 16384, 0⟩)]) := h5
  clear h4
  go_wp2_with fail
  refine (next_all h5.out 0 (g := g1) (v := v1) (S := ⟨⟨#[]⟩, pingL ++ longL, 16384, 0⟩) rfl _ next_b1).mono ?_
  rintro e W ⟨pb, pl, pc, v1, rfl, -, -, h6, -⟩
  replace h6 : Hid (All w W [(g1, v1, ⟨⟨#[]⟩, longL, 16384, 0⟩), (g2, .slice none 0 0, ⟨⟨#[]⟩, [], 16384, 0⟩)]) := h6
  clear h5
  simp only [pingF]
  obtain ⟨hA, b11, b13, -⟩ := box2 h6.out pingF (.slice pb pl pc) 0 0
  obtain ⟨d0, d1, -, -⟩ := box_cells b13
  obtain ⟨-, -, -, d3, -⟩ := b11.cells
  have hwa : Hid (w.heap.size ≤ W.heap.size) := h6.out.bel.size
  replace hA : Hid (All w _ _) := hA
  replace b13 : Hid _ := b13
  replace b11 : Hid (FB _ _ pingF (.slice pb pl pc)) := b11
  clear h6
  simp only [fv, pingF] at d0 d1 d3 hA b13
  go_wp2_with fail
  obtain ⟨a11, ha11⟩ : ∃ a11, a11 = W.heap.size := ⟨_, rfl⟩
  rw [← ha11] at b11 b13 hwa ⊢
  clear ha11 d0 d1 d3
  go_loopw [12, 14] (fun _ i W => ∃ j : Nat, j ≤ n + 1 ∧ i = .int .i64 (j : Int) ∧ ∃ v1 S c x, nextS S = ⟨(Fr.zero, []), false, 6, 0, deadS 6⟩ ∧ All w W [(g1, v1, S), (g2, .slice none 0 0, ⟨⟨#[]⟩, [], 16384, 0⟩)] ∧ FB W a11 pingF (.slice pb pl pc) ∧ W.heap[a11 + 1]? = some (.cells #[.int .i64 c, .int .i64 x] 30 (0, 0))) (fun _ i _ => n + 1 - (intOf i).toNat)
  case atStart => exact ⟨0, Nat.zero_le _, rfl, v1, _, 0, 0, next_b2, hA.out, b11.out, b13.out⟩
  case round =>
    clear hA b11 b13
    obtain ⟨j, hj, rfl, v1, S, c, x, hS, hA, b11, b13⟩ := hrel
    replace hS : Hid _ := hS
    replace hA : Hid _ := hA
    replace b11 : Hid (FB _ _ _ _) := b11
    replace b13 : Hid _ := b13
    by_cases hle : j ≤ n
    · have hle' : (j : Int) ≤ (n : Int) := by omega
      go_wp2_with fail
      refine (next_all hA.out 0 (g := g1) (v := v1) (S := S) rfl _ hS.out).mono ?_
      rintro e W1 ⟨qb, ql, qc, v1, rfl, -, -, hB, kt⟩
      replace hB : All w W1 [(g1, v1, deadS 6), (g2, .slice none 0 0, ⟨⟨#[]⟩, [], 16384, 0⟩)] := hB
      replace b13 := kt.box b13.out
      replace b11 := kt.fb b11.out
      clear hA kt hS
      simp only [Fr.zero]
      obtain ⟨d0, d1, f0, f1⟩ := box_cells b13
      have b11' := kt_sets (a11 + 1) [(0, .int .i64 6), (1, .int .i64 0)] a11 _ _ b11 (by omega)
      obtain ⟨hA, b13'⟩ := box_set hB (a11 + 1) c x 6 0 b13 (Nat.le_succ_of_le hwa.out)
      have hw1 := wait_all hA 0 (g := g1) (v := v1) (S := deadS 6) rfl
      have b11'' : Hid (FB _ a11 pingF (.slice pb pl pc)) := b11'
      replace hA : Hid (All w _ _) := hA
      replace b13' : Hid _ := b13'
      clear hB b13 b11 b11'
      by_cases hlt : j < n
      · have hlt' : (j : Int) < (n : Int) := by omega
        have hlt2 : j < chunks.length := by omega
        obtain ⟨aa, hcb, hcell⟩ := hcells _ hA.out.bel j hlt2
        have hs1 := hsz _ (List.getElem_mem hlt2)
        subst hcb
        go_wp2_with (first | (go_at_call 13; refine hw1.mono ?_; rintro e W ⟨rfl, rfl⟩))
        refine (push_all hA.out 0 (g := g1) (v := v1) (S := deadS 6) rfl _ (by show 0 + _ ≤ _; omega)).mono ?_
        rintro e W2 ⟨rfl, v1, h5, kt⟩
        rw [push_dead6] at h5
        replace h5 : Hid (All w W2 [(g1, v1, deadS 6), (g2, .slice none 0 0, ⟨⟨#[]⟩, [], 16384, 0⟩)]) := h5
        replace b11'' : Hid (FB W2 a11 pingF (.slice pb pl pc)) := kt.fb b11''.out
        replace b13' : Hid _ := kt.box b13'.out
        clear hA kt hcell d0 d1 f0 f1 hw1
        go_wp2_with fail
        refine (most_all h5.out 0 (g := g1) (v := v1) (S := deadS 6) rfl limit).mono ?_
        rintro e W3 ⟨rfl, h6, kt⟩
        replace h6 : Hid (All w W3 [(g1, v1, ⟨⟨#[]⟩, [], limit, 6⟩), (g2, .slice none 0 0, ⟨⟨#[]⟩, [], 16384, 0⟩)]) := h6
        replace b11'' : Hid (FB W3 a11 pingF (.slice pb pl pc)) := kt.fb b11''.out
        replace b13' : Hid _ := kt.box b13'.out
        clear h5 kt
        go_wp2_with fail
        go_roundw
        case rel => exact ⟨j + 1, by omega, by go_num, v1, _, 6, 0, next_b3 limit, h6.out, b11''.out, b13'.out⟩
        case measure => simp [intOf]; omega
      · have hlt' : ¬ (j : Int) < (n : Int) := by omega
        go_wp2_with (first | (go_at_call 13; refine hw1.mono ?_; rintro e W ⟨rfl, rfl⟩))
        go_roundw
        case rel => exact ⟨j + 1, by omega, by go_num, v1, deadS 6, 6, 0, next_b3 0, hA.out, b11''.out, b13'.out⟩
        case measure => simp [intOf]; omega
    · have hle' : ¬ (j : Int) ≤ (n : Int) := by omega
      have hcv2 := conv_four2 y0 y1 y2 y3
      rcases hI0 with ⟨rfl, rfl⟩ | ⟨hI1, rfl⟩
      · have hz : ∀ (a : UInt8) (n : Nat), ((n : Nat) : Int) = (a.toNat : Int) → n < 256 → a = UInt8.ofNat n := fun a n h hn => by
          apply UInt8.toNat_inj.1
          rw [UInt8.toNat_ofNat', Nat.mod_eq_of_lt hn]
          omega
        obtain rfl := hz a0 0 e0 (by decide)
        obtain rfl := hz a1 0 e1 (by decide)
        obtain rfl := hz a2 0 e2 (by decide)
        obtain rfl := hz a3 1 e3 (by decide)
        have hcv1 : ∀ W : World, (convert 34 9 (.slice (some ⟨W.heap.size, 0, none⟩) 4 4)).run Tryd.prog (W.alloc (.cells #[.int .u8 0, .int .u8 0, .int .u8 0, .int .u8 1] 5)) = .ok (.string ⟨#[0, 0, 0, 1]⟩) (W.alloc (.cells #[.int .u8 0, .int .u8 0, .int .u8 0, .int .u8 1] 5)) := conv_four 0 0 0 1
        clear e0 e1 e2 e3 hz
        go_wp2_with fail
        refine (push_all ((hA.out.alloc _).alloc _) 1 (g := g2) (v := .slice none 0 0) (S := ⟨⟨#[]⟩, [], 16384, 0⟩) rfl _ (by rw [ByteArray.size_append, ByteArray.size_append, ByteArray.size_append]; show 0 + (22 + 4 + 4 + 17) ≤ _; omega)).mono ?_
        rintro e W1 ⟨rfl, v2, hN, kt⟩
        replace hN : Hid (All w W1 [(g1, v1, S), (g2, v2, ⟨⟨#[]⟩, pingL ++ (prioL [0, 0, 0, 1] [y0, y1, y2, y3] ++ pingL), 16384, 0⟩)]) := hN
        have bF : Hid (FB W1 a11 pingF (.slice pb pl pc)) := kt.fb (((Kt.alloc _ _).trans (Kt.alloc _ _)).fb b11.out)
        have bX : Hid _ := kt.box (((Kt.alloc _ _).trans (Kt.alloc _ _)).box b13.out)
        clear hA kt hcv1 hcv2 b11 b13
        go_wp2_with fail
        refine (next_all hN.out 1 (g := g2) (v := v2) (S := ⟨⟨#[]⟩, pingL ++ (prioL [0, 0, 0, 1] [y0, y1, y2, y3] ++ pingL), 16384, 0⟩) rfl _ (next_ping_app (prioL [0, 0, 0, 1] [y0, y1, y2, y3] ++ pingL))).mono ?_
        rintro e W2 ⟨qb, ql, qc, v2, rfl, -, -, hB, kt⟩
        replace hB : All w W2 [(g1, v1, S), (g2, v2, ⟨⟨#[]⟩, prioL [0, 0, 0, 1] [y0, y1, y2, y3] ++ pingL, 16384, 0⟩)] := hB
        replace bF : FB W2 a11 pingF (.slice pb pl pc) := kt.fb bF.out
        replace bX := kt.box bX.out
        clear hN kt
        simp only [pingF]
        obtain ⟨d0, d1, f0, f1⟩ := box_cells bX
        obtain ⟨z0, z1, z2, z3, z4, z5, z6, z7, z8, z9, z10⟩ := bF.cells
        obtain ⟨w0, w1, w2, w3, w4, w5, w6, w7, w8, w9, w10⟩ := bF.frozens
        obtain ⟨hA, bF', bX'⟩ := both_set hB a11 _ _ _ _ bF bX hwa.out pingF (.slice qb ql qc) 0 0
        simp only [pingF] at z0 z1 z2 z3 z4 z5 z6 z7 z8 z9 z10
        (try simp only [sets, fsets, List.foldl_cons, List.foldl_nil, pingF] at hA bX')
        have hN : Hid (All w _ _) := hA
        replace bX' : Hid _ := bX'
        replace bF' : Hid (FB _ a11 pingF _) := bF'
        clear hB bX bF hA
        go_wp2_with fail
        have bX := bX'
        have bF : Hid (FB _ a11 pingF _) := bF'
        clear bX' bF'
        clear d0 d1 f0 f1 z0 z1 z2 z3 z4 z5 z6 z7 z8 z9 z10 w0 w1 w2 w3 w4 w5 w6 w7 w8 w9 w10
        refine (next_all hN.out 1 (g := g2) (v := v2) (S := ⟨⟨#[]⟩, prioL [0, 0, 0, 1] [y0, y1, y2, y3] ++ pingL, 16384, 0⟩) rfl _ (next_prio 0 0 0 1 y0 y1 y2 y3 pingL 1 hid hid1 hid2)).mono ?_
        rintro e W3 ⟨rb, rl, rc, v2, rfl, -, -, hB, kt⟩
        replace hB : All w W3 [(g1, v1, S), (g2, v2, ⟨⟨#[]⟩, pingL, 16384, 0⟩)] := hB
        replace bF : FB W3 a11 pingF (.slice qb ql qc) := kt.fb bF.out
        replace bX := kt.box bX.out
        clear hN kt
        simp only [Fr.zero]
        obtain ⟨d0, d1, f0, f1⟩ := box_cells bX
        obtain ⟨-, -, -, z3, -⟩ := bF.cells
        obtain ⟨hA, bF', bX'⟩ := one_set hB a11 _ _ _ _ bF bX hwa.out 6 (1 : Nat)
        (try simp only [sets, fsets, List.foldl_cons, List.foldl_nil, pingF] at hA bX')
        have hN : Hid (All w _ _) := hA
        replace bX' : Hid _ := bX'
        replace bF' : Hid (FB _ a11 pingF _) := bF'
        clear hB bX bF hA
        go_wp2_with fail
        have bX := bX'
        have bF : Hid (FB _ a11 pingF _) := bF'
        clear bX' bF'
        clear d0 d1 f0 f1 z3
        refine (next_all hN.out 1 (g := g2) (v := v2) (S := ⟨⟨#[]⟩, pingL, 16384, 0⟩) rfl _ next_ping).mono ?_
        rintro e W4 ⟨sb, sl, sc, v2, rfl, -, -, hB, kt⟩
        replace hB : All w W4 [(g1, v1, S), (g2, v2, ⟨⟨#[]⟩, [], 16384, 0⟩)] := hB
        replace bF : FB W4 a11 pingF (.slice qb ql qc) := kt.fb bF.out
        replace bX := kt.box bX.out
        clear hN kt
        simp only [pingF]
        obtain ⟨d0, d1, f0, f1⟩ := box_cells bX
        obtain ⟨z0, z1, z2, z3, z4, z5, z6, z7, z8, z9, z10⟩ := bF.cells
        obtain ⟨w0, w1, w2, w3, w4, w5, w6, w7, w8, w9, w10⟩ := bF.frozens
        obtain ⟨hA, bF', bX'⟩ := both_set hB a11 _ _ _ _ bF bX hwa.out pingF (.slice sb sl sc) 0 0
        simp only [pingF] at z0 z1 z2 z3 z4 z5 z6 z7 z8 z9 z10
        (try simp only [sets, fsets, List.foldl_cons, List.foldl_nil, pingF] at hA bX')
        have hN : Hid (All w _ _) := hA
        replace bX' : Hid _ := bX'
        replace bF' : Hid (FB _ a11 pingF _) := bF'
        clear hB bX bF hA
        go_wp2_with fail
        have bX := bX'
        have bF : Hid (FB _ a11 pingF _) := bF'
        clear bX' bF'
        clear d0 d1 f0 f1 z0 z1 z2 z3 z4 z5 z6 z7 z8 z9 z10 w0 w1 w2 w3 w4 w5 w6 w7 w8 w9 w10
        refine (next_all hN.out 1 (g := g2) (v := v2) (S := ⟨⟨#[]⟩, [], 16384, 0⟩) rfl _ next_none).mono ?_
        rintro e W5 ⟨tb, tl, tc, v2, rfl, -, -, hB, kt⟩
        replace hB : All w W5 [(g1, v1, S), (g2, v2, ⟨⟨#[]⟩, [], 16384, 0⟩)] := hB
        replace bF : FB W5 a11 pingF (.slice sb sl sc) := kt.fb bF.out
        replace bX := kt.box bX.out
        clear hN kt
        simp only [Fr.zero]
        obtain ⟨d0, d1, f0, f1⟩ := box_cells bX
        obtain ⟨-, -, -, z3, -⟩ := bF.cells
        obtain ⟨hA, bF', bX'⟩ := one_set hB a11 _ _ _ _ bF bX hwa.out 0 0
        have hw1 := wait_all hA 1 (g := g2) (v := v2) (S := ⟨⟨#[]⟩, [], 16384, 0⟩) rfl
        have hfin : Hid _ := hA.bel
        clear hB bX bF hA bF' bX'
        go_wp2_with (first | (go_at_call 13; refine hw1.mono ?_; rintro e W ⟨rfl, rfl⟩))
        go_ret
        exact ⟨rfl, hfin.out⟩
      · have hI2 : ¬ (id : Int) = 0 := by omega
        have hib : ((id : Int) == 0) = false := by simpa using hI2
        have hcv1 := conv_four a0 a1 a2 a3
        go_wp2_with fail
        refine (push_all ((hA.out.alloc _).alloc _) 1 (g := g2) (v := .slice none 0 0) (S := ⟨⟨#[]⟩, [], 16384, 0⟩) rfl _ (by rw [ByteArray.size_append, ByteArray.size_append, ByteArray.size_append]; show 0 + (22 + 4 + 4 + 17) ≤ _; omega)).mono ?_
        rintro e W1 ⟨rfl, v2, hN, kt⟩
        replace hN : Hid (All w W1 [(g1, v1, S), (g2, v2, ⟨⟨#[]⟩, pingL ++ (prioL [a0, a1, a2, a3] [y0, y1, y2, y3] ++ pingL), 16384, 0⟩)]) := hN
        have bF : Hid (FB W1 a11 pingF (.slice pb pl pc)) := kt.fb (((Kt.alloc _ _).trans (Kt.alloc _ _)).fb b11.out)
        have bX : Hid _ := kt.box (((Kt.alloc _ _).trans (Kt.alloc _ _)).box b13.out)
        clear hA kt hcv1 hcv2 b11 b13
        go_wp2_with fail
        refine (next_all hN.out 1 (g := g2) (v := v2) (S := ⟨⟨#[]⟩, pingL ++ (prioL [a0, a1, a2, a3] [y0, y1, y2, y3] ++ pingL), 16384, 0⟩) rfl _ (next_ping_app (prioL [a0, a1, a2, a3] [y0, y1, y2, y3] ++ pingL))).mono ?_
        rintro e W2 ⟨qb, ql, qc, v2, rfl, -, -, hB, kt⟩
        replace hB : All w W2 [(g1, v1, S), (g2, v2, ⟨⟨#[]⟩, prioL [a0, a1, a2, a3] [y0, y1, y2, y3] ++ pingL, 16384, 0⟩)] := hB
        replace bF : FB W2 a11 pingF (.slice pb pl pc) := kt.fb bF.out
        replace bX := kt.box bX.out
        clear hN kt
        simp only [pingF]
        obtain ⟨d0, d1, f0, f1⟩ := box_cells bX
        obtain ⟨z0, z1, z2, z3, z4, z5, z6, z7, z8, z9, z10⟩ := bF.cells
        obtain ⟨w0, w1, w2, w3, w4, w5, w6, w7, w8, w9, w10⟩ := bF.frozens
        obtain ⟨hA, bF', bX'⟩ := both_set hB a11 _ _ _ _ bF bX hwa.out pingF (.slice qb ql qc) 0 0
        simp only [pingF] at z0 z1 z2 z3 z4 z5 z6 z7 z8 z9 z10
        (try simp only [sets, fsets, List.foldl_cons, List.foldl_nil, pingF] at hA bX')
        have hN : Hid (All w _ _) := hA
        replace bX' : Hid _ := bX'
        replace bF' : Hid (FB _ a11 pingF _) := bF'
        clear hB bX bF hA
        go_wp2_with fail
        have bX := bX'
        have bF : Hid (FB _ a11 pingF _) := bF'
        clear bX' bF'
        clear d0 d1 f0 f1 z0 z1 z2 z3 z4 z5 z6 z7 z8 z9 z10 w0 w1 w2 w3 w4 w5 w6 w7 w8 w9 w10
        refine (next_all hN.out 1 (g := g2) (v := v2) (S := ⟨⟨#[]⟩, prioL [a0, a1, a2, a3] [y0, y1, y2, y3] ++ pingL, 16384, 0⟩) rfl _ (next_prio a0 a1 a2 a3 y0 y1 y2 y3 pingL id hid hid1 hid2)).mono ?_
        rintro e W3 ⟨rb, rl, rc, v2, rfl, -, -, hB, kt⟩
        replace hB : All w W3 [(g1, v1, S), (g2, v2, ⟨⟨#[]⟩, pingL, 16384, 0⟩)] := hB
        replace bF : FB W3 a11 pingF (.slice qb ql qc) := kt.fb bF.out
        replace bX := kt.box bX.out
        clear hN kt
        simp only [Fr.zero]
        obtain ⟨d0, d1, f0, f1⟩ := box_cells bX
        obtain ⟨-, -, -, z3, -⟩ := bF.cells
        obtain ⟨hA, bF', bX'⟩ := one_set hB a11 _ _ _ _ bF bX hwa.out 6 (id : Nat)
        (try simp only [sets, fsets, List.foldl_cons, List.foldl_nil, pingF] at hA bX')
        have hN : Hid (All w _ _) := hA
        replace bX' : Hid _ := bX'
        replace bF' : Hid (FB _ a11 pingF _) := bF'
        clear hB bX bF hA
        go_wp2_with fail
        have bX := bX'
        have bF : Hid (FB _ a11 pingF _) := bF'
        clear bX' bF'
        clear d0 d1 f0 f1 z3
        refine (next_all hN.out 1 (g := g2) (v := v2) (S := ⟨⟨#[]⟩, pingL, 16384, 0⟩) rfl _ next_ping).mono ?_
        rintro e W4 ⟨sb, sl, sc, v2, rfl, -, -, hB, kt⟩
        replace hB : All w W4 [(g1, v1, S), (g2, v2, ⟨⟨#[]⟩, [], 16384, 0⟩)] := hB
        replace bF : FB W4 a11 pingF (.slice qb ql qc) := kt.fb bF.out
        replace bX := kt.box bX.out
        clear hN kt
        simp only [pingF]
        obtain ⟨d0, d1, f0, f1⟩ := box_cells bX
        obtain ⟨z0, z1, z2, z3, z4, z5, z6, z7, z8, z9, z10⟩ := bF.cells
        obtain ⟨w0, w1, w2, w3, w4, w5, w6, w7, w8, w9, w10⟩ := bF.frozens
        obtain ⟨hA, bF', bX'⟩ := both_set hB a11 _ _ _ _ bF bX hwa.out pingF (.slice sb sl sc) 0 0
        simp only [pingF] at z0 z1 z2 z3 z4 z5 z6 z7 z8 z9 z10
        (try simp only [sets, fsets, List.foldl_cons, List.foldl_nil, pingF] at hA bX')
        have hN : Hid (All w _ _) := hA
        replace bX' : Hid _ := bX'
        replace bF' : Hid (FB _ a11 pingF _) := bF'
        clear hB bX bF hA
        go_wp2_with fail
        have bX := bX'
        have bF : Hid (FB _ a11 pingF _) := bF'
        clear bX' bF'
        clear d0 d1 f0 f1 z0 z1 z2 z3 z4 z5 z6 z7 z8 z9 z10 w0 w1 w2 w3 w4 w5 w6 w7 w8 w9 w10
        refine (next_all hN.out 1 (g := g2) (v := v2) (S := ⟨⟨#[]⟩, [], 16384, 0⟩) rfl _ next_none).mono ?_
        rintro e W5 ⟨tb, tl, tc, v2, rfl, -, -, hB, kt⟩
        replace hB : All w W5 [(g1, v1, S), (g2, v2, ⟨⟨#[]⟩, [], 16384, 0⟩)] := hB
        replace bF : FB W5 a11 pingF (.slice sb sl sc) := kt.fb bF.out
        replace bX := kt.box bX.out
        clear hN kt
        simp only [Fr.zero]
        obtain ⟨d0, d1, f0, f1⟩ := box_cells bX
        obtain ⟨-, -, -, z3, -⟩ := bF.cells
        obtain ⟨hA, bF', bX'⟩ := one_set hB a11 _ _ _ _ bF bX hwa.out 0 0
        have hw1 := wait_all hA 1 (g := g2) (v := v2) (S := ⟨⟨#[]⟩, [], 16384, 0⟩) rfl
        have hfin : Hid _ := hA.bel
        clear hB bX bF hA bF' bX'
        go_wp2_with (first | (go_at_call 13; refine hw1.mono ?_; rintro e W ⟨rfl, rfl⟩))
        go_ret
        exact ⟨rfl, hfin.out⟩

theorem byte_of (n : Nat) (h : n < 256) : ((UInt8.ofNat n).toNat : Int) = (n : Int) := by
  rw [UInt8.toNat_ofNat', Nat.mod_eq_of_lt h]

theorem feedBroken_any (cb : Option Addr) (n cc : Nat) (chunks : List ByteArray) (hn : n = chunks.length) (limit four stream : Int) (w : World) (hK : Kinds w) (hw : 1 ≤ w.heap.size)
    (hcells : ∀ W, Below w.heap.size w W → ∀ (i : Nat) (hi : i < chunks.length), ∃ a, cb = some a ∧ W.cell? (a.add i) = some (.string chunks[i])) (hsz : ∀ s ∈ chunks, s.size ≤ 140737488351232) (hnb : n ≤ 140737488351232)
    (hf0 : 0 ≤ four) (hf1 : four < 4294967296) :
    Calls Tryd.prog 4 #[.slice cb n cc, .int .i64 limit, .int .u32 four, .int .u32 stream] w fun e w' => e = .returned (.bool true) ∧ Below w.heap.size w w' := by
  obtain ⟨I, hI⟩ : ∃ I : Nat, I = (BitVec.ofInt 32 stream).toNat % 2147483648 := ⟨_, rfl⟩
  have hI31 : I < 2147483648 := by rw [hI]; exact Nat.mod_lt _ (by decide)
  have hbits : bits .and .u32 stream 2147483647 = (I : Int) := by
    show IntKind.u32.wrap (((BitVec.ofInt 32 stream &&& BitVec.ofInt 32 2147483647) : BitVec 32).toNat : Int) = _
    rw [BitVec.toNat_and, show (BitVec.ofInt 32 2147483647).toNat = 2 ^ 31 - 1 from rfl, Nat.and_two_pow_sub_one_eq_mod, show (2 : Nat) ^ 31 = 2147483648 from rfl, ← hI]
    rw [IntKind.wrap_u32]
    omega
  obtain ⟨F, hF⟩ : ∃ F : Nat, four = (F : Int) := ⟨four.toNat, by omega⟩
  subst hF
  have key : ∀ id : Nat, 1 ≤ id → id ≤ 2147483647 → ((I = 0 ∧ id = 1) ∨ (I ≠ 0 ∧ id = I)) →
      Calls Tryd.prog 4 #[.slice cb n cc, .int .i64 limit, .int .u32 (F : Int), .int .u32 stream] w fun e w' => e = .returned (.bool true) ∧ Below w.heap.size w w' := fun id h1 h2 h3 => by
    have b0 := byte_of (id / 16777216) (by omega)
    have b1 := byte_of (id / 65536 % 256) (by omega)
    have b2 := byte_of (id / 256 % 256) (by omega)
    have b3 := byte_of (id % 256) (by omega)
    have y0 := byte_of (F / 16777216) (by omega)
    have y1 := byte_of (F / 65536 % 256) (by omega)
    have y2 := byte_of (F / 256 % 256) (by omega)
    have y3 := byte_of (F % 256) (by omega)
    refine feedBroken_walk id (UInt8.ofNat (id / 16777216)) (UInt8.ofNat (id / 65536 % 256)) (UInt8.ofNat (id / 256 % 256)) (UInt8.ofNat (id % 256)) (UInt8.ofNat (F / 16777216)) (UInt8.ofNat (F / 65536 % 256)) (UInt8.ofNat (F / 256 % 256)) (UInt8.ofNat (F % 256)) ?_ h1 h2 cb n cc chunks hn limit F stream w hK hw hcells hsz hnb I hbits hI31 h3 (by rw [b0]; omega) (by rw [b1]; omega) (by rw [b2]; omega) (by rw [b3]; omega) hf0 hf1 (by rw [y0]; omega) (by rw [y1]; omega) (by rw [y2]; omega) (by rw [y3]; omega)
    have c0 : (UInt8.ofNat (id / 16777216)).toNat = id / 16777216 := Int.ofNat.inj b0
    have c1 : (UInt8.ofNat (id / 65536 % 256)).toNat = id / 65536 % 256 := Int.ofNat.inj b1
    have c2 : (UInt8.ofNat (id / 256 % 256)).toNat = id / 256 % 256 := Int.ofNat.inj b2
    have c3 : (UInt8.ofNat (id % 256)).toNat = id % 256 := Int.ofNat.inj b3
    simp only [numL, List.foldl_cons, List.foldl_nil, c0, c1, c2, c3]
    omega
  by_cases h0 : I = 0
  · exact key 1 (by omega) (by omega) (.inl ⟨h0, rfl⟩)
  · exact key I (by omega) (by omega) (.inr ⟨h0, rfl⟩)
end Go.Proofs.YtmhbaaemihljjaaDoor
