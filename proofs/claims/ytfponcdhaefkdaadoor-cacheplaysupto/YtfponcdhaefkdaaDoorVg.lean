import Derived.Test.YtfponcdhaefkdaaDoorVd
import Derived.BigQuiet
import Derived.Deep.QuietTactic
/- The law's list of what is known: conf, place, without. -/
namespace Go.Proofs.YtfponcdhaefkdaaDoor
open Go.RowKit
set_option linter.unusedVariables false
set_option linter.unusedSimpArgs false
/-- an entry that the law knows -/
structure Kn where
  st : Int
  ar : Int
  q : Rq
  rn : Int
  ry : SV
  rb : ByteArray
  fq : List Fd
  fr : List Fd
def knv (k : Kn) : Array Value := #[.int .i64 k.st, .int .i64 k.ar, .string k.q.m, .string k.q.s, .string k.q.a, .string k.q.p, sv k.q.y, .string k.q.b, .int .i64 k.rn, sv k.ry, .string k.rb]
def EK : El Kn := ⟨56, 95, 11, 168, fun k => (knv k).toList⟩
theorem okK : EK.Ok := ⟨Tryd.underlying56, by kernel_rfl, by decide, by decide, fun _ => rfl, fun a u hu => by
  simp only [EK, knv, List.mem_cons, List.not_mem_nil, or_false] at hu
  rcases hu with rfl | rfl | rfl | rfl | rfl | rfl | rfl | rfl | rfl | rfl | rfl <;> rfl⟩
/-- its eleven cells -/
def Cells11 (W : World) (B o : Nat) (k : Kn) : Prop := W.cell? ⟨B, o, none⟩ = some (.int .i64 k.st) ∧ W.cell? ⟨B, o + 1, none⟩ = some (.int .i64 k.ar) ∧ W.cell? ⟨B, o + 2, none⟩ = some (.string k.q.m) ∧ W.cell? ⟨B, o + 3, none⟩ = some (.string k.q.s) ∧ W.cell? ⟨B, o + 4, none⟩ = some (.string k.q.a) ∧ W.cell? ⟨B, o + 5, none⟩ = some (.string k.q.p) ∧ W.cell? ⟨B, o + 6, none⟩ = some (sv k.q.y) ∧ W.cell? ⟨B, o + 7, none⟩ = some (.string k.q.b) ∧ W.cell? ⟨B, o + 8, none⟩ = some (.int .i64 k.rn) ∧ W.cell? ⟨B, o + 9, none⟩ = some (sv k.ry) ∧ W.cell? ⟨B, o + 10, none⟩ = some (.string k.rb)
theorem In.kn {w : World} {v : Value} {l : List Kn} (h : In EK w v l) (k : Nat) (hk : k < l.length) : ∃ B off cap, v = .slice (some ⟨B, off, none⟩) l.length cap ∧ ∀ W, Below w.heap.size w W → Cells11 W B (off + k * 11) l[k] := by
  obtain ⟨B, off, cap, e, hB, d⟩ := h.get okK k hk
  exact ⟨B, off, cap, e, fun W hb => ⟨(hb.cell hB).trans (d 0 _ rfl), (hb.cell hB).trans (d 1 _ rfl), (hb.cell hB).trans (d 2 _ rfl), (hb.cell hB).trans (d 3 _ rfl), (hb.cell hB).trans (d 4 _ rfl), (hb.cell hB).trans (d 5 _ rfl), (hb.cell hB).trans (d 6 _ rfl), (hb.cell hB).trans (d 7 _ rfl), (hb.cell hB).trans (d 8 _ rfl), (hb.cell hB).trans (d 9 _ rfl), (hb.cell hB).trans (d 10 _ rfl)⟩⟩
/-- the entry of a stream -/
def plK (L : List Kn) (s : Int) : Int := oI (L.findIdx? fun k => decide (k.st = s))
theorem plK_some {L : List Kn} {s : Int} {k : Nat} (h : k < L.length) (h1 : L[k].st = s) (h2 : ∀ j (hj : j < L.length), j < k → L[j].st ≠ s) : plK L s = (k : Int) := by
  have : L.findIdx? (fun k => decide (k.st = s)) = some k := List.findIdx?_eq_some_iff_getElem.2 ⟨h, decide_eq_true h1, fun j hj => by simpa using h2 j (by omega) hj⟩
  unfold plK
  rw [this]
  rfl
theorem plK_none {L : List Kn} {s : Int} (h2 : ∀ j (hj : j < L.length), L[j].st ≠ s) : plK L s = -1 := by
  have : L.findIdx? (fun k => decide (k.st = s)) = none := List.findIdx?_eq_none_iff.2 fun x hx => by
    obtain ⟨j, hj, rfl⟩ := List.getElem_of_mem hx
    exact decide_eq_false (h2 j hj)
  unfold plK
  rw [this]
  rfl
set_option maxHeartbeats 4000000 in
set_option maxRecDepth 100000 in
theorem place_any (y : SV) (L : List Kn) (s : Int) (w : World) (hI : In EK w (sv y) L) :
    Calls Tryd.prog 43 #[sv y, .int .i64 s] w fun e w' => e = .returned (.int .i64 (plK L s)) ∧ w' = w := by
  have HI : Hid (In EK w (sv y) L) := hI
  obtain ⟨sb, sl, sc⟩ := y
  obtain ⟨e1, e2, e3⟩ := slice_len hI
  subst e1
  simp only [sv] at HI ⊢
  obtain ⟨N, hN⟩ : ∃ N, L.length = N := ⟨_, rfl⟩
  rw [hN] at HI e2 ⊢
  have HN : Hid (L.length = N) := hN
  obtain ⟨pv, hpv⟩ : ∃ p, plK L s = p := ⟨_, rfl⟩
  have HP : Hid (plK L s = pv) := hpv
  rw [hpv]
  clear hI hN hpv
  go_enter Tryd.func43, Tryd.ntmps43
  go_wp2_with fail
  go_loopw [5] (fun iv wr => ∃ k : Nat, iv = .int .i64 (k : Int) ∧ k ≤ N ∧ wr = w ∧ Hid (∀ j (hj : j < L.length), j < k → L[j].st ≠ s)) (fun iv _ => N - (intOf iv).toNat)
  case atStart => exact ⟨0, rfl, by omega, rfl, fun j _ h => by omega⟩
  case round =>
    obtain ⟨k, rfl, hk, rfl, hj⟩ := hrel
    by_cases hlt : k < N
    · obtain ⟨Bk, off, cap, e, hc⟩ := HI.out.kn k (by rw [HN.out]; exact hlt)
      injection e with e1 e2 e3
      clear e2 e3
      subst e1
      have l1 : (k : Int) < (N : Int) := by omega
      have c0 := (hc wr (Below.refl _ _)).1
      obtain ⟨x, hx⟩ : ∃ x, (L[k]'(by rw [HN.out]; exact hlt)).st = x := ⟨_, rfl⟩
      rw [hx] at c0
      have HX : Hid ((L[k]'(by rw [HN.out]; exact hlt)).st = x) := hx
      clear hc hx
      by_cases hxs : x = s
      · have HE : Hid (pv = (k : Int)) := by
          show _ = _
          rw [← HP.out]
          exact plK_some (by rw [HN.out]; exact hlt) (HX.out.trans hxs) hj.out
        subst hxs
        clear hj HP HX
        go_wp2_with fail
        go_ret
        refine ⟨?_, rfl⟩
        rw [HE.out]
        rfl
      · have hb : (x == s) = false := beq_eq_false_iff_ne.2 hxs
        have HJ : Hid (∀ j (hj : j < L.length), j < k + 1 → L[j].st ≠ s) := fun j hj' hjk => by
          by_cases e : j = k
          · subst e; rw [HX.out]; exact hxs
          · exact hj.out j hj' (by omega)
        clear hj HX
        go_wp2_with fail
        go_roundw
        case rel => exact ⟨k + 1, by simp, by omega, by first | trivial | rfl, HJ.out⟩
        case measure => simp [intOf]; omega
    · have l1 : ¬ (k : Int) < (N : Int) := by omega
      have HE : Hid (pv = -1) := by
        show _ = _
        rw [← HP.out]
        exact plK_none fun j hj' => hj.out j hj' (by have := HN.out; omega)
      clear hj HP
      go_wp2_with fail
      go_ret
      refine ⟨?_, rfl⟩
      rw [HE.out]
      rfl
theorem In.takeK {w : World} {a : Addr} {n cap : Nat} {L : List Kn} (h : In EK w (.slice (some a) n cap) L) (i : Nat) (hi : i ≤ L.length) : In EK w (.slice (some a) i cap) (L.take i) := by
  rcases h with ⟨h, _⟩ | ⟨a', c, e, h2, h3, h4⟩
  · cases h
  · injection e with e1 e2 e3
    injection e1 with e1
    subst e1 e2 e3
    have hl : (L.take i).length = i := by rw [List.length_take]; omega
    refine .inr ⟨a, cap, by rw [hl], by rw [hl]; omega, h3, fun j u hu => h4 j u ?_⟩
    have : EK.cs L = EK.cs (L.take i) ++ EK.cs (L.drop i) := by rw [← El.cs_append, List.take_append_drop]
    rw [this, List.getElem?_append_left (List.getElem?_eq_some_iff.1 hu).1]
    exact hu
theorem In.dropK {w : World} {B off n cap : Nat} {L : List Kn} (h : In EK w (.slice (some ⟨B, off, none⟩) n cap) L) (i : Nat) (hi : i ≤ L.length) (A : Addr) (hA : L.length - i = 0 ∨ A = ⟨B, off + i * 11, none⟩) : In EK w (.slice (some A) (L.length - i) (cap - i)) (L.drop i) := by
  rcases h with ⟨h, _⟩ | ⟨a', c, e, h2, h3, h4⟩
  · cases h
  · injection e with e1 e2 e3
    injection e1 with e1
    subst e1 e2 e3
    have hl : (L.drop i).length = L.length - i := List.length_drop
    refine .inr ⟨A, cap - i, by rw [hl], by rw [hl]; omega, by omega, fun j u hu => ?_⟩
    rcases hA with h0 | rfl
    · have : L.drop i = [] := List.eq_nil_of_length_eq_zero (by rw [hl]; exact h0)
      rw [this] at hu
      simp [El.cs] at hu
    · have h5 : (EK.cs (L.take i)).length = i * 11 := by rw [okK.length, List.length_take, Nat.min_eq_left hi]; rfl
      have h6 : (EK.cs L)[i * 11 + j]? = some u := by
        have : EK.cs L = EK.cs (L.take i) ++ EK.cs (L.drop i) := by rw [← El.cs_append, List.take_append_drop]
        rw [this, List.getElem?_append_right (by rw [h5]; omega), h5, Nat.add_sub_cancel_left]
        exact hu
      have := h4 _ _ h6
      rw [Addr.add_lit] at this ⊢
      rw [Nat.add_assoc]
      exact this
set_option maxHeartbeats 8000000 in
set_option maxRecDepth 100000 in
theorem without_any (y : SV) (L : List Kn) (i : Nat) (hi : i < L.length) (hl : L.length ≤ 1000) (w : World) (hI : In EK w (sv y) L) :
    Calls Tryd.prog 46 #[sv y, .int .i64 (i : Int)] w fun e w' => ∃ z : SV, e = .returned (sv z) ∧ R EK w' (sv z) (L.eraseIdx i) ∧ (∀ k, (sv z).ownBlock = some k → w.heap.size ≤ k) ∧ Below w.heap.size w w' := by
  obtain ⟨B, off, cap, e, hB, _⟩ := hI.get okK i hi
  rw [e]
  rw [e] at hI
  obtain ⟨_, m1, m2⟩ := slice_len hI
  obtain ⟨b1, c1, w1, r1, R1, G1⟩ := app okK w (.slice none 0 0) [] (R.nil EK w) _ _ (hI.takeK i (by omega)) (by simp only [EK, List.length_nil, List.length_take]; omega)
  have hl1 : ([] : List Kn).length + (L.take i).length = i := by rw [List.length_nil, List.length_take]; omega
  rw [hl1] at r1 R1 G1
  have hI1 : In EK w1 (.slice (some ⟨B, off, none⟩) L.length cap) L := hI.below G1.fresh
  have key : ∀ A : Addr, (L.length - (i + 1) = 0 ∨ A = ⟨B, off + (i + 1) * 11, none⟩) → ∃ b2 c2 w2, Hid ((Builtin.append_ #[56, 56] 56 #[.slice b1 i c1, .slice (some A) (L.length - (i + 1)) (cap - (i + 1))]).run Tryd.prog w1 = .ok (.slice b2 (L.length - 1) c2) w2 ∧ R EK w2 (.slice b2 (L.length - 1) c2) (L.eraseIdx i) ∧ (∀ k, (Value.slice b2 (L.length - 1) c2).ownBlock = some k → w.heap.size ≤ k) ∧ Below w.heap.size w w2) := fun A hA => by
    obtain ⟨b2, c2, w2, r2, R2, G2⟩ := app okK w1 (.slice b1 i c1) (L.take i) R1 _ _ (hI1.dropK (i + 1) (by omega) A hA) (by simp only [EK, List.length_take, List.length_drop]; omega)
    have hl2 : (L.take i).length + (L.drop (i + 1)).length = L.length - 1 := by rw [List.length_take, List.length_drop]; omega
    rw [hl2] at r2 R2 G2
    rw [← List.eraseIdx_eq_take_drop_succ] at R2
    have hG := G1.trans G2
    exact ⟨b2, c2, w2, r2, R2, hG.new, hG.fresh⟩
  obtain ⟨j, hj⟩ : ∃ j : Nat, i + 1 = j := ⟨_, rfl⟩
  have q1 : (i : Int) + 1 = (j : Int) := by omega
  obtain ⟨N, hN⟩ : ∃ N, L.length = N := ⟨_, rfl⟩
  rw [hj] at key
  rw [hN] at hi m1 hl key ⊢
  obtain ⟨m, hm⟩ : ∃ m, N - j = m := ⟨_, rfl⟩
  obtain ⟨d, hd⟩ : ∃ m, cap - j = m := ⟨_, rfl⟩
  rw [hm, hd] at key
  have a1 : (i : Int) ≤ (N : Int) := by omega
  have a2 : (j : Int) ≤ (N : Int) := by omega
  have a3 : (i : Int) ≤ (cap : Int) := by omega
  have a4 : (j : Int) ≤ (cap : Int) := by omega
  have a5 : (N : Int) ≤ (cap : Int) := by omega
  replace r1 : Hid _ := r1
  by_cases hcj : cap = j
  · obtain ⟨b2, c2, w2, K⟩ := key ⟨B, off, none⟩ (.inl (by omega))
    have hrun := K.out.1
    have HK : Hid (R EK w2 (.slice b2 (N - 1) c2) (L.eraseIdx i) ∧ (∀ k, (Value.slice b2 (N - 1) c2).ownBlock = some k → w.heap.size ≤ k) ∧ Below w.heap.size w w2) := K.out.2
    replace hrun : Hid _ := hrun
    have d0 : d = 0 := by omega
    have m0 : m = 0 := by omega
    have nj : N = j := by omega
    clear hm hd hI hI1 hN hB key K
    subst d0 m0 nj hcj
    clear a1 a2 a3 a4 a5
    have a1 : (i : Int) ≤ (cap : Int) := by omega
    have a2 : (cap : Int) ≤ (cap : Int) := by omega
    clear R1 G1 hj hi hl m1 e
    go_enter Tryd.func46, Tryd.ntmps46
    go_wp2_with first | (at_builtin; refine Lib.wpList_append_run _ rfl _ _ _ _ rfl _ _ rfl rfl _ _ r1.out ?_) | (at_builtin; refine Lib.wpList_append_run _ rfl _ _ _ _ rfl _ _ rfl rfl _ _ hrun.out ?_)
    go_ret
    first | exact ⟨(b2, cap - 1, c2), rfl, HK.out⟩ | exact ⟨b2, cap - 1, c2, rfl, HK.out⟩
  · obtain ⟨b2, c2, w2, K⟩ := key ⟨B, off + j * 11, none⟩ (.inr rfl)
    have hrun := K.out.1
    have HK : Hid (R EK w2 (.slice b2 (N - 1) c2) (L.eraseIdx i) ∧ (∀ k, (Value.slice b2 (N - 1) c2).ownBlock = some k → w.heap.size ≤ k) ∧ Below w.heap.size w w2) := K.out.2
    replace hrun : Hid _ := hrun
    have hd0 : ¬ d = 0 := by omega
    clear key K hI hI1 R1 G1 hj hN hi hl m1 e
    go_enter Tryd.func46, Tryd.ntmps46
    go_wp2_with first | (at_builtin; refine Lib.wpList_append_run _ rfl _ _ _ _ rfl _ _ rfl rfl _ _ r1.out ?_) | (at_builtin; refine Lib.wpList_append_run _ rfl _ _ _ _ rfl _ _ rfl rfl _ _ hrun.out ?_)
    go_ret
    first | exact ⟨(b2, N - 1, c2), rfl, HK.out⟩ | exact ⟨b2, N - 1, c2, rfl, HK.out⟩
/-- the law's bounds -/
theorem and6 (n : Int) : bits .and .i64 n 63 = n % 64 := and_any n 6 (by decide)
theorem and12 (n : Int) : bits .and .i64 n 4095 = n % 4096 := and_any n 12 (by decide)
theorem and5 (n : Int) : bits .and .i64 n 31 = n % 32 := and_any n 5 (by decide)
set_option maxHeartbeats 4000000 in
theorem conf_any (a b c d : Int) (w : World) : Calls Tryd.prog 18 #[.agg #[.int .i64 a, .int .i64 b, .int .i64 c, .int .i64 d]] w fun e w' => e = .returned (.agg #[.int .i64 (a % 64), .int .i64 (b % 4096), .int .i64 (c % 32), .int .i64 0]) ∧ Below w.heap.size w w' := by
  have h1 := and6 a
  have h2 := and12 b
  have h3 := and5 c
  go_enter Tryd.func18, Tryd.ntmps18
  go_wp2_with fail
  refine bodyPost_ret (results_cell_row (p := 2) (ty := 36) rfl _ _ (w.heap.size + 1) 36 _ (0, 0) _ rfl (fresh2 _ _ _) Tryd.underlying36 rfl (by kernel_rfl)) rfl ?_
  exact ⟨rfl, bel2 _ _ _⟩
end Go.Proofs.YtfponcdhaefkdaaDoor
/- The law's size and answers. -/
namespace Go.Proofs.YtfponcdhaefkdaaDoor
open Go.RowKit
set_option linter.unusedVariables false
set_option linter.unusedSimpArgs false
set_option maxHeartbeats 8000000 in
set_option maxRecDepth 100000 in
theorem size44_any (n : Int) (y : SV) (b : ByteArray) (l : List Fd) (w : World) (hI : In EFd w (sv y) l) (hz : b.size + szL l ≤ 4611686018427387904) :
    Calls Tryd.prog 44 #[.agg (rsv n (sv y) b)] w fun e w' => e = .returned (.int .i64 ((b.size + szL l : Nat) : Int)) ∧ Below w.heap.size w w' := by
  obtain ⟨W, hW⟩ : ∃ W, w.alloc (.cells (rsv n (sv y) b) 26) = W := ⟨_, rfl⟩
  obtain ⟨r0, hr0⟩ : ∃ k, w.heap.size = k := ⟨_, rfl⟩
  have hbW : Below w.heap.size w W := by rw [← hW]; exact bel1 _ _
  have hb0 : W.heap[r0]? = some (.cells (rsv n (sv y) b) 26 (0, 0)) := by rw [← hW, ← hr0, heap_al, if_pos rfl]
  have HBW : Hid (Below w.heap.size w W) := hbW
  have HC : Hid (∀ V, Below W.heap.size W V → V.cell? ⟨r0, 0, none⟩ = some (.int .i64 n) ∧ V.cell? ⟨r0, 1, none⟩ = some (sv y) ∧ V.cell? ⟨r0, 2, none⟩ = some (.string b)) := fun V hV => by
    have h := (hV.block r0 (heap_lt hb0)).trans hb0
    exact ⟨cell_blk h 0, cell_blk h 1, cell_blk h 2⟩
  have HI : Hid (In EFd W (sv y) l) := hI.below hbW
  have HZ : Hid (b.size + szL l ≤ 4611686018427387904) := hz
  obtain ⟨bb, c, e, m1, m2⟩ := hI.slice
  obtain ⟨sb, sl, sc⟩ := y
  unfold rsv at hW ⊢
  simp only [sv] at e HI HC hW ⊢
  injection e with e1 e2 e3
  subst e1 e2 e3
  obtain ⟨N, hN⟩ : ∃ N, l.length = N := ⟨_, rfl⟩
  rw [hN] at HI m1 HC hW ⊢
  have HN : Hid (l.length = N) := hN
  have hbz : b.size ≤ 4611686018427387904 := by omega
  obtain ⟨p0, p1, p2⟩ := HC.out W (Below.refl _ _)
  obtain ⟨T, hT⟩ : ∃ T, b.size + szL l = T := ⟨_, rfl⟩
  rw [hT]
  have HT : Hid (b.size + szL l = T) := hT
  clear hI hz hN hbW hb0 hT
  go_enter Tryd.func44, Tryd.ntmps44
  go_wp2_with fail
  try rw [hW]
  try rw [hr0]
  clear hW p0 p1 p2 hr0
  go_loopw [3, 4] (fun tv kv wr => ∃ k t : Nat, kv = .int .i64 (k : Int) ∧ k ≤ N ∧ tv = .int .i64 (t : Int) ∧ Hid (t = b.size + szL (l.take k)) ∧ Hid (Below W.heap.size W wr)) (fun _ kv _ => N - (intOf kv).toNat)
  case atStart => exact ⟨0, b.size, rfl, by omega, rfl, by show _ = _; simp [szL], Below.refl _ _⟩
  case round =>
    obtain ⟨k, t, rfl, hk, rfl, ht, hb⟩ := hrel
    obtain ⟨p0, p1, p2⟩ := HC.out wr hb.out
    by_cases hlt : k < N
    · obtain ⟨Bk, off, cap, e, hc⟩ := HI.out.fd k (by rw [HN.out]; exact hlt)
      injection e with e1 e2 e3
      clear e2 e3
      subst e1
      obtain ⟨c0, c1, c2⟩ := hc wr hb.out
      obtain ⟨y, hy⟩ : ∃ y, l[k]'(by rw [HN.out]; exact hlt) = y := ⟨_, rfl⟩
      rw [hy] at c0 c1 c2
      have l1 : (k : Int) < (N : Int) := by omega
      have HT : Hid (t + 32 + y.n.size + y.v.size = b.size + szL (l.take (k + 1)) ∧ t + 32 + y.n.size + y.v.size ≤ 4611686018427387904) := by
        have h1 := szL_take (l := l) (k := k) (by rw [HN.out]; exact hlt)
        rw [hy] at h1
        have h2 := ht.out
        have h3 := szL_le l (k + 1)
        have h4 := HZ.out
        exact ⟨by omega, by omega⟩
      obtain ⟨yn, yv, ynv⟩ := y
      simp only at c0 c1 c2 HT
      obtain ⟨z1, hz1⟩ : ∃ z : Nat, t + 32 = z := ⟨_, rfl⟩
      have q0 : (t : Int) + 32 = (z1 : Int) := by omega
      have q1 : z1 ≤ 4611686018427387904 := by have := HT.out.2; omega
      obtain ⟨z2, hz2⟩ : ∃ z : Nat, z1 + yn.size = z := ⟨_, rfl⟩
      have q2 : (z1 : Int) + (yn.size : Int) = (z2 : Int) := by omega
      have q3 : z2 ≤ 4611686018427387904 := by have := HT.out.2; omega
      obtain ⟨z3, hz3⟩ : ∃ z : Nat, z2 + yv.size = z := ⟨_, rfl⟩
      have q4 : (z2 : Int) + (yv.size : Int) = (z3 : Int) := by omega
      have q5 : z3 ≤ 4611686018427387904 := by have := HT.out.2; omega
      have HZ3 : Hid (z3 = b.size + szL (l.take (k + 1))) := by show _ = _; rw [← HT.out.1]; omega
      clear hc hy HT hz1 hz2 hz3 p0 p2
      go_wp2_with fail
      go_quiet (fail)
      go_wp2_with fail
      go_roundw
      case rel => exact ⟨k + 1, z3, by simp, by omega, by first | rfl | simp, HZ3.out, below_drewN hb.out _⟩
      case measure => simp [intOf]; omega
    · obtain rfl : k = N := by omega
      have l1 : ¬ (k : Int) < (k : Int) := by omega
      have HE : Hid (t = T ∧ Below w.heap.size w wr) := ⟨by rw [ht.out, List.take_of_length_le (by rw [HN.out]; omega), HT.out], HBW.out.trans (hb.out.mono HBW.out.size)⟩
      clear ht hb
      go_wp2_with fail
      go_ret
      refine ⟨?_, HE.out.2⟩
      rw [← HE.out.1]
      rfl
/-- what an entry of the law's list answers -/
def anK (now life : Int) (q : Rq) (Q : List Fd) (k : Kn) : Bool := decide (q.b = ⟨#[]⟩) && (decide (now - k.ar ≤ life) && mtB k.q q k.fq Q (nmF k.fr))
/-- sizes of an entry that is known -/
structure Kz (k : Kn) : Prop where
  zq : k.fq.length ≤ 1099511627776
  zr : k.fr.length ≤ 1099511627776
  zv : ∀ v ∈ vsL k.fr varyS, v.size ≤ 140737488355328
  zn : (allP (vsL k.fr varyS)).length ≤ 4398046511104
  st : starB k.fr = false
set_option maxHeartbeats 8000000 in
set_option maxRecDepth 100000 in
theorem answers_any (k : Kn) (q : Rq) (Q : List Fd) (now life : Int) (w : World) (hq : In EFd w (sv k.q.y) k.fq) (hr : In EFd w (sv k.ry) k.fr) (hQ : In EFd w (sv q.y) Q) (hz : Kz k) (zQ : Q.length ≤ 1099511627776) (ha : 0 ≤ k.ar ∧ k.ar ≤ now ∧ now ≤ 9223372036854775807) :
    Calls Tryd.prog 45 #[.agg (knv k), .agg (rqv q), .int .i64 now, .int .i64 life] w fun e w' => e = .returned (.bool (anK now life q Q k)) ∧ Below w.heap.size w w' := by
  obtain ⟨W, hW⟩ : ∃ W, (w.alloc (.cells (knv k) 95)).alloc (.cells (rqv q) 24) = W := ⟨_, rfl⟩
  obtain ⟨k0, hk0⟩ : ∃ k, w.heap.size = k := ⟨_, rfl⟩
  obtain ⟨q0, hq0⟩ : ∃ k, k0 + 1 = k := ⟨_, rfl⟩
  have hbW : Below w.heap.size w W := by rw [← hW]; exact bel2 _ _ _
  have hbk : W.heap[k0]? = some (.cells (knv k) 95 (0, 0)) := by rw [← hW, ← hk0, heap_al, if_neg (by simp), heap_al, if_pos rfl]
  have hbq : W.heap[q0]? = some (.cells (rqv q) 24 (0, 0)) := by rw [← hW, ← hq0, ← hk0]; exact fresh2 _ _ _
  have HBW : Hid (Below w.heap.size w W) := hbW
  have HC : Hid (∀ V, Below W.heap.size W V → Cells11 V k0 0 k ∧ RqB V q0 q) := fun V hV => by
    have h := (hV.block k0 (heap_lt hbk)).trans hbk
    exact ⟨⟨cell_blk h 0, cell_blk h 1, cell_blk h 2, cell_blk h 3, cell_blk h 4, cell_blk h 5, cell_blk h 6, cell_blk h 7, cell_blk h 8, cell_blk h 9, cell_blk h 10⟩, (hV.block q0 (heap_lt hbq)).trans hbq⟩
  have HN : Hid (Calls Tryd.prog 7 #[.agg (rsv k.rn (sv k.ry) k.rb)] W fun e w' => NmPost (vsL k.fr varyS) W e w') := names_any k.rn k.ry k.rb k.fr W (hr.below hbW) (by have := hz.zr; omega) hz.zv hz.zn
  have HM : Hid (∀ V, Below W.heap.size W V → ∀ t : SV, In ES V (sv t) (nmF k.fr) → Calls Tryd.prog 70 #[.agg (rqv k.q), .agg (rqv q), sv t] V fun e w' => e = .returned (.bool (mtB k.q q k.fq Q (nmF k.fr))) ∧ Below V.heap.size V w') := fun V hV t ht => match_any k.q q t k.fq Q (nmF k.fr) V ((hq.below hbW).below hV) ((hQ.below hbW).below hV) ht (by have := hz.zq; omega) (by omega)
  obtain ⟨d, hd⟩ : ∃ d : Int, now - k.ar = d := ⟨_, rfl⟩
  have hd1 : -9223372036854775808 ≤ d := by omega
  have hd2 : d ≤ 9223372036854775807 := by omega
  have hst : decide (0 < cnt (allP (vsL k.fr varyS)) starS) = false := hz.st
  have HST : Hid (decide (0 < cnt (allP (vsL k.fr varyS)) starS) = false) := hst
  have HA : Hid (anK now life q Q k = (decide (q.b = ⟨#[]⟩) && (decide (d ≤ life) && mtB k.q q k.fq Q (nmF k.fr)))) := by show _ = _; unfold anK; rw [hd]
  obtain ⟨A, hA⟩ : ∃ A, anK now life q Q k = A := ⟨_, rfl⟩
  rw [hA] at HA ⊢
  obtain ⟨nm, hnm⟩ : ∃ nm, nmF k.fr = nm := ⟨_, rfl⟩
  have HNm : Hid (nmL (allP (vsL k.fr varyS)) = nm) := hnm
  obtain ⟨M, hM⟩ : ∃ M, mtB k.q q k.fq Q nm = M := ⟨_, rfl⟩
  rw [hnm] at HM HA
  rw [hM] at HA
  have HM2 : Hid (∀ V, Below W.heap.size W V → ∀ t : SV, In ES V (sv t) nm → Calls Tryd.prog 70 #[.agg (rqv k.q), .agg (rqv q), sv t] V fun e w' => e = .returned (.bool M) ∧ Below V.heap.size V w') := by rw [← hM]; exact HM.out
  obtain ⟨⟨d0, d1, d2, d3, d4, d5, d6, d7, d8, d9, d10⟩, hrq⟩ := HC.out W (Below.refl _ _)
  clear hq hr hQ hz zQ ha hbW hbk hbq hst HM hA hnm hM hrq
  obtain ⟨kst, kar, ⟨km, ks, ka, kp, ⟨ky1, ky2, ky3⟩, kb⟩, krn, ⟨kr1, kr2, kr3⟩, krb, kfq, kfr⟩ := k
  obtain ⟨m, s, a, p, ⟨y1, y2, y3⟩, qb⟩ := q
  simp only [sv, knv, rqv, rsv] at hW HC HN HM2 HA HST HNm hd d0 d1 d2 d3 d4 d5 d6 d7 d8 d9 d10 ⊢
  go_enter Tryd.func45, Tryd.ntmps45
  go_wp2_with fail
  try rw [hW]
  try rw [hk0]
  try rw [hq0]
  clear hW hk0 hq0
  go_at_call 7
  refine HN.out.mono ?_
  rintro e V ⟨⟨t1, t2, t3⟩, rfl, bV, hNr, _⟩
  rw [HST.out]
  rw [HNm.out] at hNr
  obtain ⟨⟨e0, e1, e2, e3, e4, e5, e6, e7, e8, e9, e10⟩, hrq⟩ := HC.out V bV
  obtain ⟨f0, f1, f2, f3, f4, f5, f6⟩ := hrq.cells
  have HMV : Hid (Calls Tryd.prog 70 #[.agg #[.string km, .string ks, .string ka, .string kp, .slice ky1 ky2 ky3, .string kb], .agg #[.string m, .string s, .string a, .string p, .slice y1 y2 y3, .string qb], .slice t1 t2 t3] V fun e w' => e = .returned (.bool M) ∧ Below V.heap.size V w') := HM2.out V bV (t1, t2, t3) hNr.isIn
  have HBV : Hid (Below w.heap.size w V) := HBW.out.trans (bV.mono HBW.out.size)
  simp only [sv] at e0 e1 e2 e3 e4 e5 e6 e7 e8 e9 e10 f0 f1 f2 f3 f4 f5 ⊢
  clear HN HC HM2 bV hNr hrq d0 d1 d2 d3 d4 d5 d6 d7 d8 d9 d10 HST HNm e8 e9 e10 e0
  by_cases hqb : qb = ⟨#[]⟩
  · subst hqb
    rw [decide_eq_true rfl, Bool.true_and] at HA
    by_cases hdl : d ≤ life
    · rw [decide_eq_true hdl, Bool.true_and] at HA
      have HRM : Hid (A = M) := HA.out
      clear HA
      go_wp2_with fail
      go_at_call 70
      refine HMV.out.mono ?_
      rintro e V2 ⟨rfl, b2⟩
      have HB2 : Hid (Below w.heap.size w V2) := HBV.out.trans (b2.mono HBV.out.size)
      clear b2 HMV
      go_wp2_with fail
      go_ret
      refine ⟨?_, HB2.out⟩
      rw [HRM.out]
      rfl
    · rw [decide_eq_false hdl, Bool.false_and] at HA
      have HRM : Hid (A = false) := HA.out
      clear HA HMV
      go_wp2_with fail
      go_ret
      refine ⟨?_, HBV.out⟩
      rw [HRM.out]
      rfl
  · rw [decide_eq_false hqb, Bool.false_and] at HA
    have hqe := st_empty hqb
    have HRM : Hid (A = false) := HA.out
    clear HA HMV hqb
    go_wp2_with fail
    go_ret
    refine ⟨?_, HBV.out⟩
    rw [HRM.out]
    rfl
end Go.Proofs.YtfponcdhaefkdaaDoor
/- The law's book in memory; its bytes. -/
namespace Go.Proofs.YtfponcdhaefkdaaDoor
open Go.RowKit
set_option linter.unusedVariables false
set_option linter.unusedSimpArgs false
def ksz (k : Kn) : Nat := k.rb.size + szL k.fr
def totK (B : List Kn) : Nat := (B.map ksz).sum
theorem totK_take {L : List Kn} {k : Nat} (h : k < L.length) : totK (L.take (k + 1)) = totK (L.take k) + ksz L[k] := by
  unfold totK
  rw [List.take_succ_eq_append_getElem h, List.map_append, List.sum_append]
  simp
theorem totK_le (L : List Kn) (k : Nat) : totK (L.take k) ≤ totK L := by
  unfold totK
  conv => rhs; rw [← List.take_append_drop k L, List.map_append, List.sum_append]
  omega
def bkv (g : Nat) (me mb lf : Int) (z : SV) (now : Int) : Array Value := #[.pointer (some ⟨g, 0, none⟩), .int .i64 me, .int .i64 mb, .int .i64 lf, .int .i64 0, sv z, .int .i64 now]
/-- the law's book at b -/
structure Bk (W : World) (b g : Nat) (me mb lf : Int) (z : SV) (B : List Kn) (now : Int) : Prop where
  blk : W.heap[b]? = some (.cells (bkv g me mb lf z now) 58 (0, 0))
  row : R EK W (sv z) B
  fl : ∀ k ∈ B, R EFd W (sv k.q.y) k.fq ∧ R EFd W (sv k.ry) k.fr
theorem Bk.keep {W W' : World} {b g : Nat} {me mb lf : Int} {z : SV} {B : List Kn} {now : Int} (h : Bk W b g me mb lf z B now) (hk : ∀ (k : Nat) (c : Array Value) (t : TypeId) (fz : Nat × Nat), W.heap[k]? = some (.cells c t fz) → (t = 58 ∨ t = 95 ∨ t = 51) → W'.heap[k]? = W.heap[k]?) : Bk W' b g me mb lf z B now :=
  ⟨(hk _ _ _ _ h.blk (.inl rfl)).trans h.blk, h.row.stays fun k hk' _ => by obtain ⟨c, hc⟩ := h.row.ty k hk'; exact hk _ _ _ _ hc (.inr (.inl rfl)), fun x hx => ⟨(h.fl x hx).1.stays fun k hk' _ => by obtain ⟨c, hc⟩ := (h.fl x hx).1.ty k hk'; exact hk _ _ _ _ hc (.inr (.inr rfl)), (h.fl x hx).2.stays fun k hk' _ => by obtain ⟨c, hc⟩ := (h.fl x hx).2.ty k hk'; exact hk _ _ _ _ hc (.inr (.inr rfl))⟩⟩
theorem Bk.below {W W' : World} {b g : Nat} {me mb lf : Int} {z : SV} {B : List Kn} {now : Int} (h : Bk W b g me mb lf z B now) (hb : Below W.heap.size W W') : Bk W' b g me mb lf z B now := h.keep fun k c t fz hk _ => hb.block k (heap_lt hk)
theorem Bk.cells {W : World} {b g : Nat} {me mb lf : Int} {z : SV} {B : List Kn} {now : Int} (h : Bk W b g me mb lf z B now) : W.cell? ⟨b, 0, none⟩ = some (.pointer (some ⟨g, 0, none⟩)) ∧ W.cell? ⟨b, 1, none⟩ = some (.int .i64 me) ∧ W.cell? ⟨b, 2, none⟩ = some (.int .i64 mb) ∧ W.cell? ⟨b, 3, none⟩ = some (.int .i64 lf) ∧ W.cell? ⟨b, 4, none⟩ = some (.int .i64 0) ∧ W.cell? ⟨b, 5, none⟩ = some (sv z) ∧ W.cell? ⟨b, 6, none⟩ = some (.int .i64 now) ∧ (∀ i, W.frozen? ⟨b, i, none⟩ = false) :=
  ⟨cell_blk h.blk 0, cell_blk h.blk 1, cell_blk h.blk 2, cell_blk h.blk 3, cell_blk h.blk 4, cell_blk h.blk 5, cell_blk h.blk 6, fun i => frozen_blk h.blk i⟩
theorem ty_ne {W : World} {a b : Nat} {c d : Array Value} {t u : TypeId} {f e : Nat × Nat} (h1 : W.heap[a]? = some (.cells c t f)) (h2 : W.heap[b]? = some (.cells d u e)) (hn : t ≠ u) : a ≠ b := fun e => by
  subst e
  rw [h1] at h2
  injection h2 with h2
  injection h2 with _ h2
  exact hn h2
theorem Bk.setL {W W2 : World} {b g : Nat} {me mb lf : Int} {z z' : SV} {B B' : List Kn} {now : Int} (h : Bk W b g me mb lf z B now) (hk : W2.heap[b]? = W.heap[b]?) (hR : R EK W2 (sv z') B') (hf : ∀ k ∈ B', R EFd W2 (sv k.q.y) k.fq ∧ R EFd W2 (sv k.ry) k.fr) : Bk (W2.setCell ⟨b, 5, none⟩ (sv z')) b g me mb lf z' B' now := by
  have hb : W2.heap[b]? = some (.cells (bkv g me mb lf z now) 58 (0, 0)) := hk.trans h.blk
  refine ⟨?_, hR.stays fun k hk' _ => ?_, fun x hx => ⟨(hf x hx).1.stays fun k hk' _ => ?_, (hf x hx).2.stays fun k hk' _ => ?_⟩⟩
  · rw [setCell_block _ _ _ _ _ _ _ hb]; rfl
  · obtain ⟨c, hc⟩ := hR.ty k hk'; exact setCell_other _ _ _ _ _ (ty_ne hc hb (show (95 : TypeId) ≠ 58 by decide))
  · obtain ⟨c, hc⟩ := (hf x hx).1.ty k hk'; exact setCell_other _ _ _ _ _ (ty_ne hc hb (show (51 : TypeId) ≠ 58 by decide))
  · obtain ⟨c, hc⟩ := (hf x hx).2.ty k hk'; exact setCell_other _ _ _ _ _ (ty_ne hc hb (show (51 : TypeId) ≠ 58 by decide))
theorem Bk.setNow {W : World} {b g : Nat} {me mb lf : Int} {z : SV} {B : List Kn} {now : Int} (h : Bk W b g me mb lf z B now) (n : Int) : Bk (W.setCell ⟨b, 6, none⟩ (.int .i64 n)) b g me mb lf z B n := by
  refine ⟨?_, h.row.stays fun k hk' _ => ?_, fun x hx => ⟨(h.fl x hx).1.stays fun k hk' _ => ?_, (h.fl x hx).2.stays fun k hk' _ => ?_⟩⟩
  · rw [setCell_block _ _ _ _ _ _ _ h.blk]; rfl
  · obtain ⟨c, hc⟩ := h.row.ty k hk'; exact setCell_other _ _ _ _ _ (ty_ne hc h.blk (show (95 : TypeId) ≠ 58 by decide))
  · obtain ⟨c, hc⟩ := (h.fl x hx).1.ty k hk'; exact setCell_other _ _ _ _ _ (ty_ne hc h.blk (show (51 : TypeId) ≠ 58 by decide))
  · obtain ⟨c, hc⟩ := (h.fl x hx).2.ty k hk'; exact setCell_other _ _ _ _ _ (ty_ne hc h.blk (show (51 : TypeId) ≠ 58 by decide))
set_option maxHeartbeats 8000000 in
set_option maxRecDepth 100000 in
theorem bytesK_any (W : World) (b g : Nat) (me mb lf : Int) (z : SV) (B : List Kn) (now : Int) (h : Bk W b g me mb lf z B now) (hz : totK B ≤ 4611686018427387904) :
    Calls Tryd.prog 23 #[.pointer (some ⟨b, 0, none⟩)] W fun e w' => e = .returned (.int .i64 (totK B : Int)) ∧ Below W.heap.size W w' := by
  have HX : Hid (Bk W b g me mb lf z B now) := h
  have HZ : Hid (totK B ≤ 4611686018427387904) := hz
  obtain ⟨c0, c1, c2, c3, c4, c5, c6, cf⟩ := h.cells
  have hl := heap_lt h.blk
  obtain ⟨bb, cc, e, m1, m2⟩ := h.row.slice
  obtain ⟨sb, sl, sc⟩ := z
  simp only [sv] at e c5 HX
  injection e with e1 e2 e3
  subst e1 e2 e3
  obtain ⟨N, hN⟩ : ∃ N, B.length = N := ⟨_, rfl⟩
  rw [hN] at HX m1 c5
  have HN : Hid (B.length = N) := hN
  have HC : Hid (∀ V, Below W.heap.size W V → V.cell? ⟨b, 5, none⟩ = some (.slice sb N sc)) := fun V hV => (HX.out.below hV).cells.2.2.2.2.2.1
  obtain ⟨T, hT⟩ : ∃ T, totK B = T := ⟨_, rfl⟩
  rw [hT]
  have HT : Hid (totK B = T) := hT
  clear h hN hT c0 c1 c2 c3 c4 c6 cf hz
  go_enter Tryd.func23, Tryd.ntmps23
  go_wp2_with fail
  clear c5
  go_loopw [3, 4] (fun tv kv wr => ∃ k t : Nat, kv = .int .i64 (k : Int) ∧ k ≤ N ∧ tv = .int .i64 (t : Int) ∧ Hid (t = totK (B.take k)) ∧ Hid (Below W.heap.size W wr)) (fun _ kv _ => N - (intOf kv).toNat)
  case atStart => exact ⟨0, 0, rfl, by omega, rfl, by show _ = _; simp [totK], Below.refl _ _⟩
  case round =>
    obtain ⟨k, t, rfl, hk, rfl, ht, hb⟩ := hrel
    have p5 := HC.out wr hb.out
    by_cases hlt : k < N
    · have hkB : k < B.length := by rw [HN.out]; exact hlt
      obtain ⟨Bj, off, cap, e, hc⟩ := HX.out.row.isIn.kn k hkB
      simp only [sv] at e
      injection e with e1 e2 e3
      clear e2 e3
      subst e1
      obtain ⟨d0, d1, d2, d3, d4, d5, d6, d7, d8, d9, d10⟩ := hc wr hb.out
      obtain ⟨x, hx⟩ : ∃ x, B[k] = x := ⟨_, rfl⟩
      rw [hx] at d8 d9 d10
      have hF := (HX.out.below hb.out).fl x (by rw [← hx]; exact List.getElem_mem _)
      have l1 : (k : Int) < (N : Int) := by omega
      obtain ⟨s1, hs1⟩ : ∃ z : Nat, x.rb.size + szL x.fr = z := ⟨_, rfl⟩
      obtain ⟨z, hz⟩ : ∃ z : Nat, t + s1 = z := ⟨_, rfl⟩
      have HT2 : Hid (z = totK (B.take (k + 1)) ∧ z ≤ 4611686018427387904) := by
        have h1 := totK_take (L := B) (k := k) hkB
        rw [hx] at h1
        unfold ksz at h1
        rw [hs1] at h1
        have h2 := ht.out
        have h3 := totK_le B (k + 1)
        have h4 := HZ.out
        exact ⟨by omega, by omega⟩
      have HSz : Hid (Calls Tryd.prog 44 #[.agg (rsv x.rn (sv x.ry) x.rb)] wr fun e w' => e = .returned (.int .i64 (s1 : Int)) ∧ Below wr.heap.size wr w') := by
        have := size44_any x.rn x.ry x.rb x.fr wr hF.2.isIn (by rw [hs1]; have := HT2.out.2; omega)
        rw [hs1] at this
        exact this
      have q1 : (t : Int) + (s1 : Int) = (z : Int) := by omega
      have q2 : z ≤ 4611686018427387904 := HT2.out.2
      clear hc hx hz d0 d1 d2 d3 d4 d5 d6 d7 hF hs1
      obtain ⟨kst, kar, kq, krn, ⟨kr1, kr2, kr3⟩, krb, kfq, kfr⟩ := x
      simp only [sv, rsv] at d8 d9 d10 HSz
      go_wp2_with fail
      go_at_call 44
      refine HSz.out.mono ?_
      rintro e V ⟨rfl, bV⟩
      have HB2 : Hid (Below W.heap.size W V) := hb.out.trans (bV.mono hb.out.size)
      clear bV
      go_wp2_with fail
      go_roundw
      case rel => exact ⟨k + 1, z, by simp, by omega, by first | rfl | simp, HT2.out.1, HB2.out⟩
      case measure => simp [intOf]; omega
    · have l1 : ¬ (k : Int) < (N : Int) := by omega
      have HE : Hid (t = T ∧ Below W.heap.size W wr) := ⟨by rw [ht.out, List.take_of_length_le (by rw [HN.out]; omega), HT.out], hb.out⟩
      clear ht hb
      go_wp2_with fail
      go_ret
      refine ⟨?_, HE.out.2⟩
      rw [← HE.out.1]
      rfl
end Go.Proofs.YtfponcdhaefkdaaDoor
