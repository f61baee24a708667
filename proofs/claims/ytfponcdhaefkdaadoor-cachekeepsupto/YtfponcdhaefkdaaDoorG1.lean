/- The law's list of what is known: conf, place, without. -/
import Derived.Test.YtfponcdhaefkdaaDoorD3
import Derived.BigQuiet
import Derived.Deep.QuietTactic
namespace Go.Proofs.YtfponcdhaefkdaaDoor
open Go.RowKit
set_option linter.unusedVariables false
set_option linter.unusedSimpArgs false
/-- an entry that the law knows -/
structure Kn where
  st : Int
  ar : Int
  q : Rq
  rn : Int
  ry : SV
  rb : ByteArray
  fq : List Fd
  fr : List Fd
def knv (k : Kn) : Array Value := #[.int .i64 k.st, .int .i64 k.ar, .string k.q.m, .string k.q.s, .string k.q.a, .string k.q.p, sv k.q.y, .string k.q.b, .int .i64 k.rn, sv k.ry, .string k.rb]
def EK : El Kn := ⟨56, 95, 11, 168, fun k => (knv k).toList⟩
theorem okK : EK.Ok := ⟨Tryd.underlying56, by kernel_rfl, by decide, by decide, fun _ => rfl, fun a u hu => by
  simp only [EK, knv, List.mem_cons, List.not_mem_nil, or_false] at hu
  rcases hu with rfl | rfl | rfl | rfl | rfl | rfl | rfl | rfl | rfl | rfl | rfl <;> rfl⟩
/-- its eleven cells -/
def Cells11 (W : World) (B o : Nat) (k : Kn) : Prop := W.cell? ⟨B, o, none⟩ = some (.int .i64 k.st) ∧ W.cell? ⟨B, o + 1, none⟩ = some (.int .i64 k.ar) ∧ W.cell? ⟨B, o + 2, none⟩ = some (.string k.q.m) ∧ W.cell? ⟨B, o + 3, none⟩ = some (.string k.q.s) ∧ W.cell? ⟨B, o + 4, none⟩ = some (.string k.q.a) ∧ W.cell? ⟨B, o + 5, none⟩ = some (.string k.q.p) ∧ W.cell? ⟨B, o + 6, none⟩ = some (sv k.q.y) ∧ W.cell? ⟨B, o + 7, none⟩ = some (.string k.q.b) ∧ W.cell? ⟨B, o + 8, none⟩ = some (.int .i64 k.rn) ∧ W.cell? ⟨B, o + 9, none⟩ = some (sv k.ry) ∧ W.cell? ⟨B, o + 10, none⟩ = some (.string k.rb)
theorem In.kn {w : World} {v : Value} {l : List Kn} (h : In EK w v l) (k : Nat) (hk : k < l.length) : ∃ B off cap, v = .slice (some ⟨B, off, none⟩) l.length cap ∧ ∀ W, Below w.heap.size w W → Cells11 W B (off + k * 11) l[k] := by
  obtain ⟨B, off, cap, e, hB, d⟩ := h.get okK k hk
  exact ⟨B, off, cap, e, fun W hb => ⟨(hb.cell hB).trans (d 0 _ rfl), (hb.cell hB).trans (d 1 _ rfl), (hb.cell hB).trans (d 2 _ rfl), (hb.cell hB).trans (d 3 _ rfl), (hb.cell hB).trans (d 4 _ rfl), (hb.cell hB).trans (d 5 _ rfl), (hb.cell hB).trans (d 6 _ rfl), (hb.cell hB).trans (d 7 _ rfl), (hb.cell hB).trans (d 8 _ rfl), (hb.cell hB).trans (d 9 _ rfl), (hb.cell hB).trans (d 10 _ rfl)⟩⟩
/-- the entry of a stream -/
def plK (L : List Kn) (s : Int) : Int := oI (L.findIdx? fun k => decide (k.st = s))
theorem plK_some {L : List Kn} {s : Int} {k : Nat} (h : k < L.length) (h1 : L[k].st = s) (h2 : ∀ j (hj : j < L.length), j < k → L[j].st ≠ s) : plK L s = (k : Int) := by
  have : L.findIdx? (fun k => decide (k.st = s)) = some k := List.findIdx?_eq_some_iff_getElem.2 ⟨h, decide_eq_true h1, fun j hj => by simpa using h2 j (by omega) hj⟩
  unfold plK
  rw [this]
  rfl
theorem plK_none {L : List Kn} {s : Int} (h2 : ∀ j (hj : j < L.length), L[j].st ≠ s) : plK L s = -1 := by
  have : L.findIdx? (fun k => decide (k.st = s)) = none := List.findIdx?_eq_none_iff.2 fun x hx => by
    obtain ⟨j, hj, rfl⟩ := List.getElem_of_mem hx
    exact decide_eq_false (h2 j hj)
  unfold plK
  rw [this]
  rfl
set_option maxHeartbeats 4000000 in
set_option maxRecDepth 100000 in
theorem place_any (y : SV) (L : List Kn) (s : Int) (w : World) (hI : In EK w (sv y) L) :
    Calls Tryd.prog 43 #[sv y, .int .i64 s] w fun e w' => e = .returned (.int .i64 (plK L s)) ∧ w' = w := by
  have HI : Hid (In EK w (sv y) L) := hI
  obtain ⟨sb, sl, sc⟩ := y
  obtain ⟨e1, e2, e3⟩ := slice_len hI
  subst e1
  simp only [sv] at HI ⊢
  obtain ⟨N, hN⟩ : ∃ N, L.length = N := ⟨_, rfl⟩
  rw [hN] at HI e2 ⊢
  have HN : Hid (L.length = N) := hN
  obtain ⟨pv, hpv⟩ : ∃ p, plK L s = p := ⟨_, rfl⟩
  have HP : Hid (plK L s = pv) := hpv
  rw [hpv]
  clear hI hN hpv
  go_enter Tryd.func43, Tryd.ntmps43
  go_wp2_with fail
  go_loopw [5] (fun iv wr => ∃ k : Nat, iv = .int .i64 (k : Int) ∧ k ≤ N ∧ wr = w ∧ Hid (∀ j (hj : j < L.length), j < k → L[j].st ≠ s)) (fun iv _ => N - (intOf iv).toNat)
  case atStart => exact ⟨0, rfl, by omega, rfl, fun j _ h => by omega⟩
  case round =>
    obtain ⟨k, rfl, hk, rfl, hj⟩ := hrel
    by_cases hlt : k < N
    · obtain ⟨Bk, off, cap, e, hc⟩ := HI.out.kn k (by rw [HN.out]; exact hlt)
      injection e with e1 e2 e3
      clear e2 e3
      subst e1
      have l1 : (k : Int) < (N : Int) := by omega
      have c0 := (hc wr (Below.refl _ _)).1
      obtain ⟨x, hx⟩ : ∃ x, (L[k]'(by rw [HN.out]; exact hlt)).st = x := ⟨_, rfl⟩
      rw [hx] at c0
      have HX : Hid ((L[k]'(by rw [HN.out]; exact hlt)).st = x) := hx
      clear hc hx
      by_cases hxs : x = s
      · have HE : Hid (pv = (k : Int)) := by
          show _ = _
          rw [← HP.out]
          exact plK_some (by rw [HN.out]; exact hlt) (HX.out.trans hxs) hj.out
        subst hxs
        clear hj HP HX
        go_wp2_with fail
        go_ret
        refine ⟨?_, rfl⟩
        rw [HE.out]
        rfl
      · have hb : (x == s) = false := beq_eq_false_iff_ne.2 hxs
        have HJ : Hid (∀ j (hj : j < L.length), j < k + 1 → L[j].st ≠ s) := fun j hj' hjk => by
          by_cases e : j = k
          · subst e; rw [HX.out]; exact hxs
          · exact hj.out j hj' (by omega)
        clear hj HX
        go_wp2_with fail
        go_roundw
        case rel => exact ⟨k + 1, by simp, by omega, by first | trivial | rfl, HJ.out⟩
        case measure => simp [intOf]; omega
    · have l1 : ¬ (k : Int) < (N : Int) := by omega
      have HE : Hid (pv = -1) := by
        show _ = _
        rw [← HP.out]
        exact plK_none fun j hj' => hj.out j hj' (by have := HN.out; omega)
      clear hj HP
      go_wp2_with fail
      go_ret
      refine ⟨?_, rfl⟩
      rw [HE.out]
      rfl
theorem In.takeK {w : World} {a : Addr} {n cap : Nat} {L : List Kn} (h : In EK w (.slice (some a) n cap) L) (i : Nat) (hi : i ≤ L.length) : In EK w (.slice (some a) i cap) (L.take i) := by
  rcases h with ⟨h, _⟩ | ⟨a', c, e, h2, h3, h4⟩
  · cases h
  · injection e with e1 e2 e3
    injection e1 with e1
    subst e1 e2 e3
    have hl : (L.take i).length = i := by rw [List.length_take]; omega
    refine .inr ⟨a, cap, by rw [hl], by rw [hl]; omega, h3, fun j u hu => h4 j u ?_⟩
    have : EK.cs L = EK.cs (L.take i) ++ EK.cs (L.drop i) := by rw [← El.cs_append, List.take_append_drop]
    rw [this, List.getElem?_append_left (List.getElem?_eq_some_iff.1 hu).1]
    exact hu
theorem In.dropK {w : World} {B off n cap : Nat} {L : List Kn} (h : In EK w (.slice (some ⟨B, off, none⟩) n cap) L) (i : Nat) (hi : i ≤ L.length) (A : Addr) (hA : L.length - i = 0 ∨ A = ⟨B, off + i * 11, none⟩) : In EK w (.slice (some A) (L.length - i) (cap - i)) (L.drop i) := by
  rcases h with ⟨h, _⟩ | ⟨a', c, e, h2, h3, h4⟩
  · cases h
  · injection e with e1 e2 e3
    injection e1 with e1
    subst e1 e2 e3
    have hl : (L.drop i).length = L.length - i := List.length_drop
    refine .inr ⟨A, cap - i, by rw [hl], by rw [hl]; omega, by omega, fun j u hu => ?_⟩
    rcases hA with h0 | rfl
    · have : L.drop i = [] := List.eq_nil_of_length_eq_zero (by rw [hl]; exact h0)
      rw [this] at hu
      simp [El.cs] at hu
    · have h5 : (EK.cs (L.take i)).length = i * 11 := by rw [okK.length, List.length_take, Nat.min_eq_left hi]; rfl
      have h6 : (EK.cs L)[i * 11 + j]? = some u := by
        have : EK.cs L = EK.cs (L.take i) ++ EK.cs (L.drop i) := by rw [← El.cs_append, List.take_append_drop]
        rw [this, List.getElem?_append_right (by rw [h5]; omega), h5, Nat.add_sub_cancel_left]
        exact hu
      have := h4 _ _ h6
      rw [Addr.add_lit] at this ⊢
      rw [Nat.add_assoc]
      exact this
set_option maxHeartbeats 8000000 in
set_option maxRecDepth 100000 in
theorem without_any (y : SV) (L : List Kn) (i : Nat) (hi : i < L.length) (hl : L.length ≤ 1000) (w : World) (hI : In EK w (sv y) L) :
    Calls Tryd.prog 46 #[sv y, .int .i64 (i : Int)] w fun e w' => ∃ z : SV, e = .returned (sv z) ∧ R EK w' (sv z) (L.eraseIdx i) ∧ (∀ k, (sv z).ownBlock = some k → w.heap.size ≤ k) ∧ Below w.heap.size w w' := by
  obtain ⟨B, off, cap, e, hB, _⟩ := hI.get okK i hi
  rw [e]
  rw [e] at hI
  obtain ⟨_, m1, m2⟩ := slice_len hI
  obtain ⟨b1, c1, w1, r1, R1, G1⟩ := app okK w (.slice none 0 0) [] (R.nil EK w) _ _ (hI.takeK i (by omega)) (by simp only [EK, List.length_nil, List.length_take]; omega)
  have hl1 : ([] : List Kn).length + (L.take i).length = i := by rw [List.length_nil, List.length_take]; omega
  rw [hl1] at r1 R1 G1
  have hI1 : In EK w1 (.slice (some ⟨B, off, none⟩) L.length cap) L := hI.below G1.fresh
  have key : ∀ A : Addr, (L.length - (i + 1) = 0 ∨ A = ⟨B, off + (i + 1) * 11, none⟩) → ∃ b2 c2 w2, Hid ((Builtin.append_ #[56, 56] 56 #[.slice b1 i c1, .slice (some A) (L.length - (i + 1)) (cap - (i + 1))]).run Tryd.prog w1 = .ok (.slice b2 (L.length - 1) c2) w2 ∧ R EK w2 (.slice b2 (L.length - 1) c2) (L.eraseIdx i) ∧ (∀ k, (Value.slice b2 (L.length - 1) c2).ownBlock = some k → w.heap.size ≤ k) ∧ Below w.heap.size w w2) := fun A hA => by
    obtain ⟨b2, c2, w2, r2, R2, G2⟩ := app okK w1 (.slice b1 i c1) (L.take i) R1 _ _ (hI1.dropK (i + 1) (by omega) A hA) (by simp only [EK, List.length_take, List.length_drop]; omega)
    have hl2 : (L.take i).length + (L.drop (i + 1)).length = L.length - 1 := by rw [List.length_take, List.length_drop]; omega
    rw [hl2] at r2 R2 G2
    rw [← List.eraseIdx_eq_take_drop_succ] at R2
    have hG := G1.trans G2
    exact ⟨b2, c2, w2, r2, R2, hG.new, hG.fresh⟩
  obtain ⟨j, hj⟩ : ∃ j : Nat, i + 1 = j := ⟨_, rfl⟩
  have q1 : (i : Int) + 1 = (j : Int) := by omega
  obtain ⟨N, hN⟩ : ∃ N, L.length = N := ⟨_, rfl⟩
  rw [hj] at key
  rw [hN] at hi m1 hl key ⊢
  obtain ⟨m, hm⟩ : ∃ m, N - j = m := ⟨_, rfl⟩
  obtain ⟨d, hd⟩ : ∃ m, cap - j = m := ⟨_, rfl⟩
  rw [hm, hd] at key
  have a1 : (i : Int) ≤ (N : Int) := by omega
  have a2 : (j : Int) ≤ (N : Int) := by omega
  have a3 : (i : Int) ≤ (cap : Int) := by omega
  have a4 : (j : Int) ≤ (cap : Int) := by omega
  have a5 : (N : Int) ≤ (cap : Int) := by omega
  replace r1 : Hid _ := r1
  by_cases hcj : cap = j
  · obtain ⟨b2, c2, w2, K⟩ := key ⟨B, off, none⟩ (.inl (by omega))
    have hrun := K.out.1
    have HK : Hid (R EK w2 (.slice b2 (N - 1) c2) (L.eraseIdx i) ∧ (∀ k, (Value.slice b2 (N - 1) c2).ownBlock = some k → w.heap.size ≤ k) ∧ Below w.heap.size w w2) := K.out.2
    replace hrun : Hid _ := hrun
    have d0 : d = 0 := by omega
    have m0 : m = 0 := by omega
    have nj : N = j := by omega
    clear hm hd hI hI1 hN hB key K
    subst d0 m0 nj hcj
    clear a1 a2 a3 a4 a5
    have a1 : (i : Int) ≤ (cap : Int) := by omega
    have a2 : (cap : Int) ≤ (cap : Int) := by omega
    clear R1 G1 hj hi hl m1 e
    go_enter Tryd.func46, Tryd.ntmps46
    go_wp2_with first | (at_builtin; refine Lib.wpList_append_run _ rfl _ _ _ _ rfl _ _ rfl rfl _ _ r1.out ?_) | (at_builtin; refine Lib.wpList_append_run _ rfl _ _ _ _ rfl _ _ rfl rfl _ _ hrun.out ?_)
    go_ret
    first | exact ⟨(b2, cap - 1, c2), rfl, HK.out⟩ | exact ⟨b2, cap - 1, c2, rfl, HK.out⟩
  · obtain ⟨b2, c2, w2, K⟩ := key ⟨B, off + j * 11, none⟩ (.inr rfl)
    have hrun := K.out.1
    have HK : Hid (R EK w2 (.slice b2 (N - 1) c2) (L.eraseIdx i) ∧ (∀ k, (Value.slice b2 (N - 1) c2).ownBlock = some k → w.heap.size ≤ k) ∧ Below w.heap.size w w2) := K.out.2
    replace hrun : Hid _ := hrun
    have hd0 : ¬ d = 0 := by omega
    clear key K hI hI1 R1 G1 hj hN hi hl m1 e
    go_enter Tryd.func46, Tryd.ntmps46
    go_wp2_with first | (at_builtin; refine Lib.wpList_append_run _ rfl _ _ _ _ rfl _ _ rfl rfl _ _ r1.out ?_) | (at_builtin; refine Lib.wpList_append_run _ rfl _ _ _ _ rfl _ _ rfl rfl _ _ hrun.out ?_)
    go_ret
    first | exact ⟨(b2, N - 1, c2), rfl, HK.out⟩ | exact ⟨b2, N - 1, c2, rfl, HK.out⟩
/-- the law's bounds -/
theorem and6 (n : Int) : bits .and .i64 n 63 = n % 64 := and_any n 6 (by decide)
theorem and12 (n : Int) : bits .and .i64 n 4095 = n % 4096 := and_any n 12 (by decide)
theorem and5 (n : Int) : bits .and .i64 n 31 = n % 32 := and_any n 5 (by decide)
set_option maxHeartbeats 4000000 in
theorem conf_any (a b c d : Int) (w : World) : Calls Tryd.prog 18 #[.agg #[.int .i64 a, .int .i64 b, .int .i64 c, .int .i64 d]] w fun e w' => e = .returned (.agg #[.int .i64 (a % 64), .int .i64 (b % 4096), .int .i64 (c % 32), .int .i64 0]) ∧ Below w.heap.size w w' := by
  have h1 := and6 a
  have h2 := and12 b
  have h3 := and5 c
  go_enter Tryd.func18, Tryd.ntmps18
  go_wp2_with fail
  refine bodyPost_ret (results_cell_row (p := 2) (ty := 36) rfl _ _ (w.heap.size + 1) 36 _ (0, 0) _ rfl (fresh2 _ _ _) Tryd.underlying36 rfl (by kernel_rfl)) rfl ?_
  exact ⟨rfl, bel2 _ _ _⟩
end Go.Proofs.YtfponcdhaefkdaaDoor
