/- Two windows and the document's two, side by side. -/
import Derived.Test.YtoanmjnjpkbmiaaD3
import Derived.Laws.BitsLemmas
import Derived.Laws.Bits64
namespace Go.Proofs.Ytoanmjnjpkbmiaa
open Go.RowKit
set_option linter.unusedVariables false
set_option linter.unusedSimpArgs false

abbrev pt (b : Nat) : Value := .pointer (some ⟨b, 0, none⟩)
structure Pl (w : World) (ga gr b0 r0 b1 r1 : Nat) (v0 v1 : Value) (M : Nat) (n0 n1 : Int) (W : World) : Prop where
  bel : Below w.heap.size w W
  a : W.heap[ga]? = some (.cells #[pt b0, pt b1] 35 (0, 0))
  r : W.heap[gr]? = some (.cells #[pt r0, pt r1] 38 (0, 0))
  p0 : Pw W b0 r0 v0 M n0
  p1 : Pw W b1 r1 v1 M n1
  ap : ∀ k, Ow b0 r0 v0 k → ¬ Ow b1 r1 v1 k
  u0 : ∀ k, Ow b0 r0 v0 k → w.heap.size ≤ k
  u1 : ∀ k, Ow b1 r1 v1 k → w.heap.size ≤ k
  ua : w.heap.size ≤ ga
  ur : w.heap.size ≤ gr
structure Pk (w : World) (ga gr b0 r0 b1 r1 : Nat) (v0 v1 : Value) (M : Nat) (n0 n1 : Int) (g : Nat) (o : Array Value) (W : World) : Prop extends Pl w ga gr b0 r0 b1 r1 v0 v1 M n0 n1 W where
  op : W.heap[g]? = some (.cells o 27 (0, 0))
section
variable {w : World} {ga gr b0 r0 b1 r1 : Nat} {v0 v1 : Value} {M : Nat} {n0 n1 : Int} {g : Nat} {o : Array Value} {W W' : World}
theorem Pl.below (h : Pl w ga gr b0 r0 b1 r1 v0 v1 M n0 n1 W) (hb : Below W.heap.size W W') : Pl w ga gr b0 r0 b1 r1 v0 v1 M n0 n1 W' :=
  ⟨h.bel.trans (hb.mono h.bel.size), (hb.block _ (heap_lt h.a)).trans h.a, (hb.block _ (heap_lt h.r)).trans h.r, h.p0.below hb, h.p1.below hb, h.ap, h.u0, h.u1, h.ua, h.ur⟩
theorem Pk.below (h : Pk w ga gr b0 r0 b1 r1 v0 v1 M n0 n1 g o W) (hb : Below W.heap.size W W') : Pk w ga gr b0 r0 b1 r1 v0 v1 M n0 n1 g o W' :=
  ⟨h.toPl.below hb, (hb.block _ (heap_lt h.op)).trans h.op⟩
theorem Pw.other {b r : Nat} {v : Value} {n : Int} (h : Pw W b r v M n) (k : Nat) (hk : Ow b r v k) {c : Array Value} {t : TypeId} (hc : W.heap[k]? = some (.cells c t (0, 0))) : t = 42 ∨ t = 45 ∨ t = 2 := by
  obtain ⟨c', t', h1, h2⟩ := h.ty k hk
  rw [hc] at h1
  injection h1 with h1
  injection h1 with _ h1 _
  rw [h1]
  exact h2
/-- what plays does with the first -/
theorem Pk.play0 (h : Pk w ga gr b0 r0 b1 r1 v0 v1 M n0 n1 g o W) {v' : Value} {n' : Int} (hp : Pw W' b0 r0 v' (M + 1) n') (hk : Ks (Ow b0 r0 v0) W W') (ho : ∀ k, Ow b0 r0 v' k → Ow b0 r0 v0 k ∨ W.heap.size ≤ k) : Pk w ga gr b0 r0 b1 r1 v' v1 (M + 1) n' n1 g o W' := by
  have hs := h.bel.size
  refine ⟨⟨h.bel.trans (hk.below hs fun i hi e => ?_), (hk.block _ (heap_lt h.a) fun e => ?_).trans h.a, (hk.block _ (heap_lt h.r) fun e => ?_).trans h.r, hp, (h.p1.keep hk fun k e e2 => h.ap k e2 e).mono (Nat.le_succ _), fun k e e2 => ?_, fun k e => ?_, h.u1, h.ua, h.ur⟩, (hk.block _ (heap_lt h.op) fun e => ?_).trans h.op⟩
  · have := h.u0 i e; omega
  · have := h.p0.other _ e h.a; revert this; decide
  · have := h.p0.other _ e h.r; revert this; decide
  · rcases ho k e with e | e
    · exact h.ap k e e2
    · have := h.p1.lt k e2; omega
  · rcases ho k e with e | e
    · exact h.u0 k e
    · omega
  · have := h.p0.other _ e h.op; revert this; decide
theorem Pk.play1 (h : Pk w ga gr b0 r0 b1 r1 v0 v1 M n0 n1 g o W) {v' : Value} {n' : Int} (hp : Pw W' b1 r1 v' (M + 1) n') (hk : Ks (Ow b1 r1 v1) W W') (ho : ∀ k, Ow b1 r1 v' k → Ow b1 r1 v1 k ∨ W.heap.size ≤ k) : Pk w ga gr b0 r0 b1 r1 v0 v' (M + 1) n0 n' g o W' := by
  have hs := h.bel.size
  refine ⟨⟨h.bel.trans (hk.below hs fun i hi e => ?_), (hk.block _ (heap_lt h.a) fun e => ?_).trans h.a, (hk.block _ (heap_lt h.r) fun e => ?_).trans h.r, (h.p0.keep hk fun k e e2 => h.ap k e e2).mono (Nat.le_succ _), hp, fun k e e2 => ?_, h.u0, fun k e => ?_, h.ua, h.ur⟩, (hk.block _ (heap_lt h.op) fun e => ?_).trans h.op⟩
  · have := h.u1 i e; omega
  · have := h.p1.other _ e h.a; revert this; decide
  · have := h.p1.other _ e h.r; revert this; decide
  · rcases ho k e2 with e2 | e2
    · exact h.ap k e e2
    · have := h.p0.lt k e; omega
  · rcases ho k e with e | e
    · exact h.u1 k e
    · omega
  · have := h.p1.other _ e h.op; revert this; decide
/-- a new pair in the first's place -/
theorem Pk.swap0 (h : Pk w ga gr b0 r0 b1 r1 v0 v1 M n0 n1 g o W) {b r : Nat} {v : Value} {n : Int} (hp : Pw W' b r v M n) (hk : Ks (fun j => j = ga ∨ j = gr) W W') (ha : W'.heap[ga]? = some (.cells #[pt b, pt b1] 35 (0, 0))) (hr : W'.heap[gr]? = some (.cells #[pt r, pt r1] 38 (0, 0))) (ho : ∀ k, Ow b r v k → W.heap.size ≤ k) : Pk w ga gr b r b1 r1 v v1 M n n1 g o W' := by
  have hs := h.bel.size
  refine ⟨⟨h.bel.trans (hk.below hs fun i hi e => ?_), ha, hr, hp, h.p1.keep hk fun k e e2 => ?_, fun k e e2 => ?_, fun k e => ?_, h.u1, h.ua, h.ur⟩, (hk.block _ (heap_lt h.op) fun e => ?_).trans h.op⟩
  · have := h.ua; have := h.ur; omega
  · rcases e2 with rfl | rfl
    · have := h.p1.other _ e h.a; revert this; decide
    · have := h.p1.other _ e h.r; revert this; decide
  · have := ho k e; have := h.p1.lt k e2; omega
  · have := ho k e; omega
  · have h1 := h.op
    rcases e with e | e
    · rw [e, h.a] at h1; simp at h1
    · rw [e, h.r] at h1; simp at h1
theorem Pk.swap1 (h : Pk w ga gr b0 r0 b1 r1 v0 v1 M n0 n1 g o W) {b r : Nat} {v : Value} {n : Int} (hp : Pw W' b r v M n) (hk : Ks (fun j => j = ga ∨ j = gr) W W') (ha : W'.heap[ga]? = some (.cells #[pt b0, pt b] 35 (0, 0))) (hr : W'.heap[gr]? = some (.cells #[pt r0, pt r] 38 (0, 0))) (ho : ∀ k, Ow b r v k → W.heap.size ≤ k) : Pk w ga gr b0 r0 b r v0 v M n0 n g o W' := by
  have hs := h.bel.size
  refine ⟨⟨h.bel.trans (hk.below hs fun i hi e => ?_), ha, hr, h.p0.keep hk fun k e e2 => ?_, hp, fun k e e2 => ?_, h.u0, fun k e => ?_, h.ua, h.ur⟩, (hk.block _ (heap_lt h.op) fun e => ?_).trans h.op⟩
  · have := h.ua; have := h.ur; omega
  · rcases e2 with rfl | rfl
    · have := h.p0.other _ e h.a; revert this; decide
    · have := h.p0.other _ e h.r; revert this; decide
  · have := ho k e2; have := h.p0.lt k e; omega
  · have := ho k e; omega
  · have h1 := h.op
    rcases e with e | e
    · rw [e, h.a] at h1; simp at h1
    · rw [e, h.r] at h1; simp at h1
end
/-- a window and the document's, both new -/
theorem pw_new {W1 W2 : World} {b r : Nat} {x : Int} (M : Nat) (h1 : Wd W1 b x) (hb : Below W1.heap.size W1 W2) (h2 : Rw W2 r x (.slice none 0 0) [] x) : Pw W2 b r (.slice none 0 0) M x :=
  ⟨h1.below hb, _, _, h2, by simp⟩
theorem wraps_i64_63 (n : Int) (h₀ : 0 ≤ n) (h₁ : n < 2 ^ 63) : IntKind.i64.wrap n = n := by rw [IntKind.wrap_i64]; omega
/-- of any number: its lower bits -/
theorem and_any (n : Int) (p : Nat) (hp : p ≤ 62) : bits .and .i64 n ((2 ^ p - 1 : Nat) : Int) = n % ((2 ^ p : Nat) : Int) := by
  have hpp : 2 ^ p < 2 ^ 63 := Nat.pow_lt_pow_right (by decide) (by omega)
  have hpos : 0 < 2 ^ p := Nat.two_pow_pos p
  have hd : 2 ^ p ∣ 2 ^ 64 := Nat.pow_dvd_pow 2 (by omega)
  have hb : (BitVec.ofInt 64 ((2 ^ p - 1 : Nat) : Int)).toNat = 2 ^ p - 1 := by
    rw [BitVec.ofInt_natCast, BitVec.toNat_ofNat]; exact Nat.mod_eq_of_lt (by omega)
  have ha : (BitVec.ofInt 64 n).toNat = (n % ((2 ^ 64 : Nat) : Int)).toNat := BitVec.toNat_ofInt n
  have key : (n % ((2 ^ 64 : Nat) : Int)).toNat % 2 ^ p = (n % ((2 ^ p : Nat) : Int)).toNat := by
    have h1 : 0 ≤ n % ((2 ^ 64 : Nat) : Int) := Int.emod_nonneg _ (by decide)
    have h2 : 0 ≤ n % ((2 ^ p : Nat) : Int) := Int.emod_nonneg _ (by omega)
    apply Int.ofNat.inj
    show (((n % ((2 ^ 64 : Nat) : Int)).toNat % 2 ^ p : Nat) : Int) = (((n % ((2 ^ p : Nat) : Int)).toNat : Nat) : Int)
    rw [Int.natCast_emod, Int.toNat_of_nonneg h1, Int.toNat_of_nonneg h2]
    exact Int.emod_emod_of_dvd n (Int.natCast_dvd_natCast.2 hd)
  have h2 : 0 ≤ n % ((2 ^ p : Nat) : Int) := Int.emod_nonneg _ (by omega)
  have h3 : n % ((2 ^ p : Nat) : Int) < ((2 ^ p : Nat) : Int) := Int.emod_lt_of_pos _ (by omega)
  show IntKind.i64.wrap (((BitVec.ofInt 64 n) &&& (BitVec.ofInt 64 ((2 ^ p - 1 : Nat) : Int))).toNat : Int) = _
  rw [BitVec.toNat_and, ha, hb, Nat.and_two_pow_sub_one_eq_mod, key, Int.toNat_of_nonneg h2]
  exact wraps_i64_63 _ h2 (by omega)

theorem and1 (n : Int) : bits .and .i64 n 1 = n % 2 := and_any n 1 (by decide)
end Go.Proofs.Ytoanmjnjpkbmiaa
