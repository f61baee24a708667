/- MessageCuts: grown, pieces. -/
import Derived.Test.YtnbaojdildelmaaDoorL0
namespace Go.Proofs.YtnbaojdildelmaaDoor
open Go.RowKit
set_option linter.unusedVariables false
set_option linter.unusedSimpArgs false
def strSz : Value → Nat
  | .string u => u.size
  | _ => 0
set_option maxHeartbeats 4000000 in
set_option maxRecDepth 100000 in
theorem grown_any (s : ByteArray) (times : Int) (w : World) (hs : s.size ≤ 1048576) (ht1 : -9223372036854775808 ≤ times) (ht2 : times ≤ 9223372036854775807) : Calls Tryd.prog 18 #[.string s, .int .i64 times] w fun e w' => (∃ B : ByteArray, e = .returned (.string B) ∧ B.size ≤ 1118576) ∧ w' = w := by
  go_enter Tryd.func18, Tryd.ntmps18
  go_wp2_with fail
  go_loopw [5, 6] (fun bv iv wr => ∃ (b : ByteArray) (i : Int), bv = .string b ∧ iv = .int .i64 i ∧ wr = w ∧ b.size ≤ 1118576 ∧ 1 ≤ i ∧ i ≤ 9223372036854775807 ∧ Hid (b.size = 0 ∨ 1 ≤ s.size)) (fun bv _ _ => 70000 - strSz bv)
  case atStart => exact ⟨s, 1, rfl, rfl, rfl, by omega, by omega, by omega, by show _ ∨ _; omega⟩
  case round =>
    obtain ⟨b, i, rfl, rfl, hwr, hb, hi1, hi2, hz⟩ := hrel
    replace hwr := hwr.symm
    subst hwr
    by_cases h1 : i < times
    · by_cases h2 : b.size < 70000
      · have h2' : (b.size : Int) < 70000 := by omega
        by_cases h3 : b = ⟨#[]⟩
        · subst h3
          have HB : Hid ((⟨#[]⟩ : ByteArray).size ≤ 1118576) := hb
          clear hb h2 hz
          go_wp2_with fail
          go_ret
          exact ⟨⟨_, by first | rfl | simp, HB.out⟩, by first | trivial | rfl⟩
        · have s0e : b.toList.isEmpty = false := by
            rw [ByteArray.toList_eq]
            cases hx : b.data.toList with
            | nil => exact absurd (ba_eq (by rw [hx])) h3
            | cons a r => rfl
          have s0 : (b.toList == (⟨#[]⟩ : ByteArray).toList) = false := str_ne h3
          have s0' : (b.toList != (⟨#[]⟩ : ByteArray).toList) = true := by rw [bne, s0]; rfl
          have hs1 : 1 ≤ s.size := by
            rcases hz.out with e | e
            · exact absurd (ba_eq (by
                have h9 := Lib.size_eq b
                rw [e] at h9
                rw [List.length_eq_zero_iff.1 h9.symm])) h3
            · exact e
          obtain ⟨b2, hb2⟩ : ∃ x, b ++ s = x := ⟨_, rfl⟩
          have hb2s : b2.size = b.size + s.size := by rw [← hb2, ByteArray.size_append]
          have hvx : ¬ b.size + s.size > 9223372036854775807 := by omega
          have H2 : Hid (b2.size ≤ 1118576 ∧ 1 ≤ s.size ∧ b2.size = b.size + s.size ∧ b.size < 70000) := ⟨by omega, hs1, hb2s, h2⟩
          clear h3 hb2s hs1 hz hb
          go_wp2_with fail
          go_roundw
          case rel => exact ⟨b2, i + 1, by first | rfl | simp, by first | rfl | simp, by first | trivial | rfl, H2.out.1, by omega, by omega, .inr H2.out.2.1⟩
          case measure => have := H2.out; simp only [strSz]; omega
      · have h2' : ¬ (b.size : Int) < 70000 := by omega
        have HB : Hid (b.size ≤ 1118576) := hb
        clear hb h2 hz
        go_wp2_with fail
        go_ret
        exact ⟨⟨_, by first | rfl | simp, HB.out⟩, by first | trivial | rfl⟩
    · have HB : Hid (b.size ≤ 1118576) := hb
      clear hb hz
      go_wp2_with fail
      go_ret
      exact ⟨⟨_, by first | rfl | simp, HB.out⟩, by first | trivial | rfl⟩
def EI : El Int := ⟨46, 3, 1, 8, fun x => [.int .i64 x]⟩
theorem okI : EI.Ok := ⟨Tryd.underlying46, by kernel_rfl, by decide, by decide, fun _ => rfl, fun a u hu => by
  simp only [EI, List.mem_cons, List.not_mem_nil, or_false] at hu
  rcases hu with rfl; rfl⟩
theorem In.int {w : World} {v : Value} {l : List Int} (h : In EI w v l) (k : Nat) (hk : k < l.length) : ∃ B off cap, v = .slice (some ⟨B, off, none⟩) l.length cap ∧ ∀ W, Below w.heap.size w W → W.cell? ⟨B, off + k, none⟩ = some (.int .i64 l[k]) := by
  obtain ⟨B, off, cap, e, hB, d⟩ := h.get okI k hk
  refine ⟨B, off, cap, e, fun W hb => ?_⟩
  have := d 0 _ rfl
  simp only [EI, Nat.mul_one, Nat.add_zero] at this
  exact (hb.cell hB).trans this
/-- is a body of n bytes right -/
def gdB (fx : Bool) (ln : Int) (n : Nat) : Bool := decide (n ≤ 65536) && (!fx || decide (ln = (n : Int)))
/-- what pieces leaves and tells -/
def PcPost (w0 : World) (g : Nat) (x : Mg) (fl ql : List Fd) (B : ByteArray) (W : World) (e : Ending) (W' : World) : Prop :=
  ∃ (bs' : SV) (E S : Int) (body : List UInt8), e = .returned (.int .i64 E) ∧ Mw w0 W' g { x with st := S, bs := bs' } body fl ql ∧ Below w0.heap.size w0 W' ∧ Ks (Ow g x) W W' ∧ (∀ k, (sv bs').ownBlock = some k → (sv x.bs).ownBlock = some k ∨ W.heap.size ≤ k) ∧
    (gdB x.fx x.ln B.size = true → E = 0 ∧ S = 1 ∧ body = B.data.toList) ∧ (gdB x.fx x.ln B.size = false → (E = 3 ∨ E = 140) ∧ S = 2 ∧ (B.size ≤ 65536 → E = 140))
/-- within pieces: so much of the text is laid -/
structure Pw (w0 W0 : World) (g : Nat) (x : Mg) (fl ql : List Fd) (B : ByteArray) (fr : Nat) (bs : SV) (W : World) : Prop where
  mw : Mw w0 W g { x with st := 0, bs := bs } (B.data.toList.take fr) fl ql
  bel : Below w0.heap.size w0 W
  ks : Ks (Ow g x) W0 W
  ow : ∀ k, (sv bs).ownBlock = some k → (sv x.bs).ownBlock = some k ∨ W0.heap.size ≤ k
theorem ks_two {W0 W W' : World} {g : Nat} {x x' : Mg} (h : Ks (Ow g x) W0 W) (ho : ∀ k, (sv x'.bs).ownBlock = some k → (sv x.bs).ownBlock = some k ∨ W0.heap.size ≤ k) (k : Ks (Ow g x') W W') : Ks (Ow g x) W0 W' :=
  h.trans k (fun _ _ h => h) (fun i hi h => by
    rcases h with e | e
    · exact .inl e
    · rcases ho i e with e | e
      · exact .inr e
      · omega)
theorem ext_list (B : ByteArray) (a b : Nat) (h : b ≤ B.size) : (B.extract a b).data.toList = (B.data.toList.take b).drop a := by
  rw [ByteArray.data_extract, Array.toList_extract]
  simp only [List.extract_eq_take_drop, List.drop_take]
theorem take_ext (B : ByteArray) (a b : Nat) (hab : a ≤ b) (h : b ≤ B.size) : B.data.toList.take a ++ (B.extract a b).data.toList = B.data.toList.take b := by
  rw [ext_list B a b h]
  have := List.take_append_drop a (B.data.toList.take b)
  rw [List.take_take, Nat.min_eq_left hab] at this
  exact this
theorem ext_size (B : ByteArray) (a b : Nat) (hab : a ≤ b) (h : b ≤ B.size) : (B.extract a b).size = b - a := by
  rw [ByteArray.size_extract]; omega
theorem rf_bad {fx : Bool} {ln : Int} {k n : Nat} {en : Bool} (hk : k ≤ n) (h : rfE fx ln (k : Int) false ≠ 0) : gdB fx ln n = false ∧ (n ≤ 65536 → rfE fx ln (k : Int) false = 140) := by
  unfold rfE at h ⊢
  by_cases h1 : (k : Int) > 65536
  · refine ⟨?_, fun hn => by omega⟩
    unfold gdB
    rw [decide_eq_false (by omega)]
    rfl
  · rw [if_neg h1] at h ⊢
    by_cases h2 : fx = true ∧ ((k : Int) > ln ∨ false = true ∧ (k : Int) < ln)
    · rw [if_pos h2]
      refine ⟨?_, fun _ => rfl⟩
      obtain ⟨rfl, h3 | h3⟩ := h2
      · unfold gdB
        rw [decide_eq_false (p := ln = (n : Int)) (by omega)]
        simp
      · exact absurd h3.1 (by decide)
    · rw [if_neg h2] at h
      exact absurd rfl h
theorem rf_end (fx : Bool) (ln : Int) (n : Nat) : (gdB fx ln n = true ∧ rfE fx ln (n : Int) true = 0) ∨ (gdB fx ln n = false ∧ (rfE fx ln (n : Int) true = 3 ∨ rfE fx ln (n : Int) true = 140) ∧ (n ≤ 65536 → rfE fx ln (n : Int) true = 140)) := by
  unfold rfE gdB
  by_cases h1 : (n : Int) > 65536
  · right
    rw [if_pos h1, decide_eq_false (by omega)]
    exact ⟨rfl, .inl rfl, fun h => by omega⟩
  · rw [if_neg h1, decide_eq_true (by omega)]
    cases fx with
    | false => left; rw [if_neg (by simp)]; exact ⟨rfl, rfl⟩
    | true =>
      by_cases h2 : ln = (n : Int)
      · left
        rw [if_neg (by simp; omega), decide_eq_true h2]
        exact ⟨rfl, rfl⟩
      · right
        rw [if_pos ⟨rfl, by simp; omega⟩, decide_eq_false h2]
        exact ⟨rfl, .inr rfl, fun _ => rfl⟩
end Go.Proofs.YtnbaojdildelmaaDoor
