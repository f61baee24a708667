/- The document's share: New, at, Waits, ready. -/
import Derived.Test.YtbmaknjeflblcaaKc
import Derived.Test.YtbmaknjeflblcaaM2
import Derived.Test.YtbmaknjeflblcaaS2
namespace Go.Proofs.Ytbmaknjeflblcaa
open Go.RowKit Go.Maps
set_option linter.unusedVariables false
set_option linter.unusedSimpArgs false

/-- a stream of the document's -/
structure Stm where
  id : Int
  t : ByteArray
  o : Bool
  g : Bool
def stv (x : Stm) : List Value := [.int .i64 x.id, .string x.t, .bool x.o, .bool x.g]
def ESt : El Stm := ⟨74, 82, 4, 32, stv⟩
theorem okSt : ESt.Ok := ⟨Try.underlying74, by kernel_rfl, by decide, by decide, fun _ => rfl, fun a u hu => by
  simp only [ESt, stv, List.mem_cons, List.not_mem_nil, or_false] at hu
  rcases hu with rfl | rfl | rfl | rfl <;> rfl⟩
structure Rs (w : World) (p : Nat) (v : SV) (L : List Stm) : Prop where
  blk : w.heap[p]? = some (.cells #[sv v] 76 (0, 0))
  r : R ESt w (sv v) L
/-- the document's share, apart from the blocks of N -/
structure Rn (w : World) (N : Nat → Prop) (p : Nat) (L : List Stm) : Prop where
  s : ∃ v, Rs w p v L ∧ ¬ N p ∧ ∀ k, (sv v).ownBlock = some k → ¬ N k
  lt : ∀ k, N k → k < w.heap.size
section
variable {w w' : World} {N N' : Nat → Prop} {p : Nat} {L : List Stm} {v : SV}
theorem Rs.below (h : Rs w p v L) (hb : Below w.heap.size w w') : Rs w' p v L := ⟨(hb.block _ (heap_lt h.blk)).trans h.blk, h.r.below hb⟩
theorem Rs.ne (h : Rs w p v L) : (sv v).ownBlock ≠ some p := fun e => by
  obtain ⟨c, hc⟩ := h.r.ty p e
  rw [h.blk] at hc
  injection hc with hc
  injection hc with _ hc
  simp [ESt] at hc
theorem Rn.below (h : Rn w N p L) (hb : Below w.heap.size w w') : Rn w' N p L := by
  obtain ⟨v, h1, h2, h3⟩ := h.s
  exact ⟨⟨v, h1.below hb, h2, h3⟩, fun k hk => Nat.lt_of_lt_of_le (h.lt k hk) hb.size⟩
theorem Rn.grow (h : Rn w N p L) (hb : Below w.heap.size w w') : Rn w' (Nw N w w') p L := by
  obtain ⟨v, h1, h2, h3⟩ := h.s
  refine ⟨⟨v, h1.below hb, fun e => ?_, fun k hk e => ?_⟩, fun k hk => ?_⟩
  · rcases e with e | e
    · exact h2 e
    · have := heap_lt h1.blk; omega
  · rcases e with e | e
    · exact h3 k hk e
    · have := h1.r.lt k hk; omega
  · rcases hk with e | e
    · exact Nat.lt_of_lt_of_le (h.lt k e) hb.size
    · exact e.2
theorem Rn.less (h : Rn w N p L) (hs : ∀ k, N' k → N k) : Rn w N' p L := by
  obtain ⟨v, h1, h2, h3⟩ := h.s
  exact ⟨⟨v, h1, fun e => h2 (hs _ e), fun k hk e => h3 k hk (hs _ e)⟩, fun k hk => h.lt k (hs k hk)⟩
theorem In.st {l : List Stm} {x : Value} (h : In ESt w x l) (k : Nat) (hk : k < l.length) : ∃ B off cap, x = .slice (some ⟨B, off, none⟩) l.length cap ∧ ∀ W, Below w.heap.size w W → W.cell? ⟨B, off + k * 4, none⟩ = some (.int .i64 l[k].id) ∧ W.cell? ⟨B, off + k * 4 + 1, none⟩ = some (.string l[k].t) ∧ W.cell? ⟨B, off + k * 4 + 2, none⟩ = some (.bool l[k].o) ∧ W.cell? ⟨B, off + k * 4 + 3, none⟩ = some (.bool l[k].g) := by
  obtain ⟨B, off, cap, e, hB, d⟩ := h.get okSt k hk
  exact ⟨B, off, cap, e, fun W hb => ⟨(hb.cell hB).trans (d 0 _ rfl), (hb.cell hB).trans (d 1 _ rfl), (hb.cell hB).trans (d 2 _ rfl), (hb.cell hB).trans (d 3 _ rfl)⟩⟩
end
/-- the place of a stream -/
def ix (L : List Stm) (id : Int) : Option Nat := L.findIdx? fun s => s.id == id
def ixI (L : List Stm) (id : Int) : Int := match ix L id with | some k => (k : Int) | none => -1
theorem ix_some {L : List Stm} {id : Int} {k : Nat} (h : ix L id = some k) : ∃ hk : k < L.length, L[k].id = id := by
  unfold ix at h
  rw [List.findIdx?_eq_some_iff_getElem] at h
  obtain ⟨hk, h1, _⟩ := h
  exact ⟨hk, by simpa using h1⟩
set_option maxRecDepth 100000 in
set_option maxHeartbeats 1000000 in
theorem rnew_any (w : World) (N : Nat → Prop) (hN : ∀ k, N k → k < w.heap.size) : Calls Try.prog 20 #[] w fun e w' => ∃ p, e = .returned (.pointer (some ⟨p, 0, none⟩)) ∧ Rn w' N p [] ∧ Below w.heap.size w w' := by
  go_enter Try.func20, Try.ntmps20
  go_wp2
  go_ret
  refine ⟨_, rfl, ⟨⟨(none, 0, 0), ⟨heap_alloc_new _ _, R.nil _ _⟩, fun e => ?_, fun k hk => by simp [sv, Value.ownBlock] at hk⟩, fun k hk => by have := hN k hk; simp; omega⟩, bel1 _ _⟩
  have := hN _ e
  omega
set_option maxRecDepth 100000 in
set_option maxHeartbeats 1000000 in
theorem at_any (w : World) (p : Nat) (v : SV) (L : List Stm) (id : Int) (h : Rs w p v L) :
    Calls Try.prog 34 #[.pointer (some ⟨p, 0, none⟩), .int .i64 id] w fun e w' => e = .returned (.int .i64 (ixI L id)) ∧ w' = w := by
  have c0 := cell_blk h.blk 0
  have hp := heap_lt h.blk
  obtain ⟨b, n, c⟩ := v
  have hI := h.r.isIn
  unfold sv at hI c0
  simp only at hI c0
  obtain ⟨hnl, hc1, hc2⟩ := slice_len hI
  have HI : Hid (In ESt w (.slice b n c) L) := hI
  have HL : Hid (n = L.length) := hnl
  rw [← hnl] at hc1
  clear hI h hnl
  obtain ⟨res, hres⟩ : ∃ r, ixI L id = r := ⟨_, rfl⟩
  rw [hres]
  have HR : Hid (ixI L id = res) := hres
  clear hres
  go_enter Try.func34, Try.ntmps34
  go_wp2_with fail
  go_loopw [5] (fun kv wr => ∃ k : Nat, kv = .int .i64 (k : Int) ∧ k ≤ n ∧ wr = w ∧ Hid (∀ j (hj : j < L.length), j < k → L[j].id ≠ id)) (fun kv _ => n - (intOf kv).toNat)
  case atStart => exact ⟨0, rfl, by omega, rfl, fun j _ hj => by omega⟩
  case round =>
    obtain ⟨k, hkv, hk, hw, hno⟩ := hrel
    subst hkv hw
    by_cases hlt : k < n
    · have l1 : (k : Int) < (n : Int) := by omega
      have hkL : k < L.length := by have := HL.out; omega
      obtain ⟨B, off, cap, e, hc⟩ := HI.out.st k hkL
      injection e with e1 e2 e3
      subst e1
      clear e2 e3
      obtain ⟨d0, d1, d2, d3⟩ := hc _ (Below.refl _ _)
      clear hc d1 d2 d3
      by_cases he : L[k].id = id
      · have hix : ix L id = some k := by
          unfold ix
          rw [List.findIdx?_eq_some_iff_getElem]
          exact ⟨hkL, by simpa using he, fun j hj => by simpa using hno.out j (by omega) hj⟩
        have hr : res = (k : Int) := by rw [← HR.out, ixI, hix]
        subst hr
        have b1 : (L[k].id == id) = true := beq_iff_eq.2 he
        rw [he] at d0
        clear hix b1 he
        go_wp2
        go_ret
        exact ⟨rfl, rfl⟩
      · have b1 : (L[k].id == id) = false := beq_eq_false_iff_ne.2 he
        have HE : Hid (L[k].id ≠ id) := he
        obtain ⟨x, hx⟩ : ∃ x, L[k].id = x := ⟨_, rfl⟩
        rw [hx] at d0 b1
        clear hx he
        go_wp2_with fail
        go_roundw
        case rel =>
          refine ⟨k + 1, by simp, by omega, by first | rfl | trivial, fun j hj hjk => ?_⟩
          by_cases hjk' : j = k
          · subst hjk'; exact HE.out
          · exact hno.out j hj (by omega)
        case measure => simp [intOf]; omega
    · have hkn : k = n := by omega
      have hr : res = -1 := by
        rw [← HR.out, ixI]
        have : ix L id = none := by
          unfold ix
          rw [List.findIdx?_eq_none_iff]
          intro x hx
          obtain ⟨j, hj, rfl⟩ := List.getElem_of_mem hx
          simpa using hno.out j hj (by have := HL.out; omega)
        rw [this]
      subst hr
      have l1 : ¬ (k : Int) < (n : Int) := by omega
      go_wp2
      go_ret
      exact ⟨rfl, rfl⟩
/-- what waits of a stream -/
def wN (L : List Stm) (id : Int) : Nat := match ix L id with | some k => ((L[k]?.map fun s => s.t.size).getD 0) | none => 0
def wE (L : List Stm) (id : Int) : Bool := match ix L id with | some k => ((L[k]?.map fun s => s.o && !s.g).getD false) | none => false
set_option maxRecDepth 100000 in
set_option maxHeartbeats 1000000 in
theorem rwaits_any (w : World) (p : Nat) (v : SV) (L : List Stm) (id : Int) (h : Rs w p v L) :
    Calls Try.prog 29 #[.pointer (some ⟨p, 0, none⟩), .int .i64 id] w fun e w' => e = .returned (.tuple #[.int .i64 (wN L id : Int), .bool (wE L id)]) ∧ Below w.heap.size w w' := by
  have hat := at_any w p v L id h
  unfold ixI at hat
  unfold wN wE
  cases hix : ix L id with
  | none =>
    rw [hix] at hat
    simp only at hat
    clear h hix
    go_enter Try.func29, Try.ntmps29
    go_wp2_with fail
    refine hat.mono ?_
    rintro e w1 ⟨rfl, rfl⟩
    go_wp2_with fail
    go_ret2
    exact ⟨rfl, Below.refl _ _⟩
  | some k =>
    rw [hix] at hat
    simp only at hat
    have hk := (ix_some hix).1
    have c0 := cell_blk h.blk 0
    have hp := heap_lt h.blk
    obtain ⟨b, n, c⟩ := v
    have hI := h.r.isIn
    unfold sv at hI c0
    simp only at hI c0
    obtain ⟨hnl, hc1, hc2⟩ := slice_len hI
    obtain ⟨B, off, cap, e, hc⟩ := hI.st k hk
    injection e with e1 e2 e3
    subst e1
    obtain ⟨d0, d1, d2, d3⟩ := hc w (Below.refl _ _)
    simp only [List.getElem?_eq_getElem hk, Option.map_some, Option.getD_some]
    obtain ⟨s, hs⟩ : ∃ s, L[k] = s := ⟨_, rfl⟩
    rw [hs] at d0 d1 d2 d3 ⊢
    obtain ⟨si, st, so, sg⟩ := s
    simp only at d0 d1 d2 d3 ⊢
    have kl : (k : Int) < (n : Int) := by omega
    have kn : ¬ (k : Int) < 0 := by omega
    rw [← hnl] at hc1
    clear hs hc hI h hix e2 e3 hnl hk
    cases so
    · go_enter Try.func29, Try.ntmps29
      go_wp2_with fail
      refine hat.mono ?_
      rintro e w1 ⟨rfl, rfl⟩
      go_wp2_with fail
      go_quiet (fail)
      go_wp2_with fail
      go_ret2
      exact ⟨rfl, rfl, rfl, rfl, Nat.le_refl _, fun _ _ => rfl⟩
    · go_enter Try.func29, Try.ntmps29
      go_wp2_with fail
      refine hat.mono ?_
      rintro e w1 ⟨rfl, rfl⟩
      go_wp2_with fail
      go_quiet (fail)
      go_wp2_with fail
      go_ret2
      exact ⟨rfl, rfl, rfl, rfl, Nat.le_refl _, fun _ _ => rfl⟩
def rdB (n : Nat) (e : Bool) (c s : Int) : Bool := if 0 < n then decide (0 < c) && decide (0 < s) else e
set_option maxRecDepth 100000 in
set_option maxHeartbeats 1000000 in
theorem rready_any (w : World) (p : Nat) (v : SV) (L : List Stm) (id c s : Int) (h : Rs w p v L) :
    Calls Try.prog 47 #[.pointer (some ⟨p, 0, none⟩), .int .i64 id, .int .i64 c, .int .i64 s] w fun e w' => e = .returned (.bool (rdB (wN L id) (wE L id) c s)) ∧ Below w.heap.size w w' := by
  have hw := rwaits_any w p v L id h
  unfold rdB
  generalize wN L id = n at hw ⊢
  generalize wE L id = en at hw ⊢
  by_cases hn : 0 < n
  · rw [if_pos hn]
    have p1 : (0 : Int) < (n : Int) := by omega
    have p2 : decide ((0 : Int) < (n : Int)) = true := decide_eq_true p1
    cases hc : decide (0 < c)
    · go_enter Try.func47, Try.ntmps47
      go_wp2_with fail
      refine hw.mono ?_
      rintro e w1 ⟨rfl, hB⟩
      go_wp2_with fail
      go_ret
      exact ⟨rfl, hB⟩
    · go_enter Try.func47, Try.ntmps47
      go_wp2_with fail
      refine hw.mono ?_
      rintro e w1 ⟨rfl, hB⟩
      go_wp2_with fail
      go_ret
      exact ⟨rfl, hB⟩
  · rw [if_neg hn]
    have p1 : ¬ (0 : Int) < (n : Int) := by omega
    have p2 : decide ((0 : Int) < (n : Int)) = false := decide_eq_false p1
    go_enter Try.func47, Try.ntmps47
    go_wp2_with fail
    refine hw.mono ?_
    rintro e w1 ⟨rfl, hB⟩
    go_wp2_with fail
    go_ret
    exact ⟨rfl, hB⟩
end Go.Proofs.Ytbmaknjeflblcaa
