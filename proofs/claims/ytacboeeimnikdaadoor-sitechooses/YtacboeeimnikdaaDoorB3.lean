/- site: firstValue. -/
import Derived.Test.YtacboeeimnikdaaDoorB2
namespace Go.Proofs.YtacboeeimnikdaaDoor
open Go.RowKit
open Go.Shelf
set_option linter.unusedVariables false
set_option linter.unusedSimpArgs false

def eS : ByteArray := ⟨#[]⟩
/-- the first field's of a name -/
def fvS (l : List Fd) (n : ByteArray) : ByteArray := match l.findIdx? (fun f => f.n.toList == n.toList) with | some k => (match l[k]? with | some f => f.v | none => eS) | none => eS
theorem fvS_some {l : List Fd} {s : ByteArray} {k : Nat} (h : k < l.length) (h1 : (l[k].n.toList == s.toList) = true) (h2 : ∀ j (hj : j < l.length), j < k → (l[j].n.toList == s.toList) = false) : fvS l s = l[k].v := by
  have : l.findIdx? (fun c => c.n.toList == s.toList) = some k := List.findIdx?_eq_some_iff_getElem.2 ⟨h, h1, fun j hj => by rw [h2 j (by omega) hj]; simp⟩
  unfold fvS
  rw [this]
  simp [List.getElem?_eq_getElem h]
theorem fvS_none {l : List Fd} {s : ByteArray} (h2 : ∀ j (hj : j < l.length), (l[j].n.toList == s.toList) = false) : fvS l s = eS := by
  have : l.findIdx? (fun c => c.n.toList == s.toList) = none := List.findIdx?_eq_none_iff.2 fun x hx => by
    obtain ⟨j, hj, e⟩ := List.getElem_of_mem hx
    rw [← e]
    exact h2 j hj
  unfold fvS
  rw [this]

set_option maxHeartbeats 4000000 in
set_option maxRecDepth 100000 in
theorem firstValue_any (x : SV) (l : List Fd) (s : ByteArray) (w : World) (hI : In EFd w (sv x) l) :
    Calls Tryd.prog 75 #[sv x, .string s] w fun e w' => e = .returned (.string (fvS l s)) ∧ Below w.heap.size w w' := by
  have HI : Hid (In EFd w (sv x) l) := hI
  obtain ⟨b, c, e, m1, m2⟩ := hI.slice
  obtain ⟨sb, sl, sc⟩ := x
  simp only [sv] at e HI ⊢
  injection e with e1 e2 e3
  subst e1 e2 e3
  clear hI
  go_enter Tryd.func75, Tryd.ntmps75
  go_wp2_with fail
  go_loopw [6, 9] (fun _ kv wr => ∃ k : Nat, kv = .int .i64 (k : Int) ∧ k ≤ l.length ∧ Hid (∀ j (h : j < l.length), j < k → (l[j].n.toList == s.toList) = false) ∧ Hid (Below w.heap.size w wr)) (fun _ kv _ => l.length - (intOf kv).toNat)
  case atStart => exact ⟨0, rfl, by omega, fun j _ h => absurd h (by omega), Below.refl _ _⟩
  case round =>
    obtain ⟨k, rfl, hk, hno, hb⟩ := hrel
    by_cases hlt : k < l.length
    · obtain ⟨Bk, off, cap, e, hc⟩ := HI.out.fd k hlt
      injection e with e1 e2 e3
      clear e2 e3
      subst e1
      obtain ⟨c0, c1, c2⟩ := hc wr hb.out
      obtain ⟨y, hy⟩ : ∃ y, l[k] = y := ⟨_, rfl⟩
      rw [hy] at c0 c1 c2
      have Hy : Hid (l[k]'hlt = y) := hy
      have hb2 : Hid (Below w.heap.size w (wr.alloc (.cells #[.string y.n, .string y.v, .bool y.nv] 44))) := hb.out.trans ((bel1 _ _).mono hb.out.size)
      have hlt' : (k : Int) < (l.length : Int) := by omega
      clear hc hy
      cases hB : (y.n.toList == s.toList)
      · have HB : Hid ((y.n.toList == s.toList) = false) := hB
        go_wp2_with fail
        go_roundw
        case rel =>
          refine ⟨k + 1, by simp, by omega, fun j hj h => ?_, hb2.out⟩
          by_cases hjk : j = k
          · subst hjk
            rw [Hy.out]
            exact HB.out
          · exact hno.out j hj (by omega)
        case measure => simp [intOf]; omega
      · have HB : Hid ((y.n.toList == s.toList) = true) := hB
        go_wp2_with fail
        go_ret
        exact ⟨by rw [fvS_some hlt (by rw [Hy.out]; exact HB.out) hno.out, Hy.out]; rfl, hb2.out⟩
    · have hlt' : ¬ (k : Int) < (l.length : Int) := by omega
      go_wp2_with fail
      go_ret
      exact ⟨by rw [fvS_none fun j hj => hno.out j hj (by omega)]; rfl, hb.out⟩

end Go.Proofs.YtacboeeimnikdaaDoor
