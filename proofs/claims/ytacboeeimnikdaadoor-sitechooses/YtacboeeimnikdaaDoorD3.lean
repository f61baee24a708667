/- site: an entry taken, and stored behind an append. -/
import Derived.Test.YtacboeeimnikdaaDoorD2
namespace Go.Proofs.YtacboeeimnikdaaDoor
open Go.RowKit Go.Maps
open Go.ChangeMaps Go.MapKept Go.WideShapes
set_option linter.unusedVariables false
set_option linter.unusedSimpArgs false

theorem KL : WideMaps.KeyLaw Tryd.prog 87 := deep_law_gate laid17 (of_decide_eq_true (by kernel_rfl)) (of_decide_eq_true (by kernel_rfl)) (by kernel_rfl) (by kernel_rfl)
theorem zero108 : ∀ w, (zeroValue 108).run Tryd.prog w = .ok (.slice none 0 0) w := (zero_of_info (n := 1) (by kernel_rfl)).1
theorem key_one {l : List MapEntry} (h : l.Pairwise fun x y => x.key ≠ y.key) {a b : MapEntry} (ha : a ∈ l) (hb : b ∈ l) (e : a.key = b.key) : a = b := by
  induction l with
  | nil => cases ha
  | cons c l ih =>
    rw [List.pairwise_cons] at h
    rcases List.mem_cons.1 ha with rfl | ha' <;> rcases List.mem_cons.1 hb with rfl | hb'
    · rfl
    · exact absurd e (h.1 b hb')
    · exact absurd e.symm (h.1 a ha')
    · exact ih h.2 ha' hb'
/-- 'm[t] = append(m[t], ..)': what is taken, and what the store leaves -/
theorem entry_ops {w : World} {b n : Nat} {D : DataW Value} (h : w.ownsMap Tryd.prog 87 hd b n D) (hn : n < maxLen) {L : List Te} (hM : MS D L) (t : Tg) (ht : tz t) :
    ∃ (v0 : Value) (st : Nat) (es1 : Array MapEntry) (clock1 : Nat), (Instr.mapEntry 77 (.map (some b)) (.agg (tgv t))).run Tryd.prog w = .ok (.tuple #[v0, goInt st]) (setBlock w b (.map es1 clock1)) ∧
      (v0 = match fdT L t with | some r => sv r.y | none => .slice none 0 0) ∧
      ∀ (w2 : World) (y : SV), w2.heap[b]? = some (.map es1 clock1) → ∃ w3, (Instr.entryStore 77 (.map (some b)) (goInt st) (sv y)).run Tryd.prog w2 = .ok () w3 ∧ w3.ownsMap Tryd.prog 87 hd b (n + 1) (D.put (klT t) (.held (sv y))) ∧ Ks (fun k => k = b) w2 w3 := by
  have h0 := h
  obtain ⟨es, clock, hb, F, hs, hD⟩ := h
  obtain ⟨v0, st, es1, clock1, hrun, hv, hst⟩ := WideElems.entry_then_store (R := hd) KL (t := 77) (e := 108) Tryd.underlying77 zero108 hb F (key_of t ht)
  refine ⟨v0, st, es1, clock1, hrun, ?_, fun w2 y hw2 => ?_⟩
  · have hat := hM.at' t ht
    rw [hD] at hat
    rcases fit_look false KT (t := 77) (e := 108) Tryd.underlying77 (zero108 w) hb F (key_of t ht) with ⟨_, hno, ha⟩ | ⟨e1, y1, he1, hk1, _, hR1, ha, _⟩
    · have hnone : fdT L t = none := by
        cases hf : fdT L t with
        | none => rfl
        | some r =>
          rw [hf] at hat
          have h1 := ha (.lit (.bool true))
          have h2 := hat (.lit (.bool true))
          rw [h1] at h2
          cases h2
      rw [hnone]
      rcases hv with ⟨e0, he0, hk0, _⟩ | ⟨_, hz⟩
      · exact absurd hk0 (hno e0 he0)
      · exact hz
    · rcases hv with ⟨e0, he0, hk0, hv0⟩ | ⟨hno, _⟩
      · have he : e0 = e1 := key_one ((stamped_iff es clock).1 F.stamped).2.2 he0 he1 (hk0.trans hk1.symm)
        subst he
        simp only [hd, Option.some.injEq] at hR1
        rw [← hR1] at ha
        cases hf : fdT L t with
        | none =>
          rw [hf] at hat
          have h1 := ha (.lit (.bool true))
          rw [hat] at h1
          cases h1
        | some r =>
          rw [hf] at hat
          have h2 : (DataW.held (sv r.y) : DataW Value) = .held e0.val := (hat .nil).symm.trans (ha .nil)
          rw [hv0]
          exact (DataW.held.inj h2).symm
      · exact absurd hk1 (hno e1 he1)
  · obtain ⟨es', clock', hrun2, hup⟩ := hst w2 (sv y) hw2
    obtain ⟨w', hup', ho, _⟩ := h0.update KT (t := 77) (e := 108) Tryd.underlying77 hn (key_of t ht) (val := sv y) (d := .held (sv y)) (ps := []) rfl
    rw [hup] at hup'
    injection hup' with _ hw'
    subst hw'
    obtain ⟨es2, clock2, hb2, r2⟩ := ho
    rw [heap_setBlock_same hb] at hb2
    injection hb2 with hb2
    injection hb2 with h1 h2
    subst h1 h2
    refine ⟨_, hrun2, ⟨es', clock', heap_setBlock_same hw2 _, r2⟩, ⟨rfl, rfl, rfl, by simp [setBlock], fun k _ hk => heap_setBlock_other hw2 _ hk⟩⟩
end Go.Proofs.YtacboeeimnikdaaDoor
