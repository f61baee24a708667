/- assemble, of every frame. -/
import Derived.Test.YtmhbaaemihljjaaDoorC6
namespace Go.Proofs.YtmhbaaemihljjaaDoor
open Go.RowKit
set_option linter.unusedVariables false
set_option linter.unusedSimpArgs false

/-- the bytes that a kind of payload writes -/
def payB (k : Nat) (f : Fr) (ps : List (Int × Int)) : List UInt8 :=
  if k = 50 then prioB f ++ f.data.data.toList
  else if k = 53 then prioB f
  else if k = 55 then be 4 f.code
  else if k = 57 then parB ps
  else if k = 60 then be 4 (f.last % 2147483648) ++ f.data.data.toList
  else if k = 62 then f.data.data.toList
  else if k = 64 then be 4 (f.last % 2147483648) ++ (be 4 f.code ++ f.data.data.toList)
  else be 4 (f.last % 2147483648)

theorem put_any {f : Fr} {k1 : Nat} {k2 : Int} {k3 k4 : Nat} (h : kd f.ty f.fl = (k1, k2, k3, k4)) (ps : List (Int × Int)) (p : Value) (w : World) (o : Value) (l : List UInt8) (hR : Row w o l) (hp : PRow w p ps) (hne : ∀ k, p.ownBlock = some k → o.ownBlock ≠ some k) (hl : l.length + (payB k3 f ps).length + 100 ≤ 140737488355328) :
    Calls Tryd.prog k3 #[o, .agg (fv f p)] w fun e w' => ∃ o', e = .returned o' ∧ Row w' o' (l ++ payB k3 f ps) ∧ Gr w w' o o' := by
  obtain ⟨pb, pc, hps⟩ := hp.slice
  rcases kd_cases f.ty f.fl with hk | hk | hk | hk | hk | hk | hk | hk | hk | hk
  all_goals
    rw [hk] at h
    cases h
    first
      | exact puts_params f ps p w o l hR hp hne hl
      | (subst hps
         first
          | exact puts_headers f pb _ pc w o l hR hl
          | exact puts_prio f pb _ pc w o l hR hl
          | exact puts_code f pb _ pc w o l hR hl
          | exact puts_promise f pb _ pc w o l hR hl
          | exact puts_data f pb _ pc w o l hR hl
          | exact puts_goaway f pb _ pc w o l hR hl
          | exact puts_last f pb _ pc w o l hR hl)

/-- the payload, its padding too -/
def wholeB (f : Fr) (ps : List (Int × Int)) : List UInt8 :=
  if padS f then [b8 f.pad] ++ payB (kd f.ty f.fl).2.2.1 f ps ++ List.replicate (f.pad % 256).toNat 0 else payB (kd f.ty f.fl).2.2.1 f ps
/-- all its bytes -/
def asmB (f : Fr) (ps : List (Int × Int)) : ByteArray := ⟨(headS f (wholeB f ps).length ++ wholeB f ps).toArray⟩

theorem asm_any (f : Fr) (ps : List (Int × Int)) (p : Value) (w : World) (hp : PRow w p ps) (hl : (payB (kd f.ty f.fl).2.2.1 f ps).length + 400 ≤ 140737488355328) :
    Calls Tryd.prog 30 #[.agg (fv f p)] w fun e w' => e = .returned (.string (asmB f ps)) ∧ Below w.heap.size w w' := by
  obtain ⟨pb, pc, rfl⟩ := hp.slice
  obtain ⟨⟨k1, k2, k3, k4⟩, hkd⟩ : ∃ q, kd f.ty f.fl = q := ⟨_, rfl⟩
  have hk3 : (kd f.ty f.fl).2.2.1 = k3 := by rw [hkd]
  unfold asmB
  cases hpd : padS f with
  | false =>
    have hw : wholeB f ps = payB k3 f ps := by unfold wholeB; rw [hpd, hk3]; rfl
    rw [hw]
    rw [hk3] at hl
    refine asm_plain f pb _ pc w k1 k2 k3 k4 _ hkd hpd (fun W hW => ?_) (by omega)
    have h := put_any hkd ps _ W (.slice none 0 0) [] (Row.nil W) (hp.below fun k _ hk => hW.block k hk) (fun k _ => by simp [Value.ownBlock]) (by simp; omega)
    simpa using h
  | true =>
    have hw : wholeB f ps = [b8 f.pad] ++ payB k3 f ps ++ List.replicate (f.pad % 256).toNat 0 := by unfold wholeB; rw [hpd, hk3]; rfl
    rw [hk3] at hl
    refine asm_pad f pb _ pc w k1 k2 k3 k4 (payB k3 f ps) hkd hpd (fun W o hW hRo hfr => ?_) hl _ hw
    exact put_any hkd ps _ W o _ hRo (hp.below fun k _ hk => hW.block k hk) (fun k hk e => by have := hp.lt k hk; have := hfr k e; omega) (by simp; omega)

end Go.Proofs.YtmhbaaemihljjaaDoor
