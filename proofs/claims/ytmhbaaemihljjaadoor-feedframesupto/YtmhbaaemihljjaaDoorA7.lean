/- parse, whole. -/
import Derived.Test.YtmhbaaemihljjaaDoorBbad
import Derived.Test.YtmhbaaemihljjaaDoorBfA
import Derived.Test.YtmhbaaemihljjaaDoorBfN
import Derived.Test.YtmhbaaemihljjaaDoorBtA
import Derived.Test.YtmhbaaemihljjaaDoorBtB
import Derived.Test.YtmhbaaemihljjaaDoorBtN
namespace Go.Proofs.YtmhbaaemihljjaaDoor
open Go.RowKit
set_option linter.unusedVariables false
set_option linter.unusedSimpArgs false

def tyS (b : ByteArray) : Int := (byteAt b 3 : Int)
def stS (b : ByteArray) : Int := (numS (b.extract 5 9) : Int) % 2147483648
def kiS (b : ByteArray) : Nat := (min (tyS b) 10).toNat
def flS (b : ByteArray) : Int := bits .and .i64 (byteAt b 4 : Int) (kflags (kiS b))
def pdS (b : ByteArray) : Bool := decide (tyS b < 10) && hasF (flS b) 8
/-- what parse tells -/
def parseS (b : ByteArray) : (Fr × List (Int × Int)) × Int × Int := parseB (tyS b) (stS b) (flS b) (kiS b) (pdS b) (b.extract 9 b.size) (kd (tyS b) (flS b))

theorem pad68_all : ((List.range 10).all fun n => (List.range 256).all fun x => !hasF (bits .and .i64 (x : Int) (kflags n)) 8 || (kd (n : Int) (bits .and .i64 (x : Int) (kflags n))).1 == 72) = true := by decide +kernel

theorem pad68 (b : ByteArray) (h : pdS b = true) : (kd (tyS b) (flS b)).1 = 72 := by
  unfold pdS at h
  rw [Bool.and_eq_true, decide_eq_true_eq] at h
  obtain ⟨h1, h2⟩ := h
  have hn : kiS b = byteAt b 3 := by unfold kiS tyS at *; omega
  have hlt : byteAt b 3 < 10 := by unfold tyS at h1; omega
  have ha := List.all_eq_true.1 pad68_all (byteAt b 3) (by simpa using hlt)
  have hb := List.all_eq_true.1 ha (byteAt b 4) (by simpa using byteAt_lt b 4)
  unfold flS at h2 ⊢
  unfold tyS
  rw [hn] at h2 ⊢
  rw [h2] at hb
  simpa using hb

theorem parse_any (b : ByteArray) (w : World) (hs : 9 ≤ b.size) (hw : 1 ≤ w.heap.size) (hK : Kinds w) (hlim : b.size ≤ 140737488355328) (hl2 : (kd (tyS b) (flS b)).2.2.2 = 58 → b.size / 6 * 16 ≤ 140737488355328) :
    Calls Tryd.prog 31 #[.string b] w fun e w' => PPost w (parseS b) e w' := by
  have h68 := pad68 b
  obtain ⟨k1, k2, k3, k4, hk⟩ : ∃ k1 k2 k3 k4, kd (tyS b) (flS b) = (k1, k2, k3, k4) := ⟨_, _, _, _, rfl⟩
  unfold parseS
  rw [hk] at hl2 h68 ⊢
  have hT : tyS b = (b[3].toNat : Int) := by unfold tyS; rw [byteAt_eq b 3 (by omega)]
  have hL : bits .and .i64 (b[4].toNat : Int) (kflags (kiS b)) = flS b := by unfold flS; rw [byteAt_eq b 4 (by omega)]
  by_cases hbad : stS b < kfrom (kiS b) ∨ kto (kiS b) < stS b
  · exact parse_bad b w hs hw hK hlim (tyS b) (stS b) (flS b) (kiS b) (pdS b) _ k1 k2 k3 k4 hT rfl rfl hL rfl rfl hk h68 hbad hl2
  · cases hp : pdS b with
    | false =>
      by_cases hA : ftS k1 k2 ((b.extract 9 b.size).size : Int) = true
      · exact parse_fA b w hs hw hK hlim (tyS b) (stS b) (flS b) (kiS b) false _ k1 k2 k3 k4 hT rfl rfl hL hp rfl hk (fun e => by cases e) hbad rfl hA hl2
      · exact parse_fN b w hs hw hK hlim (tyS b) (stS b) (flS b) (kiS b) false _ k1 k2 k3 k4 hT rfl rfl hL hp rfl hk (fun e => by cases e) hbad rfl (by simpa using hA) hl2
    | true =>
      have h1 : k1 = 72 := h68 hp
      by_cases hA : ftS k1 k2 (((b.extract 9 b.size).size : Int) - 1) = true
      · by_cases hB : ftS k1 k2 (((b.extract 9 b.size).size : Int) - (byteAt (b.extract 9 b.size) 0 : Int) - 1) = true
        · exact parse_tA b w hs hw hK hlim (tyS b) (stS b) (flS b) (kiS b) true _ k1 k2 k3 k4 hT rfl rfl hL hp rfl hk (fun _ => h1) hbad rfl hA hB hl2
        · exact parse_tB b w hs hw hK hlim (tyS b) (stS b) (flS b) (kiS b) true _ k1 k2 k3 k4 hT rfl rfl hL hp rfl hk (fun _ => h1) hbad rfl hA (by simpa using hB) hl2
      · exact parse_tN b w hs hw hK hlim (tyS b) (stS b) (flS b) (kiS b) true _ k1 k2 k3 k4 hT rfl rfl hL hp rfl hk (fun _ => h1) hbad rfl (by simpa using hA) hl2

end Go.Proofs.YtmhbaaemihljjaaDoor
