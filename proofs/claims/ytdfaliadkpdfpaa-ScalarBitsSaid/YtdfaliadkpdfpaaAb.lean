/- ScalarBits, at the values that a claim hands over. -/
import Derived.Test.YtdfaliadkpdfpaaSb
namespace Go.Proofs.Ytdfaliadkpdfpaa
set_option linter.unusedSimpArgs false
set_option linter.unusedVariables false
open Go.RowKit
theorem num_of (l : List UInt8) (hl : l.length = 32) : Value.agg (cs8 l).toArray = num (val l) := by
  have h := le_val l
  rw [hl] at h
  rw [num, h]
theorem val_big (l : List UInt8) (hl : l.length = 32) : val l < 256 ^ 32 := by
  have h := val_lt l
  rwa [hl] at h
theorem ScalarBits_arg (l : List UInt8) (m n : Int) (w : World) (hl : l.length = 32) (h0 : 0 ≤ m) (h1 : m ≤ 4294967295) (h2 : 0 ≤ n) (h3 : n ≤ 4294967295) :
    Calls Try.prog 4 #[.agg (cs8 l).toArray, .int .u32 m, .int .u32 n] w fun e w' => e = .returned (.bool true) ∧ Below w.heap.size w w' := by
  obtain ⟨a, rfl⟩ := Int.eq_ofNat_of_zero_le h0
  obtain ⟨b, rfl⟩ := Int.eq_ofNat_of_zero_le h2
  rw [num_of l hl]
  exact ScalarBits_walk (val l) a b (val_big l hl) (by omega) (by omega) w
end Go.Proofs.Ytdfaliadkpdfpaa
