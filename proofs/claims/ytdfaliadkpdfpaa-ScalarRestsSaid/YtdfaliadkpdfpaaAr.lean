/- ScalarRests, at the values that a claim hands over. -/
import Derived.Test.YtdfaliadkpdfpaaSr0
import Derived.Test.YtdfaliadkpdfpaaSr1
import Derived.Test.YtdfaliadkpdfpaaSr2
namespace Go.Proofs.Ytdfaliadkpdfpaa
set_option linter.unusedSimpArgs false
set_option linter.unusedVariables false
open Go.RowKit

set_option maxHeartbeats 800000 in
set_option maxRecDepth 16384 in
theorem ScalarRests_long {A : Option Addr} {n c : Nat} (cut : Int) (w : World) (hn : ¬ n ≤ 64) :
    Calls Try.prog 3 #[.slice A n c, .int .i64 cut] w fun e w' => e = .returned (.bool true) ∧ Below w.heap.size w w' := by
  have hd0 : decide (64 < (n : Int)) = true := by simp; omega
  go_enter Try.func3, Try.ntmps3
  go_wp2_with fail
  refine (lives_any _).mono ?_; rintro e u1 ⟨rfl, hb⟩
  have HB := Lib.hid hb
  clear hb
  go_wp2
  go_ret
  exact ⟨rfl, HB.out⟩
theorem ScalarRests_arg (A : Option Addr) (n c : Nat) (l : List UInt8) (cut : Int) (w : World) (hr : Rd w w.heap.size A n c l) (_ : -9223372036854775808 ≤ cut) (_ : cut ≤ 9223372036854775807) :
    Calls Try.prog 3 #[.slice A n c, .int .i64 cut] w fun e w' => e = .returned (.bool true) ∧ Below w.heap.size w w' := by
  by_cases hn : n ≤ 64
  · by_cases h0 : cut < 0
    · exact ScalarRests_0 cut (n / 2) w hr hn h0 rfl
    · by_cases h1 : (n : Int) < cut
      · exact ScalarRests_1 cut (n / 2) w hr hn h1 rfl
      · obtain ⟨k, rfl⟩ := Int.eq_ofNat_of_zero_le (show 0 ≤ cut by omega)
        exact ScalarRests_2 (k : Int) k w hr hn rfl (by omega)
  · exact ScalarRests_long cut w hn
end Go.Proofs.Ytdfaliadkpdfpaa
