/- OctetNil: a reader that nobody made. -/
import Derived.Test.YtilcgnghhfiflaaLiv
import Derived.Test.YtilcgnghhfiflaaArr
namespace Go.Proofs.Ytilcgnghhfiflaa
open Go.RowKit

set_option maxHeartbeats 400000 in
theorem OctetNil_walk (n : Int) (w : World) (_h0 : -9223372036854775808 ≤ n) (h1 : n ≤ 9223372036854775807) : Calls Try.prog 6 #[.int .i64 n] w fun x w' => x = .returned (.bool true) ∧ Below w.heap.size w w' := by
  go_enter Try.func6, Try.ntmps6
  go_wp2_with fail
  refine (lives_any _).mono ?_; rintro x w1 ⟨rfl, hb1⟩
  go_wp2_with fail
  refine (RNumber_nil _).mono ?_; rintro x w2 ⟨rfl, rfl⟩
  go_wp2_with fail
  refine (RBlock_nil _).mono ?_; rintro x w2 ⟨rfl, rfl⟩
  go_wp2_with fail
  refine (RWord_nil _ _).mono ?_; rintro x w2 ⟨rfl, rfl⟩
  go_wp2_with fail
  refine (RTake_nil _ h1 _).mono ?_; rintro x w2 ⟨v2, rfl, ho2, hb2⟩
  obtain ⟨A2, c2, rfl, hr2⟩ := ho2.rdN (n := 0) rfl
  go_wp2_with fail
  refine (RDigest_nil _).mono ?_; rintro x w3 ⟨rfl, hb3⟩
  have he := arr_zero (pad32 []) rfl
  rw [show decide (pad32 [] = List.replicate 32 0) = true from rfl] at he
  go_wp2_with fail
  refine (Err_nil _).mono ?_; rintro x w4 ⟨rfl, rfl⟩
  go_wp2_with fail
  refine (REnd_nil _).mono ?_; rintro x w4 ⟨rfl, rfl⟩
  go_wp2_with fail
  refine (RLeft_nil _).mono ?_; rintro x w4 ⟨rfl, rfl⟩
  go_wp2
  go_ret
  exact ⟨rfl, bl_call (bl_call hb1 hb2) hb3⟩
end Go.Proofs.Ytilcgnghhfiflaa
