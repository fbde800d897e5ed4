/- OctetNames: the chapter's examples. -/
import Derived.Test.YtilcgnghhfiflaaLiv
import Derived.Test.YtilcgnghhfiflaaArr
namespace Go.Proofs.Ytilcgnghhfiflaa
open Go.RowKit

def names : List UInt8 := [5, 1, 2, 3, 4, 5, 6, 7, 8, 1, 97, 9]
theorem nm1 : rdNum names 0 = (5, names.drop 1, 0) := by decide +kernel
theorem nm2 : tk 8 (names.drop 1) 0 = ((names.drop 1).take 8, names.drop 9, 0) := by decide +kernel
theorem nm2' : leNat ((names.drop 1).take 8) = 578437695752307201 := by decide +kernel
theorem nm3 : rdBlk (names.drop 9) 0 = ([97], [9], 0) := by decide +kernel
theorem nm6 : wordB 258 2 = [2, 1] := by decide +kernel
theorem nm5 : rdEnd [9] 0 = 4 := by decide +kernel

set_option maxHeartbeats 1000000 in
theorem OctetNames_walk (w : World) : Calls Try.prog 3 #[] w fun x w' => x = .returned (.bool true) ∧ Below w.heap.size w w' := by
  go_enter Try.func3, Try.ntmps3
  go_wp2_with fail
  refine (Read_any _ (Rd.litN w _ names 12 rfl rfl (by decide)) (by decide)).mono ?_; rintro x w1 ⟨g1, rfl, hg1, hR1, hb1⟩
  have s2 := hg1
  simp only [World.size_alloc] at s2
  have K1 := Lib.hid (bl_call (bl_alloc (bl0 w) _) hb1)
  clear hg1 hb1
  go_wp2_with fail
  refine (RNumber_any hR1 (by decide)).mono ?_; rintro x w2 ⟨rfl, hR2, hO2⟩
  rw [nm1] at hR2 ⊢
  simp only at hR2 ⊢
  have K2 := Lib.hid (bl_only K1.out hO2 (by omega))
  go_wp2_with fail
  refine (RWord_any hR2 _ (by decide)).mono ?_; rintro x w3 ⟨rfl, hR3, hO3⟩
  rw [show wordLen 8 = 8 from rfl, nm2] at hR3 ⊢
  simp only [nm2'] at hR3 ⊢
  have K3 := Lib.hid (bl_only K2.out hO3 (by omega))
  go_wp2_with fail
  refine (RBlock_any hR3 (by decide)).mono ?_; rintro x w4 ⟨v4, rfl, ho4, hR4, hO4⟩
  rw [nm3] at ho4 hR4
  have K4 := Lib.hid (bl_only K3.out hO4 (by omega))
  obtain ⟨A4, c4, rfl, hr4⟩ := ho4.rdN (n := 1) rfl
  go_wp2_with fail
  refine (RLeft_any hR4 (by decide)).mono ?_; rintro x w5 ⟨rfl, rfl⟩
  go_wp2_with fail
  refine (REnd_any hR4).mono ?_; rintro x w5 ⟨rfl, rfl⟩
  rw [nm5]
  go_wp2_with fail
  refine (Read_any _ (Rd.nil _ _ _ _) (by decide)).mono ?_; rintro x w5 ⟨g5, rfl, hg5, hR5, hb5⟩
  have K5 := Lib.hid (bl_call K4.out hb5)
  have s4 := K4.out.size
  go_wp2_with fail
  refine (RDigest_any hR5 (by decide)).mono ?_; rintro x w6 ⟨rfl, hR6, hO6⟩
  have K6 := Lib.hid (bl_only K5.out hO6 (by omega))
  rw [show tk 32 [] 0 = ([], [], 5) from rfl] at hR6 ⊢
  simp only at hR6 ⊢
  have hsz : (cs8 (pad32 [])).toArray.size = 32 := by rfl
  have HS := Lib.hid hsz
  clear hsz
  have he := arr_zero (pad32 []) rfl
  rw [show decide (pad32 [] = List.replicate 32 0) = true from rfl] at he
  have hnew := Lib.hid (heap_alloc_new w6 (.cells (cs8 (pad32 [])).toArray 33))
  go_wp2_with (refine wpList_store_row rfl 33 _ _ rfl w6.heap.size rfl _ rfl 33 _ (heap_alloc_new w6 _) (by rw [HS.out]; rfl) (by rw [HS.out]; exact info33) (cs8_one _) ?_; rw [setRow_new])
  refine (lives_any _).mono ?_; rintro x w7 ⟨rfl, hb7⟩
  have hnew7 := Lib.hid ((hb7.block w6.heap.size (by simp)).trans hnew.out)
  have b46 : Below w4.heap.size w4 w6 := hb5.trans (hO6.below hg5 hb5.size)
  have b47 : Below w4.heap.size w4 w7 := (b46.alloc b46.size _).trans (hb7.mono (by have := b46.size; simp; omega))
  have b67 : Below w6.heap.size w6 w7 := bl_call (bl_alloc (bl0 w6) _) hb7
  have K7 := Lib.hid (bl_call K6.out b67)
  have hR4b : Rdr w7 g1 [9] 0 := hR4.below b47
  have hR6b : Rdr w7 g5 [] 5 := hR6.below b67
  have hs4 := run_str (hr4.below b47)
  clear hb7 hb5 b46 b47 b67 hnew hr4 ho4 hR4 hR6 hR1 hR2 hR3 hO2 hO3 hO4 hO6 hR5 hg5 s4 s2 K1 K2 K3 K4 K5 K6
  go_wp2_with (first | (refine wpList_load_rowG rfl 33 _ rfl w6.heap.size rfl 33 _ (0, 0) _ hnew7.out Try.underlying33 rfl (by rw [HS.out]; exact info33) ?_) | fail)
  refine (Err_any hR4b).mono ?_; rintro x w8 ⟨rfl, rfl⟩
  go_wp2_with (first | (refine wpList_load_rowG rfl 33 _ rfl w6.heap.size rfl 33 _ (0, 0) _ hnew7.out Try.underlying33 rfl (by rw [HS.out]; exact info33) ?_) | fail)
  refine (Err_any hR6b).mono ?_; rintro x w8 ⟨rfl, rfl⟩
  go_wp2_with fail
  refine (REnd_any hR6b).mono ?_; rintro x w8 ⟨rfl, rfl⟩
  rw [show rdEnd [] 5 = 5 from rfl]
  go_wp2_with fail
  refine (Word_any _ _ _ (Rd.litN w7 _ [9] 1 rfl rfl (by decide)) (by decide) (by decide) (by decide)).mono ?_; rintro x w8 ⟨v8, rfl, ho8, hb8⟩
  rw [show ([9] : List UInt8) ++ wordB (258 : Int).toNat (min (max (2 : Int) 1) 8).toNat = [9, 2, 1] from by decide +kernel] at ho8
  obtain ⟨A8, c8, rfl, hr8⟩ := ho8.rdN (n := 3) rfl
  have hs8 := run_str hr8
  go_wp2_with fail
  refine (Word_any _ _ _ (Rd.nil _ _ _ _) (by decide) (by decide) (by decide)).mono ?_; rintro x w9 ⟨v9, rfl, ho9, hb9⟩
  obtain ⟨A9, c9, rfl, hr9⟩ := ho9.rdN (n := 1) (by decide +kernel)
  go_wp2_with fail
  refine (Word_any _ _ _ (Rd.nil _ _ _ _) (by decide) (by decide) (by decide)).mono ?_; rintro x w10 ⟨v10, rfl, ho10, hb10⟩
  obtain ⟨A10, c10, rfl, hr10⟩ := ho10.rdN (n := 8) (by decide +kernel)
  go_wp2
  go_ret
  exact ⟨rfl, bl_call (bl_call (bl_call (bl_alloc K7.out _) hb8) hb9) hb10⟩
end Go.Proofs.Ytilcgnghhfiflaa
