/- A number of words made less than the order. -/
import Derived.Test.YtdfaliadkpdfpaaWa
namespace Go.Proofs.Ytdfaliadkpdfpaa
set_option linter.unusedSimpArgs false
set_option linter.unusedVariables false
open Go.RowKit

section
variable {w0 w w' : World} {g : Nat} {may : Nat → Prop}
theorem kp_alloc (h : Kp may w0 w) (o : Obj) : Kp may w0 (w.alloc o) := (Kp.stays may).trans h (Kp.of_old ((Below.refl _ _).alloc (Nat.le_refl _) o))
theorem kp_new (h : Kp may w0 w) (hg : w0.heap.size ≤ g) (cs : Array Value) : Kp may w0 (w.setRow g cs) :=
  ⟨h.os, h.tape, h.output, by simpa [World.setRow] using h.size, fun k hk hm => (setRow_other w g k cs (by omega)).trans (h.block k hk hm)⟩
theorem kp_call (h : Kp may w0 w) (k : Below w.heap.size w w') : Kp may w0 w' := (Kp.stays may).trans h (Kp.of_old k)
theorem kp_kp (h : Kp may w0 w) (k : Kp may w w') : Kp may w0 w' := (Kp.stays may).trans h k
end
theorem Kp.bk {w w' : World} {g k : Nat} {cs : List Value} (h : Kp (· = g) w w') (hk : Bk w k cs) (hne : k ≠ g) : Bk w' k cs := hk.kp h hne

set_option maxHeartbeats 800000 in
theorem lower_any (a : Nat) (g : Nat) (w : World) (ha : a < 2 * LL) (hA : Bk w g (cs64 (wd a))) :
    Calls Try.prog 20 #[.pointer (some ⟨g, 0, none⟩)] w fun e w' => (∃ v, e = .returned v) ∧ Bk w' g (cs64 (wd (a % LL))) ∧ Kp (· = g) w w' := by
  have HI := Lib.hid (show (Try.prog.info? 40).map (·.size) = some (cs64 (wd LL)).length by rw [cs64_length, wd_length]; exact info40)
  have HL := Lib.hid (show z40.length = (cs64 (wd LL)).length by rw [cs64_length, wd_length, len_z40])
  have HA := Lib.hid hA
  have hLL : LL < 7237005577332262213973186563042994240857116359379907606001950938285454250990 := LL_lt
  have HB1 := Lib.hid (show a < 115792089237316195423570985008687907853269984665640564039457584007913129639936 by omega)
  have HB2 := Lib.hid (show LL < 115792089237316195423570985008687907853269984665640564039457584007913129639936 by omega)
  have hg := hA.lt
  by_cases hlt : a < LL
  · rw [Nat.mod_eq_of_lt hlt]
    have HD := Lib.hid (show decide (a < LL) = true by simp [hlt])
    clear hA ha hlt hLL
    go_enter Try.func20, Try.ntmps20
    go_wp2_with fail
    refine (order_any _).mono ?_; rintro e w1 ⟨rfl, hb⟩
    have HB := Lib.hid hb
    have HN := Lib.hid (Bk.new w1 z40 40)
    clear hb
    go_wp2_with (first | (refine wpList_alloc_z rfl 40 rfl z40 zero40 ?_) | (refine wpList_store_bk rfl 40 _ _ rfl w1.heap.size rfl (cs64 (wd LL)) z40 rfl HN.out HI.out HL.out (cs64_one _) ?_) | fail)
    have hs := HB.out.size
    refine (below_any a LL g w1.heap.size _ HB1.out HB2.out (((HA.out.keep HB.out).old _).other (by omega) _) (HN.out.setRow _)).mono ?_; rintro e w2 ⟨rfl, rfl⟩
    rw [HD.out]
    go_wp2
    refine bodyPost_end (results_none rfl _ _ _) rfl ?_
    exact ⟨⟨_, rfl⟩, (((HA.out.keep HB.out).old _).other (by omega) _).drew, kp_kp (kp_new (kp_alloc (Kp.of_old HB.out) _) (by omega) _) (kp_drew _)⟩
  · have hm : a % LL = a - LL := by rw [Nat.mod_eq_sub_mod (by omega), Nat.mod_eq_of_lt (by omega)]
    rw [hm]
    have HD := Lib.hid (show decide (a < LL) = false by simp; omega)
    have HLE := Lib.hid (show LL ≤ a by omega)
    clear hA ha hlt hLL hm
    go_enter Try.func20, Try.ntmps20
    go_wp2_with fail
    refine (order_any _).mono ?_; rintro e w1 ⟨rfl, hb⟩
    have HB := Lib.hid hb
    have HN := Lib.hid (Bk.new w1 z40 40)
    clear hb
    go_wp2_with (first | (refine wpList_alloc_z rfl 40 rfl z40 zero40 ?_) | (refine wpList_store_bk rfl 40 _ _ rfl w1.heap.size rfl (cs64 (wd LL)) z40 rfl HN.out HI.out HL.out (cs64_one _) ?_) | fail)
    have hs := HB.out.size
    refine (below_any a LL g w1.heap.size _ HB1.out HB2.out (((HA.out.keep HB.out).old _).other (by omega) _) (HN.out.setRow _)).mono ?_; rintro e w2 ⟨rfl, rfl⟩
    rw [HD.out]
    go_wp2_with fail
    refine (take_any a LL g w1.heap.size _ HLE.out (((HA.out.keep HB.out).old _).other (by omega) _).drew (HN.out.setRow _).drew).mono ?_; rintro e w3 ⟨⟨v, rfl⟩, hb3, hk3⟩
    have HB3 := Lib.hid hb3
    have HK3 := Lib.hid (kp_kp (kp_kp (kp_new (kp_alloc (Kp.of_old HB.out) _) (by omega) _) (kp_drew _)) hk3)
    clear hb3 hk3
    go_wp2
    refine bodyPost_end (results_none rfl _ _ _) rfl ?_
    exact ⟨⟨_, rfl⟩, HB3.out, HK3.out⟩
end Go.Proofs.Ytdfaliadkpdfpaa
