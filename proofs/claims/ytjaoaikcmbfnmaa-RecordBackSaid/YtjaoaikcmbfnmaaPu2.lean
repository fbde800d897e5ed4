/- Bytes put into a sum that is under way: put, walked. -/
import Derived.Test.YtjaoaikcmbfnmaaPut
namespace Go.Proofs.Ytjaoaikcmbfnmaa
set_option maxRecDepth 8192
open Go.RowKit

set_option maxHeartbeats 1600000 in
set_option maxRecDepth 8192 in
theorem put_nil {A : Option Addr} {nr c : Nat} {l : List UInt8} {KA st : List UInt64} {v : Value} {base g gk : Nat} (w : World) (hR : Run w base g gk KA st [] v) (hr : Rd w w.heap.size A nr c l) (hn : nr ≤ 4294967296)
    (hA : ∀ ad, A = some ad → ad.block ≠ g) (SF : List UInt64) (PF : List UInt8) (hE : eat KA (l.length / 128) st l = SF) (hL : left l = PF) :
    Calls Try.prog 42 #[.pointer (some ⟨g, 0, none⟩), .slice A nr c] w fun e w' => e = .returned (.tuple #[]) ∧ Put w base g gk KA SF PF v w' := by
  obtain ⟨Aa, ca, rfl, _⟩ := hR.row.rdN (n := 0) rfl
  have HE := Lib.hid hE
  have HLft := Lib.hid hL
  have hc9 := hR.bk.cell (k := 9) (rn_nine _ _ _ hR.len)
  have HRun := Lib.hid hR
  have HRd := Lib.hid hr
  have HNE := Lib.hid hA
  have HKP : Hid (Kp (may g (.slice Aa 0 ca)) w w) := Lib.hid ((Kp.stays _).refl w)
  have HOB : Hid (Fresh w (.slice Aa 0 ca) (.slice Aa 0 ca)) := Lib.hid (Or.inl rfl)
  clear hR hr hA hE hL
  go_enter Try.func42, Try.ntmps42
  
  go_wp2_with fail
  have HOW := Lib.hid HRun.out.row
  go_loopw [1] (fun v1 wr => ∃ (A' : Option Addr) (n' c' : Nat) (l' : List UInt8) (st' : List UInt64), v1 = .slice A' n' c' ∧ n' ≤ nr ∧ Hid (Run wr base g gk KA st' [] (.slice Aa 0 ca)) ∧ Hid (Rd wr w.heap.size A' n' c' l') ∧ Hid (∀ ad, A' = some ad → ad.block ≠ g) ∧ Hid (Kp (may g (.slice Aa 0 ca)) w wr) ∧ Hid (eat KA (l'.length / 128) st' l' = SF) ∧ Hid (left l' = PF)) (fun v1 _ => lenOf v1)
  case atStart => exact ⟨_, _, _, _, _, rfl, Nat.le_refl _, HRun, HRd, HNE, HKP, HE, HLft⟩
  case round =>
    clear HRun HRd HNE HKP HE HLft
    obtain ⟨A', n', c', l', st', rfl, hnr', HRun, HRd, HNE, HKP, HE, HLft⟩ := hrel
    have hlen := HRd.out.len
    have hcap := HRd.out.cap
    by_cases hbig : 128 ≤ n'
    · try (exfalso; omega)
      all_goals
        go_wp2_with fail
        refine (step_any wr HRun.out ((HRd.out.take_ (k := 128) hbig).more HKP.out.size) (Nat.le_refl _) (fun ad h => HNE.out ad h)).mono ?_; rintro e w6 ⟨rfl, hR6, hK6⟩
        have HR6 := Lib.hid hR6
        have HK6 := Lib.hid hK6
        have HRd6 := Lib.hid ((HRd.out.kpNe hK6 HKP.out.size (fun ad h => HNE.out ad h)).drop_ hbig)
        have hE6 := Lib.hid (eat_next KA st' l' (by omega) SF HE.out)
        have hL6 := Lib.hid (left_next l' (by omega) PF HLft.out)
        rw [List.take_take, Nat.min_self] at HR6
        clear hR6 hK6
        go_wp2
        go_roundw
        case rel => exact ⟨_, n' - 128, c' - 128, l'.drop 128, _, rfl, by omega, HR6, HRd6, Lib.hid (ne_drop HNE.out), Lib.hid (HKP.out.via HK6.out (fun k _ h => Or.inl h)), hE6, hL6⟩
        case measure => simp [lenOf]; omega
    · have hE0 := eat_small KA st' l' (by omega) SF HE.out
      have hL0 := left_small l' (by omega) PF HLft.out
      have HR6 := Lib.hid HRun.out
      have hc9 := HRun.out.bk.cell (k := 9) (rn_nine _ _ _ HRun.out.len)
      have hB6 : base ≤ wr.heap.size := Nat.le_trans HRun.out.hg (Nat.le_of_lt HRun.out.bk.lt)
      go_wp2_with (at_builtin; refine wpList_app rfl _ _ rfl rfl HR6.out.row rfl (HRd.out.more HKP.out.size) (by simp; omega) hB6 ?_; intro v7 w7 ho7 hg7 hv7; obtain ⟨A7, c7, rfl, _⟩ := ho7.rdN (n := n') (by simpa using hlen); have HO7 := Lib.hid ho7; have HG7 := Lib.hid hg7; have HV7 := Lib.hid hv7; clear ho7 hg7 hv7; have hc97 := (HR6.out.bk.grown HG7.out HR6.out.ne).cell (k := 9) (rn_nine _ _ _ HR6.out.len); have hf97 := (HR6.out.bk.grown HG7.out HR6.out.ne).frozen 9)
      refine bodyPost_end (results_none rfl _ _ _) rfl ⟨rfl, .slice A7 n' c7, ?_, ?_, ?_⟩
      · rw [hE0, hL0]
        exact HR6.out.stored HG7.out (by simpa using HO7.out) HV7.out
      · exact HKP.out.via ((Kp.stays _).trans (Kp.of_grown (g := g) HG7.out) (Kp.of_cell 9 _)) (may_via HOB.out)
      · rcases HV7.out with e | e
        · rcases HOB.out with k | ⟨j, k, hj⟩
          · exact Or.inl (e.trans k)
          · exact Or.inr ⟨j, e.trans k, hj⟩
        · exact Or.inr ⟨_, e, HKP.out.size⟩
  
end Go.Proofs.Ytjaoaikcmbfnmaa
