package sha

import "math/bits"

// rootBits is how many bits a root can have: 16 ahead of its point, as the square root of 32 bits, and 64 behind it.
const rootBits = 80

// wide is a number modulo 2^256, the low word first.
type wide [4]uint64

// Root answers the first 64 bits behind the point of n's square root.
func Root(n uint64) uint64 { return behindPoint(n, 2) }

// Cube answers the first 64 bits behind the point of n's cube root.
func Cube(n uint64) uint64 { return behindPoint(n, 3) }

// behindPoint takes the root of n's low 32 bits, with 64 bits behind its point: it is a whole number times 2^-64, so its power is n times as many words of noughts as the power tells.
func behindPoint(n uint64, power int) uint64 {
	var most, root wide
	most[power] = uint64(uint32(n))
	for i := rootBits - 1; i >= 0; i-- {
		more := root
		more[i/64] |= 1 << (i % 64)
		if !more.raised(power).above(most) {
			root = more
		}
	}
	return root[0]
}

func (a wide) raised(power int) wide {
	out := a
	for range power - 1 {
		out = out.times(a)
	}
	return out
}

func (a wide) times(b wide) wide {
	var out wide
	for i := range a {
		carry := uint64(0)
		for j := range len(a) - i {
			var high, low, over uint64
			high, low = bits.Mul64(a[i], b[j])
			low, over = bits.Add64(low, carry, 0)
			high += over
			out[i+j], over = bits.Add64(out[i+j], low, 0)
			carry = high + over
		}
	}
	return out
}

func (a wide) above(b wide) bool {
	for i := len(a) - 1; i >= 0; i-- {
		if a[i] != b[i] {
			return a[i] > b[i]
		}
	}
	return false
}
