package field

import "math/bits"

const (
	parts    = 5
	partBits = 51
	partMask = 1<<partBits - 1
	numBits  = parts * partBits
	fold     = 19 // 2^255 modulo p
)

// wide is a number of 128 bits.
type wide struct{ high, low uint64 }

// plus returns w + a b. What Mul sums up stays far below 2^128.
func (w wide) plus(a, b uint64) wide {
	high, low := bits.Mul64(a, b)
	low, carry := bits.Add64(w.low, low, 0)
	high, _ = bits.Add64(w.high, high, carry)
	return wide{high, low}
}

// beyond returns what w has above the bits of one part.
func (w wide) beyond() uint64 { return w.high<<(64-partBits) | w.low>>partBits }

// carried hands on what each part has above its bits, the highest part's to the lowest. Each part is then below 2^51 + 2^18, and so the number below 2p: the other functions rely on both.
func carried(a Elem) Elem {
	carry := fold * (a[parts-1] >> partBits)
	for i := range parts {
		a[i], carry = a[i]&partMask+carry, a[i]>>partBits
	}
	return a
}

// least returns the one form of a that is from 0 to p - 1 and whose parts keep to their bits.
func least(a Elem) Elem {
	carry := uint64(fold)
	for i := range parts {
		carry = (a[i] + carry) >> partBits
	}
	// a is below 2p. carry is 1 if a + 19 reaches 2^255, that is, if a reaches p; to take p away is to add 19 and to drop 2^255.
	carry *= fold
	for i := range parts {
		sum := a[i] + carry
		a[i], carry = sum&partMask, sum>>partBits
	}
	return a
}

// Bytes returns the number from 0 to p - 1 in 32 bytes, the lowest first.
func Bytes(a Elem) []byte {
	a = least(a)
	out := make([]byte, 32)
	for i := range numBits {
		out[i/8] |= byte(a[i/partBits]>>(i%partBits)&1) << (i % 8)
	}
	return out
}

// Read returns the number in 32 bytes, the lowest first, without the highest bit; for any other length it returns 0.
func Read(p []byte) Elem {
	var out Elem
	if len(p) != 32 {
		return out
	}
	for i := range numBits {
		out[i/partBits] |= uint64(p[i/8]>>(i%8)&1) << (i % partBits)
	}
	return out
}

// Same reports whether a and b are the same number.
func Same(a, b Elem) bool { return least(a) == least(b) }

// Zero reports whether a is 0.
func Zero(a Elem) bool { return least(a) == Elem{} }

// Odd reports whether the number from 0 to p - 1 is odd.
func Odd(a Elem) bool { return least(a)[0]&1 == 1 }
