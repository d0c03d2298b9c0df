package wire

import "slices"

// Reader reads the data of a Writer. From the first error on it returns zero values.
type Reader struct {
	left []byte
	bad  bool
}

// Read returns a reader of p.
func Read(p []byte) *Reader {
	// The caller may modify p while the reader is in use.
	return &Reader{left: slices.Clone(p)}
}

// Num returns the next number, of 0 to 8 bytes.
func (r *Reader) Num(bytes int) uint64 {
	if bytes > numberSize {
		r.fail()
		return 0
	}
	n := uint64(0)
	for _, b := range r.take(bytes) {
		n = n<<8 | uint64(b)
	}
	return n
}

// Bytes returns the next bytes with a length ahead, which is at most most.
func (r *Reader) Bytes(most int) []byte {
	return r.take(r.upTo(lengthSize, most))
}

// Flag returns the next flag.
func (r *Reader) Flag() bool {
	return r.upTo(flagSize, 1) == 1
}

// Count returns the next number of two bytes, which is at most most.
func (r *Reader) Count(most int) int {
	return r.upTo(countSize, most)
}

// Bad reports whether there was an error.
func (r *Reader) Bad() bool {
	return r == nil || r.bad
}

// End reports whether there was no error and no bytes are left.
func (r *Reader) End() bool {
	return !r.Bad() && len(r.left) == 0
}

// Left returns how many bytes are left.
func (r *Reader) Left() int {
	if r.Bad() {
		return 0
	}
	return len(r.left)
}

// upTo returns the next number of size bytes. It is an error if the number is above most, or most below 0.
func (r *Reader) upTo(size, most int) int {
	n := r.Num(size)
	if most < 0 || n > uint64(most) {
		r.fail()
		return 0
	}
	return int(n)
}

// take returns the next n bytes. It is an error if n is below 0 or fewer bytes are left.
// The caller may modify the bytes: they are the reader's own, which are read once, and can't grow into those that follow.
func (r *Reader) take(n int) []byte {
	if n < 0 || n > r.Left() {
		r.fail()
	}
	if r.Bad() {
		return nil
	}
	taken := r.left[:n:n]
	r.left = r.left[n:]
	return taken
}

// fail notes an error.
func (r *Reader) fail() {
	if r != nil {
		r.bad = true
	}
}
