package tape

import "apostille/api"

// reader goes along a tape. It reads the bytes where they were given, and writes none: many small parts of a long tape take no copy of it each.
type reader struct {
	tape api.Tape
}

// take is the next n bytes. The tape stays where it is beside an error.
func (r *reader) take(n int) ([]byte, api.Errno) {
	if !Fit(r.tape) {
		return nil, api.ErrForm
	}
	if n < 0 {
		return nil, api.ErrRange
	}
	if n > Left(r.tape) {
		return nil, api.ErrSpent
	}
	from := r.tape.At
	r.tape.At += n
	return own(r.tape.Bytes[from:r.tape.At]), api.OK
}

// each is what is taken of each size, up to the first error, which leaves nothing.
func each(take func(int) ([]byte, api.Errno), sizes ...int) ([][]byte, api.Errno) {
	var parts [][]byte
	for _, n := range sizes {
		b, e := take(n)
		if e != api.OK {
			return nil, e
		}
		parts = append(parts, b)
	}
	return parts, api.OK
}

// copied is a tape whose bytes nobody else has, as an answer shares no memory with what was given.
func copied(t api.Tape) api.Tape {
	return api.Tape{Bytes: own(t.Bytes), At: t.At}
}

// own is a text in new memory; an empty one is none.
func own(b []byte) []byte {
	return append([]byte(nil), b...)
}
