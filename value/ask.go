package value

import (
	"apostille/api"
	"apostille/bits"
	"apostille/der"
	"apostille/oid"
	"apostille/stamp"
)

const maxInt = 8 // how many bytes a number has at most that fits 64 bits

// ask is what a value is, as tell has it, if it is of a tag, and of bytes or of parts as that tag wants it.
func ask[T any](n api.Node, tag int, tell func() (T, api.Errno)) (T, api.Errno) {
	var none T
	if n.Tag != tag {
		return none, api.ErrTag
	}
	if mixed(n) {
		return none, api.ErrValue
	}
	return tell()
}

// mixed tells whether a value of parts has bytes, or one of bytes has parts.
func mixed(n api.Node) bool {
	if der.Boxed(n.Tag) {
		return len(n.Bytes) > 0
	}
	return len(n.Kids) > 0
}

// IntOf is the number that a value is.
func IntOf(n api.Node) (int64, api.Errno) {
	return ask(n, api.TagInt, func() (int64, api.Errno) {
		if !der.Fit(n) {
			return 0, api.ErrValue
		}
		if len(n.Bytes) > maxInt {
			return 0, api.ErrRange
		}
		return signed(n.Bytes), api.OK
	})
}

// signed is the number that at most 8 bytes are by twos' complement.
func signed(b []byte) int64 {
	above := 8 * (maxInt - len(b))
	// Shifted up and down again, the bytes' highest bit fills all that lies above it.
	return int64(bits.Num(b)<<above) >> above
}

// BytesOf is the text that a value is.
func BytesOf(n api.Node) ([]byte, api.Errno) {
	return ask(n, api.TagBytes, func() ([]byte, api.Errno) {
		return append([]byte(nil), n.Bytes...), api.OK
	})
}

// Utf8Of is the text of characters that a value is.
func Utf8Of(n api.Node) (string, api.Errno) {
	return ask(n, api.TagUtf8, func() (string, api.Errno) {
		if !der.Fit(n) {
			return "", api.ErrValue
		}
		return string(n.Bytes), api.OK
	})
}

// IdOf is the identifier that a value is.
func IdOf(n api.Node) (api.Oid, api.Errno) {
	return ask(n, api.TagOid, func() (api.Oid, api.Errno) {
		return oid.Parse(n.Bytes)
	})
}

// TimeOf is the time that a value is.
func TimeOf(n api.Node) (int64, api.Errno) {
	return ask(n, api.TagTime, func() (int64, api.Errno) {
		t, e := stamp.Read(string(n.Bytes))
		if e != api.OK {
			return 0, api.ErrValue
		}
		return t, api.OK
	})
}

// Kids is the parts of a value of a tag.
func Kids(n api.Node, tag int) ([]api.Node, api.Errno) {
	if !der.Boxed(tag) {
		return nil, api.ErrTag
	}
	return ask(n, tag, func() ([]api.Node, api.Errno) {
		return copies(n.Kids), api.OK
	})
}
