package der

import (
	"bytes"

	"apostille/api"
)

// writer counts what a value's bytes may still be: kids that share memory can be more than could ever be gone through, and are left once they are too long.
type writer struct {
	left int
}

// value is the bytes of a value that lies so deep, and whether it is fit.
func (w *writer) value(n api.Node, depth int) ([]byte, bool) {
	// The tag, the first byte of the length, and the content, if it is no other values.
	if depth > api.MaxDepth || !w.spend(2+len(n.Bytes)) {
		return nil, false
	}
	content, ok := w.content(n, depth)
	if !ok || !w.spend(lengthSize(len(content))) {
		return nil, false
	}
	return append(head(n.Tag, len(content)), content...), true
}

// spend counts bytes, and tells whether there may be so many.
func (w *writer) spend(size int) bool {
	w.left -= size
	return w.left >= 0
}

// content is what stands behind the length.
func (w *writer) content(n api.Node, depth int) ([]byte, bool) {
	if !Boxed(n.Tag) {
		return n.Bytes, len(n.Kids) == 0 && fits(n.Tag, n.Bytes)
	}
	if len(n.Bytes) > 0 {
		return nil, false
	}
	var kids [][]byte
	for _, kid := range n.Kids {
		b, ok := w.value(kid, depth+1)
		if !ok {
			return nil, false
		}
		kids = append(kids, b)
	}
	return bytes.Join(kids, nil), inOrder(n.Tag, kids)
}

// head is a tag and a length as bytes.
func head(tag, length int) []byte {
	size := lengthSize(length)
	if size == 0 {
		return []byte{byte(tag), byte(length)}
	}
	out := []byte{byte(tag), longForm | byte(size)}
	for i := range size {
		out = append(out, byte(length>>(8*(size-1-i))))
	}
	return out
}
