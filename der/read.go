package der

import "apostille/api"

const (
	longForm      = 0x80 // and how many bytes of a length stand behind it
	maxLengthSize = 3
)

// reader reads values that lie one behind the other in something; its methods throw what is wrong (an api.Errno), so that the first fault in the order of reading ends all of it.
type reader struct {
	rest  []byte // what is not read yet
	depth int    // how deep the values lie
}

// read is the one value that bytes are; what its reader throws is caught here.
func read(b []byte) (n api.Node, e api.Errno) {
	defer func() {
		if thrown := recover(); thrown != nil {
			// No reader throws anything else, so nothing else is hidden here.
			n, e = api.Node{}, thrown.(api.Errno)
		}
	}()
	r := reader{rest: b, depth: 1}
	n = r.value()
	r.end()
	return n, api.OK
}

// value reads the next value.
func (r *reader) value() api.Node {
	if r.depth > api.MaxDepth {
		panic(api.ErrDepth)
	}
	tag := r.tag()
	content := r.take(r.length())
	if Boxed(tag) {
		return api.Node{Tag: tag, Kids: r.kids(tag, content)}
	}
	if !fits(tag, content) {
		panic(api.ErrValue)
	}
	return api.Node{Tag: tag, Bytes: append([]byte(nil), content...)}
}

func (r *reader) tag() int {
	tag := int(r.take(1)[0])
	if !plain(tag) && !Boxed(tag) {
		panic(api.ErrTag)
	}
	return tag
}

func (r *reader) length() int {
	first := int(r.take(1)[0])
	if first < longForm {
		return first
	}
	size := first - longForm
	// A length of 0 bytes would be one that is told by what ends it, as DER has none.
	if size == 0 || size > maxLengthSize {
		panic(api.ErrForm)
	}
	length := 0
	for _, x := range r.take(size) {
		length = length<<8 | int(x)
	}
	if lengthSize(length) != size {
		panic(api.ErrForm)
	}
	return length
}

// take is so many bytes more.
func (r *reader) take(size int) []byte {
	if size > len(r.rest) {
		panic(api.ErrForm)
	}
	out := r.rest[:size]
	r.rest = r.rest[size:]
	return out
}

// kids reads all values that lie in a content.
func (r *reader) kids(tag int, content []byte) []api.Node {
	in := reader{rest: content, depth: r.depth + 1}
	var kids []api.Node
	var texts [][]byte
	for len(in.rest) > 0 {
		ahead := in.rest
		kids = append(kids, in.value())
		texts = append(texts, ahead[:len(ahead)-len(in.rest)])
	}
	if !inOrder(tag, texts) {
		panic(api.ErrOrder)
	}
	return kids
}

func (r *reader) end() {
	if len(r.rest) > 0 {
		panic(api.ErrTail)
	}
}
