package pair_test

import (
	"fmt"

	"herald/api"
	"herald/pack"
)

// reader goes through an end's log, and unpacks the header blocks of each direction
// with a fresh table (T6).
type reader struct {
	place int // the entries ahead of it are read
	ways  [2]way
}

// way is one direction.
type way struct {
	dec  *pack.Decoder
	head api.Frame // of the block under way
	text string
}

// heard is a frame; of one with a block, when that is whole, its list too.
type heard struct {
	sent   bool
	f      api.Frame
	fields []api.Field
}

func (h heard) end() bool { return h.f.Flags&1 > 0 }

func newReader() *reader {
	return &reader{ways: [2]way{{dec: pack.NewDecoder()}, {dec: pack.NewDecoder()}}}
}

// next is what the log has more; what is wrong with it, if something is.
func (r *reader) next(log []api.Entry) ([]heard, string) {
	var all []heard
	for _, e := range log[r.place:] {
		r.place++
		w := &r.ways[0]
		if e.Sent {
			w = &r.ways[1]
		}
		h, is, wrong := w.take(e)
		if wrong != "" {
			return nil, wrong
		}
		if is {
			all = append(all, h)
		}
	}
	return all, ""
}

func (w *way) take(e api.Entry) (heard, bool, string) {
	h := heard{sent: e.Sent, f: e.F}
	switch e.F.Type {
	case headers, promises:
		w.head, w.text = e.F, ""
	case further:
	default:
		return h, true, ""
	}
	w.text += e.F.Data
	if e.F.Flags&4 == 0 {
		return heard{}, false, ""
	}
	h.f = w.head
	var wrong api.Errno
	if h.fields, wrong = w.dec.Decode(w.text, top); wrong != 0 {
		return heard{}, false, fmt.Sprintf("T6: a block that can't be unpacked: %d: % x", wrong, w.text)
	}
	return h, true, ""
}
