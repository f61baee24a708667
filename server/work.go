package server

import (
	"maps"
	"slices"

	"herald/api"
	"herald/field"
)

// work is what a stream has still to send, in this order.
type work struct {
	promises []promise
	head     []api.Field // none: it was sent
	body     string      // what is left of it
}

// promise is a request that is to be promised, and its list.
type promise struct {
	request api.Request
	list    []api.Field
}

// busy is the streams with work, by number.
func (s *Server) busy() []int64 { return slices.Sorted(maps.Keys(s.works)) }

// passOver takes away what can't be sent any more.
func (s *Server) passOver() {
	for _, stream := range s.busy() {
		w := s.rest(s.works[stream])
		if s.isStuck(w) {
			s.reset(stream, api.InternalError)
			continue
		}
		s.works[stream] = w
	}
}

// rest is a work without the promises at its front that are to be passed over.
func (s *Server) rest(w work) work {
	for len(w.promises) > 0 && !s.mayPromise(w.promises[0]) {
		w.promises = w.promises[1:]
	}
	return w
}

func (s *Server) mayPromise(p promise) bool {
	r := p.request
	return s.conn.Theirs().Push != 0 && !s.isLeaving && s.site.Has(s.site.Version(), r.Authority, r.Path) && !s.isLong(p.list)
}

// isStuck tells whether a head is next that the client doesn't take.
func (s *Server) isStuck(w work) bool { return len(w.promises) == 0 && s.isLong(w.head) }

func (s *Server) isLong(list []api.Field) bool { return field.Size(list) > s.conn.Theirs().List }

// isReady tells whether the next unit of a work can be sent, of which what is to be
// passed over is taken away; mayOpen: the client lets us have one more stream.
func (s *Server) isReady(stream int64, w work, mayOpen bool) bool {
	switch {
	case s.isStuck(w):
		return false
	case len(w.promises) > 0:
		return true
	case len(w.head) > 0:
		return mayOpen || !isPushed(stream)
	}
	return s.conn.Window(0) > 0 && s.conn.Window(stream) > 0
}

// isPushed tells a stream that was promised from one that was asked for.
func isPushed(stream int64) bool { return stream%2 == 0 }

// sendUnit is the bytes of a stream's next unit. Its work is out of the works
// meanwhile; what is left of it comes back.
func (s *Server) sendUnit(stream int64) string {
	w := s.works[stream]
	delete(s.works, stream)
	defer func() {
		if len(w.head) > 0 || w.body != "" {
			s.works[stream] = w
		}
	}()
	return s.next(stream, &w)()
}

// next is what sends a work's next unit, and takes it off the work. There is no
// error to pass on but one: whatever is ready the conn sends, if it has a number
// for it.
func (s *Server) next(stream int64, w *work) func() string {
	switch {
	case len(w.promises) > 0:
		return func() string {
			p := w.promises[0]
			w.promises = w.promises[1:]
			id, text, e := s.conn.Promise(stream, p.list)
			if e == api.OK {
				s.works[id] = s.serve(api.Serve{Stream: id, Push: true}, p.request)
			}
			return text
		}
	case len(w.head) > 0:
		return func() string {
			text, _ := s.conn.Head(stream, w.head, w.body == "")
			w.head = nil
			return text
		}
	}
	return func() string {
		n, text, _ := s.conn.Data(stream, w.body, true)
		w.body = w.body[n:]
		return text
	}
}
