package server

import (
	"herald/api"
	"herald/field"
	"herald/message"
)

// get is the method by which pages are pushed, and with which.
const get = "GET"

// take does what an event of the conn tells.
func (s *Server) take(e api.Event) {
	switch e.Kind {
	case api.EventHead:
		s.takeHead(e)
	case api.EventData:
		s.takePiece(e.Stream, e.Data, e.End)
	case api.EventReset:
		s.forget(e.Stream)
	case api.EventGoAway:
		s.isLeaving = true
	case api.EventDead:
		s.messages, s.works = nil, nil // nothing comes any more that would be laid there
	}
}

func (s *Server) takeHead(e api.Event) {
	_, isSecond := s.messages[e.Stream]
	m, wrong := message.New(true, "", e.Fields)
	if isSecond || wrong != api.OK {
		s.reset(e.Stream, api.ProtocolError)
		return
	}
	s.messages[e.Stream] = m
	if e.End {
		s.takePiece(e.Stream, "", true)
	}
}

// takePiece lays a piece behind the body of a request, and serves it with the last.
func (s *Server) takePiece(stream int64, text string, end bool) {
	m, isUnderWay := s.messages[stream]
	if !isUnderWay {
		return
	}
	switch m.Data(text, end) {
	case api.ErrBody:
		s.reset(stream, api.ProtocolError)
	case api.ErrLong:
		s.reset(stream, api.EnhanceYourCalm)
	}
	if m.Whole() {
		delete(s.messages, stream)
		s.serveRequest(stream, m.Request())
	}
}

func (s *Server) serveRequest(stream int64, r api.Request) {
	w := s.serve(api.Serve{Stream: stream}, r)
	if r.Method == get {
		w.promises = s.promisesOf(r)
	}
	s.works[stream] = w
}

// serve fixes the whole response to a request, at the version of this moment.
func (s *Server) serve(line api.Serve, r api.Request) work {
	line.Version = s.site.Version()
	s.log = append(s.log, line)
	// Neither has an error to pass on: there is this version, and what a site
	// answers is a response.
	response, _ := s.site.Serve(line.Version, r)
	head, _ := field.WriteResponse(response)
	return work{head: head, body: response.Body}
}

// promisesOf are those that go with a request.
func (s *Server) promisesOf(r api.Request) []promise {
	var all []promise
	for _, t := range s.manifest.Plan(api.Target{Authority: r.Authority, Path: r.Path}, api.MaxPush) {
		request := api.Request{Method: get, Scheme: r.Scheme, Authority: t.Authority, Path: t.Path}
		list, _ := field.WriteRequest(request) // never refused: a manifest's targets are right
		all = append(all, promise{request: request, list: list})
	}
	return all
}

// reset is for a stream of which nothing more is taken, nor sent.
func (s *Server) reset(stream, code int64) {
	s.conn.Reset(stream, code)
	s.forget(stream)
}

// forget leaves what was promised on the stream already to streams of their own.
func (s *Server) forget(stream int64) {
	delete(s.messages, stream)
	delete(s.works, stream)
}
