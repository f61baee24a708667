package origin

import (
	"strings"

	"herald/api"
)

// Set is some origins.
type Set struct {
	places map[api.Origin]int // where each was given, from 0 on
}

// Of is the set of these.
func Of(l []api.Origin) (*Set, api.Errno) {
	places := make(map[api.Origin]int)
	for i, o := range l {
		if !isRight(o) {
			return nil, api.ErrOrigin
		}
		places[copied(o)] = i
	}
	switch {
	case len(places) < len(l):
		return nil, api.ErrTwice
	case len(l) > api.MaxOrigins:
		return nil, api.ErrFull
	}
	return &Set{places: places}, api.OK
}

// List tells them, as they were given.
func (s *Set) List() []api.Origin {
	l := make([]api.Origin, len(s.places))
	for o, i := range s.places {
		l[i] = copied(o)
	}
	return l
}

// Has tells whether a scheme and an authority are one of them.
func (s *Set) Has(scheme, authority string) bool {
	o, ok := meant(scheme, authority)
	_, in := s.places[o]
	return ok && in
}

// copied is the origin in texts of its own: a short one may stand in the memory
// of a long one that was handed in.
func copied(o api.Origin) api.Origin {
	return api.Origin{Scheme: strings.Clone(o.Scheme), Host: strings.Clone(o.Host), Port: o.Port}
}
